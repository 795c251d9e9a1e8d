/- Keys of chains: which kinds can be. -/
import Derived.Test.YtpmobjfhhkglbaaGreatDoorBitm
import Derived.Test.YtpmobjfhhkglbaaGreatDoorAPln
import Derived.Deep.DeepCutAuto
import Derived.Test.YtpmobjfhhkglbaaGreatDoorHaM
import Derived.Laws.ShiftsVarLaws
import Derived.BigRegion
namespace Go.Proofs.YtpmobjfhhkglbaaGreatDoor
open Go.RowKit
set_option linter.unusedVariables false
set_option linter.unusedSimpArgs false

/-- a kind that can be -/
def FitX (N H D A K : Int) : Prop := (N = 16 ∨ N = 24 ∨ N = 32) ∧ 1 ≤ D ∧ H ≤ 68 ∧ D ≤ H ∧ H % D = 0 ∧ H / D ≤ 9 ∧ 1 ≤ A ∧ A ≤ 14 ∧ 1 ≤ K ∧ K ≤ 40
instance (N H D A K : Int) : Decidable (FitX N H D A K) := by unfold FitX; infer_instance
/-- a kind as a value -/
def slV (N H D A K : Int) (sh : Bool) : Value := .agg #[.int .i64 N, .int .i64 H, .int .i64 D, .int .i64 A, .int .i64 K, .bool sh]
structure BxSW (W : World) (B : Nat) (N H D A K : Int) (sh : Bool) : Prop where
  here : W.heap[B]? = some (.cells #[.int .i64 N, .int .i64 H, .int .i64 D, .int .i64 A, .int .i64 K, .bool sh] 23 (0, 0))
theorem BxSW.lt {W : World} {B : Nat} {N H D A K : Int} {sh : Bool} (h : BxSW W B N H D A K sh) : B < W.heap.size := (Array.getElem?_eq_some_iff.1 h.here).1
theorem BxSW.below {W W' : World} {B : Nat} {N H D A K : Int} {sh : Bool} (h : BxSW W B N H D A K sh) (hb : Below W.heap.size W W') : BxSW W' B N H D A K sh := ⟨(hb.block _ h.lt).trans h.here⟩
theorem BxSW.new (W : World) (N H D A K : Int) (sh : Bool) : BxSW (W.alloc (.cells #[.int .i64 N, .int .i64 H, .int .i64 D, .int .i64 A, .int .i64 K, .bool sh] 23)) W.heap.size N H D A K sh := ⟨heap_alloc_new W _⟩
theorem BxSW.c0 {W : World} {B : Nat} {N H D A K : Int} {sh : Bool} (h : BxSW W B N H D A K sh) : W.cell? ⟨B, 0, none⟩ = some (.int .i64 N) := by simp [World.cell?, h.here]
theorem BxSW.c1 {W : World} {B : Nat} {N H D A K : Int} {sh : Bool} (h : BxSW W B N H D A K sh) : W.cell? ⟨B, 1, none⟩ = some (.int .i64 H) := by simp [World.cell?, h.here]
theorem BxSW.c2 {W : World} {B : Nat} {N H D A K : Int} {sh : Bool} (h : BxSW W B N H D A K sh) : W.cell? ⟨B, 2, none⟩ = some (.int .i64 D) := by simp [World.cell?, h.here]
theorem BxSW.c3 {W : World} {B : Nat} {N H D A K : Int} {sh : Bool} (h : BxSW W B N H D A K sh) : W.cell? ⟨B, 3, none⟩ = some (.int .i64 A) := by simp [World.cell?, h.here]
theorem BxSW.c4 {W : World} {B : Nat} {N H D A K : Int} {sh : Bool} (h : BxSW W B N H D A K sh) : W.cell? ⟨B, 4, none⟩ = some (.int .i64 K) := by simp [World.cell?, h.here]
theorem BxSW.c5 {W : World} {B : Nat} {N H D A K : Int} {sh : Bool} (h : BxSW W B N H D A K sh) : W.cell? ⟨B, 5, none⟩ = some (.bool sh) := by simp [World.cell?, h.here]
/-- what a kind must have besides -/
def FitY (H D A K : Int) : Prop := 1 ≤ D ∧ H ≤ 68 ∧ D ≤ H ∧ H % D = 0 ∧ H / D ≤ 9 ∧ 1 ≤ A ∧ A ≤ 14 ∧ 1 ≤ K ∧ K ≤ 40
instance (H D A K : Int) : Decidable (FitY H D A K) := by unfold FitY; infer_instance
set_option maxHeartbeats 8000000 in
set_option maxRecDepth 100000 in
theorem fit_tail {w z : World} {B : Nat} {N H D A K : Int} {sh R : Bool} (hR : Hid (R = decide (FitY H D A K))) (bx : BxSW z B N H D A K sh) (hb : Below w.heap.size w z) {Kt : Act → World → Prop} (hKt : ∀ a x, Code.wp Tryz.prog (cRA (cRA (cRA (Tryz.f8.body.getD .skip)))) (bodyPost Tryz.prog Tryz.f8 fun e w' => e = .returned (.bool R) ∧ Below w.heap.size w w') a x → Kt a x) (y0 y2 y3 y4 y5 y6 y7 y8 y9 y10 y11 y12 y13 y14 y15 y16 y17 y18 y19 y20 y21 y22 y23 y24 y25 y26 y27 y28 y29 y30 y31 y32 y33 y34 y35 y36 y37 y38 y39 y40 y41 y42 y43 y44 y45 y46 y47 y48 y49 y50 y51 y52 y53 y54 y55 y56 y57 y58 y59 y60 y61 y62 y63 y64 y65 y66 : Value) :
    Code.wp Tryz.prog (cLA (cRA (cRA (Tryz.f8.body.getD .skip)))) (Exit.then Kt (bodyPost Tryz.prog Tryz.f8 fun e w' => e = .returned (.bool R) ∧ Below w.heap.size w w')) { tmps := #[y0, .pointer (some ⟨B, 0, none⟩), y2, y3, y4, y5, y6, y7, y8, y9, y10, y11, y12, y13, y14, y15, y16, y17, y18, y19, y20, y21, y22, y23, y24, y25, y26, y27, y28, y29, y30, y31, y32, y33, y34, y35, y36, y37, y38, y39, y40, y41, y42, y43, y44, y45, y46, y47, y48, y49, y50, y51, y52, y53, y54, y55, y56, y57, y58, y59, y60, y61, y62, y63, y64, y65, y66], defers := [] } z := by
  simp only [Tryz.f8, Option.getD_some, cRA, cLA] at hKt ⊢
  have c1 := bx.c1
  have c2 := bx.c2
  have c3 := bx.c3
  have c4 := bx.c4
  by_cases h0 : ¬ (1 ≤ D)
  · have g0 : ¬ (1 ≤ D) := h0
    go_wp2
    go_ret
    exact ⟨by rw [hR.out, decide_eq_false (fun h => by have := h.1; omega)]; rfl, hb⟩
  replace h0 := Decidable.not_not.1 h0
  by_cases h1 : ¬ (H ≤ 68)
  · have g1 : ¬ (H ≤ 68) := h1
    go_wp2
    go_ret
    exact ⟨by rw [hR.out, decide_eq_false (fun h => by have := h.2.1; omega)]; rfl, hb⟩
  replace h1 := Decidable.not_not.1 h1
  by_cases h2 : ¬ (D ≤ H)
  · have g2 : ¬ (D ≤ H) := h2
    go_wp2
    go_ret
    exact ⟨by rw [hR.out, decide_eq_false (fun h => by have := h.2.2.1; omega)]; rfl, hb⟩
  replace h2 := Decidable.not_not.1 h2
  obtain ⟨h, rfl⟩ : ∃ h : Nat, H = (h : Int) := ⟨H.toNat, by omega⟩
  obtain ⟨d, rfl⟩ : ∃ d : Nat, D = (d : Int) := ⟨D.toNat, by omega⟩
  obtain ⟨r, hr⟩ : ∃ r : Nat, (h : Int) % (d : Int) = (r : Int) := ⟨h % d, by norm_cast⟩
  obtain ⟨q, hq⟩ : ∃ q : Nat, (h : Int) / (d : Int) = (q : Int) := ⟨h / d, by norm_cast⟩
  have hd0 : ¬ (d : Int) = 0 := by omega
  have hq68 : q ≤ 68 := by
    have h1 : (q : Int) ≤ (h : Int) := by rw [← hq]; exact Int.ediv_le_self _ (by omega)
    omega
  have sr : IntKind.i64.wrap (r : Int) = (r : Int) := by
    have h1 : (r : Int) < (d : Int) := by rw [← hr]; exact Int.emod_lt_of_pos _ (by omega)
    rw [IntKind.wrap_i64]
    omega
  have sq : IntKind.i64.wrap (q : Int) = (q : Int) := by rw [IntKind.wrap_i64]; omega
  have hRR : Hid (R = decide (r = 0 ∧ q ≤ 9 ∧ 1 ≤ A ∧ A ≤ 14 ∧ 1 ≤ K ∧ K ≤ 40)) := by
    refine hide (hR.out.trans (decide_eq_decide.2 ?_))
    unfold FitY
    rw [hr, hq]
    constructor
    · rintro ⟨_, _, _, a4, a5, a6, a7, a8, a9⟩; exact ⟨by omega, by omega, a6, a7, a8, a9⟩
    · rintro ⟨a4, a5, a6, a7, a8, a9⟩; exact ⟨h0, h1, h2, by omega, by omega, a6, a7, a8, a9⟩
  clear hR
  by_cases h3 : ¬ (r = 0)
  · have hri : ((r : Int) == 0) = false := by simp; exact h3
    have hrn : ¬ (r : Int) = 0 := by omega
    have HG := hide h3
    clear h3
    go_wp2
    go_ret
    exact ⟨by rw [hRR.out, decide_eq_false (fun h => by have := h.1; have := HG.out; omega)]; rfl, hb⟩
  obtain rfl : r = 0 := Decidable.not_not.1 h3
  clear h3 sr
  by_cases h4 : ¬ (q ≤ 9)
  · have hqi : ¬ ((q : Int) ≤ 9) := by omega
    have HG := hide h4
    clear h4
    go_wp2
    go_ret
    exact ⟨by rw [hRR.out, decide_eq_false (fun h => by have := h.2.1; have := HG.out; omega)]; rfl, hb⟩
  have hqi : (q : Int) ≤ 9 := by omega
  by_cases h5 : ¬ (1 ≤ A)
  · have HG := hide h5
    go_wp2
    go_ret
    exact ⟨by rw [hRR.out, decide_eq_false (fun h => by have := h.2.2.1; have := HG.out; omega)]; rfl, hb⟩
  replace h5 := Decidable.not_not.1 h5
  by_cases h6 : ¬ (A ≤ 14)
  · have HG := hide h6
    go_wp2
    go_ret
    exact ⟨by rw [hRR.out, decide_eq_false (fun h => by have := h.2.2.2.1; have := HG.out; omega)]; rfl, hb⟩
  replace h6 := Decidable.not_not.1 h6
  by_cases h7 : ¬ (1 ≤ K)
  · have HG := hide h7
    go_wp2
    go_ret
    exact ⟨by rw [hRR.out, decide_eq_false (fun h => by have := h.2.2.2.2.1; have := HG.out; omega)]; rfl, hb⟩
  replace h7 := Decidable.not_not.1 h7
  by_cases h8 : ¬ (K ≤ 40)
  · have HG := hide h8
    go_wp2
    go_ret
    exact ⟨by rw [hRR.out, decide_eq_false (fun h => by have := h.2.2.2.2.2; have := HG.out; omega)]; rfl, hb⟩
  replace h8 := Decidable.not_not.1 h8
  go_wp2
  go_ret
  exact ⟨by rw [hRR.out, decide_eq_true (by refine ⟨by trivial, by omega, h5, h6, h7, h8⟩)]; rfl, hb⟩
set_option maxHeartbeats 8000000 in
set_option maxRecDepth 100000 in
theorem rfitX_any (N H D A K : Int) (sh : Bool) (w : World) :
    Calls Tryz.prog 8 #[slV N H D A K sh] w fun e w' => e = .returned (.bool (decide (FitX N H D A K))) ∧ Below w.heap.size w w' := by
  unfold slV
  have hb := keep_alloc w (.cells #[.int .i64 N, .int .i64 H, .int .i64 D, .int .i64 A, .int .i64 K, .bool sh] 23)
  have bx := BxSW.new w N H D A K sh
  by_cases hN : N = 16 ∨ N = 24 ∨ N = 32
  · have hR : Hid (decide (FitX N H D A K) = decide (FitY H D A K)) := hide (decide_eq_decide.2 ⟨fun h => h.2, fun h => ⟨hN, h⟩⟩)
    generalize decide (FitX N H D A K) = R at *
    have c0 := bx.c0
    rcases hN with rfl | rfl | rfl
    · go_enter Tryz.func8, Tryz.ntmps8
      go_upto_region 3 with fail
      rename_i Q2 Kt hKt
      exact fit_tail hR bx hb hKt _ _ _ _ _ _ _ _ _ _ _ _ _ _ _ _ _ _ _ _ _ _ _ _ _ _ _ _ _ _ _ _ _ _ _ _ _ _ _ _ _ _ _ _ _ _ _ _ _ _ _ _ _ _ _ _ _ _ _ _ _ _ _ _ _ _
    · go_enter Tryz.func8, Tryz.ntmps8
      go_upto_region 3 with fail
      rename_i Q2 Kt hKt
      exact fit_tail hR bx hb hKt _ _ _ _ _ _ _ _ _ _ _ _ _ _ _ _ _ _ _ _ _ _ _ _ _ _ _ _ _ _ _ _ _ _ _ _ _ _ _ _ _ _ _ _ _ _ _ _ _ _ _ _ _ _ _ _ _ _ _ _ _ _ _ _ _ _
    · go_enter Tryz.func8, Tryz.ntmps8
      go_upto_region 3 with fail
      rename_i Q2 Kt hKt
      exact fit_tail hR bx hb hKt _ _ _ _ _ _ _ _ _ _ _ _ _ _ _ _ _ _ _ _ _ _ _ _ _ _ _ _ _ _ _ _ _ _ _ _ _ _ _ _ _ _ _ _ _ _ _ _ _ _ _ _ _ _ _ _ _ _ _ _ _ _ _ _ _ _
  · rw [decide_eq_false (fun h => hN h.1)]
    have b1 : (N != 16) = true := bne_iff_ne.2 (fun h => hN (.inl h))
    have b2 : (N != 24) = true := bne_iff_ne.2 (fun h => hN (.inr (.inl h)))
    have b3 : (N != 32) = true := bne_iff_ne.2 (fun h => hN (.inr (.inr h)))
    have c0 := bx.c0
    have HN := hide hN
    clear hN
    go_enter Tryz.func8, Tryz.ntmps8
    go_wp2
    go_ret
    exact ⟨rfl, hb⟩
end Go.Proofs.YtpmobjfhhkglbaaGreatDoor

/- Keys of chains, the program's own: which kinds can be, how many digits there are, where a place's parts lie. -/
namespace Go.Proofs.YtpmobjfhhkglbaaGreatDoor
open Go.RowKit
set_option linter.unusedVariables false
set_option linter.unusedSimpArgs false

set_option maxHeartbeats 4000000 in
set_option maxRecDepth 100000 in
theorem wisz_any (N : Int) (w : World) : Calls Tryz.prog 25 #[.int .i64 N] w fun e w' => e = .returned (.bool (decide (N = 16 ∨ N = 24 ∨ N = 32))) ∧ w' = w := by
  by_cases h16 : N = 16
  · subst h16
    rw [decide_eq_true (.inl rfl)]
    go_enter Tryz.func25, Tryz.ntmps25
    go_wp2
    go_ret
    exact ⟨rfl, rfl⟩
  by_cases h24 : N = 24
  · subst h24
    rw [decide_eq_true (.inr (.inl rfl))]
    go_enter Tryz.func25, Tryz.ntmps25
    go_wp2
    go_ret
    exact ⟨rfl, rfl⟩
  by_cases h32 : N = 32
  · subst h32
    rw [decide_eq_true (.inr (.inr rfl))]
    go_enter Tryz.func25, Tryz.ntmps25
    go_wp2
    go_ret
    exact ⟨rfl, rfl⟩
  have e0 : decide (N = 16 ∨ N = 24 ∨ N = 32) = false := decide_eq_false (by omega)
  rw [e0]
  have b1 : (N == 16) = false := by simp [h16]
  have b2 : (N == 24) = false := by simp [h24]
  have b3 : (N == 32) = false := by simp [h32]
  clear e0
  go_enter Tryz.func25, Tryz.ntmps25
  go_wp2
  go_ret
  exact ⟨rfl, rfl⟩
set_option maxHeartbeats 4000000 in
set_option maxRecDepth 100000 in
theorem wwin_any (n m : Int) (w : World) : Calls Tryz.prog 26 #[.int .i64 n, .int .i64 m] w fun e w' => e = .returned (.bool (decide (1 ≤ n ∧ n ≤ m))) ∧ w' = w := by
  by_cases h1 : 1 ≤ n
  · by_cases h2 : n ≤ m
    · rw [decide_eq_true ⟨h1, h2⟩]
      go_enter Tryz.func26, Tryz.ntmps26
      go_wp2
      go_ret
      exact ⟨rfl, rfl⟩
    · rw [decide_eq_false (fun h => h2 h.2)]
      go_enter Tryz.func26, Tryz.ntmps26
      go_wp2
      go_ret
      exact ⟨rfl, rfl⟩
  · rw [decide_eq_false (fun h => h1 h.1)]
    go_enter Tryz.func26, Tryz.ntmps26
    go_wp2
    go_ret
    exact ⟨rfl, rfl⟩
set_option maxHeartbeats 4000000 in
set_option maxRecDepth 100000 in
theorem wdct_any (n : Nat) (w : World) (hn : n ≤ 1000) : Calls Tryz.prog 33 #[.int .i64 (n : Int)] w fun e w' => e = .returned (.int .i64 ((2 * n + 3 : Nat) : Int)) ∧ w' = w := by
  obtain ⟨P, hP⟩ : ∃ P : Nat, 2 * n + 3 = P := ⟨_, rfl⟩
  obtain ⟨E, hE⟩ : ∃ E : Nat, 8 * n = E := ⟨_, rfl⟩
  obtain ⟨Q, hQ⟩ : ∃ Q : Nat, 2 * n = Q := ⟨_, rfl⟩
  have e_E : 8 * (n : Int) = (E : Int) := by omega
  have s_E : IntKind.i64.wrap (E : Int) = (E : Int) := by rw [IntKind.wrap_i64]; omega
  have e_Q : (E : Int) / 4 = (Q : Int) := by omega
  have t_Q : (E : Int).tdiv 4 = (Q : Int) := by rw [Int.tdiv_eq_ediv_of_nonneg (by omega)]; omega
  have s_Q : IntKind.i64.wrap (Q : Int) = (Q : Int) := by rw [IntKind.wrap_i64]; omega
  have e_P : (Q : Int) + 3 = (P : Int) := by omega
  have s_P : IntKind.i64.wrap (P : Int) = (P : Int) := by rw [IntKind.wrap_i64]; omega
  rw [hP]
  clear hP hE hQ
  go_enter Tryz.func33, Tryz.ntmps33
  go_wp2
  go_ret
  exact ⟨rfl, rfl⟩
theorem fit_sums {H D : Int} (hH : -9223372036854775808 ≤ H ∧ H ≤ 9223372036854775807) (hD : 1 ≤ D) : ∃ R Q : Int, H.tmod D = R ∧ H.tdiv D = Q ∧ IntKind.i64.wrap R = R ∧ IntKind.i64.wrap Q = Q ∧ ((R = 0 ∧ 1 ≤ Q ∧ Q ≤ 9) ↔ (D ≤ H ∧ H % D = 0 ∧ H / D ≤ 9)) ∧ (0 ≤ H → H % D = R ∧ H / D = Q) := by
  obtain ⟨d, rfl⟩ : ∃ d : Nat, D = (d : Int) := ⟨D.toNat, by omega⟩
  by_cases h0 : 0 ≤ H
  · obtain ⟨h, rfl⟩ : ∃ h : Nat, H = (h : Int) := ⟨H.toNat, by omega⟩
    have e1 : (h : Int).tmod (d : Int) = ((h % d : Nat) : Int) := rfl
    have e2 : (h : Int).tdiv (d : Int) = ((h / d : Nat) : Int) := rfl
    have l1 : h % d ≤ h := Nat.mod_le _ _
    have l2 : h / d ≤ h := Nat.div_le_self _ _
    have l3 : 1 ≤ h / d ↔ d ≤ h := by rw [Nat.le_div_iff_mul_le (by omega), Nat.one_mul]
    have e3 : (h : Int) % (d : Int) = ((h % d : Nat) : Int) := (Int.natCast_emod h d).symm
    have e4 : (h : Int) / (d : Int) = ((h / d : Nat) : Int) := (Int.natCast_ediv h d).symm
    generalize h / d = q at *
    generalize h % d = r at *
    refine ⟨_, _, e1, e2, by rw [IntKind.wrap_i64]; omega, by rw [IntKind.wrap_i64]; omega, ?_, fun _ => ⟨e3, e4⟩⟩
    rw [e3, e4]
    constructor
    · rintro ⟨a, b, c⟩; exact ⟨by omega, by omega, by omega⟩
    · rintro ⟨a, b, c⟩; exact ⟨by omega, by omega, by omega⟩
  · obtain ⟨h, rfl⟩ : ∃ h : Nat, H = -(h : Int) := ⟨(-H).toNat, by omega⟩
    have e1 : (-(h : Int)).tmod (d : Int) = -((h % d : Nat) : Int) := by rw [Int.neg_tmod]; rfl
    have e2 : (-(h : Int)).tdiv (d : Int) = -((h / d : Nat) : Int) := by rw [Int.neg_tdiv]; rfl
    have l1 : h % d ≤ h := Nat.mod_le _ _
    have l2 : h / d ≤ h := Nat.div_le_self _ _
    generalize h / d = q at *
    generalize h % d = r at *
    refine ⟨_, _, e1, e2, by rw [IntKind.wrap_i64]; omega, by rw [IntKind.wrap_i64]; omega, ?_, fun h => absurd h h0⟩
    constructor
    · rintro ⟨a, b, c⟩; omega
    · rintro ⟨a, b, c⟩; omega
set_option maxHeartbeats 4000000 in
set_option maxRecDepth 100000 in
theorem wfit_any (N H D A K : Int) (sh : Bool) (w : World) (hH : -9223372036854775808 ≤ H ∧ H ≤ 9223372036854775807) :
    Calls Tryz.prog 7 #[slV N H D A K sh] w fun e w' => e = .returned (.bool (decide (FitX N H D A K))) ∧ Below w.heap.size w w' := by
  have hz := fun y => wisz_any N y
  unfold slV
  have bx := BxSW.new w N H D A K sh
  have c0 := bx.c0
  have c1 := bx.c1
  have c2 := bx.c2
  have c3 := bx.c3
  have c4 := bx.c4
  have k0 := keep_alloc w (.cells #[.int .i64 N, .int .i64 H, .int .i64 D, .int .i64 A, .int .i64 K, .bool sh] 23)
  clear bx
  by_cases hN : N = 16 ∨ N = 24 ∨ N = 32
  case neg =>
    rw [decide_eq_false hN] at hz
    rw [decide_eq_false (fun h => hN h.1)]
    clear hN
    go_enter Tryz.func7, Tryz.ntmps7
    go_wp2_with (first
      | (go_at_call 25; refine (hz _).mono ?_; rintro e w1 ⟨rfl, hx⟩; obtain rfl := hx.symm)
      | fail)
    go_ret
    exact ⟨rfl, k0⟩
  rw [decide_eq_true hN] at hz
  by_cases hD : 1 ≤ D
  case neg =>
    rw [decide_eq_false (fun h => hD h.2.1)]
    have hD' : D < 1 := by omega
    clear hN hD
    go_enter Tryz.func7, Tryz.ntmps7
    go_wp2_with (first
      | (go_at_call 25; refine (hz _).mono ?_; rintro e w1 ⟨rfl, hx⟩; obtain rfl := hx.symm)
      | fail)
    go_ret
    exact ⟨rfl, k0⟩
  have hD1 : ¬ D < 1 := by omega
  have hD0 : ¬ D = 0 := by omega
  obtain ⟨R, Q, hR, hQ, sR, sQ, hiff, hpos⟩ := fit_sums hH hD
  have hX : decide (FitX N H D A K) = decide (R = 0 ∧ H ≤ 68 ∧ (1 ≤ Q ∧ Q ≤ 9) ∧ (1 ≤ A ∧ A ≤ 14) ∧ (1 ≤ K ∧ K ≤ 40)) := by
    refine decide_eq_decide.2 ⟨fun h => ?_, fun h => ?_⟩
    · obtain ⟨_, _, a3, a4, a5, a6, a7, a8, a9, a10⟩ := h
      obtain ⟨b1, b2, b3⟩ := hiff.2 ⟨a4, a5, a6⟩
      exact ⟨b1, a3, ⟨b2, b3⟩, ⟨a7, a8⟩, a9, a10⟩
    · obtain ⟨b1, a3, ⟨b2, b3⟩, ⟨a7, a8⟩, a9, a10⟩ := h
      obtain ⟨a4, a5, a6⟩ := hiff.1 ⟨b1, b2, b3⟩
      exact ⟨hN, hD, a3, a4, a5, a6, a7, a8, a9, a10⟩
  rw [hX]
  have h1 := fun y => wwin_any Q 9 y
  have h2 := fun y => wwin_any A 14 y
  have h3 := fun y => wwin_any K 40 y
  clear hX hiff hpos hN hH
  by_cases hR0 : R = 0
  case neg =>
    rw [decide_eq_false (fun h => hR0 h.1)]
    have b1 : (R == 0) = false := by simp [hR0]
    have b2 : (R != 0) = true := by simp [hR0]
    go_enter Tryz.func7, Tryz.ntmps7
    go_wp2_with (first
      | (go_at_call 25; refine (hz _).mono ?_; rintro e w1 ⟨rfl, hx⟩; obtain rfl := hx.symm)
      | fail)
    go_ret
    exact ⟨rfl, k0⟩
  subst hR0
  by_cases hH : H ≤ 68
  case neg =>
    rw [decide_eq_false (fun h => hH h.2.1)]
    have hH2 : 68 < H := by omega
    go_enter Tryz.func7, Tryz.ntmps7
    go_wp2_with (first
      | (go_at_call 25; refine (hz _).mono ?_; rintro e w1 ⟨rfl, hx⟩; obtain rfl := hx.symm)
      | fail)
    go_ret
    exact ⟨rfl, k0⟩
  have hH2 : ¬ 68 < H := by omega
  by_cases hq : 1 ≤ Q ∧ Q ≤ 9
  case neg =>
    rw [decide_eq_false hq] at h1
    rw [decide_eq_false (fun h => hq h.2.2.1)]
    clear hq
    go_enter Tryz.func7, Tryz.ntmps7
    go_wp2_with (first
      | (go_at_call 25; refine (hz _).mono ?_; rintro e w1 ⟨rfl, hx⟩; obtain rfl := hx.symm)
      | (go_at_call 26; refine (h1 _).mono ?_; rintro e w2 ⟨rfl, hx⟩; obtain rfl := hx.symm; clear h1)
      | fail)
    go_ret
    exact ⟨rfl, k0⟩
  rw [decide_eq_true hq] at h1
  by_cases ha : 1 ≤ A ∧ A ≤ 14
  case neg =>
    rw [decide_eq_false ha] at h2
    rw [decide_eq_false (fun h => ha h.2.2.2.1)]
    clear ha hq
    go_enter Tryz.func7, Tryz.ntmps7
    go_wp2_with (first
      | (go_at_call 25; refine (hz _).mono ?_; rintro e w1 ⟨rfl, hx⟩; obtain rfl := hx.symm)
      | (go_at_call 26; refine (h1 _).mono ?_; rintro e w2 ⟨rfl, hx⟩; obtain rfl := hx.symm; clear h1)
      | (go_at_call 26; refine (h2 _).mono ?_; rintro e w3 ⟨rfl, hx⟩; obtain rfl := hx.symm; clear h2)
      | fail)
    go_ret
    exact ⟨rfl, k0⟩
  rw [decide_eq_true ha] at h2
  by_cases hk : 1 ≤ K ∧ K ≤ 40
  case neg =>
    rw [decide_eq_false hk] at h3
    rw [decide_eq_false (fun h => hk h.2.2.2.2)]
    clear ha hq hk
    go_enter Tryz.func7, Tryz.ntmps7
    go_wp2_with (first
      | (go_at_call 25; refine (hz _).mono ?_; rintro e w1 ⟨rfl, hx⟩; obtain rfl := hx.symm)
      | (go_at_call 26; refine (h1 _).mono ?_; rintro e w2 ⟨rfl, hx⟩; obtain rfl := hx.symm; clear h1)
      | (go_at_call 26; refine (h2 _).mono ?_; rintro e w3 ⟨rfl, hx⟩; obtain rfl := hx.symm; clear h2)
      | (go_at_call 26; refine (h3 _).mono ?_; rintro e w4 ⟨rfl, hx⟩; obtain rfl := hx.symm; clear h3)
      | fail)
    go_ret
    exact ⟨rfl, k0⟩
  rw [decide_eq_true hk] at h3
  rw [decide_eq_true ⟨rfl, hH, hq, ha, hk⟩]
  clear ha hq hk
  go_enter Tryz.func7, Tryz.ntmps7
  go_wp2_with (first
    | (go_at_call 25; refine (hz _).mono ?_; rintro e w1 ⟨rfl, hx⟩; obtain rfl := hx.symm)
    | (go_at_call 26; refine (h1 _).mono ?_; rintro e w2 ⟨rfl, hx⟩; obtain rfl := hx.symm; clear h1)
    | (go_at_call 26; refine (h2 _).mono ?_; rintro e w3 ⟨rfl, hx⟩; obtain rfl := hx.symm; clear h2)
    | (go_at_call 26; refine (h3 _).mono ?_; rintro e w4 ⟨rfl, hx⟩; obtain rfl := hx.symm; clear h3)
    | fail)
  go_ret
  exact ⟨rfl, k0⟩
end Go.Proofs.YtpmobjfhhkglbaaGreatDoor

/- Plain facts on the sums of SHA-3: words, rounds, bytes in and out. No walk. -/
namespace Go.Proofs.YtpmobjfhhkglbaaGreatDoor
set_option linter.unusedVariables false
set_option linter.unusedSimpArgs false

/-- a word turned to the left -/
def rotl (x n : Nat) : Nat := x * 2 ^ (n % 64) % 18446744073709551616 ||| x / 2 ^ (64 - n % 64)
theorem w64 : (18446744073709551616 : Nat) = 2 ^ 64 := by decide
theorem rotl_lt {x : Nat} (hx : x < 18446744073709551616) (n : Nat) : rotl x n < 18446744073709551616 := by
  unfold rotl
  rw [w64] at *
  exact Nat.or_lt_two_pow (Nat.mod_lt _ (Nat.two_pow_pos _)) (Nat.lt_of_le_of_lt (Nat.div_le_self _ _) hx)
theorem xor_w {x y : Nat} (hx : x < 18446744073709551616) (hy : y < 18446744073709551616) : x ^^^ y < 18446744073709551616 := by rw [w64] at *; exact Nat.xor_lt_two_pow hx hy
theorem and_w {x y : Nat} (hx : x < 18446744073709551616) : x &&& y < 18446744073709551616 := Nat.lt_of_le_of_lt Nat.and_le_left hx
theorem or_w {x y : Nat} (hx : x < 18446744073709551616) (hy : y < 18446744073709551616) : x ||| y < 18446744073709551616 := by rw [w64] at *; exact Nat.or_lt_two_pow hx hy

/-- 25 words -/
def W25 (a : List Nat) : Prop := a.length = 25 ∧ Under 18446744073709551616 a
theorem W25.el {a : List Nat} (h : W25 a) (i : Nat) : el a i < 18446744073709551616 := el_lt h.2 (by decide) i
theorem W25.set {a : List Nat} (h : W25 a) (i x : Nat) (hx : x < 18446744073709551616) : W25 (a.set i x) := ⟨by rw [List.length_set]; exact h.1, h.2.set i x hx⟩
theorem W25.zero : W25 (List.replicate 25 0) := ⟨by decide, Under.replicate _ _ (by decide)⟩

/-- the parities of columns, of so many words -/
def colN (a : List Nat) : Nat → List Nat
  | 0 => List.replicate 5 0
  | n + 1 => (colN a n).set (n % 5) (el (colN a n) (n % 5) ^^^ el a n)
theorem colN_length (a : List Nat) : ∀ n, (colN a n).length = 5
  | 0 => rfl
  | n + 1 => by simp [colN, colN_length a n]
theorem colN_under {a : List Nat} (h : W25 a) : ∀ n, Under 18446744073709551616 (colN a n)
  | 0 => Under.replicate _ _ (by decide)
  | n + 1 => (colN_under h n).set _ _ (xor_w (el_lt (colN_under h n) (by decide) _) (h.el _))
/-- so many words xored with their neighbours' columns -/
def sprN (a c : List Nat) : Nat → List Nat
  | 0 => a
  | n + 1 => (sprN a c n).set n (el (sprN a c n) n ^^^ el c ((n + 4) % 5) ^^^ rotl (el c ((n + 1) % 5)) 1)
theorem sprN_w {a c : List Nat} (h : W25 a) (hc : Under 18446744073709551616 c) : ∀ n, W25 (sprN a c n)
  | 0 => h
  | n + 1 => (sprN_w h hc n).set _ _ (xor_w (xor_w ((sprN_w h hc n).el _) (el_lt hc (by decide) _)) (rotl_lt (el_lt hc (by decide) _) 1))
def spreadK (a : List Nat) : List Nat := sprN a (colN a 25) 25
theorem spreadK_w {a : List Nat} (h : W25 a) : W25 (spreadK a) := sprN_w h (colN_under h 25) 25
/-- the t-th place -/
def plc : Nat → Nat × Nat
  | 0 => (1, 0)
  | t + 1 => ((plc t).2, (2 * (plc t).1 + 3 * (plc t).2) % 5)
theorem plc_lt : ∀ t, (plc t).1 < 5 ∧ (plc t).2 < 5
  | 0 => by decide
  | t + 1 => ⟨(plc_lt t).2, Nat.mod_lt _ (by decide)⟩
/-- so many words turned, at their new places -/
def movN (a : List Nat) : Nat → List Nat
  | 0 => (List.replicate 25 0).set 0 (el a 0)
  | t + 1 => (movN a t).set ((plc (t + 1)).1 + 5 * (plc (t + 1)).2) (rotl (el a ((plc t).1 + 5 * (plc t).2)) ((t + 1) * (t + 2) / 2))
theorem movN_w {a : List Nat} (h : W25 a) : ∀ t, W25 (movN a t)
  | 0 => W25.zero.set _ _ (h.el 0)
  | t + 1 => (movN_w h t).set _ _ (rotl_lt (h.el _) _)
def moveK (a : List Nat) : List Nat := movN a 24
theorem moveK_w {a : List Nat} (h : W25 a) : W25 (moveK a) := movN_w h 24
/-- so many words xored with what stands behind them in their row -/
def chiV (b : List Nat) (n : Nat) : Nat := el b n ^^^ ((18446744073709551615 - el b (n / 5 * 5 + (n + 1) % 5)) &&& el b (n / 5 * 5 + (n + 2) % 5))
theorem chiV_lt {b : List Nat} (h : W25 b) (n : Nat) : chiV b n < 18446744073709551616 := xor_w (h.el _) (and_w (by omega))
def chiN (a b : List Nat) : Nat → List Nat
  | 0 => a
  | n + 1 => (chiN a b n).set n (chiV b n)
theorem chiN_w {a b : List Nat} (h : W25 a) (hb : W25 b) : ∀ n, W25 (chiN a b n)
  | 0 => h
  | n + 1 => (chiN_w h hb n).set _ _ (chiV_lt hb n)
/-- the register, and the constants, behind so many steps -/
def reg : Nat → Nat
  | 0 => 1
  | n + 1 => if 256 ≤ reg n * 2 then (reg n * 2 % 256) ^^^ 113 else reg n * 2
theorem reg_lt : ∀ n, reg n < 256
  | 0 => by decide
  | n + 1 => by
    unfold reg
    split
    · exact Nat.xor_lt_two_pow (n := 8) (Nat.mod_lt _ (by decide)) (by decide)
    · omega
def cstN : Nat → List Nat
  | 0 => List.replicate 24 0
  | n + 1 => if reg n % 2 = 1 then (cstN n).set (n / 7) (el (cstN n) (n / 7) ||| 2 ^ (2 ^ (n % 7) - 1)) else cstN n
theorem cstN_length : ∀ n, (cstN n).length = 24
  | 0 => rfl
  | n + 1 => by unfold cstN; split <;> simp [cstN_length n]
theorem bit_lt (n : Nat) : 2 ^ (2 ^ (n % 7) - 1) < 18446744073709551616 := by
  have h : n % 7 < 7 := Nat.mod_lt _ (by decide)
  generalize n % 7 = k at h
  match k, h with
  | 0, _ => decide
  | 1, _ => decide
  | 2, _ => decide
  | 3, _ => decide
  | 4, _ => decide
  | 5, _ => decide
  | 6, _ => decide
theorem cstN_under : ∀ n, Under 18446744073709551616 (cstN n)
  | 0 => Under.replicate _ _ (by decide)
  | n + 1 => by
    unfold cstN
    split
    · exact (cstN_under n).set _ _ (or_w (el_lt (cstN_under n) (by decide) _) (bit_lt n))
    · exact cstN_under n
def csts : List Nat := cstN 168
theorem csts_length : csts.length = 24 := cstN_length 168
theorem csts_under : Under 18446744073709551616 csts := cstN_under 168
/-- so many rounds -/
def rndK (a : List Nat) (c : Nat) : List Nat := (chiN a (moveK (spreadK a)) 25).set 0 (el (chiN a (moveK (spreadK a)) 25) 0 ^^^ c)
theorem rndK_w {a : List Nat} (h : W25 a) {c : Nat} (hc : c < 18446744073709551616) : W25 (rndK a c) := by
  have hw := chiN_w h (moveK_w (spreadK_w h)) 25
  exact hw.set _ _ (xor_w (hw.el 0) hc)
def rdsK (a : List Nat) : Nat → List Nat
  | 0 => a
  | r + 1 => rndK (rdsK a r) (el csts r)
theorem rdsK_w {a : List Nat} (h : W25 a) : ∀ r, W25 (rdsK a r)
  | 0 => h
  | r + 1 => rndK_w (rdsK_w h r) (el_lt csts_under (by decide) _)
def perm (a : List Nat) : List Nat := rdsK a 24
theorem perm_w {a : List Nat} (h : W25 a) : W25 (perm a) := rdsK_w h 24

/-- a byte into the words -/
def putK (a : List Nat) (p c : Nat) : List Nat := a.set (p / 8) (el a (p / 8) ^^^ c * 2 ^ (8 * (p % 8)) % 18446744073709551616)
theorem putK_w {a : List Nat} (h : W25 a) (p c : Nat) : W25 (putK a p c) := h.set _ _ (xor_w (h.el _) (Nat.mod_lt _ (by decide)))
/-- words, and the place in the block -/
def inK (rate : Nat) (s : List Nat × Nat) (c : Nat) : List Nat × Nat := if s.2 + 1 = rate then (perm (putK s.1 s.2 c), 0) else (putK s.1 s.2 c, s.2 + 1)
def absK (rate : Nat) (s : List Nat × Nat) (b : List Nat) : List Nat × Nat := b.foldl (inK rate) s
theorem absK_parts (rate : Nat) (s : List Nat × Nat) (a b : List Nat) : absK rate s (a ++ b) = absK rate (absK rate s a) b := List.foldl_append ..
theorem absK_snoc (rate : Nat) (s : List Nat × Nat) (a : List Nat) (c : Nat) : absK rate s (a ++ [c]) = inK rate (absK rate s a) c := by rw [absK_parts]; rfl
theorem inK_w {rate : Nat} {s : List Nat × Nat} (h : W25 s.1) (c : Nat) : W25 (inK rate s c).1 := by
  unfold inK
  split
  · dsimp only; exact perm_w (putK_w h _ _)
  · dsimp only; exact putK_w h _ _
theorem inK_at {rate : Nat} {s : List Nat × Nat} (h : s.2 < rate) (c : Nat) : (inK rate s c).2 < rate := by
  unfold inK
  split
  · show 0 < rate; omega
  · show s.2 + 1 < rate; omega
theorem absK_w {rate : Nat} : ∀ (b : List Nat) (s : List Nat × Nat), W25 s.1 → W25 (absK rate s b).1
  | [], _, h => h
  | c :: b, s, h => absK_w b (inK rate s c) (inK_w h c)
theorem absK_at {rate : Nat} : ∀ (b : List Nat) (s : List Nat × Nat), s.2 < rate → (absK rate s b).2 < rate
  | [], _, h => h
  | c :: b, s, h => absK_at b (inK rate s c) (inK_at h c)
/-- the mark, and the last byte: all rounds -/
def endK (rate mark : Nat) (s : List Nat × Nat) : List Nat := perm (putK (putK s.1 s.2 mark) (rate - 1) 128)
theorem endK_w {rate mark : Nat} {s : List Nat × Nat} (h : W25 s.1) : W25 (endK rate mark s) := perm_w (putK_w (putK_w h _ _) _ _)
/-- all rounds, where a block is used up; a byte out of the words; so many bytes -/
def fresh (rate : Nat) (s : List Nat × Nat) : List Nat × Nat := if s.2 = rate then (perm s.1, 0) else s
def outB (s : List Nat × Nat) : Nat := el s.1 (s.2 / 8) / 2 ^ (8 * (s.2 % 8)) % 256
def sqzS (rate : Nat) (s : List Nat × Nat) : Nat → List Nat × Nat
  | 0 => s
  | n + 1 => ((fresh rate (sqzS rate s n)).1, (fresh rate (sqzS rate s n)).2 + 1)
def sqzB (rate : Nat) (s : List Nat × Nat) : Nat → List Nat
  | 0 => []
  | n + 1 => sqzB rate s n ++ [outB (fresh rate (sqzS rate s n))]
theorem sqzB_length (rate : Nat) (s : List Nat × Nat) : ∀ n, (sqzB rate s n).length = n
  | 0 => rfl
  | n + 1 => by simp [sqzB, sqzB_length rate s n]
theorem sqzB_under (rate : Nat) (s : List Nat × Nat) : ∀ n, Under 256 (sqzB rate s n)
  | 0 => fun x hx => by simp [sqzB] at hx
  | n + 1 => (sqzB_under rate s n).append (Under.one (Nat.mod_lt _ (by decide)))
theorem fresh_w {rate : Nat} {s : List Nat × Nat} (h : W25 s.1) : W25 (fresh rate s).1 := by
  unfold fresh
  split
  · dsimp only; exact perm_w h
  · exact h
theorem fresh_at {rate : Nat} {s : List Nat × Nat} (hr : 0 < rate) (h : s.2 ≤ rate) : (fresh rate s).2 < rate := by
  unfold fresh
  split
  · exact hr
  · omega
theorem sqzS_w {rate : Nat} {s : List Nat × Nat} (h : W25 s.1) : ∀ n, W25 (sqzS rate s n).1
  | 0 => h
  | n + 1 => fresh_w (sqzS_w h n)
theorem sqzS_at {rate : Nat} {s : List Nat × Nat} (hr : 0 < rate) (h : s.2 ≤ rate) : ∀ n, (sqzS rate s n).2 ≤ rate
  | 0 => h
  | n + 1 => fresh_at hr (sqzS_at hr h n)
/-- PARTS -/
theorem sqzS_parts (rate : Nat) (s : List Nat × Nat) (n : Nat) : ∀ m, sqzS rate s (n + m) = sqzS rate (sqzS rate s n) m
  | 0 => rfl
  | m + 1 => by rw [← Nat.add_assoc]; show _ = (_, _); simp only [sqzS]; rw [sqzS_parts rate s n m]
/-- a kind's block; its mark -/
def rateK (kind : Int) : Nat := if kind = 4 ∨ kind = 7 then 136 else if kind = 5 then 72 else if kind = 6 then 168 else 0
def markK (kind : Int) : Nat := if kind = 4 ∨ kind = 5 then 6 else 31
end Go.Proofs.YtpmobjfhhkglbaaGreatDoor

/- Contract of the document's left: a word turned to the left. -/
namespace Go.Proofs.YtpmobjfhhkglbaaGreatDoor
open Go.RowKit
set_option linter.unusedVariables false
set_option linter.unusedSimpArgs false

theorem rotl_mod (x n : Nat) : rotl x (n % 64) = rotl x n := by unfold rotl; rw [Nat.mod_mod]
theorem rotl_is (x k : Nat) (hx : x < 18446744073709551616) (hk : k < 64) : bits .or .u64 (IntKind.u64.wrap ((x : Int) * 2 ^ k)) ((x : Int) / 2 ^ (64 - k)) = ((rotl x k : Nat) : Int) := by
  have e1 : (x : Int) / 2 ^ (64 - k) = ((x / 2 ^ (64 - k) : Nat) : Int) := by simp
  have e2 : IntKind.u64.wrap ((x : Int) * 2 ^ k) = ((x * 2 ^ k % 18446744073709551616 : Nat) : Int) := by rw [IntKind.wrap_u64]; simp
  rw [e1, e2, u64_or_nat _ _ (Nat.mod_lt _ (by decide)) (Nat.lt_of_le_of_lt (Nat.div_le_self _ _) hx)]
  unfold rotl
  rw [Nat.mod_eq_of_lt hk]
set_option maxHeartbeats 1000000 in
theorem kleft_any (x n : Nat) (w : World) (hx : x < 18446744073709551616) (hn : n < 1000000) :
    Calls Tryz.prog 109 #[.int .u64 x, .int .i64 n] w fun e w' => e = .returned (.int .u64 (rotl x n : Nat)) ∧ ∃ m, w' = w.drewN m := by
  obtain ⟨k, hk⟩ : ∃ k, k = n % 64 := ⟨_, rfl⟩
  have hk64 : k < 64 := by omega
  have hm : (n : Int) % 64 = (k : Int) := by omega
  have m1 : min k 64 = k := by omega
  have m2 : min (64 - k) 64 = 64 - k := by omega
  rw [← rotl_mod, ← hk]
  clear hk
  go_enter Tryz.func109, Tryz.ntmps109
  go_wp2
  go_quiet (fail)
  go_wp2
  go_ret
  exact ⟨ret_int (rotl_is x k hx hk64), _, rfl⟩
end Go.Proofs.YtpmobjfhhkglbaaGreatDoor
