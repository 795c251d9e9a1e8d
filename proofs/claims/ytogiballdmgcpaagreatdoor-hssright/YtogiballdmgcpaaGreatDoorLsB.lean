/- Trees of leaves that sign once, the program's own: the number that has a typecode; a signature's kind. -/
import Derived.Test.YtogiballdmgcpaaGreatDoorLsA
import Derived.Test.YtogiballdmgcpaaGreatDoorLmM
import Derived.Test.YtogiballdmgcpaaGreatDoorLhA
import Derived.Test.YtogiballdmgcpaaGreatDoorBase
import Derived.Test.YtogiballdmgcpaaGreatDoorLcS
namespace Go.Proofs.YtogiballdmgcpaaGreatDoor
open Go.RowKit
set_option linter.unusedVariables false
set_option linter.unusedSimpArgs false

theorem findN_congr {P Q : Nat → Bool} : ∀ (k f : Nat), (∀ y, f ≤ y → P y = Q y) → findN P f k = findN Q f k
  | 0, _, _ => rfl
  | k + 1, f, h => by
    show (if P f = true then f else findN P (f + 1) k) = (if Q f = true then f else findN Q (f + 1) k)
    rw [h f (Nat.le_refl _), findN_congr k (f + 1) fun y hy => h y (by omega)]
/-- from 0 on, where nothing has typecode 0 but what is none -/
theorem findN_zero {g : Nat → Nat} (h0 : g 0 = 0) (c k : Nat) : findN (fun n => decide (g n = c)) 0 (k + 1) = findN (fun n => decide (g n = c ∧ c ≠ 0)) 1 k := by
  show (if decide (g 0 = c) = true then 0 else findN (fun n => decide (g n = c)) (0 + 1) k) = _
  by_cases hc : c = 0
  · subst hc
    rw [if_pos (by simp [h0])]
    have : ∀ (k f : Nat), findN (fun n => decide (g n = 0 ∧ (0 : Nat) ≠ 0)) f k = 0 := by
      intro k
      induction k with
      | zero => intro f; rfl
      | succ k ih => intro f; show (if _ then f else _) = 0; rw [if_neg (by simp)]; exact ih _
    exact (this _ _).symm
  · rw [if_neg (by rw [h0]; simp; exact fun e => hc e.symm)]
    exact findN_congr _ _ fun y _ => by simp [hc]
def FnZ (P : Nat → Bool) (T k0 : Nat) (vi : Value) (w wr : World) : Prop := ∃ f k : Nat, f + k = T ∧ vi = .int .i64 (f : Int) ∧ findN P f k = k0 ∧ wr = w
set_option maxHeartbeats 4000000 in
set_option maxRecDepth 100000 in
theorem whose_any (F : FuncId) (g : Nat → Nat) (N : Nat) (hN : N ≤ 100) (l : List Nat) (cv : Value) (w : World) (hl : Row .u8 256 w cv l)
    (he : ∀ (args : Array Value) (y : World), (callFunc F args).run Tryz.prog y = .ok (.enter F args) y)
    (hf : ∀ (n : Nat) (y : World), Calls Tryz.prog F #[.int .i64 (n : Int)] y fun e w' => e = .returned (.int .u64 (g n : Nat)) ∧ w' = y) :
    Calls Tryz.prog 114 #[cv, .func (.func F) #[] #[], .int .i64 (N : Int)] w fun e w' => e = .returned (.int .i64 (findN (fun n => decide (g n = numL l)) 0 (N + 1) : Nat)) ∧ w' = w := by
  obtain ⟨M, hM⟩ : ∃ M : Nat, M = N + 1 := ⟨_, rfl⟩
  have e_M : (N : Int) + 1 = (M : Int) := by omega
  have s_M : IntKind.i64.wrap (M : Int) = (M : Int) := by rw [IntKind.wrap_i64]; omega
  rw [← hM]
  have hn := num_any _ _ _ hl
  obtain ⟨c, hc⟩ : ∃ c, c = numL l := ⟨_, rfl⟩
  rw [← hc] at hn ⊢
  obtain ⟨P, hP⟩ : ∃ P : Nat → Bool, P = fun n => decide (g n = c) := ⟨_, rfl⟩
  rw [← hP]
  obtain ⟨R, hR⟩ : ∃ R, R = findN P 0 M := ⟨_, rfl⟩
  rw [← hR]
  have H0 : Hid (FnZ P M R (.int .i64 0) w w) := hide ⟨0, M, by omega, rfl, hR.symm, rfl⟩
  have HP := hide (And.intro hP (And.intro hM hN))
  clear hP hR hc hM hN hl
  go_enter Tryz.func114, Tryz.ntmps114
  go_wp2
  go_loopw [10] (fun vi wr => FnZ P M R vi w wr) (fun vi _ => M - (intOf vi).toNat)
  case atStart => exact H0.out
  case round =>
    obtain ⟨f, k, hfk, rfl, hfn, rfl⟩ := hrel
    clear H0
    by_cases hlt : f < M
    · obtain ⟨k', rfl⟩ : ∃ k', k = k' + 1 := ⟨k - 1, by omega⟩
      have hle : (f : Int) < (M : Int) := by omega
      have hst : (if P f = true then f else findN P (f + 1) k') = R := hfn
      obtain ⟨X, hX⟩ : ∃ X : Nat, X = g f := ⟨_, rfl⟩
      have hcf := hf f
      rw [← hX] at hcf
      have hPf : P f = decide (X = c) := by rw [HP.out.1, hX]
      obtain ⟨I, hI⟩ : ∃ I : Nat, I = f + 1 := ⟨_, rfl⟩
      have e_I : (f : Int) + 1 = (I : Int) := by omega
      have s_I : IntKind.i64.wrap (I : Int) = (I : Int) := by rw [IntKind.wrap_i64]; have := HP.out.2; omega
      have HK := hide (And.intro hst (And.intro hX (And.intro hPf (And.intro hI (And.intro hfk hlt)))))
      by_cases hq : X = c
      · have hqi : (X : Int) = (c : Int) := by omega
        have HQ := hide hq
        clear hst hX hPf hI hfn hfk hlt hq
        go_wp2_with (first
          | (go_at_call 32; refine hn.mono ?_; rintro e yy ⟨rfl, hy⟩; obtain rfl := hy.symm)
          | (refine (hcf _).mono ?_; rintro e yy ⟨rfl, hy⟩; obtain rfl := hy.symm)
          | fail)
        go_ret
        obtain ⟨hst, hX, hPf, hI, hfk, hlt⟩ := HK.out
        exact ⟨by rw [← hst, if_pos (by rw [hPf]; simp [HQ.out])]; rfl, rfl⟩
      · have hqi : ¬ (X : Int) = (c : Int) := by omega
        have HQ := hide hq
        clear hst hX hPf hI hfn hfk hlt hq
        go_wp2_with (first
          | (go_at_call 32; refine hn.mono ?_; rintro e yy ⟨rfl, hy⟩; obtain rfl := hy.symm)
          | (refine (hcf _).mono ?_; rintro e yy ⟨rfl, hy⟩; obtain rfl := hy.symm)
          | fail)
        obtain ⟨hst, hX, hPf, hI, hfk, hlt⟩ := HK.out
        go_roundw
        case rel => exact ⟨f + 1, k', by omega, vint (by omega), by rw [← hst, if_neg (by rw [hPf]; simp [HQ.out])], rfl⟩
        case measure => simp [intOf]; omega
    · obtain rfl : k = 0 := by omega
      have hR0 : R = 0 := hfn.symm
      have hge : ¬ (f : Int) < (M : Int) := by omega
      rw [hR0]
      clear hfn hfk hlt
      go_wp2
      go_ret
      exact ⟨rfl, rfl⟩
set_option maxHeartbeats 4000000 in
set_option maxRecDepth 100000 in
theorem cheightOf (l : List Nat) (cv : Value) (w : World) (hl : Row .u8 256 w cv l) : Calls Tryz.prog 89 #[cv] w fun e w' => e = .returned (.int .i64 (hgtL (numL l) : Nat)) ∧ w' = w := by
  have hw := whose_any 72 (fun n => lmCode (n : Int)) 25 (by decide) l cv w hl (fun args y => by simp [Tryz.call72]) (fun n y => chc_any _ y)
  rw [findN_zero (g := fun n => lmCode (n : Int)) (by decide)] at hw
  have e0 : hgtL (numL l) = findN (fun n => decide (lmCode (n : Int) = numL l ∧ numL l ≠ 0)) 1 25 := rfl
  rw [← e0] at hw
  generalize hgtL (numL l) = R at *
  clear e0
  go_enter Tryz.func89, Tryz.ntmps89
  go_wp2_with (first
    | (go_at_call 114; refine hw.mono ?_; rintro e yy ⟨rfl, hy⟩; obtain rfl := hy.symm)
    | fail)
  go_ret
  exact ⟨rfl, rfl⟩
set_option maxHeartbeats 4000000 in
set_option maxRecDepth 100000 in
theorem cwidthOf (l : List Nat) (cv : Value) (w : World) (hl : Row .u8 256 w cv l) : Calls Tryz.prog 88 #[cv] w fun e w' => e = .returned (.int .i64 (dgtL (numL l) : Nat)) ∧ w' = w := by
  have hw := whose_any 73 kdC 8 (by decide) l cv w hl (fun args y => by simp [Tryz.call73]) (fun n y => by have := cwc_any (n : Int) y; rwa [wdC_nat] at this)
  rw [findN_zero (g := kdC) (by decide)] at hw
  have e0 : dgtL (numL l) = findN (fun n => decide (kdC n = numL l ∧ numL l ≠ 0)) 1 8 := rfl
  rw [← e0] at hw
  generalize dgtL (numL l) = R at *
  clear e0
  go_enter Tryz.func88, Tryz.ntmps88
  go_wp2_with (first
    | (go_at_call 114; refine hw.mono ?_; rintro e yy ⟨rfl, hy⟩; obtain rfl := hy.symm)
    | fail)
  go_ret
  exact ⟨rfl, rfl⟩
end Go.Proofs.YtogiballdmgcpaaGreatDoor

/- Trees of leaves that sign once, the program's own: the kind of a signature's tree. -/
namespace Go.Proofs.YtogiballdmgcpaaGreatDoor
open Go.RowKit
set_option linter.unusedVariables false
set_option linter.unusedSimpArgs false

/-- what is wrong with a signature's typecodes -/
def kkE (b : List Nat) : Nat := if b.length < 8 then 1 else if ctW b = 0 then 9 else if b.length < 8 + szW (ctW b) then 1 else if ctH b = 0 then 9 else 0
theorem ctE_kk (b : List Nat) : ctE b = if kkE b ≠ 0 then kkE b else if b.length < ctN b then 1 else 0 := by
  unfold ctE kkE ctA
  by_cases h1 : b.length < 8
  · simp [h1]
  by_cases h2 : ctW b = 0
  · simp [h1, h2]
  by_cases h3 : b.length < 8 + szW (ctW b)
  · simp [h1, h2, h3, show b.length < 4 + szW (ctW b) + 4 by omega]
  by_cases h4 : ctH b = 0
  · simp [h1, h2, h3, h4, show ¬ b.length < 4 + szW (ctW b) + 4 by omega]
  · simp [h1, h2, h3, h4, show ¬ b.length < 4 + szW (ctW b) + 4 by omega]
theorem kkE_zero {b : List Nat} (h : kkE b = 0) : 8 ≤ b.length ∧ ctW b ≠ 0 ∧ 8 + szW (ctW b) ≤ b.length ∧ ctH b ≠ 0 := by
  unfold kkE at h
  by_cases h1 : b.length < 8
  · simp [h1] at h
  by_cases h2 : ctW b = 0
  · simp [h1, h2] at h
  by_cases h3 : b.length < 8 + szW (ctW b)
  · simp [h1, h2, h3] at h
  by_cases h4 : ctH b = 0
  · simp [h1, h2, h3, h4] at h
  exact ⟨by omega, h2, by omega, h4⟩
theorem fit_ct {b : List Nat} (h1 : ctW b ≠ 0) (h2 : ctH b ≠ 0) : FitL (ctH b : Nat) (ctW b : Nat) := by
  constructor
  · rcases hgtL_or (numL ((b.drop (ctA b)).take 4)) with h | ⟨h, h3, _⟩
    · exact absurd h h2
    · show lmCode ((hgtL (numL ((b.drop (ctA b)).take 4)) : Nat) : Int) ≠ 0
      rw [h]; exact h3
  · rcases dgtL_or (numL ((b.drop 4).take 4)) with h | ⟨n, m, s, h⟩
    · exact absurd h h1
    · show szW ((dgtL (numL ((b.drop 4).take 4)) : Nat) : Int) ≠ 0
      have e0 : ∀ {k n m s c : Nat}, Kd k n m s c → szW (k : Int) ≠ 0 := fun hk => by cases hk <;> decide
      exact e0 h
set_option maxHeartbeats 4000000 in
set_option maxRecDepth 100000 in
theorem ckindb_1 (L : Nat) (ba : Option Addr) (bc : Nat) (w : World) (h8 : L < 8) :
    Calls Tryz.prog 57 #[.slice ba L bc] w fun e w' => e = .returned (.tuple #[.agg #[.int .i64 0, .int .i64 0], .int .i64 1]) ∧ Below w.heap.size w w' := by
  have hi : (L : Int) < 8 := by omega
  have z0 := Bx2T.new w (.int .i64 0) (.int .i64 0)
  have hbw := keep_alloc w (.cells #[.int .i64 0, .int .i64 0] 45)
  go_enter Tryz.func57, Tryz.ntmps57
  go_wp2_with (first
    | (refine wpList_store_row rfl 45 _ _ (by rfl) w.heap.size #[.int .i64 0, .int .i64 0] (by rfl) (by rfl) _ _ z0.here (by kernel_rfl) rfl (by simp [Value.oneCell']) ?_)
    | fail)
  refine bodyPost_ret (z0.row.ret rfl _ rfl rfl) rfl ⟨rfl, below_setRow hbw (Nat.le_refl _)⟩
set_option maxHeartbeats 4000000 in
set_option maxRecDepth 100000 in
theorem ckindb_2 (b : List Nat) (bv : Value) (w : World) (hb : Row .u8 256 w bv b) (h8 : 8 ≤ b.length) (hw : ctW b = 0) :
    Calls Tryz.prog 57 #[bv] w fun e w' => e = .returned (.tuple #[.agg #[.int .i64 0, .int .i64 0], .int .i64 9]) ∧ Below w.heap.size w w' := by
  have z0 := Bx2T.new w (.int .i64 0) (.int .i64 0)
  have hbw := keep_alloc w (.cells #[.int .i64 0, .int .i64 0] 45)
  have hrow := hb
  obtain ⟨ba, bc, rfl, lc1, lc2, ho⟩ := hb.opens rfl
  obtain ⟨bb, bo, rfl, _⟩ := ho (by omega)
  have r4 : Row .u8 256 w (.slice (some ⟨bb, bo + 4, none⟩) 4 (bc - 4)) ((b.drop 4).take 4) := hrow.mid (i := 4) (j := 8) (by decide) (by omega)
  have hwd := cwidthOf _ _ _ (r4.below hbw)
  rw [show dgtL (numL ((b.drop 4).take 4)) = ctW b from rfl, hw] at hwd
  have hi8 : ¬ (b.length : Int) < 8 := by omega
  have h8c : (8 : Int) ≤ (bc : Int) := by omega
  generalize b.length = L at *
  clear hb hrow r4 hw ho h8
  go_enter Tryz.func57, Tryz.ntmps57
  go_wp2_with (first
    | (go_at_call 88; refine hwd.mono ?_; rintro e yy ⟨rfl, hy⟩; obtain rfl := hy.symm)
    | (refine wpList_store_row rfl 45 _ _ (by rfl) w.heap.size #[.int .i64 0, .int .i64 0] (by rfl) (by rfl) _ _ z0.here (by kernel_rfl) rfl (by simp [Value.oneCell']) ?_)
    | fail)
  refine bodyPost_ret (z0.row.ret rfl _ rfl rfl) rfl ⟨rfl, below_setRow hbw (Nat.le_refl _)⟩
set_option maxHeartbeats 4000000 in
set_option maxRecDepth 100000 in
theorem ckindb_3 (b : List Nat) (bv : Value) (w : World) (hb : Row .u8 256 w bv b) (h8 : 8 ≤ b.length) (hw : ctW b ≠ 0) (hL : b.length < 8 + szW (ctW b)) :
    Calls Tryz.prog 57 #[bv] w fun e w' => e = .returned (.tuple #[.agg #[.int .i64 0, .int .i64 0], .int .i64 1]) ∧ Below w.heap.size w w' := by
  have z0 := Bx2T.new w (.int .i64 0) (.int .i64 0)
  have hbw := keep_alloc w (.cells #[.int .i64 0, .int .i64 0] 45)
  have hrow := hb
  obtain ⟨ba, bc, rfl, lc1, lc2, ho⟩ := hb.opens rfl
  obtain ⟨bb, bo, rfl, _⟩ := ho (by omega)
  have r4 : Row .u8 256 w (.slice (some ⟨bb, bo + 4, none⟩) 4 (bc - 4)) ((b.drop 4).take 4) := hrow.mid (i := 4) (j := 8) (by decide) (by omega)
  have hwd := cwidthOf _ _ _ (r4.below hbw)
  rw [show dgtL (numL ((b.drop 4).take 4)) = ctW b from rfl] at hwd
  have hbe := fun y => cbesideAt (ctW b : Nat) y
  obtain ⟨E, hE⟩ : ∃ E, E = 8 + szW (ctW b) := ⟨_, rfl⟩
  rw [← hE] at hbe hL
  have hi8 : ¬ (b.length : Int) < 8 := by omega
  have h8c : (8 : Int) ≤ (bc : Int) := by omega
  have hWi : ¬ ((ctW b : Nat) : Int) = 0 := by omega
  have hWb : (((ctW b : Nat) : Int) == 0) = false := by simp; exact hw
  have hLi : (b.length : Int) < (E : Int) := by omega
  clear hE hL hw
  generalize ctW b = W at *
  generalize b.length = L at *
  clear hb hrow r4 ho h8
  go_enter Tryz.func57, Tryz.ntmps57
  go_wp2_with (first
    | (go_at_call 88; refine hwd.mono ?_; rintro e yy ⟨rfl, hy⟩; obtain rfl := hy.symm)
    | (go_at_call 65; refine (hbe _).mono ?_; rintro e w1 ⟨rfl, g1⟩; have z1 := z0.below g1)
    | (refine wpList_store_row rfl 45 _ _ (by rfl) w.heap.size #[.int .i64 0, .int .i64 0] (by rfl) (by rfl) _ _ z1.here (by kernel_rfl) rfl (by simp [Value.oneCell']) ?_)
    | fail)
  refine bodyPost_ret (z1.row.ret rfl _ rfl rfl) rfl ⟨rfl, below_setRow (keep_trans hbw g1) (Nat.le_refl _)⟩
set_option maxHeartbeats 4000000 in
set_option maxRecDepth 100000 in
theorem ckindb_4 (b : List Nat) (bv : Value) (w : World) (hb : Row .u8 256 w bv b) (h8 : 8 ≤ b.length) (hw : ctW b ≠ 0) (hL : 8 + szW (ctW b) ≤ b.length) :
    Calls Tryz.prog 57 #[bv] w fun e w' => e = .returned (if ctH b = 0 then .tuple #[.agg #[.int .i64 0, .int .i64 0], .int .i64 9] else .tuple #[.agg #[.int .i64 (ctH b : Nat), .int .i64 (ctW b : Nat)], .int .i64 0]) ∧ Below w.heap.size w w' := by
  have z0 := Bx2T.new w (.int .i64 0) (.int .i64 0)
  have hbw := keep_alloc w (.cells #[.int .i64 0, .int .i64 0] 45)
  have hrow := hb
  obtain ⟨ba, bc, rfl, lc1, lc2, ho⟩ := hb.opens rfl
  obtain ⟨bb, bo, rfl, _⟩ := ho (by omega)
  have r4 : Row .u8 256 w (.slice (some ⟨bb, bo + 4, none⟩) 4 (bc - 4)) ((b.drop 4).take 4) := hrow.mid (i := 4) (j := 8) (by decide) (by omega)
  have hwd := cwidthOf _ _ _ (r4.below hbw)
  rw [show dgtL (numL ((b.drop 4).take 4)) = ctW b from rfl] at hwd
  have hbe := fun y => cbesideAt (ctW b : Nat) y
  have hco := fun y => ccodeAt (ctW b : Nat) y
  have hzl := szW_le (ctW b)
  obtain ⟨E, hE⟩ : ∃ E, E = 8 + szW (ctW b) := ⟨_, rfl⟩
  obtain ⟨A, hA⟩ : ∃ A, A = 4 + szW (ctW b) := ⟨_, rfl⟩
  have hcA : ctA b = A := by rw [hA]; rfl
  rw [← hE] at hbe hL
  rw [← hA] at hco
  have rA : Row .u8 256 w (.slice (some ⟨bb, bo + A, none⟩) 4 (bc - A)) ((b.drop A).take 4) := by
    have := hrow.mid (i := A) (j := A + 4) (by omega) (by omega)
    rwa [Nat.add_sub_cancel_left] at this
  have hhd := fun y (k : Below w.heap.size w y) => cheightOf _ _ y (rA.below k)
  rw [show hgtL (numL ((b.drop A).take 4)) = ctH b by rw [← hcA]; rfl] at hhd
  have hft := fun y => cfitT_any (ctH b : Nat) (ctW b : Nat) y
  have hdec : decide (FitL (ctH b : Nat) (ctW b : Nat)) = !(decide (ctH b = 0)) := by
    by_cases h0 : ctH b = 0
    · rw [decide_eq_false (fun hh => hh.1 (by rw [h0]; rfl))]; simp [h0]
    · rw [decide_eq_true (fit_ct hw h0)]; simp [h0]
  rw [hdec] at hft
  have hi8 : ¬ (b.length : Int) < 8 := by omega
  have h8c : (8 : Int) ≤ (bc : Int) := by omega
  have hWi : ¬ ((ctW b : Nat) : Int) = 0 := by omega
  have hWb : (((ctW b : Nat) : Int) == 0) = false := by simp; exact hw
  have hLi : ¬ (b.length : Int) < (E : Int) := by omega
  have hAE : (A : Int) ≤ (E : Int) := by omega
  have hEc : (E : Int) ≤ (bc : Int) := by omega
  have hEA : E - A = 4 := by omega
  have hEAi : (E : Int) - (A : Int) = 4 := by omega
  have z_A : (0 : Int) ≤ (A : Int) := Int.natCast_nonneg _
  clear hE hA hL hw hcA hzl hdec rA
  generalize ctW b = W at *
  generalize ctH b = H at *
  generalize b.length = L at *
  clear hb hrow r4 ho h8
  by_cases h0 : H = 0
  · rw [if_pos h0]
    rw [decide_eq_true h0, h0] at hft
    rw [h0] at hhd
    clear h0
    go_enter Tryz.func57, Tryz.ntmps57
    go_wp2_with (first
      | (go_at_call 88; refine hwd.mono ?_; rintro e yy ⟨rfl, hy⟩; obtain rfl := hy.symm; clear hwd)
      | (go_at_call 65; have hbu := hbe; clear hbe; refine (hbu _).mono ?_; rintro e w1 ⟨rfl, g1⟩; have z1 := z0.below g1; have k1 := keep_trans hbw g1)
      | (go_at_call 62; refine (hco _).mono ?_; rintro e w2 ⟨rfl, g2⟩; have z2 := z1.below g2; have k2 := keep_trans k1 g2)
      | (go_at_call 65; refine (hbu _).mono ?_; rintro e w3 ⟨rfl, g3⟩; have z3 := z2.below g3; have k3 := keep_trans k2 g3)
      | (go_at_call 89; refine (hhd _ k3).mono ?_; rintro e yy ⟨rfl, hy⟩; obtain rfl := hy.symm)
      | (go_at_call 41; refine (hft _).mono ?_; rintro e w4 ⟨rfl, g4⟩; have z4 := (z3.below (keep_alloc _ _)).below g4; have k4 := keep_trans (keep_trans k3 (keep_alloc _ _)) g4; have zm := (Bx2T.new w3 _ _).below g4)
      | (refine wpList_store_row rfl 45 _ _ (by rfl) w.heap.size #[.int .i64 0, .int .i64 0] (by rfl) (by rfl) _ _ z4.here (by kernel_rfl) rfl (by simp [Value.oneCell']) ?_)
      | fail)
    refine bodyPost_ret (z4.row.ret rfl _ rfl rfl) rfl ⟨rfl, below_setRow k4 (Nat.le_refl _)⟩
  · rw [if_neg h0]
    rw [decide_eq_false h0] at hft
    clear h0
    go_enter Tryz.func57, Tryz.ntmps57
    go_wp2_with (first
      | (go_at_call 88; refine hwd.mono ?_; rintro e yy ⟨rfl, hy⟩; obtain rfl := hy.symm; clear hwd)
      | (go_at_call 65; have hbu := hbe; clear hbe; refine (hbu _).mono ?_; rintro e w1 ⟨rfl, g1⟩; have z1 := z0.below g1; have k1 := keep_trans hbw g1)
      | (go_at_call 62; refine (hco _).mono ?_; rintro e w2 ⟨rfl, g2⟩; have z2 := z1.below g2; have k2 := keep_trans k1 g2)
      | (go_at_call 65; refine (hbu _).mono ?_; rintro e w3 ⟨rfl, g3⟩; have z3 := z2.below g3; have k3 := keep_trans k2 g3)
      | (go_at_call 89; refine (hhd _ k3).mono ?_; rintro e yy ⟨rfl, hy⟩; obtain rfl := hy.symm)
      | (go_at_call 41; refine (hft _).mono ?_; rintro e w4 ⟨rfl, g4⟩; have z4 := (z3.below (keep_alloc _ _)).below g4; have k4 := keep_trans (keep_trans k3 (keep_alloc _ _)) g4; have zm := (Bx2T.new w3 _ _).below g4)
      | (refine wpList_load_row rfl 45 _ (by rfl) w3.heap.size (by rfl) _ _ _ _ zm.here Tryz.underlying45 rfl (by kernel_rfl) ?_)
      | (refine wpList_store_row rfl 45 _ _ (by rfl) w.heap.size #[.int .i64 (H : Int), .int .i64 (W : Int)] (by rfl) (by rfl) _ _ z4.here (by kernel_rfl) rfl (by simp [Value.oneCell']) ?_)
      | fail)
    refine bodyPost_ret (z4.row.ret rfl _ rfl rfl) rfl ⟨rfl, below_setRow k4 (Nat.le_refl _)⟩
theorem ckindb_any (b : List Nat) (bv : Value) (w : World) (hb : Row .u8 256 w bv b) :
    Calls Tryz.prog 57 #[bv] w fun e w' => e = .returned (if kkE b = 0 then .tuple #[.agg #[.int .i64 (ctH b : Nat), .int .i64 (ctW b : Nat)], .int .i64 0] else .tuple #[.agg #[.int .i64 0, .int .i64 0], .int .i64 (kkE b : Nat)]) ∧ Below w.heap.size w w' := by
  unfold kkE
  by_cases h1 : b.length < 8
  · simp only [h1, if_true]
    obtain ⟨ba, bc, rfl, _⟩ := hb.opens rfl
    exact ckindb_1 _ _ _ w h1
  by_cases h2 : ctW b = 0
  · simp only [h1, h2, if_true, if_false]
    exact ckindb_2 b bv w hb (by omega) h2
  by_cases h3 : b.length < 8 + szW (ctW b)
  · simp only [h1, h2, h3, if_true, if_false]
    exact ckindb_3 b bv w hb (by omega) h2 h3
  have := ckindb_4 b bv w hb (by omega) h2 (by omega)
  by_cases h4 : ctH b = 0
  · simp only [h1, h2, h3, h4, if_true, if_false] at this ⊢
    exact this
  · simp only [h1, h2, h3, h4, if_true, if_false] at this ⊢
    exact this
end Go.Proofs.YtogiballdmgcpaaGreatDoor
