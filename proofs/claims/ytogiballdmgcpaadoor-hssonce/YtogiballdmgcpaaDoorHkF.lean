/- Trees of trees: the document's Fit and Leaves. -/
import Derived.Test.YtogiballdmgcpaaDoorPgF
import Derived.Test.YtogiballdmgcpaaDoorHEnd
import Derived.Test.YtogiballdmgcpaaDoorHTak32
import Derived.Test.YtogiballdmgcpaaDoorHKi2
import Derived.Test.YtogiballdmgcpaaDoorBase
import Derived.BigQuiet
namespace Go.Proofs.YtogiballdmgcpaaDoor
open Go.RowKit
set_option linter.unusedVariables false
set_option linter.unusedSimpArgs false

/-- a key's box -/
structure BxK (W : World) (B : Nat) (v0 v1 v2 : Value) : Prop where
  here : W.heap[B]? = some (.cells #[v0, v1, v2] 25 (0, 0))
theorem BxK.lt {W : World} {B : Nat} {v0 v1 v2 : Value} (h : BxK W B v0 v1 v2) : B < W.heap.size := (Array.getElem?_eq_some_iff.1 h.here).1
theorem BxK.c0 {W : World} {B : Nat} {v0 v1 v2 : Value} (h : BxK W B v0 v1 v2) : W.cell? ⟨B, 0, none⟩ = some v0 := by simp [World.cell?, h.here]
theorem BxK.c1 {W : World} {B : Nat} {v0 v1 v2 : Value} (h : BxK W B v0 v1 v2) : W.cell? ⟨B, 1, none⟩ = some v1 := by simp [World.cell?, h.here]
theorem BxK.c2 {W : World} {B : Nat} {v0 v1 v2 : Value} (h : BxK W B v0 v1 v2) : W.cell? ⟨B, 2, none⟩ = some v2 := by simp [World.cell?, h.here]
theorem BxK.below {W W' : World} {B : Nat} {v0 v1 v2 : Value} (h : BxK W B v0 v1 v2) (hb : Below W.heap.size W W') : BxK W' B v0 v1 v2 := ⟨(hb.block _ h.lt).trans h.here⟩
theorem BxK.new (W : World) (v0 v1 v2 : Value) : BxK (W.alloc (.cells #[v0, v1, v2] 25)) W.heap.size v0 v1 v2 := ⟨heap_alloc_new W _⟩
/-- where Fit stands -/
def KfL (w : World) (B : Nat) (v0 v1 v2 : Value) (ts : List (Int × Int)) (vn vi : Value) (wr : World) : Prop := ∃ i : Nat, i ≤ ts.length ∧ i ≤ 8 ∧ vi = .int .i64 (i : Int) ∧ vn = .int .i64 (sumH (ts.take i)) ∧ (∀ t ∈ ts.take i, FitG t) ∧ BxK wr B v0 v1 v2 ∧ Below w.heap.size w wr
set_option maxHeartbeats 4000000 in
set_option maxRecDepth 100000 in
theorem rfitK_any (ts : List (Int × Int)) (tv : Value) (ia sa : Option Addr) (il ic sl sc : Nat) (w : World) (ht : TrS w tv ts) :
    Calls Tryd.prog 10 #[.agg #[tv, .slice ia il ic, .slice sa sl sc]] w fun e w' => e = .returned (.bool (decide (FitK ts il sl))) ∧ Below w.heap.size w w' := by
  have ht' := ht
  obtain ⟨ta, tc, rfl, t1, t2, tcell⟩ := ht'
  have b0 := BxK.new w (.slice ta ts.length tc) (.slice ia il ic) (.slice sa sl sc)
  have hb0 := keep_alloc w (.cells #[.slice ta ts.length tc, .slice ia il ic, .slice sa sl sc] 25)
  obtain ⟨N, hN⟩ : ∃ N, ts.length = N := ⟨_, rfl⟩
  rw [hN] at b0 hb0 ⊢
  have h0 : KfL w w.heap.size (.slice ta N tc) (.slice ia il ic) (.slice sa sl sc) ts (.int .i64 0) (.int .i64 0) (w.alloc (.cells #[.slice ta N tc, .slice ia il ic, .slice sa sl sc] 25)) := ⟨0, Nat.zero_le _, Nat.zero_le _, rfl, rfl, fun t h => by simp at h, b0, hb0⟩
  have H0 := hide h0
  have HT := hide (And.intro ht (And.intro tcell hN))
  clear h0 ht tcell b0 hb0
  obtain ⟨RB, hRB⟩ : ∃ R, decide (FitK ts il sl) = R := ⟨_, rfl⟩
  rw [hRB]
  have HR := hide hRB
  clear hRB
  go_enter Tryd.func10, Tryd.ntmps10
  go_wp2
  go_loopw [3, 4] (fun vn vi wr => KfL w w.heap.size (.slice ta N tc) (.slice ia il ic) (.slice sa sl sc) ts vn vi wr) (fun _ vi _ => N - (intOf vi).toNat)
  case atStart => exact H0.out
  case round =>
    obtain ⟨i, hi, hi8, rfl, rfl, hfit, bx, hbr⟩ := hrel
    clear H0
    have c0 := bx.c0
    have c1 := bx.c1
    have c2 := bx.c2
    obtain ⟨ht, tcell, hN⟩ := HT.out
    by_cases hlt : i < N
    · have hlt' : (i : Int) < (N : Int) := by omega
      obtain ⟨tb, to, rfl, tcc⟩ := tcell (by omega)
      obtain ⟨x1, x2⟩ := tcc i (by omega)
      have y1 : wr.cell? ⟨tb, to + i * 2, none⟩ = some (.int .i64 (trA ts i).1) := by rw [hbr.cell (p := ⟨tb, to + i * 2, none⟩) (World.block_lt_of_cell? _ _ x1)]; exact x1
      have y2 : wr.cell? ⟨tb, to + i * 2 + 1, none⟩ = some (.int .i64 (trA ts i).2) := by rw [hbr.cell (p := ⟨tb, to + i * 2 + 1, none⟩) (World.block_lt_of_cell? _ _ x2)]; exact x2
      have htk := tr_take (ts := ts) (i := i) (by omega)
      have hmem := trA_mem (ts := ts) (i := i) (by omega)
      have hf := fun y => rfitT_any (trA ts i).1 (trA ts i).2 y
      obtain ⟨hs1, hs2⟩ := sumH_le _ hfit
      have hsl : ((ts.take i).length : Int) ≤ (i : Int) := by rw [List.length_take]; omega
      obtain ⟨S, hS⟩ : ∃ S, sumH (ts.take i) = S := ⟨_, rfl⟩
      rw [hS] at hs1 hs2 ⊢
      obtain ⟨th, hth⟩ : ∃ t, (trA ts i).1 = t := ⟨_, rfl⟩
      obtain ⟨tw, htw⟩ : ∃ t, (trA ts i).2 = t := ⟨_, rfl⟩
      rw [hth] at y1 hf
      rw [htw] at y2 hf
      have HQ := hide (And.intro hS (And.intro htk (And.intro hmem (And.intro hfit (And.intro hth (And.intro htw (And.intro hN (And.intro bx (And.intro hbr hi)))))))))
      clear hS htk hmem hfit hth htw hN bx hbr tcell tcc x1 x2 ht
      by_cases h8 : 8 ≤ i
      · have h8' : (8 : Int) ≤ (i : Int) := by omega
        go_wp2
        go_ret
        obtain ⟨hS, htk, hmem, hfit, hth, htw, hN, bx, hbr, hi⟩ := HQ.out
        refine ⟨?_, keep_trans hbr (keep_alloc _ _)⟩
        rw [← HR.out, decide_eq_false (fun h => by have := h.2.1; omega)]
        rfl
      have h8' : ¬ ((8 : Int) ≤ (i : Int)) := by omega
      by_cases hL : FitL th tw
      · rw [decide_eq_true hL] at hf
        have HL := hide hL
        clear hL
        by_cases h10 : 10 < th
        · go_wp2_with (first
          | (go_at_call 19; refine (hf _).mono ?_; rintro e w2 ⟨rfl, g2⟩; have d5 := (Bx2T.new wr (.int .i64 th) (.int .i64 tw)).below g2; have d50 := d5.c0; have d51 := d5.c1)
          | fail)
          go_ret
          obtain ⟨hS, htk, hmem, hfit, hth, htw, hN, bx, hbr, hi⟩ := HQ.out
          refine ⟨?_, keep_trans (keep_trans hbr (keep_alloc _ _)) g2⟩
          rw [← HR.out, decide_eq_false (fun h => by have := (h.2.2.1 _ hmem).2; omega)]
          rfl
        · obtain ⟨S2, hS2⟩ : ∃ S2, S + th = S2 := ⟨_, rfl⟩
          obtain ⟨Q, hQ⟩ : ∃ Q : Nat, i + 1 = Q := ⟨_, rfl⟩
          have e_Q : (i : Int) + 1 = (Q : Int) := by omega
          have s_Q : IntKind.i64.wrap (Q : Int) = (Q : Int) := by rw [IntKind.wrap_i64]; omega
          have hg : FitG (th, tw) := ⟨HL.out, by show th ≤ 10; omega⟩
          have hgp := hg.pos
          have s_S : IntKind.i64.wrap S2 = S2 := by rw [IntKind.wrap_i64]; have h1 : 1 ≤ th := hgp.1; have h2 : th ≤ 10 := hgp.2; omega
          have HG := hide (And.intro hg (And.intro hS2 hQ))
          clear hg hgp hQ
          go_wp2_with (first
          | (go_at_call 19; refine (hf _).mono ?_; rintro e w2 ⟨rfl, g2⟩; have d5 := (Bx2T.new wr (.int .i64 th) (.int .i64 tw)).below g2; have d50 := d5.c0; have d51 := d5.c1)
          | fail)
          obtain ⟨hS, htk, hmem, hfit, hth, htw, hN, bx, hbr, hi⟩ := HQ.out
          obtain ⟨hg, hS2, hQ⟩ := HG.out
          refine ⟨⟨Q, by omega, by omega, rfl, ?_, ?_, (bx.below (keep_alloc _ _)).below g2, keep_trans (keep_trans hbr (keep_alloc _ _)) g2⟩, by simp [intOf]; omega⟩
          · rw [← hQ, htk, sumH_snoc, hS, hth, hS2]
          · rw [← hQ, htk]
            intro t ht
            rcases List.mem_append.1 ht with h | h
            · exact hfit t h
            · have : t = trA ts i := by simpa using h
              rw [this]
              have e : trA ts i = (th, tw) := by rw [← hth, ← htw]
              rw [e]
              exact hg
      · rw [decide_eq_false hL] at hf
        have HL := hide hL
        clear hL
        go_wp2_with (first
          | (go_at_call 19; refine (hf _).mono ?_; rintro e w2 ⟨rfl, g2⟩; have d5 := (Bx2T.new wr (.int .i64 th) (.int .i64 tw)).below g2; have d50 := d5.c0; have d51 := d5.c1)
          | fail)
        go_ret
        obtain ⟨hS, htk, hmem, hfit, hth, htw, hN, bx, hbr, hi⟩ := HQ.out
        refine ⟨?_, keep_trans (keep_trans hbr (keep_alloc _ _)) g2⟩
        rw [← HR.out, decide_eq_false (fun h => by have := (h.2.2.1 _ hmem).1; rw [hth, htw] at this; exact HL.out this)]
        rfl
    · obtain rfl : i = N := by omega
      have hge : ¬ ((i : Int) < (i : Int)) := by omega
      have htk : ts.take i = ts := List.take_of_length_le (by omega)
      rw [htk] at hfit ⊢
      have HK := hide (And.intro hfit (And.intro hN hbr))
      have hRd : decide (1 ≤ i ∧ sumH ts ≤ 60 ∧ il = 16 ∧ sl = 32) = RB := by
        rw [← HR.out]
        apply decide_eq_decide.2
        constructor
        · rintro ⟨h1, h2, h3, h4⟩; exact ⟨by omega, by omega, hfit, h2, h3, h4⟩
        · rintro ⟨h1, h2, h3, h4, h5, h6⟩; exact ⟨by omega, h4, h5, h6⟩
      clear hfit htk ht tcell bx
      obtain ⟨S, hS⟩ : ∃ S, sumH ts = S := ⟨_, rfl⟩
      rw [hS] at hRd ⊢
      have HD := hide hRd
      clear hRd hS
      by_cases k1 : 1 ≤ i
      · have k1' : (1 : Int) ≤ (i : Int) := by omega
        by_cases k2 : S ≤ 60
        · by_cases k3 : il = 16
          · subst k3
            by_cases k4 : sl = 32
            · subst k4
              go_wp2
              go_ret
              exact ⟨by rw [← HD.out]; simp [k1, k2], HK.out.2.2⟩
            · have k4' : ((sl : Int) == 32) = false := by simp; omega
              have k4i : ¬ (sl : Int) = 32 := by omega
              go_wp2
              go_ret
              exact ⟨by rw [← HD.out]; simp [k4], HK.out.2.2⟩
          · have k3' : ((il : Int) == 16) = false := by simp; omega
            have k3i : ¬ (il : Int) = 16 := by omega
            go_wp2
            go_ret
            exact ⟨by rw [← HD.out]; simp [k3], HK.out.2.2⟩
        · go_wp2
          go_ret
          exact ⟨by rw [← HD.out, decide_eq_false (fun h => by have := h.2.1; omega)]; rfl, HK.out.2.2⟩
      · have k1' : ¬ ((1 : Int) ≤ (i : Int)) := by omega
        go_wp2
        go_ret
        exact ⟨by rw [← HD.out, decide_eq_false (fun h => k1 h.1)]; rfl, HK.out.2.2⟩
theorem lvN_lt {ts : List (Int × Int)} (h : sumH ts ≤ 60) : lvN ts ≤ 1152921504606846976 := by
  unfold lvN
  exact Nat.le_trans (Nat.pow_le_pow_right (by decide) (show (sumH ts).toNat ≤ 60 by omega)) (by decide)
end Go.Proofs.YtogiballdmgcpaaDoor

/- Texts of the call's own in a slice of the call's own. -/
namespace Go.Proofs.YtogiballdmgcpaaDoor
open Go.RowKit
set_option linter.unusedVariables false
set_option linter.unusedSimpArgs false

theorem ownsRow_base {w : World} {B B' n : Nat} {e : TypeId} {v : Value} {xs : List Value} (h : w.ownsRow B e 1 v n xs) (hB : B' ≤ B) : w.ownsRow B' e 1 v n xs := by
  obtain ⟨h1, h2⟩ := h
  refine ⟨h1, ?_⟩
  rcases h2 with h2 | ⟨g, cap, cur, rfl, h3, h4⟩
  · exact .inl h2
  · exact .inr ⟨g, cap, cur, rfl, by omega, h4⟩
end Go.Proofs.YtogiballdmgcpaaDoor

/- Trees of trees: the document's Vector. -/
namespace Go.Proofs.YtogiballdmgcpaaDoor
open Go.RowKit
set_option linter.unusedVariables false
set_option linter.unusedSimpArgs false

/-- a number's leaves -/
def vecF : List (Int × Int) → Nat → List Nat
  | [], _ => []
  | t :: ts, n => n / lvN ts % 2 ^ t.1.toNat :: vecF ts n
theorem vecF_len : ∀ (ts : List (Int × Int)) (n : Nat), (vecF ts n).length = ts.length
  | [], _ => rfl
  | t :: ts, n => by show (vecF ts n).length + 1 = _; rw [vecF_len ts n]; rfl
theorem tr_drop {ts : List (Int × Int)} {i : Nat} (h : i < ts.length) : ts.drop i = trA ts i :: ts.drop (i + 1) := by
  rw [List.drop_eq_getElem_cons h]
  unfold trA
  rw [List.getD_eq_getElem?_getD, List.getElem?_eq_getElem h]
  rfl
theorem lvN_cons {ts : List (Int × Int)} {t : Int × Int} (h1 : 0 ≤ sumH ts) (h2 : 0 ≤ t.1) : lvN (t :: ts) = 2 ^ t.1.toNat * lvN ts := by
  unfold lvN
  show 2 ^ (t.1 + sumH ts).toNat = _
  rw [show (t.1 + sumH ts).toNat = t.1.toNat + (sumH ts).toNat by omega, Nat.pow_add]
theorem lvN_pos (ts : List (Int × Int)) : 0 < lvN ts := Nat.pow_pos (by decide)
theorem sumH_drop {ts : List (Int × Int)} (h : ∀ t ∈ ts, FitG t) (i : Nat) : 0 ≤ sumH (ts.drop i) := (sumH_le (ts.drop i) (fun t ht => h t (List.mem_of_mem_drop ht))).1
/-- one leaf more, from the last on -/
theorem vec_step {ts : List (Int × Int)} (h : ∀ t ∈ ts, FitG t) {i : Nat} (hi : i < ts.length) (n : Nat) :
    vecF (ts.drop i) n = n / lvN (ts.drop (i + 1)) % 2 ^ (trA ts i).1.toNat :: vecF (ts.drop (i + 1)) n ∧ n / lvN (ts.drop (i + 1)) / 2 ^ (trA ts i).1.toNat = n / lvN (ts.drop i) := by
  have hp := (h _ (trA_mem hi)).pos
  rw [tr_drop hi]
  refine ⟨rfl, ?_⟩
  rw [lvN_cons (sumH_drop h (i + 1)) (by omega), Nat.div_div_eq_div_mul, Nat.mul_comm]
/-- what is wrong with a number -/
def vcE (ts : List (Int × Int)) (il sl n : Nat) : Int := if ¬ FitK ts il sl then 10 else if lvN ts ≤ n then 13 else 0
theorem made_u32 (n : Nat) : (madeCells (Value.int .u32 0).cells (n * 1)).toList = vals .u32 (List.replicate n 0) := by
  rw [Nat.mul_one]
  show (madeCells #[Value.int .u32 0] n).toList = _
  rw [toList_madeCells_one]
  simp [vals]
theorem vecF_under {ts : List (Int × Int)} (h : ∀ t ∈ ts, FitG t) (n : Nat) : Under 4294967296 (vecF ts n) := by
  induction ts with
  | nil => intro x hx; cases hx
  | cons t ts ih =>
    intro x hx
    rcases List.mem_cons.1 hx with rfl | hx
    · have hp := (h t (by simp)).pos
      refine Nat.lt_of_lt_of_le (Nat.mod_lt _ (Nat.pow_pos (by decide))) (Nat.le_trans (Nat.pow_le_pow_right (by decide) (show t.1.toNat ≤ 10 by omega)) (by decide))
    · exact ih (fun t ht => h t (List.mem_cons_of_mem _ ht)) x hx
end Go.Proofs.YtogiballdmgcpaaDoor

/- Leaves that sign once, the program's own: kindOf, and a kind's code, size, top. -/
namespace Go.Proofs.YtogiballdmgcpaaDoor
open Go.RowKit
set_option linter.unusedVariables false
set_option linter.unusedSimpArgs false

theorem cbe2 (a : Nat) (w : World) (ha : a < 18446744073709551616) : Calls Tryd.prog 60 #[.int .u64 (a : Int), .int .i64 2] w fun e w' => ∃ v, e = .returned v ∧ Own 5 .u8 256 w' w.heap.size v (be2 a) ∧ Below w.heap.size w w' := by
  have := be_any a 2 w ha (by decide) (by decide)
  rw [leS_2] at this
  exact this
theorem cbe4 (a : Nat) (w : World) (ha : a < 18446744073709551616) : Calls Tryd.prog 60 #[.int .u64 (a : Int), .int .i64 4] w fun e w' => ∃ v, e = .returned v ∧ Own 5 .u8 256 w' w.heap.size v (be4 a) ∧ Below w.heap.size w w' := by
  have := be_any a 4 w ha (by decide) (by decide)
  rw [leS_4] at this
  exact this
end Go.Proofs.YtogiballdmgcpaaDoor

/- Leaves that sign once: few, Digits and Size of the program, the chapter's examples. -/
namespace Go.Proofs.YtogiballdmgcpaaDoor
open Go.RowKit
set_option linter.unusedVariables false
set_option linter.unusedSimpArgs false

theorem cell_row0 (w : World) (us : Array Value) (t : TypeId) (i : Nat) (u : Value) (h : us[i]? = some u) : (w.alloc (.cells us t)).cell? ⟨w.heap.size, i, none⟩ = some u := by
  rw [World.cell?_alloc_at _ _ _ _ rfl]
  exact h
end Go.Proofs.YtogiballdmgcpaaDoor

/- Trees of leaves that sign once, the program's own: typecodes, Fit, Size, where a signature's parts lie. -/
namespace Go.Proofs.YtogiballdmgcpaaDoor
open Go.RowKit
set_option linter.unusedVariables false
set_option linter.unusedSimpArgs false

set_option maxHeartbeats 4000000 in
set_option maxRecDepth 100000 in
theorem chc_any (h : Int) (w : World) : Calls Tryd.prog 27 #[.int .i64 h] w fun e w' => e = .returned (.int .u64 (lmCode h : Nat)) ∧ w' = w := by
  by_cases h1 : 1 ≤ h
  · by_cases h4 : h ≤ 4
    · obtain ⟨n, rfl⟩ : ∃ n : Nat, h = (n : Int) := ⟨h.toNat, by omega⟩
      obtain ⟨C, hC⟩ : ∃ C : Nat, C = 3758096384 + n := ⟨_, rfl⟩
      have e0 : lmCode (n : Int) = C := by unfold lmCode; rw [if_pos ⟨h1, h4⟩, hC]; rfl
      rw [e0]
      have u_n : IntKind.u64.wrap (n : Int) = (n : Int) := by rw [IntKind.wrap_u64]; omega
      have e_C : (3758096384 : Int) + (n : Int) = (C : Int) := by omega
      have u_C : IntKind.u64.wrap (C : Int) = (C : Int) := by rw [IntKind.wrap_u64]; omega
      clear hC e0
      go_enter Tryd.func27, Tryd.ntmps27
      go_wp2
      go_ret
      exact ⟨rfl, rfl⟩
    · have h5 : 5 ≤ h := by omega
      by_cases h25 : h ≤ 25
      · by_cases hm : h % 5 = 0
        · have hk : h = 5 ∨ h = 10 ∨ h = 15 ∨ h = 20 ∨ h = 25 := by omega
          clear h1 h4 h5 h25 hm
          rcases hk with hk | hk | hk | hk | hk <;> subst hk
          all_goals
            go_enter Tryd.func27, Tryd.ntmps27
            go_wp2
            go_ret
            exact ⟨rfl, rfl⟩
        · have e0 : lmCode h = 0 := by unfold lmCode; rw [if_neg (by omega), if_neg (by omega)]
          rw [e0]
          have hb : (h % 5 == 0) = false := by simp [hm]
          have ht : ¬ h.tmod 5 = 0 := by rw [Int.tmod_eq_emod_of_nonneg (by omega)]; exact hm
          clear e0
          go_enter Tryd.func27, Tryd.ntmps27
          go_wp2
          go_ret
          exact ⟨rfl, rfl⟩
      · have e0 : lmCode h = 0 := by unfold lmCode; rw [if_neg (by omega), if_neg (by omega)]
        rw [e0]
        clear e0
        go_enter Tryd.func27, Tryd.ntmps27
        go_wp2
        go_ret
        exact ⟨rfl, rfl⟩
  · have e0 : lmCode h = 0 := by unfold lmCode; rw [if_neg (by omega), if_neg (by omega)]
    rw [e0]
    have h5 : ¬ 5 ≤ h := by omega
    clear e0
    go_enter Tryd.func27, Tryd.ntmps27
    go_wp2
    go_ret
    exact ⟨rfl, rfl⟩
/-- a leaf's typecode by its width -/
def wdC (x : Int) : Nat := if x = 1 then 1 else if x = 2 then 2 else if x = 4 then 3 else if x = 8 then 4 else 0
theorem wdC_sz (x : Int) : wdC x = 0 ↔ szW x = 0 := by
  unfold wdC szW
  repeat' split
  all_goals simp
set_option maxHeartbeats 4000000 in
set_option maxRecDepth 100000 in
theorem cwc_any (x : Int) (w : World) : Calls Tryd.prog 28 #[.int .i64 x] w fun e w' => e = .returned (.int .u64 (wdC x : Nat)) ∧ w' = w := by
  by_cases h1 : x = 1
  · subst h1
    go_enter Tryd.func28, Tryd.ntmps28
    go_wp2
    go_ret
    exact ⟨rfl, rfl⟩
  by_cases h2 : x = 2
  · subst h2
    go_enter Tryd.func28, Tryd.ntmps28
    go_wp2
    go_ret
    exact ⟨rfl, rfl⟩
  by_cases h4 : x = 4
  · subst h4
    go_enter Tryd.func28, Tryd.ntmps28
    go_wp2
    go_ret
    exact ⟨rfl, rfl⟩
  by_cases h8 : x = 8
  · subst h8
    go_enter Tryd.func28, Tryd.ntmps28
    go_wp2
    go_ret
    exact ⟨rfl, rfl⟩
  have e0 : wdC x = 0 := by unfold wdC; rw [if_neg h1, if_neg h2, if_neg h4, if_neg h8]
  rw [e0]
  go_enter Tryd.func28, Tryd.ntmps28
  go_wp2
  go_ret
  exact ⟨rfl, rfl⟩
set_option maxHeartbeats 4000000 in
set_option maxRecDepth 100000 in
theorem cfitT_any (h x : Int) (w : World) : Calls Tryd.prog 17 #[.agg #[.int .i64 h, .int .i64 x]] w fun e w' => e = .returned (.bool (decide (FitL h x))) ∧ Below w.heap.size w w' := by
  have hc := fun y => chc_any h y
  have hs := fun y => cwc_any x y
  by_cases h1 : lmCode h = 0
  · have hd : decide (FitL h x) = false := decide_eq_false fun hh => hh.1 h1
    rw [hd]
    rw [h1] at hc
    clear hd h1
    go_enter Tryd.func17, Tryd.ntmps17
    go_wp2_with (first | (go_at_call 27; refine (hc _).mono ?_; rintro e yy ⟨rfl, hy⟩; obtain rfl := hy.symm) | fail)
    go_ret
    exact ⟨rfl, keep_alloc _ _⟩
  · obtain ⟨C, hC⟩ : ∃ C, C = lmCode h := ⟨_, rfl⟩
    obtain ⟨Z, hZ⟩ : ∃ Z, Z = wdC x := ⟨_, rfl⟩
    have hCb : ((C : Int) != 0) = true := by have : C ≠ 0 := by rw [hC]; exact h1
                                             simp [this]
    have hd : decide (FitL h x) = ((Z : Int) != 0) := by
      by_cases hz : Z = 0
      · rw [decide_eq_false (fun hh => hh.2 ((wdC_sz x).1 (by rw [← hZ]; exact hz)))]; simp [hz]
      · rw [decide_eq_true ⟨h1, fun e => hz (by rw [hZ]; exact (wdC_sz x).2 e)⟩]; simp [hz]
    rw [hd]
    rw [← hC] at hc
    rw [← hZ] at hs
    clear hd h1 hC hZ
    go_enter Tryd.func17, Tryd.ntmps17
    go_wp2_with (first
      | (go_at_call 27; refine (hc _).mono ?_; rintro e yy ⟨rfl, hy⟩; obtain rfl := hy.symm)
      | (go_at_call 28; refine (hs _).mono ?_; rintro e yy ⟨rfl, hy⟩; obtain rfl := hy.symm)
      | fail)
    go_ret
    exact ⟨rfl, keep_alloc _ _⟩
end Go.Proofs.YtogiballdmgcpaaDoor
