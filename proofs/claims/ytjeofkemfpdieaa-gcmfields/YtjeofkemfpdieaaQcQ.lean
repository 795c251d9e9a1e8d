/- Both sides of sealed texts, whatever comes; the chapter's examples. -/
import Derived.Test.YtjeofkemfpdieaaGEx
namespace Go.Proofs.Ytjeofkemfpdieaa
open Go.RowKit
set_option linter.unusedVariables false
set_option linter.unusedSimpArgs false

theorem row_four (y : World) (a b c d : Nat) (h : ∀ x ∈ [a, b, c, d], x < 256) : Row .u8 256 (y.alloc (.cells #[.int .u8 (a : Int), .int .u8 (b : Int), .int .u8 (c : Int), .int .u8 (d : Int)] 5)) (.slice (some ⟨y.heap.size, 0, none⟩) 4 4) [a, b, c, d] := by
  refine ⟨_, 4, rfl, Nat.le_refl _, by unfold maxLen; decide, fun _ => ⟨_, _, rfl, fun i hi => ?_⟩, h⟩
  have hb := heap_alloc_new y (.cells #[.int .u8 (a : Int), .int .u8 (b : Int), .int .u8 (c : Int), .int .u8 (d : Int)] 5)
  match i, hi with
  | 0, _ => exact cell_ofQ hb rfl
  | 1, _ => exact cell_ofQ hb rfl
  | 2, _ => exact cell_ofQ hb rfl
  | 3, _ => exact cell_ofQ hb rfl
set_option maxHeartbeats 4000000 in
set_option maxRecDepth 100000 in
theorem awakeQ_any (w : World) : Calls Try.prog 8 #[] w fun e w' => e = .returned (.bool true) ∧ Below w.heap.size w w' := by
  have hse := fun (kv nv : Value) (y : World) (rk : Row .u8 256 y kv (List.replicate 16 0)) (rn : Row .u8 256 y nv (List.replicate 12 0)) => aw_se rk rn
  have hop := fun (kv nv cv : Value) (y : World) (rk : Row .u8 256 y kv (List.replicate 16 0)) (rn : Row .u8 256 y nv (List.replicate 12 0)) (rc : Row .u8 256 y cv (List.replicate 16 0)) => aw_op rk rn rc
  obtain ⟨se, hse'⟩ : ∃ se, se = [88, 226, 252, 206, 250, 126, 48, 97, 54, 127, 29, 87, 164, 231, 69, 90] := ⟨_, rfl⟩
  rw [← hse'] at hse
  have hl : se.length = 16 := by rw [hse']; rfl
  have ht : se.take 4 = [88, 226, 252, 206] := by rw [hse']; rfl
  clear hse'
  go_enter Try.func8, Try.ntmps8
  go_wp2
  refine aw_reg1 _ _ _ _ _ _ _ _ _ _ _ _ _ _ _ _ _ _ _ _ _ _ _ _ _ _ _ _ _ _ _ _ _ _ _ _ se w hse ?_
  intro y5 y6 y7 y8 v y10 z1 rv hb1
  go_wp2
  refine aw_reg2 _ _ _ _ _ _ _ _ _ _ _ _ _ _ _ _ _ _ _ _ _ _ _ _ _ _ _ _ _ _ _ _ _ _ _ _ z1 hop ?_
  intro y3 y11 y12 y13 y14 y15 y16 y17 z2 hb2
  have r2 := rv.below hb2
  obtain ⟨a, c, rfl, lc, lc2, _⟩ := r2.opens hl
  have r4 := (r2.below (keep_alloc z2 (.cells #[.int .u8 ((88 : Nat) : Int), .int .u8 ((226 : Nat) : Int), .int .u8 ((252 : Nat) : Int), .int .u8 ((206 : Nat) : Int)] 5))).cut (M := 4) (by rw [hl]; decide)
  rw [ht] at r4
  have rr := row_four z2 88 226 252 206 (by decide)
  have hsm := rsame_true _ _ _ _ r4 rr
  have l4 : (4 : Int) ≤ (c : Int) := by omega
  have HB := hide (keep_trans hb1 hb2)
  clear hse hop rv r2 r4 rr hb1 hb2
  go_wp2_with (first
    | (go_at_call 9; refine hsm.mono ?_; rintro e z3 ⟨rfl, hb3⟩)
    | fail)
  go_ret
  exact ⟨rfl, keep_trans (keep_trans HB.out (keep_alloc _ _)) hb3⟩
/-- a text is told -/
def TellsV (y : World) (X : List Nat) (e : Ending) (y' : World) : Prop := ∃ v, e = .returned v ∧ Row .u8 256 y' v X ∧ New y.heap.size v ∧ Tidy v ∧ Below y.heap.size y y'
def TellsVC (y : World) (X : List Nat) (c : Int) (e : Ending) (y' : World) : Prop := ∃ v, e = .returned (.tuple #[v, .int .i64 c]) ∧ Row .u8 256 y' v X ∧ New y.heap.size v ∧ Below y.heap.size y y'
theorem tellsV_own {y y' : World} {X : List Nat} {e : Ending} (h : ∃ v, e = .returned v ∧ Own 5 .u8 256 y' y.heap.size v X ∧ Below y.heap.size y y') : TellsV y X e y' := by
  obtain ⟨v, h1, h2, h3⟩ := h
  exact ⟨v, h1, h2.row, h2.new, own_tidyG h2, h3⟩
theorem tellsV_nil {y y' : World} {e : Ending} (h : e = .returned (.slice none 0 0) ∧ y' = y) : TellsV y [] e y' := by
  obtain ⟨h1, rfl⟩ := h
  exact ⟨_, h1, row_nilQ _, fun q hq => by simp [Value.ownBlock] at hq, fun n c e => by cases e; exact ⟨rfl, rfl⟩, Below.refl _ _⟩
theorem tellsVC_own {y y' : World} {X : List Nat} {c : Int} {e : Ending} (h : ∃ v, e = .returned (.tuple #[v, .int .i64 c]) ∧ Own 5 .u8 256 y' y.heap.size v X ∧ Below y.heap.size y y') : TellsVC y X c e y' := by
  obtain ⟨v, h1, h2, h3⟩ := h
  exact ⟨v, h1, h2.row, h2.new, h3⟩
theorem tellsVC_nil {y y' : World} {c : Int} {e : Ending} (h : e = .returned (.tuple #[.slice none 0 0, .int .i64 c])) (hb : Below y.heap.size y y') : TellsVC y [] c e y' :=
  ⟨_, h, row_nilQ _, fun q hq => by simp [Value.ownBlock] at hq, hb⟩
/-- the product that is told -/
def mulT (a b : List Nat) : List Nat := if a.length = 16 ∧ b.length = 16 then mulP a b else []
def ghT (h b : List Nat) : List Nat := if h.length = 16 ∧ b.length % 16 = 0 then ghL h b else []
theorem mulQ_t {a b : List Nat} {av bv : Value} {y : World} (ra : Row .u8 256 y av a) (rb : Row .u8 256 y bv b) : Calls Try.prog 10 #[av, bv] y (TellsV y (mulT a b)) := by
  unfold mulT
  by_cases h : a.length = 16 ∧ b.length = 16
  · rw [if_pos h]; exact (mulQ_ok a b av bv y ra rb ⟨h.1, ra.under⟩ ⟨h.2, rb.under⟩).mono fun e y' h => tellsV_own h
  · rw [if_neg h]; exact (mulQ_no a b av bv y ra rb (by omega)).mono fun e y' h => tellsV_nil h
theorem ghQ_t {h b : List Nat} {hv bv : Value} {y : World} (rh : Row .u8 256 y hv h) (rb : Row .u8 256 y bv b) (hb : b.length ≤ 1000) : Calls Try.prog 12 #[hv, bv] y (TellsV y (ghT h b)) := by
  unfold ghT
  by_cases hh : h.length = 16 ∧ b.length % 16 = 0
  · rw [if_pos hh]; exact (ghQ_ok h b hv bv y rh rb ⟨hh.1, rh.under⟩ (b.length / 16) (by omega) (by omega)).mono fun e y' h => tellsV_own h
  · rw [if_neg hh]; exact (ghQ_no h b hv bv y rh rb (by omega)).mono fun e y' h => tellsV_nil h
theorem mulR_t {a b : List Nat} {av bv : Value} {y : World} (ra : Row .u8 256 y av a) (rb : Row .u8 256 y bv b) : Calls Try.prog 11 #[av, bv] y (TellsV y (mulT a b)) := by
  unfold mulT
  by_cases h : a.length = 16 ∧ b.length = 16
  · rw [if_pos h]; exact (rmulG_ok a b av bv y ra rb ⟨h.1, ra.under⟩ ⟨h.2, rb.under⟩).mono fun e y' h => tellsV_own h
  · rw [if_neg h]; exact (rmulG_no a b av bv y ra rb (by omega)).mono fun e y' h => tellsV_nil h
theorem ghR_t {h b : List Nat} {hv bv : Value} {y : World} (rh : Row .u8 256 y hv h) (rb : Row .u8 256 y bv b) (hb : b.length ≤ 1000) : Calls Try.prog 13 #[hv, bv] y (TellsV y (ghT h b)) := by
  unfold ghT
  by_cases hh : h.length = 16 ∧ b.length % 16 = 0
  · rw [if_pos hh]; exact (rgh_ok h b hv bv y rh rb ⟨hh.1, rh.under⟩ (b.length / 16) (by omega) (by omega)).mono fun e y' h => tellsV_own h
  · rw [if_neg hh]; exact (rgh_no h b hv bv y rh rb (by omega)).mono fun e y' h => tellsV_nil h
theorem seQ_ok {key nonce bs p : List Nat} {kv nv sv pv : Value} {y : World} (rk : Row .u8 256 y kv key) (rn : Row .u8 256 y nv nonce) (rs : Row .u8 256 y sv bs) (rp : Row .u8 256 y pv p) (hk : Sz3 key.length) (h12 : nonce.length = 12) (hs : bs.length ≤ 1000) (hp : p.length ≤ 1000) : Calls Try.prog 14 #[kv, nv, sv, pv] y (TellsVC y (sealL (blkA key) nonce bs p) 0) := by
  have hC := cip_of key kv y rk hk
  have hT := cip_T key rk.under
  obtain ⟨ka, kc, rfl, _⟩ := rk.opens (N := key.length) rfl
  have h := seQ_of _ hT nonce bs p ka _ kc nv sv pv y hC hk rn h12 rs (by omega) rp (by omega)
  rw [th_blk] at h
  exact h.mono fun e y' h => tellsVC_own h
theorem opQ_ok {key nonce bs c : List Nat} {kv nv sv cv : Value} {y : World} (rk : Row .u8 256 y kv key) (rn : Row .u8 256 y nv nonce) (rs : Row .u8 256 y sv bs) (rc : Row .u8 256 y cv c) (hk : Sz3 key.length) (h12 : nonce.length = 12) (hs : bs.length ≤ 1000) (hc : c.length ≤ 1000) (h16 : 16 ≤ c.length) : Calls Try.prog 16 #[kv, nv, sv, cv] y (TellsVC y (opX (blkA key) nonce bs c) (opC (blkA key) nonce bs c)) := by
  have hC := cip_of key kv y rk hk
  have hT := cip_T key rk.under
  obtain ⟨ka, kc, rfl, _⟩ := rk.opens (N := key.length) rfl
  have h := opQ_of _ hT nonce bs c ka _ kc nv sv cv y hC hk rn h12 rs (by omega) rc (by omega) h16
  rw [th_blk] at h
  exact h.mono fun e y' h => tellsVC_own h
theorem seQ_key {key nonce bs p : List Nat} {kv nv sv pv : Value} {y : World} (rk : Row .u8 256 y kv key) (rn : Row .u8 256 y nv nonce) (rs : Row .u8 256 y sv bs) (rp : Row .u8 256 y pv p) (hk : ¬ Sz3 key.length) : Calls Try.prog 14 #[kv, nv, sv, pv] y (TellsVC y [] 10) := by
  obtain ⟨ka, kc, rfl, _⟩ := rk.opens (N := key.length) rfl
  obtain ⟨na, nc, rfl, _⟩ := rn.opens (N := nonce.length) rfl
  obtain ⟨sa, sc, rfl, _⟩ := rs.opens (N := bs.length) rfl
  obtain ⟨pa, pc, rfl, _⟩ := rp.opens (N := p.length) rfl
  exact (seQ_no ka na sa pa _ kc _ nc _ sc _ pc 10 y (by decide) (fitQ_key _ _ _ ka na sa kc nc sc _ y hk)).mono fun e y' ⟨h1, h2⟩ => tellsVC_nil h1 (by rw [h2]; exact Below.refl _ _)
theorem seQ_nonce {key nonce bs p : List Nat} {kv nv sv pv : Value} {y : World} (rk : Row .u8 256 y kv key) (rn : Row .u8 256 y nv nonce) (rs : Row .u8 256 y sv bs) (rp : Row .u8 256 y pv p) (hk : Sz3 key.length) (hn : nonce.length ≠ 12) : Calls Try.prog 14 #[kv, nv, sv, pv] y (TellsVC y [] 14) := by
  obtain ⟨ka, kc, rfl, _⟩ := rk.opens (N := key.length) rfl
  obtain ⟨na, nc, rfl, _⟩ := rn.opens (N := nonce.length) rfl
  obtain ⟨sa, sc, rfl, _⟩ := rs.opens (N := bs.length) rfl
  obtain ⟨pa, pc, rfl, _⟩ := rp.opens (N := p.length) rfl
  exact (seQ_no ka na sa pa _ kc _ nc _ sc _ pc 14 y (by decide) (fitQ_nonce _ _ _ ka na sa kc nc sc _ y hk hn)).mono fun e y' ⟨h1, h2⟩ => tellsVC_nil h1 (by rw [h2]; exact Below.refl _ _)
theorem opQ_key {key nonce bs p : List Nat} {kv nv sv pv : Value} {y : World} (rk : Row .u8 256 y kv key) (rn : Row .u8 256 y nv nonce) (rs : Row .u8 256 y sv bs) (rp : Row .u8 256 y pv p) (hk : ¬ Sz3 key.length) (hp : p.length ≤ 1000) : Calls Try.prog 16 #[kv, nv, sv, pv] y (TellsVC y [] 10) := by
  obtain ⟨ka, kc, rfl, _⟩ := rk.opens (N := key.length) rfl
  obtain ⟨na, nc, rfl, _⟩ := rn.opens (N := nonce.length) rfl
  obtain ⟨sa, sc, rfl, _⟩ := rs.opens (N := bs.length) rfl
  obtain ⟨pa, pc, rfl, _⟩ := rp.opens (N := p.length) rfl
  exact (opQ_no ka na sa pa _ kc _ nc _ sc _ pc 10 _ y rfl (by omega) (by decide) (fitQ_key _ _ _ ka na sa kc nc sc _ y hk)).mono fun e y' ⟨h1, h2⟩ => tellsVC_nil h1 (by rw [h2]; exact Below.refl _ _)
theorem opQ_nonce {key nonce bs p : List Nat} {kv nv sv pv : Value} {y : World} (rk : Row .u8 256 y kv key) (rn : Row .u8 256 y nv nonce) (rs : Row .u8 256 y sv bs) (rp : Row .u8 256 y pv p) (hk : Sz3 key.length) (hn : nonce.length ≠ 12) (hp : p.length ≤ 1000) : Calls Try.prog 16 #[kv, nv, sv, pv] y (TellsVC y [] 14) := by
  obtain ⟨ka, kc, rfl, _⟩ := rk.opens (N := key.length) rfl
  obtain ⟨na, nc, rfl, _⟩ := rn.opens (N := nonce.length) rfl
  obtain ⟨sa, sc, rfl, _⟩ := rs.opens (N := bs.length) rfl
  obtain ⟨pa, pc, rfl, _⟩ := rp.opens (N := p.length) rfl
  exact (opQ_no ka na sa pa _ kc _ nc _ sc _ pc 14 _ y rfl (by omega) (by decide) (fitQ_nonce _ _ _ ka na sa kc nc sc _ y hk hn)).mono fun e y' ⟨h1, h2⟩ => tellsVC_nil h1 (by rw [h2]; exact Below.refl _ _)
theorem opQ_short {key nonce bs p : List Nat} {kv nv sv pv : Value} {y : World} (rk : Row .u8 256 y kv key) (rn : Row .u8 256 y nv nonce) (rs : Row .u8 256 y sv bs) (rp : Row .u8 256 y pv p) (hk : Sz3 key.length) (h12 : nonce.length = 12) (hp : p.length < 16) : Calls Try.prog 16 #[kv, nv, sv, pv] y (TellsVC y [] 14) := by
  obtain ⟨ka, kc, rfl, _⟩ := rk.opens (N := key.length) rfl
  obtain ⟨na, nc, rfl, _⟩ := rn.opens h12
  obtain ⟨sa, sc, rfl, _⟩ := rs.opens (N := bs.length) rfl
  obtain ⟨pa, pc, rfl, _⟩ := rp.opens (N := p.length) rfl
  exact (opQ_no ka na sa pa _ kc _ nc _ sc _ pc 14 _ y rfl (by omega) (by decide) (fitQ_short _ _ ka na sa kc nc sc _ y hk (by omega))).mono fun e y' ⟨h1, h2⟩ => tellsVC_nil h1 (by rw [h2]; exact Below.refl _ _)
theorem both_se {key nonce bs p : List Nat} {kv nv sv pv : Value} {w : World} (rk : Row .u8 256 w kv key) (rn : Row .u8 256 w nv nonce) (rs : Row .u8 256 w sv bs) (rp : Row .u8 256 w pv p) (ts : Tidy sv) (hs : bs.length ≤ 1000) (hp : p.length ≤ 1000) :
    ∃ (c : Int) (X : List Nat), (∀ y, Below w.heap.size w y → Calls Try.prog 14 #[kv, nv, sv, pv] y (TellsVC y X c)) ∧ (∀ y, Below w.heap.size w y → Calls Try.prog 15 #[kv, nv, sv, pv] y (TellsVC y X c)) := by
  by_cases hk : Sz3 key.length
  · by_cases hn : nonce.length = 12
    · exact ⟨0, _, fun y h => seQ_ok (rk.below h) (rn.below h) (rs.below h) (rp.below h) hk hn hs hp, fun y h => (rse_ok key nonce bs p kv nv sv pv y (rk.below h) (rn.below h) (rs.below h) (rp.below h) ts hk hn (by omega) (by omega)).mono fun e y' h => tellsVC_own h⟩
    · exact ⟨14, [], fun y h => seQ_nonce (rk.below h) (rn.below h) (rs.below h) (rp.below h) hk hn, fun y h => (rse_size key nonce kv nv sv pv y (rk.below h) (rn.below h) hk hn).mono fun e y' h => tellsVC_nil h.1 h.2⟩
  · exact ⟨10, [], fun y h => seQ_key (rk.below h) (rn.below h) (rs.below h) (rp.below h) hk, fun y h => (rse_key key kv nv sv pv y (rk.below h) hk).mono fun e y' h => tellsVC_nil h.1 h.2⟩
theorem both_op {key nonce bs p : List Nat} {kv nv sv pv : Value} {w : World} (rk : Row .u8 256 w kv key) (rn : Row .u8 256 w nv nonce) (rs : Row .u8 256 w sv bs) (rp : Row .u8 256 w pv p) (ts : Tidy sv) (hs : bs.length ≤ 1000) (hp : p.length ≤ 1000) :
    ∃ (c : Int) (X : List Nat), (∀ y, Below w.heap.size w y → Calls Try.prog 16 #[kv, nv, sv, pv] y (TellsVC y X c)) ∧ (∀ y, Below w.heap.size w y → Calls Try.prog 17 #[kv, nv, sv, pv] y (TellsVC y X c)) := by
  by_cases hk : Sz3 key.length
  · by_cases hn : nonce.length = 12
    · by_cases h16 : 16 ≤ p.length
      · exact ⟨_, _, fun y h => opQ_ok (rk.below h) (rn.below h) (rs.below h) (rp.below h) hk hn hs hp h16, fun y h => rop_ok key nonce bs p kv nv sv pv y (rk.below h) (rn.below h) (rs.below h) (rp.below h) ts hk hn (by omega) (by omega) h16⟩
      · exact ⟨14, [], fun y h => opQ_short (rk.below h) (rn.below h) (rs.below h) (rp.below h) hk hn (by omega), fun y h => (rop_short key nonce p kv nv sv pv y (rk.below h) (rn.below h) (rp.below h) hk hn (by omega)).mono fun e y' h => tellsVC_nil h.1 h.2⟩
    · exact ⟨14, [], fun y h => opQ_nonce (rk.below h) (rn.below h) (rs.below h) (rp.below h) hk hn hp, fun y h => (rop_size key nonce kv nv sv pv y (rk.below h) (rn.below h) hk hn).mono fun e y' h => tellsVC_nil h.1 h.2⟩
  · exact ⟨10, [], fun y h => opQ_key (rk.below h) (rn.below h) (rs.below h) (rp.below h) hk hp, fun y h => (rop_key key kv nv sv pv y (rk.below h) hk).mono fun e y' h => tellsVC_nil h.1 h.2⟩
end Go.Proofs.Ytjeofkemfpdieaa

/- What the laws of sealed texts ask. -/
namespace Go.Proofs.Ytjeofkemfpdieaa
open Go.RowKit
set_option linter.unusedVariables false
set_option linter.unusedSimpArgs false

theorem few2 (a0 a1 : Option Addr) (n0 n1 c0 c1 : Nat) (w : World) :
    Calls Try.prog 7 #[.slice (some ⟨w.heap.size, 0, none⟩) 2 2] (w.alloc (.cells #[.slice a0 n0 c0, .slice a1 n1 c1] 22)) fun e w' => e = .returned (.bool (decide (n0 ≤ 100 ∧ n1 ≤ 100))) ∧ w' = w.alloc (.cells #[.slice a0 n0 c0, .slice a1 n1 c1] 22) := by
  have h := fewQ w.heap.size 2 (fun i => if i = 0 then n0 else n1) (fun i => if i = 0 then c0 else c1) (fun i => if i = 0 then a0 else a1) (w.alloc (.cells #[.slice a0 n0 c0, .slice a1 n1 c1] 22)) (by decide) (fun i hi => by
    have hb := heap_alloc_new w (.cells #[.slice a0 n0 c0, .slice a1 n1 c1] 22)
    match i, hi with
    | 0, _ => exact cell_ofQ hb rfl
    | 1, _ => exact cell_ofQ hb rfl)
  refine h.mono fun e w' hh => ⟨?_, hh.2⟩
  rw [hh.1]
  congr 2
  apply decide_eq_decide.2
  constructor
  · intro h
    exact ⟨h 0 (by decide), h 1 (by decide)⟩
  · rintro ⟨h0, h1⟩ i hi
    match i, hi with
    | 0, _ => exact h0
    | 1, _ => exact h1
theorem few2_t (a0 a1 : Option Addr) (n0 n1 c0 c1 : Nat) (w : World) (h : n0 ≤ 100 ∧ n1 ≤ 100) :
    Calls Try.prog 7 #[.slice (some ⟨w.heap.size, 0, none⟩) 2 2] (w.alloc (.cells #[.slice a0 n0 c0, .slice a1 n1 c1] 22)) fun e w' => e = .returned (.bool true) ∧ Below w.heap.size w w' := by
  have := few2 a0 a1 n0 n1 c0 c1 w
  rw [decide_eq_true h] at this
  exact this.mono fun e w' h => ⟨h.1, by rw [h.2]; exact keep_alloc _ _⟩
theorem few2_f (a0 a1 : Option Addr) (n0 n1 c0 c1 : Nat) (w : World) (h : ¬ (n0 ≤ 100 ∧ n1 ≤ 100)) :
    Calls Try.prog 7 #[.slice (some ⟨w.heap.size, 0, none⟩) 2 2] (w.alloc (.cells #[.slice a0 n0 c0, .slice a1 n1 c1] 22)) fun e w' => e = .returned (.bool false) ∧ Below w.heap.size w w' := by
  have := few2 a0 a1 n0 n1 c0 c1 w
  rw [decide_eq_false h] at this
  exact this.mono fun e w' h => ⟨h.1, by rw [h.2]; exact keep_alloc _ _⟩
theorem few3 (a0 a1 a2 : Option Addr) (n0 n1 n2 c0 c1 c2 : Nat) (w : World) :
    Calls Try.prog 7 #[.slice (some ⟨w.heap.size, 0, none⟩) 3 3] (w.alloc (.cells #[.slice a0 n0 c0, .slice a1 n1 c1, .slice a2 n2 c2] 22)) fun e w' => e = .returned (.bool (decide (n0 ≤ 100 ∧ n1 ≤ 100 ∧ n2 ≤ 100))) ∧ w' = w.alloc (.cells #[.slice a0 n0 c0, .slice a1 n1 c1, .slice a2 n2 c2] 22) := by
  have h := fewQ w.heap.size 3 (fun i => if i = 0 then n0 else if i = 1 then n1 else n2) (fun i => if i = 0 then c0 else if i = 1 then c1 else c2) (fun i => if i = 0 then a0 else if i = 1 then a1 else a2) (w.alloc (.cells #[.slice a0 n0 c0, .slice a1 n1 c1, .slice a2 n2 c2] 22)) (by decide) (fun i hi => by
    have hb := heap_alloc_new w (.cells #[.slice a0 n0 c0, .slice a1 n1 c1, .slice a2 n2 c2] 22)
    match i, hi with
    | 0, _ => exact cell_ofQ hb rfl
    | 1, _ => exact cell_ofQ hb rfl
    | 2, _ => exact cell_ofQ hb rfl)
  refine h.mono fun e w' hh => ⟨?_, hh.2⟩
  rw [hh.1]
  congr 2
  apply decide_eq_decide.2
  constructor
  · intro h
    exact ⟨h 0 (by decide), h 1 (by decide), h 2 (by decide)⟩
  · rintro ⟨h0, h1, h2⟩ i hi
    match i, hi with
    | 0, _ => exact h0
    | 1, _ => exact h1
    | 2, _ => exact h2
theorem few3_t (a0 a1 a2 : Option Addr) (n0 n1 n2 c0 c1 c2 : Nat) (w : World) (h : n0 ≤ 100 ∧ n1 ≤ 100 ∧ n2 ≤ 100) :
    Calls Try.prog 7 #[.slice (some ⟨w.heap.size, 0, none⟩) 3 3] (w.alloc (.cells #[.slice a0 n0 c0, .slice a1 n1 c1, .slice a2 n2 c2] 22)) fun e w' => e = .returned (.bool true) ∧ Below w.heap.size w w' := by
  have := few3 a0 a1 a2 n0 n1 n2 c0 c1 c2 w
  rw [decide_eq_true h] at this
  exact this.mono fun e w' h => ⟨h.1, by rw [h.2]; exact keep_alloc _ _⟩
theorem few3_f (a0 a1 a2 : Option Addr) (n0 n1 n2 c0 c1 c2 : Nat) (w : World) (h : ¬ (n0 ≤ 100 ∧ n1 ≤ 100 ∧ n2 ≤ 100)) :
    Calls Try.prog 7 #[.slice (some ⟨w.heap.size, 0, none⟩) 3 3] (w.alloc (.cells #[.slice a0 n0 c0, .slice a1 n1 c1, .slice a2 n2 c2] 22)) fun e w' => e = .returned (.bool false) ∧ Below w.heap.size w w' := by
  have := few3 a0 a1 a2 n0 n1 n2 c0 c1 c2 w
  rw [decide_eq_false h] at this
  exact this.mono fun e w' h => ⟨h.1, by rw [h.2]; exact keep_alloc _ _⟩
theorem few4 (a0 a1 a2 a3 : Option Addr) (n0 n1 n2 n3 c0 c1 c2 c3 : Nat) (w : World) :
    Calls Try.prog 7 #[.slice (some ⟨w.heap.size, 0, none⟩) 4 4] (w.alloc (.cells #[.slice a0 n0 c0, .slice a1 n1 c1, .slice a2 n2 c2, .slice a3 n3 c3] 22)) fun e w' => e = .returned (.bool (decide (n0 ≤ 100 ∧ n1 ≤ 100 ∧ n2 ≤ 100 ∧ n3 ≤ 100))) ∧ w' = w.alloc (.cells #[.slice a0 n0 c0, .slice a1 n1 c1, .slice a2 n2 c2, .slice a3 n3 c3] 22) := by
  have h := fewQ w.heap.size 4 (fun i => if i = 0 then n0 else if i = 1 then n1 else if i = 2 then n2 else n3) (fun i => if i = 0 then c0 else if i = 1 then c1 else if i = 2 then c2 else c3) (fun i => if i = 0 then a0 else if i = 1 then a1 else if i = 2 then a2 else a3) (w.alloc (.cells #[.slice a0 n0 c0, .slice a1 n1 c1, .slice a2 n2 c2, .slice a3 n3 c3] 22)) (by decide) (fun i hi => by
    have hb := heap_alloc_new w (.cells #[.slice a0 n0 c0, .slice a1 n1 c1, .slice a2 n2 c2, .slice a3 n3 c3] 22)
    match i, hi with
    | 0, _ => exact cell_ofQ hb rfl
    | 1, _ => exact cell_ofQ hb rfl
    | 2, _ => exact cell_ofQ hb rfl
    | 3, _ => exact cell_ofQ hb rfl)
  refine h.mono fun e w' hh => ⟨?_, hh.2⟩
  rw [hh.1]
  congr 2
  apply decide_eq_decide.2
  constructor
  · intro h
    exact ⟨h 0 (by decide), h 1 (by decide), h 2 (by decide), h 3 (by decide)⟩
  · rintro ⟨h0, h1, h2, h3⟩ i hi
    match i, hi with
    | 0, _ => exact h0
    | 1, _ => exact h1
    | 2, _ => exact h2
    | 3, _ => exact h3
theorem few4_t (a0 a1 a2 a3 : Option Addr) (n0 n1 n2 n3 c0 c1 c2 c3 : Nat) (w : World) (h : n0 ≤ 100 ∧ n1 ≤ 100 ∧ n2 ≤ 100 ∧ n3 ≤ 100) :
    Calls Try.prog 7 #[.slice (some ⟨w.heap.size, 0, none⟩) 4 4] (w.alloc (.cells #[.slice a0 n0 c0, .slice a1 n1 c1, .slice a2 n2 c2, .slice a3 n3 c3] 22)) fun e w' => e = .returned (.bool true) ∧ Below w.heap.size w w' := by
  have := few4 a0 a1 a2 a3 n0 n1 n2 n3 c0 c1 c2 c3 w
  rw [decide_eq_true h] at this
  exact this.mono fun e w' h => ⟨h.1, by rw [h.2]; exact keep_alloc _ _⟩
theorem few4_f (a0 a1 a2 a3 : Option Addr) (n0 n1 n2 n3 c0 c1 c2 c3 : Nat) (w : World) (h : ¬ (n0 ≤ 100 ∧ n1 ≤ 100 ∧ n2 ≤ 100 ∧ n3 ≤ 100)) :
    Calls Try.prog 7 #[.slice (some ⟨w.heap.size, 0, none⟩) 4 4] (w.alloc (.cells #[.slice a0 n0 c0, .slice a1 n1 c1, .slice a2 n2 c2, .slice a3 n3 c3] 22)) fun e w' => e = .returned (.bool false) ∧ Below w.heap.size w w' := by
  have := few4 a0 a1 a2 a3 n0 n1 n2 n3 c0 c1 c2 c3 w
  rw [decide_eq_false h] at this
  exact this.mono fun e w' h => ⟨h.1, by rw [h.2]; exact keep_alloc _ _⟩
theorem few5 (a0 a1 a2 a3 a4 : Option Addr) (n0 n1 n2 n3 n4 c0 c1 c2 c3 c4 : Nat) (w : World) :
    Calls Try.prog 7 #[.slice (some ⟨w.heap.size, 0, none⟩) 5 5] (w.alloc (.cells #[.slice a0 n0 c0, .slice a1 n1 c1, .slice a2 n2 c2, .slice a3 n3 c3, .slice a4 n4 c4] 22)) fun e w' => e = .returned (.bool (decide (n0 ≤ 100 ∧ n1 ≤ 100 ∧ n2 ≤ 100 ∧ n3 ≤ 100 ∧ n4 ≤ 100))) ∧ w' = w.alloc (.cells #[.slice a0 n0 c0, .slice a1 n1 c1, .slice a2 n2 c2, .slice a3 n3 c3, .slice a4 n4 c4] 22) := by
  have h := fewQ w.heap.size 5 (fun i => if i = 0 then n0 else if i = 1 then n1 else if i = 2 then n2 else if i = 3 then n3 else n4) (fun i => if i = 0 then c0 else if i = 1 then c1 else if i = 2 then c2 else if i = 3 then c3 else c4) (fun i => if i = 0 then a0 else if i = 1 then a1 else if i = 2 then a2 else if i = 3 then a3 else a4) (w.alloc (.cells #[.slice a0 n0 c0, .slice a1 n1 c1, .slice a2 n2 c2, .slice a3 n3 c3, .slice a4 n4 c4] 22)) (by decide) (fun i hi => by
    have hb := heap_alloc_new w (.cells #[.slice a0 n0 c0, .slice a1 n1 c1, .slice a2 n2 c2, .slice a3 n3 c3, .slice a4 n4 c4] 22)
    match i, hi with
    | 0, _ => exact cell_ofQ hb rfl
    | 1, _ => exact cell_ofQ hb rfl
    | 2, _ => exact cell_ofQ hb rfl
    | 3, _ => exact cell_ofQ hb rfl
    | 4, _ => exact cell_ofQ hb rfl)
  refine h.mono fun e w' hh => ⟨?_, hh.2⟩
  rw [hh.1]
  congr 2
  apply decide_eq_decide.2
  constructor
  · intro h
    exact ⟨h 0 (by decide), h 1 (by decide), h 2 (by decide), h 3 (by decide), h 4 (by decide)⟩
  · rintro ⟨h0, h1, h2, h3, h4⟩ i hi
    match i, hi with
    | 0, _ => exact h0
    | 1, _ => exact h1
    | 2, _ => exact h2
    | 3, _ => exact h3
    | 4, _ => exact h4
theorem few5_t (a0 a1 a2 a3 a4 : Option Addr) (n0 n1 n2 n3 n4 c0 c1 c2 c3 c4 : Nat) (w : World) (h : n0 ≤ 100 ∧ n1 ≤ 100 ∧ n2 ≤ 100 ∧ n3 ≤ 100 ∧ n4 ≤ 100) :
    Calls Try.prog 7 #[.slice (some ⟨w.heap.size, 0, none⟩) 5 5] (w.alloc (.cells #[.slice a0 n0 c0, .slice a1 n1 c1, .slice a2 n2 c2, .slice a3 n3 c3, .slice a4 n4 c4] 22)) fun e w' => e = .returned (.bool true) ∧ Below w.heap.size w w' := by
  have := few5 a0 a1 a2 a3 a4 n0 n1 n2 n3 n4 c0 c1 c2 c3 c4 w
  rw [decide_eq_true h] at this
  exact this.mono fun e w' h => ⟨h.1, by rw [h.2]; exact keep_alloc _ _⟩
theorem few5_f (a0 a1 a2 a3 a4 : Option Addr) (n0 n1 n2 n3 n4 c0 c1 c2 c3 c4 : Nat) (w : World) (h : ¬ (n0 ≤ 100 ∧ n1 ≤ 100 ∧ n2 ≤ 100 ∧ n3 ≤ 100 ∧ n4 ≤ 100)) :
    Calls Try.prog 7 #[.slice (some ⟨w.heap.size, 0, none⟩) 5 5] (w.alloc (.cells #[.slice a0 n0 c0, .slice a1 n1 c1, .slice a2 n2 c2, .slice a3 n3 c3, .slice a4 n4 c4] 22)) fun e w' => e = .returned (.bool false) ∧ Below w.heap.size w w' := by
  have := few5 a0 a1 a2 a3 a4 n0 n1 n2 n3 n4 c0 c1 c2 c3 c4 w
  rw [decide_eq_false h] at this
  exact this.mono fun e w' h => ⟨h.1, by rw [h.2]; exact keep_alloc _ _⟩
/-- the last byte the other way -/
def trnL (X : List Nat) : List Nat := X.set (X.length - 1) (el X (X.length - 1) ^^^ 1)
theorem trn_app (x u : List Nat) (hu : u.length = 16) : trnL (x ++ u) = x ++ u.set 15 (el u 15 ^^^ 1) := by
  unfold trnL
  have h1 : (x ++ u).length - 1 = x.length + 15 := by rw [List.length_append, hu]; omega
  have h2 : el (x ++ u) (x.length + 15) = el u 15 := by unfold el; rw [List.getElem?_append_right (by omega), show x.length + 15 - x.length = 15 by omega]
  rw [h1, h2, List.set_append, if_neg (by omega), show x.length + 15 - x.length = 15 by omega]
theorem set_unlike {u : List Nat} (hu : u.length = 16) : ¬ u = u.set 15 (el u 15 ^^^ 1) := by
  intro h
  have h1 : el (u.set 15 (el u 15 ^^^ 1)) 15 = el u 15 ^^^ 1 := by unfold el; rw [List.getElem?_set_self (by omega)]; rfl
  rw [← h] at h1
  have h2 := Nat.xor_self (el u 15)
  have h3 : el u 15 ^^^ el u 15 = el u 15 ^^^ (el u 15 ^^^ 1) := congrArg (fun z => el u 15 ^^^ z) h1
  rw [← Nat.xor_assoc, Nat.xor_self, Nat.zero_xor] at h3
  exact absurd h3 (by decide)
theorem trn_none {T : List Nat → List Nat} {nonce bs p : List Nat} (hT : ∀ s, B16 s → B16 (T s)) (h12 : nonce.length = 12) (hu : Under 256 nonce) : openO T nonce bs (trnL (sealL T nonce bs p)) = none := by
  have htl := (tagL_b hT h12 hu bs (xst T nonce p)).1
  unfold sealL
  rw [trn_app _ _ htl]
  have hne := set_unlike htl
  unfold openO
  have hln : (xst T nonce p ++ (tagL T nonce bs (xst T nonce p)).set 15 (el (tagL T nonce bs (xst T nonce p)) 15 ^^^ 1)).length - 16 = (xst T nonce p).length := by rw [List.length_append, List.length_set, htl]; omega
  rw [hln, List.take_left, List.drop_left, if_neg hne]
theorem trn_len (X : List Nat) : (trnL X).length = X.length := by unfold trnL; rw [List.length_set]
theorem under_trn {X : List Nat} (h : Under 256 X) : Under 256 (trnL X) := fun x hx => by
  unfold trnL at hx
  rcases List.mem_or_eq_of_mem_set hx with h1 | h1
  · exact h x h1
  · rw [h1]; exact xor_8 (el_lt h (by decide) _) (by decide)
theorem owns_frozen {w : World} {base n : Nat} {e : TypeId} {g c : Nat} {xs : List Value} (h : w.ownsRow base e 1 (.slice (some ⟨g, 0, none⟩) n c) n xs) (j : Nat) : w.frozen? ⟨g, j, none⟩ = false := by
  rcases h.2 with ⟨h, _⟩ | ⟨g', cap, cur, he, _, hg, _⟩
  · cases h
  · simp only [Value.slice.injEq, Option.some.injEq, Addr.mk.injEq, and_true, true_and] at he
    obtain ⟨rfl, rfl⟩ := he
    simp [World.frozen?, hg]
theorem below_emp {x y : World} (h : (x.alloc (.cells #[] 5)).grownBy y (Value.slice (some ⟨x.heap.size, 0, none⟩) 0 0).ownBlock) : Below x.heap.size x y :=
  ((Below.refl x.heap.size x).alloc (Nat.le_refl _) _).grown h (by simp) (fun j ej => by
    have : x.heap.size = j := Option.some.inj ej
    omega)
theorem xor1Q (n : Nat) (h : n < 256) : bits .xor .u8 (n : Int) 1 = ((n ^^^ 1 : Nat) : Int) := u8_xor_nat n 1 h (by decide)
theorem own_empty (y : World) : (y.alloc (.cells #[] 5)).ownsRow y.heap.size 5 1 (.slice (some ⟨y.heap.size, 0, none⟩) 0 0) 0 (vals .u8 []) :=
  ⟨rfl, .inr ⟨_, _, _, rfl, Nat.le_refl _, heap_alloc_new _ _, Nat.le_refl _, by unfold maxLen; decide, rfl, rfl⟩⟩
theorem own_setQ {w : World} {base g n cap : Nat} {l : List Nat} (h : w.ownsRow base 5 1 (.slice (some ⟨g, 0, none⟩) n cap) n (vals .u8 l)) (j x : Nat) : (w.setCell ⟨g, j, none⟩ (.int .u8 (x : Int))).ownsRow base 5 1 (.slice (some ⟨g, 0, none⟩) n cap) n (vals .u8 (l.set j x)) := by
  have := (h.stored j (.int .u8 (x : Int))).1
  rw [vals_set] at this
  exact this
/-- sealing and opening, as the laws ask them -/
theorem gk_back {key nonce bs p c : List Nat} {kv nv sv pv cv : Value} {w : World} (rk : Row .u8 256 w kv key) (rn : Row .u8 256 w nv nonce) (rs : Row .u8 256 w sv bs) (rp : Row .u8 256 w pv p) (rc : Row .u8 256 w cv c) (hs : bs.length ≤ 100) (hp : p.length ≤ 100) (hc : c.length ≤ 100) :
    (∃ k1 k2 : Int, k1 ≠ 0 ∧ k2 ≠ 0 ∧ (∀ y, Below w.heap.size w y → Calls Try.prog 14 #[kv, nv, sv, pv] y (TellsVC y [] k1)) ∧ (∀ y, Below w.heap.size w y → Calls Try.prog 16 #[kv, nv, sv, cv] y (TellsVC y [] k2))) ∨
    (∃ X : List Nat, X.length = p.length + 16 ∧ (∀ y, Below w.heap.size w y → Calls Try.prog 14 #[kv, nv, sv, pv] y (TellsVC y X 0)) ∧
      (∀ y v, Below w.heap.size w y → Row .u8 256 y v X → Calls Try.prog 16 #[kv, nv, sv, v] y (TellsVC y p 0)) ∧
      (∀ y v, Below w.heap.size w y → Row .u8 256 y v (trnL X) → Calls Try.prog 16 #[kv, nv, sv, v] y (TellsVC y [] 17)) ∧
      ((∃ k : Int, k ≠ 0 ∧ ∀ y, Below w.heap.size w y → Calls Try.prog 16 #[kv, nv, sv, cv] y (TellsVC y [] k)) ∨
       (∃ Y : List Nat, (∀ y, Below w.heap.size w y → Calls Try.prog 16 #[kv, nv, sv, cv] y (TellsVC y Y 0)) ∧ (∀ y v, Below w.heap.size w y → Row .u8 256 y v Y → Calls Try.prog 14 #[kv, nv, sv, v] y (TellsVC y c 0))))) := by
  by_cases hk : Sz3 key.length
  · by_cases hn : nonce.length = 12
    · right
      have hT : ∀ s, B16 s → B16 (blkA key s) := cip_T key rk.under
      have hnu := rn.under
      have hl := sealL_len hT hn hnu bs p
      refine ⟨sealL (blkA key) nonce bs p, hl, fun y h => seQ_ok (rk.below h) (rn.below h) (rs.below h) (rp.below h) hk hn (by omega) (by omega), fun y v h rv => ?_, fun y v h rv => ?_, ?_⟩
      · have := opQ_ok (rk.below h) (rn.below h) (rs.below h) rv hk hn (by omega) (by omega) (by omega)
        obtain ⟨e1, e2⟩ := op_yes (open_seal hT hn hnu bs p)
        rw [e1, e2] at this
        exact this
      · have := opQ_ok (rk.below h) (rn.below h) (rs.below h) rv hk hn (by omega) (by rw [trn_len]; omega) (by rw [trn_len]; omega)
        obtain ⟨e1, e2⟩ := op_no (trn_none (p := p) (bs := bs) hT hn hnu)
        rw [e1, e2] at this
        exact this
      · by_cases h16 : 16 ≤ c.length
        · have hO := fun y (h : Below w.heap.size w y) => opQ_ok (rk.below h) (rn.below h) (rs.below h) (rc.below h) hk hn (by omega) (by omega) h16
          cases ho : openO (blkA key) nonce bs c with
          | none =>
            obtain ⟨e1, e2⟩ := op_no ho
            rw [e1, e2] at hO
            exact .inl ⟨17, by decide, hO⟩
          | some Y =>
            obtain ⟨e1, e2⟩ := op_yes ho
            rw [e1, e2] at hO
            have hso := seal_open hT hn hnu ho
            have hYl := sealL_len hT hn hnu bs Y
            rw [hso] at hYl
            refine .inr ⟨Y, hO, fun y v h rv => ?_⟩
            have := seQ_ok (rk.below h) (rn.below h) (rs.below h) rv hk hn (by omega) (by omega)
            rw [hso] at this
            exact this
        · exact .inl ⟨14, by decide, fun y h => opQ_short (rk.below h) (rn.below h) (rs.below h) (rc.below h) hk hn (by omega)⟩
    · exact .inl ⟨14, 14, by decide, by decide, fun y h => seQ_nonce (rk.below h) (rn.below h) (rs.below h) (rp.below h) hk hn, fun y h => opQ_nonce (rk.below h) (rn.below h) (rs.below h) (rc.below h) hk hn (by omega)⟩
  · exact .inl ⟨10, 10, by decide, by decide, fun y h => seQ_key (rk.below h) (rn.below h) (rs.below h) (rp.below h) hk, fun y h => opQ_key (rk.below h) (rn.below h) (rs.below h) (rc.below h) hk (by omega)⟩
end Go.Proofs.Ytjeofkemfpdieaa
