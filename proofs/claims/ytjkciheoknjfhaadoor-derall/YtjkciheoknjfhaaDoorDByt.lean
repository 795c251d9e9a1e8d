/- The document's Bytes, Fit. -/
import Derived.Test.YtjkciheoknjfhaaDoorDWr
namespace Go.Proofs.YtjkciheoknjfhaaDoor
open Go.RowKit Go.Deep
set_option linter.unusedVariables false

/-- what Bytes tells -/
def BytesE (FB : Int → List Nat → Bool) (x : Nd) (w : World) (e : Ending) (w' : World) : Prop :=
  ((∃ l v, bytesD FB x = some l ∧ e = .returned (.tuple #[v, .int .i64 0]) ∧ Own 5 .u8 256 w' w.heap.size v l) ∨ (bytesD FB x = none ∧ e = .returned (.tuple #[.slice none 0 0, .int .i64 1]))) ∧ Below w.heap.size w w'

set_option maxHeartbeats 2000000 in
theorem rbytesN_any (FB : Int → List Nat → Bool) (hFB : FBok FB) (d : Nat) (c0 c1 c2 : Value) (x : Nd) (w : World) (h : NdAt w d c0 c1 c2 x) (hs : szF d x ≤ 1000000) :
    Calls Tryd.prog 14 #[.agg #[c0, c1, c2]] w fun e w' => BytesE FB x w e w' := by
  have hcall := rwrite_any FB hFB 32 d c0 c1 c2 x (w.alloc (.cells #[c0, c1, c2] 26)) (NdAt.below (keep_alloc w _) _ _ _ _ _ h) hs (by omega)
  have pp := box_cell w c0 c1 c2 26
  go_enter Tryd.func14, Tryd.ntmps14
  go_wp2_with fail
  refine hcall.mono ?_
  rintro e w1 ⟨⟨l, v, hl, rfl, ho⟩ | ⟨hl, rfl⟩, hb1⟩
  · obtain ⟨va, vc, rfl⟩ := own_slice ho.1
    have hb := keep_trans (keep_alloc w _) hb1
    by_cases hbig : 1048576 < l.length
    · have hbigi : (1048576 : Int) < (l.length : Int) := by omega
      have HN : Hid (bytesD FB x = none) := hide (by unfold bytesD; rw [hl]; simp only; rw [if_pos hbig])
      go_wp2_with fail
      go_ret2
      exact ⟨.inr ⟨HN.out, rfl⟩, hb⟩
    · have hbigi : ¬ (1048576 : Int) < (l.length : Int) := by omega
      have hbigd : decide ((1048576 : Int) < (l.length : Int)) = false := decide_eq_false hbigi
      have hbige : decide (1048576 < l.length) = false := decide_eq_false hbig
      have HN : Hid (bytesD FB x = some l) := hide (by unfold bytesD; rw [hl]; simp only; rw [if_neg hbig])
      have HO := hide (ho.mono (B' := w.heap.size) (by simp))
      clear ho
      go_wp2_with fail
      go_ret2
      exact ⟨.inl ⟨l, _, HN.out, rfl, HO.out⟩, hb⟩
  · have HN : Hid (bytesD FB x = none) := hide (by unfold bytesD; rw [hl])
    go_wp2_with fail
    go_ret2
    exact ⟨.inr ⟨HN.out, rfl⟩, keep_trans (keep_alloc w _) hb1⟩

set_option maxHeartbeats 2000000 in
theorem rfitN_any (FB : Int → List Nat → Bool) (hFB : FBok FB) (d : Nat) (c0 c1 c2 : Value) (x : Nd) (w : World) (h : NdAt w d c0 c1 c2 x) (hs : szF d x ≤ 1000000) :
    Calls Tryd.prog 16 #[.agg #[c0, c1, c2]] w fun e w' => e = .returned (.bool (bytesD FB x).isSome) ∧ Below w.heap.size w w' := by
  have hcall := rbytesN_any FB hFB d c0 c1 c2 x (w.alloc (.cells #[c0, c1, c2] 26)) (NdAt.below (keep_alloc w _) _ _ _ _ _ h) hs
  go_enter Tryd.func16, Tryd.ntmps16
  go_wp2_with fail
  refine hcall.mono ?_
  rintro e w1 ⟨⟨l, v, hl, rfl, ho⟩ | ⟨hl, rfl⟩, hb1⟩
  · have HL := hide hl
    clear hl
    go_wp2_with fail
    go_ret
    exact ⟨ret_bool (by rw [HL.out]; rfl), keep_trans (keep_alloc w _) hb1⟩
  · have HL := hide hl
    clear hl
    go_wp2_with fail
    go_ret
    exact ⟨ret_bool (by rw [HL.out]; rfl), keep_trans (keep_alloc w _) hb1⟩
end Go.Proofs.YtjkciheoknjfhaaDoor
