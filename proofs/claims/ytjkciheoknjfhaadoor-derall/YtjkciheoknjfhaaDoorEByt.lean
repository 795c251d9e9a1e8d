/- der's Bytes, Fit. -/
import Derived.Test.YtjkciheoknjfhaaDoorEWVl
import Derived.Test.YtjkciheoknjfhaaDoorDByt
namespace Go.Proofs.YtjkciheoknjfhaaDoor
open Go.RowKit Go.Deep
set_option linter.unusedVariables false

/-- a value that is small has few bytes -/
theorem bytes_small {FB : Int → List Nat → Bool} {d : Nat} {x : Nd} {w : World} {c0 c1 c2 : Value} (hn : NdAt w d c0 c1 c2 x) (hs : szF d x ≤ 10000) : bytesD FB x = wrD FB 32 x := by
  unfold bytesD
  cases h : wrD FB 32 x with
  | none => rfl
  | some l =>
    have := wr_size FB 32 d x l h ⟨w, c0, c1, c2, hn⟩
    simp only
    rw [if_neg (by omega)]
/-- what Bytes tells -/
def BytE (r : Option (List Nat)) (w : World) (e : Ending) (w' : World) : Prop :=
  ((∃ l v, r = some l ∧ e = .returned (.tuple #[v, .int .i64 0]) ∧ Row .u8 256 w' v l ∧ Tidy v) ∨ (r = none ∧ e = .returned (.tuple #[.slice none 0 0, .int .i64 1]))) ∧ Below w.heap.size w w'
set_option maxHeartbeats 2000000 in
theorem bytes_der (FB : Int → List Nat → Bool) (hFB : FBok FB) (d : Nat) (c0 c1 c2 : Value) (x : Nd) (w : World) (hn : NdAt w d c0 c1 c2 x) (hs : szF d x ≤ 10000) (hT : UTabs w) :
    Calls Tryd.prog 13 #[.agg #[c0, c1, c2]] w fun e w' => BytE (bytesD FB x) w e w' := by
  rw [bytes_small hn hs]
  obtain ⟨tt, a1, n1, p1, a2, n2, p2, rfl, rfl, rfl⟩ := (NdAt.inOld _ _ _ _ _ hn).forms
  go_enter Tryd.func13, Tryd.ntmps13
  go_wp2_with fail
  have hb0 : Below w.heap.size w ((w.alloc (.cells #[.int .i64 tt, .slice a1 n1 p1, .slice a2 n2 p2] 26)).alloc (.cells #[.int .i64 1048576] 49)) := keep_trans (keep_alloc _ _) (keep_alloc _ _)
  have hsw : ((w.alloc (.cells #[.int .i64 tt, .slice a1 n1 p1, .slice a2 n2 p2] 26)).alloc (.cells #[.int .i64 1048576] 49)).heap.size = w.heap.size + 2 := by rw [World.size_alloc, World.size_alloc]
  have hwb : WB ((w.alloc (.cells #[.int .i64 tt, .slice a1 n1 p1, .slice a2 n2 p2] 26)).alloc (.cells #[.int .i64 1048576] 49)) (w.heap.size + 1) 1048576 := by
    unfold WB
    have := heap_alloc_new (w.alloc (.cells #[.int .i64 tt, .slice a1 n1 p1, .slice a2 n2 p2] 26)) (.cells #[.int .i64 1048576] 49)
    rwa [World.size_alloc] at this
  have hn1 := (NdAt.inOld _ _ _ _ _ hn).turn (w' := ((w.alloc (.cells #[.int .i64 tt, .slice a1 n1 p1, .slice a2 n2 p2] 26)).alloc (.cells #[.int .i64 1048576] 49))) (T := fun k => k < w.heap.size) (fun b hb hl => ⟨hb0.block b hl, hb⟩)
  have hT1 := hT.below hb0
  generalize (w.alloc (.cells #[.int .i64 tt, .slice a1 n1 p1, .slice a2 n2 p2] 26)).alloc (.cells #[.int .i64 1048576] 49) = W at *
  refine (wvalue_any FB hFB 32 d w.heap.size (w.heap.size + 1) 1 _ _ _ x 1048576 W hn1 hwb (by omega) hT.low (by omega) hs (by omega) (by omega) hT1).mono ?_
  rintro e w1 ⟨⟨l, v, hl, rfl, ho⟩ | ⟨hl, rfl⟩, _, ht1⟩
  · obtain ⟨va, vc, rfl⟩ := own_slice ho.1
    have hbf : Below w.heap.size w w1 := hb0.trans (ht1.1.mono (by omega))
    have HL := hide hl
    have HR := hide ho.row
    have HT := hide (own_tidy ho.1)
    clear hl ho
    go_wp2_with fail
    go_ret2
    exact ⟨.inl ⟨l, _, HL.out, rfl, HR.out, HT.out⟩, hbf⟩
  · have hbf : Below w.heap.size w w1 := hb0.trans (ht1.1.mono (by omega))
    have HL := hide hl
    clear hl
    go_wp2_with fail
    go_ret2
    exact ⟨.inr ⟨HL.out, rfl⟩, hbf⟩

set_option maxHeartbeats 2000000 in
theorem fit_der (FB : Int → List Nat → Bool) (hFB : FBok FB) (d : Nat) (c0 c1 c2 : Value) (x : Nd) (w : World) (hn : NdAt w d c0 c1 c2 x) (hs : szF d x ≤ 10000) (hT : UTabs w) :
    Calls Tryd.prog 15 #[.agg #[c0, c1, c2]] w fun e w' => e = .returned (.bool (bytesD FB x).isSome) ∧ Below w.heap.size w w' := by
  obtain ⟨tt, a1, n1, p1, a2, n2, p2, rfl, rfl, rfl⟩ := (NdAt.inOld _ _ _ _ _ hn).forms
  have hcall := bytes_der FB hFB d _ _ _ x (w.alloc (.cells #[.int .i64 tt, .slice a1 n1 p1, .slice a2 n2 p2] 26)) (NdAt.below (keep_alloc w _) _ _ _ _ _ hn) hs (hT.below (keep_alloc _ _))
  go_enter Tryd.func15, Tryd.ntmps15
  go_wp2_with fail
  refine hcall.mono ?_
  rintro e w1 ⟨⟨l, v, hl, rfl, hr, _⟩ | ⟨hl, rfl⟩, hb1⟩
  · have HL := hide hl
    clear hl
    go_wp2_with fail
    go_ret
    exact ⟨ret_bool (by rw [HL.out]; rfl), keep_trans (keep_alloc w _) hb1⟩
  · have HL := hide hl
    clear hl
    go_wp2_with fail
    go_ret
    exact ⟨ret_bool (by rw [HL.out]; rfl), keep_trans (keep_alloc w _) hb1⟩
theorem rbytes_der (FB : Int → List Nat → Bool) (hFB : FBok FB) (d : Nat) (c0 c1 c2 : Value) (x : Nd) (w : World) (h : NdAt w d c0 c1 c2 x) (hs : szF d x ≤ 10000) :
    Calls Tryd.prog 14 #[.agg #[c0, c1, c2]] w fun e w' => BytE (bytesD FB x) w e w' := by
  refine (rbytesN_any FB hFB d c0 c1 c2 x w h (by omega)).mono ?_
  rintro e w1 ⟨⟨l, v, hl, rfl, ho⟩ | ⟨hl, rfl⟩, hb1⟩
  · exact ⟨.inl ⟨l, v, hl, rfl, ho.row, own_tidy ho.1⟩, hb1⟩
  · exact ⟨.inr ⟨hl, rfl⟩, hb1⟩
end Go.Proofs.YtjkciheoknjfhaaDoor
