/- How small a value is: the document's Small. -/
import Derived.Test.YtjkciheoknjfhaaDoorETag
import Derived.Lib.MinMax
namespace Go.Proofs.YtjkciheoknjfhaaDoor
open Go.RowKit
set_option linter.unusedVariables false

/-- how many parts and bytes a value has, down to a depth -/
def szF : Nat → Nd → Nat
  | 0, _ => 0
  | d + 1, .mk _ b ks => 1 + b.length + (ks.map (szF d)).sum
theorem sum_take (f : Nd → Nat) {ks : List Nd} {k : Nat} (h : k < ks.length) : ((ks.take (k + 1)).map f).sum = ((ks.take k).map f).sum + f (kx ks k) := by
  rw [List.take_succ_eq_append_getElem h, List.map_append, List.sum_append, kx_at h]; simp
theorem sum_le (f : Nd → Nat) (ks : List Nd) (k : Nat) : ((ks.take k).map f).sum ≤ (ks.map f).sum := by
  have : (ks.map f).sum = ((ks.take k).map f).sum + ((ks.drop k).map f).sum := by rw [← List.sum_append, ← List.map_append, List.take_append_drop]
  omega
theorem sz_kid {d : Nat} {t : Int} {b : List Nat} {ks : List Nd} {k : Nat} (h : k < ks.length) : szF d (kx ks k) + b.length < szF (d + 1) (.mk t b ks) := by
  have h1 := sum_take (szF d) h
  have h2 := sum_le (szF d) ks (k + 1)
  rw [szF]
  omega
/-- what Small tells -/
def SmallE (d : Nat) (x : Nd) (left : Int) (w : World) (e : Ending) (w' : World) : Prop := (∃ r : Int, e = .returned (.int .i64 r) ∧ r < left ∧ -2000000 ≤ r ∧ (0 ≤ r → r = left - (szF d x : Nat))) ∧ Below w.heap.size w w'

set_option maxHeartbeats 4000000 in
theorem rsmall_any : ∀ (d : Nat) (c0 c1 c2 : Value) (x : Nd) (left : Int) (w : World), NdAt w d c0 c1 c2 x → 0 ≤ left → left ≤ 3000 →
    Calls Tryd.prog 12 #[.agg #[c0, c1, c2], .int .i64 left] w fun e w' => SmallE d x left w e w' := by
  intro d
  induction d with
  | zero => intro c0 c1 c2 x left w h; exact h.elim
  | succ d ih =>
    rintro c0 c1 c2 ⟨t, b, ks⟩ left w ⟨rfl, ht, hrb, _, _, ka, kcap, rfl, hk1, hk2, hk3⟩ hl0 hl1
    unfold maxLen at hk2
    obtain ⟨ba, bcap, rfl, hb1, hb2, _, _⟩ := hrb
    unfold maxLen at hb2
    have hbw : Below w.heap.size w (w.alloc (.cells #[.int .i64 t, .slice ba b.length bcap, .slice ka ks.length kcap] 26)) := keep_alloc w _
    have p1 := box_cell w (.int .i64 t) (.slice ba b.length bcap) (.slice ka ks.length kcap) 26
    have p12 : (w.alloc (.cells #[.int .i64 t, .slice ba b.length bcap, .slice ka ks.length kcap] 26)).cell? ⟨w.heap.size, 2, none⟩ = some (.slice ka ks.length kcap) := p1.2.2
    obtain ⟨m, HM, hm0, hm1⟩ : ∃ m : Nat, Hid (min b.length 1048576 = m) ∧ m ≤ b.length ∧ m ≤ 1048576 := ⟨_, hide rfl, by omega, by omega⟩
    have hmin : min (b.length : Int) 1048576 = (m : Int) := by have := HM.out; omega
    go_enter Tryd.func12, Tryd.ntmps12
    go_wp2_with fail
    go_loopw [1, 5] (fun l i wr => ∃ (k : Nat) (z : Int), k ≤ ks.length ∧ i = .int .i64 k ∧ l = .int .i64 z ∧ z < left ∧ -2000000 ≤ z ∧ Hid (0 ≤ z → m = b.length ∧ z = left - 1 - (m : Int) - ((((ks.take k).map (szF d)).sum : Nat) : Int)) ∧ Below (w.alloc (.cells #[.int .i64 t, .slice ba b.length bcap, .slice ka ks.length kcap] 26)).heap.size (w.alloc (.cells #[.int .i64 t, .slice ba b.length bcap, .slice ka ks.length kcap] 26)) wr) (fun _ i _ => ks.length - (intOf i).toNat)
    case atStart => exact ⟨0, left - 1 - (m : Int), Nat.zero_le _, rfl, rfl, by omega, by omega, hide (fun h => ⟨by have := HM.out; omega, by simp⟩), Below.refl _ _⟩
    case round =>
      obtain ⟨k, z, hk, rfl, rfl, hz1, hz2, HA, hbr⟩ := hrel
      have q12 : wr.cell? ⟨w.heap.size, 2, none⟩ = some (.slice ka ks.length kcap) := Below.cells hbr p12
      have hbwr := keep_trans hbw hbr
      by_cases hlt : k < ks.length
      · by_cases hz0 : 0 ≤ z
        · obtain ⟨bk, ok, rfl, hck⟩ := hk3 (by omega)
          obtain ⟨x0, x1, x2, xc, xn⟩ := hck k hlt
          obtain ⟨xc0, xc1, xc2⟩ := xc.below hbwr
          have hih := ih x0 x1 x2 (kx ks k) z wr (NdAt.below hbwr _ _ _ _ _ xn) hz0 (by omega)
          clear hck xc xn
          go_wp2_with fail
          refine hih.mono ?_
          rintro e w2 ⟨⟨r, rfl, hr1, hr2, hr3⟩, hb2⟩
          have HR : Hid (0 ≤ r → m = b.length ∧ r = left - 1 - (m : Int) - ((((ks.take (k + 1)).map (szF d)).sum : Nat) : Int)) := hide (fun h => by
            obtain ⟨h1, h2⟩ := HA.out hz0
            have h3 := hr3 h
            rw [sum_take _ hlt]
            exact ⟨h1, by omega⟩)
          have hb3 := keep_trans hbr hb2
          clear hih hr3 hb2 q12 xc0 xc1 xc2 HA
          go_wp2_with fail
          go_roundw
          case rel => exact ⟨k + 1, r, by omega, by go_num, rfl, by omega, hr2, HR, hb3⟩
          case measure => simp [intOf]; omega
        · have hzd : decide (0 ≤ z) = false := decide_eq_false hz0
          go_wp2_with fail
          go_ret
          exact ⟨⟨z, rfl, hz1, hz2, fun h => (by omega)⟩, hbwr⟩
      · have hend : k = ks.length := by omega
        have HE : Hid (0 ≤ z → z = left - ((szF (d + 1) (.mk t b ks) : Nat) : Int)) := hide (fun h => by
          obtain ⟨h1, h2⟩ := HA.out h
          rw [List.take_of_length_le (by omega)] at h2
          rw [szF]
          omega)
        go_wp2_with fail
        go_ret
        exact ⟨⟨z, rfl, hz1, hz2, HE.out⟩, hbwr⟩
end Go.Proofs.YtjkciheoknjfhaaDoor
