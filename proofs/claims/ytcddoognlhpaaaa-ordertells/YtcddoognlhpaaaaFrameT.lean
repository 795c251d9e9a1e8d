/- How a slice of texts that came in is read. -/
import Derived.Test.YtcddoognlhpaaaaFrame
import Derived.Test.YtcddoognlhpaaaaTex
import Derived.Deep.Slices
namespace Go.Proofs.Ytcddoognlhpaaaa
open Go.ChangeShapes Go.WideShapes Go.ChangeAt Go.RowKit Go.Deep
set_option linter.unusedVariables false

theorem Try.cells25 : Try.prog.cellsOf 25 = 1 := by kernel_rfl

/-- a text that is read -/
theorem read_text {H : Type} {enc : TypeId × Value → H} {W : World} {fuel : Nat} {v : Value} {x : DataW H × List MemPlace}
    (h : DataW.trod enc Try.prog W 0 (fun _ => true) true fuel 25 [v] = some x) : ∃ l, Row .u8 256 W v l ∧ Tidy v := by
  rcases open_ints Try.underlying25 Try.underlying5 (by kernel_rfl) h with ⟨hcs, _⟩ | ⟨a, len, cap, zs, hcs, _, hl, hm, hz, _, hcell, hwz⟩
  · simp at hcs
    subst hcs
    exact ⟨[], Row.nil _ _ _, fun n c he => by simp at he; omega⟩
  · simp at hcs
    subst hcs
    have hr : IsRow .u8 W (some a) len cap zs := .inr ⟨a, rfl, hl, hm, by simpa using hz, hcell, hwz⟩
    obtain ⟨l, _, hrow⟩ := hr.row wf_u8
    exact ⟨l, hrow, fun n c he => by simp at he⟩

/-- a slice of texts that is read -/
theorem read_texts {H : Type} {enc : TypeId × Value → H} {W : World} {fuel : Nat} {v : Value} {x : DataW H × List MemPlace}
    (h : DataW.trod enc Try.prog W 0 (fun _ => true) true fuel 22 [v] = some x) : ∃ ls, Rows2 W v ls := by
  rcases open_slice1 Try.underlying22 Try.cells25 h with ⟨hcs, _⟩ | ⟨a, len, cap, m, n, V, D, Pl, hcs, _, hl, hm, hmm, _, hx⟩
  · simp at hcs
    subst hcs
    exact ⟨[], none, 0, rfl, Nat.le_refl _, Nat.zero_le _, fun h => by simp at h⟩
  · simp at hcs
    subst hcs
    have hm' : m = cap := by simpa using hmm
    subst hm'
    obtain ⟨L, hL⟩ := choose_lt (α := List Nat) (p := fun i l => Row .u8 256 W (V i) l ∧ Tidy (V i)) (fun i (hi : i < m) => read_text (hx i hi).2)
    refine ⟨(List.range len).map L, some a, m, by simp, by simpa using hl, hm, fun hp => ?_⟩
    have hp' : 0 < len := by simpa using hp
    obtain ⟨b, off, spot⟩ := a
    have h0 := (hx 0 (by omega)).1
    have hspot : spot = none := by simpa [Addr.add] using World.cell?_spot h0
    subst hspot
    refine ⟨b, off, rfl, fun i hi => ?_⟩
    have hi' : i < len := by simpa using hi
    refine ⟨V i, ?_, ?_, (hL i (by omega)).2⟩
    · have := (hx i (by omega)).1
      rw [Addr.add_lit] at this
      exact this
    · have e : tx ((List.range len).map L) i = L i := by unfold tx; simp [hi']
      rw [e]
      exact (hL i (by omega)).1
end Go.Proofs.Ytcddoognlhpaaaa
