/- What a reader tells, taken apart. -/
import Derived.Test.YtpmdbbmichncmaaDoorORead
namespace Go.Proofs.YtpmdbbmichncmaaDoor
open Go.RowKit
set_option linter.unusedVariables false

theorem Told.split {k : IntKind} {err : Int} {r : Option (List Nat)} {w : World} {e : Ending} (h : Told k err r w e) :
    (∃ u, r = Option.none ∧ e = .returned (.tuple #[u, .int k err])) ∨ (∃ u o, r = some o ∧ e = .returned (.tuple #[u, .int k 0]) ∧ Row .u32 4294967296 w u o) := by
  obtain ⟨u, rfl, hr⟩ := h
  cases r with
  | none => exact .inl ⟨u, rfl, rfl⟩
  | some o => exact .inr ⟨u, o, rfl, rfl, hr⟩
theorem Told.of_some {k : IntKind} {err : Int} {o : List Nat} {w : World} {e : Ending} (h : Told k err (some o) w e) : ∃ u, e = .returned (.tuple #[u, .int k 0]) ∧ Row .u32 4294967296 w u o := by
  obtain ⟨u, rfl, hr⟩ := h
  exact ⟨u, rfl, hr⟩
theorem text_len {l : List Nat} (hu : Under 4294967296 l) (hf : fitB l = true) : (textS l).length ≤ 220 := by
  rw [text_some hf]
  obtain ⟨a, b, r, rfl, hr, _⟩ := fit_two hf
  have := joinTo_len hu ((a :: b :: r).length - 1) (by simp)
  simp at this ⊢
  omega
end Go.Proofs.YtpmdbbmichncmaaDoor
