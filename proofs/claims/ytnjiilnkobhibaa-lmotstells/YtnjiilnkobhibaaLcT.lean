/- Leaves that sign once: both sides of Digits and Size. -/
import Derived.Test.YtnjiilnkobhibaaLcE
namespace Go.Proofs.Ytnjiilnkobhibaa
open Go.RowKit
set_option linter.unusedVariables false
set_option linter.unusedSimpArgs false

def TellsD (y : World) (X : List Nat) (c : Int) (e : Ending) (y' : World) : Prop := ∃ v, e = .returned (.tuple #[v, .int .i64 c]) ∧ Row .u32 4294967296 y' v X ∧ Below y.heap.size y y'
theorem tellsD_own {y y' : World} {X : List Nat} {c : Int} {e : Ending} (h : ∃ v, e = .returned (.tuple #[v, .int .i64 c]) ∧ Own 36 .u32 4294967296 y' y.heap.size v X ∧ Below y.heap.size y y') : TellsD y X c e y' := by
  obtain ⟨v, h1, h2, h3⟩ := h
  exact ⟨v, h1, h2.row, h3⟩
theorem tellsD_nil {y y' : World} {c : Int} {e : Ending} (h : e = .returned (.tuple #[.slice none 0 0, .int .i64 c]) ∧ Below y.heap.size y y') : TellsD y [] c e y' := ⟨_, h.1, Row.nil _ _ _, h.2⟩
theorem tellsD_nilw {y y' : World} {c : Int} {e : Ending} (h : e = .returned (.tuple #[.slice none 0 0, .int .i64 c]) ∧ y' = y) : TellsD y [] c e y' := tellsD_nil ⟨h.1, by rw [h.2]; exact Below.refl _ _⟩
theorem both_dig {w : World} {d : List Nat} {da : Option Addr} {dl dc : Nat} (x : Int) (hd : Row .u8 256 w (.slice da dl dc) d) (td : Tidy (.slice da dl dc)) :
    ∃ (c : Int) (X : List Nat), (∀ y, Below w.heap.size w y → Calls Try.prog 7 #[.int .i64 x, .slice da dl dc] y (TellsD y X c)) ∧ (∀ y, Below w.heap.size w y → Calls Try.prog 8 #[.int .i64 x, .slice da dl dc] y (TellsD y X c)) := by
  have hdl : d.length = dl := by obtain ⟨a, c, e, _⟩ := hd; simp only [Value.slice.injEq] at e; exact e.2.1.symm
  rcases kd_or x with h | ⟨k, n, m, s, c, rfl, h⟩
  · exact ⟨9, [], fun y _ => (cdig_no x da dl dc y h).mono fun e y' h => tellsD_nil h, fun y hb => (rdigs_no x d _ y (hd.below hb) h).mono fun e y' h => tellsD_nilw h⟩
  · by_cases hl : d.length = 32
    · refine ⟨0, digsL k n m s d, fun y hb => (cdig_ok h rfl d _ y (hd.below hb) td hl).mono fun e y' h => tellsD_own h, fun y hb => ?_⟩
      cases h
      · exact (rdigs_1 d _ y (hd.below hb) td hl).mono fun e y' h => tellsD_own h
      · exact (rdigs_2 d _ y (hd.below hb) td hl).mono fun e y' h => tellsD_own h
      · exact (rdigs_4 d _ y (hd.below hb) td hl).mono fun e y' h => tellsD_own h
      · exact (rdigs_8 d _ y (hd.below hb) td hl).mono fun e y' h => tellsD_own h
    · exact ⟨14, [], fun y _ => (cdig_size h rfl da dl dc y (by omega)).mono fun e y' h => tellsD_nil h, fun y hb => (rdigs_size d _ y (hd.below hb) h hl).mono fun e y' h => tellsD_nilw h⟩
theorem both_size (x : Int) : ∃ z : Int, (∀ y, Calls Try.prog 10 #[.int .i64 x] y fun e y' => e = .returned (.int .i64 z) ∧ Below y.heap.size y y') ∧ (∀ y, Calls Try.prog 11 #[.int .i64 x] y fun e y' => e = .returned (.int .i64 z) ∧ y' = y) := by
  rcases kd_or x with h | ⟨k, n, m, s, c, rfl, h⟩
  · exact ⟨0, fun y => csize_no x y h, fun y => rsize_no x y h⟩
  · exact ⟨_, fun y => csize_ok h rfl y, fun y => rsize_ok y h⟩
end Go.Proofs.Ytnjiilnkobhibaa
