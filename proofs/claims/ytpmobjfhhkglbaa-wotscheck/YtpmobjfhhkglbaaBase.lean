/- The row predicate that all contracts of this seat speak of, and small facts on it. -/
import Derived.Test.YtpmobjfhhkglbaaProg
import Derived.WalkKit
import Derived.WalkLawsBesides
import Derived.WalkSpells
import Derived.Deep.QuietTactic
import Derived.BigQuiet
import Derived.OpenShut
namespace Go.Proofs.Ytpmobjfhhkglbaa
open Go.RowKit
set_option linter.unusedVariables false

/-- the element of a list at a place, under a name of its own -/
def el (l : List Nat) (i : Nat) : Nat := l[i]?.getD 0

/-- all numbers of a list are below a bound -/
def Under (m : Nat) (l : List Nat) : Prop := ∀ x ∈ l, x < m

theorem el_lt {m : Nat} {l : List Nat} (h : Under m l) (hm : 0 < m) (i : Nat) : el l i < m := by
  unfold el
  by_cases hi : i < l.length
  · rw [List.getElem?_eq_getElem hi]; exact h _ (List.getElem_mem hi)
  · rw [List.getElem?_eq_none (by omega)]; exact hm

theorem el_at {l : List Nat} {i : Nat} (h : i < l.length) : el l i = l[i] := by
  unfold el; rw [List.getElem?_eq_getElem h]; rfl

/-- the cells of a slice of numbers -/
def Cells (k : IntKind) (w : World) (a : Option Addr) (l : List Nat) : Prop :=
  0 < l.length → ∃ b off, a = some ⟨b, off, none⟩ ∧ ∀ i, i < l.length → w.cell? ⟨b, off + i, none⟩ = some (.int k (el l i))

/-- v is a slice whose elements, in w, are the numbers l, each below m -/
def Row (k : IntKind) (m : Nat) (w : World) (v : Value) (l : List Nat) : Prop :=
  ∃ a cap, v = .slice a l.length cap ∧ l.length ≤ cap ∧ cap ≤ maxLen ∧ Cells k w a l ∧ Under m l

theorem Cells.below {k : IntKind} {w w' : World} {a : Option Addr} {l : List Nat} {B : Nat} (h : Cells k w a l) (hb : Below B w w') (hB : w.heap.size ≤ B) : Cells k w' a l := by
  intro hl
  obtain ⟨b, off, rfl, hc⟩ := h hl
  refine ⟨b, off, rfl, fun i hi => ?_⟩
  have h1 := hc i hi
  have h2 := World.block_lt_of_cell? w _ h1
  rw [hb.cell (p := ⟨b, off + i, none⟩) (by simp at h2 ⊢; omega)]
  exact h1

theorem Row.below {k : IntKind} {m : Nat} {w w' : World} {v : Value} {l : List Nat} (h : Row k m w v l) (hb : Below w.heap.size w w') : Row k m w' v l := by
  obtain ⟨a, cap, rfl, h1, h2, h3, h4⟩ := h
  exact ⟨a, cap, rfl, h1, h2, h3.below hb (Nat.le_refl _), h4⟩

theorem Row.drewN {k : IntKind} {m : Nat} {w : World} {v : Value} {l : List Nat} (h : Row k m w v l) (n : Nat) : Row k m (w.drewN n) v l := by
  obtain ⟨a, cap, rfl, h1, h2, h3, h4⟩ := h
  refine ⟨a, cap, rfl, h1, h2, fun hl => ?_, h4⟩
  obtain ⟨b, off, rfl, hc⟩ := h3 hl
  exact ⟨b, off, rfl, fun i hi => by simpa using hc i hi⟩

theorem Row.nil (k : IntKind) (m : Nat) (w : World) : Row k m w (.slice none 0 0) [] :=
  ⟨none, 0, rfl, Nat.le_refl _, Nat.zero_le _, fun h => by simp at h, fun x hx => by simp at hx⟩

theorem hide {p : Prop} (h : p) : Hid p := h
theorem vint {k : IntKind} {a b : Int} (h : a = b) : Value.int k a = Value.int k b := by rw [h]
theorem ret_bool {a b : Bool} (h : a = b) : Ending.returned (.bool a) = .returned (.bool b) := by rw [h]
theorem ret_int {k : IntKind} {a b : Int} (h : a = b) : Ending.returned (.int k a) = .returned (.int k b) := by rw [h]

end Go.Proofs.Ytpmobjfhhkglbaa
