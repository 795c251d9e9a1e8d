/- Small words for walks over rows. -/
import Derived.Test.YtpmdbbmichncmaaDoorOwn
import Derived.Test.YtpmdbbmichncmaaDoorSame
namespace Go.Proofs.YtpmdbbmichncmaaDoor
open Go.RowKit
set_option linter.unusedVariables false

theorem keep_trans {a b c : World} (h : Below a.heap.size a b) (k : Below b.heap.size b c) : Below a.heap.size a c := h.trans (k.mono h.size)
theorem keep_alloc (w : World) (o : Obj) : Below w.heap.size w (w.alloc o) := (Below.refl _ _).alloc (Nat.le_refl _) o

theorem lit_row (k : IntKind) (m : Nat) (w : World) (l : List Nat) (t : TypeId) (hu : Under m l) (hl : l.length ≤ maxLen) :
    Row k m (w.alloc (.cells (vals k l).toArray t)) (.slice (some ⟨w.heap.size, 0, none⟩) l.length l.length) l := by
  refine ⟨_, _, rfl, Nat.le_refl _, hl, fun _ => ⟨_, _, rfl, fun i hi => ?_⟩, hu⟩
  rw [World.cell?_alloc_at _ _ _ _ rfl]
  rw [Nat.zero_add, List.getElem?_toArray, vals_get k l i hi]

theorem rsame_b (va vb : Value) (l m : List Nat) (w : World) (ha : Row .u8 256 w va l) (hb : Row .u8 256 w vb m) :
    Calls Tryd.prog 12 #[va, vb] w fun e w' => e = .returned (.bool (decide (l = m))) ∧ Below w.heap.size w w' :=
  (rsame_any va vb l m w ha hb).mono fun _ _ ⟨he, n, hw⟩ => ⟨he, by rw [hw]; exact below_drewN (Below.refl _ _) n⟩

theorem rsame_true (va vb : Value) (l : List Nat) (w : World) (ha : Row .u8 256 w va l) (hb : Row .u8 256 w vb l) :
    Calls Tryd.prog 12 #[va, vb] w fun e w' => e = .returned (.bool true) ∧ Below w.heap.size w w' :=
  (rsame_b va vb l l w ha hb).mono fun _ _ ⟨he, hw⟩ => ⟨by rw [he]; simp, hw⟩

theorem dec_under {m : Nat} {l : List Nat} (h : l.all (fun x => decide (x < m)) = true) : Under m l := by
  intro x hx
  exact of_decide_eq_true (List.all_eq_true.1 h x hx)

/-- a row, its value written out at a length that is known -/
theorem Row.opens {k : IntKind} {m : Nat} {w : World} {v : Value} {l : List Nat} (h : Row k m w v l) {N : Nat} (hN : l.length = N) :
    ∃ a cap, v = .slice a N cap ∧ N ≤ cap ∧ cap ≤ 9223372036854775807 ∧ (0 < N → ∃ b off, a = some ⟨b, off, none⟩ ∧ ∀ i, i < N → w.cell? ⟨b, off + i, none⟩ = some (.int k (el l i))) := by
  obtain ⟨a, cap, rfl, h1, h2, h3, h4⟩ := h
  subst hN
  unfold maxLen at h2
  exact ⟨a, cap, rfl, h1, by omega, h3⟩

/-- a text cut off behind so many bytes -/
theorem Row.cut {k : IntKind} {m : Nat} {w : World} {a : Option Addr} {n cap : Nat} {l : List Nat} (h : Row k m w (.slice a n cap) l) {M : Nat} (hM : M ≤ l.length) : Row k m w (.slice a M cap) (l.take M) := by
  obtain ⟨a', cap', he, h1, h2, h3, h4⟩ := h
  simp at he
  obtain ⟨rfl, rfl, rfl⟩ := he
  refine ⟨_, cap, by rw [List.length_take_of_le hM], by rw [List.length_take_of_le hM]; omega, h2, ?_, fun x hx => h4 x (List.mem_of_mem_take hx)⟩
  intro hp
  rw [List.length_take_of_le hM] at hp
  obtain ⟨b, off, rfl, hc⟩ := h3 (by omega)
  refine ⟨b, off, rfl, fun i hi => ?_⟩
  rw [List.length_take_of_le hM] at hi
  have e1 : i < (l.take M).length := by rw [List.length_take_of_le hM]; exact hi
  have e2 : i < l.length := by omega
  rw [el_at e1, List.getElem_take, ← el_at e2]
  exact hc i e2

theorem Row.under {k : IntKind} {m : Nat} {w : World} {v : Value} {l : List Nat} (h : Row k m w v l) : Under m l := by
  obtain ⟨_, _, _, _, _, _, h⟩ := h
  exact h
end Go.Proofs.YtpmdbbmichncmaaDoor
