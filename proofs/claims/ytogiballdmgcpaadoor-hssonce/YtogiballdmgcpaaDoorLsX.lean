/- Trees of leaves that sign once, the program's own: what all of it leans on. -/
import Derived.Test.YtogiballdmgcpaaDoorHkF
import Derived.Test.YtogiballdmgcpaaDoorLhA
import Derived.Test.YtogiballdmgcpaaDoorPgF
import Derived.Test.YtogiballdmgcpaaDoorHKi2
import Derived.Test.YtogiballdmgcpaaDoorHEnd
namespace Go.Proofs.YtogiballdmgcpaaDoor
open Go.RowKit Go.Shelf
set_option linter.unusedVariables false
set_option linter.unusedSimpArgs false

theorem below_setRow {w y : World} {B : Nat} {vs : Array Value} (h : Below w.heap.size w y) (hB : w.heap.size ≤ B) : Below w.heap.size w (y.setRow B vs) := h.trans (((But.refl B y).setRow vs).below hB h.size)
theorem Bx2T.row {W : World} {B : Nat} {a b a' b' : Value} (h : Bx2T W B a b) : Bx2T (W.setRow B #[a', b']) B a' b' := ⟨setRow_heap W B _ _ _ _ h.here⟩
theorem Bx2T.but {W W' : World} {B g : Nat} {a b : Value} (h : Bx2T W B a b) (hb : But g W W') (hne : B ≠ g) : Bx2T W' B a b := ⟨(hb.block _ h.lt hne).trans h.here⟩
theorem Bx2T.ret {W : World} {B : Nat} {a b : Value} (h : Bx2T W B a b) {fn : Func} {p q : Tmp} (hr : fn.results = #[.cell p 41, .tmp q]) (tmps : Array Value) {v : Value} (hp : tmps.getD p undef = .pointer (some ⟨B, 0, none⟩)) (hv : tmps.getD q undef = v) :
    (results fn tmps).run Tryd.prog W = .ok (.tuple #[.agg #[a, b], v]) W := by
  subst hv
  have hp' : tmps[p]?.getD undef = .pointer (some ⟨B, 0, none⟩) := by simpa using hp
  simp [results, hr, hp', asAddr, run_loadVar_row W B 41 41 #[a, b] (0, 0) _ h.here Tryd.underlying41 rfl (by kernel_rfl)]
theorem cells_keptL {A B : World} {row : Option Nat} (hg : A.grownBy B row) (hr : ∀ r, row = some r → ∃ o : Obj, A.heap[r]? = some o ∧ o.isCells = false) {k : Nat} {cs : Array Value} {t : TypeId} {fz : Nat × Nat} (h : A.heap[k]? = some (.cells cs t fz)) : B.heap[k]? = some (.cells cs t fz) := by
  refine (hg.block k (Array.getElem?_eq_some_iff.1 h).1 fun e => ?_).trans h
  obtain ⟨o, ho, hc⟩ := hr k e.symm
  rw [h] at ho
  cases ho
  cases hc
theorem boxed_belowL {w w' : World} {B : Nat} {t : TypeId} {v : Value} (h : Boxed w B t v) (hb : Below w.heap.size w w') : Boxed w' B t v := (hb.block _ h.lt).trans h
theorem boxed_butL {w w' : World} {B g : Nat} {t : TypeId} {v : Value} (h : Boxed w B t v) (hb : But g w w') (hne : B ≠ g) : Boxed w' B t v := (hb.block _ h.lt hne).trans h
theorem kept_setL {lo q j : Nat} {W : World} (u : Value) (hq : q < lo) : Kept lo W (W.setCell ⟨q, j, none⟩ u) :=
  have hb := (But.refl q W).setCell j u
  ⟨hb.size, fun k h1 h2 => hb.block k h2 (by omega)⟩
end Go.Proofs.YtogiballdmgcpaaDoor
