/- Steps of drawn regions, apart from keccak's: parts of a code, what runs. -/
import Derived.Test.YtnjiilnkobhibaaPlan2
namespace Go.Proofs.Ytnjiilnkobhibaa
open Go.RowKit
set_option linter.unusedVariables false
set_option linter.unusedSimpArgs false

def cLA : Code → Code
  | .seq a _ => a
  | c => c
def cRA : Code → Code
  | .seq _ b => b
  | c => c
def cBA : Code → Code
  | .block _ b => b
  | c => c
def cLpA : Code → Code
  | .loop b => b
  | c => c
def opsA : Code → Array Oper
  | .region _ ops _ => ops
  | _ => #[]
section
variable {ops : Array Oper} {Q : Exit → Act → World → Prop} {S : World → Prop} {K : Act → World → Prop}
theorem p_opA {i : Nat} {o : Oper} {a : Act} {w w' : World} {v : Value} (hi : ops[i]? = some o) (hg : o.guard = none) (hr : (execOp a.eval o).run Try.prog w = .ok (.value v) w') (h : K (a.put o.dst v) w') : wpOp Try.prog ops Q i K a w := by
  unfold wpOp
  simp only [hi]
  rw [if_pos (wanted_free hg)]
  left
  unfold Oper.wp
  rw [hr]
  exact h
theorem p_rowA {i : Nat} {o : Oper} {a : Act} {w : World} {t : TypeId} {x y : Operand} {g : Nat} {cells old : Array Value} {t' : TypeId} (hi : ops[i]? = some o) (hg : o.guard = none) (ho : o.op = .store t x y) (hd : o.dst = none) (hx : a.eval x = .pointer (some ⟨g, 0, none⟩)) (hy : a.eval y = .agg cells)
    (hb : w.heap[g]? = some (.cells old t' (0, 0))) (hs : (Try.prog.info? t).map (·.size) = some cells.size) (hold : old.size = cells.size) (h1 : cells.all (·.oneCell') = true)
    (h : K a (w.setRow g cells)) : wpOp Try.prog ops Q i K a w := by
  unfold wpOp
  simp only [hi]
  rw [if_pos (wanted_free hg)]
  left
  refine wp_store_row t x y ho g cells hx hy t' old hb hs hold h1 ?_
  rw [hd]
  exact h
theorem y_assignA {o : Oper} {v : Value} {a : Act} {x : Operand} (hg : o.guard = none) (ho : o.op = .assign x) (hx : a.eval x = v) : YieldsIf Try.prog ops S o v a :=
  y_of hg fun w _ => by unfold execOp; simp only [ho, hx]; rfl
end
theorem results_isA {fn : Func} {p : Tmp} (h : fn.results = #[.tmp p]) {a : Act} {v : Value} (hv : a.eval (.tmp p) = v) (w : World) : (results fn a.tmps).run Try.prog w = .ok v w := by
  have h' : a.tmps.getD p undef = v := hv
  rw [Array.getD_eq_getD_getElem?] at h'
  simp [results, h, h']
/-- a frame of n slots that keeps those of another, but t and those from lo up to hi -/
structure Fr (n lo hi t : Nat) (a0 a : Act) : Prop where
  fz : Fz n a
  keep : ∀ j, (j < lo ∨ hi < j) → j ≠ t → a.eval (.tmp j) = a0.eval (.tmp j)
theorem Fr.step {n lo up t : Nat} {a0 a : Act} {x : World} {Q : Exit → Act → World → Prop} (h : Fr n lo up t a0 a) {kk fuel m : Nat} {v : Value} {d : Option Nat} {ops : Array Oper} {S : World → Prop} (hd : d = some kk) (h3 : kk = t ∨ (lo ≤ kk ∧ kk ≤ up)) (hk : kk < n)
    (hc : ∀ a' : Act, Fr n lo up t a0 a' → a'.eval (.tmp kk) = v → (∀ j, kk ≠ j → a'.eval (.tmp j) = a.eval (.tmp j)) → At Try.prog ops Q S fuel m a' x) : At Try.prog ops Q S fuel m (a.put d v) x := by
  subst hd
  exact hc _ ⟨h.fz.put _ _, fun j h1 h2 => (put_else (by omega)).trans (h.keep j h1 h2)⟩ (put_same (by rw [h.fz.1]; exact hk)) (fun j hj => put_else hj)
end Go.Proofs.Ytnjiilnkobhibaa
