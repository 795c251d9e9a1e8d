/- Steps of a plan: five texts written out as a list; one byte written out as a text. -/
import Derived.Test.YtogiballdmgcpaaDoorPgF
import Derived.RangeFuncBox
import Derived.RangeFuncNested
import Derived.RangeFuncBound
import Derived.RangeFuncCalls
import Derived.RangeFuncLeaves
import Derived.Shelf.Abstract
import Derived.OwnWalkIn
import Derived.Test.YtogiballdmgcpaaDoorProg
import Derived.Test.YtogiballdmgcpaaDoorLhFrm
import Derived.Test.YtogiballdmgcpaaDoorHEnd
import Derived.Test.YtogiballdmgcpaaDoorHTak32
import Derived.Test.YtogiballdmgcpaaDoorLcE
import Derived.Test.YtogiballdmgcpaaDoorHKi2
namespace Go.Proofs.YtogiballdmgcpaaDoor
open Go.RowKit
set_option linter.unusedVariables false
set_option linter.unusedSimpArgs false

theorem p_b5 {ops : Array Oper} {Q : Exit → Act → World → Prop} {K : Act → World → Prop} {i : Nat} {o : Oper} {a : Act} {w : World} {t e : TypeId} {p q r s m : Operand} {adp adq adr ads adm : Option Addr} {np cp nq cq nr cr ns cs nm cm : Nat} {d : Option Nat} {z : TypeInfo} (hi : ops[i]? = some o) (hw : Region.wanted o (yielded ops a.tmps) = true) (ho : o.op = .buildSlice t 5 #[(0, p), (1, q), (2, r), (3, s), (4, m)]) (hp : a.eval p = .slice adp np cp) (hq : a.eval q = .slice adq nq cq) (hr : a.eval r = .slice adr nr cr) (hs : a.eval s = .slice ads ns cs) (hm : a.eval m = .slice adm nm cm) (hd : o.dst = d)
    (hu : Tryd.prog.underlying t = some (.slice e)) (hz : Tryd.prog.info? e = some z) (hsz : z.size = 1) (hz0 : z.zero = some (.slice none 0 0)) (h : K (a.put d (.slice (some ⟨w.heap.size, 0, none⟩) 5 5)) (w.alloc (.cells #[.slice adp np cp, .slice adq nq cq, .slice adr nr cr, .slice ads ns cs, .slice adm nm cm] e))) : wpOp Tryd.prog ops Q i K a w := by
  have hr : (execOp a.eval o).run Tryd.prog w = .ok (.value (.slice (some ⟨w.heap.size, 0, none⟩) 5 5)) (w.alloc (.cells #[.slice adp np cp, .slice adq nq cq, .slice adr nr cr, .slice ads ns cs, .slice adm nm cm] e)) := by
    unfold execOp
    simp only [ho, List.map_toArray, List.map_cons, List.map_nil, hp, hq, hr, hs, hm]
    simp [Sem.run_bind, run_underlying hu, sizeOf, typeInfo, zeroValue, hz, hsz, hz0, go_sem]
  unfold wpOp
  simp only [hi]
  rw [if_pos hw]
  left
  unfold Oper.wp
  rw [hr]
  show K (a.put o.dst _) _
  rw [hd]
  exact h
theorem p_byte1 {ops : Array Oper} {Q : Exit → Act → World → Prop} {K : Act → World → Prop} {i : Nat} {o : Oper} {a : Act} {w : World} {t e : TypeId} {p : Operand} {n : Int} {d : Option Nat} {z : TypeInfo} (hi : ops[i]? = some o) (hw : Region.wanted o (yielded ops a.tmps) = true) (ho : o.op = .buildSlice t 1 #[(0, p)]) (hp : a.eval p = .int .u8 n) (hd : o.dst = d)
    (hu : Tryd.prog.underlying t = some (.slice e)) (hz : Tryd.prog.info? e = some z) (hsz : z.size = 1) (hz0 : z.zero = some (.int .u8 0)) (h : K (a.put d (.slice (some ⟨w.heap.size, 0, none⟩) 1 1)) (w.alloc (.cells #[.int .u8 n] e))) : wpOp Tryd.prog ops Q i K a w := by
  have hr : (execOp a.eval o).run Tryd.prog w = .ok (.value (.slice (some ⟨w.heap.size, 0, none⟩) 1 1)) (w.alloc (.cells #[.int .u8 n] e)) := by
    unfold execOp
    simp only [ho, List.map_toArray, List.map_cons, List.map_nil, hp]
    simp [Sem.run_bind, run_underlying hu, sizeOf, typeInfo, zeroValue, hz, hsz, hz0, go_sem]
  unfold wpOp
  simp only [hi]
  rw [if_pos hw]
  left
  unfold Oper.wp
  rw [hr]
  show K (a.put o.dst _) _
  rw [hd]
  exact h
end Go.Proofs.YtogiballdmgcpaaDoor

/- A loop over an iterator that is made of another: the contract and the law that serve here. -/
namespace Go.Proofs.YtogiballdmgcpaaDoor
open Go.RowKit Go.Shelf
set_option linter.unusedVariables false
set_option linter.unusedSimpArgs false

/-- all blocks from lo on are as they were -/
structure Kept (lo : Nat) (W W' : World) : Prop where
  size : W.heap.size ≤ W'.heap.size
  block : ∀ k, lo ≤ k → k < W.heap.size → W'.heap[k]? = W.heap[k]?
theorem Kept.trans {lo : Nat} {A B C : World} (h : Kept lo A B) (k : Kept lo B C) : Kept lo A C := ⟨Nat.le_trans h.size k.size, fun i h1 h2 => (k.block i h1 (Nat.lt_of_lt_of_le h2 h.size)).trans (h.block i h1 h2)⟩
theorem Kept.mono {lo lo' : Nat} {A B : World} (h : Kept lo A B) (hl : lo ≤ lo') : Kept lo' A B := ⟨h.size, fun i h1 h2 => h.block i (by omega) h2⟩
theorem Kept.at {lo : Nat} {A B : World} (h : Kept lo A B) {k : Nat} {o : Obj} (hk : lo ≤ k) (h0 : A.heap[k]? = some o) : B.heap[k]? = some o := (h.block k hk (Array.getElem?_eq_some_iff.1 h0).1).trans h0
theorem kept_put {lo : Nat} {W : World} {l : Nat} (o : Obj) (h : l < lo) : Kept lo W (W.putObj l o) := ⟨by simp [World.putObj], fun k h1 h2 => World.putObj_heap_other (by omega)⟩
end Go.Proofs.YtogiballdmgcpaaDoor

/- Leaves that sign once, the program's own: sum. -/
namespace Go.Proofs.YtogiballdmgcpaaDoor
open Go.RowKit
set_option linter.unusedVariables false
set_option linter.unusedSimpArgs false

/-- an operation of a plan, by its own law -/
theorem p_wpG {P : Program} {ops : Array Oper} {Q : Exit → Act → World → Prop} {K : Act → World → Prop} {i : Nat} {o : Oper} {a : Act} {w : World} (hi : ops[i]? = some o) (hw : Region.wanted o (yielded ops a.tmps) = true) (h : o.wp P a w K Q) : wpOp P ops Q i K a w := by
  unfold wpOp
  simp only [hi]
  rw [if_pos hw]
  left
  exact h
end Go.Proofs.YtogiballdmgcpaaDoor

/- Leaves that sign once, the program's own: drawn, along. -/
namespace Go.Proofs.YtogiballdmgcpaaDoor
open Go.RowKit
set_option linter.unusedVariables false
set_option linter.unusedSimpArgs false

theorem conv_u32u64 (n : Nat) (h : n < 4294967296) (w : World) : (convert 39 26 (.int .u32 (n : Int))).run Tryd.prog w = .ok (.int .u64 (n : Int)) w := by
  have : IntKind.u64.wrap (n : Int) = (n : Int) := by rw [IntKind.wrap_u64]; omega
  simp [go_sem, convert, this]
end Go.Proofs.YtogiballdmgcpaaDoor

/- Trees of leaves that sign once, the program's own: what all of it leans on. -/
namespace Go.Proofs.YtogiballdmgcpaaDoor
open Go.RowKit Go.Shelf
set_option linter.unusedVariables false
set_option linter.unusedSimpArgs false

theorem below_setRow {w y : World} {B : Nat} {vs : Array Value} (h : Below w.heap.size w y) (hB : w.heap.size ≤ B) : Below w.heap.size w (y.setRow B vs) := h.trans (((But.refl B y).setRow vs).below hB h.size)
theorem Bx2T.row {W : World} {B : Nat} {a b a' b' : Value} (h : Bx2T W B a b) : Bx2T (W.setRow B #[a', b']) B a' b' := ⟨setRow_heap W B _ _ _ _ h.here⟩
theorem Bx2T.but {W W' : World} {B g : Nat} {a b : Value} (h : Bx2T W B a b) (hb : But g W W') (hne : B ≠ g) : Bx2T W' B a b := ⟨(hb.block _ h.lt hne).trans h.here⟩
theorem Bx2T.ret {W : World} {B : Nat} {a b : Value} (h : Bx2T W B a b) {fn : Func} {p q : Tmp} (hr : fn.results = #[.cell p 41, .tmp q]) (tmps : Array Value) {v : Value} (hp : tmps.getD p undef = .pointer (some ⟨B, 0, none⟩)) (hv : tmps.getD q undef = v) :
    (results fn tmps).run Tryd.prog W = .ok (.tuple #[.agg #[a, b], v]) W := by
  subst hv
  have hp' : tmps[p]?.getD undef = .pointer (some ⟨B, 0, none⟩) := by simpa using hp
  simp [results, hr, hp', asAddr, run_loadVar_row W B 41 41 #[a, b] (0, 0) _ h.here Tryd.underlying41 rfl (by kernel_rfl)]
theorem cells_keptL {A B : World} {row : Option Nat} (hg : A.grownBy B row) (hr : ∀ r, row = some r → ∃ o : Obj, A.heap[r]? = some o ∧ o.isCells = false) {k : Nat} {cs : Array Value} {t : TypeId} {fz : Nat × Nat} (h : A.heap[k]? = some (.cells cs t fz)) : B.heap[k]? = some (.cells cs t fz) := by
  refine (hg.block k (Array.getElem?_eq_some_iff.1 h).1 fun e => ?_).trans h
  obtain ⟨o, ho, hc⟩ := hr k e.symm
  rw [h] at ho
  cases ho
  cases hc
theorem boxed_belowL {w w' : World} {B : Nat} {t : TypeId} {v : Value} (h : Boxed w B t v) (hb : Below w.heap.size w w') : Boxed w' B t v := (hb.block _ h.lt).trans h
theorem boxed_butL {w w' : World} {B g : Nat} {t : TypeId} {v : Value} (h : Boxed w B t v) (hb : But g w w') (hne : B ≠ g) : Boxed w' B t v := (hb.block _ h.lt hne).trans h
theorem kept_setL {lo q j : Nat} {W : World} (u : Value) (hq : q < lo) : Kept lo W (W.setCell ⟨q, j, none⟩ u) :=
  have hb := (But.refl q W).setCell j u
  ⟨hb.size, fun k h1 h2 => hb.block k h2 (by omega)⟩
end Go.Proofs.YtogiballdmgcpaaDoor
