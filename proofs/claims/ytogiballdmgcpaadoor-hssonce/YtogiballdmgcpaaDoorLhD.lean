/- Trees of trees: what the program and the document answer, side by side: Vector. -/
import Derived.Test.YtogiballdmgcpaaDoorLhE
import Derived.Test.YtogiballdmgcpaaDoorLhA
import Derived.BigFrame
namespace Go.Proofs.YtogiballdmgcpaaDoor
open Go.RowKit
set_option linter.unusedVariables false
set_option linter.unusedSimpArgs false

/-- a struct read behind a guard that is met -/
theorem wpList_load_rowK {ops : Array Oper} {rest : List Oper} {o : Oper} {a : Act} {w : World} {Q : Exit → Act → World → Prop} (hw : Region.wanted o (yielded ops a.tmps) = true) (ty : TypeId) (x : Operand) (ho : o.op = .load ty x)
    (g : Nat) (hx : a.eval x = .pointer (some ⟨g, 0, none⟩)) (t : TypeId) (cs : Array Value) (fr : Nat × Nat) (fs : Array Field) (hg : w.heap[g]? = some (.cells cs t fr))
    (hu : Tryd.prog.underlying ty = some (.struct fs)) (hi : (Tryd.prog.info? ty).map (·.size) = some cs.size)
    (h : wpList Tryd.prog ops Q rest (a.put o.dst (.agg cs)) w) : wpList Tryd.prog ops Q (o :: rest) a w :=
  BigFrame.wpList_want hw fun _ hK => wp_load_row ty x ho g hx t cs fr (.struct fs) hg hu rfl hi (hK _ _ h)
theorem y_remUH {ops : Array Oper} {S : World → Prop} {o : Oper} {a : Act} {x y : Operand} {t t' : TypeId} {i j q : Int} (hw : Region.wanted o (yielded ops a.tmps) = true) (ho : o.op = .binOp .rem t x y t') (hx : a.eval x = .int .u64 i) (hy : a.eval y = .int .u64 j) (hu : Tryd.prog.underlying t = some (.int .u64)) (hj : ¬ j = 0) (hb : i % j = q ∧ i.tmod j = q ∧ IntKind.u64.wrap q = q) : YieldsIf Tryd.prog ops S o (.int .u64 q) a := by
  refine y_ofG hw fun w _ => ?_
  obtain ⟨h1, h2, h3⟩ := hb
  unfold execOp
  simp only [ho, hx, hy]
  simp [go_sem, hu, hj, h1, h2, h3]
theorem y_eqUH {ops : Array Oper} {S : World → Prop} {o : Oper} {a : Act} {x y : Operand} {t t' : TypeId} {i j : Int} {b : Bool} (hw : Region.wanted o (yielded ops a.tmps) = true) (ho : o.op = .binOp .eql t x y t') (hx : a.eval x = .int .u64 i) (hy : a.eval y = .int .u64 j) (hu : Tryd.prog.underlying t = some (.int .u64)) (hb : (i == j) = b) : YieldsIf Tryd.prog ops S o (.bool b) a := by
  refine y_ofG hw fun w _ => ?_
  unfold execOp
  simp only [ho, hx, hy]
  simp [go_sem, hu, hb]
theorem y_neBH {ops : Array Oper} {S : World → Prop} {o : Oper} {a : Act} {x y : Operand} {t t' : TypeId} {i j b : Bool} (hw : Region.wanted o (yielded ops a.tmps) = true) (ho : o.op = .binOp .neq t x y t') (hx : a.eval x = .bool i) (hy : a.eval y = .bool j) (hu : Tryd.prog.underlying t = some .bool) (hb : (!(i == j)) = b) : YieldsIf Tryd.prog ops S o (.bool b) a := by
  refine y_ofG hw fun w _ => ?_
  subst hb
  unfold execOp
  simp only [ho, hx, hy]
  simp [go_sem, Sem.run_bind, eqGuard, run_neq_bool w t i j hu]
def ho6lt : List Lt := [(0, some 41, [3]), (0, some 42, [1]), (0, some 43, [7]), (6, some 44, [42, 43]), (9, some 45, [41, 44]), (16, some 40, [45]), (32, some 46, [40]), (32, some 47, [40]), (127, some 8, [46]), (511, some 9, [47])]
theorem ho6reg : Reg (opsA (cLA (cRA (cRA (cRA (cRA (Tryd.f4.body.getD .skip))))))) ho6lt := ⟨by kernel_rfl, by kernel_rfl⟩
def ho7lt : List Lt := [(0, some 49, [3]), (0, some 50, [2]), (0, some 51, [7]), (6, some 52, [50, 51]), (9, some 53, [49, 52]), (16, some 48, [53]), (32, some 54, [48]), (32, some 55, [48]), (127, some 10, [54]), (511, some 11, [55])]
theorem ho7reg : Reg (opsA (cLA (cRA (cRA (cRA (cRA (cRA (Tryd.f4.body.getD .skip)))))))) ho7lt := ⟨by kernel_rfl, by kernel_rfl⟩
def ho9lt : List Lt := [(0, some 62, [9]), (1, some 63, [62]), (2, some 64, [63]), (4, some 65, [11, 64]), (12, some 66, [65, 64]), (20, some 67, [64, 66]), (36, some 68, [67]), (64, some 69, [13, 68]), (192, some 70, [69, 68]), (320, some 71, [68, 70]), (576, some 72, [71]), (1024, some 73, [8, 72]), (1024, some 74, [10, 72]), (7168, some 75, [73, 74, 72]), (1024, some 76, [1, 72]), (1024, some 77, [7, 72]), (50176, some 78, [76, 77, 72]), (1024, some 79, [2, 72]), (1024, some 80, [7, 72]), (394240, some 81, [79, 80, 72]), (590848, some 82, [78, 81, 72]), (1057792, some 83, [75, 82, 72]), (2098176, some 84, [72, 83])]
theorem ho9reg : Reg (opsA (cLA (cLA (cRA (cRA (cRA (cRA (cRA (cRA (cRA (Tryd.f4.body.getD .skip))))))))))) ho9lt := ⟨by kernel_rfl, by kernel_rfl⟩
/-- where HssOnce's loop stands -/
def HoL (ts : List (Int × Int)) (P : Nat) (W : World) (vb vi : Value) (wr : World) : Prop := ∃ i : Nat, i ≤ ts.length ∧ vi = .int .i64 (i : Int) ∧ vb = .int .u64 ((P / lvN (ts.drop i) : Nat) : Int) ∧ wr = W

end Go.Proofs.YtogiballdmgcpaaDoor
