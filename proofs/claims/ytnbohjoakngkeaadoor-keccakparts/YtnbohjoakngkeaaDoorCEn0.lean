/- Steps for keccak.ended: fields, a slice of one byte, an alloc, a whole store. -/
import Derived.Test.YtnbohjoakngkeaaDoorPlan3
import Derived.Test.YtnbohjoakngkeaaDoorCAb
namespace Go.Proofs.YtnbohjoakngkeaaDoor
open Go.RowKit
set_option linter.unusedVariables false
set_option linter.unusedSimpArgs false

theorem Sg.but {w w' : World} {q g : Nat} {kind : Int} {ws : List Nat} {p : Int} {o : Bool} (h : Sg w q kind ws p o) (hb : But g w w') (hn : q ≠ g) : Sg w' q kind ws p o := by
  have hk := hb.block q h.lt hn
  refine ⟨fun j v hv => ?_, fun j hj => ?_, h.len⟩
  · rw [World.cell?_of_block (a := ⟨q, 0 + j, none⟩) hk]; exact h.all j v hv
  · rw [World.cell?_of_block (a := ⟨q, 0 + j, none⟩) hk, World.frozen?_of_block (a := ⟨q, 0 + j, none⟩) hk]; exact h.th j hj
section
variable {ops : Array Oper} {Q : Exit → Act → World → Prop} {S : World → Prop} {K : Act → World → Prop}
theorem y_field {o : Oper} {a : Act} {x : Operand} {q f off : Nat} (hg : o.guard = none) (ho : o.op = .fieldAddr 26 x f) (hx : a.eval x = .pointer (some ⟨q, 0, none⟩))
    (hf : ∀ w : World, (Instr.fieldAt 26 (.pointer (some ⟨q, 0, none⟩)) f).run Tryd.prog w = .ok (.pointer (some ⟨q, off, none⟩)) w) : YieldsIf Tryd.prog ops S o (.pointer (some ⟨q, off, none⟩)) a := by
  refine y_of hg fun w _ => ?_
  unfold execOp
  simp only [ho, hx]
  simp [hf w, Sem.run_bind]
theorem field0 (q : Nat) (w : World) : (Instr.fieldAt 26 (.pointer (some ⟨q, 0, none⟩)) 0).run Tryd.prog w = .ok (.pointer (some ⟨q, 0, none⟩)) w := by simp [go_sem]
theorem field1 (q : Nat) (w : World) : (Instr.fieldAt 26 (.pointer (some ⟨q, 0, none⟩)) 1).run Tryd.prog w = .ok (.pointer (some ⟨q, 1, none⟩)) w := by simp [go_sem]
theorem field2 (q : Nat) (w : World) : (Instr.fieldAt 26 (.pointer (some ⟨q, 0, none⟩)) 2).run Tryd.prog w = .ok (.pointer (some ⟨q, 26, none⟩)) w := by simp [go_sem]
/-- an operation that yields a value and a new world -/
theorem p_op {i : Nat} {o : Oper} {a : Act} {w w' : World} {v : Value} (hi : ops[i]? = some o) (hg : o.guard = none) (hr : (execOp a.eval o).run Tryd.prog w = .ok (.value v) w') (h : K (a.put o.dst v) w') : wpOp Tryd.prog ops Q i K a w := by
  unfold wpOp
  simp only [hi]
  rw [if_pos (wanted_free hg)]
  left
  unfold Oper.wp
  rw [hr]
  exact h
theorem p_one {i : Nat} {o : Oper} {a : Act} {w : World} {x : Operand} {c : Nat} (hi : ops[i]? = some o) (hg : o.guard = none) (ho : o.op = .buildSlice 24 1 #[(0, x)]) (hx : a.eval x = .int .u8 (c : Nat))
    (h : K (a.put o.dst (.slice (some ⟨w.heap.size, 0, none⟩) 1 1)) (w.alloc (.cells #[.int .u8 (c : Nat)] 5))) : wpOp Tryd.prog ops Q i K a w := by
  refine p_op hi hg ?_ h
  unfold execOp
  simp only [ho, List.map_toArray, List.map_cons, List.map_nil, hx]
  simp [go_sem]
theorem p_alloc {i : Nat} {o : Oper} {a : Act} {w : World} (hi : ops[i]? = some o) (hg : o.guard = none) (ho : o.op = .alloc 23)
    (h : K (a.put o.dst (.pointer (some ⟨w.heap.size, 0, none⟩))) (w.alloc (.cells (arr .u64 (zs 25)) 23))) : wpOp Tryd.prog ops Q i K a w := by
  have hz := zero25
  refine p_op hi hg ?_ h
  unfold execOp
  simp only [ho]
  simp [go_sem, hz]
theorem p_row {i : Nat} {o : Oper} {a : Act} {w : World} {t : TypeId} {x y : Operand} {g : Nat} {cells old : Array Value} {t' : TypeId} (hi : ops[i]? = some o) (hg : o.guard = none) (ho : o.op = .store t x y) (hd : o.dst = none) (hx : a.eval x = .pointer (some ⟨g, 0, none⟩)) (hy : a.eval y = .agg cells)
    (hb : w.heap[g]? = some (.cells old t' (0, 0))) (hs : (Tryd.prog.info? t).map (·.size) = some cells.size) (hold : old.size = cells.size) (h1 : cells.all (·.oneCell') = true)
    (h : K a (w.setRow g cells)) : wpOp Tryd.prog ops Q i K a w := by
  unfold wpOp
  simp only [hi]
  rw [if_pos (wanted_free hg)]
  left
  refine wp_store_row t x y ho g cells hx hy t' old hb hs hold h1 ?_
  rw [hd]
  exact h
end
theorem built_sponge (kind : Int) (M : List Nat) (h : M.length = 25) : Tryd.prog.built 26 [(0, .int .i64 kind), (1, .agg (arr .u64 M)), (3, .bool true)] = some (sl kind M 0 true).toArray := by
  obtain ⟨a0, a1, a2, a3, a4, a5, a6, a7, a8, a9, a10, a11, a12, a13, a14, a15, a16, a17, a18, a19, a20, a21, a22, a23, a24, rfl⟩ := list25 M h
  kernel_rfl
theorem y_sponge {ops : Array Oper} {S : World → Prop} {o : Oper} {a : Act} {x y : Operand} {kind : Int} {M : List Nat} (hg : o.guard = none) (ho : o.op = .build 26 #[(0, x), (1, y), (3, .const (.bool true))]) (hx : a.eval x = .int .i64 kind) (hy : a.eval y = .agg (arr .u64 M)) (hM : M.length = 25) :
    YieldsIf Tryd.prog ops S o (.agg (sl kind M 0 true).toArray) a := by
  refine y_of hg fun w _ => ?_
  have hb := run_build (P := Tryd.prog) w 26 #[(0, .int .i64 kind), (1, .agg (arr .u64 M)), (3, .bool true)] _ (built_sponge kind M hM)
  unfold execOp
  simp only [ho, List.map_toArray, List.map_cons, List.map_nil, hx, hy, ev_const]
  simp [Sem.run_bind, hb]
end Go.Proofs.YtnbohjoakngkeaaDoor
