/- Steps of a plan that run: a call, a store. -/
import Derived.Test.YtnbohjoakngkeaaDoorPlan
import Derived.Test.YtnbohjoakngkeaaDoorKRnM
import Derived.Test.YtnbohjoakngkeaaDoorHKi2
namespace Go.Proofs.YtnbohjoakngkeaaDoor
open Go.RowKit
set_option linter.unusedVariables false
set_option linter.unusedSimpArgs false
section
variable {P : Program} {ops : Array Oper} {Q : Exit → Act → World → Prop} {K : Act → World → Prop}
theorem p_call {i : Nat} {o : Oper} {a : Act} {w : World} {f : FuncId} {xs : Array Operand} {ts : Array TypeId} {args : Array Value} (hi : ops[i]? = some o) (hg : o.guard = none)
    (ho : o.op = .call { callee := .value (.func f), args := xs, argTypes := ts }) (ha : xs.map a.eval = args) (hf : ∀ (args : Array Value) (w : World), (callFunc f args).run P w = .ok (.enter f args) w)
    (h : Calls P f args w fun e w' => ∃ v, e = .returned v ∧ K (a.put o.dst v) w') : wpOp P ops Q i K a w := by
  have hr : (execOp a.eval o).run P w = .ok (.enter f args) w := by
    unfold execOp
    simp only [ho]
    simp [resolve, ha, go_sem, hf]
  unfold wpOp
  simp only [hi]
  rw [if_pos (wanted_free hg)]
  left
  unfold Oper.wp
  rw [hr]
  refine h.mono ?_
  rintro e w' ⟨v, rfl, hk⟩
  exact hk
theorem p_store {i : Nat} {o : Oper} {a : Act} {w : World} {t : TypeId} {x y : Operand} {p : Addr} {k : IntKind} {z : Int} (hi : ops[i]? = some o) (hg : o.guard = none)
    (ho : o.op = .store t x y) (hd : o.dst = none) (hx : a.eval x = .pointer (some p)) (hy : a.eval y = .int k z) (hu : P.underlying t = some (.int k)) (hs : (P.info? t).map (·.size) = some 1) (hc : (w.cell? p).isSome = true) (hz : w.frozen? p = false)
    (h : K a (w.setCell p (.int k z))) : wpOp P ops Q i K a w := by
  obtain ⟨u, hc'⟩ := Option.isSome_iff_exists.1 hc
  have hr : (execOp a.eval o).run P w = .ok .skip (w.setCell p (.int k z)) := by
    have hag : (isAgg t).run P w = .ok false w := by unfold isAgg; rw [Sem.run_bind, run_underlying hu w]; rfl
    cases hq : P.info? t with
    | none => simp [hq] at hs
    | some m =>
      have hm : m.size = 1 := by simpa [hq] using hs
      unfold execOp
      simp only [ho, hx, hy]
      simp [Instr.storeAt, Instr.sureAddr, Sem.run_bind, hag, hc', hz, sizeOf, typeInfo, hq, hm, go_sem]
  unfold wpOp
  simp only [hi]
  rw [if_pos (wanted_free hg)]
  left
  unfold Oper.wp
  rw [hr]
  show K (a.put o.dst undef) _
  rw [hd]
  exact h
end
end Go.Proofs.YtnbohjoakngkeaaDoor

/- The frame of keccak.round at the slots in use, and the steps of its regions. -/
namespace Go.Proofs.YtnbohjoakngkeaaDoor
open Go.RowKit
set_option linter.unusedVariables false
set_option linter.unusedSimpArgs false

/-- parts of a code -/
def cL : Code → Code
  | .seq a _ => a
  | c => c
def cR : Code → Code
  | .seq _ b => b
  | c => c
def opsOf : Code → Array Oper
  | .region _ ops _ => ops
  | _ => #[]
theorem wp_reg {P : Program} {c : Code} {k : Nat} {ops : Array Oper} {d : Bool} {Q : Exit → Act → World → Prop} {a : Act} {w : World} (h : c = .region k ops d) (hw : (Code.region k ops d).wp P Q a w) : c.wp P Q a w := by
  rw [h]; exact hw
theorem par_is (a : List Nat) (i : Nat) (h : W25 a) : bits .xor .u64 (bits .xor .u64 (bits .xor .u64 (bits .xor .u64 (el a i : Int) (el a (i + 5) : Int)) (el a (i + 10) : Int)) (el a (i + 15) : Int)) (el a (i + 20) : Int) = ((parK a i : Nat) : Int) := by
  rw [xor_k _ _ (h.el _) (h.el _), xor_k _ _ (xor_w (h.el _) (h.el _)) (h.el _), xor_k _ _ (xor_w (xor_w (h.el _) (h.el _)) (h.el _)) (h.el _), xor_k _ _ (xor_w (xor_w (xor_w (h.el _) (h.el _)) (h.el _)) (h.el _)) (h.el _)]
  rfl
theorem parK_lt (a : List Nat) (i : Nat) (h : W25 a) : parK a i < 18446744073709551616 := xor_w (xor_w (xor_w (xor_w (h.el _) (h.el _)) (h.el _)) (h.el _)) (h.el _)
theorem besK_lt {p q : Nat} (hp : p < 18446744073709551616) (hq : q < 18446744073709551616) : besK p q < 18446744073709551616 := xor_w hp (rotl_lt hq 1)
/-- the words, and what is made of them, in memory: of these that 25 cells are there -/
def RK (q : Nat) (a : List Nat) (w : World) : Prop := Lies .u64 23 w q a ∧ ∃ cs : Array Value, cs.size = 25 ∧ w.heap[q + 1]? = some (.cells cs 23 (0, 0))
theorem RK.set {q : Nat} {a : List Nat} {w : World} (h : RK q a w) (i : Nat) (v : Value) : RK q a (w.setCell ⟨q + 1, i, none⟩ v) := by
  obtain ⟨h1, cs, h2, h3⟩ := h
  refine ⟨h1.but ((But.refl (q + 1) w).setCell i v) (by omega), cs.setIfInBounds i v, by simp [h2], ?_⟩
  rw [setCell_eq_setRow w (q + 1) i _ 23 (0, 0) _ h3]
  exact setRow_heap w (q + 1) _ _ 23 _ h3
theorem RK.there {q : Nat} {a : List Nat} {w : World} (h : RK q a w) {i : Nat} (hi : i < 25) : (w.cell? ⟨q + 1, i, none⟩).isSome = true := by
  obtain ⟨_, cs, h2, h3⟩ := h
  rw [cell_of_row w (q + 1) i _ _ (0, 0) h3, Array.getElem?_eq_getElem (by omega)]; rfl
theorem RK.frozen {q : Nat} {a : List Nat} {w : World} (h : RK q a w) (i : Nat) : w.frozen? ⟨q + 1, i, none⟩ = false := by
  obtain ⟨_, cs, h2, h3⟩ := h
  simp [World.frozen?, h3]
theorem RK.of {q : Nat} {a L : List Nat} {w : World} (h1 : Lies .u64 23 w q a) (h2 : Lies .u64 23 w (q + 1) L) (hl : L.length = 25) : RK q a w := ⟨h1, _, by rw [arr_size]; exact hl, h2⟩
/-- the frame -/
structure Fr (q d0 d1 d2 d3 d4 : Nat) (a : Act) : Prop where
  size : a.tmps.size = 270
  dfr : a.defers = []
  t1 : a.eval (.tmp 1) = .pointer (some ⟨q, 0, none⟩)
  t2 : a.eval (.tmp 2) = .pointer (some ⟨q + 1, 0, none⟩)
  t3 : a.eval (.tmp 3) = .int .u64 (d0 : Nat)
  t4 : a.eval (.tmp 4) = .int .u64 (d1 : Nat)
  t5 : a.eval (.tmp 5) = .int .u64 (d2 : Nat)
  t6 : a.eval (.tmp 6) = .int .u64 (d3 : Nat)
  t7 : a.eval (.tmp 7) = .int .u64 (d4 : Nat)
theorem Fr.put {q d0 d1 d2 d3 d4 : Nat} {a : Act} (h : Fr q d0 d1 d2 d3 d4 a) {k : Nat} (hk : 8 ≤ k) (v : Value) : Fr q d0 d1 d2 d3 d4 (a.put (some k) v) :=
  ⟨put_size.trans h.size, h.dfr, (put_else (by omega)).trans h.t1, (put_else (by omega)).trans h.t2, (put_else (by omega)).trans h.t3, (put_else (by omega)).trans h.t4, (put_else (by omega)).trans h.t5, (put_else (by omega)).trans h.t6, (put_else (by omega)).trans h.t7⟩
section
variable {ops : Array Oper} {Q : Exit → Act → World → Prop} {S : World → Prop}
theorem st_take {q d0 d1 d2 d3 d4 : Nat} {i k : Nat} {r : List (Nat × Bool)} {a : Act} {w : World} {o : Oper} {v : Value} (F : Fr q d0 d1 d2 d3 d4 a) (hi : ops[i]? = some o) (hd : o.dst = some k) (h8 : 8 ≤ k) (hk : k < 270) (hy : YieldsIf Tryd.prog ops S o v a)
    (h : ∀ a' : Act, Fr q d0 d1 d2 d3 d4 a' → a'.eval (.tmp k) = v → (∀ j, k ≠ j → a'.eval (.tmp j) = a.eval (.tmp j)) → wpPlan Tryd.prog ops Q S r a' w) : wpPlan Tryd.prog ops Q S ((i, true) :: r) a w := by
  refine ⟨o, v, hi, hy, ?_⟩
  rw [hd]
  exact h _ (F.put h8 v) (put_same (by rw [F.size]; exact hk)) (fun j hj => put_else hj)
theorem st_call {q d0 d1 d2 d3 d4 : Nat} {i k : Nat} {r : List (Nat × Bool)} {a : Act} {w : World} {o : Oper} {v : Value} {f : FuncId} {xs : Array Operand} {ts : Array TypeId} {args : Array Value} (F : Fr q d0 d1 d2 d3 d4 a) (hi : ops[i]? = some o) (hd : o.dst = some k) (h8 : 8 ≤ k) (hk : k < 270) (hg : o.guard = none)
    (ho : o.op = .call { callee := .value (.func f), args := xs, argTypes := ts }) (hf : ∀ (args : Array Value) (w : World), (callFunc f args).run Tryd.prog w = .ok (.enter f args) w) (ha : xs.map a.eval = args) (hc : Calls Tryd.prog f args w fun e w' => e = .returned v ∧ w' = w) (hS : S w)
    (h : ∀ a' : Act, Fr q d0 d1 d2 d3 d4 a' → a'.eval (.tmp k) = v → (∀ j, k ≠ j → a'.eval (.tmp j) = a.eval (.tmp j)) → wpPlan Tryd.prog ops Q S r a' w) : wpPlan Tryd.prog ops Q S ((i, false) :: r) a w := by
  refine p_call hi hg ho ha hf (hc.mono ?_)
  rintro e w' ⟨rfl, rfl⟩
  refine ⟨v, rfl, hS, ?_⟩
  rw [hd]
  exact h _ (F.put h8 v) (put_same (by rw [F.size]; exact hk)) (fun j hj => put_else hj)
theorem st_store {i c : Nat} {r : List (Nat × Bool)} {a : Act} {w : World} {o : Oper} {x y : Operand} {q m : Nat} {l : List Nat} (hi : ops[i]? = some o) (hg : o.guard = none) (ho : o.op = .store 22 x y) (hd : o.dst = none) (hx : a.eval x = .pointer (some ⟨q + 1, c, none⟩)) (hy : a.eval y = .int .u64 (m : Nat)) (hc : c < 25) (hS : RK q l w)
    (h : wpPlan Tryd.prog ops Q (RK q l) r a (w.setCell ⟨q + 1, c, none⟩ (.int .u64 (m : Nat)))) : wpPlan Tryd.prog ops Q (RK q l) ((i, false) :: r) a w :=
  p_store hi hg ho hd hx hy Tryd.underlying22 (by kernel_rfl) (hS.there hc) (hS.frozen c) ⟨hS.set c _, h⟩
theorem y_ix {q d0 d1 d2 d3 d4 : Nat} {o : Oper} {a : Act} {x : Operand} {b i : Nat} (hg : o.guard = none) (ho : o.op = .indexAddr 23 x (.const (.int .i64 (i : Int)))) (hx : a.eval x = .pointer (some ⟨b, 0, none⟩)) (hi : i < 25) : YieldsIf Tryd.prog ops S o (.pointer (some ⟨b, i, none⟩)) a :=
  y_index hg ho hx Tryd.underlying23 (by kernel_rfl) hi
theorem y_ld {o : Oper} {a : Act} {x : Operand} {q i : Nat} {l : List Nat} (hl : l.length = 25) (hg : o.guard = none) (ho : o.op = .load 22 x) (hx : a.eval x = .pointer (some ⟨q, i, none⟩)) (hi : i < 25) : YieldsIf Tryd.prog ops (RK q l) o (.int .u64 (el l i : Nat)) a :=
  y_load hg ho hx Tryd.underlying22 (fun w hw => hw.1.cell (by rw [hl]; exact hi))
theorem y_xor {o : Oper} {a : Act} {x y : Operand} {p q : Nat} (hg : o.guard = none) (ho : o.op = .binOp .xor 22 x y 22) (hx : a.eval x = .int .u64 (p : Nat)) (hy : a.eval y = .int .u64 (q : Nat)) (hp : p < 18446744073709551616) (hq : q < 18446744073709551616) : YieldsIf Tryd.prog ops S o (.int .u64 ((p ^^^ q : Nat) : Int)) a := by
  refine y_of hg fun w _ => ?_
  have hv := xor_k p q hp hq
  unfold execOp
  simp only [ho, hx, hy]
  simp [hv, go_sem]
end
end Go.Proofs.YtnbohjoakngkeaaDoor
