/- Steps of a plan behind '&&': operations with a guard that is met. -/
import Derived.Test.YtnbohjoakngkeaaDoorCEn0
import Derived.Test.YtnbohjoakngkeaaDoorKLaw
namespace Go.Proofs.YtnbohjoakngkeaaDoor
open Go.RowKit
set_option linter.unusedVariables false
set_option linter.unusedSimpArgs false
section
variable {P : Program} {ops : Array Oper} {Q : Exit → Act → World → Prop} {S : World → Prop} {K : Act → World → Prop}
theorem tmp_is {a : Act} {d : Nat} {b : Bool} (h : a.eval (.tmp d) = .bool b) : a.tmps[d]? = some (.bool b) := by
  have h' : a.tmps.getD d undef = .bool b := h
  rw [Array.getD_eq_getD_getElem?] at h'
  cases hq : a.tmps[d]? with
  | none => rw [hq] at h'; simp [undef] at h'
  | some v => rw [hq] at h'; simp at h'; rw [h']
theorem wanted_g {o oj : Oper} {a : Act} {j d : Nat} {b : Bool} (hg : o.guard = some (j, b)) (hj : ops[j]? = some oj) (hd : oj.dst = some d) (hv : a.eval (.tmp d) = .bool b) : Region.wanted o (yielded ops a.tmps) = true := by
  have ht := tmp_is hv
  simp [Region.wanted, hg, yielded, hj, hd, ht]
theorem y_ofW {o : Oper} {v : Value} {a : Act} (hw : Region.wanted o (yielded ops a.tmps) = true) (h : ∀ w, S w → (execOp a.eval o).run P w = .ok (.value v) w) : YieldsIf P ops S o v a := .inl ⟨hw, h⟩
theorem y_moveW {o : Oper} {v : Value} {a : Act} {x : Operand} (hw : Region.wanted o (yielded ops a.tmps) = true) (ho : o.op = .move x) (hx : a.eval x = v) : YieldsIf P ops S o v a :=
  y_ofW hw fun w _ => by unfold execOp; simp only [ho, hx]; rfl
theorem y_assign {o : Oper} {v : Value} {a : Act} {x : Operand} (hw : Region.wanted o (yielded ops a.tmps) = true) (ho : o.op = .assign x) (hx : a.eval x = v) : YieldsIf P ops S o v a :=
  y_ofW hw fun w _ => by unfold execOp; simp only [ho, hx]; rfl
theorem y_pick {o : Oper} {v : Value} {a : Act} {c x y : Operand} (hw : Region.wanted o (yielded ops a.tmps) = true) (ho : o.op = .pick c x y) (hc : a.eval c = .bool true) (hx : a.eval x = v) : YieldsIf P ops S o v a :=
  y_ofW hw fun w _ => by unfold execOp; simp only [ho, hc, hx, asBool, Sem.run_bind]; simp
theorem y_pickF {o : Oper} {v : Value} {a : Act} {c x y : Operand} (hw : Region.wanted o (yielded ops a.tmps) = true) (ho : o.op = .pick c x y) (hc : a.eval c = .bool false) (hy : a.eval y = v) : YieldsIf P ops S o v a :=
  y_ofW hw fun w _ => by unfold execOp; simp only [ho, hc, hy, asBool, Sem.run_bind]; simp
theorem y_load_rowW {o : Oper} {a : Act} {x : Operand} {t : TypeId} {b c : Nat} {cs : List Value} {d : TypeDesc} (hw : Region.wanted o (yielded ops a.tmps) = true) (ho : o.op = .load t x) (hx : a.eval x = .pointer (some ⟨b, c, none⟩))
    (hu : P.underlying t = some d) (hd : d.isRow = true) (hi : (P.info? t).map (·.size) = some cs.length) (hc : ∀ w, S w → w.rangeAt b c cs) : YieldsIf P ops S o (.agg cs.toArray) a := by
  refine y_ofW hw fun w hs => ?_
  unfold execOp
  simp only [ho, hx]
  simp [run_loadAt_mid w b c t cs d (hc w hs) hu hd hi, Sem.run_bind]
theorem y_eqW {o : Oper} {a : Act} {x y : Operand} {t t' : TypeId} {u v : Value} {b : Bool} (hw : Region.wanted o (yielded ops a.tmps) = true) (ho : o.op = .binOp .eql t x y t') (hx : a.eval x = u) (hy : a.eval y = v)
    (hr : ∀ w, (do eqGuard .eql t x y u v; binOp .eql t u v : Sem Value).run P w = .ok (.bool b) w) : YieldsIf P ops S o (.bool b) a := by
  refine y_ofW hw fun w _ => ?_
  have h := hr w
  unfold execOp
  simp only [ho, hx, hy]
  rw [Sem.run_bind, h]
  rfl
theorem y_neW {o : Oper} {a : Act} {x y : Operand} {t t' : TypeId} {u v : Value} {b : Bool} (hw : Region.wanted o (yielded ops a.tmps) = true) (ho : o.op = .binOp .neq t x y t') (hx : a.eval x = u) (hy : a.eval y = v)
    (hr : ∀ w, (do eqGuard .neq t x y u v; binOp .neq t u v : Sem Value).run P w = .ok (.bool b) w) : YieldsIf P ops S o (.bool b) a := by
  refine y_ofW hw fun w _ => ?_
  have h := hr w
  unfold execOp
  simp only [ho, hx, hy]
  rw [Sem.run_bind, h]
  rfl
theorem p_callW {i : Nat} {o : Oper} {a : Act} {w : World} {f : FuncId} {xs : Array Operand} {ts : Array TypeId} {args : Array Value} (hi : ops[i]? = some o) (hw : Region.wanted o (yielded ops a.tmps) = true)
    (ho : o.op = .call { callee := .value (.func f), args := xs, argTypes := ts }) (ha : xs.map a.eval = args) (hf : ∀ (args : Array Value) (w : World), (callFunc f args).run P w = .ok (.enter f args) w)
    (h : Calls P f args w fun e w' => ∃ v, e = .returned v ∧ K (a.put o.dst v) w') : wpOp P ops Q i K a w := by
  have hr : (execOp a.eval o).run P w = .ok (.enter f args) w := by
    unfold execOp
    simp only [ho]
    simp [resolve, ha, go_sem, hf]
  unfold wpOp
  simp only [hi]
  rw [if_pos hw]
  left
  unfold Oper.wp
  rw [hr]
  refine h.mono ?_
  rintro e w' ⟨v, rfl, hk⟩
  exact hk
end
theorem results_is {fn : Func} {p : Tmp} (h : fn.results = #[.tmp p]) {a : Act} {v : Value} (hv : a.eval (.tmp p) = v) (w : World) : (results fn a.tmps).run Tryd.prog w = .ok v w := by
  have h' : a.tmps.getD p undef = v := hv
  rw [Array.getD_eq_getD_getElem?] at h'
  simp [results, h, h']
end Go.Proofs.YtnbohjoakngkeaaDoor

/- What is equal to itself, as an operation says it. -/
namespace Go.Proofs.YtnbohjoakngkeaaDoor
open Go.RowKit
set_option linter.unusedVariables false
set_option linter.unusedSimpArgs false
theorem eqr_int (x y : Operand) (k : IntKind) (c : Int) (t : TypeId) (w : World) : (do eqGuard .eql t x y (.int k c) (.int k c); binOp .eql t (.int k c) (.int k c) : Sem Value).run Tryd.prog w = .ok (.bool true) w := by
  have g : (eqGuard .eql t x y (.int k c) (.int k c)).run Tryd.prog w = .ok () w := by simp [eqGuard]
  rw [Sem.run_bind, g, Result.andThen_ok]
  simp [binOp, Op.intCmp]
theorem eqr_bool (x y : Operand) (b : Bool) (w : World) : (do eqGuard .eql 4 x y (.bool b) (.bool b); binOp .eql 4 (.bool b) (.bool b) : Sem Value).run Tryd.prog w = .ok (.bool true) w := by
  have e := run_equalIn_bool w 9999 4 b b Tryd.underlying4
  rw [beq_self_eq_true] at e
  have g : (eqGuard .eql 4 x y (.bool b) (.bool b)).run Tryd.prog w = .ok () w := by simp [eqGuard]
  rw [Sem.run_bind, g, Result.andThen_ok]
  simp only [binOp, Op.equal, Sem.run_bind]
  show (((Op.equalIn 10000 4 (.bool b) (.bool b)).run Tryd.prog w).andThen _) = _
  rw [e]
  rfl
theorem guardW : Tryd.prog.eqGuardType Tryd.prog.depth 23 = false := by kernel_rfl
theorem guardS : Tryd.prog.eqGuardType Tryd.prog.depth 26 = false := by kernel_rfl
theorem eqr_words (x y : Operand) (l : List Nat) (h : l.length = 25) (w : World) : (do eqGuard .eql 23 x y (.agg (arr .u64 l)) (.agg (arr .u64 l)); binOp .eql 23 (.agg (arr .u64 l)) (.agg (arr .u64 l)) : Sem Value).run Tryd.prog w = .ok (.bool true) w := by
  have e : (Op.equalIn 10000 23 (.agg (arr .u64 l)) (.agg (arr .u64 l))).run Tryd.prog w = .ok true w := eq_words 9998 l h w
  rw [Sem.run_bind, run_eqGuard_agg w .eql 23 x y _ _ guardW, Result.andThen_ok]
  simp only [binOp, Op.equal, Sem.run_bind]
  show (((Op.equalIn 10000 23 (.agg (arr .u64 l)) (.agg (arr .u64 l))).run Tryd.prog w).andThen _) = _
  rw [e]
  rfl
theorem eqr_sponge (x y : Operand) (kind : Int) (ws : List Nat) (p : Int) (o : Bool) (h : ws.length = 25) (w : World) : (do eqGuard .eql 26 x y (.agg (sl kind ws p o).toArray) (.agg (sl kind ws p o).toArray); binOp .eql 26 (.agg (sl kind ws p o).toArray) (.agg (sl kind ws p o).toArray) : Sem Value).run Tryd.prog w = .ok (.bool true) w := by
  have e := eq_sponge kind ws p o h w
  rw [Sem.run_bind, run_eqGuard_agg w .eql 26 x y _ _ guardS, Result.andThen_ok]
  simp only [binOp, Op.equal, Sem.run_bind]
  show (((Op.equalIn 10000 26 (.agg (sl kind ws p o).toArray) (.agg (sl kind ws p o).toArray)).run Tryd.prog w).andThen _) = _
  rw [e]
  rfl
theorem ner_sponge (x y : Operand) (kind : Int) (ws : List Nat) (p : Int) (o : Bool) (h : ws.length = 25) (w : World) : (do eqGuard .neq 26 x y (.agg (sl kind ws p o).toArray) (.agg (sl kind ws p o).toArray); binOp .neq 26 (.agg (sl kind ws p o).toArray) (.agg (sl kind ws p o).toArray) : Sem Value).run Tryd.prog w = .ok (.bool false) w := by
  have e := eq_sponge kind ws p o h w
  rw [Sem.run_bind, run_eqGuard_agg w .neq 26 x y _ _ guardS, Result.andThen_ok]
  simp only [binOp, Op.equal, Sem.run_bind]
  show (((Op.equalIn 10000 26 (.agg (sl kind ws p o).toArray) (.agg (sl kind ws p o).toArray)).run Tryd.prog w).andThen _) = _
  rw [e]
  rfl
end Go.Proofs.YtnbohjoakngkeaaDoor
