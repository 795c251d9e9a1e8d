/- Steps of a plan behind '&&': operations with a guard that is met. -/
import Derived.Test.YtnbohjoakngkeaaDoorCEn0
import Derived.Test.YtnbohjoakngkeaaDoorKLaw
import Derived.Test.YtnbohjoakngkeaaDoorNum
import Derived.Test.YtnbohjoakngkeaaDoorBase
import Derived.Laws.AppendOwnNone
namespace Go.Proofs.YtnbohjoakngkeaaDoor
open Go.RowKit
set_option linter.unusedVariables false
set_option linter.unusedSimpArgs false
section
variable {P : Program} {ops : Array Oper} {Q : Exit → Act → World → Prop} {S : World → Prop} {K : Act → World → Prop}
theorem tmp_is {a : Act} {d : Nat} {b : Bool} (h : a.eval (.tmp d) = .bool b) : a.tmps[d]? = some (.bool b) := by
  have h' : a.tmps.getD d undef = .bool b := h
  rw [Array.getD_eq_getD_getElem?] at h'
  cases hq : a.tmps[d]? with
  | none => rw [hq] at h'; simp [undef] at h'
  | some v => rw [hq] at h'; simp at h'; rw [h']
theorem wanted_g {o oj : Oper} {a : Act} {j d : Nat} {b : Bool} (hg : o.guard = some (j, b)) (hj : ops[j]? = some oj) (hd : oj.dst = some d) (hv : a.eval (.tmp d) = .bool b) : Region.wanted o (yielded ops a.tmps) = true := by
  have ht := tmp_is hv
  simp [Region.wanted, hg, yielded, hj, hd, ht]
theorem y_ofW {o : Oper} {v : Value} {a : Act} (hw : Region.wanted o (yielded ops a.tmps) = true) (h : ∀ w, S w → (execOp a.eval o).run P w = .ok (.value v) w) : YieldsIf P ops S o v a := .inl ⟨hw, h⟩
theorem y_moveW {o : Oper} {v : Value} {a : Act} {x : Operand} (hw : Region.wanted o (yielded ops a.tmps) = true) (ho : o.op = .move x) (hx : a.eval x = v) : YieldsIf P ops S o v a :=
  y_ofW hw fun w _ => by unfold execOp; simp only [ho, hx]; rfl
theorem y_assign {o : Oper} {v : Value} {a : Act} {x : Operand} (hw : Region.wanted o (yielded ops a.tmps) = true) (ho : o.op = .assign x) (hx : a.eval x = v) : YieldsIf P ops S o v a :=
  y_ofW hw fun w _ => by unfold execOp; simp only [ho, hx]; rfl
theorem y_pick {o : Oper} {v : Value} {a : Act} {c x y : Operand} (hw : Region.wanted o (yielded ops a.tmps) = true) (ho : o.op = .pick c x y) (hc : a.eval c = .bool true) (hx : a.eval x = v) : YieldsIf P ops S o v a :=
  y_ofW hw fun w _ => by unfold execOp; simp only [ho, hc, hx, asBool, Sem.run_bind]; simp
theorem y_pickF {o : Oper} {v : Value} {a : Act} {c x y : Operand} (hw : Region.wanted o (yielded ops a.tmps) = true) (ho : o.op = .pick c x y) (hc : a.eval c = .bool false) (hy : a.eval y = v) : YieldsIf P ops S o v a :=
  y_ofW hw fun w _ => by unfold execOp; simp only [ho, hc, hy, asBool, Sem.run_bind]; simp
theorem y_load_rowW {o : Oper} {a : Act} {x : Operand} {t : TypeId} {b c : Nat} {cs : List Value} {d : TypeDesc} (hw : Region.wanted o (yielded ops a.tmps) = true) (ho : o.op = .load t x) (hx : a.eval x = .pointer (some ⟨b, c, none⟩))
    (hu : P.underlying t = some d) (hd : d.isRow = true) (hi : (P.info? t).map (·.size) = some cs.length) (hc : ∀ w, S w → w.rangeAt b c cs) : YieldsIf P ops S o (.agg cs.toArray) a := by
  refine y_ofW hw fun w hs => ?_
  unfold execOp
  simp only [ho, hx]
  simp [run_loadAt_mid w b c t cs d (hc w hs) hu hd hi, Sem.run_bind]
theorem y_eqW {o : Oper} {a : Act} {x y : Operand} {t t' : TypeId} {u v : Value} {b : Bool} (hw : Region.wanted o (yielded ops a.tmps) = true) (ho : o.op = .binOp .eql t x y t') (hx : a.eval x = u) (hy : a.eval y = v)
    (hr : ∀ w, (do eqGuard .eql t x y u v; binOp .eql t u v : Sem Value).run P w = .ok (.bool b) w) : YieldsIf P ops S o (.bool b) a := by
  refine y_ofW hw fun w _ => ?_
  have h := hr w
  unfold execOp
  simp only [ho, hx, hy]
  rw [Sem.run_bind, h]
  rfl
theorem y_neW {o : Oper} {a : Act} {x y : Operand} {t t' : TypeId} {u v : Value} {b : Bool} (hw : Region.wanted o (yielded ops a.tmps) = true) (ho : o.op = .binOp .neq t x y t') (hx : a.eval x = u) (hy : a.eval y = v)
    (hr : ∀ w, (do eqGuard .neq t x y u v; binOp .neq t u v : Sem Value).run P w = .ok (.bool b) w) : YieldsIf P ops S o (.bool b) a := by
  refine y_ofW hw fun w _ => ?_
  have h := hr w
  unfold execOp
  simp only [ho, hx, hy]
  rw [Sem.run_bind, h]
  rfl
theorem p_callW {i : Nat} {o : Oper} {a : Act} {w : World} {f : FuncId} {xs : Array Operand} {ts : Array TypeId} {args : Array Value} (hi : ops[i]? = some o) (hw : Region.wanted o (yielded ops a.tmps) = true)
    (ho : o.op = .call { callee := .value (.func f), args := xs, argTypes := ts }) (ha : xs.map a.eval = args) (hf : ∀ (args : Array Value) (w : World), (callFunc f args).run P w = .ok (.enter f args) w)
    (h : Calls P f args w fun e w' => ∃ v, e = .returned v ∧ K (a.put o.dst v) w') : wpOp P ops Q i K a w := by
  have hr : (execOp a.eval o).run P w = .ok (.enter f args) w := by
    unfold execOp
    simp only [ho]
    simp [resolve, ha, go_sem, hf]
  unfold wpOp
  simp only [hi]
  rw [if_pos hw]
  left
  unfold Oper.wp
  rw [hr]
  refine h.mono ?_
  rintro e w' ⟨v, rfl, hk⟩
  exact hk
end
theorem results_is {fn : Func} {p : Tmp} (h : fn.results = #[.tmp p]) {a : Act} {v : Value} (hv : a.eval (.tmp p) = v) (w : World) : (results fn a.tmps).run Tryd.prog w = .ok v w := by
  have h' : a.tmps.getD p undef = v := hv
  rw [Array.getD_eq_getD_getElem?] at h'
  simp [results, h, h']
end Go.Proofs.YtnbohjoakngkeaaDoor

/- What is equal to itself, as an operation says it. -/
namespace Go.Proofs.YtnbohjoakngkeaaDoor
open Go.RowKit
set_option linter.unusedVariables false
set_option linter.unusedSimpArgs false
theorem eqr_int (x y : Operand) (k : IntKind) (c : Int) (t : TypeId) (w : World) : (do eqGuard .eql t x y (.int k c) (.int k c); binOp .eql t (.int k c) (.int k c) : Sem Value).run Tryd.prog w = .ok (.bool true) w := by
  have g : (eqGuard .eql t x y (.int k c) (.int k c)).run Tryd.prog w = .ok () w := by simp [eqGuard]
  rw [Sem.run_bind, g, Result.andThen_ok]
  simp [binOp, Op.intCmp]
theorem eqr_bool (x y : Operand) (b : Bool) (w : World) : (do eqGuard .eql 4 x y (.bool b) (.bool b); binOp .eql 4 (.bool b) (.bool b) : Sem Value).run Tryd.prog w = .ok (.bool true) w := by
  have e := run_equalIn_bool w 9999 4 b b Tryd.underlying4
  rw [beq_self_eq_true] at e
  have g : (eqGuard .eql 4 x y (.bool b) (.bool b)).run Tryd.prog w = .ok () w := by simp [eqGuard]
  rw [Sem.run_bind, g, Result.andThen_ok]
  simp only [binOp, Op.equal, Sem.run_bind]
  show (((Op.equalIn 10000 4 (.bool b) (.bool b)).run Tryd.prog w).andThen _) = _
  rw [e]
  rfl
theorem guardW : Tryd.prog.eqGuardType Tryd.prog.depth 23 = false := by kernel_rfl
theorem guardS : Tryd.prog.eqGuardType Tryd.prog.depth 26 = false := by kernel_rfl
theorem eqr_words (x y : Operand) (l : List Nat) (h : l.length = 25) (w : World) : (do eqGuard .eql 23 x y (.agg (arr .u64 l)) (.agg (arr .u64 l)); binOp .eql 23 (.agg (arr .u64 l)) (.agg (arr .u64 l)) : Sem Value).run Tryd.prog w = .ok (.bool true) w := by
  have e : (Op.equalIn 10000 23 (.agg (arr .u64 l)) (.agg (arr .u64 l))).run Tryd.prog w = .ok true w := eq_words 9998 l h w
  rw [Sem.run_bind, run_eqGuard_agg w .eql 23 x y _ _ guardW, Result.andThen_ok]
  simp only [binOp, Op.equal, Sem.run_bind]
  show (((Op.equalIn 10000 23 (.agg (arr .u64 l)) (.agg (arr .u64 l))).run Tryd.prog w).andThen _) = _
  rw [e]
  rfl
theorem eqr_sponge (x y : Operand) (kind : Int) (ws : List Nat) (p : Int) (o : Bool) (h : ws.length = 25) (w : World) : (do eqGuard .eql 26 x y (.agg (sl kind ws p o).toArray) (.agg (sl kind ws p o).toArray); binOp .eql 26 (.agg (sl kind ws p o).toArray) (.agg (sl kind ws p o).toArray) : Sem Value).run Tryd.prog w = .ok (.bool true) w := by
  have e := eq_sponge kind ws p o h w
  rw [Sem.run_bind, run_eqGuard_agg w .eql 26 x y _ _ guardS, Result.andThen_ok]
  simp only [binOp, Op.equal, Sem.run_bind]
  show (((Op.equalIn 10000 26 (.agg (sl kind ws p o).toArray) (.agg (sl kind ws p o).toArray)).run Tryd.prog w).andThen _) = _
  rw [e]
  rfl
theorem ner_sponge (x y : Operand) (kind : Int) (ws : List Nat) (p : Int) (o : Bool) (h : ws.length = 25) (w : World) : (do eqGuard .neq 26 x y (.agg (sl kind ws p o).toArray) (.agg (sl kind ws p o).toArray); binOp .neq 26 (.agg (sl kind ws p o).toArray) (.agg (sl kind ws p o).toArray) : Sem Value).run Tryd.prog w = .ok (.bool false) w := by
  have e := eq_sponge kind ws p o h w
  rw [Sem.run_bind, run_eqGuard_agg w .neq 26 x y _ _ guardS, Result.andThen_ok]
  simp only [binOp, Op.equal, Sem.run_bind]
  show (((Op.equalIn 10000 26 (.agg (sl kind ws p o).toArray) (.agg (sl kind ws p o).toArray)).run Tryd.prog w).andThen _) = _
  rw [e]
  rfl
end Go.Proofs.YtnbohjoakngkeaaDoor

/- Contract of apostilleref01.Join. -/
namespace Go.Proofs.YtnbohjoakngkeaaDoor
open Go.RowKit
set_option linter.unusedVariables false

set_option maxHeartbeats 2000000 in
theorem rjoin_any (va : Value) (ls : List (List Nat)) (w : World) (ha : Rows2 w va ls) (hs : ls.flatten.length ≤ 2000000) :
    Calls Tryd.prog 21 #[va] w fun e w' => ∃ v, e = .returned v ∧ Own 5 .u8 256 w' w.heap.size v ls.flatten ∧ Below w.heap.size w w' := by
  have hu := ha.under
  have ha' := ha
  obtain ⟨a, ca, rfl, ha1, ha2, ha3⟩ := ha
  unfold maxLen at ha2
  obtain ⟨i0, hi, hz0, hz1, hz2⟩ := info_parts Tryd.info5
  go_enter Tryd.func21, Tryd.ntmps21
  go_wp2
  go_loopw [3, 4] (fun v i wr => ∃ k : Nat, k ≤ ls.length ∧ i = .int .i64 k ∧ wr.ownsRow w.heap.size 5 1 v (ls.take k).flatten.length (vals .u8 (ls.take k).flatten) ∧ Below w.heap.size w wr) (fun _ i _ => ls.length - (intOf i).toNat)
  case atStart => exact ⟨0, Nat.zero_le _, rfl, World.ownsRow_nil _ _ _ _, Below.refl _ _⟩
  case round =>
    obtain ⟨k, hk, rfl, how, hbr⟩ := hrel
    by_cases hlt : k < ls.length
    · have hf := flat_succ hlt
      have hle := flat_le ls (k + 1)
      rw [hf, List.length_append] at hle
      obtain ⟨a2, ca2, he, _, _, h3⟩ := ha'.below hbr
      obtain ⟨rfl, rfl⟩ : a = a2 ∧ ca = ca2 := by simpa using he
      obtain ⟨b, off, rfl, hc⟩ := h3 (by omega)
      obtain ⟨u, c1, ⟨au, cu, rfl, hu1, hu2, hu3, hu4⟩, htidy⟩ := hc k hlt
      clear hc h3 he ha3
      have hsz := hbr.size
      have HF := hide hf
      clear hf
      generalize hM : (ls.take k).flatten = M at *
      have HM := hide hM
      clear hM
      generalize hT : tx ls k = T at *
      have HT := hide hT
      clear hT
      cases au with
      | none =>
        obtain ⟨h0, rfl⟩ := htidy _ _ rfl
        have hT0 : T = [] := List.eq_nil_of_length_eq_zero h0
        subst hT0
        go_wp2_with (first | (at_builtin; refine wpList_append_own_none rfl _ _ 24 rfl w.heap.size 5 i0 1 Tryd.underlying24 hi _ _ _ rfl how rfl ?_) | fail)
        go_roundw
        case rel => exact ⟨k + 1, by omega, by go_num, by rw [HF.out, List.append_nil]; exact how, hbr⟩
        case measure => simp [intOf]; omega
      | some x =>
        go_wp2_with (first | (at_builtin; refine wpList_append_own _ rfl _ _ 24 rfl w.heap.size 5 i0 (.int .u8 0) 1 1 Tryd.underlying24 hi hz0 hz1 hz2 rfl (by decide) _ _ _ rfl how x T.length cu (vals .u8 T) rfl (by rw [vals_length, Nat.mul_one]) (cells_news hu3) (vals_one _ _) (by unfold maxLen; omega) (by omega) hsz ?_; intro v' w3 how' hgrow _) | fail)
        have hb3 := below_append' hbr hsz how hgrow
        clear how hgrow hbr
        go_roundw
        case rel => exact ⟨k + 1, by omega, by go_num, by rw [HF.out, List.length_append, vals_append]; exact how', hb3⟩
        case measure => simp [intOf]; omega
    · go_wp2
      go_ret
      rw [List.take_of_length_le (by omega)] at how
      exact ⟨_, rfl, ⟨how, hu⟩, hbr⟩
end Go.Proofs.YtnbohjoakngkeaaDoor
