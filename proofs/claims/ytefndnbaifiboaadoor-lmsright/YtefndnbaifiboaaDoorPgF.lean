/- Steps of a plan behind guards, over a frame of which some slots are known: tools/pg.py writes regions out by them. -/
import Derived.Test.YtefndnbaifiboaaDoorPlan3
import Derived.Test.YtefndnbaifiboaaDoorHEnd
import Derived.Test.YtefndnbaifiboaaDoorHKit
import Derived.Test.YtefndnbaifiboaaDoorPApp
import Derived.Test.YtefndnbaifiboaaDoorNumLe
namespace Go.Proofs.YtefndnbaifiboaaDoor
open Go.RowKit
set_option linter.unusedVariables false
set_option linter.unusedSimpArgs false
def cCT : Code → Code
  | .cond _ a _ => a
  | c => c
def cCE : Code → Code
  | .cond _ _ b => b
  | c => c
section
variable {ops : Array Oper} {Q : Exit → Act → World → Prop} {S : World → Prop} {K : Act → World → Prop}
theorem tmp_isG {a : Act} {d : Nat} {b : Bool} (h : a.eval (.tmp d) = .bool b) : a.tmps[d]? = some (.bool b) := by
  have h' : a.tmps.getD d undef = .bool b := h
  rw [Array.getD_eq_getD_getElem?] at h'
  cases hq : a.tmps[d]? with
  | none => rw [hq] at h'; simp [undef] at h'
  | some v => rw [hq] at h'; simp at h'; rw [h']
theorem wanted_gG {o oj : Oper} {a : Act} {j d : Nat} {b : Bool} (hg : o.guard = some (j, b)) (hj : ops[j]? = some oj) (hd : oj.dst = some d) (hv : a.eval (.tmp d) = .bool b) : Region.wanted o (yielded ops a.tmps) = true := by
  have ht := tmp_isG hv
  simp [Region.wanted, hg, yielded, hj, hd, ht]
theorem wanted_nG {o oj : Oper} {a : Act} {j d : Nat} {b : Bool} (hg : o.guard = some (j, b)) (hj : ops[j]? = some oj) (hd : oj.dst = some d) (hv : a.eval (.tmp d) = .bool (!b)) : Region.wanted o (yielded ops a.tmps) = false := by
  have ht := tmp_isG hv
  cases b <;> simp [Region.wanted, hg, yielded, hj, hd, ht]
theorem y_unG {o : Oper} {a : Act} (hw : Region.wanted o (yielded ops a.tmps) = false) : YieldsIf Tryd.prog ops S o undef a := .inr ⟨hw, rfl⟩
theorem y_ofG {o : Oper} {v : Value} {a : Act} (hw : Region.wanted o (yielded ops a.tmps) = true) (h : ∀ w, S w → (execOp a.eval o).run Tryd.prog w = .ok (.value v) w) : YieldsIf Tryd.prog ops S o v a := .inl ⟨hw, h⟩
theorem y_moveG {o : Oper} {v : Value} {a : Act} {x : Operand} (hw : Region.wanted o (yielded ops a.tmps) = true) (ho : o.op = .move x) (hx : a.eval x = v) : YieldsIf Tryd.prog ops S o v a :=
  y_ofG hw fun w _ => by unfold execOp; simp only [ho, hx]; rfl
theorem y_rowG {o : Oper} {a : Act} {x : Operand} {t : TypeId} {b c : Nat} {cs : List Value} {d : TypeDesc} (hw : Region.wanted o (yielded ops a.tmps) = true) (ho : o.op = .load t x) (hx : a.eval x = .pointer (some ⟨b, c, none⟩))
    (hu : Tryd.prog.underlying t = some d) (hd : d.isRow = true) (hi : (Tryd.prog.info? t).map (·.size) = some cs.length) (hc : ∀ w, S w → w.rangeAt b c cs) : YieldsIf Tryd.prog ops S o (.agg cs.toArray) a := yieldsIf_load_mid hw t x ho b c hx cs d hc hu hd hi
theorem y_notG {o : Oper} {a : Act} {x : Operand} {t : TypeId} {b : Bool} (hw : Region.wanted o (yielded ops a.tmps) = true) (ho : o.op = .unOp .not t x) (hx : a.eval x = .bool b) : YieldsIf Tryd.prog ops S o (.bool (!b)) a := by
  refine y_ofG hw fun w _ => ?_
  unfold execOp
  simp only [ho, hx]
  simp [Op.unary, go_sem]
theorem y_pickT {o : Oper} {v : Value} {a : Act} {c x y : Operand} (hg : o.guard = none) (ho : o.op = .pick c x y) (hc : a.eval c = .bool true) (hx : a.eval x = v) : YieldsIf Tryd.prog ops S o v a :=
  y_of hg fun w _ => by unfold execOp; simp only [ho, hc, hx]; rfl
theorem y_pickE {o : Oper} {v : Value} {a : Act} {c x y : Operand} (hg : o.guard = none) (ho : o.op = .pick c x y) (hc : a.eval c = .bool false) (hy : a.eval y = v) : YieldsIf Tryd.prog ops S o v a :=
  y_of hg fun w _ => by unfold execOp; simp only [ho, hc, hy]; rfl
theorem p_callG {i : Nat} {o : Oper} {a : Act} {w : World} {f : FuncId} {xs : Array Operand} {ts : Array TypeId} {args : Array Value} {d : Option Nat} (hi : ops[i]? = some o) (hw : Region.wanted o (yielded ops a.tmps) = true)
    (ho : o.op = .call { callee := .value (.func f), args := xs, argTypes := ts }) (ha : xs.map a.eval = args) (hd : o.dst = d) (hf : ∀ (args : Array Value) (w : World), (callFunc f args).run Tryd.prog w = .ok (.enter f args) w)
    (h : Calls Tryd.prog f args w fun e w' => ∃ v, e = .returned v ∧ K (a.put d v) w') : wpOp Tryd.prog ops Q i K a w := by
  have hr : (execOp a.eval o).run Tryd.prog w = .ok (.enter f args) w := by
    unfold execOp
    simp only [ho]
    simp [resolve, ha, go_sem, hf]
  unfold wpOp
  simp only [hi]
  rw [if_pos hw]
  left
  unfold Oper.wp
  rw [hr]
  refine h.mono ?_
  rintro e w' ⟨v, rfl, hk⟩
  rw [← hd] at hk
  exact hk
/-- a frame of n slots -/
structure FrK (n : Nat) (a : Act) : Prop where
  size : a.tmps.size = n
  defers : a.defers = []
theorem FrK.step {n : Nat} {a : Act} {x : World} (h : FrK n a) {kk fuel m : Nat} {v : Value} {d : Option Nat} (hd : d = some kk) (hk : kk < n)
    (hc : ∀ a' : Act, FrK n a' → a'.eval (.tmp kk) = v → (∀ j, kk ≠ j → a'.eval (.tmp j) = a.eval (.tmp j)) → At Tryd.prog ops Q S fuel m a' x) : At Tryd.prog ops Q S fuel m (a.put d v) x := by
  subst hd
  refine hc _ ⟨?_, h.defers⟩ (put_same (by rw [h.size]; exact hk)) (fun j hj => put_else hj)
  have := h.size
  simpa [Act.put] using this
theorem y_assignG {o : Oper} {v : Value} {a : Act} {x : Operand} (hw : Region.wanted o (yielded ops a.tmps) = true) (ho : o.op = .assign x) (hx : a.eval x = v) : YieldsIf Tryd.prog ops S o v a :=
  y_ofG hw fun w _ => by unfold execOp; simp only [ho, hx]; rfl
theorem y_extractG {o : Oper} {v : Value} {a : Act} {x : Operand} {k : Nat} {vs : Array Value} (hw : Region.wanted o (yielded ops a.tmps) = true) (ho : o.op = .extract x k) (hx : a.eval x = .tuple vs) (hk : vs[k]? = some v) : YieldsIf Tryd.prog ops S o v a :=
  y_ofG hw fun w _ => by unfold execOp; simp only [ho, hx]; simp [hk, go_sem]
theorem y_pickTG {o : Oper} {v : Value} {a : Act} {c x y : Operand} (hw : Region.wanted o (yielded ops a.tmps) = true) (ho : o.op = .pick c x y) (hc : a.eval c = .bool true) (hx : a.eval x = v) : YieldsIf Tryd.prog ops S o v a :=
  y_ofG hw fun w _ => by unfold execOp; simp only [ho, hc, hx]; rfl
theorem y_pickEG {o : Oper} {v : Value} {a : Act} {c x y : Operand} (hw : Region.wanted o (yielded ops a.tmps) = true) (ho : o.op = .pick c x y) (hc : a.eval c = .bool false) (hy : a.eval y = v) : YieldsIf Tryd.prog ops S o v a :=
  y_ofG hw fun w _ => by unfold execOp; simp only [ho, hc, hy]; rfl
theorem y_plainG {o : Oper} {v : Value} {a : Act} {x : Operand} {t : TypeId} {p : Addr} {d : TypeDesc} (hw : Region.wanted o (yielded ops a.tmps) = true) (ho : o.op = .load t x) (hx : a.eval x = .pointer (some p)) (hu : Tryd.prog.underlying t = some d) (hd : (match d with | .struct _ | .array _ _ => true | _ => false) = false) (hc : ∀ w, S w → w.cell? p = some v) : YieldsIf Tryd.prog ops S o v a := by
  refine y_ofG hw fun w hs => ?_
  have c := hc w hs
  have hag : (isAgg t).run Tryd.prog w = .ok false w := by
    unfold isAgg
    rw [Sem.run_bind, run_underlying hu w]
    cases d <;> first | rfl | cases hd
  unfold execOp
  simp only [ho, hx]
  simp [Instr.loadAt, Instr.sureAddr, Sem.run_bind, run_underlying hu w, hag, c, go_sem]
theorem y_fieldG {o : Oper} {a : Act} {x : Operand} {t : TypeId} {q q' f off : Nat} (hw : Region.wanted o (yielded ops a.tmps) = true) (ho : o.op = .fieldAddr t x f) (hx : a.eval x = .pointer (some ⟨q, q', none⟩))
    (hf : ∀ w : World, (Instr.fieldAt t (.pointer (some ⟨q, q', none⟩)) f).run Tryd.prog w = .ok (.pointer (some ⟨q, off, none⟩)) w) : YieldsIf Tryd.prog ops S o (.pointer (some ⟨q, off, none⟩)) a := by
  refine y_ofG hw fun w _ => ?_
  unfold execOp
  simp only [ho, hx]
  simp [hf w, Sem.run_bind]
theorem y_nilG {o : Oper} {a : Act} {x : Operand} {p : Addr} (hw : Region.wanted o (yielded ops a.tmps) = true) (ho : o.op = .nilCheck x) (hx : a.eval x = .pointer (some p)) : YieldsIf Tryd.prog ops S o (.pointer (some p)) a := by
  refine y_ofG hw fun w _ => ?_
  unfold execOp
  simp only [ho, hx]
  simp [go_sem]
/-- the place of an element of m cells -/
theorem y_indexG {o : Oper} {a : Act} {x y : Operand} {t e : TypeId} {g f n c i m : Nat} (hw : Region.wanted o (yielded ops a.tmps) = true) (ho : o.op = .indexAddr t x y) (hx : a.eval x = .slice (some ⟨g, f, none⟩) n c) (hy : a.eval y = .int .i64 (i : Int)) (hu : Tryd.prog.underlying t = some (.slice e)) (hs : (Tryd.prog.info? e).map (·.size) = some m) (hi : i < n) : YieldsIf Tryd.prog ops S o (.pointer (some ⟨g, f + i * m, none⟩)) a := by
  cases hq : Tryd.prog.info? e with
  | none => simp [hq] at hs
  | some z =>
    have hz : z.size = m := by simpa [hq] using hs
    refine y_ofG hw fun w _ => ?_
    unfold execOp
    simp only [ho, hx, hy]
    simp [Instr.indexAt, asIntOf, Sem.run_bind, run_underlying hu w, sizeOf, typeInfo, hq, hz, hi, Addr.add, go_sem]
    try omega
theorem y_lenP {o : Oper} {a : Act} {x : Operand} {t e : TypeId} {aa : Option Addr} {n cc : Nat} (hw : Region.wanted o (yielded ops a.tmps) = true) (ho : o.op = .call { callee := .builtin .len, args := #[x], argTypes := #[t] }) (hx : a.eval x = .slice aa n cc) (hu : Tryd.prog.underlying t = some (.slice e)) : YieldsIf Tryd.prog ops S o (.int .i64 (n : Int)) a :=
  y_ofG hw fun w _ => by
    unfold execOp
    have ha : (#[x] : Array Operand).map a.eval = #[.slice aa n cc] := by simp only [List.map_toArray, List.map_cons, List.map_nil, hx]
    generalize (#[x] : Array Operand) = xs at ho ha
    simp only [ho]
    simp [resolve, ha, go_sem, Builtin.len_, Sem.run_bind, run_underlying hu]
/-- two ints held against one another -/
theorem y_eqI {o : Oper} {a : Act} {x y : Operand} {t t' : TypeId} {k : IntKind} {i j : Int} {b : Bool} (hw : Region.wanted o (yielded ops a.tmps) = true) (ho : o.op = .binOp .eql t x y t') (hx : a.eval x = .int k i) (hy : a.eval y = .int k j) (hu : Tryd.prog.underlying t = some (.int k)) (hb : (i == j) = b) : YieldsIf Tryd.prog ops S o (.bool b) a := by
  refine y_ofG hw fun w _ => ?_
  unfold execOp
  simp only [ho, hx, hy]
  simp [go_sem, Sem.run_bind, eqGuard, run_underlying hu, hb]
theorem y_neI {o : Oper} {a : Act} {x y : Operand} {t t' : TypeId} {k : IntKind} {i j : Int} {b : Bool} (hw : Region.wanted o (yielded ops a.tmps) = true) (ho : o.op = .binOp .neq t x y t') (hx : a.eval x = .int k i) (hy : a.eval y = .int k j) (hu : Tryd.prog.underlying t = some (.int k)) (hb : (i != j) = b) : YieldsIf Tryd.prog ops S o (.bool b) a := by
  refine y_ofG hw fun w _ => ?_
  unfold execOp
  simp only [ho, hx, hy]
  simp [go_sem, Sem.run_bind, eqGuard, run_underlying hu, ← hb]
theorem y_eqB {o : Oper} {a : Act} {x y : Operand} {t t' : TypeId} {i j b : Bool} (hw : Region.wanted o (yielded ops a.tmps) = true) (ho : o.op = .binOp .eql t x y t') (hx : a.eval x = .bool i) (hy : a.eval y = .bool j) (hu : Tryd.prog.underlying t = some .bool) (hb : (i == j) = b) : YieldsIf Tryd.prog ops S o (.bool b) a := by
  refine y_ofG hw fun w _ => ?_
  unfold execOp
  simp only [ho, hx, hy]
  simp [go_sem, Sem.run_bind, eqGuard, run_eql_bool w t i j hu, hb]
/-- a sum of two ints -/
theorem y_addI {o : Oper} {a : Act} {x y : Operand} {t t' : TypeId} {i j q : Int} (hw : Region.wanted o (yielded ops a.tmps) = true) (ho : o.op = .binOp .add t x y t') (hx : a.eval x = .int .i64 i) (hy : a.eval y = .int .i64 j) (hu : Tryd.prog.underlying t = some (.int .i64)) (hb : IntKind.i64.wrap (i + j) = q) : YieldsIf Tryd.prog ops S o (.int .i64 q) a := by
  refine y_ofG hw fun w _ => ?_
  unfold execOp
  simp only [ho, hx, hy]
  simp [go_sem, Sem.run_bind, run_underlying hu, hb]
theorem y_mulI {o : Oper} {a : Act} {x y : Operand} {t t' : TypeId} {i j q : Int} (hw : Region.wanted o (yielded ops a.tmps) = true) (ho : o.op = .binOp .mul t x y t') (hx : a.eval x = .int .i64 i) (hy : a.eval y = .int .i64 j) (hu : Tryd.prog.underlying t = some (.int .i64)) (hb : IntKind.i64.wrap (i * j) = q) : YieldsIf Tryd.prog ops S o (.int .i64 q) a := by
  refine y_ofG hw fun w _ => ?_
  unfold execOp
  simp only [ho, hx, hy]
  simp [go_sem, Sem.run_bind, run_underlying hu, hb]
theorem y_convI {o : Oper} {a : Act} {x : Operand} {t t' : TypeId} {k k' : IntKind} {i j : Int} (hw : Region.wanted o (yielded ops a.tmps) = true) (ho : o.op = .convert t t' x) (hx : a.eval x = .int k i) (hr : ∀ w, (convert t t' (.int k i)).run Tryd.prog w = .ok (.int k' j) w) : YieldsIf Tryd.prog ops S o (.int k' j) a := by
  refine y_ofG hw fun w _ => ?_
  have h := hr w
  unfold execOp
  simp only [ho, hx]
  simp [Sem.run_bind, h]
theorem p_build2G {i : Nat} {o : Oper} {a : Act} {w : World} {t e : TypeId} {x y : Operand} {ax ay : Option Addr} {nx cx ny cy : Nat} {d : Option Nat} {z : TypeInfo} (hi : ops[i]? = some o) (hw : Region.wanted o (yielded ops a.tmps) = true) (ho : o.op = .buildSlice t 2 #[(0, x), (1, y)]) (hx : a.eval x = .slice ax nx cx) (hy : a.eval y = .slice ay ny cy) (hd : o.dst = d)
    (hu : Tryd.prog.underlying t = some (.slice e)) (hz : Tryd.prog.info? e = some z) (hs : z.size = 1) (hz0 : z.zero = some (.slice none 0 0)) (h : K (a.put d (.slice (some ⟨w.heap.size, 0, none⟩) 2 2)) (w.alloc (.cells #[.slice ax nx cx, .slice ay ny cy] e))) : wpOp Tryd.prog ops Q i K a w := by
  have hr : (execOp a.eval o).run Tryd.prog w = .ok (.value (.slice (some ⟨w.heap.size, 0, none⟩) 2 2)) (w.alloc (.cells #[.slice ax nx cx, .slice ay ny cy] e)) := by
    unfold execOp
    simp only [ho, List.map_toArray, List.map_cons, List.map_nil, hx, hy]
    simp [Sem.run_bind, run_underlying hu, sizeOf, typeInfo, zeroValue, hz, hs, hz0, go_sem]
  unfold wpOp
  simp only [hi]
  rw [if_pos hw]
  left
  unfold Oper.wp
  rw [hr]
  show K (a.put o.dst _) _
  rw [hd]
  exact h
/-- a slice of n bytes 0 -/
theorem p_makeG {i : Nat} {o : Oper} {a : Act} {w : World} {n : Nat} {d : Option Nat} (hi : ops[i]? = some o) (hw : Region.wanted o (yielded ops a.tmps) = true) (ho : o.op = .makeSlice 25 (.const (.int .i64 (n : Int))) (.const (.int .i64 (n : Int)))) (hd : o.dst = d) (hn : n ≤ 100000)
    (h : ∀ w', Own 5 .u8 256 w' w.heap.size (.slice (some ⟨w.heap.size, 0, none⟩) n n) (List.replicate n 0) → Below w.heap.size w w' → K (a.put d (.slice (some ⟨w.heap.size, 0, none⟩) n n)) w') : wpOp Tryd.prog ops Q i K a w := by
  obtain ⟨i0, hi0, hz0, hz1, hz2⟩ := info_parts Tryd.info5
  obtain ⟨w', hrun, r1, r2⟩ := run_make_full (P := Tryd.prog) w w.heap.size 25 5 i0 (.int .u8 0) 1 Tryd.underlying25 hi0 hz0 hz1 .i64 .i64 n (by rw [hz2]; omega) (by unfold maxLen; omega) (Nat.le_refl _)
  rw [made_u8] at r1
  have hb := (Below.refl w.heap.size w).grown r2 (Nat.le_refl _) (fun k h => by cases h)
  have hr : (execOp a.eval o).run Tryd.prog w = .ok (.value (.slice (some ⟨w.heap.size, 0, none⟩) n n)) w' := by
    unfold execOp
    simp only [ho, ev_const]
    simp [hrun, Sem.run_bind]
  unfold wpOp
  simp only [hi]
  rw [if_pos hw]
  left
  unfold Oper.wp
  rw [hr]
  show K (a.put o.dst _) _
  rw [hd]
  exact h w' ⟨by rw [List.length_replicate]; exact r1, Under.replicate 256 n (by decide)⟩ hb
end
theorem FrK.ret1 {n : Nat} {a : Act} {fn : Func} {p : Tmp} {v : Value} {R : Ending → World → Prop} {w : World} (F : FrK n a) (h : fn.results = #[.tmp p]) (hv : a.eval (.tmp p) = v) (hR : R (.returned v) w) : bodyPost Tryd.prog fn R .ret a w := bodyPost_ret (results_isA h hv w) F.defers hR
end Go.Proofs.YtefndnbaifiboaaDoor

/- How ids of 16 bytes, and digests and seeds of 32, that came in are read. -/
namespace Go.Proofs.YtefndnbaifiboaaDoor
open Go.ChangeShapes Go.WideShapes Go.ChangeAt Go.RowKit Go.Deep
set_option linter.unusedVariables false
set_option linter.unusedSimpArgs false

theorem Tryd.cellsU8 : Tryd.prog.cellsOf 5 = 1 := by kernel_rfl
theorem Tryd.cellsB16 : Tryd.prog.cellsOf 22 = 16 := by kernel_rfl
theorem Tryd.cellsB32 : Tryd.prog.cellsOf 23 = 32 := by kernel_rfl
theorem okWide_array {P : Program} {w : World} {r : Reach} {base : Nat} {t e : TypeId} {n : Nat} {v : Value} (ht : P.underlying t = some (.array n e)) (h : Value.okWide P w r base t v) : ∃ cs, v = .agg cs ∧ cs.size = P.cellsOf t := by
  simp only [Value.okWide, ht] at h
  obtain ⟨cs, h1, h2, _⟩ := h
  exact ⟨cs, h1, h2⟩
/-- 16 bytes, as they came in -/
structure IBIs (cs : Array Value) (bk : List Nat) : Prop where
  is : cs = arr .u8 bk
  len : bk.length = 16
  und : Under 256 bk
/-- 32 bytes, as they came in -/
structure HBIs (cs : Array Value) (bk : List Nat) : Prop where
  is : cs = arr .u8 bk
  len : bk.length = 32
  und : Under 256 bk
theorem read_u8 {H : Type} {enc : TypeId × Value → H} {W : World} {fuel : Nat} {v : Value} {x : DataW H × List MemPlace}
    (h : DataW.trod enc Tryd.prog W 0 (fun _ => true) true fuel 5 [v] = some x) : ∃ n : Nat, v = .int .u8 (n : Int) ∧ n < 256 := by
  obtain ⟨t, e0, _, hw⟩ := DataW.trod_int Tryd.underlying5 h
  have hb := wf_u8 t hw
  simp at e0
  exact ⟨t.toNat, by rw [e0, Int.toNat_of_nonneg hb.1], by omega⟩
theorem bytes_inQ : ∀ l : List Value, (∀ i, i < l.length → ∃ n : Nat, l[i]? = some (.int .u8 (n : Int)) ∧ n < 256) → ∃ ws : List Nat, ws.length = l.length ∧ Under 256 ws ∧ l = vals .u8 ws
  | [], _ => ⟨[], rfl, fun x hx => by simp at hx, rfl⟩
  | v :: l, h => by
    obtain ⟨ws, h1, h2, h3⟩ := bytes_inQ l (fun i hi => by
      have := h (i + 1) (by simp; omega)
      simpa using this)
    obtain ⟨n, hn, hb⟩ := h 0 (by simp)
    have hv : v = .int .u8 (n : Int) := by simpa using hn
    refine ⟨n :: ws, by simp [h1], fun x hx => ?_, by rw [hv, h3]; rfl⟩
    rcases List.mem_cons.1 hx with rfl | hx
    · exact hb
    · exact h2 x hx
theorem read_ids {H : Type} {enc : TypeId × Value → H} {W : World} {fuel : Nat} {cs : Array Value} {x : DataW H × List MemPlace}
    (h : DataW.trod enc Tryd.prog W 0 (fun _ => true) true fuel 22 cs.toList = some x) : ∃ bk, IBIs cs bk := by
  obtain ⟨l⟩ := cs
  obtain ⟨zs, m, _, _, hcl, hzl, hz⟩ := DataW.trod_array Tryd.underlying22 h
  rw [Tryd.cellsB16] at hcl
  have hcl : l.length = 16 := hcl
  obtain ⟨ws, h1, h2, h3⟩ := bytes_inQ l (fun i hi => by
    have hi' : i < 16 := by omega
    have := hz i hi'
    rw [Tryd.cellsU8, Nat.mul_one] at this
    have hd : (l.drop i).take 1 = [l[i]] := by
      rw [List.drop_eq_getElem_cons hi]; rfl
    change DataW.trod enc Tryd.prog W 0 (fun _ => true) true m 5 ((l.drop i).take 1) = _ at this
    rw [hd, List.getElem?_eq_getElem (by omega)] at this
    obtain ⟨n, hn, hb⟩ := read_u8 this
    exact ⟨n, by rw [List.getElem?_eq_getElem hi, hn], hb⟩)
  exact ⟨ws, by unfold arr; rw [← h3], by omega, h2⟩
theorem read_halves {H : Type} {enc : TypeId × Value → H} {W : World} {fuel : Nat} {cs : Array Value} {x : DataW H × List MemPlace}
    (h : DataW.trod enc Tryd.prog W 0 (fun _ => true) true fuel 23 cs.toList = some x) : ∃ bk, HBIs cs bk := by
  obtain ⟨l⟩ := cs
  obtain ⟨zs, m, _, _, hcl, hzl, hz⟩ := DataW.trod_array Tryd.underlying23 h
  rw [Tryd.cellsB32] at hcl
  have hcl : l.length = 32 := hcl
  obtain ⟨ws, h1, h2, h3⟩ := bytes_inQ l (fun i hi => by
    have hi' : i < 32 := by omega
    have := hz i hi'
    rw [Tryd.cellsU8, Nat.mul_one] at this
    have hd : (l.drop i).take 1 = [l[i]] := by
      rw [List.drop_eq_getElem_cons hi]; rfl
    change DataW.trod enc Tryd.prog W 0 (fun _ => true) true m 5 ((l.drop i).take 1) = _ at this
    rw [hd, List.getElem?_eq_getElem (by omega)] at this
    obtain ⟨n, hn, hb⟩ := read_u8 this
    exact ⟨n, by rw [List.getElem?_eq_getElem hi, hn], hb⟩)
  exact ⟨ws, by unfold arr; rw [← h3], by omega, h2⟩
/-- an array's bytes, boxed, are a text -/
theorem row_boxL {w : World} {g : Nat} {bk : List Nat} {t : TypeId} (hb : w.heap[g]? = some (.cells (arr .u8 bk) t (0, 0))) (hu : Under 256 bk) (hl : bk.length ≤ 1000) : Row .u8 256 w (.slice (some ⟨g, 0, none⟩) bk.length bk.length) bk :=
  ⟨_, bk.length, rfl, Nat.le_refl _, by unfold maxLen; omega, fun _ => ⟨g, 0, rfl, fun i hi => by
    have hL : Lies .u8 t w g bk := hb
    rw [Nat.zero_add]
    exact hL.cell hi⟩, hu⟩
section
variable {ops : Array Oper} {S : World → Prop}
theorem y_arr16 {o : Oper} {a : Act} {x : Operand} {g : Nat} (hw : Region.wanted o (yielded ops a.tmps) = true) (ho : o.op = .slice 22 x none none none) (hx : a.eval x = .pointer (some ⟨g, 0, none⟩)) : YieldsIf Tryd.prog ops S o (.slice (some ⟨g, 0, none⟩) 16 16) a := by
  obtain ⟨i0, hi0, hz0, hz1, hz2⟩ := info_byte
  refine .inl ⟨hw, fun w _ => ?_⟩
  unfold execOp
  simp only [ho, hx, Option.map_none]
  simp [Instr.sliceAt, Instr.slice, Instr.sliceBounds, Sem.run_bind, run_underlying Tryd.underlying22, run_underlying Tryd.underlying25, sizeOf, typeInfo, hi0, hz1, Addr.add, go_sem]
theorem y_arr32 {o : Oper} {a : Act} {x : Operand} {g : Nat} (hw : Region.wanted o (yielded ops a.tmps) = true) (ho : o.op = .slice 23 x none none none) (hx : a.eval x = .pointer (some ⟨g, 0, none⟩)) : YieldsIf Tryd.prog ops S o (.slice (some ⟨g, 0, none⟩) 32 32) a := by
  obtain ⟨i0, hi0, hz0, hz1, hz2⟩ := info_byte
  refine .inl ⟨hw, fun w _ => ?_⟩
  unfold execOp
  simp only [ho, hx, Option.map_none]
  simp [Instr.sliceAt, Instr.slice, Instr.sliceBounds, Sem.run_bind, run_underlying Tryd.underlying23, run_underlying Tryd.underlying25, sizeOf, typeInfo, hi0, hz1, Addr.add, go_sem]
end
end Go.Proofs.YtefndnbaifiboaaDoor

/- Leaves that sign once: plain facts. -/
namespace Go.Proofs.YtefndnbaifiboaaDoor
open Go.RowKit
set_option linter.unusedVariables false
set_option linter.unusedSimpArgs false

theorem valLe_leM (n k : Nat) : valLe (leL n k) = n % 256 ^ k := by
  induction k with
  | zero => simp [leL, valLe, Nat.mod_one]
  | succ k ih =>
    rw [show leL n (k + 1) = leL n k ++ [n / 256 ^ k % 256] by simp [leL, List.range_succ], valLe_append, ih, leL_length]
    simp only [valLe, Nat.mul_zero, Nat.add_zero]
    rw [Nat.pow_succ, Nat.mod_mul]

theorem leM_under (V o : Nat) : Under 256 (leL V o) := by
  intro x hx
  obtain ⟨i, _, rfl⟩ := List.mem_map.1 hx
  exact Nat.mod_lt _ (by decide)

theorem dig_ltM (l : List Nat) (w i : Nat) : dig l w i < 2 ^ w := Nat.mod_lt _ (pp w)
/-- the number that digits of w bits are -/
def fromD (w : Nat) (l : List Nat) : Nat := l.foldl (fun n x => n * 2 ^ w + x) 0
theorem fromD_snoc (w : Nat) (l : List Nat) (x : Nat) : fromD w (l ++ [x]) = fromD w l * 2 ^ w + x := by unfold fromD; rw [List.foldl_append]; rfl
theorem foldD (w : Nat) : ∀ (b : List Nat) (x : Nat), b.foldl (fun n x => n * 2 ^ w + x) x = x * 2 ^ (b.length * w) + b.foldl (fun n x => n * 2 ^ w + x) 0
  | [], x => by simp
  | y :: b, x => by
    show b.foldl _ (x * 2 ^ w + y) = x * 2 ^ ((b.length + 1) * w) + b.foldl _ (0 * 2 ^ w + y)
    rw [foldD w b (x * 2 ^ w + y), foldD w b (0 * 2 ^ w + y), Nat.zero_mul, Nat.zero_add, Nat.add_mul, Nat.add_mul, Nat.one_mul, Nat.mul_assoc, ← Nat.pow_add, Nat.add_comm w, Nat.add_assoc]
theorem fromD_app (w : Nat) (a b : List Nat) : fromD w (a ++ b) = fromD w a * 2 ^ (b.length * w) + fromD w b := by
  unfold fromD
  rw [List.foldl_append, foldD]
theorem fromD_digL (l : List Nat) (w : Nat) : ∀ c, c * w ≤ 8 * l.length → valBe l < 2 ^ (8 * l.length) → fromD w (digL l w c) = valBe l / 2 ^ (8 * l.length - c * w)
  | 0, _, hv => by
    have : digL l w 0 = [] := rfl
    rw [this, Nat.zero_mul, Nat.sub_zero, Nat.div_eq_of_lt hv]
    rfl
  | c + 1, h, hv => by
    have hc : c * w ≤ 8 * l.length := by rw [Nat.add_mul] at h; omega
    rw [digL_succ, fromD_snoc, fromD_digL l w c hc hv]
    unfold dig
    have e : 8 * l.length - c * w = (8 * l.length - (c + 1) * w) + w := by rw [Nat.add_mul] at h ⊢; omega
    rw [e, Nat.pow_add, ← Nat.div_div_eq_div_mul]
    have := Nat.div_add_mod (valBe l / 2 ^ (8 * l.length - (c + 1) * w)) (2 ^ w)
    rw [Nat.mul_comm] at this
    exact this
/-- one row of numbers is nowhere greater than another -/
def LeAll (a b : List Nat) : Prop := a.length = b.length ∧ ∀ i, i < a.length → el a i ≤ el b i
theorem LeAll.cons {x y : Nat} {a b : List Nat} (h : LeAll (x :: a) (y :: b)) : x ≤ y ∧ LeAll a b := by
  refine ⟨h.2 0 (by simp), by have := h.1; simpa using this, fun i hi => ?_⟩
  exact h.2 (i + 1) (by simp; omega)
theorem fromD_le (w : Nat) : ∀ (a b : List Nat) (x y : Nat), LeAll a b → x ≤ y → a.foldl (fun n x => n * 2 ^ w + x) x ≤ b.foldl (fun n x => n * 2 ^ w + x) y
  | [], [], x, y, _, h => h
  | [], _ :: _, _, _, h, _ => by have := h.1; simp at this
  | _ :: _, [], _, _, h, _ => by have := h.1; simp at this
  | u :: a, v :: b, x, y, h, hxy => by
    obtain ⟨h1, h2⟩ := h.cons
    exact fromD_le w a b _ _ h2 (Nat.add_le_add (Nat.mul_le_mul_right _ hxy) h1)
/-- the sum of what digits lack -/
def lackL (m : Nat) : List Nat → Nat
  | [] => 0
  | x :: l => (m - x) + lackL m l
theorem lack_le (m : Nat) : ∀ a b : List Nat, LeAll a b → lackL m b ≤ lackL m a
  | [], [], _ => Nat.le_refl _
  | [], _ :: _, h => by have := h.1; simp at this
  | _ :: _, [], h => by have := h.1; simp at this
  | u :: a, v :: b, h => by
    obtain ⟨h1, h2⟩ := h.cons
    have := lack_le m a b h2
    show (m - v) + lackL m b ≤ (m - u) + lackL m a
    omega
theorem lack_eq (m : Nat) : ∀ a b : List Nat, LeAll a b → (∀ x ∈ b, x ≤ m) → lackL m a = lackL m b → a = b
  | [], [], _, _, _ => rfl
  | [], _ :: _, h, _, _ => by have := h.1; simp at this
  | _ :: _, [], h, _, _ => by have := h.1; simp at this
  | u :: a, v :: b, h, hb, he => by
    obtain ⟨h1, h2⟩ := h.cons
    have h3 := lack_le m a b h2
    have he' : (m - u) + lackL m a = (m - v) + lackL m b := he
    have hv := hb v (by simp)
    have e1 : u = v := by omega
    rw [e1, lack_eq m a b h2 (fun x hx => hb x (by simp [hx])) (by omega)]
theorem lack_lt (m : Nat) : ∀ a : List Nat, lackL m a ≤ a.length * m
  | [] => Nat.zero_le _
  | x :: a => by
    have := lack_lt m a
    show (m - x) + lackL m a ≤ (a.length + 1) * m
    rw [Nat.add_mul, Nat.one_mul]
    omega
theorem lack_snoc (m : Nat) (x : Nat) : ∀ a : List Nat, lackL m (a ++ [x]) = lackL m a + (m - x)
  | [] => by show (m - x) + 0 = 0 + (m - x); omega
  | y :: a => by show (m - y) + lackL m (a ++ [x]) = (m - y) + lackL m a + (m - x); rw [lack_snoc m x a]; omega
/-- a kind: how many digits a digest has, how many its check; the shift -/
structure KindL (w n m s : Nat) : Prop where
  w1 : 1 ≤ w
  w8 : w ≤ 8
  full : n * w = 256
  chk : s + m * w = 16
  room : n * (2 ^ w - 1) < 2 ^ (m * w)
theorem kind_1 : KindL 1 256 9 7 := ⟨by decide, by decide, by decide, by decide, by decide⟩
theorem kind_2 : KindL 2 128 5 6 := ⟨by decide, by decide, by decide, by decide, by decide⟩
theorem kind_4 : KindL 4 64 3 4 := ⟨by decide, by decide, by decide, by decide, by decide⟩
theorem kind_8 : KindL 8 32 2 0 := ⟨by decide, by decide, by decide, by decide, by decide⟩
/-- the digits of a digest, with their check -/
def chkL (w n : Nat) (d : List Nat) : Nat := lackL (2 ^ w - 1) (digL d w n)
def digsL (w n m s : Nat) (d : List Nat) : List Nat := digL (d ++ (leL (chkL w n d * 2 ^ s) 2).reverse) w (n + m)
theorem valBe_app (a b : List Nat) : valBe (a ++ b) = valBe a * 2 ^ (8 * b.length) + valBe b := by
  have e : ∀ l : List Nat, valBe l = fromD 8 l := fun l => rfl
  rw [e, e, e, fromD_app, Nat.mul_comm b.length]
section
variable {w n m s : Nat} (hK : KindL w n m s) {d : List Nat} (hd : d.length = 32) (hu : Under 256 d)
include hK in
theorem chk_lt (d : List Nat) : chkL w n d < 2 ^ (m * w) := by
  have := lack_lt (2 ^ w - 1) (digL d w n)
  rw [digL_length] at this
  exact Nat.lt_of_le_of_lt this hK.room
include hK in
theorem chk_16 (d : List Nat) : chkL w n d * 2 ^ s < 65536 := by
  have h1 := chk_lt hK d
  have h2 : 2 ^ (m * w) * 2 ^ s = 65536 := by rw [← Nat.pow_add, Nat.add_comm, hK.chk]
  have := Nat.mul_lt_mul_of_pos_right h1 (Nat.pow_pos (n := s) (by decide : 0 < 2))
  omega
theorem be2_val (c : Nat) (h : c < 65536) : valBe (leL c 2).reverse = c := by rw [valBe_le, valLe_leM]; exact Nat.mod_eq_of_lt h
include hK in
theorem digs_val (d : List Nat) : valBe (d ++ (leL (chkL w n d * 2 ^ s) 2).reverse) = valBe d * 65536 + chkL w n d * 2 ^ s := by
  rw [valBe_app, be2_val _ (chk_16 hK d), List.length_reverse, leL_length]
include hK hd in
/-- the first digits are the digest's -/
theorem digs_head : (digsL w n m s d).take n = digL d w n := by
  have hl : (d ++ (leL (chkL w n d * 2 ^ s) 2).reverse).length = 34 := by rw [List.length_append, List.length_reverse, leL_length, hd]
  unfold digsL digL
  rw [← List.map_take, List.take_range, Nat.min_eq_left (by omega)]
  apply List.map_congr_left
  intro i hi
  have hi' : i < n := by simpa using hi
  have hb : (i + 1) * w ≤ 256 := by rw [← hK.full]; exact Nat.mul_le_mul_right _ hi'
  unfold dig
  rw [digs_val hK d, hl, hd, show 8 * 34 - (i + 1) * w = 16 + (8 * 32 - (i + 1) * w) by omega, Nat.pow_add, ← Nat.div_div_eq_div_mul,
    show (2 : Nat) ^ 16 = 65536 from rfl, Nat.mul_comm (valBe d), Nat.mul_add_div (by decide), Nat.div_eq_of_lt (chk_16 hK d), Nat.add_zero]
include hK hd hu in
/-- the check is the number of the last digits -/
theorem digs_tail : fromD w ((digsL w n m s d).drop n) = chkL w n d := by
  have hl : (d ++ (leL (chkL w n d * 2 ^ s) 2).reverse).length = 34 := by rw [List.length_append, List.length_reverse, leL_length, hd]
  have hul : Under 256 (d ++ (leL (chkL w n d * 2 ^ s) 2).reverse) := by
    intro x hx
    rcases List.mem_append.1 hx with h | h
    · exact hu x h
    · exact leM_under _ _ x (List.mem_reverse.1 h)
  have hfull := hK.full
  have hchk := hK.chk
  have hnm : (n + m) * w = 256 + m * w := by rw [Nat.add_mul]; omega
  have h1 := fromD_digL (d ++ (leL (chkL w n d * 2 ^ s) 2).reverse) w (n + m) (by rw [hl]; omega) (valBe_lt _ hul)
  have h2 := fromD_digL d w n (by rw [hd]; omega) (valBe_lt _ hu)
  have h3 := fromD_app w ((digsL w n m s d).take n) ((digsL w n m s d).drop n)
  have hlen : (digsL w n m s d).length = n + m := digL_length _ _ _
  rw [List.take_append_drop, digs_head hK hd, h2, List.length_drop, hlen, Nat.add_sub_cancel_left, hd, hfull, Nat.sub_self, Nat.pow_zero, Nat.div_one] at h3
  have h1' : fromD w (digsL w n m s d) = valBe (d ++ (leL (chkL w n d * 2 ^ s) 2).reverse) / 2 ^ s := by
    rw [show digsL w n m s d = digL (d ++ (leL (chkL w n d * 2 ^ s) 2).reverse) w (n + m) from rfl, h1, hl, hnm, show 8 * 34 - (256 + m * w) = s by omega]
  have e : valBe d * 65536 + chkL w n d * 2 ^ s = (valBe d * 2 ^ (m * w) + chkL w n d) * 2 ^ s := by
    rw [Nat.add_mul, Nat.mul_assoc, ← Nat.pow_add, show m * w + s = 16 by omega]
  rw [digs_val hK d, e, Nat.mul_div_cancel _ (Nat.pow_pos (by decide))] at h1'
  omega
theorem digs_len (d : List Nat) : (digsL w n m s d).length = n + m := digL_length _ _ _
theorem digs_lt (d : List Nat) : ∀ x ∈ digsL w n m s d, x < 2 ^ w := by
  intro x hx
  unfold digsL digL at hx
  obtain ⟨i, _, rfl⟩ := List.mem_map.1 hx
  exact dig_ltM _ _ _
end
theorem val_injB {a b : List Nat} (ha : Under 256 a) (hb : Under 256 b) (hl : a.length = b.length) (h : valBe a = valBe b) : a = b := by
  apply List.ext_getElem hl
  intro i h1 h2
  have e1 := valBe_el a ha i h1
  have e2 := valBe_el b hb i h2
  rw [h, hl, ← e2] at e1
  rw [el_at h1, el_at h2] at e1
  exact e1
/-- P14.5: of unlike digests one has a digit that is greater than the other's -/
theorem digs_unlike {w n m s : Nat} (hK : KindL w n m s) {a b : List Nat} (ha : a.length = 32) (hb : b.length = 32) (ua : Under 256 a) (ub : Under 256 b) (h : LeAll (digsL w n m s a) (digsL w n m s b)) : a = b := by
  have hla := digs_len (w := w) (n := n) (m := m) (s := s) a
  have hlb := digs_len (w := w) (n := n) (m := m) (s := s) b
  have hh : LeAll (digL a w n) (digL b w n) := by
    rw [← digs_head hK ha, ← digs_head hK hb]
    refine ⟨by rw [List.length_take, List.length_take, hla, hlb], fun i hi => ?_⟩
    rw [List.length_take] at hi
    have := h.2 i (by omega)
    unfold el at *
    rw [List.getElem?_take, List.getElem?_take, if_pos (by omega), if_pos (by omega)]
    exact this
  have ht : LeAll ((digsL w n m s a).drop n) ((digsL w n m s b).drop n) := by
    refine ⟨by rw [List.length_drop, List.length_drop, hla, hlb], fun i hi => ?_⟩
    rw [List.length_drop] at hi
    have := h.2 (n + i) (by omega)
    unfold el at *
    rw [List.getElem?_drop, List.getElem?_drop]
    exact this
  have c1 := lack_le (2 ^ w - 1) _ _ hh
  have c2 := fromD_le w _ _ 0 0 ht (Nat.le_refl _)
  have c2' : fromD w ((digsL w n m s a).drop n) ≤ fromD w ((digsL w n m s b).drop n) := c2
  rw [digs_tail hK ha ua, digs_tail hK hb ub] at c2'
  have he : digL a w n = digL b w n := lack_eq (2 ^ w - 1) _ _ hh (fun x hx => by
    unfold digL at hx
    obtain ⟨i, _, rfl⟩ := List.mem_map.1 hx
    have := dig_ltM b w i
    omega) (Nat.le_antisymm c2' c1)
  have v1 := fromD_digL a w n (by rw [ha, hK.full]; decide) (valBe_lt _ ua)
  have v2 := fromD_digL b w n (by rw [hb, hK.full]; decide) (valBe_lt _ ub)
  rw [ha, hK.full, Nat.sub_self, Nat.pow_zero, Nat.div_one] at v1
  rw [hb, hK.full, Nat.sub_self, Nat.pow_zero, Nat.div_one] at v2
  exact val_injB ua ub (ha.trans hb.symm) (by rw [← v1, ← v2, he])
end Go.Proofs.YtefndnbaifiboaaDoor
