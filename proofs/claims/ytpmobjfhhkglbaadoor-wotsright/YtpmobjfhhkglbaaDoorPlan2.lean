/- Steps of a plan that run: a call, a store. -/
import Derived.Test.YtpmobjfhhkglbaaDoorHKit
import Derived.RangeFuncCalls
import Derived.RangeFuncBox
import Derived.Stop.RegionWithIn
import Derived.Test.YtpmobjfhhkglbaaDoorWtM
import Derived.Test.YtpmobjfhhkglbaaDoorBase
namespace Go.Proofs.YtpmobjfhhkglbaaDoor
open Go.RowKit
set_option linter.unusedVariables false
set_option linter.unusedSimpArgs false
section
variable {P : Program} {ops : Array Oper} {Q : Exit → Act → World → Prop} {K : Act → World → Prop}
theorem p_call {i : Nat} {o : Oper} {a : Act} {w : World} {f : FuncId} {xs : Array Operand} {ts : Array TypeId} {args : Array Value} (hi : ops[i]? = some o) (hg : o.guard = none)
    (ho : o.op = .call { callee := .value (.func f), args := xs, argTypes := ts }) (ha : xs.map a.eval = args) (hf : ∀ (args : Array Value) (w : World), (callFunc f args).run P w = .ok (.enter f args) w)
    (h : Calls P f args w fun e w' => ∃ v, e = .returned v ∧ K (a.put o.dst v) w') : wpOp P ops Q i K a w := by
  have hr : (execOp a.eval o).run P w = .ok (.enter f args) w := by
    unfold execOp
    simp only [ho]
    simp [resolve, ha, go_sem, hf]
  unfold wpOp
  simp only [hi]
  rw [if_pos (wanted_free hg)]
  left
  unfold Oper.wp
  rw [hr]
  refine h.mono ?_
  rintro e w' ⟨v, rfl, hk⟩
  exact hk
theorem p_store {i : Nat} {o : Oper} {a : Act} {w : World} {t : TypeId} {x y : Operand} {p : Addr} {k : IntKind} {z : Int} (hi : ops[i]? = some o) (hg : o.guard = none)
    (ho : o.op = .store t x y) (hd : o.dst = none) (hx : a.eval x = .pointer (some p)) (hy : a.eval y = .int k z) (hu : P.underlying t = some (.int k)) (hs : (P.info? t).map (·.size) = some 1) (hc : (w.cell? p).isSome = true) (hz : w.frozen? p = false)
    (h : K a (w.setCell p (.int k z))) : wpOp P ops Q i K a w := by
  obtain ⟨u, hc'⟩ := Option.isSome_iff_exists.1 hc
  have hr : (execOp a.eval o).run P w = .ok .skip (w.setCell p (.int k z)) := by
    have hag : (isAgg t).run P w = .ok false w := by unfold isAgg; rw [Sem.run_bind, run_underlying hu w]; rfl
    cases hq : P.info? t with
    | none => simp [hq] at hs
    | some m =>
      have hm : m.size = 1 := by simpa [hq] using hs
      unfold execOp
      simp only [ho, hx, hy]
      simp [Instr.storeAt, Instr.sureAddr, Sem.run_bind, hag, hc', hz, sizeOf, typeInfo, hq, hm, go_sem]
  unfold wpOp
  simp only [hi]
  rw [if_pos (wanted_free hg)]
  left
  unfold Oper.wp
  rw [hr]
  show K (a.put o.dst undef) _
  rw [hd]
  exact h
end
end Go.Proofs.YtpmobjfhhkglbaaDoor

/- A drawn region step by step: what has come up is a number; an operation is taken first, or each that may come up is run. -/
namespace Go.Proofs.YtpmobjfhhkglbaaDoor
open Go.RowKit
set_option linter.unusedVariables false
set_option linter.unusedSimpArgs false

def lsd (n m : Nat) : Array Bool := Array.ofFn (n := n) fun i => m.testBit i.val
theorem lsd_is {n m : Nat} (h : m < 2 ^ n) : Lsd n m (lsd n m) := ⟨by simp [lsd], fun j hj => by simp [lsd], h⟩
theorem lsd_set {n m i : Nat} (hi : i < n) : (lsd n m).setIfInBounds i true = lsd n (m ||| 2 ^ i) := by
  apply Array.ext
  · simp [lsd]
  · intro j h1 h2
    have hj : j < (lsd n m).size := by simpa using h1
    rw [Array.getElem_setIfInBounds hj]
    simp only [lsd, Array.getElem_ofFn, Nat.testBit_or, Nat.testBit_two_pow]
    by_cases hij : i = j <;> simp [hij]
theorem lsd_zero (n : Nat) : Array.replicate n false = lsd n 0 := by
  apply Array.ext
  · simp [lsd]
  · intro j h1 h2; simp [lsd]
/-- a region's operations, as numbers -/
structure Reg (ops : Array Oper) (lt : List Lt) : Prop where
  lt : ltOf ops = lt
  sel : Region.noSelect ops = true
def takeL (lt : List Lt) (i m : Nat) : Bool :=
  decide (m < 2 ^ lt.length) && match lt[i]? with
    | none => false
    | some x => rdL x i m && lt.zipIdx.all (fun y => y.2 == i || m.testBit y.2 || y.1.1.testBit i || apL x y.1)
def someL (lt : List Lt) (rs : List Nat) (m : Nat) : Bool :=
  decide (m < 2 ^ lt.length) && !rs.isEmpty && lt.zipIdx.all (fun y => rs.contains y.2 == rdL y.1 y.2 m) && rs.all (fun i => decide (i < lt.length))
section
variable {P : Program} {ops : Array Oper} {lt : List Lt} {Q : Exit → Act → World → Prop} {S : World → Prop}
theorem Reg.len (R : Reg ops lt) : lt.length = ops.size := by rw [← R.lt]; simp [ltOf]
/-- what is left of a region, where the operations of m have come up -/
def At (P : Program) (ops : Array Oper) (Q : Exit → Act → World → Prop) (S : World → Prop) (fuel m : Nat) (a : Act) (w : World) : Prop := wpAnyH P .any ops (NoPanic Q) S fuel (lsd ops.size m) a w
theorem at_begin {id n : Nat} {a : Act} {w : World} (S : World → Prop) (hm : P.follows .mixedOrders = true) (hn : ops.size = n) (h : At P ops Q S n 0 a w.drew) : (Code.region id ops true).wp P Q a w := by
  refine wp_region_noPanic (wp_region_held (S := S) hm ?_)
  subst hn
  unfold At at h
  rw [← lsd_zero] at h
  exact h
theorem at_done (R : Reg ops lt) {m fuel : Nat} {a : Act} {w : World} (hm : (m == 2 ^ lt.length - 1) = true) (h : Q .normal a w) : At P ops Q S fuel m a w := by
  have hm' : m = 2 ^ ops.size - 1 := by rw [← R.len]; simpa using hm
  have hL := lsd_is (n := ops.size) (m := m) (by rw [hm']; have := Nat.two_pow_pos ops.size; omega)
  refine wpAnyH_done ?_ (NoPanic.normal h) _
  rw [List.eq_nil_iff_forall_not_mem]
  intro j hj
  obtain ⟨h1, o, ho, _⟩ := mem_ready.1 hj
  have hj' : j < ops.size := (Array.getElem?_eq_some_iff.1 ho).1
  rw [hL.tru hj', hm', Nat.testBit_two_pow_sub_one] at h1
  simp [hj'] at h1
theorem at_take (R : Reg ops lt) {m m' i fuel : Nat} {a : Act} {w : World} {o : Oper} {v : Value} (hi : ops[i]? = some o) (hc : takeL lt i m = true) (he : m ||| 2 ^ i = m') (hy : YieldsIf P ops S o v a) (hS : S w)
    (h : At P ops Q S fuel m' (a.put o.dst v) w) : At P ops Q S (fuel + 1) m a w := by
  unfold takeL at hc
  rw [Bool.and_eq_true, decide_eq_true_iff, R.len] at hc
  obtain ⟨hlt, hc⟩ := hc
  rw [at_lt R.lt hi] at hc
  simp only [Bool.and_eq_true] at hc
  have hL := lsd_is hlt
  have hio : i < ops.size := (Array.getElem?_eq_some_iff.1 hi).1
  have hrd := (ready_of hL hi).2 hc.1
  refine wpAnyH_first hi (Region.noSelect_spec R.sel) (fun c a w hh => hh) _ _ a w ?_ hrd hy hS ?_
  · intro j oj hj hne hun hno
    have hj' : j < ops.size := (Array.getElem?_eq_some_iff.1 hj).1
    have hmem : ((aftM oj, oj.dst, oj.looksAt ops), j) ∈ lt.zipIdx := List.mem_zipIdx_iff_getElem?.2 (at_lt R.lt hj)
    have := List.all_eq_true.1 hc.2 _ hmem
    rw [hL.tru hj'] at hun
    simp only [hun, Bool.or_false] at this
    rw [show (j == i) = false from by rw [beq_eq_false_iff_ne]; exact hne, Bool.false_or, Bool.or_eq_true] at this
    rcases this with h1 | h1
    · obtain ⟨e, he, hb, hk⟩ := (aftM_bit oj i).1 h1
      exact absurd hk (hno e he hb)
    · exact h1
  · unfold At at h
    rw [lsd_set hio, he]
    exact h
theorem at_some (R : Reg ops lt) {m fuel : Nat} {a : Act} {w : World} (rs : List Nat) (hc : someL lt rs m = true)
    (h : ∀ i ∈ rs, wpOp P ops (NoPanic Q) i (fun a' w' => S w' ∧ At P ops Q S fuel (m ||| 2 ^ i) a' w') a w) : At P ops Q S (fuel + 1) m a w := by
  unfold someL at hc
  simp only [Bool.and_eq_true, decide_eq_true_iff, Bool.not_eq_true'] at hc
  obtain ⟨⟨⟨hlt, hne⟩, hall⟩, hin⟩ := hc
  rw [R.len] at hlt
  have hL := lsd_is hlt
  have hmem : ∀ j oj, ops[j]? = some oj → (j ∈ Region.ready .any ops (lsd ops.size m) ↔ j ∈ rs) := fun j oj hj => by
    rw [ready_of hL hj]
    have hz : ((aftM oj, oj.dst, oj.looksAt ops), j) ∈ lt.zipIdx := List.mem_zipIdx_iff_getElem?.2 (at_lt R.lt hj)
    have := List.all_eq_true.1 hall _ hz
    rw [beq_iff_eq] at this
    rw [← this]
    simp
  refine ⟨fun h0 => ?_, fun j hj => ?_⟩
  · cases rs with
    | nil => simp at hne
    | cons i r =>
      have hi : i < ops.size := by rw [← R.len]; simpa using List.all_eq_true.1 hin i (by simp)
      have := (hmem i ops[i] (Array.getElem?_eq_getElem hi)).2 (by simp)
      rw [h0] at this
      cases this
  · obtain ⟨_, oj, hoj, _⟩ := mem_ready.1 hj
    have hjo : j < ops.size := (Array.getElem?_eq_some_iff.1 hoj).1
    rw [lsd_set hjo]
    exact h j ((hmem j oj hoj).1 hj)
/-- but one may come up -/
theorem at_one (R : Reg ops lt) {m m' i fuel : Nat} {a : Act} {w : World} (hc : someL lt [i] m = true) (he : m ||| 2 ^ i = m')
    (h : wpOp P ops (NoPanic Q) i (fun a' w' => S w' ∧ At P ops Q S fuel m' a' w') a w) : At P ops Q S (fuel + 1) m a w :=
  at_some R [i] hc fun j hj => by
    obtain rfl : j = i := by simpa using hj
    rw [he]
    exact h
/-- one of two -/
theorem at_two (R : Reg ops lt) {m m1 m2 i j fuel : Nat} {a : Act} {w : World} (hc : someL lt [i, j] m = true) (e1 : m ||| 2 ^ i = m1) (e2 : m ||| 2 ^ j = m2)
    (h1 : wpOp P ops (NoPanic Q) i (fun a' w' => S w' ∧ At P ops Q S fuel m1 a' w') a w) (h2 : wpOp P ops (NoPanic Q) j (fun a' w' => S w' ∧ At P ops Q S fuel m2 a' w') a w) : At P ops Q S (fuel + 1) m a w :=
  at_some R [i, j] hc fun k hk => by
    simp only [List.mem_cons, List.not_mem_nil, or_false] at hk
    rcases hk with rfl | rfl
    · rw [e1]; exact h1
    · rw [e2]; exact h2
/-- the frame's size, and that nothing is deferred -/
def Fz (n : Nat) (a : Act) : Prop := a.tmps.size = n ∧ a.defers = []
theorem Fz.put {n : Nat} {a : Act} (h : Fz n a) (d : Option Nat) (v : Value) : Fz n (a.put d v) := ⟨put_size.trans h.1, by cases d <;> exact h.2⟩
theorem y_load_row {o : Oper} {a : Act} {x : Operand} {t : TypeId} {b c : Nat} {cs : List Value} {d : TypeDesc} (hg : o.guard = none) (ho : o.op = .load t x) (hx : a.eval x = .pointer (some ⟨b, c, none⟩))
    (hu : P.underlying t = some d) (hd : d.isRow = true) (hi : (P.info? t).map (·.size) = some cs.length) (hc : ∀ w, S w → w.rangeAt b c cs) : YieldsIf P ops S o (.agg cs.toArray) a := by
  refine y_of hg fun w hw => ?_
  unfold execOp
  simp only [ho, hx]
  simp [run_loadAt_mid w b c t cs d (hc w hw) hu hd hi, Sem.run_bind]
end
end Go.Proofs.YtpmobjfhhkglbaaDoor

/- Steps of drawn regions, apart from keccak's: parts of a code, what runs. -/
namespace Go.Proofs.YtpmobjfhhkglbaaDoor
open Go.RowKit
set_option linter.unusedVariables false
set_option linter.unusedSimpArgs false

def cLA : Code → Code
  | .seq a _ => a
  | c => c
def cRA : Code → Code
  | .seq _ b => b
  | c => c
def cBA : Code → Code
  | .block _ b => b
  | c => c
def cLpA : Code → Code
  | .loop b => b
  | c => c
def opsA : Code → Array Oper
  | .region _ ops _ => ops
  | _ => #[]
section
variable {ops : Array Oper} {Q : Exit → Act → World → Prop} {S : World → Prop} {K : Act → World → Prop}
theorem p_rowA {i : Nat} {o : Oper} {a : Act} {w : World} {t : TypeId} {x y : Operand} {g : Nat} {cells old : Array Value} {t' : TypeId} (hi : ops[i]? = some o) (hg : o.guard = none) (ho : o.op = .store t x y) (hd : o.dst = none) (hx : a.eval x = .pointer (some ⟨g, 0, none⟩)) (hy : a.eval y = .agg cells)
    (hb : w.heap[g]? = some (.cells old t' (0, 0))) (hs : (Tryd.prog.info? t).map (·.size) = some cells.size) (hold : old.size = cells.size) (h1 : cells.all (·.oneCell') = true)
    (h : K a (w.setRow g cells)) : wpOp Tryd.prog ops Q i K a w := by
  unfold wpOp
  simp only [hi]
  rw [if_pos (wanted_free hg)]
  left
  refine wp_store_row t x y ho g cells hx hy t' old hb hs hold h1 ?_
  rw [hd]
  exact h
end
end Go.Proofs.YtpmobjfhhkglbaaDoor

/- A drawn region in a round of a loop over an iterator, by a plan. -/
namespace Go.Proofs.YtpmobjfhhkglbaaDoor
open Go.RowKit
set_option linter.unusedVariables false
set_option linter.unusedSimpArgs false

section
variable {P : Program} {ops : Array Oper} {R : Act → World → Prop} {l n : Nat}
variable {S : World → Prop} {Q : Exit → Act → World → Prop} {K : Act → World → Prop}
theorem p_store_plain {i : Nat} {o : Oper} {a : Act} {w : World} {t : TypeId} {x y : Operand} {p : Addr} {ad : Option Addr} {n c : Nat} {d : TypeDesc} (hi : ops[i]? = some o) (hg : o.guard = none)
    (ho : o.op = .store t x y) (hdst : o.dst = none) (hx : a.eval x = .pointer (some p)) (hy : a.eval y = .slice ad n c) (hu : P.underlying t = some d) (hd : (match d with | .struct _ | .array _ _ => true | _ => false) = false) (hs : (P.info? t).map (·.size) = some 1) (hc : (w.cell? p).isSome = true) (hz : w.frozen? p = false)
    (h : K a (w.setCell p (.slice ad n c))) : wpOp P ops Q i K a w := by
  obtain ⟨u, hc'⟩ := Option.isSome_iff_exists.1 hc
  have hr : (execOp a.eval o).run P w = .ok .skip (w.setCell p (.slice ad n c)) := by
    have hag : (isAgg t).run P w = .ok false w := by
      unfold isAgg
      rw [Sem.run_bind, run_underlying hu w]
      cases d <;> first | rfl | cases hd
    cases hq : P.info? t with
    | none => simp [hq] at hs
    | some m =>
      have hm : m.size = 1 := by simpa [hq] using hs
      unfold execOp
      simp only [ho, hx, hy]
      simp [Instr.storeAt, Instr.sureAddr, Sem.run_bind, hag, hc', hz, sizeOf, typeInfo, hq, hm, go_sem]
  unfold wpOp
  simp only [hi]
  rw [if_pos (wanted_free hg)]
  left
  unfold Oper.wp
  rw [hr]
  show K (a.put o.dst undef) _
  rw [hdst]
  exact h
theorem at_takeD {lt : List Lt} (Rg : Reg ops lt) {m m' i fuel : Nat} {a : Act} {w : World} {o : Oper} {v : Value} {d : Option Nat} (hi : ops[i]? = some o) (hc : takeL lt i m = true) (he : m ||| 2 ^ i = m') (hd : o.dst = d) (hy : YieldsIf P ops S o v a) (hS : S w)
    (h : At P ops Q S fuel m' (a.put d v) w) : At P ops Q S (fuel + 1) m a w := at_take Rg hi hc he hy hS (by rw [hd]; exact h)
end
end Go.Proofs.YtpmobjfhhkglbaaDoor

/- Steps of a plan that any program may take: fields, nil checks, slices, method values. -/
namespace Go.Proofs.YtpmobjfhhkglbaaDoor
open Go.RowKit
set_option linter.unusedVariables false
set_option linter.unusedSimpArgs false
section
variable {ops : Array Oper} {Q : Exit → Act → World → Prop} {S : World → Prop} {K : Act → World → Prop}
/-- a text from F to G -/
theorem slice_mid (ba : Option Addr) (n bc F G : Nat) (hF : F ≤ G) (hG : G ≤ bc) : ∃ A, (∀ w : World, (Instr.slice 26 (.slice ba n bc) (some (.int .i64 (F : Int))) (some (.int .i64 (G : Int))) none).run Tryd.prog w = .ok (.slice A (G - F) (bc - F)) w) ∧ (A = ba ∧ bc = F ∨ A = ba.map (·.add F)) := by
  obtain ⟨i0, hi0, _, hz1, _⟩ := info_parts Tryd.info5
  have h : (F : Int) ≤ (G : Int) := by omega
  have h2 : (G : Int) ≤ (bc : Int) := by omega
  refine ⟨if bc = F then ba else ba.map (·.add F), fun w => ?_, ?_⟩
  · by_cases e : bc = F
    · subst e
      cases ba <;> simp [Instr.slice, Instr.sliceBounds, Instr.sliceBound, asIntOf, Sem.run_bind, run_underlying Tryd.underlying26, h, h2, hF, hG, sizeOf, typeInfo, hi0, hz1, Addr.add]
    · cases ba <;> simp [Instr.slice, Instr.sliceBounds, Instr.sliceBound, asIntOf, Sem.run_bind, run_underlying Tryd.underlying26, h, h2, hF, hG, e, sizeOf, typeInfo, hi0, hz1, Addr.add]
  · by_cases e : bc = F
    · rw [if_pos e]; exact .inl ⟨rfl, e⟩
    · rw [if_neg e]; exact .inr rfl
end
end Go.Proofs.YtpmobjfhhkglbaaDoor

/- Steps of a plan behind guards, over a frame of which some slots are known: tools/pg.py writes regions out by them. -/
namespace Go.Proofs.YtpmobjfhhkglbaaDoor
open Go.RowKit
set_option linter.unusedVariables false
set_option linter.unusedSimpArgs false
section
variable {ops : Array Oper} {Q : Exit → Act → World → Prop} {S : World → Prop} {K : Act → World → Prop}
theorem tmp_isG {a : Act} {d : Nat} {b : Bool} (h : a.eval (.tmp d) = .bool b) : a.tmps[d]? = some (.bool b) := by
  have h' : a.tmps.getD d undef = .bool b := h
  rw [Array.getD_eq_getD_getElem?] at h'
  cases hq : a.tmps[d]? with
  | none => rw [hq] at h'; simp [undef] at h'
  | some v => rw [hq] at h'; simp at h'; rw [h']
theorem wanted_gG {o oj : Oper} {a : Act} {j d : Nat} {b : Bool} (hg : o.guard = some (j, b)) (hj : ops[j]? = some oj) (hd : oj.dst = some d) (hv : a.eval (.tmp d) = .bool b) : Region.wanted o (yielded ops a.tmps) = true := by
  have ht := tmp_isG hv
  simp [Region.wanted, hg, yielded, hj, hd, ht]
theorem y_ofG {o : Oper} {v : Value} {a : Act} (hw : Region.wanted o (yielded ops a.tmps) = true) (h : ∀ w, S w → (execOp a.eval o).run Tryd.prog w = .ok (.value v) w) : YieldsIf Tryd.prog ops S o v a := .inl ⟨hw, h⟩
theorem y_moveG {o : Oper} {v : Value} {a : Act} {x : Operand} (hw : Region.wanted o (yielded ops a.tmps) = true) (ho : o.op = .move x) (hx : a.eval x = v) : YieldsIf Tryd.prog ops S o v a :=
  y_ofG hw fun w _ => by unfold execOp; simp only [ho, hx]; rfl
theorem y_rowG {o : Oper} {a : Act} {x : Operand} {t : TypeId} {b c : Nat} {cs : List Value} {d : TypeDesc} (hw : Region.wanted o (yielded ops a.tmps) = true) (ho : o.op = .load t x) (hx : a.eval x = .pointer (some ⟨b, c, none⟩))
    (hu : Tryd.prog.underlying t = some d) (hd : d.isRow = true) (hi : (Tryd.prog.info? t).map (·.size) = some cs.length) (hc : ∀ w, S w → w.rangeAt b c cs) : YieldsIf Tryd.prog ops S o (.agg cs.toArray) a := yieldsIf_load_mid hw t x ho b c hx cs d hc hu hd hi
theorem y_notG {o : Oper} {a : Act} {x : Operand} {t : TypeId} {b : Bool} (hw : Region.wanted o (yielded ops a.tmps) = true) (ho : o.op = .unOp .not t x) (hx : a.eval x = .bool b) : YieldsIf Tryd.prog ops S o (.bool (!b)) a := by
  refine y_ofG hw fun w _ => ?_
  unfold execOp
  simp only [ho, hx]
  simp [Op.unary, go_sem]
theorem p_callG {i : Nat} {o : Oper} {a : Act} {w : World} {f : FuncId} {xs : Array Operand} {ts : Array TypeId} {args : Array Value} {d : Option Nat} (hi : ops[i]? = some o) (hw : Region.wanted o (yielded ops a.tmps) = true)
    (ho : o.op = .call { callee := .value (.func f), args := xs, argTypes := ts }) (ha : xs.map a.eval = args) (hd : o.dst = d) (hf : ∀ (args : Array Value) (w : World), (callFunc f args).run Tryd.prog w = .ok (.enter f args) w)
    (h : Calls Tryd.prog f args w fun e w' => ∃ v, e = .returned v ∧ K (a.put d v) w') : wpOp Tryd.prog ops Q i K a w := by
  have hr : (execOp a.eval o).run Tryd.prog w = .ok (.enter f args) w := by
    unfold execOp
    simp only [ho]
    simp [resolve, ha, go_sem, hf]
  unfold wpOp
  simp only [hi]
  rw [if_pos hw]
  left
  unfold Oper.wp
  rw [hr]
  refine h.mono ?_
  rintro e w' ⟨v, rfl, hk⟩
  rw [← hd] at hk
  exact hk
theorem y_assignG {o : Oper} {v : Value} {a : Act} {x : Operand} (hw : Region.wanted o (yielded ops a.tmps) = true) (ho : o.op = .assign x) (hx : a.eval x = v) : YieldsIf Tryd.prog ops S o v a :=
  y_ofG hw fun w _ => by unfold execOp; simp only [ho, hx]; rfl
theorem y_extractG {o : Oper} {v : Value} {a : Act} {x : Operand} {k : Nat} {vs : Array Value} (hw : Region.wanted o (yielded ops a.tmps) = true) (ho : o.op = .extract x k) (hx : a.eval x = .tuple vs) (hk : vs[k]? = some v) : YieldsIf Tryd.prog ops S o v a :=
  y_ofG hw fun w _ => by unfold execOp; simp only [ho, hx]; simp [hk, go_sem]
theorem y_pickTG {o : Oper} {v : Value} {a : Act} {c x y : Operand} (hw : Region.wanted o (yielded ops a.tmps) = true) (ho : o.op = .pick c x y) (hc : a.eval c = .bool true) (hx : a.eval x = v) : YieldsIf Tryd.prog ops S o v a :=
  y_ofG hw fun w _ => by unfold execOp; simp only [ho, hc, hx]; rfl
theorem y_pickEG {o : Oper} {v : Value} {a : Act} {c x y : Operand} (hw : Region.wanted o (yielded ops a.tmps) = true) (ho : o.op = .pick c x y) (hc : a.eval c = .bool false) (hy : a.eval y = v) : YieldsIf Tryd.prog ops S o v a :=
  y_ofG hw fun w _ => by unfold execOp; simp only [ho, hc, hy]; rfl
theorem y_plainG {o : Oper} {v : Value} {a : Act} {x : Operand} {t : TypeId} {p : Addr} {d : TypeDesc} (hw : Region.wanted o (yielded ops a.tmps) = true) (ho : o.op = .load t x) (hx : a.eval x = .pointer (some p)) (hu : Tryd.prog.underlying t = some d) (hd : (match d with | .struct _ | .array _ _ => true | _ => false) = false) (hc : ∀ w, S w → w.cell? p = some v) : YieldsIf Tryd.prog ops S o v a := by
  refine y_ofG hw fun w hs => ?_
  have c := hc w hs
  have hag : (isAgg t).run Tryd.prog w = .ok false w := by
    unfold isAgg
    rw [Sem.run_bind, run_underlying hu w]
    cases d <;> first | rfl | cases hd
  unfold execOp
  simp only [ho, hx]
  simp [Instr.loadAt, Instr.sureAddr, Sem.run_bind, run_underlying hu w, hag, c, go_sem]
theorem y_fieldG {o : Oper} {a : Act} {x : Operand} {t : TypeId} {q q' f off : Nat} (hw : Region.wanted o (yielded ops a.tmps) = true) (ho : o.op = .fieldAddr t x f) (hx : a.eval x = .pointer (some ⟨q, q', none⟩))
    (hf : ∀ w : World, (Instr.fieldAt t (.pointer (some ⟨q, q', none⟩)) f).run Tryd.prog w = .ok (.pointer (some ⟨q, off, none⟩)) w) : YieldsIf Tryd.prog ops S o (.pointer (some ⟨q, off, none⟩)) a := by
  refine y_ofG hw fun w _ => ?_
  unfold execOp
  simp only [ho, hx]
  simp [hf w, Sem.run_bind]
/-- the place of an element of m cells -/
theorem y_indexG {o : Oper} {a : Act} {x y : Operand} {t e : TypeId} {g f n c i m : Nat} (hw : Region.wanted o (yielded ops a.tmps) = true) (ho : o.op = .indexAddr t x y) (hx : a.eval x = .slice (some ⟨g, f, none⟩) n c) (hy : a.eval y = .int .i64 (i : Int)) (hu : Tryd.prog.underlying t = some (.slice e)) (hs : (Tryd.prog.info? e).map (·.size) = some m) (hi : i < n) : YieldsIf Tryd.prog ops S o (.pointer (some ⟨g, f + i * m, none⟩)) a := by
  cases hq : Tryd.prog.info? e with
  | none => simp [hq] at hs
  | some z =>
    have hz : z.size = m := by simpa [hq] using hs
    refine y_ofG hw fun w _ => ?_
    unfold execOp
    simp only [ho, hx, hy]
    simp [Instr.indexAt, asIntOf, Sem.run_bind, run_underlying hu w, sizeOf, typeInfo, hq, hz, hi, Addr.add, go_sem]
    try omega
theorem y_lenP {o : Oper} {a : Act} {x : Operand} {t e : TypeId} {aa : Option Addr} {n cc : Nat} (hw : Region.wanted o (yielded ops a.tmps) = true) (ho : o.op = .call { callee := .builtin .len, args := #[x], argTypes := #[t] }) (hx : a.eval x = .slice aa n cc) (hu : Tryd.prog.underlying t = some (.slice e)) : YieldsIf Tryd.prog ops S o (.int .i64 (n : Int)) a :=
  y_ofG hw fun w _ => by
    unfold execOp
    have ha : (#[x] : Array Operand).map a.eval = #[.slice aa n cc] := by simp only [List.map_toArray, List.map_cons, List.map_nil, hx]
    generalize (#[x] : Array Operand) = xs at ho ha
    simp only [ho]
    simp [resolve, ha, go_sem, Builtin.len_, Sem.run_bind, run_underlying hu]
/-- two ints held against one another -/
theorem y_eqI {o : Oper} {a : Act} {x y : Operand} {t t' : TypeId} {k : IntKind} {i j : Int} {b : Bool} (hw : Region.wanted o (yielded ops a.tmps) = true) (ho : o.op = .binOp .eql t x y t') (hx : a.eval x = .int k i) (hy : a.eval y = .int k j) (hu : Tryd.prog.underlying t = some (.int k)) (hb : (i == j) = b) : YieldsIf Tryd.prog ops S o (.bool b) a := by
  refine y_ofG hw fun w _ => ?_
  unfold execOp
  simp only [ho, hx, hy]
  simp [go_sem, Sem.run_bind, eqGuard, run_underlying hu, hb]
theorem y_neI {o : Oper} {a : Act} {x y : Operand} {t t' : TypeId} {k : IntKind} {i j : Int} {b : Bool} (hw : Region.wanted o (yielded ops a.tmps) = true) (ho : o.op = .binOp .neq t x y t') (hx : a.eval x = .int k i) (hy : a.eval y = .int k j) (hu : Tryd.prog.underlying t = some (.int k)) (hb : (i != j) = b) : YieldsIf Tryd.prog ops S o (.bool b) a := by
  refine y_ofG hw fun w _ => ?_
  unfold execOp
  simp only [ho, hx, hy]
  simp [go_sem, Sem.run_bind, eqGuard, run_underlying hu, ← hb]
/-- a sum of two ints -/
theorem y_addI {o : Oper} {a : Act} {x y : Operand} {t t' : TypeId} {i j q : Int} (hw : Region.wanted o (yielded ops a.tmps) = true) (ho : o.op = .binOp .add t x y t') (hx : a.eval x = .int .i64 i) (hy : a.eval y = .int .i64 j) (hu : Tryd.prog.underlying t = some (.int .i64)) (hb : IntKind.i64.wrap (i + j) = q) : YieldsIf Tryd.prog ops S o (.int .i64 q) a := by
  refine y_ofG hw fun w _ => ?_
  unfold execOp
  simp only [ho, hx, hy]
  simp [go_sem, Sem.run_bind, run_underlying hu, hb]
theorem y_mulI {o : Oper} {a : Act} {x y : Operand} {t t' : TypeId} {i j q : Int} (hw : Region.wanted o (yielded ops a.tmps) = true) (ho : o.op = .binOp .mul t x y t') (hx : a.eval x = .int .i64 i) (hy : a.eval y = .int .i64 j) (hu : Tryd.prog.underlying t = some (.int .i64)) (hb : IntKind.i64.wrap (i * j) = q) : YieldsIf Tryd.prog ops S o (.int .i64 q) a := by
  refine y_ofG hw fun w _ => ?_
  unfold execOp
  simp only [ho, hx, hy]
  simp [go_sem, Sem.run_bind, run_underlying hu, hb]
theorem y_convI {o : Oper} {a : Act} {x : Operand} {t t' : TypeId} {k k' : IntKind} {i j : Int} (hw : Region.wanted o (yielded ops a.tmps) = true) (ho : o.op = .convert t t' x) (hx : a.eval x = .int k i) (hr : ∀ w, (convert t t' (.int k i)).run Tryd.prog w = .ok (.int k' j) w) : YieldsIf Tryd.prog ops S o (.int k' j) a := by
  refine y_ofG hw fun w _ => ?_
  have h := hr w
  unfold execOp
  simp only [ho, hx]
  simp [Sem.run_bind, h]
theorem p_build2G {i : Nat} {o : Oper} {a : Act} {w : World} {t e : TypeId} {x y : Operand} {ax ay : Option Addr} {nx cx ny cy : Nat} {d : Option Nat} {z : TypeInfo} (hi : ops[i]? = some o) (hw : Region.wanted o (yielded ops a.tmps) = true) (ho : o.op = .buildSlice t 2 #[(0, x), (1, y)]) (hx : a.eval x = .slice ax nx cx) (hy : a.eval y = .slice ay ny cy) (hd : o.dst = d)
    (hu : Tryd.prog.underlying t = some (.slice e)) (hz : Tryd.prog.info? e = some z) (hs : z.size = 1) (hz0 : z.zero = some (.slice none 0 0)) (h : K (a.put d (.slice (some ⟨w.heap.size, 0, none⟩) 2 2)) (w.alloc (.cells #[.slice ax nx cx, .slice ay ny cy] e))) : wpOp Tryd.prog ops Q i K a w := by
  have hr : (execOp a.eval o).run Tryd.prog w = .ok (.value (.slice (some ⟨w.heap.size, 0, none⟩) 2 2)) (w.alloc (.cells #[.slice ax nx cx, .slice ay ny cy] e)) := by
    unfold execOp
    simp only [ho, List.map_toArray, List.map_cons, List.map_nil, hx, hy]
    simp [Sem.run_bind, run_underlying hu, sizeOf, typeInfo, zeroValue, hz, hs, hz0, go_sem]
  unfold wpOp
  simp only [hi]
  rw [if_pos hw]
  left
  unfold Oper.wp
  rw [hr]
  show K (a.put o.dst _) _
  rw [hd]
  exact h
end
end Go.Proofs.YtpmobjfhhkglbaaDoor

/- Keys of chains: the document's Put. -/
namespace Go.Proofs.YtpmobjfhhkglbaaDoor
open Go.RowKit
set_option linter.unusedVariables false
set_option linter.unusedSimpArgs false

theorem lies_rangeW {w : World} {k : IntKind} {t : TypeId} {g : Nat} {l : List Nat} (h : Lies k t w g l) : w.rangeAt g 0 (vals k l) := fun j v hv => by
  have hj : j < l.length := by have := (List.getElem?_eq_some_iff.1 hv).1; rwa [vals_length] at this
  rw [Nat.zero_add, h.cell hj, ← hv, vals_get k l j hj]
end Go.Proofs.YtpmobjfhhkglbaaDoor

/- A value whose block is not older than a bound. -/
namespace Go.Proofs.YtpmobjfhhkglbaaDoor
open Go.RowKit
set_option linter.unusedVariables false
def New (B : Nat) (v : Value) : Prop := ∀ q, v.ownBlock = some q → B ≤ q
theorem New.at {B g n c o : Nat} (h : B ≤ g) : New B (.slice (some ⟨g, o, none⟩) n c) := fun q hq => by
  have : g = q := by simpa [Value.ownBlock] using hq
  omega
theorem New.nil (B n c : Nat) : New B (.slice none n c) := fun q hq => by simp [Value.ownBlock] at hq
theorem New.mono {B B' : Nat} {v : Value} (h : New B v) (hB : B' ≤ B) : New B' v := fun q hq => Nat.le_trans hB (h q hq)
theorem Own.new {e : TypeId} {k : IntKind} {m : Nat} {w : World} {B : Nat} {v : Value} {l : List Nat} (h : Own e k m w B v l) : New B v := fun q hq => (h.1.lt q hq).1
end Go.Proofs.YtpmobjfhhkglbaaDoor
