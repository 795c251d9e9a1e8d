/- A drawn region by a plan: which operation is taken first, which runs because it alone may come up. The orders are asked by numbers (bits), the frame is known at the slots in use alone. -/
import Derived.Test.YtogiballdmgcpaaGreatDoorBase
import Derived.OrdersHeld
import Derived.Deep.RegionHeld3
import Derived.Test.YtogiballdmgcpaaGreatDoorHSpr32
import Derived.RangeFuncCalls
import Derived.RangeFuncBox
import Derived.Stop.RegionWithIn
namespace Go.Proofs.YtogiballdmgcpaaGreatDoor
open Go.RowKit
set_option linter.unusedVariables false
set_option linter.unusedSimpArgs false

/-- of an operation: for whom it waits (as bits), where it writes, what it looks at -/
abbrev Lt := Nat × Option Nat × List Nat
def aftM (o : Oper) : Nat := o.after.toList.foldl (fun s e => if Region.binds .any e then s ||| 2 ^ e.on else s) 0
def ltOf (ops : Array Oper) : List Lt := ops.toList.map fun o => (aftM o, o.dst, o.looksAt ops)
def apL (x y : Lt) : Bool :=
  (match x.2.1 with
   | some d => !y.2.2.contains d && y.2.1 != some d
   | none => true) &&
  (match y.2.1 with
   | some d => !x.2.2.contains d
   | none => true)
def rdL (x : Lt) (i m : Nat) : Bool := !m.testBit i && (x.1 &&& m == x.1)
theorem aft_bits (l : List Edge) (k : Nat) : ∀ s : Nat, (l.foldl (fun s e => if Region.binds .any e then s ||| 2 ^ e.on else s) s).testBit k = (s.testBit k || l.any (fun e => Region.binds .any e && e.on == k)) := by
  induction l with
  | nil => intro s; simp
  | cons e l ih =>
    intro s
    rw [List.foldl_cons, ih, List.any_cons]
    cases hb : Region.binds .any e
    · simp
    · simp only [if_true, Nat.testBit_or, Nat.testBit_two_pow, Bool.true_and, Bool.or_assoc]
      congr 2
theorem aftM_bit (o : Oper) (k : Nat) : (aftM o).testBit k = true ↔ ∃ e ∈ o.after, Region.binds .any e = true ∧ e.on = k := by
  unfold aftM
  rw [aft_bits]
  simp only [Nat.zero_testBit, Bool.false_or, List.any_eq_true, Bool.and_eq_true, beq_iff_eq, Array.mem_toList_iff]
theorem sub_bits (x m : Nat) : x &&& m = x ↔ ∀ k, x.testBit k = true → m.testBit k = true := by
  constructor
  · intro h k hk
    rw [← h, Nat.testBit_and, Bool.and_eq_true] at hk
    exact hk.2
  · intro h
    apply Nat.eq_of_testBit_eq
    intro k
    rw [Nat.testBit_and]
    cases hk : x.testBit k
    · rfl
    · rw [h k hk]; rfl
/-- what has come up, as bits -/
structure Lsd (n m : Nat) (listed : Array Bool) : Prop where
  size : listed.size = n
  bit : ∀ j (h : j < listed.size), listed[j] = m.testBit j
  lt : m < 2 ^ n
theorem Lsd.tru {n m : Nat} {listed : Array Bool} (h : Lsd n m listed) {j : Nat} (hj : j < n) : listed.getD j true = m.testBit j := by
  have hs : j < listed.size := by rw [h.size]; exact hj
  simp [Array.getD, hs, h.bit j hs]
theorem Lsd.fls {n m : Nat} {listed : Array Bool} (h : Lsd n m listed) (j : Nat) : listed.getD j false = m.testBit j := by
  by_cases hj : j < n
  · have hs : j < listed.size := by rw [h.size]; exact hj
    simp [Array.getD, hs, h.bit j hs]
  · have hs : ¬ j < listed.size := by rw [h.size]; exact hj
    rw [Nat.testBit_lt_two_pow (Nat.lt_of_lt_of_le h.lt (Nat.pow_le_pow_right (by decide) (by omega)))]
    simp [Array.getD, hs]
theorem Lsd.set {n m : Nat} {listed : Array Bool} (h : Lsd n m listed) {i : Nat} (hi : i < n) : Lsd n (m ||| 2 ^ i) (listed.setIfInBounds i true) := by
  refine ⟨by simp [h.size], fun j hj => ?_, Nat.or_lt_two_pow h.lt (Nat.pow_lt_pow_right (by decide) hi)⟩
  have hj' : j < listed.size := by simpa using hj
  rw [Nat.testBit_or, Nat.testBit_two_pow, Array.getElem_setIfInBounds]
  by_cases hij : i = j
  · simp [hij]
  · simp [hij, h.bit j hj']
  exact hj'
theorem Lsd.zero (n : Nat) : Lsd n 0 (Array.replicate n false) := ⟨by simp, fun j hj => by simp, Nat.two_pow_pos n⟩
section
variable {P : Program} {ops : Array Oper} {Q : Exit → Act → World → Prop} {S : World → Prop}
theorem at_lt {lt : List Lt} (hlt : ltOf ops = lt) {i : Nat} {o : Oper} (h : ops[i]? = some o) : lt[i]? = some (aftM o, o.dst, o.looksAt ops) := by
  rw [← hlt]
  unfold ltOf
  rw [List.getElem?_map, show ops.toList[i]? = some o by simpa using h]
  rfl
theorem ready_of {m : Nat} {listed : Array Bool} (h : Lsd ops.size m listed) {i : Nat} {o : Oper} (ho : ops[i]? = some o) : i ∈ Region.ready .any ops listed ↔ rdL (aftM o, o.dst, o.looksAt ops) i m = true := by
  have hi : i < ops.size := (Array.getElem?_eq_some_iff.1 ho).1
  rw [mem_ready, h.tru hi]
  unfold rdL
  simp only [Bool.and_eq_true, Bool.not_eq_true', beq_iff_eq]
  rw [sub_bits]
  constructor
  · rintro ⟨h1, o', ho', h2⟩
    obtain rfl := Option.some.inj (ho.symm.trans ho')
    refine ⟨h1, fun k hk => ?_⟩
    obtain ⟨e, he, hb, rfl⟩ := (aftM_bit o k).1 hk
    rw [← h.fls]
    exact h2 e he hb
  · rintro ⟨h1, h2⟩
    exact ⟨h1, o, ho, fun e he hb => by rw [h.fls]; exact h2 e.on ((aftM_bit o e.on).2 ⟨e, he, hb, rfl⟩)⟩
/-! ### the frame at the slots in use -/
/-! ### operations -/
theorem wanted_free {o : Oper} (hg : o.guard = none) {f : Nat → Option Bool} : Region.wanted o f = true := by simp [Region.wanted, hg]
theorem y_of {o : Oper} {v : Value} {a : Act} (hg : o.guard = none) (h : ∀ w, S w → (execOp a.eval o).run P w = .ok (.value v) w) : YieldsIf P ops S o v a := .inl ⟨wanted_free hg, h⟩
theorem y_move {o : Oper} {v : Value} {a : Act} {x : Operand} (hg : o.guard = none) (ho : o.op = .move x) (hx : a.eval x = v) : YieldsIf P ops S o v a :=
  y_of hg fun w _ => by unfold execOp; simp only [ho, hx]; rfl
end
end Go.Proofs.YtogiballdmgcpaaGreatDoor

/- Steps of a plan that run: a call, a store. -/
namespace Go.Proofs.YtogiballdmgcpaaGreatDoor
open Go.RowKit
set_option linter.unusedVariables false
set_option linter.unusedSimpArgs false
section
variable {P : Program} {ops : Array Oper} {Q : Exit → Act → World → Prop} {K : Act → World → Prop}
theorem p_call {i : Nat} {o : Oper} {a : Act} {w : World} {f : FuncId} {xs : Array Operand} {ts : Array TypeId} {args : Array Value} (hi : ops[i]? = some o) (hg : o.guard = none)
    (ho : o.op = .call { callee := .value (.func f), args := xs, argTypes := ts }) (ha : xs.map a.eval = args) (hf : ∀ (args : Array Value) (w : World), (callFunc f args).run P w = .ok (.enter f args) w)
    (h : Calls P f args w fun e w' => ∃ v, e = .returned v ∧ K (a.put o.dst v) w') : wpOp P ops Q i K a w := by
  have hr : (execOp a.eval o).run P w = .ok (.enter f args) w := by
    unfold execOp
    simp only [ho]
    simp [resolve, ha, go_sem, hf]
  unfold wpOp
  simp only [hi]
  rw [if_pos (wanted_free hg)]
  left
  unfold Oper.wp
  rw [hr]
  refine h.mono ?_
  rintro e w' ⟨v, rfl, hk⟩
  exact hk
theorem p_store {i : Nat} {o : Oper} {a : Act} {w : World} {t : TypeId} {x y : Operand} {p : Addr} {k : IntKind} {z : Int} (hi : ops[i]? = some o) (hg : o.guard = none)
    (ho : o.op = .store t x y) (hd : o.dst = none) (hx : a.eval x = .pointer (some p)) (hy : a.eval y = .int k z) (hu : P.underlying t = some (.int k)) (hs : (P.info? t).map (·.size) = some 1) (hc : (w.cell? p).isSome = true) (hz : w.frozen? p = false)
    (h : K a (w.setCell p (.int k z))) : wpOp P ops Q i K a w := by
  obtain ⟨u, hc'⟩ := Option.isSome_iff_exists.1 hc
  have hr : (execOp a.eval o).run P w = .ok .skip (w.setCell p (.int k z)) := by
    have hag : (isAgg t).run P w = .ok false w := by unfold isAgg; rw [Sem.run_bind, run_underlying hu w]; rfl
    cases hq : P.info? t with
    | none => simp [hq] at hs
    | some m =>
      have hm : m.size = 1 := by simpa [hq] using hs
      unfold execOp
      simp only [ho, hx, hy]
      simp [Instr.storeAt, Instr.sureAddr, Sem.run_bind, hag, hc', hz, sizeOf, typeInfo, hq, hm, go_sem]
  unfold wpOp
  simp only [hi]
  rw [if_pos (wanted_free hg)]
  left
  unfold Oper.wp
  rw [hr]
  show K (a.put o.dst undef) _
  rw [hd]
  exact h
end
end Go.Proofs.YtogiballdmgcpaaGreatDoor

/- A drawn region step by step: what has come up is a number; an operation is taken first, or each that may come up is run. -/
namespace Go.Proofs.YtogiballdmgcpaaGreatDoor
open Go.RowKit
set_option linter.unusedVariables false
set_option linter.unusedSimpArgs false

def lsd (n m : Nat) : Array Bool := Array.ofFn (n := n) fun i => m.testBit i.val
theorem lsd_is {n m : Nat} (h : m < 2 ^ n) : Lsd n m (lsd n m) := ⟨by simp [lsd], fun j hj => by simp [lsd], h⟩
theorem lsd_set {n m i : Nat} (hi : i < n) : (lsd n m).setIfInBounds i true = lsd n (m ||| 2 ^ i) := by
  apply Array.ext
  · simp [lsd]
  · intro j h1 h2
    have hj : j < (lsd n m).size := by simpa using h1
    rw [Array.getElem_setIfInBounds hj]
    simp only [lsd, Array.getElem_ofFn, Nat.testBit_or, Nat.testBit_two_pow]
    by_cases hij : i = j <;> simp [hij]
theorem lsd_zero (n : Nat) : Array.replicate n false = lsd n 0 := by
  apply Array.ext
  · simp [lsd]
  · intro j h1 h2; simp [lsd]
/-- a region's operations, as numbers -/
structure Reg (ops : Array Oper) (lt : List Lt) : Prop where
  lt : ltOf ops = lt
  sel : Region.noSelect ops = true
def takeL (lt : List Lt) (i m : Nat) : Bool :=
  decide (m < 2 ^ lt.length) && match lt[i]? with
    | none => false
    | some x => rdL x i m && lt.zipIdx.all (fun y => y.2 == i || m.testBit y.2 || y.1.1.testBit i || apL x y.1)
def someL (lt : List Lt) (rs : List Nat) (m : Nat) : Bool :=
  decide (m < 2 ^ lt.length) && !rs.isEmpty && lt.zipIdx.all (fun y => rs.contains y.2 == rdL y.1 y.2 m) && rs.all (fun i => decide (i < lt.length))
section
variable {P : Program} {ops : Array Oper} {lt : List Lt} {Q : Exit → Act → World → Prop} {S : World → Prop}
theorem Reg.len (R : Reg ops lt) : lt.length = ops.size := by rw [← R.lt]; simp [ltOf]
/-- what is left of a region, where the operations of m have come up -/
def At (P : Program) (ops : Array Oper) (Q : Exit → Act → World → Prop) (S : World → Prop) (fuel m : Nat) (a : Act) (w : World) : Prop := wpAnyH P .any ops (NoPanic Q) S fuel (lsd ops.size m) a w
theorem at_begin {id n : Nat} {a : Act} {w : World} (S : World → Prop) (hm : P.follows .mixedOrders = true) (hn : ops.size = n) (h : At P ops Q S n 0 a w.drew) : (Code.region id ops true).wp P Q a w := by
  refine wp_region_noPanic (wp_region_held (S := S) hm ?_)
  subst hn
  unfold At at h
  rw [← lsd_zero] at h
  exact h
theorem at_done (R : Reg ops lt) {m fuel : Nat} {a : Act} {w : World} (hm : (m == 2 ^ lt.length - 1) = true) (h : Q .normal a w) : At P ops Q S fuel m a w := by
  have hm' : m = 2 ^ ops.size - 1 := by rw [← R.len]; simpa using hm
  have hL := lsd_is (n := ops.size) (m := m) (by rw [hm']; have := Nat.two_pow_pos ops.size; omega)
  refine wpAnyH_done ?_ (NoPanic.normal h) _
  rw [List.eq_nil_iff_forall_not_mem]
  intro j hj
  obtain ⟨h1, o, ho, _⟩ := mem_ready.1 hj
  have hj' : j < ops.size := (Array.getElem?_eq_some_iff.1 ho).1
  rw [hL.tru hj', hm', Nat.testBit_two_pow_sub_one] at h1
  simp [hj'] at h1
theorem at_take (R : Reg ops lt) {m m' i fuel : Nat} {a : Act} {w : World} {o : Oper} {v : Value} (hi : ops[i]? = some o) (hc : takeL lt i m = true) (he : m ||| 2 ^ i = m') (hy : YieldsIf P ops S o v a) (hS : S w)
    (h : At P ops Q S fuel m' (a.put o.dst v) w) : At P ops Q S (fuel + 1) m a w := by
  unfold takeL at hc
  rw [Bool.and_eq_true, decide_eq_true_iff, R.len] at hc
  obtain ⟨hlt, hc⟩ := hc
  rw [at_lt R.lt hi] at hc
  simp only [Bool.and_eq_true] at hc
  have hL := lsd_is hlt
  have hio : i < ops.size := (Array.getElem?_eq_some_iff.1 hi).1
  have hrd := (ready_of hL hi).2 hc.1
  refine wpAnyH_first hi (Region.noSelect_spec R.sel) (fun c a w hh => hh) _ _ a w ?_ hrd hy hS ?_
  · intro j oj hj hne hun hno
    have hj' : j < ops.size := (Array.getElem?_eq_some_iff.1 hj).1
    have hmem : ((aftM oj, oj.dst, oj.looksAt ops), j) ∈ lt.zipIdx := List.mem_zipIdx_iff_getElem?.2 (at_lt R.lt hj)
    have := List.all_eq_true.1 hc.2 _ hmem
    rw [hL.tru hj'] at hun
    simp only [hun, Bool.or_false] at this
    rw [show (j == i) = false from by rw [beq_eq_false_iff_ne]; exact hne, Bool.false_or, Bool.or_eq_true] at this
    rcases this with h1 | h1
    · obtain ⟨e, he, hb, hk⟩ := (aftM_bit oj i).1 h1
      exact absurd hk (hno e he hb)
    · exact h1
  · unfold At at h
    rw [lsd_set hio, he]
    exact h
theorem at_some (R : Reg ops lt) {m fuel : Nat} {a : Act} {w : World} (rs : List Nat) (hc : someL lt rs m = true)
    (h : ∀ i ∈ rs, wpOp P ops (NoPanic Q) i (fun a' w' => S w' ∧ At P ops Q S fuel (m ||| 2 ^ i) a' w') a w) : At P ops Q S (fuel + 1) m a w := by
  unfold someL at hc
  simp only [Bool.and_eq_true, decide_eq_true_iff, Bool.not_eq_true'] at hc
  obtain ⟨⟨⟨hlt, hne⟩, hall⟩, hin⟩ := hc
  rw [R.len] at hlt
  have hL := lsd_is hlt
  have hmem : ∀ j oj, ops[j]? = some oj → (j ∈ Region.ready .any ops (lsd ops.size m) ↔ j ∈ rs) := fun j oj hj => by
    rw [ready_of hL hj]
    have hz : ((aftM oj, oj.dst, oj.looksAt ops), j) ∈ lt.zipIdx := List.mem_zipIdx_iff_getElem?.2 (at_lt R.lt hj)
    have := List.all_eq_true.1 hall _ hz
    rw [beq_iff_eq] at this
    rw [← this]
    simp
  refine ⟨fun h0 => ?_, fun j hj => ?_⟩
  · cases rs with
    | nil => simp at hne
    | cons i r =>
      have hi : i < ops.size := by rw [← R.len]; simpa using List.all_eq_true.1 hin i (by simp)
      have := (hmem i ops[i] (Array.getElem?_eq_getElem hi)).2 (by simp)
      rw [h0] at this
      cases this
  · obtain ⟨_, oj, hoj, _⟩ := mem_ready.1 hj
    have hjo : j < ops.size := (Array.getElem?_eq_some_iff.1 hoj).1
    rw [lsd_set hjo]
    exact h j ((hmem j oj hoj).1 hj)
/-- but one may come up -/
theorem at_one (R : Reg ops lt) {m m' i fuel : Nat} {a : Act} {w : World} (hc : someL lt [i] m = true) (he : m ||| 2 ^ i = m')
    (h : wpOp P ops (NoPanic Q) i (fun a' w' => S w' ∧ At P ops Q S fuel m' a' w') a w) : At P ops Q S (fuel + 1) m a w :=
  at_some R [i] hc fun j hj => by
    obtain rfl : j = i := by simpa using hj
    rw [he]
    exact h
/-- one of two -/
theorem at_two (R : Reg ops lt) {m m1 m2 i j fuel : Nat} {a : Act} {w : World} (hc : someL lt [i, j] m = true) (e1 : m ||| 2 ^ i = m1) (e2 : m ||| 2 ^ j = m2)
    (h1 : wpOp P ops (NoPanic Q) i (fun a' w' => S w' ∧ At P ops Q S fuel m1 a' w') a w) (h2 : wpOp P ops (NoPanic Q) j (fun a' w' => S w' ∧ At P ops Q S fuel m2 a' w') a w) : At P ops Q S (fuel + 1) m a w :=
  at_some R [i, j] hc fun k hk => by
    simp only [List.mem_cons, List.not_mem_nil, or_false] at hk
    rcases hk with rfl | rfl
    · rw [e1]; exact h1
    · rw [e2]; exact h2
theorem y_load_row {o : Oper} {a : Act} {x : Operand} {t : TypeId} {b c : Nat} {cs : List Value} {d : TypeDesc} (hg : o.guard = none) (ho : o.op = .load t x) (hx : a.eval x = .pointer (some ⟨b, c, none⟩))
    (hu : P.underlying t = some d) (hd : d.isRow = true) (hi : (P.info? t).map (·.size) = some cs.length) (hc : ∀ w, S w → w.rangeAt b c cs) : YieldsIf P ops S o (.agg cs.toArray) a := by
  refine y_of hg fun w hw => ?_
  unfold execOp
  simp only [ho, hx]
  simp [run_loadAt_mid w b c t cs d (hc w hw) hu hd hi, Sem.run_bind]
end
end Go.Proofs.YtogiballdmgcpaaGreatDoor

/- Steps of drawn regions, apart from keccak's: parts of a code, what runs. -/
namespace Go.Proofs.YtogiballdmgcpaaGreatDoor
open Go.RowKit
set_option linter.unusedVariables false
set_option linter.unusedSimpArgs false

def cLA : Code → Code
  | .seq a _ => a
  | c => c
def cRA : Code → Code
  | .seq _ b => b
  | c => c
def cBA : Code → Code
  | .block _ b => b
  | c => c
def cLpA : Code → Code
  | .loop b => b
  | c => c
def opsA : Code → Array Oper
  | .region _ ops _ => ops
  | _ => #[]
section
variable {ops : Array Oper} {Q : Exit → Act → World → Prop} {S : World → Prop} {K : Act → World → Prop}
theorem p_rowA {i : Nat} {o : Oper} {a : Act} {w : World} {t : TypeId} {x y : Operand} {g : Nat} {cells old : Array Value} {t' : TypeId} (hi : ops[i]? = some o) (hg : o.guard = none) (ho : o.op = .store t x y) (hd : o.dst = none) (hx : a.eval x = .pointer (some ⟨g, 0, none⟩)) (hy : a.eval y = .agg cells)
    (hb : w.heap[g]? = some (.cells old t' (0, 0))) (hs : (Tryz.prog.info? t).map (·.size) = some cells.size) (hold : old.size = cells.size) (h1 : cells.all (·.oneCell') = true)
    (h : K a (w.setRow g cells)) : wpOp Tryz.prog ops Q i K a w := by
  unfold wpOp
  simp only [hi]
  rw [if_pos (wanted_free hg)]
  left
  refine wp_store_row t x y ho g cells hx hy t' old hb hs hold h1 ?_
  rw [hd]
  exact h
theorem y_assignA {o : Oper} {v : Value} {a : Act} {x : Operand} (hg : o.guard = none) (ho : o.op = .assign x) (hx : a.eval x = v) : YieldsIf Tryz.prog ops S o v a :=
  y_of hg fun w _ => by unfold execOp; simp only [ho, hx]; rfl
end
end Go.Proofs.YtogiballdmgcpaaGreatDoor

/- A drawn region in a round of a loop over an iterator, by a plan. -/
namespace Go.Proofs.YtogiballdmgcpaaGreatDoor
open Go.RowKit
set_option linter.unusedVariables false
set_option linter.unusedSimpArgs false

def cFA : Code → Code
  | .rangeFunc _ _ _ b => b
  | c => c
/-- what a region that never stops leaves -/
def onlyN (R : Act → World → Prop) : Exit → Act → World → Prop
  | .normal, a, w => R a w
  | _, _, _ => False
theorem not_out (R : Act → World → Prop) : ¬ LetsOut (NoPanic (onlyN R)) := fun ⟨a, w, h⟩ => h
def noDefer (o : Oper) : Bool := match o.op with
  | .defer _ => false
  | _ => true
section
variable {P : Program} {ops : Array Oper} {R : Act → World → Prop} {l n : Nat}
theorem oper_in {o : Oper} {a : Act} {w : World} {K : Act → World → Prop} (hd : noDefer o = true) (h : o.wp P a w K (NoPanic (onlyN R))) : o.wpIn (Fence.wide.inRound l) n P a w K (NoPanic (onlyN R)) := by
  unfold Oper.wpIn
  unfold Oper.wp at h
  refine ⟨fun _ _ => trivial, ?_⟩
  rw [Oper.semAt_eq _ _ _ (fun c hc => by unfold noDefer at hd; rw [hc] at hd; cases hd)]
  generalize (execOp a.eval o).run P w = r at *
  cases r with
  | ok x w' =>
    cases x <;> simp only [Oper.upon, Oper.uponIn] at h ⊢ <;>
      first
        | exact h
        | exact ⟨fun e => (by cases e), CallsIn.inRound l (callsIn_wide.2 h)⟩
        | exact ⟨fun e => (by cases e), fun c cs _ => let ⟨v, w', r, s⟩ := h c cs; ⟨v, w', r, stepsIn_wide.2 s⟩⟩
  | halt x w' => cases x <;> simp only [Oper.upon, Oper.uponIn] at h ⊢ <;> exact h
theorem op_in {i : Nat} {a : Act} {w : World} {K : Act → World → Prop} (hd : ops.all noDefer = true) (h : wpOp P ops (NoPanic (onlyN R)) i K a w) : wpOpIn (Fence.wide.inRound l) n P ops (NoPanic (onlyN R)) i K a w := by
  unfold wpOp at h
  unfold wpOpIn
  cases ho : ops[i]? with
  | none => simp only [ho] at h ⊢; exact h
  | some o =>
    simp only [ho] at h ⊢
    by_cases hw : Region.wanted o (yielded ops a.tmps) = true
    · rw [if_pos hw] at h ⊢
      rcases h with h | h
      · refine oper_in ?_ h
        obtain ⟨hi, he⟩ := Array.getElem?_eq_some_iff.1 ho
        rw [← he]
        exact Array.all_eq_true.1 hd i hi
      · exact absurd h.2 (not_out R)
    · rw [if_neg hw] at h ⊢
      exact ⟨fun _ _ => trivial, h⟩
theorem any_in (hd : ops.all noDefer = true) : ∀ (fuel : Nat) (listed : Array Bool) (a : Act) (w : World), wpAny P .any ops (NoPanic (onlyN R)) fuel listed a w → wpAnyIn (Fence.wide.inRound l) n P .any ops (NoPanic (onlyN R)) fuel listed a w
  | 0, listed, a, w, h => h
  | fuel + 1, listed, a, w, h => ⟨h.1, fun i hi => wpOpIn_mono (fun a w => any_in hd fuel _ a w) (op_in hd (h.2 i hi))⟩
/-- a region in a round begins -/
theorem at_begin_in {id k : Nat} {a : Act} {w : World} {Q : Exit → Act → World → Prop} (S : World → Prop) (hm : P.follows .mixedOrders = true) (hn : ops.size = k) (hd : ops.all noDefer = true) (h : At P ops (onlyN fun a w => Q .normal a w) S k 0 a w.drew) : (Code.region id ops true).wpIn (Fence.wide.inRound l) n P Q a w := by
  subst hn
  unfold At at h
  rw [← lsd_zero] at h
  refine wpIn_mono (wpIn_region_any hm (any_in hd _ _ _ _ (wpAny_of_held _ _ _ _ h))) ?_
  intro e a w hh
  cases e <;> first | exact hh | exact (hh : False).elim
variable {S : World → Prop} {Q : Exit → Act → World → Prop} {K : Act → World → Prop}
theorem y_load_plain {o : Oper} {v : Value} {a : Act} {x : Operand} {t : TypeId} {p : Addr} {d : TypeDesc} (hg : o.guard = none) (ho : o.op = .load t x) (hx : a.eval x = .pointer (some p)) (hu : P.underlying t = some d) (hd : (match d with | .struct _ | .array _ _ => true | _ => false) = false) (hc : ∀ w, S w → w.cell? p = some v) : YieldsIf P ops S o v a := by
  refine y_of hg fun w hw => ?_
  have c := hc w hw
  have hag : (isAgg t).run P w = .ok false w := by
    unfold isAgg
    rw [Sem.run_bind, run_underlying hu w]
    cases d <;> first | rfl | cases hd
  unfold execOp
  simp only [ho, hx]
  simp [Instr.loadAt, Instr.sureAddr, Sem.run_bind, run_underlying hu w, hag, c, go_sem]
theorem y_index_slice {o : Oper} {a : Act} {x y : Operand} {t e : TypeId} {g n c i : Nat} (hg : o.guard = none) (ho : o.op = .indexAddr t x y) (hx : a.eval x = .slice (some ⟨g, 0, none⟩) n c) (hy : a.eval y = .int .i64 (i : Int)) (hu : P.underlying t = some (.slice e)) (hs : (P.info? e).map (·.size) = some 1) (hi : i < n) : YieldsIf P ops S o (.pointer (some ⟨g, i, none⟩)) a := by
  cases hq : P.info? e with
  | none => simp [hq] at hs
  | some z =>
    have hz : z.size = 1 := by simpa [hq] using hs
    refine y_of hg fun w _ => ?_
    unfold execOp
    simp only [ho, hx, hy]
    simp [Instr.indexAt, asIntOf, Sem.run_bind, run_underlying hu w, sizeOf, typeInfo, hq, hz, hi, Addr.add, go_sem]
    omega
theorem p_store_plain {i : Nat} {o : Oper} {a : Act} {w : World} {t : TypeId} {x y : Operand} {p : Addr} {ad : Option Addr} {n c : Nat} {d : TypeDesc} (hi : ops[i]? = some o) (hg : o.guard = none)
    (ho : o.op = .store t x y) (hdst : o.dst = none) (hx : a.eval x = .pointer (some p)) (hy : a.eval y = .slice ad n c) (hu : P.underlying t = some d) (hd : (match d with | .struct _ | .array _ _ => true | _ => false) = false) (hs : (P.info? t).map (·.size) = some 1) (hc : (w.cell? p).isSome = true) (hz : w.frozen? p = false)
    (h : K a (w.setCell p (.slice ad n c))) : wpOp P ops Q i K a w := by
  obtain ⟨u, hc'⟩ := Option.isSome_iff_exists.1 hc
  have hr : (execOp a.eval o).run P w = .ok .skip (w.setCell p (.slice ad n c)) := by
    have hag : (isAgg t).run P w = .ok false w := by
      unfold isAgg
      rw [Sem.run_bind, run_underlying hu w]
      cases d <;> first | rfl | cases hd
    cases hq : P.info? t with
    | none => simp [hq] at hs
    | some m =>
      have hm : m.size = 1 := by simpa [hq] using hs
      unfold execOp
      simp only [ho, hx, hy]
      simp [Instr.storeAt, Instr.sureAddr, Sem.run_bind, hag, hc', hz, sizeOf, typeInfo, hq, hm, go_sem]
  unfold wpOp
  simp only [hi]
  rw [if_pos (wanted_free hg)]
  left
  unfold Oper.wp
  rw [hr]
  show K (a.put o.dst undef) _
  rw [hdst]
  exact h
theorem at_takeD {lt : List Lt} (Rg : Reg ops lt) {m m' i fuel : Nat} {a : Act} {w : World} {o : Oper} {v : Value} {d : Option Nat} (hi : ops[i]? = some o) (hc : takeL lt i m = true) (he : m ||| 2 ^ i = m') (hd : o.dst = d) (hy : YieldsIf P ops S o v a) (hS : S w)
    (h : At P ops Q S fuel m' (a.put d v) w) : At P ops Q S (fuel + 1) m a w := at_take Rg hi hc he hy hS (by rw [hd]; exact h)
theorem p_callD {i : Nat} {o : Oper} {a : Act} {w : World} {f : FuncId} {xs : Array Operand} {ts : Array TypeId} {args : Array Value} {d : Option Nat} (hi : ops[i]? = some o) (hg : o.guard = none)
    (ho : o.op = .call { callee := .value (.func f), args := xs, argTypes := ts }) (ha : xs.map a.eval = args) (hd : o.dst = d) (hf : ∀ (args : Array Value) (w : World), (callFunc f args).run P w = .ok (.enter f args) w)
    (h : Calls P f args w fun e w' => ∃ v, e = .returned v ∧ K (a.put d v) w') : wpOp P ops Q i K a w := p_call hi hg ho ha hf (by rw [hd]; exact h)
theorem p_call1 {i : Nat} {o : Oper} {a : Act} {w : World} {f : FuncId} {x : Operand} {ts : Array TypeId} {u : Value} {d : Option Nat} (hi : ops[i]? = some o) (hg : o.guard = none) (ho : o.op = .call { callee := .value (.func f), args := #[x], argTypes := ts }) (hx : a.eval x = u) (hd : o.dst = d)
    (hf : ∀ (args : Array Value) (w : World), (callFunc f args).run P w = .ok (.enter f args) w) (h : Calls P f #[u] w fun e w' => ∃ v, e = .returned v ∧ K (a.put d v) w') : wpOp P ops Q i K a w := p_callD hi hg ho (by simp only [List.map_toArray, List.map_cons, List.map_nil, hx]) hd hf h
theorem p_call2 {i : Nat} {o : Oper} {a : Act} {w : World} {f : FuncId} {x y : Operand} {ts : Array TypeId} {u v : Value} {d : Option Nat} (hi : ops[i]? = some o) (hg : o.guard = none) (ho : o.op = .call { callee := .value (.func f), args := #[x, y], argTypes := ts }) (hx : a.eval x = u) (hy : a.eval y = v) (hd : o.dst = d)
    (hf : ∀ (args : Array Value) (w : World), (callFunc f args).run P w = .ok (.enter f args) w) (h : Calls P f #[u, v] w fun e w' => ∃ v, e = .returned v ∧ K (a.put d v) w') : wpOp P ops Q i K a w := p_callD hi hg ho (by simp only [List.map_toArray, List.map_cons, List.map_nil, hx, hy]) hd hf h
/-- one of three -/
theorem at_three8 {lt : List Lt} (Rg : Reg ops lt) {m m1 m2 m3 i j k fuel : Nat} {a : Act} {w : World} (hc : someL lt [i, j, k] m = true) (e1 : m ||| 2 ^ i = m1) (e2 : m ||| 2 ^ j = m2) (e3 : m ||| 2 ^ k = m3)
    (h1 : wpOp P ops (NoPanic Q) i (fun a' w' => S w' ∧ At P ops Q S fuel m1 a' w') a w) (h2 : wpOp P ops (NoPanic Q) j (fun a' w' => S w' ∧ At P ops Q S fuel m2 a' w') a w) (h3 : wpOp P ops (NoPanic Q) k (fun a' w' => S w' ∧ At P ops Q S fuel m3 a' w') a w) : At P ops Q S (fuel + 1) m a w :=
  at_some Rg [i, j, k] hc fun q hq => by
    simp only [List.mem_cons, List.not_mem_nil, or_false] at hq
    rcases hq with rfl | rfl | rfl
    · rw [e1]; exact h1
    · rw [e2]; exact h2
    · rw [e3]; exact h3
end
end Go.Proofs.YtogiballdmgcpaaGreatDoor

/- Steps of a plan behind guards, over a frame of which some slots are known: tools/pg.py writes regions out by them. -/
namespace Go.Proofs.YtogiballdmgcpaaGreatDoor
open Go.RowKit
set_option linter.unusedVariables false
set_option linter.unusedSimpArgs false
def cCT : Code → Code
  | .cond _ a _ => a
  | c => c
section
variable {ops : Array Oper} {Q : Exit → Act → World → Prop} {S : World → Prop} {K : Act → World → Prop}
theorem y_ofG {o : Oper} {v : Value} {a : Act} (hw : Region.wanted o (yielded ops a.tmps) = true) (h : ∀ w, S w → (execOp a.eval o).run Tryz.prog w = .ok (.value v) w) : YieldsIf Tryz.prog ops S o v a := .inl ⟨hw, h⟩
theorem y_moveG {o : Oper} {v : Value} {a : Act} {x : Operand} (hw : Region.wanted o (yielded ops a.tmps) = true) (ho : o.op = .move x) (hx : a.eval x = v) : YieldsIf Tryz.prog ops S o v a :=
  y_ofG hw fun w _ => by unfold execOp; simp only [ho, hx]; rfl
theorem y_rowG {o : Oper} {a : Act} {x : Operand} {t : TypeId} {b c : Nat} {cs : List Value} {d : TypeDesc} (hw : Region.wanted o (yielded ops a.tmps) = true) (ho : o.op = .load t x) (hx : a.eval x = .pointer (some ⟨b, c, none⟩))
    (hu : Tryz.prog.underlying t = some d) (hd : d.isRow = true) (hi : (Tryz.prog.info? t).map (·.size) = some cs.length) (hc : ∀ w, S w → w.rangeAt b c cs) : YieldsIf Tryz.prog ops S o (.agg cs.toArray) a := yieldsIf_load_mid hw t x ho b c hx cs d hc hu hd hi
theorem p_callG {i : Nat} {o : Oper} {a : Act} {w : World} {f : FuncId} {xs : Array Operand} {ts : Array TypeId} {args : Array Value} {d : Option Nat} (hi : ops[i]? = some o) (hw : Region.wanted o (yielded ops a.tmps) = true)
    (ho : o.op = .call { callee := .value (.func f), args := xs, argTypes := ts }) (ha : xs.map a.eval = args) (hd : o.dst = d) (hf : ∀ (args : Array Value) (w : World), (callFunc f args).run Tryz.prog w = .ok (.enter f args) w)
    (h : Calls Tryz.prog f args w fun e w' => ∃ v, e = .returned v ∧ K (a.put d v) w') : wpOp Tryz.prog ops Q i K a w := by
  have hr : (execOp a.eval o).run Tryz.prog w = .ok (.enter f args) w := by
    unfold execOp
    simp only [ho]
    simp [resolve, ha, go_sem, hf]
  unfold wpOp
  simp only [hi]
  rw [if_pos hw]
  left
  unfold Oper.wp
  rw [hr]
  refine h.mono ?_
  rintro e w' ⟨v, rfl, hk⟩
  rw [← hd] at hk
  exact hk
theorem y_assignG {o : Oper} {v : Value} {a : Act} {x : Operand} (hw : Region.wanted o (yielded ops a.tmps) = true) (ho : o.op = .assign x) (hx : a.eval x = v) : YieldsIf Tryz.prog ops S o v a :=
  y_ofG hw fun w _ => by unfold execOp; simp only [ho, hx]; rfl
theorem y_extractG {o : Oper} {v : Value} {a : Act} {x : Operand} {k : Nat} {vs : Array Value} (hw : Region.wanted o (yielded ops a.tmps) = true) (ho : o.op = .extract x k) (hx : a.eval x = .tuple vs) (hk : vs[k]? = some v) : YieldsIf Tryz.prog ops S o v a :=
  y_ofG hw fun w _ => by unfold execOp; simp only [ho, hx]; simp [hk, go_sem]
theorem y_plainG {o : Oper} {v : Value} {a : Act} {x : Operand} {t : TypeId} {p : Addr} {d : TypeDesc} (hw : Region.wanted o (yielded ops a.tmps) = true) (ho : o.op = .load t x) (hx : a.eval x = .pointer (some p)) (hu : Tryz.prog.underlying t = some d) (hd : (match d with | .struct _ | .array _ _ => true | _ => false) = false) (hc : ∀ w, S w → w.cell? p = some v) : YieldsIf Tryz.prog ops S o v a := by
  refine y_ofG hw fun w hs => ?_
  have c := hc w hs
  have hag : (isAgg t).run Tryz.prog w = .ok false w := by
    unfold isAgg
    rw [Sem.run_bind, run_underlying hu w]
    cases d <;> first | rfl | cases hd
  unfold execOp
  simp only [ho, hx]
  simp [Instr.loadAt, Instr.sureAddr, Sem.run_bind, run_underlying hu w, hag, c, go_sem]
theorem y_fieldG {o : Oper} {a : Act} {x : Operand} {t : TypeId} {q q' f off : Nat} (hw : Region.wanted o (yielded ops a.tmps) = true) (ho : o.op = .fieldAddr t x f) (hx : a.eval x = .pointer (some ⟨q, q', none⟩))
    (hf : ∀ w : World, (Instr.fieldAt t (.pointer (some ⟨q, q', none⟩)) f).run Tryz.prog w = .ok (.pointer (some ⟨q, off, none⟩)) w) : YieldsIf Tryz.prog ops S o (.pointer (some ⟨q, off, none⟩)) a := by
  refine y_ofG hw fun w _ => ?_
  unfold execOp
  simp only [ho, hx]
  simp [hf w, Sem.run_bind]
/-- the place of an element of m cells -/
theorem y_indexG {o : Oper} {a : Act} {x y : Operand} {t e : TypeId} {g f n c i m : Nat} (hw : Region.wanted o (yielded ops a.tmps) = true) (ho : o.op = .indexAddr t x y) (hx : a.eval x = .slice (some ⟨g, f, none⟩) n c) (hy : a.eval y = .int .i64 (i : Int)) (hu : Tryz.prog.underlying t = some (.slice e)) (hs : (Tryz.prog.info? e).map (·.size) = some m) (hi : i < n) : YieldsIf Tryz.prog ops S o (.pointer (some ⟨g, f + i * m, none⟩)) a := by
  cases hq : Tryz.prog.info? e with
  | none => simp [hq] at hs
  | some z =>
    have hz : z.size = m := by simpa [hq] using hs
    refine y_ofG hw fun w _ => ?_
    unfold execOp
    simp only [ho, hx, hy]
    simp [Instr.indexAt, asIntOf, Sem.run_bind, run_underlying hu w, sizeOf, typeInfo, hq, hz, hi, Addr.add, go_sem]
    try omega
theorem y_lenP {o : Oper} {a : Act} {x : Operand} {t e : TypeId} {aa : Option Addr} {n cc : Nat} (hw : Region.wanted o (yielded ops a.tmps) = true) (ho : o.op = .call { callee := .builtin .len, args := #[x], argTypes := #[t] }) (hx : a.eval x = .slice aa n cc) (hu : Tryz.prog.underlying t = some (.slice e)) : YieldsIf Tryz.prog ops S o (.int .i64 (n : Int)) a :=
  y_ofG hw fun w _ => by
    unfold execOp
    have ha : (#[x] : Array Operand).map a.eval = #[.slice aa n cc] := by simp only [List.map_toArray, List.map_cons, List.map_nil, hx]
    generalize (#[x] : Array Operand) = xs at ho ha
    simp only [ho]
    simp [resolve, ha, go_sem, Builtin.len_, Sem.run_bind, run_underlying hu]
/-- a sum of two ints -/
theorem y_addI {o : Oper} {a : Act} {x y : Operand} {t t' : TypeId} {i j q : Int} (hw : Region.wanted o (yielded ops a.tmps) = true) (ho : o.op = .binOp .add t x y t') (hx : a.eval x = .int .i64 i) (hy : a.eval y = .int .i64 j) (hu : Tryz.prog.underlying t = some (.int .i64)) (hb : IntKind.i64.wrap (i + j) = q) : YieldsIf Tryz.prog ops S o (.int .i64 q) a := by
  refine y_ofG hw fun w _ => ?_
  unfold execOp
  simp only [ho, hx, hy]
  simp [go_sem, Sem.run_bind, run_underlying hu, hb]
theorem y_mulI {o : Oper} {a : Act} {x y : Operand} {t t' : TypeId} {i j q : Int} (hw : Region.wanted o (yielded ops a.tmps) = true) (ho : o.op = .binOp .mul t x y t') (hx : a.eval x = .int .i64 i) (hy : a.eval y = .int .i64 j) (hu : Tryz.prog.underlying t = some (.int .i64)) (hb : IntKind.i64.wrap (i * j) = q) : YieldsIf Tryz.prog ops S o (.int .i64 q) a := by
  refine y_ofG hw fun w _ => ?_
  unfold execOp
  simp only [ho, hx, hy]
  simp [go_sem, Sem.run_bind, run_underlying hu, hb]
theorem y_convI {o : Oper} {a : Act} {x : Operand} {t t' : TypeId} {k k' : IntKind} {i j : Int} (hw : Region.wanted o (yielded ops a.tmps) = true) (ho : o.op = .convert t t' x) (hx : a.eval x = .int k i) (hr : ∀ w, (convert t t' (.int k i)).run Tryz.prog w = .ok (.int k' j) w) : YieldsIf Tryz.prog ops S o (.int k' j) a := by
  refine y_ofG hw fun w _ => ?_
  have h := hr w
  unfold execOp
  simp only [ho, hx]
  simp [Sem.run_bind, h]
theorem p_build2G {i : Nat} {o : Oper} {a : Act} {w : World} {t e : TypeId} {x y : Operand} {ax ay : Option Addr} {nx cx ny cy : Nat} {d : Option Nat} {z : TypeInfo} (hi : ops[i]? = some o) (hw : Region.wanted o (yielded ops a.tmps) = true) (ho : o.op = .buildSlice t 2 #[(0, x), (1, y)]) (hx : a.eval x = .slice ax nx cx) (hy : a.eval y = .slice ay ny cy) (hd : o.dst = d)
    (hu : Tryz.prog.underlying t = some (.slice e)) (hz : Tryz.prog.info? e = some z) (hs : z.size = 1) (hz0 : z.zero = some (.slice none 0 0)) (h : K (a.put d (.slice (some ⟨w.heap.size, 0, none⟩) 2 2)) (w.alloc (.cells #[.slice ax nx cx, .slice ay ny cy] e))) : wpOp Tryz.prog ops Q i K a w := by
  have hr : (execOp a.eval o).run Tryz.prog w = .ok (.value (.slice (some ⟨w.heap.size, 0, none⟩) 2 2)) (w.alloc (.cells #[.slice ax nx cx, .slice ay ny cy] e)) := by
    unfold execOp
    simp only [ho, List.map_toArray, List.map_cons, List.map_nil, hx, hy]
    simp [Sem.run_bind, run_underlying hu, sizeOf, typeInfo, zeroValue, hz, hs, hz0, go_sem]
  unfold wpOp
  simp only [hi]
  rw [if_pos hw]
  left
  unfold Oper.wp
  rw [hr]
  show K (a.put o.dst _) _
  rw [hd]
  exact h
end
end Go.Proofs.YtogiballdmgcpaaGreatDoor
