/- A drawn region step by step: what has come up is a number; an operation is taken first, or each that may come up is run. -/
import Derived.Test.YtogiballdmgcpaaGreatDoorHEnd
import Derived.Test.YtogiballdmgcpaaGreatDoorHKi2
import Derived.RangeFuncCalls
import Derived.RangeFuncBox
import Derived.Stop.RegionWithIn
import Derived.Test.YtogiballdmgcpaaGreatDoorBase
import Derived.Deep.Slices
import Derived.Test.YtogiballdmgcpaaGreatDoorHaM
namespace Go.Proofs.YtogiballdmgcpaaGreatDoor
open Go.RowKit
set_option linter.unusedVariables false
set_option linter.unusedSimpArgs false

def lsd (n m : Nat) : Array Bool := Array.ofFn (n := n) fun i => m.testBit i.val
theorem lsd_is {n m : Nat} (h : m < 2 ^ n) : Lsd n m (lsd n m) := ⟨by simp [lsd], fun j hj => by simp [lsd], h⟩
theorem lsd_set {n m i : Nat} (hi : i < n) : (lsd n m).setIfInBounds i true = lsd n (m ||| 2 ^ i) := by
  apply Array.ext
  · simp [lsd]
  · intro j h1 h2
    have hj : j < (lsd n m).size := by simpa using h1
    rw [Array.getElem_setIfInBounds hj]
    simp only [lsd, Array.getElem_ofFn, Nat.testBit_or, Nat.testBit_two_pow]
    by_cases hij : i = j <;> simp [hij]
theorem lsd_zero (n : Nat) : Array.replicate n false = lsd n 0 := by
  apply Array.ext
  · simp [lsd]
  · intro j h1 h2; simp [lsd]
/-- a region's operations, as numbers -/
structure Reg (ops : Array Oper) (lt : List Lt) : Prop where
  lt : ltOf ops = lt
  sel : Region.noSelect ops = true
def takeL (lt : List Lt) (i m : Nat) : Bool :=
  decide (m < 2 ^ lt.length) && match lt[i]? with
    | none => false
    | some x => rdL x i m && lt.zipIdx.all (fun y => y.2 == i || m.testBit y.2 || y.1.1.testBit i || apL x y.1)
def someL (lt : List Lt) (rs : List Nat) (m : Nat) : Bool :=
  decide (m < 2 ^ lt.length) && !rs.isEmpty && lt.zipIdx.all (fun y => rs.contains y.2 == rdL y.1 y.2 m) && rs.all (fun i => decide (i < lt.length))
section
variable {P : Program} {ops : Array Oper} {lt : List Lt} {Q : Exit → Act → World → Prop} {S : World → Prop}
theorem Reg.len (R : Reg ops lt) : lt.length = ops.size := by rw [← R.lt]; simp [ltOf]
/-- what is left of a region, where the operations of m have come up -/
def At (P : Program) (ops : Array Oper) (Q : Exit → Act → World → Prop) (S : World → Prop) (fuel m : Nat) (a : Act) (w : World) : Prop := wpAnyH P .any ops (NoPanic Q) S fuel (lsd ops.size m) a w
theorem at_begin {id n : Nat} {a : Act} {w : World} (S : World → Prop) (hm : P.follows .mixedOrders = true) (hn : ops.size = n) (h : At P ops Q S n 0 a w.drew) : (Code.region id ops true).wp P Q a w := by
  refine wp_region_noPanic (wp_region_held (S := S) hm ?_)
  subst hn
  unfold At at h
  rw [← lsd_zero] at h
  exact h
theorem at_done (R : Reg ops lt) {m fuel : Nat} {a : Act} {w : World} (hm : (m == 2 ^ lt.length - 1) = true) (h : Q .normal a w) : At P ops Q S fuel m a w := by
  have hm' : m = 2 ^ ops.size - 1 := by rw [← R.len]; simpa using hm
  have hL := lsd_is (n := ops.size) (m := m) (by rw [hm']; have := Nat.two_pow_pos ops.size; omega)
  refine wpAnyH_done ?_ (NoPanic.normal h) _
  rw [List.eq_nil_iff_forall_not_mem]
  intro j hj
  obtain ⟨h1, o, ho, _⟩ := mem_ready.1 hj
  have hj' : j < ops.size := (Array.getElem?_eq_some_iff.1 ho).1
  rw [hL.tru hj', hm', Nat.testBit_two_pow_sub_one] at h1
  simp [hj'] at h1
theorem at_take (R : Reg ops lt) {m m' i fuel : Nat} {a : Act} {w : World} {o : Oper} {v : Value} (hi : ops[i]? = some o) (hc : takeL lt i m = true) (he : m ||| 2 ^ i = m') (hy : YieldsIf P ops S o v a) (hS : S w)
    (h : At P ops Q S fuel m' (a.put o.dst v) w) : At P ops Q S (fuel + 1) m a w := by
  unfold takeL at hc
  rw [Bool.and_eq_true, decide_eq_true_iff, R.len] at hc
  obtain ⟨hlt, hc⟩ := hc
  rw [at_lt R.lt hi] at hc
  simp only [Bool.and_eq_true] at hc
  have hL := lsd_is hlt
  have hio : i < ops.size := (Array.getElem?_eq_some_iff.1 hi).1
  have hrd := (ready_of hL hi).2 hc.1
  refine wpAnyH_first hi (Region.noSelect_spec R.sel) (fun c a w hh => hh) _ _ a w ?_ hrd hy hS ?_
  · intro j oj hj hne hun hno
    have hj' : j < ops.size := (Array.getElem?_eq_some_iff.1 hj).1
    have hmem : ((aftM oj, oj.dst, oj.looksAt ops), j) ∈ lt.zipIdx := List.mem_zipIdx_iff_getElem?.2 (at_lt R.lt hj)
    have := List.all_eq_true.1 hc.2 _ hmem
    rw [hL.tru hj'] at hun
    simp only [hun, Bool.or_false] at this
    rw [show (j == i) = false from by rw [beq_eq_false_iff_ne]; exact hne, Bool.false_or, Bool.or_eq_true] at this
    rcases this with h1 | h1
    · obtain ⟨e, he, hb, hk⟩ := (aftM_bit oj i).1 h1
      exact absurd hk (hno e he hb)
    · exact h1
  · unfold At at h
    rw [lsd_set hio, he]
    exact h
theorem at_some (R : Reg ops lt) {m fuel : Nat} {a : Act} {w : World} (rs : List Nat) (hc : someL lt rs m = true)
    (h : ∀ i ∈ rs, wpOp P ops (NoPanic Q) i (fun a' w' => S w' ∧ At P ops Q S fuel (m ||| 2 ^ i) a' w') a w) : At P ops Q S (fuel + 1) m a w := by
  unfold someL at hc
  simp only [Bool.and_eq_true, decide_eq_true_iff, Bool.not_eq_true'] at hc
  obtain ⟨⟨⟨hlt, hne⟩, hall⟩, hin⟩ := hc
  rw [R.len] at hlt
  have hL := lsd_is hlt
  have hmem : ∀ j oj, ops[j]? = some oj → (j ∈ Region.ready .any ops (lsd ops.size m) ↔ j ∈ rs) := fun j oj hj => by
    rw [ready_of hL hj]
    have hz : ((aftM oj, oj.dst, oj.looksAt ops), j) ∈ lt.zipIdx := List.mem_zipIdx_iff_getElem?.2 (at_lt R.lt hj)
    have := List.all_eq_true.1 hall _ hz
    rw [beq_iff_eq] at this
    rw [← this]
    simp
  refine ⟨fun h0 => ?_, fun j hj => ?_⟩
  · cases rs with
    | nil => simp at hne
    | cons i r =>
      have hi : i < ops.size := by rw [← R.len]; simpa using List.all_eq_true.1 hin i (by simp)
      have := (hmem i ops[i] (Array.getElem?_eq_getElem hi)).2 (by simp)
      rw [h0] at this
      cases this
  · obtain ⟨_, oj, hoj, _⟩ := mem_ready.1 hj
    have hjo : j < ops.size := (Array.getElem?_eq_some_iff.1 hoj).1
    rw [lsd_set hjo]
    exact h j ((hmem j oj hoj).1 hj)
/-- but one may come up -/
theorem at_one (R : Reg ops lt) {m m' i fuel : Nat} {a : Act} {w : World} (hc : someL lt [i] m = true) (he : m ||| 2 ^ i = m')
    (h : wpOp P ops (NoPanic Q) i (fun a' w' => S w' ∧ At P ops Q S fuel m' a' w') a w) : At P ops Q S (fuel + 1) m a w :=
  at_some R [i] hc fun j hj => by
    obtain rfl : j = i := by simpa using hj
    rw [he]
    exact h
/-- one of two -/
theorem at_two (R : Reg ops lt) {m m1 m2 i j fuel : Nat} {a : Act} {w : World} (hc : someL lt [i, j] m = true) (e1 : m ||| 2 ^ i = m1) (e2 : m ||| 2 ^ j = m2)
    (h1 : wpOp P ops (NoPanic Q) i (fun a' w' => S w' ∧ At P ops Q S fuel m1 a' w') a w) (h2 : wpOp P ops (NoPanic Q) j (fun a' w' => S w' ∧ At P ops Q S fuel m2 a' w') a w) : At P ops Q S (fuel + 1) m a w :=
  at_some R [i, j] hc fun k hk => by
    simp only [List.mem_cons, List.not_mem_nil, or_false] at hk
    rcases hk with rfl | rfl
    · rw [e1]; exact h1
    · rw [e2]; exact h2
end
end Go.Proofs.YtogiballdmgcpaaGreatDoor

/- Steps of drawn regions, apart from keccak's: parts of a code, what runs. -/
namespace Go.Proofs.YtogiballdmgcpaaGreatDoor
open Go.RowKit
set_option linter.unusedVariables false
set_option linter.unusedSimpArgs false

def cLA : Code → Code
  | .seq a _ => a
  | c => c
def cRA : Code → Code
  | .seq _ b => b
  | c => c
def cBA : Code → Code
  | .block _ b => b
  | c => c
def cLpA : Code → Code
  | .loop b => b
  | c => c
def opsA : Code → Array Oper
  | .region _ ops _ => ops
  | _ => #[]
section
variable {ops : Array Oper} {Q : Exit → Act → World → Prop} {S : World → Prop} {K : Act → World → Prop}
theorem p_rowA {i : Nat} {o : Oper} {a : Act} {w : World} {t : TypeId} {x y : Operand} {g : Nat} {cells old : Array Value} {t' : TypeId} (hi : ops[i]? = some o) (hg : o.guard = none) (ho : o.op = .store t x y) (hd : o.dst = none) (hx : a.eval x = .pointer (some ⟨g, 0, none⟩)) (hy : a.eval y = .agg cells)
    (hb : w.heap[g]? = some (.cells old t' (0, 0))) (hs : (Tryz.prog.info? t).map (·.size) = some cells.size) (hold : old.size = cells.size) (h1 : cells.all (·.oneCell') = true)
    (h : K a (w.setRow g cells)) : wpOp Tryz.prog ops Q i K a w := by
  unfold wpOp
  simp only [hi]
  rw [if_pos (wanted_free hg)]
  left
  refine wp_store_row t x y ho g cells hx hy t' old hb hs hold h1 ?_
  rw [hd]
  exact h
end
end Go.Proofs.YtogiballdmgcpaaGreatDoor

/- A drawn region in a round of a loop over an iterator, by a plan. -/
namespace Go.Proofs.YtogiballdmgcpaaGreatDoor
open Go.RowKit
set_option linter.unusedVariables false
set_option linter.unusedSimpArgs false

def cFA : Code → Code
  | .rangeFunc _ _ _ b => b
  | c => c
/-- what a region that never stops leaves -/
def onlyN (R : Act → World → Prop) : Exit → Act → World → Prop
  | .normal, a, w => R a w
  | _, _, _ => False
theorem not_out (R : Act → World → Prop) : ¬ LetsOut (NoPanic (onlyN R)) := fun ⟨a, w, h⟩ => h
def noDefer (o : Oper) : Bool := match o.op with
  | .defer _ => false
  | _ => true
section
variable {P : Program} {ops : Array Oper} {R : Act → World → Prop} {l n : Nat}
theorem oper_in {o : Oper} {a : Act} {w : World} {K : Act → World → Prop} (hd : noDefer o = true) (h : o.wp P a w K (NoPanic (onlyN R))) : o.wpIn (Fence.wide.inRound l) n P a w K (NoPanic (onlyN R)) := by
  unfold Oper.wpIn
  unfold Oper.wp at h
  refine ⟨fun _ _ => trivial, ?_⟩
  rw [Oper.semAt_eq _ _ _ (fun c hc => by unfold noDefer at hd; rw [hc] at hd; cases hd)]
  generalize (execOp a.eval o).run P w = r at *
  cases r with
  | ok x w' =>
    cases x <;> simp only [Oper.upon, Oper.uponIn] at h ⊢ <;>
      first
        | exact h
        | exact ⟨fun e => (by cases e), CallsIn.inRound l (callsIn_wide.2 h)⟩
        | exact ⟨fun e => (by cases e), fun c cs _ => let ⟨v, w', r, s⟩ := h c cs; ⟨v, w', r, stepsIn_wide.2 s⟩⟩
  | halt x w' => cases x <;> simp only [Oper.upon, Oper.uponIn] at h ⊢ <;> exact h
theorem op_in {i : Nat} {a : Act} {w : World} {K : Act → World → Prop} (hd : ops.all noDefer = true) (h : wpOp P ops (NoPanic (onlyN R)) i K a w) : wpOpIn (Fence.wide.inRound l) n P ops (NoPanic (onlyN R)) i K a w := by
  unfold wpOp at h
  unfold wpOpIn
  cases ho : ops[i]? with
  | none => simp only [ho] at h ⊢; exact h
  | some o =>
    simp only [ho] at h ⊢
    by_cases hw : Region.wanted o (yielded ops a.tmps) = true
    · rw [if_pos hw] at h ⊢
      rcases h with h | h
      · refine oper_in ?_ h
        obtain ⟨hi, he⟩ := Array.getElem?_eq_some_iff.1 ho
        rw [← he]
        exact Array.all_eq_true.1 hd i hi
      · exact absurd h.2 (not_out R)
    · rw [if_neg hw] at h ⊢
      exact ⟨fun _ _ => trivial, h⟩
theorem any_in (hd : ops.all noDefer = true) : ∀ (fuel : Nat) (listed : Array Bool) (a : Act) (w : World), wpAny P .any ops (NoPanic (onlyN R)) fuel listed a w → wpAnyIn (Fence.wide.inRound l) n P .any ops (NoPanic (onlyN R)) fuel listed a w
  | 0, listed, a, w, h => h
  | fuel + 1, listed, a, w, h => ⟨h.1, fun i hi => wpOpIn_mono (fun a w => any_in hd fuel _ a w) (op_in hd (h.2 i hi))⟩
/-- a region in a round begins -/
theorem at_begin_in {id k : Nat} {a : Act} {w : World} {Q : Exit → Act → World → Prop} (S : World → Prop) (hm : P.follows .mixedOrders = true) (hn : ops.size = k) (hd : ops.all noDefer = true) (h : At P ops (onlyN fun a w => Q .normal a w) S k 0 a w.drew) : (Code.region id ops true).wpIn (Fence.wide.inRound l) n P Q a w := by
  subst hn
  unfold At at h
  rw [← lsd_zero] at h
  refine wpIn_mono (wpIn_region_any hm (any_in hd _ _ _ _ (wpAny_of_held _ _ _ _ h))) ?_
  intro e a w hh
  cases e <;> first | exact hh | exact (hh : False).elim
variable {S : World → Prop} {Q : Exit → Act → World → Prop} {K : Act → World → Prop}
theorem p_store_plain {i : Nat} {o : Oper} {a : Act} {w : World} {t : TypeId} {x y : Operand} {p : Addr} {ad : Option Addr} {n c : Nat} {d : TypeDesc} (hi : ops[i]? = some o) (hg : o.guard = none)
    (ho : o.op = .store t x y) (hdst : o.dst = none) (hx : a.eval x = .pointer (some p)) (hy : a.eval y = .slice ad n c) (hu : P.underlying t = some d) (hd : (match d with | .struct _ | .array _ _ => true | _ => false) = false) (hs : (P.info? t).map (·.size) = some 1) (hc : (w.cell? p).isSome = true) (hz : w.frozen? p = false)
    (h : K a (w.setCell p (.slice ad n c))) : wpOp P ops Q i K a w := by
  obtain ⟨u, hc'⟩ := Option.isSome_iff_exists.1 hc
  have hr : (execOp a.eval o).run P w = .ok .skip (w.setCell p (.slice ad n c)) := by
    have hag : (isAgg t).run P w = .ok false w := by
      unfold isAgg
      rw [Sem.run_bind, run_underlying hu w]
      cases d <;> first | rfl | cases hd
    cases hq : P.info? t with
    | none => simp [hq] at hs
    | some m =>
      have hm : m.size = 1 := by simpa [hq] using hs
      unfold execOp
      simp only [ho, hx, hy]
      simp [Instr.storeAt, Instr.sureAddr, Sem.run_bind, hag, hc', hz, sizeOf, typeInfo, hq, hm, go_sem]
  unfold wpOp
  simp only [hi]
  rw [if_pos (wanted_free hg)]
  left
  unfold Oper.wp
  rw [hr]
  show K (a.put o.dst undef) _
  rw [hdst]
  exact h
theorem at_takeD {lt : List Lt} (Rg : Reg ops lt) {m m' i fuel : Nat} {a : Act} {w : World} {o : Oper} {v : Value} {d : Option Nat} (hi : ops[i]? = some o) (hc : takeL lt i m = true) (he : m ||| 2 ^ i = m') (hd : o.dst = d) (hy : YieldsIf P ops S o v a) (hS : S w)
    (h : At P ops Q S fuel m' (a.put d v) w) : At P ops Q S (fuel + 1) m a w := at_take Rg hi hc he hy hS (by rw [hd]; exact h)
theorem p_alloc {i : Nat} {o : Oper} {a : Act} {w : World} {t : TypeId} {d : Option Nat} {z : TypeInfo} (hi : ops[i]? = some o) (hg : o.guard = none) (ho : o.op = .alloc t) (hd : o.dst = d) (hz : P.info? t = some z) (hz0 : z.zero = some (.slice none 0 0))
    (h : K (a.put d (.pointer (some ⟨w.heap.size, 0, none⟩))) (w.alloc (.cells #[.slice none 0 0] t))) : wpOp P ops Q i K a w := by
  have hr : (execOp a.eval o).run P w = .ok (.value (.pointer (some ⟨w.heap.size, 0, none⟩))) (w.alloc (.cells #[.slice none 0 0] t)) := by
    unfold execOp
    simp only [ho]
    simp [Sem.run_bind, Instr.alloc, zeroValue, typeInfo, hz, hz0, go_sem]
  unfold wpOp
  simp only [hi]
  rw [if_pos (wanted_free hg)]
  left
  unfold Oper.wp
  rw [hr]
  show K (a.put o.dst _) _
  rw [hd]
  exact h
/-- one of three -/
theorem at_three8 {lt : List Lt} (Rg : Reg ops lt) {m m1 m2 m3 i j k fuel : Nat} {a : Act} {w : World} (hc : someL lt [i, j, k] m = true) (e1 : m ||| 2 ^ i = m1) (e2 : m ||| 2 ^ j = m2) (e3 : m ||| 2 ^ k = m3)
    (h1 : wpOp P ops (NoPanic Q) i (fun a' w' => S w' ∧ At P ops Q S fuel m1 a' w') a w) (h2 : wpOp P ops (NoPanic Q) j (fun a' w' => S w' ∧ At P ops Q S fuel m2 a' w') a w) (h3 : wpOp P ops (NoPanic Q) k (fun a' w' => S w' ∧ At P ops Q S fuel m3 a' w') a w) : At P ops Q S (fuel + 1) m a w :=
  at_some Rg [i, j, k] hc fun q hq => by
    simp only [List.mem_cons, List.not_mem_nil, or_false] at hq
    rcases hq with rfl | rfl | rfl
    · rw [e1]; exact h1
    · rw [e2]; exact h2
    · rw [e3]; exact h3
end
end Go.Proofs.YtogiballdmgcpaaGreatDoor

/- Steps of a plan that any program may take: fields, nil checks, slices, method values. -/
namespace Go.Proofs.YtogiballdmgcpaaGreatDoor
open Go.RowKit
set_option linter.unusedVariables false
set_option linter.unusedSimpArgs false
section
variable {ops : Array Oper} {Q : Exit → Act → World → Prop} {S : World → Prop} {K : Act → World → Prop}
/-- a text from F to G -/
theorem slice_mid (ba : Option Addr) (n bc F G : Nat) (hF : F ≤ G) (hG : G ≤ bc) : ∃ A, (∀ w : World, (Instr.slice 23 (.slice ba n bc) (some (.int .i64 (F : Int))) (some (.int .i64 (G : Int))) none).run Tryz.prog w = .ok (.slice A (G - F) (bc - F)) w) ∧ (A = ba ∧ bc = F ∨ A = ba.map (·.add F)) := by
  obtain ⟨i0, hi0, _, hz1, _⟩ := info_parts Tryz.info5
  have h : (F : Int) ≤ (G : Int) := by omega
  have h2 : (G : Int) ≤ (bc : Int) := by omega
  refine ⟨if bc = F then ba else ba.map (·.add F), fun w => ?_, ?_⟩
  · by_cases e : bc = F
    · subst e
      cases ba <;> simp [Instr.slice, Instr.sliceBounds, Instr.sliceBound, asIntOf, Sem.run_bind, run_underlying Tryz.underlying23, h, h2, hF, hG, sizeOf, typeInfo, hi0, hz1, Addr.add]
    · cases ba <;> simp [Instr.slice, Instr.sliceBounds, Instr.sliceBound, asIntOf, Sem.run_bind, run_underlying Tryz.underlying23, h, h2, hF, hG, e, sizeOf, typeInfo, hi0, hz1, Addr.add]
  · by_cases e : bc = F
    · rw [if_pos e]; exact .inl ⟨rfl, e⟩
    · rw [if_neg e]; exact .inr rfl
end
end Go.Proofs.YtogiballdmgcpaaGreatDoor

/- Steps of a plan behind guards, over a frame of which some slots are known: tools/pg.py writes regions out by them. -/
namespace Go.Proofs.YtogiballdmgcpaaGreatDoor
open Go.RowKit
set_option linter.unusedVariables false
set_option linter.unusedSimpArgs false
def cCT : Code → Code
  | .cond _ a _ => a
  | c => c
section
variable {ops : Array Oper} {Q : Exit → Act → World → Prop} {S : World → Prop} {K : Act → World → Prop}
theorem tmp_isG {a : Act} {d : Nat} {b : Bool} (h : a.eval (.tmp d) = .bool b) : a.tmps[d]? = some (.bool b) := by
  have h' : a.tmps.getD d undef = .bool b := h
  rw [Array.getD_eq_getD_getElem?] at h'
  cases hq : a.tmps[d]? with
  | none => rw [hq] at h'; simp [undef] at h'
  | some v => rw [hq] at h'; simp at h'; rw [h']
theorem wanted_gG {o oj : Oper} {a : Act} {j d : Nat} {b : Bool} (hg : o.guard = some (j, b)) (hj : ops[j]? = some oj) (hd : oj.dst = some d) (hv : a.eval (.tmp d) = .bool b) : Region.wanted o (yielded ops a.tmps) = true := by
  have ht := tmp_isG hv
  simp [Region.wanted, hg, yielded, hj, hd, ht]
theorem y_ofG {o : Oper} {v : Value} {a : Act} (hw : Region.wanted o (yielded ops a.tmps) = true) (h : ∀ w, S w → (execOp a.eval o).run Tryz.prog w = .ok (.value v) w) : YieldsIf Tryz.prog ops S o v a := .inl ⟨hw, h⟩
theorem y_moveG {o : Oper} {v : Value} {a : Act} {x : Operand} (hw : Region.wanted o (yielded ops a.tmps) = true) (ho : o.op = .move x) (hx : a.eval x = v) : YieldsIf Tryz.prog ops S o v a :=
  y_ofG hw fun w _ => by unfold execOp; simp only [ho, hx]; rfl
theorem y_rowG {o : Oper} {a : Act} {x : Operand} {t : TypeId} {b c : Nat} {cs : List Value} {d : TypeDesc} (hw : Region.wanted o (yielded ops a.tmps) = true) (ho : o.op = .load t x) (hx : a.eval x = .pointer (some ⟨b, c, none⟩))
    (hu : Tryz.prog.underlying t = some d) (hd : d.isRow = true) (hi : (Tryz.prog.info? t).map (·.size) = some cs.length) (hc : ∀ w, S w → w.rangeAt b c cs) : YieldsIf Tryz.prog ops S o (.agg cs.toArray) a := yieldsIf_load_mid hw t x ho b c hx cs d hc hu hd hi
theorem y_notG {o : Oper} {a : Act} {x : Operand} {t : TypeId} {b : Bool} (hw : Region.wanted o (yielded ops a.tmps) = true) (ho : o.op = .unOp .not t x) (hx : a.eval x = .bool b) : YieldsIf Tryz.prog ops S o (.bool (!b)) a := by
  refine y_ofG hw fun w _ => ?_
  unfold execOp
  simp only [ho, hx]
  simp [Op.unary, go_sem]
theorem p_callG {i : Nat} {o : Oper} {a : Act} {w : World} {f : FuncId} {xs : Array Operand} {ts : Array TypeId} {args : Array Value} {d : Option Nat} (hi : ops[i]? = some o) (hw : Region.wanted o (yielded ops a.tmps) = true)
    (ho : o.op = .call { callee := .value (.func f), args := xs, argTypes := ts }) (ha : xs.map a.eval = args) (hd : o.dst = d) (hf : ∀ (args : Array Value) (w : World), (callFunc f args).run Tryz.prog w = .ok (.enter f args) w)
    (h : Calls Tryz.prog f args w fun e w' => ∃ v, e = .returned v ∧ K (a.put d v) w') : wpOp Tryz.prog ops Q i K a w := by
  have hr : (execOp a.eval o).run Tryz.prog w = .ok (.enter f args) w := by
    unfold execOp
    simp only [ho]
    simp [resolve, ha, go_sem, hf]
  unfold wpOp
  simp only [hi]
  rw [if_pos hw]
  left
  unfold Oper.wp
  rw [hr]
  refine h.mono ?_
  rintro e w' ⟨v, rfl, hk⟩
  rw [← hd] at hk
  exact hk
theorem y_assignG {o : Oper} {v : Value} {a : Act} {x : Operand} (hw : Region.wanted o (yielded ops a.tmps) = true) (ho : o.op = .assign x) (hx : a.eval x = v) : YieldsIf Tryz.prog ops S o v a :=
  y_ofG hw fun w _ => by unfold execOp; simp only [ho, hx]; rfl
theorem y_extractG {o : Oper} {v : Value} {a : Act} {x : Operand} {k : Nat} {vs : Array Value} (hw : Region.wanted o (yielded ops a.tmps) = true) (ho : o.op = .extract x k) (hx : a.eval x = .tuple vs) (hk : vs[k]? = some v) : YieldsIf Tryz.prog ops S o v a :=
  y_ofG hw fun w _ => by unfold execOp; simp only [ho, hx]; simp [hk, go_sem]
theorem y_pickEG {o : Oper} {v : Value} {a : Act} {c x y : Operand} (hw : Region.wanted o (yielded ops a.tmps) = true) (ho : o.op = .pick c x y) (hc : a.eval c = .bool false) (hy : a.eval y = v) : YieldsIf Tryz.prog ops S o v a :=
  y_ofG hw fun w _ => by unfold execOp; simp only [ho, hc, hy]; rfl
theorem y_plainG {o : Oper} {v : Value} {a : Act} {x : Operand} {t : TypeId} {p : Addr} {d : TypeDesc} (hw : Region.wanted o (yielded ops a.tmps) = true) (ho : o.op = .load t x) (hx : a.eval x = .pointer (some p)) (hu : Tryz.prog.underlying t = some d) (hd : (match d with | .struct _ | .array _ _ => true | _ => false) = false) (hc : ∀ w, S w → w.cell? p = some v) : YieldsIf Tryz.prog ops S o v a := by
  refine y_ofG hw fun w hs => ?_
  have c := hc w hs
  have hag : (isAgg t).run Tryz.prog w = .ok false w := by
    unfold isAgg
    rw [Sem.run_bind, run_underlying hu w]
    cases d <;> first | rfl | cases hd
  unfold execOp
  simp only [ho, hx]
  simp [Instr.loadAt, Instr.sureAddr, Sem.run_bind, run_underlying hu w, hag, c, go_sem]
theorem y_fieldG {o : Oper} {a : Act} {x : Operand} {t : TypeId} {q q' f off : Nat} (hw : Region.wanted o (yielded ops a.tmps) = true) (ho : o.op = .fieldAddr t x f) (hx : a.eval x = .pointer (some ⟨q, q', none⟩))
    (hf : ∀ w : World, (Instr.fieldAt t (.pointer (some ⟨q, q', none⟩)) f).run Tryz.prog w = .ok (.pointer (some ⟨q, off, none⟩)) w) : YieldsIf Tryz.prog ops S o (.pointer (some ⟨q, off, none⟩)) a := by
  refine y_ofG hw fun w _ => ?_
  unfold execOp
  simp only [ho, hx]
  simp [hf w, Sem.run_bind]
/-- the place of an element of m cells -/
theorem y_indexG {o : Oper} {a : Act} {x y : Operand} {t e : TypeId} {g f n c i m : Nat} (hw : Region.wanted o (yielded ops a.tmps) = true) (ho : o.op = .indexAddr t x y) (hx : a.eval x = .slice (some ⟨g, f, none⟩) n c) (hy : a.eval y = .int .i64 (i : Int)) (hu : Tryz.prog.underlying t = some (.slice e)) (hs : (Tryz.prog.info? e).map (·.size) = some m) (hi : i < n) : YieldsIf Tryz.prog ops S o (.pointer (some ⟨g, f + i * m, none⟩)) a := by
  cases hq : Tryz.prog.info? e with
  | none => simp [hq] at hs
  | some z =>
    have hz : z.size = m := by simpa [hq] using hs
    refine y_ofG hw fun w _ => ?_
    unfold execOp
    simp only [ho, hx, hy]
    simp [Instr.indexAt, asIntOf, Sem.run_bind, run_underlying hu w, sizeOf, typeInfo, hq, hz, hi, Addr.add, go_sem]
    try omega
theorem y_lenP {o : Oper} {a : Act} {x : Operand} {t e : TypeId} {aa : Option Addr} {n cc : Nat} (hw : Region.wanted o (yielded ops a.tmps) = true) (ho : o.op = .call { callee := .builtin .len, args := #[x], argTypes := #[t] }) (hx : a.eval x = .slice aa n cc) (hu : Tryz.prog.underlying t = some (.slice e)) : YieldsIf Tryz.prog ops S o (.int .i64 (n : Int)) a :=
  y_ofG hw fun w _ => by
    unfold execOp
    have ha : (#[x] : Array Operand).map a.eval = #[.slice aa n cc] := by simp only [List.map_toArray, List.map_cons, List.map_nil, hx]
    generalize (#[x] : Array Operand) = xs at ho ha
    simp only [ho]
    simp [resolve, ha, go_sem, Builtin.len_, Sem.run_bind, run_underlying hu]
theorem y_neI {o : Oper} {a : Act} {x y : Operand} {t t' : TypeId} {k : IntKind} {i j : Int} {b : Bool} (hw : Region.wanted o (yielded ops a.tmps) = true) (ho : o.op = .binOp .neq t x y t') (hx : a.eval x = .int k i) (hy : a.eval y = .int k j) (hu : Tryz.prog.underlying t = some (.int k)) (hb : (i != j) = b) : YieldsIf Tryz.prog ops S o (.bool b) a := by
  refine y_ofG hw fun w _ => ?_
  unfold execOp
  simp only [ho, hx, hy]
  simp [go_sem, Sem.run_bind, eqGuard, run_underlying hu, ← hb]
/-- a sum of two ints -/
theorem y_addI {o : Oper} {a : Act} {x y : Operand} {t t' : TypeId} {i j q : Int} (hw : Region.wanted o (yielded ops a.tmps) = true) (ho : o.op = .binOp .add t x y t') (hx : a.eval x = .int .i64 i) (hy : a.eval y = .int .i64 j) (hu : Tryz.prog.underlying t = some (.int .i64)) (hb : IntKind.i64.wrap (i + j) = q) : YieldsIf Tryz.prog ops S o (.int .i64 q) a := by
  refine y_ofG hw fun w _ => ?_
  unfold execOp
  simp only [ho, hx, hy]
  simp [go_sem, Sem.run_bind, run_underlying hu, hb]
theorem y_mulI {o : Oper} {a : Act} {x y : Operand} {t t' : TypeId} {i j q : Int} (hw : Region.wanted o (yielded ops a.tmps) = true) (ho : o.op = .binOp .mul t x y t') (hx : a.eval x = .int .i64 i) (hy : a.eval y = .int .i64 j) (hu : Tryz.prog.underlying t = some (.int .i64)) (hb : IntKind.i64.wrap (i * j) = q) : YieldsIf Tryz.prog ops S o (.int .i64 q) a := by
  refine y_ofG hw fun w _ => ?_
  unfold execOp
  simp only [ho, hx, hy]
  simp [go_sem, Sem.run_bind, run_underlying hu, hb]
theorem y_convI {o : Oper} {a : Act} {x : Operand} {t t' : TypeId} {k k' : IntKind} {i j : Int} (hw : Region.wanted o (yielded ops a.tmps) = true) (ho : o.op = .convert t t' x) (hx : a.eval x = .int k i) (hr : ∀ w, (convert t t' (.int k i)).run Tryz.prog w = .ok (.int k' j) w) : YieldsIf Tryz.prog ops S o (.int k' j) a := by
  refine y_ofG hw fun w _ => ?_
  have h := hr w
  unfold execOp
  simp only [ho, hx]
  simp [Sem.run_bind, h]
theorem p_build2G {i : Nat} {o : Oper} {a : Act} {w : World} {t e : TypeId} {x y : Operand} {ax ay : Option Addr} {nx cx ny cy : Nat} {d : Option Nat} {z : TypeInfo} (hi : ops[i]? = some o) (hw : Region.wanted o (yielded ops a.tmps) = true) (ho : o.op = .buildSlice t 2 #[(0, x), (1, y)]) (hx : a.eval x = .slice ax nx cx) (hy : a.eval y = .slice ay ny cy) (hd : o.dst = d)
    (hu : Tryz.prog.underlying t = some (.slice e)) (hz : Tryz.prog.info? e = some z) (hs : z.size = 1) (hz0 : z.zero = some (.slice none 0 0)) (h : K (a.put d (.slice (some ⟨w.heap.size, 0, none⟩) 2 2)) (w.alloc (.cells #[.slice ax nx cx, .slice ay ny cy] e))) : wpOp Tryz.prog ops Q i K a w := by
  have hr : (execOp a.eval o).run Tryz.prog w = .ok (.value (.slice (some ⟨w.heap.size, 0, none⟩) 2 2)) (w.alloc (.cells #[.slice ax nx cx, .slice ay ny cy] e)) := by
    unfold execOp
    simp only [ho, List.map_toArray, List.map_cons, List.map_nil, hx, hy]
    simp [Sem.run_bind, run_underlying hu, sizeOf, typeInfo, zeroValue, hz, hs, hz0, go_sem]
  unfold wpOp
  simp only [hi]
  rw [if_pos hw]
  left
  unfold Oper.wp
  rw [hr]
  show K (a.put o.dst _) _
  rw [hd]
  exact h
end
end Go.Proofs.YtogiballdmgcpaaGreatDoor

/- How ids of 16 bytes, and digests and seeds of 32, that came in are read. -/
namespace Go.Proofs.YtogiballdmgcpaaGreatDoor
open Go.ChangeShapes Go.WideShapes Go.ChangeAt Go.RowKit Go.Deep
set_option linter.unusedVariables false
set_option linter.unusedSimpArgs false

theorem Tryz.cellsU8 : Tryz.prog.cellsOf 5 = 1 := by kernel_rfl
theorem Tryz.cellsB16 : Tryz.prog.cellsOf 42 = 16 := by kernel_rfl
theorem Tryz.cellsB32 : Tryz.prog.cellsOf 43 = 32 := by kernel_rfl
theorem okWide_array {P : Program} {w : World} {r : Reach} {base : Nat} {t e : TypeId} {n : Nat} {v : Value} (ht : P.underlying t = some (.array n e)) (h : Value.okWide P w r base t v) : ∃ cs, v = .agg cs ∧ cs.size = P.cellsOf t := by
  simp only [Value.okWide, ht] at h
  obtain ⟨cs, h1, h2, _⟩ := h
  exact ⟨cs, h1, h2⟩
/-- 16 bytes, as they came in -/
structure IBIs (cs : Array Value) (bk : List Nat) : Prop where
  is : cs = arr .u8 bk
  len : bk.length = 16
  und : Under 256 bk
/-- 32 bytes, as they came in -/
structure HBIs (cs : Array Value) (bk : List Nat) : Prop where
  is : cs = arr .u8 bk
  len : bk.length = 32
  und : Under 256 bk
theorem read_u8 {H : Type} {enc : TypeId × Value → H} {W : World} {fuel : Nat} {v : Value} {x : DataW H × List MemPlace}
    (h : DataW.trod enc Tryz.prog W 0 (fun _ => true) true fuel 5 [v] = some x) : ∃ n : Nat, v = .int .u8 (n : Int) ∧ n < 256 := by
  obtain ⟨t, e0, _, hw⟩ := DataW.trod_int Tryz.underlying5 h
  have hb := wf_u8 t hw
  simp at e0
  exact ⟨t.toNat, by rw [e0, Int.toNat_of_nonneg hb.1], by omega⟩
theorem bytes_inQ : ∀ l : List Value, (∀ i, i < l.length → ∃ n : Nat, l[i]? = some (.int .u8 (n : Int)) ∧ n < 256) → ∃ ws : List Nat, ws.length = l.length ∧ Under 256 ws ∧ l = vals .u8 ws
  | [], _ => ⟨[], rfl, fun x hx => by simp at hx, rfl⟩
  | v :: l, h => by
    obtain ⟨ws, h1, h2, h3⟩ := bytes_inQ l (fun i hi => by
      have := h (i + 1) (by simp; omega)
      simpa using this)
    obtain ⟨n, hn, hb⟩ := h 0 (by simp)
    have hv : v = .int .u8 (n : Int) := by simpa using hn
    refine ⟨n :: ws, by simp [h1], fun x hx => ?_, by rw [hv, h3]; rfl⟩
    rcases List.mem_cons.1 hx with rfl | hx
    · exact hb
    · exact h2 x hx
theorem read_ids {H : Type} {enc : TypeId × Value → H} {W : World} {fuel : Nat} {cs : Array Value} {x : DataW H × List MemPlace}
    (h : DataW.trod enc Tryz.prog W 0 (fun _ => true) true fuel 42 cs.toList = some x) : ∃ bk, IBIs cs bk := by
  obtain ⟨l⟩ := cs
  obtain ⟨zs, m, _, _, hcl, hzl, hz⟩ := DataW.trod_array Tryz.underlying42 h
  rw [Tryz.cellsB16] at hcl
  have hcl : l.length = 16 := hcl
  obtain ⟨ws, h1, h2, h3⟩ := bytes_inQ l (fun i hi => by
    have hi' : i < 16 := by omega
    have := hz i hi'
    rw [Tryz.cellsU8, Nat.mul_one] at this
    have hd : (l.drop i).take 1 = [l[i]] := by
      rw [List.drop_eq_getElem_cons hi]; rfl
    change DataW.trod enc Tryz.prog W 0 (fun _ => true) true m 5 ((l.drop i).take 1) = _ at this
    rw [hd, List.getElem?_eq_getElem (by omega)] at this
    obtain ⟨n, hn, hb⟩ := read_u8 this
    exact ⟨n, by rw [List.getElem?_eq_getElem hi, hn], hb⟩)
  exact ⟨ws, by unfold arr; rw [← h3], by omega, h2⟩
theorem read_halves {H : Type} {enc : TypeId × Value → H} {W : World} {fuel : Nat} {cs : Array Value} {x : DataW H × List MemPlace}
    (h : DataW.trod enc Tryz.prog W 0 (fun _ => true) true fuel 43 cs.toList = some x) : ∃ bk, HBIs cs bk := by
  obtain ⟨l⟩ := cs
  obtain ⟨zs, m, _, _, hcl, hzl, hz⟩ := DataW.trod_array Tryz.underlying43 h
  rw [Tryz.cellsB32] at hcl
  have hcl : l.length = 32 := hcl
  obtain ⟨ws, h1, h2, h3⟩ := bytes_inQ l (fun i hi => by
    have hi' : i < 32 := by omega
    have := hz i hi'
    rw [Tryz.cellsU8, Nat.mul_one] at this
    have hd : (l.drop i).take 1 = [l[i]] := by
      rw [List.drop_eq_getElem_cons hi]; rfl
    change DataW.trod enc Tryz.prog W 0 (fun _ => true) true m 5 ((l.drop i).take 1) = _ at this
    rw [hd, List.getElem?_eq_getElem (by omega)] at this
    obtain ⟨n, hn, hb⟩ := read_u8 this
    exact ⟨n, by rw [List.getElem?_eq_getElem hi, hn], hb⟩)
  exact ⟨ws, by unfold arr; rw [← h3], by omega, h2⟩
/-- an array's bytes, boxed, are a text -/
theorem row_boxL {w : World} {g : Nat} {bk : List Nat} {t : TypeId} (hb : w.heap[g]? = some (.cells (arr .u8 bk) t (0, 0))) (hu : Under 256 bk) (hl : bk.length ≤ 1000) : Row .u8 256 w (.slice (some ⟨g, 0, none⟩) bk.length bk.length) bk :=
  ⟨_, bk.length, rfl, Nat.le_refl _, by unfold maxLen; omega, fun _ => ⟨g, 0, rfl, fun i hi => by
    have hL : Lies .u8 t w g bk := hb
    rw [Nat.zero_add]
    exact hL.cell hi⟩, hu⟩
section
variable {ops : Array Oper} {S : World → Prop}
theorem y_arr16 {o : Oper} {a : Act} {x : Operand} {g : Nat} (hw : Region.wanted o (yielded ops a.tmps) = true) (ho : o.op = .slice 42 x none none none) (hx : a.eval x = .pointer (some ⟨g, 0, none⟩)) : YieldsIf Tryz.prog ops S o (.slice (some ⟨g, 0, none⟩) 16 16) a := by
  obtain ⟨i0, hi0, hz0, hz1, hz2⟩ := info_byte
  refine .inl ⟨hw, fun w _ => ?_⟩
  unfold execOp
  simp only [ho, hx, Option.map_none]
  simp [Instr.sliceAt, Instr.slice, Instr.sliceBounds, Sem.run_bind, run_underlying Tryz.underlying42, run_underlying Tryz.underlying23, sizeOf, typeInfo, hi0, hz1, Addr.add, go_sem]
theorem y_arr32 {o : Oper} {a : Act} {x : Operand} {g : Nat} (hw : Region.wanted o (yielded ops a.tmps) = true) (ho : o.op = .slice 43 x none none none) (hx : a.eval x = .pointer (some ⟨g, 0, none⟩)) : YieldsIf Tryz.prog ops S o (.slice (some ⟨g, 0, none⟩) 32 32) a := by
  obtain ⟨i0, hi0, hz0, hz1, hz2⟩ := info_byte
  refine .inl ⟨hw, fun w _ => ?_⟩
  unfold execOp
  simp only [ho, hx, Option.map_none]
  simp [Instr.sliceAt, Instr.slice, Instr.sliceBounds, Sem.run_bind, run_underlying Tryz.underlying43, run_underlying Tryz.underlying23, sizeOf, typeInfo, hi0, hz1, Addr.add, go_sem]
end
end Go.Proofs.YtogiballdmgcpaaGreatDoor
