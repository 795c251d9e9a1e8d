/- A drawn region by a plan: which operation is taken first, which runs because it alone may come up. The orders are asked by numbers (bits), the frame is known at the slots in use alone. -/
import Derived.Test.YtpmobjfhhkglbaaBase
import Derived.OrdersHeld
import Derived.Deep.RegionHeld3
namespace Go.Proofs.Ytpmobjfhhkglbaa
open Go.RowKit
set_option linter.unusedVariables false
set_option linter.unusedSimpArgs false

/-- of an operation: for whom it waits (as bits), where it writes, what it looks at -/
abbrev Lt := Nat × Option Nat × List Nat
def aftM (o : Oper) : Nat := o.after.toList.foldl (fun s e => if Region.binds .any e then s ||| 2 ^ e.on else s) 0
def ltOf (ops : Array Oper) : List Lt := ops.toList.map fun o => (aftM o, o.dst, o.looksAt ops)
def apL (x y : Lt) : Bool :=
  (match x.2.1 with
   | some d => !y.2.2.contains d && y.2.1 != some d
   | none => true) &&
  (match y.2.1 with
   | some d => !x.2.2.contains d
   | none => true)
def rdL (x : Lt) (i m : Nat) : Bool := !m.testBit i && (x.1 &&& m == x.1)
theorem aft_bits (l : List Edge) (k : Nat) : ∀ s : Nat, (l.foldl (fun s e => if Region.binds .any e then s ||| 2 ^ e.on else s) s).testBit k = (s.testBit k || l.any (fun e => Region.binds .any e && e.on == k)) := by
  induction l with
  | nil => intro s; simp
  | cons e l ih =>
    intro s
    rw [List.foldl_cons, ih, List.any_cons]
    cases hb : Region.binds .any e
    · simp
    · simp only [if_true, Nat.testBit_or, Nat.testBit_two_pow, Bool.true_and, Bool.or_assoc]
      congr 2
theorem aftM_bit (o : Oper) (k : Nat) : (aftM o).testBit k = true ↔ ∃ e ∈ o.after, Region.binds .any e = true ∧ e.on = k := by
  unfold aftM
  rw [aft_bits]
  simp only [Nat.zero_testBit, Bool.false_or, List.any_eq_true, Bool.and_eq_true, beq_iff_eq, Array.mem_toList_iff]
theorem sub_bits (x m : Nat) : x &&& m = x ↔ ∀ k, x.testBit k = true → m.testBit k = true := by
  constructor
  · intro h k hk
    rw [← h, Nat.testBit_and, Bool.and_eq_true] at hk
    exact hk.2
  · intro h
    apply Nat.eq_of_testBit_eq
    intro k
    rw [Nat.testBit_and]
    cases hk : x.testBit k
    · rfl
    · rw [h k hk]; rfl
/-- what has come up, as bits -/
structure Lsd (n m : Nat) (listed : Array Bool) : Prop where
  size : listed.size = n
  bit : ∀ j (h : j < listed.size), listed[j] = m.testBit j
  lt : m < 2 ^ n
theorem Lsd.tru {n m : Nat} {listed : Array Bool} (h : Lsd n m listed) {j : Nat} (hj : j < n) : listed.getD j true = m.testBit j := by
  have hs : j < listed.size := by rw [h.size]; exact hj
  simp [Array.getD, hs, h.bit j hs]
theorem Lsd.fls {n m : Nat} {listed : Array Bool} (h : Lsd n m listed) (j : Nat) : listed.getD j false = m.testBit j := by
  by_cases hj : j < n
  · have hs : j < listed.size := by rw [h.size]; exact hj
    simp [Array.getD, hs, h.bit j hs]
  · have hs : ¬ j < listed.size := by rw [h.size]; exact hj
    rw [Nat.testBit_lt_two_pow (Nat.lt_of_lt_of_le h.lt (Nat.pow_le_pow_right (by decide) (by omega)))]
    simp [Array.getD, hs]
theorem Lsd.set {n m : Nat} {listed : Array Bool} (h : Lsd n m listed) {i : Nat} (hi : i < n) : Lsd n (m ||| 2 ^ i) (listed.setIfInBounds i true) := by
  refine ⟨by simp [h.size], fun j hj => ?_, Nat.or_lt_two_pow h.lt (Nat.pow_lt_pow_right (by decide) hi)⟩
  have hj' : j < listed.size := by simpa using hj
  rw [Nat.testBit_or, Nat.testBit_two_pow, Array.getElem_setIfInBounds]
  by_cases hij : i = j
  · simp [hij]
  · simp [hij, h.bit j hj']
  exact hj'
theorem Lsd.zero (n : Nat) : Lsd n 0 (Array.replicate n false) := ⟨by simp, fun j hj => by simp, Nat.two_pow_pos n⟩
section
variable {P : Program} {ops : Array Oper} {Q : Exit → Act → World → Prop} {S : World → Prop}
theorem at_lt {lt : List Lt} (hlt : ltOf ops = lt) {i : Nat} {o : Oper} (h : ops[i]? = some o) : lt[i]? = some (aftM o, o.dst, o.looksAt ops) := by
  rw [← hlt]
  unfold ltOf
  rw [List.getElem?_map, show ops.toList[i]? = some o by simpa using h]
  rfl
theorem ready_of {m : Nat} {listed : Array Bool} (h : Lsd ops.size m listed) {i : Nat} {o : Oper} (ho : ops[i]? = some o) : i ∈ Region.ready .any ops listed ↔ rdL (aftM o, o.dst, o.looksAt ops) i m = true := by
  have hi : i < ops.size := (Array.getElem?_eq_some_iff.1 ho).1
  rw [mem_ready, h.tru hi]
  unfold rdL
  simp only [Bool.and_eq_true, Bool.not_eq_true', beq_iff_eq]
  rw [sub_bits]
  constructor
  · rintro ⟨h1, o', ho', h2⟩
    obtain rfl := Option.some.inj (ho.symm.trans ho')
    refine ⟨h1, fun k hk => ?_⟩
    obtain ⟨e, he, hb, rfl⟩ := (aftM_bit o k).1 hk
    rw [← h.fls]
    exact h2 e he hb
  · rintro ⟨h1, h2⟩
    exact ⟨h1, o, ho, fun e he hb => by rw [h.fls]; exact h2 e.on ((aftM_bit o e.on).2 ⟨e, he, hb, rfl⟩)⟩
/-! ### the frame at the slots in use -/
theorem ev_const {a : Act} {v : Value} : a.eval (.const v) = v := rfl
/-! ### operations -/
theorem wanted_free {o : Oper} (hg : o.guard = none) {f : Nat → Option Bool} : Region.wanted o f = true := by simp [Region.wanted, hg]
end
end Go.Proofs.Ytpmobjfhhkglbaa
