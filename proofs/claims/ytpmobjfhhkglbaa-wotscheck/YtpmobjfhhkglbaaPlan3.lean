/- A drawn region step by step: what has come up is a number; an operation is taken first, or each that may come up is run. -/
import Derived.Test.YtpmobjfhhkglbaaPlan
namespace Go.Proofs.Ytpmobjfhhkglbaa
open Go.RowKit
set_option linter.unusedVariables false
set_option linter.unusedSimpArgs false

def lsd (n m : Nat) : Array Bool := Array.ofFn (n := n) fun i => m.testBit i.val
theorem lsd_is {n m : Nat} (h : m < 2 ^ n) : Lsd n m (lsd n m) := ⟨by simp [lsd], fun j hj => by simp [lsd], h⟩
theorem lsd_set {n m i : Nat} (hi : i < n) : (lsd n m).setIfInBounds i true = lsd n (m ||| 2 ^ i) := by
  apply Array.ext
  · simp [lsd]
  · intro j h1 h2
    have hj : j < (lsd n m).size := by simpa using h1
    rw [Array.getElem_setIfInBounds hj]
    simp only [lsd, Array.getElem_ofFn, Nat.testBit_or, Nat.testBit_two_pow]
    by_cases hij : i = j <;> simp [hij]
theorem lsd_zero (n : Nat) : Array.replicate n false = lsd n 0 := by
  apply Array.ext
  · simp [lsd]
  · intro j h1 h2; simp [lsd]
/-- a region's operations, as numbers -/
structure Reg (ops : Array Oper) (lt : List Lt) : Prop where
  lt : ltOf ops = lt
  sel : Region.noSelect ops = true
def takeL (lt : List Lt) (i m : Nat) : Bool :=
  decide (m < 2 ^ lt.length) && match lt[i]? with
    | none => false
    | some x => rdL x i m && lt.zipIdx.all (fun y => y.2 == i || m.testBit y.2 || y.1.1.testBit i || apL x y.1)
def someL (lt : List Lt) (rs : List Nat) (m : Nat) : Bool :=
  decide (m < 2 ^ lt.length) && !rs.isEmpty && lt.zipIdx.all (fun y => rs.contains y.2 == rdL y.1 y.2 m) && rs.all (fun i => decide (i < lt.length))
section
variable {P : Program} {ops : Array Oper} {lt : List Lt} {Q : Exit → Act → World → Prop} {S : World → Prop}
theorem Reg.len (R : Reg ops lt) : lt.length = ops.size := by rw [← R.lt]; simp [ltOf]
/-- what is left of a region, where the operations of m have come up -/
def At (P : Program) (ops : Array Oper) (Q : Exit → Act → World → Prop) (S : World → Prop) (fuel m : Nat) (a : Act) (w : World) : Prop := wpAnyH P .any ops (NoPanic Q) S fuel (lsd ops.size m) a w
theorem at_begin {id n : Nat} {a : Act} {w : World} (S : World → Prop) (hm : P.follows .mixedOrders = true) (hn : ops.size = n) (h : At P ops Q S n 0 a w.drew) : (Code.region id ops true).wp P Q a w := by
  refine wp_region_noPanic (wp_region_held (S := S) hm ?_)
  subst hn
  unfold At at h
  rw [← lsd_zero] at h
  exact h
theorem at_done (R : Reg ops lt) {m fuel : Nat} {a : Act} {w : World} (hm : (m == 2 ^ lt.length - 1) = true) (h : Q .normal a w) : At P ops Q S fuel m a w := by
  have hm' : m = 2 ^ ops.size - 1 := by rw [← R.len]; simpa using hm
  have hL := lsd_is (n := ops.size) (m := m) (by rw [hm']; have := Nat.two_pow_pos ops.size; omega)
  refine wpAnyH_done ?_ (NoPanic.normal h) _
  rw [List.eq_nil_iff_forall_not_mem]
  intro j hj
  obtain ⟨h1, o, ho, _⟩ := mem_ready.1 hj
  have hj' : j < ops.size := (Array.getElem?_eq_some_iff.1 ho).1
  rw [hL.tru hj', hm', Nat.testBit_two_pow_sub_one] at h1
  simp [hj'] at h1
theorem at_take (R : Reg ops lt) {m m' i fuel : Nat} {a : Act} {w : World} {o : Oper} {v : Value} (hi : ops[i]? = some o) (hc : takeL lt i m = true) (he : m ||| 2 ^ i = m') (hy : YieldsIf P ops S o v a) (hS : S w)
    (h : At P ops Q S fuel m' (a.put o.dst v) w) : At P ops Q S (fuel + 1) m a w := by
  unfold takeL at hc
  rw [Bool.and_eq_true, decide_eq_true_iff, R.len] at hc
  obtain ⟨hlt, hc⟩ := hc
  rw [at_lt R.lt hi] at hc
  simp only [Bool.and_eq_true] at hc
  have hL := lsd_is hlt
  have hio : i < ops.size := (Array.getElem?_eq_some_iff.1 hi).1
  have hrd := (ready_of hL hi).2 hc.1
  refine wpAnyH_first hi (Region.noSelect_spec R.sel) (fun c a w hh => hh) _ _ a w ?_ hrd hy hS ?_
  · intro j oj hj hne hun hno
    have hj' : j < ops.size := (Array.getElem?_eq_some_iff.1 hj).1
    have hmem : ((aftM oj, oj.dst, oj.looksAt ops), j) ∈ lt.zipIdx := List.mem_zipIdx_iff_getElem?.2 (at_lt R.lt hj)
    have := List.all_eq_true.1 hc.2 _ hmem
    rw [hL.tru hj'] at hun
    simp only [hun, Bool.or_false] at this
    rw [show (j == i) = false from by rw [beq_eq_false_iff_ne]; exact hne, Bool.false_or, Bool.or_eq_true] at this
    rcases this with h1 | h1
    · obtain ⟨e, he, hb, hk⟩ := (aftM_bit oj i).1 h1
      exact absurd hk (hno e he hb)
    · exact h1
  · unfold At at h
    rw [lsd_set hio, he]
    exact h
theorem at_some (R : Reg ops lt) {m fuel : Nat} {a : Act} {w : World} (rs : List Nat) (hc : someL lt rs m = true)
    (h : ∀ i ∈ rs, wpOp P ops (NoPanic Q) i (fun a' w' => S w' ∧ At P ops Q S fuel (m ||| 2 ^ i) a' w') a w) : At P ops Q S (fuel + 1) m a w := by
  unfold someL at hc
  simp only [Bool.and_eq_true, decide_eq_true_iff, Bool.not_eq_true'] at hc
  obtain ⟨⟨⟨hlt, hne⟩, hall⟩, hin⟩ := hc
  rw [R.len] at hlt
  have hL := lsd_is hlt
  have hmem : ∀ j oj, ops[j]? = some oj → (j ∈ Region.ready .any ops (lsd ops.size m) ↔ j ∈ rs) := fun j oj hj => by
    rw [ready_of hL hj]
    have hz : ((aftM oj, oj.dst, oj.looksAt ops), j) ∈ lt.zipIdx := List.mem_zipIdx_iff_getElem?.2 (at_lt R.lt hj)
    have := List.all_eq_true.1 hall _ hz
    rw [beq_iff_eq] at this
    rw [← this]
    simp
  refine ⟨fun h0 => ?_, fun j hj => ?_⟩
  · cases rs with
    | nil => simp at hne
    | cons i r =>
      have hi : i < ops.size := by rw [← R.len]; simpa using List.all_eq_true.1 hin i (by simp)
      have := (hmem i ops[i] (Array.getElem?_eq_getElem hi)).2 (by simp)
      rw [h0] at this
      cases this
  · obtain ⟨_, oj, hoj, _⟩ := mem_ready.1 hj
    have hjo : j < ops.size := (Array.getElem?_eq_some_iff.1 hoj).1
    rw [lsd_set hjo]
    exact h j ((hmem j oj hoj).1 hj)
/-- but one may come up -/
theorem at_one (R : Reg ops lt) {m m' i fuel : Nat} {a : Act} {w : World} (hc : someL lt [i] m = true) (he : m ||| 2 ^ i = m')
    (h : wpOp P ops (NoPanic Q) i (fun a' w' => S w' ∧ At P ops Q S fuel m' a' w') a w) : At P ops Q S (fuel + 1) m a w :=
  at_some R [i] hc fun j hj => by
    obtain rfl : j = i := by simpa using hj
    rw [he]
    exact h
end
end Go.Proofs.Ytpmobjfhhkglbaa
