/- The row predicate that all contracts of this seat speak of, and small facts on it. -/
import Derived.Test.YtiedkpfpaeecfaaProg
import Derived.WalkKit
import Derived.WalkLawsBesides
import Derived.WalkSpells
import Derived.Deep.QuietTactic
import Derived.BigQuiet
import Derived.OpenShut
import Derived.Test.YtiedkpfpaeecfaaRows
import Derived.ProofKit
import Derived.ShutString
import Derived.ChangeOld
import Derived.Below
namespace Go.Proofs.Ytiedkpfpaeecfaa
open Go.RowKit
set_option linter.unusedVariables false

/-- the element of a list at a place, under a name of its own -/
def el (l : List Nat) (i : Nat) : Nat := l[i]?.getD 0

/-- all numbers of a list are below a bound -/
def Under (m : Nat) (l : List Nat) : Prop := ∀ x ∈ l, x < m

theorem el_lt {m : Nat} {l : List Nat} (h : Under m l) (hm : 0 < m) (i : Nat) : el l i < m := by
  unfold el
  by_cases hi : i < l.length
  · rw [List.getElem?_eq_getElem hi]; exact h _ (List.getElem_mem hi)
  · rw [List.getElem?_eq_none (by omega)]; exact hm

theorem el_at {l : List Nat} {i : Nat} (h : i < l.length) : el l i = l[i] := by
  unfold el; rw [List.getElem?_eq_getElem h]; rfl

/-- the cells of a slice of numbers -/
def Cells (k : IntKind) (w : World) (a : Option Addr) (l : List Nat) : Prop :=
  0 < l.length → ∃ b off, a = some ⟨b, off, none⟩ ∧ ∀ i, i < l.length → w.cell? ⟨b, off + i, none⟩ = some (.int k (el l i))

/-- v is a slice whose elements, in w, are the numbers l, each below m -/
def Row (k : IntKind) (m : Nat) (w : World) (v : Value) (l : List Nat) : Prop :=
  ∃ a cap, v = .slice a l.length cap ∧ l.length ≤ cap ∧ cap ≤ maxLen ∧ Cells k w a l ∧ Under m l

theorem Cells.below {k : IntKind} {w w' : World} {a : Option Addr} {l : List Nat} {B : Nat} (h : Cells k w a l) (hb : Below B w w') (hB : w.heap.size ≤ B) : Cells k w' a l := by
  intro hl
  obtain ⟨b, off, rfl, hc⟩ := h hl
  refine ⟨b, off, rfl, fun i hi => ?_⟩
  have h1 := hc i hi
  have h2 := World.block_lt_of_cell? w _ h1
  rw [hb.cell (p := ⟨b, off + i, none⟩) (by simp at h2 ⊢; omega)]
  exact h1

theorem Row.below {k : IntKind} {m : Nat} {w w' : World} {v : Value} {l : List Nat} (h : Row k m w v l) (hb : Below w.heap.size w w') : Row k m w' v l := by
  obtain ⟨a, cap, rfl, h1, h2, h3, h4⟩ := h
  exact ⟨a, cap, rfl, h1, h2, h3.below hb (Nat.le_refl _), h4⟩

theorem Row.drewN {k : IntKind} {m : Nat} {w : World} {v : Value} {l : List Nat} (h : Row k m w v l) (n : Nat) : Row k m (w.drewN n) v l := by
  obtain ⟨a, cap, rfl, h1, h2, h3, h4⟩ := h
  refine ⟨a, cap, rfl, h1, h2, fun hl => ?_, h4⟩
  obtain ⟨b, off, rfl, hc⟩ := h3 hl
  exact ⟨b, off, rfl, fun i hi => by simpa using hc i hi⟩

theorem Row.nil (k : IntKind) (m : Nat) (w : World) : Row k m w (.slice none 0 0) [] :=
  ⟨none, 0, rfl, Nat.le_refl _, Nat.zero_le _, fun h => by simp at h, fun x hx => by simp at hx⟩

theorem hide {p : Prop} (h : p) : Hid p := h
theorem vint {k : IntKind} {a b : Int} (h : a = b) : Value.int k a = Value.int k b := by rw [h]
theorem ret_bool {a b : Bool} (h : a = b) : Ending.returned (.bool a) = .returned (.bool b) := by rw [h]
theorem ret_int {k : IntKind} {a b : Int} (h : a = b) : Ending.returned (.int k a) = .returned (.int k b) := by rw [h]

end Go.Proofs.Ytiedkpfpaeecfaa

/- What the laws' frames are told of a slice of integers, and how it is a row. -/
namespace Go.Proofs.Ytiedkpfpaeecfaa
open Go.ChangeShapes Go.WideShapes Go.ChangeAt Go.RowKit
set_option linter.unusedVariables false

theorem own : ownKnob Try.prog.godebug = none := by kernel_rfl
theorem laidOut : laidOutB Try.prog = true := by kernel_rfl

/-- a slice of integers that came in: it is nil; or it leads to a row of 'cap' cells, the numbers 'zs' (the first 'len' are its elements, the rest its spare room), each fitting its kind -/
def IsRow (k : IntKind) (w : World) (a : Option Addr) (len cap : Nat) (zs : List Int) : Prop :=
  (a = none ∧ len = 0 ∧ cap = 0 ∧ zs = []) ∨
  ∃ x, a = some x ∧ len ≤ cap ∧ cap ≤ maxLen ∧ zs.length = cap ∧ (∀ i, i < zs.length → w.cell? (x.add i) = some (.int k (zs.getD i 0))) ∧ ∀ n ∈ zs, (Lit.int k n).wf = true

theorem IsRow.row {k : IntKind} {m : Nat} {w : World} {a : Option Addr} {len cap : Nat} {zs : List Int} (h : IsRow k w a len cap zs)
    (hk : ∀ n : Int, (Lit.int k n).wf = true → 0 ≤ n ∧ n < m) : ∃ l : List Nat, l.length = len ∧ Row k m w (.slice a len cap) l := by
  rcases h with ⟨rfl, rfl, rfl, rfl⟩ | ⟨x, rfl, hl, hm, hz, hc, hw⟩
  · exact ⟨[], rfl, Row.nil _ _ _⟩
  · refine ⟨(zs.take len).map Int.toNat, by simp; omega, x, cap, by simp; omega, by simp; omega, hm, ?_, ?_⟩
    · intro hp
      obtain ⟨b, off, spot⟩ := x
      have hp' : 0 < zs.length := by simp at hp; omega
      have h0 := hc 0 hp'
      have hspot : spot = none := by simpa [Addr.add] using World.cell?_spot h0
      subst hspot
      refine ⟨b, off, rfl, fun i hi => ?_⟩
      have hi' : i < len ∧ i < zs.length := by simp at hi; omega
      have h1 := hc i hi'.2
      have e : (zs.getD i 0) = ((el ((zs.take len).map Int.toNat) i : Nat) : Int) := by
        rw [el_at hi]
        have h2 := hk zs[i] (hw _ (List.getElem_mem hi'.2))
        simp [List.getD, List.getElem?_eq_getElem hi'.2]
        omega
      rw [e, Addr.add_lit] at h1
      exact h1
    · intro n hn
      obtain ⟨z, hz1, rfl⟩ := List.mem_map.1 hn
      have := hk z (hw _ (List.mem_of_mem_take hz1))
      omega

theorem Try.bytes5 : Try.prog.bytesOf 5 = 1 := by kernel_rfl
theorem Try.bytes61 : Try.prog.bytesOf 61 = 4 := by kernel_rfl

theorem IsRow.tidy {k : IntKind} {w : World} {a : Option Addr} {len cap : Nat} {zs : List Int} (h : IsRow k w a len cap zs) : ∀ n c, Value.slice a len cap = .slice none n c → n = 0 ∧ c = 0 := by
  intro n c he
  rcases h with ⟨rfl, rfl, rfl, rfl⟩ | ⟨x, rfl, _⟩
  · simp at he; omega
  · simp at he

theorem wf_u8 (n : Int) (h : (Lit.int .u8 n).wf = true) : 0 ≤ n ∧ n < (256 : Nat) := by have := bounds_u8 h; omega
theorem wf_u32 (n : Int) (h : (Lit.int .u32 n).wf = true) : 0 ≤ n ∧ n < (4294967296 : Nat) := by have := bounds_u32 h; omega
theorem wf_u64 (n : Int) (h : (Lit.int .u64 n).wf = true) : 0 ≤ n ∧ n < (18446744073709551616 : Nat) := by have := bounds_u64 h; omega
theorem wf_i64 (n : Int) (h : (Lit.int .i64 n).wf = true) : -9223372036854775808 ≤ n ∧ n ≤ 9223372036854775807 := by have := bounds_i64 h; omega
end Go.Proofs.Ytiedkpfpaeecfaa
