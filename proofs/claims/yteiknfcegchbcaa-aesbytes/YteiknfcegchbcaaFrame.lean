/- What the laws' frames are told of a slice of integers, and how it is a row. -/
import Derived.Test.YteiknfcegchbcaaRows
import Derived.Test.YteiknfcegchbcaaBase
import Derived.WalkKit
import Derived.ProofKit
import Derived.OpenShut
import Derived.ShutString
import Derived.ChangeOld
import Derived.Below
namespace Go.Proofs.Yteiknfcegchbcaa
open Go.ChangeShapes Go.WideShapes Go.ChangeAt Go.RowKit
set_option linter.unusedVariables false

theorem own : ownKnob Try.prog.godebug = none := by kernel_rfl
theorem laidOut : laidOutB Try.prog = true := by kernel_rfl

/-- a slice of integers that came in: it is nil; or it leads to a row of 'cap' cells, the numbers 'zs' (the first 'len' are its elements, the rest its spare room), each fitting its kind -/
def IsRow (k : IntKind) (w : World) (a : Option Addr) (len cap : Nat) (zs : List Int) : Prop :=
  (a = none ∧ len = 0 ∧ cap = 0 ∧ zs = []) ∨
  ∃ x, a = some x ∧ len ≤ cap ∧ cap ≤ maxLen ∧ zs.length = cap ∧ (∀ i, i < zs.length → w.cell? (x.add i) = some (.int k (zs.getD i 0))) ∧ ∀ n ∈ zs, (Lit.int k n).wf = true

theorem IsRow.row {k : IntKind} {m : Nat} {w : World} {a : Option Addr} {len cap : Nat} {zs : List Int} (h : IsRow k w a len cap zs)
    (hk : ∀ n : Int, (Lit.int k n).wf = true → 0 ≤ n ∧ n < m) : ∃ l : List Nat, l.length = len ∧ Row k m w (.slice a len cap) l := by
  rcases h with ⟨rfl, rfl, rfl, rfl⟩ | ⟨x, rfl, hl, hm, hz, hc, hw⟩
  · exact ⟨[], rfl, Row.nil _ _ _⟩
  · refine ⟨(zs.take len).map Int.toNat, by simp; omega, x, cap, by simp; omega, by simp; omega, hm, ?_, ?_⟩
    · intro hp
      obtain ⟨b, off, spot⟩ := x
      have hp' : 0 < zs.length := by simp at hp; omega
      have h0 := hc 0 hp'
      have hspot : spot = none := by simpa [Addr.add] using World.cell?_spot h0
      subst hspot
      refine ⟨b, off, rfl, fun i hi => ?_⟩
      have hi' : i < len ∧ i < zs.length := by simp at hi; omega
      have h1 := hc i hi'.2
      have e : (zs.getD i 0) = ((el ((zs.take len).map Int.toNat) i : Nat) : Int) := by
        rw [el_at hi]
        have h2 := hk zs[i] (hw _ (List.getElem_mem hi'.2))
        simp [List.getD, List.getElem?_eq_getElem hi'.2]
        omega
      rw [e, Addr.add_lit] at h1
      exact h1
    · intro n hn
      obtain ⟨z, hz1, rfl⟩ := List.mem_map.1 hn
      have := hk z (hw _ (List.mem_of_mem_take hz1))
      omega

theorem Try.bytes5 : Try.prog.bytesOf 5 = 1 := by kernel_rfl
theorem Try.bytes38 : Try.prog.bytesOf 38 = 4 := by kernel_rfl

theorem IsRow.tidy {k : IntKind} {w : World} {a : Option Addr} {len cap : Nat} {zs : List Int} (h : IsRow k w a len cap zs) : ∀ n c, Value.slice a len cap = .slice none n c → n = 0 ∧ c = 0 := by
  intro n c he
  rcases h with ⟨rfl, rfl, rfl, rfl⟩ | ⟨x, rfl, _⟩
  · simp at he; omega
  · simp at he

theorem wf_u8 (n : Int) (h : (Lit.int .u8 n).wf = true) : 0 ≤ n ∧ n < (256 : Nat) := by have := bounds_u8 h; omega
theorem wf_u32 (n : Int) (h : (Lit.int .u32 n).wf = true) : 0 ≤ n ∧ n < (4294967296 : Nat) := by have := bounds_u32 h; omega
theorem wf_u64 (n : Int) (h : (Lit.int .u64 n).wf = true) : 0 ≤ n ∧ n < (18446744073709551616 : Nat) := by have := bounds_u64 h; omega
theorem wf_i64 (n : Int) (h : (Lit.int .i64 n).wf = true) : -9223372036854775808 ≤ n ∧ n ≤ 9223372036854775807 := by have := bounds_i64 h; omega
end Go.Proofs.Yteiknfcegchbcaa
