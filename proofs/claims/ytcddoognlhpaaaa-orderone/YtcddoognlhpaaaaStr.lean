/- Texts: their bytes, digits, parts. -/
import Derived.Test.YtcddoognlhpaaaaKit
import Derived.Lib.ItoaNum
import Derived.Lib.UnsafeStr
import Derived.Lib.SplitLaws
import Derived.Laws.IdiomStrings
namespace Go.Proofs.Ytcddoognlhpaaaa
open Go.RowKit
set_option linter.unusedVariables false

/-- a text of these bytes -/
abbrev str (l : List UInt8) : Value := .string ⟨l.toArray⟩
/-- a byte -/
def ch (x : Nat) : UInt8 := UInt8.ofNat x
theorem ch_nat {x : Nat} (h : x < 256) : (ch x).toNat = x := by unfold ch; simp; omega
abbrev dg (n : Nat) : List UInt8 := Lib.decDigits n
theorem dg_low {n : Nat} (h : n < 10) : dg n = [ch (48 + n)] := by unfold dg; rw [Lib.decDigits, dif_pos h]; rfl
theorem dg_high {n : Nat} (h : ¬ n < 10) : dg n = dg (n / 10) ++ [ch (48 + n % 10)] := by unfold dg; rw [Lib.decDigits, dif_neg h]; rfl
theorem dg_len (n : Nat) : ∀ k, n < 10 ^ (k + 1) → (dg n).length ≤ k + 1 := by
  induction n using Nat.strongRecOn with
  | ind n ih =>
    intro k hk
    by_cases h : n < 10
    · rw [dg_low h]; simp
    · rw [dg_high h, List.length_append]
      cases k with
      | zero => simp at hk; omega
      | succ k =>
        have := ih (n / 10) (by omega) k (Nat.div_lt_of_lt_mul (by rw [Nat.pow_succ] at hk; omega))
        simp; omega
theorem dg_len20 {n : Nat} (h : n < 18446744073709551616) : (dg n).length ≤ 20 := dg_len n 19 (by omega)
theorem conv_one (w : World) (x : Nat) (y : Int) (hy : y = (x : Int)) (hx : x < 256) :
    (convert 25 9 (.slice (some ⟨w.heap.size, 0, none⟩) 1 1)).run Try.prog (w.alloc (.cells #[.int .u8 y] 5)) = .ok (.string ⟨#[ch x]⟩) (w.alloc (.cells #[.int .u8 y] 5)) := by
  subst hy
  refine run_convert_bytes_back (P := Try.prog) _ 25 9 5 ⟨w.heap.size, 0, none⟩ 1 [ch x] Try.underlying25 Try.underlying5 Try.underlying9 ?_
  intro j hj
  have hj0 : j = 0 := by simp at hj; omega
  subst hj0
  rw [cells_new w (.int .u8 (x : Int)) 5 0 (.int .u8 (x : Int)) rfl]
  simp [ch_nat hx]
theorem str_app (a b : List UInt8) : (⟨a.toArray⟩ ++ ⟨b.toArray⟩ : ByteArray) = ⟨(a ++ b).toArray⟩ := by
  apply ByteArray.ext
  simp
theorem str_one (x : UInt8) (b : List UInt8) : (⟨#[x]⟩ ++ ⟨b.toArray⟩ : ByteArray) = ⟨(x :: b).toArray⟩ := str_app [x] b
theorem ba_size (b : ByteArray) : b.size = b.data.toList.length := Lib.size_eq b
theorem cut_snoc {l : List UInt8} {f k : Nat} (hf : f ≤ k) (hk : k < l.length) : (l.take (k + 1)).drop f = (l.take k).drop f ++ [l[k]] := by
  rw [List.take_succ_eq_append_getElem hk, List.drop_append_of_le_length (by simp; omega)]
theorem cut_len {l : List UInt8} {f k : Nat} : ((l.take k).drop f).length ≤ l.length := by simp; omega
theorem sub_eq (l : List UInt8) (f k : Nat) : (⟨l.toArray⟩ : ByteArray).extract f k = ⟨((l.take k).drop f).toArray⟩ := by
  apply ByteArray.ext
  apply Array.ext'
  rw [Lib.extract_data]
  simp [List.drop_take]
theorem dg_pos (n : Nat) : 0 < (dg n).length := by
  by_cases h : n < 10
  · rw [dg_low h]; simp
  · rw [dg_high h]; simp
theorem bc_cells (l : List UInt8) (w : World) (g : Nat) (h : ∀ j u, (Lib.byteCells l)[j]? = some u → w.cell? ((⟨g, 0, none⟩ : Addr).add j) = some u) :
    ∀ j (hj : j < l.length), w.cell? ((⟨g, 0, none⟩ : Addr).add j) = some (.int .u8 (l[j].toNat : Int)) := by
  intro j hj
  refine h j _ ?_
  simp [Lib.byteCells, hj]
theorem dg_digit (n : Nat) : ∀ c ∈ dg n, 48 ≤ c.toNat ∧ c.toNat ≤ 57 := by
  induction n using Nat.strongRecOn with
  | ind n ih =>
    by_cases h : n < 10
    · rw [dg_low h]; intro c hc; simp at hc; subst hc; rw [ch_nat (by omega)]; omega
    · rw [dg_high h]; intro c hc
      rcases List.mem_append.1 hc with h1 | h1
      · exact ih (n / 10) (by omega) c h1
      · simp at h1; subst h1; rw [ch_nat (by omega)]; omega
end Go.Proofs.Ytcddoognlhpaaaa
