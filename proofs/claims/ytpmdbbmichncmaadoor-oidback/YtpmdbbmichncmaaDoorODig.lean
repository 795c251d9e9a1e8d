/- Contract of apostilleref02.Digits. -/
import Derived.Test.YtpmdbbmichncmaaDoorOLoose
import Derived.Lib.ItoaNum
import Derived.Laws.IdiomStrings
namespace Go.Proofs.YtpmdbbmichncmaaDoor
open Go.RowKit
set_option linter.unusedVariables false

/-- a text of these bytes -/
abbrev str (l : List UInt8) : Value := .string ⟨l.toArray⟩
/-- a byte -/
def ch (x : Nat) : UInt8 := UInt8.ofNat x
theorem ch_nat {x : Nat} (h : x < 256) : (ch x).toNat = x := by unfold ch; simp; omega
abbrev dg (n : Nat) : List UInt8 := Lib.decDigits n
theorem dg_low {n : Nat} (h : n < 10) : dg n = [ch (48 + n)] := by unfold dg; rw [Lib.decDigits, dif_pos h]; rfl
theorem dg_high {n : Nat} (h : ¬ n < 10) : dg n = dg (n / 10) ++ [ch (48 + n % 10)] := by unfold dg; rw [Lib.decDigits, dif_neg h]; rfl
theorem dg_len (n : Nat) : ∀ k, n < 10 ^ (k + 1) → (dg n).length ≤ k + 1 := by
  induction n using Nat.strongRecOn with
  | ind n ih =>
    intro k hk
    by_cases h : n < 10
    · rw [dg_low h]; simp
    · rw [dg_high h, List.length_append]
      cases k with
      | zero => simp at hk; omega
      | succ k =>
        have := ih (n / 10) (by omega) k (Nat.div_lt_of_lt_mul (by rw [Nat.pow_succ] at hk; omega))
        simp; omega
theorem dg_len20 {n : Nat} (h : n < 18446744073709551616) : (dg n).length ≤ 20 := dg_len n 19 (by omega)

theorem conv_one (w : World) (x : Nat) (y : Int) (hy : y = (x : Int)) (hx : x < 256) :
    (convert 24 9 (.slice (some ⟨w.heap.size, 0, none⟩) 1 1)).run Tryd.prog (w.alloc (.cells #[.int .u8 y] 5)) = .ok (.string ⟨#[ch x]⟩) (w.alloc (.cells #[.int .u8 y] 5)) := by
  subst hy
  refine run_convert_bytes_back (P := Tryd.prog) _ 24 9 5 ⟨w.heap.size, 0, none⟩ 1 [ch x] Tryd.underlying24 Tryd.underlying5 Tryd.underlying9 ?_
  intro j hj
  have hj0 : j = 0 := by simp at hj; omega
  subst hj0
  rw [cells_new w (.int .u8 (x : Int)) 5 0 (.int .u8 (x : Int)) rfl]
  simp [ch_nat hx]
theorem str_app (a b : List UInt8) : (⟨a.toArray⟩ ++ ⟨b.toArray⟩ : ByteArray) = ⟨(a ++ b).toArray⟩ := by
  apply ByteArray.ext
  simp
theorem str_one (x : UInt8) (b : List UInt8) : (⟨#[x]⟩ ++ ⟨b.toArray⟩ : ByteArray) = ⟨(x :: b).toArray⟩ := str_app [x] b

set_option maxRecDepth 100000 in
set_option maxHeartbeats 1000000 in
theorem rdigits_any (n : Nat) (w : World) (hn : n < 18446744073709551616) :
    Calls Tryd.prog 30 #[.int .u64 n] w fun e w' => e = .returned (str (dg n)) ∧ Below w.heap.size w w' := by
  have h20 := dg_len20 hn
  go_enter Tryd.func30, Tryd.ntmps30
  go_wp2
  go_loopw [0, 3] (fun u v wr => ∃ (q : Nat) (t : List UInt8), u = .int .u64 q ∧ q < 18446744073709551616 ∧ v = str t ∧ Hid (dg q ++ t = dg n) ∧ t.length ≤ 20 ∧ Below w.heap.size w wr) (fun u _ _ => (intOf u).toNat)
  case atStart => exact ⟨n, [], rfl, hn, rfl, hide (by simp), by simp, Below.refl _ _⟩
  case round =>
    obtain ⟨q, t, rfl, hq, rfl, HG, ht, hbr⟩ := hrel
    have hsz := hbr.size
    by_cases h10 : q < 10
    · have hcv := conv_one wr (48 + q) (48 + (q : Int)) (by omega) (by omega)
      have HG2 : Hid (ch (48 + q) :: t = dg n) := hide (by rw [← HG.out, dg_low h10]; rfl)
      generalize ch (48 + q) = c at *
      go_wp2
      go_ret
      exact ⟨by rw [str_one, HG2.out]; rfl, hbr.alloc hsz _⟩
    · have hcv := conv_one wr (48 + q % 10) (48 + (q : Int) % 10) (by omega) (by omega)
      have HG2 : Hid (dg (q / 10) ++ ch (48 + q % 10) :: t = dg n) := hide (by rw [← HG.out, dg_high h10]; simp)
      generalize ch (48 + q % 10) = c at *
      have hl : (c :: t).length ≤ 20 := by
        have := congrArg List.length HG2.out
        rw [List.length_append] at this
        omega
      go_wp2
      exact ⟨⟨q / 10, c :: t, by simp, by omega, by rw [str_one], HG2, hl, hbr.alloc hsz _⟩, by simp [intOf]; omega⟩
end Go.Proofs.YtpmdbbmichncmaaDoor
