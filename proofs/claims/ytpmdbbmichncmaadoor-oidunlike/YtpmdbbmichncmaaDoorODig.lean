/- Contract of apostilleref02.Digits. -/
import Derived.Test.YtpmdbbmichncmaaDoorOLoose
import Derived.Test.YtpmdbbmichncmaaDoorStr
namespace Go.Proofs.YtpmdbbmichncmaaDoor
open Go.RowKit
set_option linter.unusedVariables false

set_option maxRecDepth 100000 in
set_option maxHeartbeats 1000000 in
theorem rdigits_any (n : Nat) (w : World) (hn : n < 18446744073709551616) :
    Calls Tryd.prog 30 #[.int .u64 n] w fun e w' => e = .returned (str (dg n)) ∧ Below w.heap.size w w' := by
  have h20 := dg_len20 hn
  go_enter Tryd.func30, Tryd.ntmps30
  go_wp2
  go_loopw [0, 3] (fun u v wr => ∃ (q : Nat) (t : List UInt8), u = .int .u64 q ∧ q < 18446744073709551616 ∧ v = str t ∧ Hid (dg q ++ t = dg n) ∧ t.length ≤ 20 ∧ Below w.heap.size w wr) (fun u _ _ => (intOf u).toNat)
  case atStart => exact ⟨n, [], rfl, hn, rfl, hide (by simp), by simp, Below.refl _ _⟩
  case round =>
    obtain ⟨q, t, rfl, hq, rfl, HG, ht, hbr⟩ := hrel
    have hsz := hbr.size
    by_cases h10 : q < 10
    · have hcv := conv_one wr (48 + q) (48 + (q : Int)) (by omega) (by omega)
      have HG2 : Hid (ch (48 + q) :: t = dg n) := hide (by rw [← HG.out, dg_low h10]; rfl)
      generalize ch (48 + q) = c at *
      go_wp2
      go_ret
      exact ⟨by rw [str_one, HG2.out]; rfl, hbr.alloc hsz _⟩
    · have hcv := conv_one wr (48 + q % 10) (48 + (q : Int) % 10) (by omega) (by omega)
      have HG2 : Hid (dg (q / 10) ++ ch (48 + q % 10) :: t = dg n) := hide (by rw [← HG.out, dg_high h10]; simp)
      generalize ch (48 + q % 10) = c at *
      have hl : (c :: t).length ≤ 20 := by
        have := congrArg List.length HG2.out
        rw [List.length_append] at this
        omega
      go_wp2
      exact ⟨⟨q / 10, c :: t, by simp, by omega, by rw [str_one], HG2, hl, hbr.alloc hsz _⟩, by simp [intOf]; omega⟩
end Go.Proofs.YtpmdbbmichncmaaDoor
