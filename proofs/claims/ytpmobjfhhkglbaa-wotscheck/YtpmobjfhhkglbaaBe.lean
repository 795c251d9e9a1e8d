/- Contracts of bits.Be, apostilleref01.Be. -/
import Derived.Test.YtpmobjfhhkglbaaLe
import Derived.Test.YtpmobjfhhkglbaaRev
namespace Go.Proofs.Ytpmobjfhhkglbaa
open Go.RowKit
set_option linter.unusedVariables false

set_option maxHeartbeats 400000 in
set_option maxRecDepth 100000 in
theorem be_any (n : Nat) (size : Int) (w : World) (hn : n < 18446744073709551616) (hs0 : -9223372036854775808 ≤ size) (hs1 : size ≤ 9223372036854775807) :
    Calls Try.prog 10 #[.int .u64 n, .int .i64 size] w fun e w' => ∃ v, e = .returned v ∧ Own 5 .u8 256 w' w.heap.size v (leS n size).reverse ∧ Below w.heap.size w w' := by
  go_enter Try.func10, Try.ntmps10
  go_wp2_with fail
  refine (le_any n size _ hn hs0 hs1).mono ?_
  rintro e w1 ⟨v, rfl, ho, hb⟩
  go_wp2_with fail
  refine (rev_any v _ _ _ ho).mono ?_
  rintro e w2 ⟨rfl, ho2, hb2⟩
  go_wp2
  go_ret
  exact ⟨_, rfl, ho2, hb.trans hb2⟩

theorem leL_length (n size : Nat) : (leL n size).length = size := by simp [leL]
theorem rbe_nil (n : Nat) (size : Int) (h : size ≤ 0 ∨ 65536 < size) : (leS n size).reverse = [] := by
  unfold leS; rw [if_pos h]; rfl

end Go.Proofs.Ytpmobjfhhkglbaa
