/- Leaves that sign once: chains, plain, over whatever sum H. -/
import Derived.Test.YtpmobjfhhkglbaaLmM
import Derived.Test.YtpmobjfhhkglbaaTex
namespace Go.Proofs.Ytpmobjfhhkglbaa
open Go.RowKit
set_option linter.unusedVariables false
set_option linter.unusedSimpArgs false

def be2 (n : Nat) : List Nat := (leL n 2).reverse
theorem be2_len (n : Nat) : (be2 n).length = 2 := by unfold be2; rw [List.length_reverse, leL_length]
section
variable (H : List Nat → List Nat) (pre : List Nat)
end
section
variable {H : List Nat → List Nat} {pre : List Nat}
variable (hH : ∀ x, (H x).length = 32)
end
end Go.Proofs.Ytpmobjfhhkglbaa
