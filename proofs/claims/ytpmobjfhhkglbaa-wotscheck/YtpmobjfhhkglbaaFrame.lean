/- What the laws' frames are told of a slice of integers, and how it is a row. -/
import Derived.Test.YtpmobjfhhkglbaaRows
import Derived.Test.YtpmobjfhhkglbaaBase
import Derived.WalkKit
import Derived.ProofKit
import Derived.OpenShut
import Derived.ShutString
import Derived.ChangeOld
import Derived.Below
namespace Go.Proofs.Ytpmobjfhhkglbaa
open Go.ChangeShapes Go.WideShapes Go.ChangeAt Go.RowKit
set_option linter.unusedVariables false

theorem own : ownKnob Try.prog.godebug = none := by kernel_rfl
theorem laidOut : laidOutB Try.prog = true := by kernel_rfl

theorem wf_u8 (n : Int) (h : (Lit.int .u8 n).wf = true) : 0 ≤ n ∧ n < (256 : Nat) := by have := bounds_u8 h; omega
end Go.Proofs.Ytpmobjfhhkglbaa
