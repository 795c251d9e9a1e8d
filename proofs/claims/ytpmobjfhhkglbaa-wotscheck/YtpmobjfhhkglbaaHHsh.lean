/- Sums that go on, as values; the constants; few texts in a new slice. -/
import Derived.Test.YtpmobjfhhkglbaaHKi2
import Derived.Test.YtpmobjfhhkglbaaTex
namespace Go.Proofs.Ytpmobjfhhkglbaa
open Go.RowKit
set_option linter.unusedVariables false
set_option linter.unusedSimpArgs false

/-- a sum that goes on: its cells -/
def hv (kind : Int) (ws : List Nat) (tv : Value) (size : Nat) : Array Value :=
  #[.int .i64 kind, .int .u64 (el ws 0), .int .u64 (el ws 1), .int .u64 (el ws 2), .int .u64 (el ws 3), .int .u64 (el ws 4), .int .u64 (el ws 5), .int .u64 (el ws 6), .int .u64 (el ws 7), tv, .int .u64 size]
end Go.Proofs.Ytpmobjfhhkglbaa
