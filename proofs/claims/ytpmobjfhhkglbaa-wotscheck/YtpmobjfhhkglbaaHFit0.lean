/- Which sums that go on can be: the code's, and the document's. -/
import Derived.Test.YtpmobjfhhkglbaaHHsh
import Derived.Test.YtpmobjfhhkglbaaSame
import Derived.Test.YtpmobjfhhkglbaaKit
namespace Go.Proofs.Ytpmobjfhhkglbaa
open Go.RowKit
set_option linter.unusedVariables false
set_option linter.unusedSimpArgs false

/-- whether a kind has words of 64 bits -/
def wide (kind : Int) : Bool := decide (kind ≠ 1)
def wfit (kind : Int) (ws : List Nat) : Bool := decide (kind ≠ 1) || ws.all (fun x => decide (x < 4294967296))
def hfit (kind : Int) (ws : List Nat) (n size : Nat) : Bool := decide ((kind = 1 ∨ kind = 2 ∨ kind = 3) ∧ size < 1152921504606846976 ∧ n = size % bz (wide kind)) && wfit kind ws
def bk (kind : Int) : Nat := if kind = 1 then 64 else if kind = 2 ∨ kind = 3 then 128 else 0
end Go.Proofs.Ytpmobjfhhkglbaa
