/- Contract of the document's spread. -/
import Derived.Test.YtpmobjfhhkglbaaHaM
import Derived.Test.YtpmobjfhhkglbaaHKi2
import Derived.Laws.ShiftsVarLaws
import Derived.BigRegion
namespace Go.Proofs.Ytpmobjfhhkglbaa
open Go.RowKit
set_option linter.unusedVariables false
set_option linter.unusedSimpArgs false

/-- so many zeros, under a name of their own -/
def zs (n : Nat) : List Nat := List.replicate n 0
end Go.Proofs.Ytpmobjfhhkglbaa
