/- Keys of chains: the document's pair and short; steps of plans over a place's box. -/
import Derived.Test.YtpmobjfhhkglbaaWtL
import Derived.Test.YtpmobjfhhkglbaaPgF
import Derived.Test.YtpmobjfhhkglbaaBe
import Derived.Test.YtpmobjfhhkglbaaLmR
namespace Go.Proofs.Ytpmobjfhhkglbaa
open Go.RowKit
set_option linter.unusedVariables false
set_option linter.unusedSimpArgs false

theorem tidy_someW {b o n c : Nat} : Tidy (.slice (some ⟨b, o, none⟩) n c) := fun n c e => by cases e
end Go.Proofs.Ytpmobjfhhkglbaa
