/- Contracts of bits.Num, apostilleref01.Num. -/
import Derived.Test.YtpmobjfhhkglbaaBase
namespace Go.Proofs.Ytpmobjfhhkglbaa
open Go.RowKit
set_option linter.unusedVariables false

theorem take_snoc {l : List Nat} {k : Nat} (h : k < l.length) : l.take (k + 1) = l.take k ++ [el l k] := by
  rw [List.take_succ_eq_append_getElem h, el_at h]

end Go.Proofs.Ytpmobjfhhkglbaa
