/- Texts of the call's own in a slice of the call's own. -/
import Derived.Test.YtpmobjfhhkglbaaTex
import Derived.Test.YtpmobjfhhkglbaaKit
import Derived.Deep.AppendLies
import Derived.Laws.AppendOwnNone
import Derived.ArgAppend
import Derived.Test.YtpmobjfhhkglbaaPApp
namespace Go.Proofs.Ytpmobjfhhkglbaa
open Go.RowKit
set_option linter.unusedVariables false
set_option linter.unusedSimpArgs false

theorem own_tidyG {e : TypeId} {k : IntKind} {m : Nat} {w : World} {B : Nat} {v : Value} {l : List Nat} (h : Own e k m w B v l) : Tidy v := by
  rcases h.1.2 with ⟨rfl, _⟩ | ⟨g, cap, cur, rfl, _⟩
  · intro n c e; cases e; exact ⟨rfl, rfl⟩
  · intro n c e; cases e
end Go.Proofs.Ytpmobjfhhkglbaa
