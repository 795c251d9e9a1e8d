/- A sponge that lies in memory: its cells. -/
import Derived.Test.YtpmobjfhhkglbaaKSp
import Derived.StillTailTactics
namespace Go.Proofs.Ytpmobjfhhkglbaa
open Go.RowKit
set_option linter.unusedVariables false
set_option linter.unusedSimpArgs false

theorem But.setCells {g : Nat} {a w : World} (h : But g a w) : ∀ (vs : List Value) (o : Nat), But g a (w.setCells g o vs) := by
  intro vs
  induction vs generalizing w with
  | nil => intro o; exact h
  | cons v vs ih => intro o; exact ih (h.setCell o v) (o + 1)
end Go.Proofs.Ytpmobjfhhkglbaa
