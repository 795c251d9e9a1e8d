/- A value whose block is not older than a bound. -/
import Derived.Test.YtpmobjfhhkglbaaHKi2
namespace Go.Proofs.Ytpmobjfhhkglbaa
open Go.RowKit
set_option linter.unusedVariables false
def New (B : Nat) (v : Value) : Prop := ∀ q, v.ownBlock = some q → B ≤ q
theorem New.at {B g n c o : Nat} (h : B ≤ g) : New B (.slice (some ⟨g, o, none⟩) n c) := fun q hq => by
  have : g = q := by simpa [Value.ownBlock] using hq
  omega
theorem New.nil (B n c : Nat) : New B (.slice none n c) := fun q hq => by simp [Value.ownBlock] at hq
theorem New.mono {B B' : Nat} {v : Value} (h : New B v) (hB : B' ≤ B) : New B' v := fun q hq => Nat.le_trans hB (h q hq)
theorem Own.new {e : TypeId} {k : IntKind} {m : Nat} {w : World} {B : Nat} {v : Value} {l : List Nat} (h : Own e k m w B v l) : New B v := fun q hq => (h.1.lt q hq).1
end Go.Proofs.Ytpmobjfhhkglbaa
