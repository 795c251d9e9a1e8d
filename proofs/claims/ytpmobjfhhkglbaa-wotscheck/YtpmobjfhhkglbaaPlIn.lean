/- A drawn region in a round of a loop over an iterator, by a plan. -/
import Derived.Test.YtpmobjfhhkglbaaAPln
import Derived.RangeFuncCalls
import Derived.RangeFuncBox
import Derived.Stop.RegionWithIn
namespace Go.Proofs.Ytpmobjfhhkglbaa
open Go.RowKit
set_option linter.unusedVariables false
set_option linter.unusedSimpArgs false

section
variable {P : Program} {ops : Array Oper} {R : Act → World → Prop} {l n : Nat}
variable {S : World → Prop} {Q : Exit → Act → World → Prop} {K : Act → World → Prop}
theorem at_takeD {lt : List Lt} (Rg : Reg ops lt) {m m' i fuel : Nat} {a : Act} {w : World} {o : Oper} {v : Value} {d : Option Nat} (hi : ops[i]? = some o) (hc : takeL lt i m = true) (he : m ||| 2 ^ i = m') (hd : o.dst = d) (hy : YieldsIf P ops S o v a) (hS : S w)
    (h : At P ops Q S fuel m' (a.put d v) w) : At P ops Q S (fuel + 1) m a w := at_take Rg hi hc he hy hS (by rw [hd]; exact h)
end
end Go.Proofs.Ytpmobjfhhkglbaa
