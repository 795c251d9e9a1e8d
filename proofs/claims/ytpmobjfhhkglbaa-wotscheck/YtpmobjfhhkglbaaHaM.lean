/- Plain facts on the sums of SHA-2: words, rounds, blocks. No walk. -/
import Derived.Test.YtpmobjfhhkglbaaNum
import Derived.Test.YtpmobjfhhkglbaaKit
import Derived.Test.YtpmobjfhhkglbaaBe
namespace Go.Proofs.Ytpmobjfhhkglbaa
set_option linter.unusedVariables false
set_option linter.unusedSimpArgs false

def bz (b : Bool) : Nat := bif b then 128 else 64
theorem Under.drop {m : Nat} {l : List Nat} (h : Under m l) (k : Nat) : Under m (l.drop k) := fun x hx => h x (List.mem_of_mem_drop hx)
theorem Under.take {m : Nat} {l : List Nat} (h : Under m l) (k : Nat) : Under m (l.take k) := fun x hx => h x (List.mem_of_mem_take hx)
def hi (b : Bool) (x : Nat) : Nat := bif b then x else x / 4294967296
def left (b : Bool) (l : List Nat) : List Nat := l.drop (l.length / bz b * bz b)

/-- how many bytes the size has in a block behind the byte 128; what fills up a text; the sum's bytes -/
def room (b : Bool) (n : Nat) : Nat := if bz b - n % bz b - 1 < bz b / 8 then bz b - n % bz b - 1 + bz b else bz b - n % bz b - 1
end Go.Proofs.Ytpmobjfhhkglbaa
