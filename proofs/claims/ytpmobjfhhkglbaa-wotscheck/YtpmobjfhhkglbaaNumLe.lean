/- Contracts of bits.NumLe. -/
import Derived.Test.YtpmobjfhhkglbaaNum
namespace Go.Proofs.Ytpmobjfhhkglbaa
open Go.RowKit
set_option linter.unusedVariables false

/-- the number of bytes, the lowest first (unbounded) -/
def valLe : List Nat → Nat
  | [] => 0
  | x :: r => x + 256 * valLe r

theorem valLe_append (a b : List Nat) : valLe (a ++ b) = valLe a + 256 ^ a.length * valLe b := by
  induction a with
  | nil => simp [valLe]
  | cons x r ih => simp only [List.cons_append, valLe, ih, List.length_cons, Nat.pow_succ]; rw [Nat.mul_add]; rw [show 256 ^ r.length * 256 * valLe b = 256 * (256 ^ r.length * valLe b) from by rw [Nat.mul_comm (256 ^ r.length) 256, Nat.mul_assoc]]; omega

theorem valLe_lt (a : List Nat) (h : Under 256 a) : valLe a < 256 ^ a.length := by
  induction a with
  | nil => simp [valLe]
  | cons x r ih =>
    have hx := h x (by simp)
    have := ih (fun y hy => h y (by simp [hy]))
    simp only [valLe, List.length_cons, Nat.pow_succ]
    omega

theorem Under.take {m : Nat} {l : List Nat} (h : Under m l) (k : Nat) : Under m (l.take k) := fun x hx => h x (List.mem_of_mem_take hx)
theorem Under.drop {m : Nat} {l : List Nat} (h : Under m l) (k : Nat) : Under m (l.drop k) := fun x hx => h x (List.mem_of_mem_drop hx)

end Go.Proofs.Ytpmobjfhhkglbaa
