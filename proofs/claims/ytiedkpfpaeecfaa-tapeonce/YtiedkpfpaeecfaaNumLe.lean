/- Contracts of bits.NumLe. -/
import Derived.Test.YtiedkpfpaeecfaaKit
import Derived.Test.YtiedkpfpaeecfaaRev
import Derived.Test.YtiedkpfpaeecfaaPSrt
namespace Go.Proofs.Ytiedkpfpaeecfaa
open Go.RowKit
set_option linter.unusedVariables false

/-- the number of bytes, the lowest first (unbounded) -/
def valLe : List Nat → Nat
  | [] => 0
  | x :: r => x + 256 * valLe r

theorem valLe_append (a b : List Nat) : valLe (a ++ b) = valLe a + 256 ^ a.length * valLe b := by
  induction a with
  | nil => simp [valLe]
  | cons x r ih => simp only [List.cons_append, valLe, ih, List.length_cons, Nat.pow_succ]; rw [Nat.mul_add]; rw [show 256 ^ r.length * 256 * valLe b = 256 * (256 ^ r.length * valLe b) from by rw [Nat.mul_comm (256 ^ r.length) 256, Nat.mul_assoc]]; omega

theorem valLe_lt (a : List Nat) (h : Under 256 a) : valLe a < 256 ^ a.length := by
  induction a with
  | nil => simp [valLe]
  | cons x r ih =>
    have hx := h x (by simp)
    have := ih (fun y hy => h y (by simp [hy]))
    simp only [valLe, List.length_cons, Nat.pow_succ]
    omega

theorem numL_rev (l : List Nat) : numL l.reverse = valLe l % 18446744073709551616 := by
  induction l with
  | nil => rfl
  | cons x r ih => rw [List.reverse_cons, numL_snoc, ih]; simp only [valLe]; omega


/-- a number's lowest eight bytes tell it modulo 2^64 -/
theorem valLe_min (l : List Nat) : valLe (l.take (min l.length 8)) % 18446744073709551616 = valLe l % 18446744073709551616 := by
  by_cases h : l.length ≤ 8
  · rw [List.take_of_length_le (by omega)]
  · have e := valLe_append (l.take 8) (l.drop 8)
    rw [List.take_append_drop] at e
    have hl : (l.take 8).length = 8 := by simp; omega
    rw [hl] at e
    rw [show min l.length 8 = 8 by omega, e]
    omega

theorem step_numLe (N x k : Nat) (hk : k < 8) (hN : N < 256 ^ k) (hx : x < 256) :
    bits .or .u64 (N : Int) (IntKind.u64.wrap ((x : Int) * 2 ^ (8 * k))) = ((N + 256 ^ k * x : Nat) : Int) := by
  have e2 : (256 : Nat) ^ k = 2 ^ (8 * k) := by rw [Nat.pow_mul]
  have hb : 256 ^ k * x < 18446744073709551616 := by
    have h1 : 256 ^ k * x < 256 ^ k * 256 := Nat.mul_lt_mul_of_pos_left hx (Nat.pow_pos (by decide))
    have h2 : 256 ^ k * 256 = 256 ^ (k + 1) := by rw [Nat.pow_succ]
    have h3 : 256 ^ (k + 1) ≤ 256 ^ 8 := Nat.pow_le_pow_right (by decide) (by omega)
    have h4 : (256 : Nat) ^ 8 = 18446744073709551616 := by decide
    omega
  have hN' : N < 18446744073709551616 := by
    have h3 : 256 ^ k ≤ 256 ^ 8 := Nat.pow_le_pow_right (by decide) (by omega)
    have h4 : (256 : Nat) ^ 8 = 18446744073709551616 := by decide
    omega
  have e : IntKind.u64.wrap ((x : Int) * 2 ^ (8 * k)) = ((256 ^ k * x : Nat) : Int) := by
    have e3 : ((x : Int) * 2 ^ (8 * k)) = ((256 ^ k * x : Nat) : Int) := by
      rw [e2, Int.natCast_mul, Int.mul_comm, Int.natCast_pow]; rfl
    rw [e3, IntKind.wrap_u64]; omega
  rw [e, u64_or_nat _ _ hN' hb, Nat.or_comm, nat_join (8 * k) _ _ (by rw [← e2]; exact Nat.mul_mod_right _ _) (by rw [← e2]; exact hN), Nat.add_comm]

theorem valLe_lt8 (a : List Nat) (h : Under 256 a) (h8 : a.length ≤ 8) : valLe a < 18446744073709551616 := by
  have h1 := valLe_lt a h
  have h3 : 256 ^ a.length ≤ 256 ^ 8 := Nat.pow_le_pow_right (by decide) h8
  have h4 : (256 : Nat) ^ 8 = 18446744073709551616 := by decide
  omega

end Go.Proofs.Ytiedkpfpaeecfaa

/- Contracts of apostilleref01.Le, apostilleref01.NumLe. -/
namespace Go.Proofs.Ytiedkpfpaeecfaa
open Go.RowKit
set_option linter.unusedVariables false

theorem leS_length (n : Nat) (size : Int) : (leS n size).length ≤ 65536 := by
  unfold leS; split
  · simp
  · rw [leL_length]; omega

end Go.Proofs.Ytiedkpfpaeecfaa
