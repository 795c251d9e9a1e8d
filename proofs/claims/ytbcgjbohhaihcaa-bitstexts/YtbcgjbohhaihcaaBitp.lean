/- Plain facts on numbers packed into bits, the lowest first. -/
import Derived.Test.YtbcgjbohhaihcaaBitm
namespace Go.Proofs.Ytbcgjbohhaihcaa
open Go.RowKit
set_option linter.unusedVariables false

/-- numbers of w bits each as one number, the lowest first -/
def valP (w : Nat) : List Nat → Nat
  | [] => 0
  | x :: r => x % 2 ^ w + 2 ^ w * valP w r

theorem valP_append (w : Nat) (a b : List Nat) : valP w (a ++ b) = valP w a + 2 ^ (a.length * w) * valP w b := by
  induction a with
  | nil => simp [valP]
  | cons x r ih =>
    simp only [List.cons_append, valP, ih, List.length_cons, Nat.add_mul, Nat.one_mul]
    rw [Nat.mul_add, Nat.pow_add, Nat.mul_comm (2 ^ (r.length * w)) (2 ^ w), Nat.mul_assoc, Nat.add_assoc]
theorem valP_snoc (w : Nat) (l : List Nat) (x : Nat) : valP w (l ++ [x]) = valP w l + 2 ^ (l.length * w) * (x % 2 ^ w) := by
  rw [valP_append]; simp [valP]
theorem valP_lt (w : Nat) (l : List Nat) : valP w l < 2 ^ (l.length * w) := by
  induction l with
  | nil => simp [valP]
  | cons x r ih =>
    simp only [valP, List.length_cons, Nat.add_mul, Nat.one_mul]
    rw [Nat.add_comm (r.length * w) w, Nat.pow_add]
    have h1 : x % 2 ^ w < 2 ^ w := Nat.mod_lt _ (pp w)
    have h2 : 2 ^ w * (valP w r + 1) ≤ 2 ^ w * 2 ^ (r.length * w) := Nat.mul_le_mul_left _ ih
    rw [Nat.mul_add, Nat.mul_one] at h2
    omega

theorem leL_snoc (V o : Nat) : leL V (o + 1) = leL V o ++ [V / 256 ^ o % 256] := by simp [leL, List.range_succ]
theorem leL_high (A X a o : Nat) (h : 8 * o ≤ a) : leL (A + 2 ^ a * X) o = leL A o := by
  unfold leL
  apply List.map_congr_left
  intro i hi
  have hi' : i < o := List.mem_range.1 hi
  rw [p256]
  exact add_high_mod A X a (8 * i) 8 (by omega)
theorem leL_under (V o : Nat) : Under 256 (leL V o) := by
  intro x hx
  obtain ⟨i, _, rfl⟩ := List.mem_map.1 hx
  exact Nat.mod_lt _ (by decide)

/-- bits above those that are there -/
theorem step_or (L x h : Nat) (hL : L < 2 ^ h) (hx : 2 ^ h * x < 4294967296) (hL2 : L < 4294967296) :
    bits .or .u32 (L : Int) (IntKind.u32.wrap ((x : Int) * 2 ^ h)) = ((L + 2 ^ h * x : Nat) : Int) := by
  have e : IntKind.u32.wrap ((x : Int) * 2 ^ h) = ((2 ^ h * x : Nat) : Int) := by
    have e3 : ((x : Int) * 2 ^ h) = ((2 ^ h * x : Nat) : Int) := by
      rw [Int.natCast_mul, Int.mul_comm, Int.natCast_pow]; rfl
    rw [e3, IntKind.wrap_u32']; omega
  rw [e, u32_or_nat _ _ hL2 hx, Nat.or_comm, nat_join h _ _ (Nat.mul_mod_right _ _) hL, Nat.add_comm]

theorem step_or' (L x h : Nat) (hL : L < 2 ^ h) (hx : 2 ^ h * x < 4294967296) (hL2 : L < 4294967296) :
    bits .or .u32 (L : Int) ((x : Int) * 2 ^ h % 4294967296) = ((L + 2 ^ h * x : Nat) : Int) := by
  rw [← step_or L x h hL hx hL2, IntKind.wrap_u32']

/-- what is told of a number's bits beyond so many bytes, with a group more -/
theorem left_step (A X P o : Nat) (h : 8 * o ≤ P) : (A + 2 ^ P * X) / 256 ^ o = A / 256 ^ o + 2 ^ (P - 8 * o) * X := by
  rw [p256, add_high_div A X P (8 * o) h]
theorem left_lt (V P o : Nat) (h : 8 * o ≤ P) (hV : V < 2 ^ P) : V / 256 ^ o < 2 ^ (P - 8 * o) := by
  rw [p256]
  exact div_lt_pow V (8 * o) (P - 8 * o) (by rw [show 8 * o + (P - 8 * o) = P by omega]; exact hV)
theorem left_byte (V o : Nat) : V / 256 ^ (o + 1) = V / 256 ^ o / 256 := by
  rw [Nat.pow_succ, ← Nat.div_div_eq_div_mul]
theorem pow31 (h : Nat) (hh : h ≤ 31) : 2 ^ h ≤ 2147483648 := by
  have := Nat.pow_le_pow_right (show 0 < 2 by decide) hh
  have e : (2 : Nat) ^ 31 = 2147483648 := by decide
  omega
theorem group_lt (x w h : Nat) (hh : h + w ≤ 31) : 2 ^ h * (x % 2 ^ w) < 4294967296 := by
  have h1 : x % 2 ^ w < 2 ^ w := Nat.mod_lt _ (pp w)
  have h2 : 2 ^ h * (x % 2 ^ w) < 2 ^ h * 2 ^ w := Nat.mul_lt_mul_of_pos_left h1 (pp h)
  rw [← Nat.pow_add] at h2
  have := pow31 (h + w) hh
  omega
end Go.Proofs.Ytbcgjbohhaihcaa
