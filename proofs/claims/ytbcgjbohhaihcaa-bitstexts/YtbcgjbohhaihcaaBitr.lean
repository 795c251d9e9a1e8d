/- Plain facts for the laws BitsBack and BitsRounds. -/
import Derived.Test.YtbcgjbohhaihcaaBitu
import Derived.Test.YtbcgjbohhaihcaaPack
import Derived.Test.YtbcgjbohhaihcaaUnp
import Derived.Test.YtbcgjbohhaihcaaXor
import Derived.Test.YtbcgjbohhaihcaaSame
namespace Go.Proofs.Ytbcgjbohhaihcaa
open Go.RowKit
set_option linter.unusedVariables false

theorem numL_val (l : List Nat) : numL l = valBe l % 18446744073709551616 := by
  have h := numL_rev l.reverse
  rw [List.reverse_reverse] at h
  rw [h, ← valBe_eq]

theorem valLe_leL (n k : Nat) : valLe (leL n k) = n % 256 ^ k := by
  induction k with
  | zero => simp [leL, valLe, Nat.mod_one]
  | succ k ih =>
    rw [leL_snoc, valLe_append, ih, leL_length]
    simp only [valLe, Nat.mul_zero, Nat.add_zero]
    rw [Nat.pow_succ, Nat.mod_mul]

theorem leS_nat (n k : Nat) (h1 : 1 ≤ k) (h2 : k ≤ 65536) : leS n (k : Int) = leL n k := by
  unfold leS; rw [if_neg (by omega), Int.toNat_natCast]
theorem leS8 (n : Nat) : leS n 8 = leL n 8 := leS_nat n 8 (by decide) (by decide)
theorem leS3 (n : Nat) : leS n 3 = leL n 3 := leS_nat n 3 (by decide) (by decide)

theorem num_be (n k : Nat) (hk : k ≤ 8) : numL (leL n k).reverse = n % 256 ^ k := by
  rw [numL_rev, valLe_leL]
  apply Nat.mod_eq_of_lt
  have h1 : n % 256 ^ k < 256 ^ k := Nat.mod_lt _ (Nat.pow_pos (by decide))
  have h3 : 256 ^ k ≤ 256 ^ 8 := Nat.pow_le_pow_right (by decide) hk
  have h4 : (256 : Nat) ^ 8 = 18446744073709551616 := by decide
  omega
theorem num_be8 (n : Nat) (hn : n < 18446744073709551616) : numL (leL n 8).reverse = n := by
  rw [num_be n 8 (by decide)]; exact Nat.mod_eq_of_lt hn
theorem num_be3 (n : Nat) : numL (leL n 3).reverse = n % 16777216 := num_be n 3 (by decide)

theorem num_join (n : Nat) (b : List Nat) (hn : n < 18446744073709551616) : numL (b ++ (leL n 8).reverse) = n := by
  have e : b ++ (leL n 8).reverse = (leL n 8 ++ b.reverse).reverse := by simp
  rw [e, numL_rev, valLe_append, valLe_leL, leL_length]
  have h4 : (256 : Nat) ^ 8 = 18446744073709551616 := by decide
  rw [h4]
  omega
theorem num_joinLe (n : Nat) (b : List Nat) (hn : n < 18446744073709551616) : numL (leL n 8 ++ b).reverse = n := by
  rw [numL_rev, valLe_append, valLe_leL, leL_length]
  have h4 : (256 : Nat) ^ 8 = 18446744073709551616 := by decide
  rw [h4]
  omega

theorem rev_el (l : List Nat) (i : Nat) (h : i < l.length) : el l.reverse i = el l (l.length - 1 - i) := by
  rw [el_at (by simpa using h), el_at (by omega), List.getElem_reverse]

theorem digL_el (l : List Nat) (w c i : Nat) (h : i < c) : el (digL l w c) i = dig l w i := by
  rw [el_at (by rw [digL_length]; exact h)]; simp [digL]
theorem unpL_el (l : List Nat) (w c i : Nat) (h : i < c) : el (unpL l w c) i = unp l w i := by
  rw [el_at (by rw [unpL_length]; exact h)]; simp [unpL]

/-- a digit of 8 bits is two of 4 -/
theorem dig_two (l : List Nat) (i : Nat) (h : i < l.length) : dig l 8 i = dig l 4 (2 * i) * 16 + dig l 4 (2 * i + 1) := by
  unfold dig
  generalize valBe l = V
  have e1 : 8 * l.length - (2 * i + 1) * 4 = 8 * l.length - (i + 1) * 8 + 4 := by omega
  have e2 : 8 * l.length - (2 * i + 1 + 1) * 4 = 8 * l.length - (i + 1) * 8 := by omega
  rw [e1, e2, ← div_div_pow]
  generalize V / 2 ^ (8 * l.length - (i + 1) * 8) = X
  omega
theorem dig_eight (l : List Nat) (hu : Under 256 l) (i : Nat) (h : i < l.length) : dig l 8 i = el l i := by
  rw [valBe_el l hu i h]
  unfold dig
  rw [show 8 * l.length - (i + 1) * 8 = 8 * (l.length - 1 - i) by omega]
theorem dig_lt (l : List Nat) (w i : Nat) : dig l w i < 2 ^ w := Nat.mod_lt _ (pp w)
theorem digL_eight (l : List Nat) (hu : Under 256 l) : digL l 8 l.length = l := by
  apply el_ext
  · rw [digL_length]
  · intro i hi
    rw [digL_length] at hi
    rw [digL_el _ _ _ _ hi, dig_eight l hu i hi]

theorem digS_nat (l : List Nat) (w c : Nat) (h1 : 1 ≤ w) (h2 : w ≤ 24) (h3 : c * w ≤ 8 * l.length) : digS l (w : Int) (c : Int) = digL l w c := by
  unfold digS; rw [if_pos (okB_mk h1 h2 h3), Int.toNat_natCast, Int.toNat_natCast]
theorem unpS_nat (l : List Nat) (w c : Nat) (h1 : 1 ≤ w) (h2 : w ≤ 24) (h3 : c * w ≤ 8 * l.length) : unpS l (w : Int) (c : Int) = unpL l w c := by
  unfold unpS; rw [if_pos (okB_mk h1 h2 h3), Int.toNat_natCast, Int.toNat_natCast]
theorem packS_nat (l : List Nat) (w : Nat) (h1 : 1 ≤ w) (h2 : w ≤ 24) : packS l (w : Int) = packL l w := by
  unfold packS; rw [if_pos (by omega), Int.toNat_natCast]

/-! ### there and back -/
theorem packL_length (l : List Nat) (w : Nat) : (packL l w).length = (l.length * w + 7) / 8 := by unfold packL; rw [leL_length]
theorem valLe_packL (l : List Nat) (w : Nat) : valLe (packL l w) = valP w l := by
  unfold packL
  rw [valLe_leL]
  apply Nat.mod_eq_of_lt
  have h := valP_lt w l
  have h2 : 2 ^ (l.length * w) ≤ 256 ^ ((l.length * w + 7) / 8) := by rw [p256]; exact Nat.pow_le_pow_right (by decide) (by omega)
  omega
theorem valP_group (w : Nat) (l : List Nat) (k : Nat) (hk : k < l.length) : valP w l / 2 ^ (k * w) % 2 ^ w = el l k % 2 ^ w := by
  have e := valP_append w (l.take k) (l.drop k)
  rw [List.take_append_drop, List.length_take_of_le (by omega)] at e
  have hd : l.drop k = el l k :: l.drop (k + 1) := by rw [el_at hk]; exact List.drop_eq_getElem_cons hk
  have hlt := valP_lt w (l.take k)
  rw [List.length_take_of_le (by omega)] at hlt
  rw [e, hd, Nat.add_mul_div_left _ _ (pp _), Nat.div_eq_of_lt hlt, Nat.zero_add]
  simp only [valP]
  rw [Nat.add_mul_mod_self_left, Nat.mod_mod]
theorem unp_pack (l : List Nat) (w k : Nat) (hk : k < l.length) : unp (packL l w) w k = el l k % 2 ^ w := by
  unfold unp; rw [valLe_packL, valP_group w l k hk]

theorem valP_unpL (l : List Nat) (w c : Nat) : valP w (unpL l w c) = valLe l % 2 ^ (c * w) := by
  induction c with
  | zero => simp [unpL, valP, Nat.mod_one]
  | succ c ih =>
    rw [unpL_succ, valP_snoc, ih, unpL_length, Nat.add_mul, Nat.one_mul, Nat.pow_add, Nat.mod_mul]
    congr 2
    unfold unp
    exact Nat.mod_mod _ _
theorem leL_valLe (l : List Nat) (hu : Under 256 l) : leL (valLe l) l.length = l := by
  apply el_ext
  · rw [leL_length]
  · intro i hi
    rw [leL_length] at hi
    rw [el_at (by rw [leL_length]; exact hi)]
    have h : (leL (valLe l) l.length)[i]'(by rw [leL_length]; exact hi) = valLe l / 256 ^ i % 256 := by simp [leL]
    rw [h]
    have h1 := valLe_split l (i + 1) (by omega)
    rw [valLe_snoc l i hi] at h1
    rw [h1, p256]
    have h2 := add_high_mod (valLe (l.take i) + 2 ^ (8 * i) * el l i) (valLe (l.drop (i + 1))) (8 * (i + 1)) (8 * i) 8 (by omega)
    rw [show (2 : Nat) ^ 8 = 256 from rfl] at h2
    rw [h2, Nat.add_mul_div_left _ _ (pp _), Nat.div_eq_of_lt (valLe_take_lt l hu i (by omega)), Nat.zero_add]
    exact Nat.mod_eq_of_lt (el_lt hu (by decide) i)
/-- bits that are packed again are the bytes, where none is left over -/
theorem pack_unp (l : List Nat) (hu : Under 256 l) (w c : Nat) (h : c * w = 8 * l.length) : packL (unpL l w c) w = l := by
  unfold packL
  rw [valP_unpL, unpL_length, h]
  have hlt := valLe_lt l hu
  rw [p256] at hlt
  rw [Nat.mod_eq_of_lt hlt, show (8 * l.length + 7) / 8 = l.length by omega]
  exact leL_valLe l hu

theorem xor_twice (a b : List Nat) : xorL (xorL a b) b = a.take (min a.length b.length) := by
  have hl : (xorL a b).length = min a.length b.length := by simp [xorL]
  apply el_ext
  · simp [xorL]
  · intro i hi
    have hi' : i < min a.length b.length := by simp [xorL] at hi; omega
    have hi2 : i < (xorL (xorL a b) b).length := hi
    rw [el_at hi2]
    have e1 : (xorL (xorL a b) b)[i] = el (xorL a b) i ^^^ el b i := by simp [xorL]
    have e2 : el (xorL a b) i = el a i ^^^ el b i := by
      rw [el_at (by rw [hl]; exact hi')]; simp [xorL]
    rw [e1, e2, Nat.xor_assoc, Nat.xor_self, Nat.xor_zero]
    have h5 : i < (a.take (min a.length b.length)).length := by rw [List.length_take]; omega
    have h6 : i < a.length := by omega
    rw [el_at h5, List.getElem_take, el_at h6]
end Go.Proofs.Ytbcgjbohhaihcaa
