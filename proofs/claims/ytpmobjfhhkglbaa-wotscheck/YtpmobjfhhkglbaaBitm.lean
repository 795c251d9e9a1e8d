/- Plain facts on bits, bytes and groups of bits: no program in sight. -/
import Derived.Test.YtpmobjfhhkglbaaBe
import Derived.Test.YtpmobjfhhkglbaaOwn
import Derived.Test.YtpmobjfhhkglbaaNumLe
namespace Go.Proofs.Ytpmobjfhhkglbaa
open Go.RowKit
set_option linter.unusedVariables false

theorem p256 (k : Nat) : (256 : Nat) ^ k = 2 ^ (8 * k) := by rw [Nat.pow_mul]
theorem pp (k : Nat) : 0 < (2 : Nat) ^ k := Nat.pow_pos (by decide)

/-- a part of the bits of a remainder -/
theorem mod_div_mod (V a h w : Nat) (hh : h + w ≤ a) : V % 2 ^ a / 2 ^ h % 2 ^ w = V / 2 ^ h % 2 ^ w := by
  obtain ⟨d, rfl⟩ : ∃ d, a = h + (w + d) := ⟨a - h - w, by omega⟩
  rw [Nat.pow_add, Nat.mod_mul_right_div_self, Nat.pow_add]
  exact Nat.mod_mod_of_dvd _ (Nat.dvd_mul_right _ _)
theorem div_div_pow (V a b : Nat) : V / 2 ^ a / 2 ^ b = V / 2 ^ (a + b) := by
  rw [Nat.div_div_eq_div_mul, Nat.pow_add]
/-! ### bytes as one number, the highest first -/
def valBe (l : List Nat) : Nat := l.foldl (fun n x => n * 256 + x) 0
theorem valBe_snoc (l : List Nat) (x : Nat) : valBe (l ++ [x]) = valBe l * 256 + x := by
  unfold valBe; rw [List.foldl_append]; rfl
theorem valBe_le (l : List Nat) : valBe l.reverse = valLe l := by
  induction l with
  | nil => rfl
  | cons x r ih => rw [List.reverse_cons, valBe_snoc, ih]; simp only [valLe]; omega
theorem valBe_eq (l : List Nat) : valBe l = valLe l.reverse := by rw [← valBe_le, List.reverse_reverse]
theorem valBe_take (l : List Nat) (hu : Under 256 l) (a : Nat) (ha : a ≤ l.length) : valBe (l.take a) = valBe l / 2 ^ (8 * (l.length - a)) := by
  have e : l.reverse = (l.drop a).reverse ++ (l.take a).reverse := by rw [← List.reverse_append, List.take_append_drop]
  rw [valBe_eq l, e, valLe_append, valBe_eq, List.length_reverse, List.length_drop, p256]
  have hlt := valLe_lt (l.drop a).reverse (fun x hx => hu x (List.mem_of_mem_drop (List.mem_reverse.1 hx)))
  rw [List.length_reverse, List.length_drop, p256] at hlt
  rw [Nat.add_mul_div_left _ _ (pp _), Nat.div_eq_of_lt hlt, Nat.zero_add]
theorem valBe_lt (l : List Nat) (hu : Under 256 l) : valBe l < 2 ^ (8 * l.length) := by
  rw [valBe_eq]
  have := valLe_lt l.reverse (fun x hx => hu x (List.mem_reverse.1 hx))
  rw [List.length_reverse, p256] at this
  exact this
theorem valBe_el (l : List Nat) (hu : Under 256 l) (j : Nat) (hj : j < l.length) : el l j = valBe l / 2 ^ (8 * (l.length - 1 - j)) % 256 := by
  have h1 := valBe_take l hu (j + 1) (by omega)
  rw [take_snoc hj, valBe_snoc] at h1
  have hx := el_lt hu (by decide) j
  rw [show l.length - 1 - j = l.length - (j + 1) by omega, ← h1]
  omega

/-- the i-th group of w bits, the highest first -/
def dig (l : List Nat) (w i : Nat) : Nat := valBe l / 2 ^ (8 * l.length - (i + 1) * w) % 2 ^ w
def digL (l : List Nat) (w c : Nat) : List Nat := (List.range c).map (dig l w)

theorem digL_length (l : List Nat) (w c : Nat) : (digL l w c).length = c := by simp [digL]
theorem digL_succ (l : List Nat) (w c : Nat) : digL l w (c + 1) = digL l w c ++ [dig l w c] := by simp [digL, List.range_succ]
theorem digL_under (l : List Nat) (w c : Nat) (hw : w ≤ 24) : Under 4294967296 (digL l w c) := by
  intro x hx
  obtain ⟨i, _, rfl⟩ := List.mem_map.1 hx
  have h1 : dig l w i < 2 ^ w := Nat.mod_lt _ (pp w)
  have h2 : 2 ^ w ≤ 2 ^ 24 := Nat.pow_le_pow_right (by decide) hw
  have h3 : (2 : Nat) ^ 24 = 16777216 := by decide
  omega

/-- what the program tells: the bits of what was read so far -/
theorem dig_read (l : List Nat) (hu : Under 256 l) (w i a : Nat) (ha : a ≤ l.length) (hi : (i + 1) * w ≤ 8 * a) (h32 : 8 * a - (i + 1) * w + w ≤ 32) :
    valBe (l.take a) % 2 ^ 32 / 2 ^ (8 * a - (i + 1) * w) % 2 ^ w = dig l w i := by
  rw [mod_div_mod _ _ _ _ h32, valBe_take l hu a ha, div_div_pow]
  unfold dig
  congr 3
  omega

end Go.Proofs.Ytpmobjfhhkglbaa
