/- Plain facts on groups of bits, the lowest first. -/
import Derived.Test.YtbcgjbohhaihcaaBitp
namespace Go.Proofs.Ytbcgjbohhaihcaa
open Go.RowKit
set_option linter.unusedVariables false

/-- the i-th group of w bits, the lowest first -/
def unp (l : List Nat) (w i : Nat) : Nat := valLe l / 2 ^ (i * w) % 2 ^ w
def unpL (l : List Nat) (w c : Nat) : List Nat := (List.range c).map (unp l w)

theorem unpL_length (l : List Nat) (w c : Nat) : (unpL l w c).length = c := by simp [unpL]
theorem unpL_succ (l : List Nat) (w c : Nat) : unpL l w (c + 1) = unpL l w c ++ [unp l w c] := by simp [unpL, List.range_succ]
theorem unpL_under (l : List Nat) (w c : Nat) (hw : w ≤ 24) : Under 4294967296 (unpL l w c) := by
  intro x hx
  obtain ⟨i, _, rfl⟩ := List.mem_map.1 hx
  have h1 : unp l w i < 2 ^ w := Nat.mod_lt _ (pp w)
  have h2 : 2 ^ w ≤ 2 ^ 24 := Nat.pow_le_pow_right (by decide) hw
  have h3 : (2 : Nat) ^ 24 = 16777216 := by decide
  omega

theorem valLe_split (l : List Nat) (t : Nat) (ht : t ≤ l.length) : valLe l = valLe (l.take t) + 2 ^ (8 * t) * valLe (l.drop t) := by
  have e := valLe_append (l.take t) (l.drop t)
  rw [List.take_append_drop, List.length_take_of_le ht, p256] at e
  exact e

/-- what was read so far tells the group -/
theorem unp_read (l : List Nat) (w i t : Nat) (ht : t ≤ l.length) (h : i * w + w ≤ 8 * t) : valLe (l.take t) / 2 ^ (i * w) % 2 ^ w = unp l w i := by
  unfold unp
  rw [valLe_split l t ht, add_high_mod _ _ _ _ _ h]
theorem valLe_snoc (l : List Nat) (t : Nat) (ht : t < l.length) : valLe (l.take (t + 1)) = valLe (l.take t) + 2 ^ (8 * t) * el l t := by
  rw [take_snoc ht, valLe_append, List.length_take_of_le (by omega), p256]; simp [valLe]
theorem valLe_take_lt (l : List Nat) (hu : Under 256 l) (t : Nat) (ht : t ≤ l.length) : valLe (l.take t) < 2 ^ (8 * t) := by
  have := valLe_lt (l.take t) (hu.take t)
  rw [List.length_take_of_le ht, p256] at this
  exact this

/-- a bit -/
theorem bit_le (l : List Nat) (hu : Under 256 l) (p : Nat) (hp : p < 8 * l.length) : el l (p / 8) / 2 ^ (p % 8) % 2 = valLe l / 2 ^ p % 2 := by
  have h1 := valLe_split l (p / 8 + 1) (by omega)
  rw [valLe_snoc l (p / 8) (by omega)] at h1
  rw [h1]
  have h2 := add_high_mod (valLe (l.take (p / 8)) + 2 ^ (8 * (p / 8)) * el l (p / 8)) (valLe (l.drop (p / 8 + 1))) (8 * (p / 8 + 1)) p 1 (by omega)
  rw [show (2 : Nat) ^ 1 = 2 from rfl] at h2
  rw [h2]
  have h3 : valLe (l.take (p / 8)) < 2 ^ (8 * (p / 8)) := valLe_take_lt l hu _ (by omega)
  have e : p = 8 * (p / 8) + p % 8 := by omega
  have h4 : (valLe (l.take (p / 8)) + 2 ^ (8 * (p / 8)) * el l (p / 8)) / 2 ^ p = el l (p / 8) / 2 ^ (p % 8) := by
    have : 2 ^ p = 2 ^ (8 * (p / 8)) * 2 ^ (p % 8) := by rw [← Nat.pow_add, ← e]
    rw [this, ← Nat.div_div_eq_div_mul, Nat.add_mul_div_left _ _ (pp _), Nat.div_eq_of_lt h3, Nat.zero_add]
  rw [h4]

/-- the bits of a group from the k-th on -/
def unpTo (l : List Nat) (w i k : Nat) : Nat := valLe l / 2 ^ (i * w + k) % 2 ^ (w - k)
theorem unpTo_top (l : List Nat) (w i : Nat) : unpTo l w i w = 0 := by unfold unpTo; rw [Nat.sub_self]; exact Nat.mod_one _
theorem unpTo_full (l : List Nat) (w i : Nat) : unpTo l w i 0 = unp l w i := by unfold unpTo unp; rfl
theorem unpTo_lt (l : List Nat) (w i k : Nat) : unpTo l w i k < 2 ^ (w - k) := Nat.mod_lt _ (pp _)
theorem unpTo_step (l : List Nat) (hu : Under 256 l) (w i k : Nat) (hk : k < w) (hp : i * w + k < 8 * l.length) :
    unpTo l w i (k + 1) * 2 + el l ((i * w + k) / 8) / 2 ^ ((i * w + k) % 8) % 2 = unpTo l w i k := by
  rw [bit_le l hu _ hp]
  unfold unpTo
  have e : valLe l / 2 ^ (i * w + (k + 1)) = valLe l / 2 ^ (i * w + k) / 2 := by
    rw [show (valLe l / 2 ^ (i * w + k) / 2) = valLe l / 2 ^ (i * w + k) / 2 ^ 1 from rfl, div_div_pow]
    rfl
  rw [e, show w - k = (w - (k + 1)) + 1 by omega, mod_succ]
end Go.Proofs.Ytbcgjbohhaihcaa
