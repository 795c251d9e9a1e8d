/- Leaves that sign once: plain facts. -/
import Derived.Test.YtpmobjfhhkglbaaBitm
namespace Go.Proofs.Ytpmobjfhhkglbaa
open Go.RowKit
set_option linter.unusedVariables false
set_option linter.unusedSimpArgs false

theorem valLe_leM (n k : Nat) : valLe (leL n k) = n % 256 ^ k := by
  induction k with
  | zero => simp [leL, valLe, Nat.mod_one]
  | succ k ih =>
    rw [show leL n (k + 1) = leL n k ++ [n / 256 ^ k % 256] by simp [leL, List.range_succ], valLe_append, ih, leL_length]
    simp only [valLe, Nat.mul_zero, Nat.add_zero]
    rw [Nat.pow_succ, Nat.mod_mul]

theorem leM_under (V o : Nat) : Under 256 (leL V o) := by
  intro x hx
  obtain ⟨i, _, rfl⟩ := List.mem_map.1 hx
  exact Nat.mod_lt _ (by decide)

theorem dig_ltM (l : List Nat) (w i : Nat) : dig l w i < 2 ^ w := Nat.mod_lt _ (pp w)
/-- the number that digits of w bits are -/
def fromD (w : Nat) (l : List Nat) : Nat := l.foldl (fun n x => n * 2 ^ w + x) 0
theorem fromD_snoc (w : Nat) (l : List Nat) (x : Nat) : fromD w (l ++ [x]) = fromD w l * 2 ^ w + x := by unfold fromD; rw [List.foldl_append]; rfl
theorem foldD (w : Nat) : ∀ (b : List Nat) (x : Nat), b.foldl (fun n x => n * 2 ^ w + x) x = x * 2 ^ (b.length * w) + b.foldl (fun n x => n * 2 ^ w + x) 0
  | [], x => by simp
  | y :: b, x => by
    show b.foldl _ (x * 2 ^ w + y) = x * 2 ^ ((b.length + 1) * w) + b.foldl _ (0 * 2 ^ w + y)
    rw [foldD w b (x * 2 ^ w + y), foldD w b (0 * 2 ^ w + y), Nat.zero_mul, Nat.zero_add, Nat.add_mul, Nat.add_mul, Nat.one_mul, Nat.mul_assoc, ← Nat.pow_add, Nat.add_comm w, Nat.add_assoc]
theorem fromD_app (w : Nat) (a b : List Nat) : fromD w (a ++ b) = fromD w a * 2 ^ (b.length * w) + fromD w b := by
  unfold fromD
  rw [List.foldl_append, foldD]
theorem fromD_digL (l : List Nat) (w : Nat) : ∀ c, c * w ≤ 8 * l.length → valBe l < 2 ^ (8 * l.length) → fromD w (digL l w c) = valBe l / 2 ^ (8 * l.length - c * w)
  | 0, _, hv => by
    have : digL l w 0 = [] := rfl
    rw [this, Nat.zero_mul, Nat.sub_zero, Nat.div_eq_of_lt hv]
    rfl
  | c + 1, h, hv => by
    have hc : c * w ≤ 8 * l.length := by rw [Nat.add_mul] at h; omega
    rw [digL_succ, fromD_snoc, fromD_digL l w c hc hv]
    unfold dig
    have e : 8 * l.length - c * w = (8 * l.length - (c + 1) * w) + w := by rw [Nat.add_mul] at h ⊢; omega
    rw [e, Nat.pow_add, ← Nat.div_div_eq_div_mul]
    have := Nat.div_add_mod (valBe l / 2 ^ (8 * l.length - (c + 1) * w)) (2 ^ w)
    rw [Nat.mul_comm] at this
    exact this
/-- one row of numbers is nowhere greater than another -/
def LeAll (a b : List Nat) : Prop := a.length = b.length ∧ ∀ i, i < a.length → el a i ≤ el b i
theorem LeAll.cons {x y : Nat} {a b : List Nat} (h : LeAll (x :: a) (y :: b)) : x ≤ y ∧ LeAll a b := by
  refine ⟨h.2 0 (by simp), by have := h.1; simpa using this, fun i hi => ?_⟩
  exact h.2 (i + 1) (by simp; omega)
theorem fromD_le (w : Nat) : ∀ (a b : List Nat) (x y : Nat), LeAll a b → x ≤ y → a.foldl (fun n x => n * 2 ^ w + x) x ≤ b.foldl (fun n x => n * 2 ^ w + x) y
  | [], [], x, y, _, h => h
  | [], _ :: _, _, _, h, _ => by have := h.1; simp at this
  | _ :: _, [], _, _, h, _ => by have := h.1; simp at this
  | u :: a, v :: b, x, y, h, hxy => by
    obtain ⟨h1, h2⟩ := h.cons
    exact fromD_le w a b _ _ h2 (Nat.add_le_add (Nat.mul_le_mul_right _ hxy) h1)
/-- the sum of what digits lack -/
def lackL (m : Nat) : List Nat → Nat
  | [] => 0
  | x :: l => (m - x) + lackL m l
theorem lack_le (m : Nat) : ∀ a b : List Nat, LeAll a b → lackL m b ≤ lackL m a
  | [], [], _ => Nat.le_refl _
  | [], _ :: _, h => by have := h.1; simp at this
  | _ :: _, [], h => by have := h.1; simp at this
  | u :: a, v :: b, h => by
    obtain ⟨h1, h2⟩ := h.cons
    have := lack_le m a b h2
    show (m - v) + lackL m b ≤ (m - u) + lackL m a
    omega
theorem lack_eq (m : Nat) : ∀ a b : List Nat, LeAll a b → (∀ x ∈ b, x ≤ m) → lackL m a = lackL m b → a = b
  | [], [], _, _, _ => rfl
  | [], _ :: _, h, _, _ => by have := h.1; simp at this
  | _ :: _, [], h, _, _ => by have := h.1; simp at this
  | u :: a, v :: b, h, hb, he => by
    obtain ⟨h1, h2⟩ := h.cons
    have h3 := lack_le m a b h2
    have he' : (m - u) + lackL m a = (m - v) + lackL m b := he
    have hv := hb v (by simp)
    have e1 : u = v := by omega
    rw [e1, lack_eq m a b h2 (fun x hx => hb x (by simp [hx])) (by omega)]
theorem lack_lt (m : Nat) : ∀ a : List Nat, lackL m a ≤ a.length * m
  | [] => Nat.zero_le _
  | x :: a => by
    have := lack_lt m a
    show (m - x) + lackL m a ≤ (a.length + 1) * m
    rw [Nat.add_mul, Nat.one_mul]
    omega
theorem lack_snoc (m : Nat) (x : Nat) : ∀ a : List Nat, lackL m (a ++ [x]) = lackL m a + (m - x)
  | [] => by show (m - x) + 0 = 0 + (m - x); omega
  | y :: a => by show (m - y) + lackL m (a ++ [x]) = (m - y) + lackL m a + (m - x); rw [lack_snoc m x a]; omega
/-- a kind: how many digits a digest has, how many its check; the shift -/
structure KindL (w n m s : Nat) : Prop where
  w1 : 1 ≤ w
  w8 : w ≤ 8
  full : n * w = 256
  chk : s + m * w = 16
  room : n * (2 ^ w - 1) < 2 ^ (m * w)
theorem valBe_app (a b : List Nat) : valBe (a ++ b) = valBe a * 2 ^ (8 * b.length) + valBe b := by
  have e : ∀ l : List Nat, valBe l = fromD 8 l := fun l => rfl
  rw [e, e, e, fromD_app, Nat.mul_comm b.length]
section
variable {w n m s : Nat} (hK : KindL w n m s) {d : List Nat} (hd : d.length = 32) (hu : Under 256 d)
theorem be2_val (c : Nat) (h : c < 65536) : valBe (leL c 2).reverse = c := by rw [valBe_le, valLe_leM]; exact Nat.mod_eq_of_lt h
end
theorem val_injB {a b : List Nat} (ha : Under 256 a) (hb : Under 256 b) (hl : a.length = b.length) (h : valBe a = valBe b) : a = b := by
  apply List.ext_getElem hl
  intro i h1 h2
  have e1 := valBe_el a ha i h1
  have e2 := valBe_el b hb i h2
  rw [h, hl, ← e2] at e1
  rw [el_at h1, el_at h2] at e1
  exact e1
end Go.Proofs.Ytpmobjfhhkglbaa
