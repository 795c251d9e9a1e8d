/- Bytes that multiply; boxes: plain. -/
import Derived.Test.YteiknfcegchbcaaKit
import Derived.KernelRfl
namespace Go.Proofs.Yteiknfcegchbcaa
set_option linter.unusedVariables false
set_option linter.unusedSimpArgs false

/-- a byte times x -/
def xt (a : Nat) : Nat := if 128 ≤ a then (2 * a % 256) ^^^ 27 else 2 * a
def mulS : Nat → Nat → Nat → Nat → Nat
  | 0, _, _, p => p
  | k + 1, a, b, p => mulS k (xt a) (b / 2) (if b % 2 = 1 then p ^^^ a else p)
/-- the product of two bytes -/
def mulB (a b : Nat) : Nat := mulS 8 a b 0
def sqN : Nat → Nat → Nat → Nat
  | 0, _, x => x
  | k + 1, c, x => sqN k (mulB c c) (mulB x (mulB c c))
/-- the inverse of a byte, 0 of 0 -/
def invB (c : Nat) : Nat := sqN 7 c 1
def rotB (x i : Nat) : Nat := (x * 2 ^ i % 256) ||| (x / 2 ^ (8 - i))
def boxS : Nat → Nat → Nat → Nat → Nat
  | 0, _, _, y => y
  | k + 1, x, i, y => boxS k x (i + 1) (y ^^^ rotB x i)
/-- what the cipher makes of a byte -/
def boxB (c : Nat) : Nat := boxS 5 (invB c) 0 99
def boxT : List Nat := (List.range 256).map boxB
def unT : List Nat := (List.range 256).foldl (fun l i => l.set (boxB i) i) (List.replicate 256 0)

theorem all256 {p : Nat → Bool} (h : (List.range 256).all p = true) (x : Nat) (hx : x < 256) : p x = true := List.all_eq_true.1 h x (List.mem_range.2 hx)
theorem all256' {p : Nat → Nat → Bool} (h : ((List.range 256).all fun a => (List.range 256).all fun b => p a b) = true) (x y : Nat) (hx : x < 256) (hy : y < 256) : p x y = true := all256 (all256 h x hx) y hy
theorem xor_8 {x y : Nat} (hx : x < 256) (hy : y < 256) : x ^^^ y < 256 := Nat.xor_lt_two_pow (n := 8) hx hy
theorem xt_lt {a : Nat} (h : a < 256) : xt a < 256 := by
  have : ((List.range 256).all fun a => decide (xt a < 256)) = true := by kernel_rfl
  exact of_decide_eq_true (all256 this a h)
theorem xt_xor {a b : Nat} (ha : a < 256) (hb : b < 256) : xt (a ^^^ b) = xt a ^^^ xt b := by
  have : ((List.range 256).all fun a => (List.range 256).all fun b => xt (a ^^^ b) == xt a ^^^ xt b) = true := by kernel_rfl
  exact eq_of_beq (all256' this a b ha hb)
theorem mulS_lt : ∀ (k a b p : Nat), a < 256 → p < 256 → mulS k a b p < 256
  | 0, a, b, p, _, hp => hp
  | k + 1, a, b, p, ha, hp => by
    unfold mulS
    refine mulS_lt k _ _ _ (xt_lt ha) ?_
    split
    · exact xor_8 hp ha
    · exact hp
theorem mulB_lt {a b : Nat} (ha : a < 256) : mulB a b < 256 := mulS_lt 8 a b 0 ha (by decide)
theorem xor_half (a b : Nat) : (a ^^^ b) / 2 = a / 2 ^^^ b / 2 := by
  apply Nat.eq_of_testBit_eq
  intro i
  rw [Nat.testBit_xor, Nat.testBit_div_two, Nat.testBit_div_two, Nat.testBit_div_two, Nat.testBit_xor]
theorem xor_odd (a b : Nat) : (a ^^^ b) % 2 = 1 ↔ ¬ (a % 2 = 1 ↔ b % 2 = 1) := by
  rw [Nat.mod_two_eq_one_iff_testBit_zero, Nat.mod_two_eq_one_iff_testBit_zero, Nat.mod_two_eq_one_iff_testBit_zero, Nat.testBit_xor]
  cases a.testBit 0 <;> cases b.testBit 0 <;> simp
theorem mulS_r : ∀ (k a b c p q : Nat), mulS k a (b ^^^ c) (p ^^^ q) = mulS k a b p ^^^ mulS k a c q
  | 0, a, b, c, p, q => rfl
  | k + 1, a, b, c, p, q => by
    unfold mulS
    rw [xor_half]
    have e : (if (b ^^^ c) % 2 = 1 then p ^^^ q ^^^ a else p ^^^ q) = (if b % 2 = 1 then p ^^^ a else p) ^^^ (if c % 2 = 1 then q ^^^ a else q) := by
      by_cases hb : b % 2 = 1 <;> by_cases hc : c % 2 = 1
      · rw [if_neg (by rw [xor_odd]; simp [hb, hc]), if_pos hb, if_pos hc]
        rw [show p ^^^ a ^^^ (q ^^^ a) = p ^^^ q ^^^ (a ^^^ a) by ac_rfl, Nat.xor_self, Nat.xor_zero]
      · rw [if_pos (by rw [xor_odd]; simp [hb, hc]), if_pos hb, if_neg hc]; ac_rfl
      · rw [if_pos (by rw [xor_odd]; simp [hb, hc]), if_neg hb, if_pos hc]; ac_rfl
      · rw [if_neg (by rw [xor_odd]; simp [hb, hc]), if_neg hb, if_neg hc]
    rw [e]
    exact mulS_r k _ _ _ _ _
theorem mulS_l : ∀ (k a b c p q : Nat), a < 256 → b < 256 → mulS k (a ^^^ b) c (p ^^^ q) = mulS k a c p ^^^ mulS k b c q
  | 0, a, b, c, p, q, _, _ => rfl
  | k + 1, a, b, c, p, q, ha, hb => by
    unfold mulS
    rw [xt_xor ha hb]
    have e : (if c % 2 = 1 then p ^^^ q ^^^ (a ^^^ b) else p ^^^ q) = (if c % 2 = 1 then p ^^^ a else p) ^^^ (if c % 2 = 1 then q ^^^ b else q) := by
      split
      · ac_rfl
      · rfl
    rw [e]
    exact mulS_l k _ _ _ _ _ (xt_lt ha) (xt_lt hb)
theorem mul_r (a b c : Nat) : mulB a (b ^^^ c) = mulB a b ^^^ mulB a c := mulS_r 8 a b c 0 0
theorem mul_l (a b c : Nat) (ha : a < 256) (hb : b < 256) : mulB (a ^^^ b) c = mulB a c ^^^ mulB b c := mulS_l 8 a b c 0 0 ha hb
theorem pow_8 {n : Nat} (h : n < 8) : 2 ^ n < 256 := Nat.pow_lt_pow_right (a := 2) (n := 8) (by decide) h
/-- a map of bytes that goes over xor -/
def Adds (f : Nat → Nat) : Prop := ∀ x y, x < 256 → y < 256 → f (x ^^^ y) = f x ^^^ f y
theorem add_ext {f g : Nat → Nat} (hf : Adds f) (hg : Adds g) (h0 : f 0 = g 0) (h : ∀ i, i < 8 → f (2 ^ i) = g (2 ^ i)) : ∀ x, x < 256 → f x = g x := by
  have key : ∀ n, n ≤ 8 → ∀ x, x < 2 ^ n → f x = g x := by
    intro n
    induction n with
    | zero => intro _ x hx; obtain rfl : x = 0 := by simp at hx; exact hx
              exact h0
    | succ n ih =>
      intro hn x hx
      by_cases hlt : x < 2 ^ n
      · exact ih (by omega) x hlt
      · have hp : 2 ^ (n + 1) = 2 ^ n + 2 ^ n := by rw [Nat.pow_succ]; omega
        have hy : x - 2 ^ n < 2 ^ n := by omega
        have e : x = 2 ^ n ^^^ (x - 2 ^ n) := by
          have h8 : ((List.range 8).all fun n => (List.range (2 ^ n)).all fun y => 2 ^ n ^^^ y == 2 ^ n + y) = true := by kernel_rfl
          have := eq_of_beq (List.all_eq_true.1 (List.all_eq_true.1 h8 n (List.mem_range.2 (by omega))) (x - 2 ^ n) (List.mem_range.2 hy))
          omega
        have l1 : 2 ^ n < 256 := pow_8 (by omega)
        have l2 : x - 2 ^ n < 256 := by omega
        rw [e, hf _ _ l1 l2, hg _ _ l1 l2, h n (by omega), ih (by omega) _ hy]
  exact fun x hx => key 8 (Nat.le_refl _) x hx
theorem adds_r (a : Nat) : Adds (mulB a) := fun x y _ _ => mul_r a x y
theorem adds_l (c : Nat) : Adds (fun a => mulB a c) := fun x y hx hy => mul_l x y c hx hy
theorem mulB_0 (a : Nat) : mulB a 0 = 0 := by
  have := mul_r a 0 0
  rw [Nat.xor_self, Nat.xor_self] at this
  exact this
theorem mul_comm8 {a b : Nat} (ha : a < 256) (hb : b < 256) : mulB a b = mulB b a := by
  have h : ((List.range 8).all fun i => (List.range 256).all fun b => mulB (2 ^ i) b == mulB b (2 ^ i)) = true := by kernel_rfl
  have h0 : ((List.range 256).all fun b => mulB 0 b == mulB b 0) = true := by kernel_rfl
  exact add_ext (adds_l b) (adds_r b) (eq_of_beq (all256 h0 b hb)) (fun i hi => eq_of_beq (all256 (List.all_eq_true.1 h i (List.mem_range.2 hi)) b hb)) a ha
theorem mul_assoc8 {a b c : Nat} (ha : a < 256) (hb : b < 256) (hc : c < 256) : mulB a (mulB b c) = mulB (mulB a b) c := by
  have h8 : ((List.range 9).all fun i => (List.range 9).all fun j => (List.range 9).all fun k => mulB (2 ^ i % 256) (mulB (2 ^ j % 256) (2 ^ k % 256)) == mulB (mulB (2 ^ i % 256) (2 ^ j % 256)) (2 ^ k % 256)) = true := by kernel_rfl
  have hb8 : ∀ i j k, i < 9 → j < 9 → k < 9 → mulB (2 ^ i % 256) (mulB (2 ^ j % 256) (2 ^ k % 256)) = mulB (mulB (2 ^ i % 256) (2 ^ j % 256)) (2 ^ k % 256) := fun i j k hi hj hk =>
    eq_of_beq (List.all_eq_true.1 (List.all_eq_true.1 (List.all_eq_true.1 h8 i (List.mem_range.2 hi)) j (List.mem_range.2 hj)) k (List.mem_range.2 hk))
  have p8 : ∀ i, i < 8 → 2 ^ i % 256 = 2 ^ i := fun i hi => Nat.mod_eq_of_lt (pow_8 hi)
  have lt8 : ∀ i, 2 ^ i % 256 < 256 := fun i => Nat.mod_lt _ (by decide)
  have s1 : ∀ i j, i < 9 → j < 9 → ∀ c, c < 256 → mulB (2 ^ i % 256) (mulB (2 ^ j % 256) c) = mulB (mulB (2 ^ i % 256) (2 ^ j % 256)) c := fun i j hi hj =>
    add_ext (f := fun c => mulB (2 ^ i % 256) (mulB (2 ^ j % 256) c)) (fun x y _ _ => by show mulB _ (mulB _ (x ^^^ y)) = _; rw [mul_r, mul_r]) (adds_r _) (hb8 i j 8 hi hj (by decide)) (fun k hk => by have := hb8 i j k hi hj (by omega); rwa [p8 k hk] at this)
  have s2 : ∀ i, i < 9 → ∀ b, b < 256 → mulB (2 ^ i % 256) (mulB b c) = mulB (mulB (2 ^ i % 256) b) c := fun i hi =>
    add_ext (f := fun b => mulB (2 ^ i % 256) (mulB b c)) (g := fun b => mulB (mulB (2 ^ i % 256) b) c) (fun x y hx hy => by show mulB _ (mulB (x ^^^ y) c) = _; rw [mul_l x y c hx hy, mul_r]) (fun x y hx hy => by show mulB (mulB _ (x ^^^ y)) c = _; rw [mul_r, mul_l _ _ _ (mulB_lt (lt8 i)) (mulB_lt (lt8 i))]) (s1 i 8 hi (by decide) c hc) (fun k hk => by have := s1 i k hi (by omega) c hc; rwa [p8 k hk] at this)
  exact add_ext (f := fun a => mulB a (mulB b c)) (g := fun a => mulB (mulB a b) c) (adds_l _) (fun x y hx hy => by show mulB (mulB (x ^^^ y) b) c = _; rw [mul_l x y b hx hy, mul_l _ _ _ (mulB_lt hx) (mulB_lt hy)]) (s2 8 (by decide) b hb) (fun k hk => by have := s2 k (by omega) b hb; rwa [p8 k hk] at this) a ha
theorem mul_one8 {a : Nat} (ha : a < 256) : mulB a 1 = a := by
  have : ((List.range 256).all fun a => mulB a 1 == a) = true := by kernel_rfl
  exact eq_of_beq (all256 this a ha)
theorem one_mul8 {a : Nat} (ha : a < 256) : mulB 1 a = a := by rw [mul_comm8 (by decide) ha, mul_one8 ha]
theorem boxB_lt {c : Nat} (h : c < 256) : boxB c < 256 := by
  have : ((List.range 256).all fun c => decide (boxB c < 256)) = true := by kernel_rfl
  exact of_decide_eq_true (all256 this c h)
theorem un_box {c : Nat} (h : c < 256) : el unT (boxB c) = c := by
  have : ((List.range 256).all fun c => el unT (boxB c) == c) = true := by kernel_rfl
  exact eq_of_beq (all256 this c h)
theorem box_un {c : Nat} (h : c < 256) : boxB (el unT c) = c := by
  have : ((List.range 256).all fun c => boxB (el unT c) == c) = true := by kernel_rfl
  exact eq_of_beq (all256 this c h)
theorem un_lt {c : Nat} (h : c < 256) : el unT c < 256 := by
  have : ((List.range 256).all fun c => decide (el unT c < 256)) = true := by kernel_rfl
  exact of_decide_eq_true (all256 this c h)
theorem boxB_inj {a b : Nat} (ha : a < 256) (hb : b < 256) : boxB a = boxB b ↔ a = b := ⟨fun h => by rw [← un_box ha, h, un_box hb], fun h => by rw [h]⟩
theorem boxT_el {c : Nat} (h : c < 256) : el boxT c = boxB c := by unfold boxT; rw [el_at (by simpa using h)]; simp
end Go.Proofs.Yteiknfcegchbcaa
