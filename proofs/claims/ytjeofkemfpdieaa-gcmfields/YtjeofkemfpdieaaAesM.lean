/- Bytes that multiply; boxes: plain. -/
import Derived.Test.YtjeofkemfpdieaaBase
import Derived.KernelRfl
namespace Go.Proofs.Ytjeofkemfpdieaa
set_option linter.unusedVariables false
set_option linter.unusedSimpArgs false

/-- a byte times x -/
def xt (a : Nat) : Nat := if 128 ≤ a then (2 * a % 256) ^^^ 27 else 2 * a
def mulS : Nat → Nat → Nat → Nat → Nat
  | 0, _, _, p => p
  | k + 1, a, b, p => mulS k (xt a) (b / 2) (if b % 2 = 1 then p ^^^ a else p)
/-- the product of two bytes -/
def mulB (a b : Nat) : Nat := mulS 8 a b 0
def sqN : Nat → Nat → Nat → Nat
  | 0, _, x => x
  | k + 1, c, x => sqN k (mulB c c) (mulB x (mulB c c))
/-- the inverse of a byte, 0 of 0 -/
def invB (c : Nat) : Nat := sqN 7 c 1
def rotB (x i : Nat) : Nat := (x * 2 ^ i % 256) ||| (x / 2 ^ (8 - i))
def boxS : Nat → Nat → Nat → Nat → Nat
  | 0, _, _, y => y
  | k + 1, x, i, y => boxS k x (i + 1) (y ^^^ rotB x i)
/-- what the cipher makes of a byte -/
def boxB (c : Nat) : Nat := boxS 5 (invB c) 0 99
def boxT : List Nat := (List.range 256).map boxB
def unT : List Nat := (List.range 256).foldl (fun l i => l.set (boxB i) i) (List.replicate 256 0)

theorem all256 {p : Nat → Bool} (h : (List.range 256).all p = true) (x : Nat) (hx : x < 256) : p x = true := List.all_eq_true.1 h x (List.mem_range.2 hx)
theorem all256' {p : Nat → Nat → Bool} (h : ((List.range 256).all fun a => (List.range 256).all fun b => p a b) = true) (x y : Nat) (hx : x < 256) (hy : y < 256) : p x y = true := all256 (all256 h x hx) y hy
theorem xor_8 {x y : Nat} (hx : x < 256) (hy : y < 256) : x ^^^ y < 256 := Nat.xor_lt_two_pow (n := 8) hx hy
theorem xt_lt {a : Nat} (h : a < 256) : xt a < 256 := by
  have : ((List.range 256).all fun a => decide (xt a < 256)) = true := by kernel_rfl
  exact of_decide_eq_true (all256 this a h)
theorem xt_xor {a b : Nat} (ha : a < 256) (hb : b < 256) : xt (a ^^^ b) = xt a ^^^ xt b := by
  have : ((List.range 256).all fun a => (List.range 256).all fun b => xt (a ^^^ b) == xt a ^^^ xt b) = true := by kernel_rfl
  exact eq_of_beq (all256' this a b ha hb)
theorem mulS_lt : ∀ (k a b p : Nat), a < 256 → p < 256 → mulS k a b p < 256
  | 0, a, b, p, _, hp => hp
  | k + 1, a, b, p, ha, hp => by
    unfold mulS
    refine mulS_lt k _ _ _ (xt_lt ha) ?_
    split
    · exact xor_8 hp ha
    · exact hp
theorem mulB_lt {a b : Nat} (ha : a < 256) : mulB a b < 256 := mulS_lt 8 a b 0 ha (by decide)
theorem xor_half (a b : Nat) : (a ^^^ b) / 2 = a / 2 ^^^ b / 2 := by
  apply Nat.eq_of_testBit_eq
  intro i
  rw [Nat.testBit_xor, Nat.testBit_div_two, Nat.testBit_div_two, Nat.testBit_div_two, Nat.testBit_xor]
theorem xor_odd (a b : Nat) : (a ^^^ b) % 2 = 1 ↔ ¬ (a % 2 = 1 ↔ b % 2 = 1) := by
  rw [Nat.mod_two_eq_one_iff_testBit_zero, Nat.mod_two_eq_one_iff_testBit_zero, Nat.mod_two_eq_one_iff_testBit_zero, Nat.testBit_xor]
  cases a.testBit 0 <;> cases b.testBit 0 <;> simp
theorem mulS_r : ∀ (k a b c p q : Nat), mulS k a (b ^^^ c) (p ^^^ q) = mulS k a b p ^^^ mulS k a c q
  | 0, a, b, c, p, q => rfl
  | k + 1, a, b, c, p, q => by
    unfold mulS
    rw [xor_half]
    have e : (if (b ^^^ c) % 2 = 1 then p ^^^ q ^^^ a else p ^^^ q) = (if b % 2 = 1 then p ^^^ a else p) ^^^ (if c % 2 = 1 then q ^^^ a else q) := by
      by_cases hb : b % 2 = 1 <;> by_cases hc : c % 2 = 1
      · rw [if_neg (by rw [xor_odd]; simp [hb, hc]), if_pos hb, if_pos hc]
        rw [show p ^^^ a ^^^ (q ^^^ a) = p ^^^ q ^^^ (a ^^^ a) by ac_rfl, Nat.xor_self, Nat.xor_zero]
      · rw [if_pos (by rw [xor_odd]; simp [hb, hc]), if_pos hb, if_neg hc]; ac_rfl
      · rw [if_pos (by rw [xor_odd]; simp [hb, hc]), if_neg hb, if_pos hc]; ac_rfl
      · rw [if_neg (by rw [xor_odd]; simp [hb, hc]), if_neg hb, if_neg hc]
    rw [e]
    exact mulS_r k _ _ _ _ _
theorem mulS_l : ∀ (k a b c p q : Nat), a < 256 → b < 256 → mulS k (a ^^^ b) c (p ^^^ q) = mulS k a c p ^^^ mulS k b c q
  | 0, a, b, c, p, q, _, _ => rfl
  | k + 1, a, b, c, p, q, ha, hb => by
    unfold mulS
    rw [xt_xor ha hb]
    have e : (if c % 2 = 1 then p ^^^ q ^^^ (a ^^^ b) else p ^^^ q) = (if c % 2 = 1 then p ^^^ a else p) ^^^ (if c % 2 = 1 then q ^^^ b else q) := by
      split
      · ac_rfl
      · rfl
    rw [e]
    exact mulS_l k _ _ _ _ _ (xt_lt ha) (xt_lt hb)
theorem mul_r (a b c : Nat) : mulB a (b ^^^ c) = mulB a b ^^^ mulB a c := mulS_r 8 a b c 0 0
theorem mul_l (a b c : Nat) (ha : a < 256) (hb : b < 256) : mulB (a ^^^ b) c = mulB a c ^^^ mulB b c := mulS_l 8 a b c 0 0 ha hb
theorem pow_8 {n : Nat} (h : n < 8) : 2 ^ n < 256 := Nat.pow_lt_pow_right (a := 2) (n := 8) (by decide) h
/-- a map of bytes that goes over xor -/
def Adds (f : Nat → Nat) : Prop := ∀ x y, x < 256 → y < 256 → f (x ^^^ y) = f x ^^^ f y
theorem add_ext {f g : Nat → Nat} (hf : Adds f) (hg : Adds g) (h0 : f 0 = g 0) (h : ∀ i, i < 8 → f (2 ^ i) = g (2 ^ i)) : ∀ x, x < 256 → f x = g x := by
  have key : ∀ n, n ≤ 8 → ∀ x, x < 2 ^ n → f x = g x := by
    intro n
    induction n with
    | zero => intro _ x hx; obtain rfl : x = 0 := by simp at hx; exact hx
              exact h0
    | succ n ih =>
      intro hn x hx
      by_cases hlt : x < 2 ^ n
      · exact ih (by omega) x hlt
      · have hp : 2 ^ (n + 1) = 2 ^ n + 2 ^ n := by rw [Nat.pow_succ]; omega
        have hy : x - 2 ^ n < 2 ^ n := by omega
        have e : x = 2 ^ n ^^^ (x - 2 ^ n) := by
          have h8 : ((List.range 8).all fun n => (List.range (2 ^ n)).all fun y => 2 ^ n ^^^ y == 2 ^ n + y) = true := by kernel_rfl
          have := eq_of_beq (List.all_eq_true.1 (List.all_eq_true.1 h8 n (List.mem_range.2 (by omega))) (x - 2 ^ n) (List.mem_range.2 hy))
          omega
        have l1 : 2 ^ n < 256 := pow_8 (by omega)
        have l2 : x - 2 ^ n < 256 := by omega
        rw [e, hf _ _ l1 l2, hg _ _ l1 l2, h n (by omega), ih (by omega) _ hy]
  exact fun x hx => key 8 (Nat.le_refl _) x hx
theorem adds_r (a : Nat) : Adds (mulB a) := fun x y _ _ => mul_r a x y
theorem adds_l (c : Nat) : Adds (fun a => mulB a c) := fun x y hx hy => mul_l x y c hx hy
theorem mulB_0 (a : Nat) : mulB a 0 = 0 := by
  have := mul_r a 0 0
  rw [Nat.xor_self, Nat.xor_self] at this
  exact this
theorem mul_comm8 {a b : Nat} (ha : a < 256) (hb : b < 256) : mulB a b = mulB b a := by
  have h : ((List.range 8).all fun i => (List.range 256).all fun b => mulB (2 ^ i) b == mulB b (2 ^ i)) = true := by kernel_rfl
  have h0 : ((List.range 256).all fun b => mulB 0 b == mulB b 0) = true := by kernel_rfl
  exact add_ext (adds_l b) (adds_r b) (eq_of_beq (all256 h0 b hb)) (fun i hi => eq_of_beq (all256 (List.all_eq_true.1 h i (List.mem_range.2 hi)) b hb)) a ha
theorem mul_assoc8 {a b c : Nat} (ha : a < 256) (hb : b < 256) (hc : c < 256) : mulB a (mulB b c) = mulB (mulB a b) c := by
  have h8 : ((List.range 9).all fun i => (List.range 9).all fun j => (List.range 9).all fun k => mulB (2 ^ i % 256) (mulB (2 ^ j % 256) (2 ^ k % 256)) == mulB (mulB (2 ^ i % 256) (2 ^ j % 256)) (2 ^ k % 256)) = true := by kernel_rfl
  have hb8 : ∀ i j k, i < 9 → j < 9 → k < 9 → mulB (2 ^ i % 256) (mulB (2 ^ j % 256) (2 ^ k % 256)) = mulB (mulB (2 ^ i % 256) (2 ^ j % 256)) (2 ^ k % 256) := fun i j k hi hj hk =>
    eq_of_beq (List.all_eq_true.1 (List.all_eq_true.1 (List.all_eq_true.1 h8 i (List.mem_range.2 hi)) j (List.mem_range.2 hj)) k (List.mem_range.2 hk))
  have p8 : ∀ i, i < 8 → 2 ^ i % 256 = 2 ^ i := fun i hi => Nat.mod_eq_of_lt (pow_8 hi)
  have lt8 : ∀ i, 2 ^ i % 256 < 256 := fun i => Nat.mod_lt _ (by decide)
  have s1 : ∀ i j, i < 9 → j < 9 → ∀ c, c < 256 → mulB (2 ^ i % 256) (mulB (2 ^ j % 256) c) = mulB (mulB (2 ^ i % 256) (2 ^ j % 256)) c := fun i j hi hj =>
    add_ext (f := fun c => mulB (2 ^ i % 256) (mulB (2 ^ j % 256) c)) (fun x y _ _ => by show mulB _ (mulB _ (x ^^^ y)) = _; rw [mul_r, mul_r]) (adds_r _) (hb8 i j 8 hi hj (by decide)) (fun k hk => by have := hb8 i j k hi hj (by omega); rwa [p8 k hk] at this)
  have s2 : ∀ i, i < 9 → ∀ b, b < 256 → mulB (2 ^ i % 256) (mulB b c) = mulB (mulB (2 ^ i % 256) b) c := fun i hi =>
    add_ext (f := fun b => mulB (2 ^ i % 256) (mulB b c)) (g := fun b => mulB (mulB (2 ^ i % 256) b) c) (fun x y hx hy => by show mulB _ (mulB (x ^^^ y) c) = _; rw [mul_l x y c hx hy, mul_r]) (fun x y hx hy => by show mulB (mulB _ (x ^^^ y)) c = _; rw [mul_r, mul_l _ _ _ (mulB_lt (lt8 i)) (mulB_lt (lt8 i))]) (s1 i 8 hi (by decide) c hc) (fun k hk => by have := s1 i k hi (by omega) c hc; rwa [p8 k hk] at this)
  exact add_ext (f := fun a => mulB a (mulB b c)) (g := fun a => mulB (mulB a b) c) (adds_l _) (fun x y hx hy => by show mulB (mulB (x ^^^ y) b) c = _; rw [mul_l x y b hx hy, mul_l _ _ _ (mulB_lt hx) (mulB_lt hy)]) (s2 8 (by decide) b hb) (fun k hk => by have := s2 k (by omega) b hb; rwa [p8 k hk] at this) a ha
theorem mul_one8 {a : Nat} (ha : a < 256) : mulB a 1 = a := by
  have : ((List.range 256).all fun a => mulB a 1 == a) = true := by kernel_rfl
  exact eq_of_beq (all256 this a ha)
theorem one_mul8 {a : Nat} (ha : a < 256) : mulB 1 a = a := by rw [mul_comm8 (by decide) ha, mul_one8 ha]
theorem boxB_lt {c : Nat} (h : c < 256) : boxB c < 256 := by
  have : ((List.range 256).all fun c => decide (boxB c < 256)) = true := by kernel_rfl
  exact of_decide_eq_true (all256 this c h)
theorem un_box {c : Nat} (h : c < 256) : el unT (boxB c) = c := by
  have : ((List.range 256).all fun c => el unT (boxB c) == c) = true := by kernel_rfl
  exact eq_of_beq (all256 this c h)
theorem box_un {c : Nat} (h : c < 256) : boxB (el unT c) = c := by
  have : ((List.range 256).all fun c => boxB (el unT c) == c) = true := by kernel_rfl
  exact eq_of_beq (all256 this c h)
theorem un_lt {c : Nat} (h : c < 256) : el unT c < 256 := by
  have : ((List.range 256).all fun c => decide (el unT c < 256)) = true := by kernel_rfl
  exact of_decide_eq_true (all256 this c h)
theorem boxB_inj {a b : Nat} (ha : a < 256) (hb : b < 256) : boxB a = boxB b ↔ a = b := ⟨fun h => by rw [← un_box ha, h, un_box hb], fun h => by rw [h]⟩
theorem boxT_el {c : Nat} (h : c < 256) : el boxT c = boxB c := by unfold boxT; rw [el_at (by simpa using h)]; simp
end Go.Proofs.Ytjeofkemfpdieaa

/- A block behind the cipher, and back: plain. -/
namespace Go.Proofs.Ytjeofkemfpdieaa
set_option linter.unusedVariables false
set_option linter.unusedSimpArgs false

/-- sixteen bytes -/
def B16 (s : List Nat) : Prop := s.length = 16 ∧ Under 256 s
/-- a list of sixteen, place by place -/
def of16 (f : Nat → Nat) : List Nat := (List.range 16).map f
theorem of16_len (f : Nat → Nat) : (of16 f).length = 16 := by simp [of16]
theorem of16_el (f : Nat → Nat) {i : Nat} (h : i < 16) : el (of16 f) i = f i := by
  unfold of16
  rw [el_at (by simpa using h)]
  simp
theorem of16_b {f : Nat → Nat} (h : ∀ i, i < 16 → f i < 256) : B16 (of16 f) := ⟨of16_len f, fun x hx => by
  obtain ⟨i, hi, rfl⟩ := List.mem_map.1 hx
  exact h i (List.mem_range.1 hi)⟩
theorem ext16 {a b : List Nat} (ha : a.length = 16) (hb : b.length = 16) (h : ∀ i, i < 16 → el a i = el b i) : a = b := by
  apply List.ext_getElem (by rw [ha, hb])
  intro i h1 h2
  rw [← el_at h1, ← el_at h2]
  exact h i (by omega)
theorem B16.el {s : List Nat} (h : B16 s) (i : Nat) : Go.Proofs.Ytjeofkemfpdieaa.el s i < 256 := el_lt h.2 (by decide) i

def eachL (T s : List Nat) : List Nat := of16 fun i => el T (el s i)
def rowsL (s : List Nat) : List Nat := of16 fun i => el s (4 * ((i / 4 + i % 4) % 4) + i % 4)
def rowsR (s : List Nat) : List Nat := of16 fun i => el s (4 * ((i / 4 + 4 - i % 4) % 4) + i % 4)
def colsL (m0 m1 m2 m3 : Nat) (s : List Nat) : List Nat := of16 fun i =>
  mulB m0 (el s (4 * (i / 4) + i % 4)) ^^^ mulB m1 (el s (4 * (i / 4) + (i % 4 + 1) % 4)) ^^^ mulB m2 (el s (4 * (i / 4) + (i % 4 + 2) % 4)) ^^^ mulB m3 (el s (4 * (i / 4) + (i % 4 + 3) % 4))
/-- xored with a round's key -/
def keyAt (w : List Nat) (r : Nat) (s : List Nat) : List Nat := of16 fun i => el s i ^^^ el w (16 * r + i)

theorem eachL_b {T s : List Nat} (hT : ∀ c, c < 256 → el T c < 256) (hs : B16 s) : B16 (eachL T s) := of16_b fun i _ => hT _ (hs.el _)
theorem rowsL_b {s : List Nat} (hs : B16 s) : B16 (rowsL s) := of16_b fun i _ => hs.el _
theorem rowsR_b {s : List Nat} (hs : B16 s) : B16 (rowsR s) := of16_b fun i _ => hs.el _
theorem colsL_b {m0 m1 m2 m3 : Nat} {s : List Nat} (h0 : m0 < 256) (h1 : m1 < 256) (h2 : m2 < 256) (h3 : m3 < 256) : B16 (colsL m0 m1 m2 m3 s) := of16_b fun i _ => xor_8 (xor_8 (xor_8 (mulB_lt h0) (mulB_lt h1)) (mulB_lt h2)) (mulB_lt h3)
theorem keyAt_b {w s : List Nat} {r : Nat} (hw : Under 256 w) (hs : B16 s) : B16 (keyAt w r s) := of16_b fun i _ => xor_8 (hs.el _) (el_lt hw (by decide) _)

theorem key_key {w s : List Nat} {r : Nat} (hs : B16 s) : keyAt w r (keyAt w r s) = s := by
  refine ext16 (of16_len _) hs.1 fun i hi => ?_
  unfold keyAt
  rw [of16_el _ hi, of16_el _ hi, Nat.xor_assoc, Nat.xor_self, Nat.xor_zero]
theorem each_un {s : List Nat} (hs : B16 s) : eachL unT (eachL boxT s) = s := by
  refine ext16 (of16_len _) hs.1 fun i hi => ?_
  unfold eachL
  rw [of16_el _ hi, of16_el _ hi, boxT_el (hs.el i), un_box (hs.el i)]
theorem un_each {s : List Nat} (hs : B16 s) : eachL boxT (eachL unT s) = s := by
  refine ext16 (of16_len _) hs.1 fun i hi => ?_
  unfold eachL
  rw [of16_el _ hi, of16_el _ hi, boxT_el (un_lt (hs.el i)), box_un (hs.el i)]
theorem rows_lr {s : List Nat} (hs : B16 s) : rowsR (rowsL s) = s := by
  refine ext16 (of16_len _) hs.1 fun i hi => ?_
  unfold rowsR rowsL
  rw [of16_el _ hi, of16_el _ (by omega)]
  congr 1
  exact (by decide : ∀ i, i < 16 → 4 * (((4 * ((i / 4 + 4 - i % 4) % 4) + i % 4) / 4 + (4 * ((i / 4 + 4 - i % 4) % 4) + i % 4) % 4) % 4) + (4 * ((i / 4 + 4 - i % 4) % 4) + i % 4) % 4 = i) i hi
theorem rows_rl {s : List Nat} (hs : B16 s) : rowsL (rowsR s) = s := by
  refine ext16 (of16_len _) hs.1 fun i hi => ?_
  unfold rowsR rowsL
  rw [of16_el _ hi, of16_el _ (by omega)]
  congr 1
  exact (by decide : ∀ i, i < 16 → 4 * (((4 * ((i / 4 + i % 4) % 4) + i % 4) / 4 + 4 - (4 * ((i / 4 + i % 4) % 4) + i % 4) % 4) % 4) + (4 * ((i / 4 + i % 4) % 4) + i % 4) % 4 = i) i hi
/-- four products with one byte -/
theorem grp {a p q r t : Nat} (hp : p < 256) (hq : q < 256) (hr : r < 256) (ht : t < 256) : mulB p a ^^^ mulB q a ^^^ mulB r a ^^^ mulB t a = mulB (p ^^^ q ^^^ r ^^^ t) a := by
  rw [mul_l (p ^^^ q ^^^ r) t a (xor_8 (xor_8 hp hq) hr) ht, mul_l (p ^^^ q) r a (xor_8 hp hq) hr, mul_l p q a hp hq]
theorem mul2 {p q a : Nat} (hp : p < 256) (hq : q < 256) (ha : a < 256) : mulB p (mulB q a) = mulB (mulB p q) a := mul_assoc8 hp hq ha
theorem zero_mul (a : Nat) (ha : a < 256) : mulB 0 a = 0 := by rw [mul_comm8 (by decide) ha, mulB_0]
theorem col_back {a b c d : Nat} (ha : a < 256) (hb : b < 256) (hc : c < 256) (hd : d < 256) :
    mulB 14 (mulB 2 a ^^^ mulB 3 b ^^^ mulB 1 c ^^^ mulB 1 d) ^^^ mulB 11 (mulB 2 b ^^^ mulB 3 c ^^^ mulB 1 d ^^^ mulB 1 a) ^^^ mulB 13 (mulB 2 c ^^^ mulB 3 d ^^^ mulB 1 a ^^^ mulB 1 b) ^^^ mulB 9 (mulB 2 d ^^^ mulB 3 a ^^^ mulB 1 b ^^^ mulB 1 c) = a := by
  simp only [mul_r]
  rw [mul2 (by decide) (by decide) ha, mul2 (by decide) (by decide) hb, mul2 (by decide) (by decide) hc, mul2 (by decide) (by decide) hd, mul2 (by decide) (by decide) hb, mul2 (by decide) (by decide) hc, mul2 (by decide) (by decide) hd, mul2 (by decide) (by decide) ha, mul2 (by decide) (by decide) hc, mul2 (by decide) (by decide) hd, mul2 (by decide) (by decide) ha, mul2 (by decide) (by decide) hb, mul2 (by decide) (by decide) hd, mul2 (by decide) (by decide) ha, mul2 (by decide) (by decide) hb, mul2 (by decide) (by decide) hc]
  rw [show ∀ a1 b1 c1 d1 b2 c2 d2 a2 c3 d3 a3 b3 d4 a4 b4 c4 : Nat, a1 ^^^ b1 ^^^ c1 ^^^ d1 ^^^ (b2 ^^^ c2 ^^^ d2 ^^^ a2) ^^^ (c3 ^^^ d3 ^^^ a3 ^^^ b3) ^^^ (d4 ^^^ a4 ^^^ b4 ^^^ c4) = (a1 ^^^ a2 ^^^ a3 ^^^ a4) ^^^ (b1 ^^^ b2 ^^^ b3 ^^^ b4) ^^^ (c1 ^^^ c2 ^^^ c3 ^^^ c4) ^^^ (d1 ^^^ d2 ^^^ d3 ^^^ d4) from fun _ _ _ _ _ _ _ _ _ _ _ _ _ _ _ _ => by ac_rfl]
  rw [grp (mulB_lt (by decide)) (mulB_lt (by decide)) (mulB_lt (by decide)) (mulB_lt (by decide)), grp (mulB_lt (by decide)) (mulB_lt (by decide)) (mulB_lt (by decide)) (mulB_lt (by decide)), grp (mulB_lt (by decide)) (mulB_lt (by decide)) (mulB_lt (by decide)) (mulB_lt (by decide)), grp (mulB_lt (by decide)) (mulB_lt (by decide)) (mulB_lt (by decide)) (mulB_lt (by decide))]
  rw [show mulB 14 2 ^^^ mulB 11 1 ^^^ mulB 13 1 ^^^ mulB 9 3 = 1 by decide, show mulB 14 3 ^^^ mulB 11 2 ^^^ mulB 13 1 ^^^ mulB 9 1 = 0 by decide, show mulB 14 1 ^^^ mulB 11 3 ^^^ mulB 13 2 ^^^ mulB 9 1 = 0 by decide, show mulB 14 1 ^^^ mulB 11 1 ^^^ mulB 13 3 ^^^ mulB 9 2 = 0 by decide, one_mul8 ha, zero_mul b hb, zero_mul c hc, zero_mul d hd, Nat.xor_zero, Nat.xor_zero, Nat.xor_zero]
theorem col_there {a b c d : Nat} (ha : a < 256) (hb : b < 256) (hc : c < 256) (hd : d < 256) :
    mulB 2 (mulB 14 a ^^^ mulB 11 b ^^^ mulB 13 c ^^^ mulB 9 d) ^^^ mulB 3 (mulB 14 b ^^^ mulB 11 c ^^^ mulB 13 d ^^^ mulB 9 a) ^^^ mulB 1 (mulB 14 c ^^^ mulB 11 d ^^^ mulB 13 a ^^^ mulB 9 b) ^^^ mulB 1 (mulB 14 d ^^^ mulB 11 a ^^^ mulB 13 b ^^^ mulB 9 c) = a := by
  simp only [mul_r]
  rw [mul2 (by decide) (by decide) ha, mul2 (by decide) (by decide) hb, mul2 (by decide) (by decide) hc, mul2 (by decide) (by decide) hd, mul2 (by decide) (by decide) hb, mul2 (by decide) (by decide) hc, mul2 (by decide) (by decide) hd, mul2 (by decide) (by decide) ha, mul2 (by decide) (by decide) hc, mul2 (by decide) (by decide) hd, mul2 (by decide) (by decide) ha, mul2 (by decide) (by decide) hb, mul2 (by decide) (by decide) hd, mul2 (by decide) (by decide) ha, mul2 (by decide) (by decide) hb, mul2 (by decide) (by decide) hc]
  rw [show ∀ a1 b1 c1 d1 b2 c2 d2 a2 c3 d3 a3 b3 d4 a4 b4 c4 : Nat, a1 ^^^ b1 ^^^ c1 ^^^ d1 ^^^ (b2 ^^^ c2 ^^^ d2 ^^^ a2) ^^^ (c3 ^^^ d3 ^^^ a3 ^^^ b3) ^^^ (d4 ^^^ a4 ^^^ b4 ^^^ c4) = (a1 ^^^ a2 ^^^ a3 ^^^ a4) ^^^ (b1 ^^^ b2 ^^^ b3 ^^^ b4) ^^^ (c1 ^^^ c2 ^^^ c3 ^^^ c4) ^^^ (d1 ^^^ d2 ^^^ d3 ^^^ d4) from fun _ _ _ _ _ _ _ _ _ _ _ _ _ _ _ _ => by ac_rfl]
  rw [grp (mulB_lt (by decide)) (mulB_lt (by decide)) (mulB_lt (by decide)) (mulB_lt (by decide)), grp (mulB_lt (by decide)) (mulB_lt (by decide)) (mulB_lt (by decide)) (mulB_lt (by decide)), grp (mulB_lt (by decide)) (mulB_lt (by decide)) (mulB_lt (by decide)) (mulB_lt (by decide)), grp (mulB_lt (by decide)) (mulB_lt (by decide)) (mulB_lt (by decide)) (mulB_lt (by decide))]
  rw [show mulB 2 14 ^^^ mulB 3 9 ^^^ mulB 1 13 ^^^ mulB 1 11 = 1 by decide, show mulB 2 11 ^^^ mulB 3 14 ^^^ mulB 1 9 ^^^ mulB 1 13 = 0 by decide, show mulB 2 13 ^^^ mulB 3 11 ^^^ mulB 1 14 ^^^ mulB 1 9 = 0 by decide, show mulB 2 9 ^^^ mulB 3 13 ^^^ mulB 1 11 ^^^ mulB 1 14 = 0 by decide, one_mul8 ha, zero_mul b hb, zero_mul c hc, zero_mul d hd, Nat.xor_zero, Nat.xor_zero, Nat.xor_zero]
theorem cols_lr {s : List Nat} (hs : B16 s) : colsL 14 11 13 9 (colsL 2 3 1 1 s) = s := by
  refine ext16 (of16_len _) hs.1 fun i hi => ?_
  have hq : i = 4 * (i / 4) + i % 4 := by omega
  have hr : i % 4 = 0 ∨ i % 4 = 1 ∨ i % 4 = 2 ∨ i % 4 = 3 := by omega
  have hc : i / 4 < 4 := by omega
  unfold colsL
  rw [of16_el _ hi, of16_el _ (by omega), of16_el _ (by omega), of16_el _ (by omega), of16_el _ (by omega)]
  generalize i / 4 = c at *
  have d0 : ∀ k, k < 4 → (4 * c + k) / 4 = c := fun k hk => by omega
  have m0 : ∀ k, k < 4 → (4 * c + k) % 4 = k := fun k hk => by omega
  have dz : 4 * c / 4 = c := by omega
  have mz : 4 * c % 4 = 0 := by omega
  rcases hr with h | h | h | h <;> rw [h] at hq ⊢ <;> rw [hq] <;>
  · simp only [d0, m0, dz, mz, Nat.add_zero, Nat.zero_add, Nat.reduceAdd, Nat.reduceMod, Nat.reduceLT]
    exact col_back (hs.el _) (hs.el _) (hs.el _) (hs.el _)
theorem cols_rl {s : List Nat} (hs : B16 s) : colsL 2 3 1 1 (colsL 14 11 13 9 s) = s := by
  refine ext16 (of16_len _) hs.1 fun i hi => ?_
  have hq : i = 4 * (i / 4) + i % 4 := by omega
  have hr : i % 4 = 0 ∨ i % 4 = 1 ∨ i % 4 = 2 ∨ i % 4 = 3 := by omega
  have hc : i / 4 < 4 := by omega
  unfold colsL
  rw [of16_el _ hi, of16_el _ (by omega), of16_el _ (by omega), of16_el _ (by omega), of16_el _ (by omega)]
  generalize i / 4 = c at *
  have d0 : ∀ k, k < 4 → (4 * c + k) / 4 = c := fun k hk => by omega
  have m0 : ∀ k, k < 4 → (4 * c + k) % 4 = k := fun k hk => by omega
  have dz : 4 * c / 4 = c := by omega
  have mz : 4 * c % 4 = 0 := by omega
  rcases hr with h | h | h | h <;> rw [h] at hq ⊢ <;> rw [hq] <;>
  · simp only [d0, m0, dz, mz, Nat.add_zero, Nat.zero_add, Nat.reduceAdd, Nat.reduceMod, Nat.reduceLT]
    exact col_there (hs.el _) (hs.el _) (hs.el _) (hs.el _)

/-- a round, of n in all -/
def stepT (n : Nat) (w : List Nat) (r : Nat) (s : List Nat) : List Nat := keyAt w r (if r < n then colsL 2 3 1 1 (rowsL (eachL boxT s)) else rowsL (eachL boxT s))
def stepB (n : Nat) (w : List Nat) (r : Nat) (s : List Nat) : List Nat := eachL unT (rowsR (if r < n then colsL 14 11 13 9 (keyAt w r s) else keyAt w r s))
def thN (n : Nat) (w : List Nat) : Nat → List Nat → List Nat
  | 0, s => keyAt w 0 s
  | k + 1, s => stepT n w (k + 1) (thN n w k s)
def bkN (n : Nat) (w : List Nat) : Nat → List Nat → List Nat
  | 0, s => keyAt w 0 s
  | k + 1, s => bkN n w k (stepB n w (k + 1) s)
theorem boxT_lt {c : Nat} (h : c < 256) : el boxT c < 256 := by rw [boxT_el h]; exact boxB_lt h
theorem stepT_b {n r : Nat} {w s : List Nat} (hw : Under 256 w) (hs : B16 s) : B16 (stepT n w r s) := by
  unfold stepT
  refine keyAt_b hw ?_
  split
  · exact colsL_b (by decide) (by decide) (by decide) (by decide)
  · exact rowsL_b (eachL_b (fun c h => boxT_lt h) hs)
theorem stepB_b {n r : Nat} {w s : List Nat} (hw : Under 256 w) (hs : B16 s) : B16 (stepB n w r s) := by
  unfold stepB
  refine eachL_b (fun c h => un_lt h) (rowsR_b ?_)
  split
  · exact colsL_b (by decide) (by decide) (by decide) (by decide)
  · exact keyAt_b hw hs
theorem step_bt {n r : Nat} {w s : List Nat} (hw : Under 256 w) (hs : B16 s) : stepB n w r (stepT n w r s) = s := by
  have he := eachL_b (fun c h => boxT_lt h) hs
  have hr := rowsL_b he
  unfold stepB stepT
  by_cases h : r < n
  · rw [if_pos h, if_pos h, key_key (colsL_b (by decide) (by decide) (by decide) (by decide)), cols_lr hr, rows_lr he, each_un hs]
  · rw [if_neg h, if_neg h, key_key hr, rows_lr he, each_un hs]
theorem step_tb {n r : Nat} {w s : List Nat} (hw : Under 256 w) (hs : B16 s) : stepT n w r (stepB n w r s) = s := by
  have hk := keyAt_b (r := r) hw hs
  unfold stepB stepT
  by_cases h : r < n
  · have hc : B16 (colsL 14 11 13 9 (keyAt w r s)) := colsL_b (by decide) (by decide) (by decide) (by decide)
    rw [if_pos h, if_pos h, un_each (rowsR_b hc), rows_rl hc, cols_rl hk, key_key hs]
  · rw [if_neg h, if_neg h, un_each (rowsR_b hk), rows_rl hk, key_key hs]
theorem thN_b {n : Nat} {w s : List Nat} (hw : Under 256 w) (hs : B16 s) : ∀ k, B16 (thN n w k s)
  | 0 => keyAt_b hw hs
  | k + 1 => stepT_b hw (thN_b hw hs k)
theorem bkN_b {n : Nat} {w : List Nat} (hw : Under 256 w) : ∀ (k : Nat) {s : List Nat}, B16 s → B16 (bkN n w k s)
  | 0, s, hs => keyAt_b hw hs
  | k + 1, s, hs => bkN_b hw k (stepB_b hw hs)
theorem bk_th {n : Nat} {w s : List Nat} (hw : Under 256 w) (hs : B16 s) : ∀ k, bkN n w k (thN n w k s) = s
  | 0 => key_key hs
  | k + 1 => by
    show bkN n w k (stepB n w (k + 1) (stepT n w (k + 1) (thN n w k s))) = s
    rw [step_bt hw (thN_b hw hs k), bk_th hw hs k]
theorem th_bk {n : Nat} {w : List Nat} (hw : Under 256 w) : ∀ (k : Nat) {s : List Nat}, B16 s → thN n w k (bkN n w k s) = s
  | 0, s, hs => key_key hs
  | k + 1, s, hs => by
    show stepT n w (k + 1) (thN n w k (bkN n w k (stepB n w (k + 1) s))) = s
    rw [th_bk hw k (stepB_b hw hs), step_tb hw hs]
end Go.Proofs.Ytjeofkemfpdieaa

/- The round keys: plain. -/
namespace Go.Proofs.Ytjeofkemfpdieaa
set_option linter.unusedVariables false
set_option linter.unusedSimpArgs false

/-- the four bytes that come before -/
def k4 (i : Nat) (w : List Nat) : List Nat := [el w (4 * i - 4), el w (4 * i - 3), el w (4 * i - 2), el w (4 * i - 1)]
/-- turned, and boxed, and one of them changed -/
def kR (c : Nat) (t : List Nat) : List Nat := [boxB (el t 1) ^^^ c, boxB (el t 2), boxB (el t 3), boxB (el t 0)]
def kS (t : List Nat) : List Nat := [boxB (el t 0), boxB (el t 1), boxB (el t 2), boxB (el t 3)]
def kT (k i c : Nat) (t : List Nat) : List Nat := if i % k = 0 then kR c t else if k = 8 ∧ i % 8 = 4 then kS t else t
def kC (k i c : Nat) : Nat := if i % k = 0 then mulB c 2 else c
/-- j of the four bytes of word m + k -/
def kQ (m : Nat) (w t : List Nat) : Nat → List Nat
  | 0 => w
  | j + 1 => kQ m w t j ++ [el w (4 * m + j) ^^^ el t j]
def kX (k : Nat) (key : List Nat) : Nat → List Nat × Nat
  | 0 => (key, 1)
  | m + 1 => (kQ m (kX k key m).1 (kT k (k + m) (kX k key m).2 (k4 (k + m) (kX k key m).1)) 4, kC k (k + m) (kX k key m).2)
/-- all of them: of k words there come 4 * (k + 7) -/
def keysL (key : List Nat) : List Nat := (kX (key.length / 4) key (3 * (key.length / 4) + 28)).1

theorem k4_under {i : Nat} {w : List Nat} (hw : Under 256 w) : Under 256 (k4 i w) := by
  intro x hx
  simp only [k4, List.mem_cons, List.not_mem_nil, or_false] at hx
  rcases hx with rfl | rfl | rfl | rfl <;> exact el_lt hw (by decide) _
theorem kR_under {c : Nat} {t : List Nat} (hc : c < 256) (ht : Under 256 t) : Under 256 (kR c t) := by
  intro x hx
  have he := fun i => el_lt ht (by decide) i
  simp only [kR, List.mem_cons, List.not_mem_nil, or_false] at hx
  rcases hx with rfl | rfl | rfl | rfl
  · exact xor_8 (boxB_lt (he _)) hc
  all_goals exact boxB_lt (he _)
theorem kS_under {t : List Nat} (ht : Under 256 t) : Under 256 (kS t) := by
  intro x hx
  have he := fun i => el_lt ht (by decide) i
  simp only [kS, List.mem_cons, List.not_mem_nil, or_false] at hx
  rcases hx with rfl | rfl | rfl | rfl <;> exact boxB_lt (he _)
theorem kT_under {k i c : Nat} {t : List Nat} (hc : c < 256) (ht : Under 256 t) : Under 256 (kT k i c t) := by
  unfold kT
  split
  · exact kR_under hc ht
  · split
    · exact kS_under ht
    · exact ht
theorem kT_len {k i c : Nat} {t : List Nat} (ht : t.length = 4) : (kT k i c t).length = 4 := by
  unfold kT
  split
  · rfl
  · split
    · rfl
    · exact ht
theorem kC_lt {k i c : Nat} (hc : c < 256) : kC k i c < 256 := by
  unfold kC
  split
  · exact mulB_lt hc
  · exact hc
theorem kQ_under {m : Nat} {w t : List Nat} (hw : Under 256 w) (ht : Under 256 t) : ∀ j, Under 256 (kQ m w t j)
  | 0 => hw
  | j + 1 => by
    intro x hx
    simp only [kQ, List.mem_append, List.mem_cons, List.not_mem_nil, or_false] at hx
    rcases hx with h | rfl
    · exact kQ_under hw ht j x h
    · exact xor_8 (el_lt hw (by decide) _) (el_lt ht (by decide) _)
theorem kQ_len {m : Nat} {w t : List Nat} : ∀ j, (kQ m w t j).length = w.length + j
  | 0 => rfl
  | j + 1 => by simp only [kQ, List.length_append, kQ_len j, List.length_cons, List.length_nil]; omega
theorem kQ_el {m : Nat} {w t : List Nat} : ∀ (j : Nat) {i : Nat}, i < w.length → el (kQ m w t j) i = el w i
  | 0, i, _ => rfl
  | j + 1, i, h => by
    have hl : i < (kQ m w t j).length := by rw [kQ_len]; omega
    rw [← kQ_el j h]
    simp only [kQ]
    rw [el_at (by rw [List.length_append]; omega), el_at hl, List.getElem_append_left hl]
theorem kX_lt {k : Nat} {key : List Nat} : ∀ m, (kX k key m).2 < 256
  | 0 => by show 1 < 256; decide
  | m + 1 => kC_lt (kX_lt m)
theorem kX_under {k : Nat} {key : List Nat} (hk : Under 256 key) : ∀ m, Under 256 (kX k key m).1
  | 0 => hk
  | m + 1 => kQ_under (kX_under hk m) (kT_under (kX_lt m) (k4_under (kX_under hk m))) 4
theorem kX_len {k : Nat} {key : List Nat} (hk : key.length = 4 * k) : ∀ m, (kX k key m).1.length = 4 * (k + m)
  | 0 => hk
  | m + 1 => by
    show (kQ m _ _ 4).length = _
    rw [kQ_len, kX_len hk m]
    omega
theorem keysL_len {key : List Nat} {k : Nat} (h : key.length = 4 * k) : (keysL key).length = 16 * (k + 6 + 1) := by
  have : key.length / 4 = k := by omega
  unfold keysL
  rw [this, kX_len h]
  omega
theorem keysL_under {key : List Nat} (h : Under 256 key) : Under 256 (keysL key) := kX_under h _
end Go.Proofs.Ytjeofkemfpdieaa
