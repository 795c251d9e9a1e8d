/- Blocks as polynomials: plain. -/
import Derived.Test.YtjeofkemfpdieaaBase
import Derived.Test.YtjeofkemfpdieaaAesW
import Derived.RegionTactic
import Derived.BigRegion
namespace Go.Proofs.Ytjeofkemfpdieaa
set_option linter.unusedVariables false
set_option linter.unusedSimpArgs false

/-- the coefficients of a number, n of them -/
def bitsL (n x : Nat) : List Nat := (List.range n).map fun k => x / 2 ^ k % 2
theorem bitsL_len (n x : Nat) : (bitsL n x).length = n := by simp [bitsL]
theorem bitsL_el {n x k : Nat} (h : k < n) : el (bitsL n x) k = x / 2 ^ k % 2 := by unfold el bitsL; simp [h]
theorem bitsL_zero (n : Nat) : bitsL n 0 = List.replicate n 0 := by
  refine ext_el (by rw [bitsL_len, List.length_replicate]) fun i hi => ?_
  rw [bitsL_len] at hi
  rw [bitsL_el hi, el_at (by rw [List.length_replicate]; exact hi), List.getElem_replicate, Nat.zero_div]
theorem bit_xor (x y k : Nat) : (x ^^^ y) / 2 ^ k % 2 = (x / 2 ^ k % 2) ^^^ (y / 2 ^ k % 2) := by
  rw [div_xor]
  have h := Nat.xor_mod_two_pow (a := x / 2 ^ k) (b := y / 2 ^ k) (n := 1)
  simpa using h
theorem bit_pow (i k : Nat) : 2 ^ i / 2 ^ k % 2 = if i = k then 1 else 0 := by
  split
  · rename_i h; rw [h, Nat.div_self (Nat.pow_pos (by decide))]
  · rename_i h
    rcases Nat.lt_or_ge i k with hl | hl
    · rw [Nat.div_eq_of_lt (Nat.pow_lt_pow_right (by decide) hl)]
    · obtain ⟨d, rfl⟩ : ∃ d, i = k + 1 + d := ⟨i - k - 1, by omega⟩
      rw [Nat.add_assoc, Nat.pow_add, Nat.mul_div_cancel_left _ (Nat.pow_pos (by decide)), Nat.add_comm, Nat.pow_succ]
      omega
theorem bit_one {e : Nat} (he : e < 2) : e = 0 ∨ e = 1 := by omega
theorem bitsL_set {n x k e : Nat} (h : k < n) (he : e < 2) : (bitsL n x).set k ((x / 2 ^ k % 2) ^^^ e) = bitsL n (x ^^^ e * 2 ^ k) := by
  refine ext_el (by rw [List.length_set, bitsL_len, bitsL_len]) fun i hi => ?_
  rw [List.length_set, bitsL_len] at hi
  rw [el_set (by rw [bitsL_len]; exact h), bitsL_el hi, bitsL_el hi, bit_xor]
  rcases bit_one he with rfl | rfl
  · rw [Nat.zero_mul, Nat.zero_div, Nat.xor_zero]
    split
    · rename_i e; rw [e, Nat.zero_mod, Nat.xor_zero]
    · show _ = _ ^^^ 0 % 2
      rw [Nat.zero_mod, Nat.xor_zero]
  · rw [Nat.one_mul, bit_pow]
    split
    · rename_i e; rw [e, if_pos rfl]
    · rename_i e; rw [if_neg (fun h => e h.symm), Nat.xor_zero]
theorem mod_bit (x k : Nat) : x % 2 ^ (k + 1) = (x % 2 ^ k) ^^^ (x / 2 ^ k % 2) * 2 ^ k := by
  have h1 : x % 2 ^ (k + 1) = x % 2 ^ k + 2 ^ k * (x / 2 ^ k % 2) := by rw [Nat.pow_succ, Nat.mod_mul]
  have h2 : x % 2 ^ k < 2 ^ k := Nat.mod_lt _ (Nat.pow_pos (by decide))
  rw [h1, Nat.mul_comm (x / 2 ^ k % 2)]
  apply Nat.eq_of_testBit_eq
  intro i
  rw [Nat.testBit_xor, Nat.add_comm, Nat.testBit_two_pow_mul_add _ h2]
  by_cases hi : i < k
  · rw [if_pos hi, Nat.testBit_two_pow_mul]
    simp [show ¬ k ≤ i by omega]
  · rw [if_neg hi, Nat.testBit_two_pow_mul, Nat.testBit_lt_two_pow (Nat.lt_of_lt_of_le h2 (Nat.pow_le_pow_right (by decide) (by omega)))]
    simp [show k ≤ i by omega]
/-- where the product stands, behind i rows and j places of the next -/
def prG (A B i j : Nat) : Nat := cl (A % 2 ^ i) B ^^^ (A / 2 ^ i % 2) * (2 ^ i * (B % 2 ^ j))
theorem prG_zero (A B i : Nat) : prG A B i 0 = cl (A % 2 ^ i) B := by unfold prG; rw [Nat.pow_zero, Nat.mod_one, Nat.mul_zero, Nat.mul_zero, Nat.xor_zero]
theorem prG_step (A B i j : Nat) : prG A B i (j + 1) = prG A B i j ^^^ ((A / 2 ^ i % 2) * (B / 2 ^ j % 2)) * 2 ^ (i + j) := by
  unfold prG
  rw [mod_bit B j, pow_xor, Nat.xor_assoc]
  congr 1
  have he : A / 2 ^ i % 2 < 2 := Nat.mod_lt _ (by decide)
  rcases bit_one he with h | h
  · rw [h]; simp
  · rw [h, Nat.one_mul, Nat.one_mul, Nat.one_mul, Nat.pow_add]
    congr 1
    rw [Nat.mul_left_comm]
theorem prG_row (A B i : Nat) (hB : B < 2 ^ 128) : prG A B i 128 = prG A B (i + 1) 0 := by
  rw [prG_zero, mod_bit A i, cl_xor']
  unfold prG
  rw [Nat.mod_eq_of_lt hB]
  congr 1
  have he : A / 2 ^ i % 2 < 2 := Nat.mod_lt _ (by decide)
  rcases bit_one he with h | h
  · rw [h, Nat.zero_mul, Nat.zero_mul, cl_zero]
  · rw [h, Nat.one_mul, Nat.one_mul, cl_pow]
theorem prG_all (A B : Nat) (hA : A < 2 ^ 128) : prG A B 128 0 = cl A B := by rw [prG_zero, Nat.mod_eq_of_lt hA]
theorem gP_is (q : Nat) : 2 ^ q * gP = 2 ^ (128 + q) ^^^ 2 ^ q * 135 := by
  have : gP = 2 ^ 128 ^^^ 135 := by decide
  rw [this, pow_xor, ← Nat.pow_add, Nat.add_comm]
/-- a step down keeps what comes of it, whatever stands above -/
theorem red_down (q y : Nat) : redG (q + 1) (y % 2 ^ (128 + (q + 1))) = redG q ((if y / 2 ^ (128 + q) % 2 = 1 then y ^^^ 2 ^ q * 135 else y) % 2 ^ (128 + q)) := by
  show redG q _ = _
  congr 1
  have hb : (y % 2 ^ (128 + (q + 1))).testBit (128 + q) = decide (y / 2 ^ (128 + q) % 2 = 1) := by
    rw [Nat.testBit_mod_two_pow, Nat.testBit_eq_decide_div_mod_eq]
    simp [show 128 + q < 128 + (q + 1) by omega]
  have h135 : 2 ^ q * 135 < 2 ^ (128 + q) := by
    rw [Nat.add_comm, Nat.pow_add]
    exact Nat.mul_lt_mul_of_pos_left (by decide) (Nat.pow_pos (by decide))
  rw [hb]
  by_cases h : y / 2 ^ (128 + q) % 2 = 1
  · rw [if_pos (decide_eq_true h), if_pos h, gP_is]
    apply Nat.eq_of_testBit_eq
    intro i
    rw [Nat.testBit_xor, Nat.testBit_xor, Nat.testBit_mod_two_pow, Nat.testBit_mod_two_pow, Nat.testBit_xor, Nat.testBit_two_pow]
    by_cases hi : i < 128 + q
    · simp [hi, show i < 128 + (q + 1) by omega, show ¬ 128 + q = i by omega]
    · have h0 : (2 ^ q * 135).testBit i = false := Nat.testBit_lt_two_pow (Nat.lt_of_lt_of_le h135 (Nat.pow_le_pow_right (by decide) (by omega)))
      rw [h0]
      by_cases he : i = 128 + q
      · subst he
        have : y.testBit (128 + q) = true := by rw [Nat.testBit_eq_decide_div_mod_eq]; exact decide_eq_true h
        simp [this, show 128 + q < 128 + (q + 1) by omega]
      · simp [hi, show ¬ i < 128 + (q + 1) by omega, show ¬ 128 + q = i by omega]
  · rw [if_neg (by simpa using h), if_neg h]
    apply Nat.eq_of_testBit_eq
    intro i
    rw [Nat.testBit_mod_two_pow, Nat.testBit_mod_two_pow]
    by_cases hi : i < 128 + q
    · simp [hi, show i < 128 + (q + 1) by omega]
    · by_cases he : i = 128 + q
      · subst he
        have : y.testBit (128 + q) = false := by rw [Nat.testBit_eq_decide_div_mod_eq]; exact decide_eq_false h
        simp [this]
      · simp [hi, show ¬ i < 128 + (q + 1) by omega]
theorem four_G (y q : Nat) : (((y ^^^ 1 * 2 ^ q) ^^^ 1 * 2 ^ (q + 1)) ^^^ 1 * 2 ^ (q + 2)) ^^^ 1 * 2 ^ (q + 7) = y ^^^ 2 ^ q * 135 := by
  have : (135 : Nat) = ((1 ^^^ 2 ^ 1) ^^^ 2 ^ 2) ^^^ 2 ^ 7 := by decide
  rw [this, pow_xor, pow_xor, pow_xor, ← Nat.pow_add, ← Nat.pow_add, ← Nat.pow_add]
  simp only [Nat.one_mul, Nat.mul_one, Nat.xor_assoc]
/-- a block's coefficient, and its polynomial -/
def bitB (b : List Nat) (i : Nat) : Nat := el b (i / 8) / 2 ^ (7 - i % 8) % 2
theorem bitB_lt (b : List Nat) (i : Nat) : bitB b i < 2 := Nat.mod_lt _ (by decide)
def polN (f : Nat → Nat) : Nat → Nat
  | 0 => 0
  | k + 1 => polN f k + f k * 2 ^ k
def polB (b : List Nat) : Nat := polN (bitB b) 128
theorem polN_lt {f : Nat → Nat} (hf : ∀ k, f k < 2) : ∀ k, polN f k < 2 ^ k
  | 0 => by show 0 < 1; decide
  | k + 1 => by
    have h1 := polN_lt hf k
    have h2 := hf k
    show polN f k + f k * 2 ^ k < _
    rw [Nat.pow_succ]
    have : f k * 2 ^ k ≤ 1 * 2 ^ k := Nat.mul_le_mul_right _ (by omega)
    omega
theorem polN_bit {f : Nat → Nat} (hf : ∀ k, f k < 2) : ∀ n k, k < n → polN f n / 2 ^ k % 2 = f k
  | 0, k, h => absurd h (Nat.not_lt_zero _)
  | n + 1, k, h => by
    show (polN f n + f n * 2 ^ n) / 2 ^ k % 2 = f k
    by_cases e : k = n
    · rw [e, Nat.mul_comm, Nat.add_mul_div_left _ _ (Nat.pow_pos (by decide)), Nat.div_eq_of_lt (polN_lt hf n), Nat.zero_add, Nat.mod_eq_of_lt (hf n)]
    · obtain ⟨d, rfl⟩ : ∃ d, n = k + 1 + d := ⟨n - k - 1, by omega⟩
      rw [show f (k + 1 + d) * 2 ^ (k + 1 + d) = 2 ^ k * (2 * (2 ^ d * f (k + 1 + d))) by rw [Nat.pow_add, Nat.pow_succ]; simp only [Nat.mul_comm, Nat.mul_left_comm, Nat.mul_assoc], Nat.add_mul_div_left _ _ (Nat.pow_pos (by decide)), Nat.add_mul_mod_self_left]
      exact polN_bit hf (k + 1 + d) k (by omega)
theorem polB_lt (b : List Nat) : polB b < 2 ^ 128 := polN_lt (bitB_lt b) 128
theorem polB_bit (b : List Nat) {k : Nat} (h : k < 128) : polB b / 2 ^ k % 2 = bitB b k := polN_bit (bitB_lt b) 128 k h
theorem eq_bits {x y n : Nat} (hx : x < 2 ^ n) (hy : y < 2 ^ n) (h : ∀ k, k < n → x / 2 ^ k % 2 = y / 2 ^ k % 2) : x = y := by
  apply Nat.eq_of_testBit_eq
  intro k
  by_cases hk : k < n
  · rw [Nat.testBit_eq_decide_div_mod_eq, Nat.testBit_eq_decide_div_mod_eq, h k hk]
  · rw [Nat.testBit_lt_two_pow (Nat.lt_of_lt_of_le hx (Nat.pow_le_pow_right (by decide) (by omega))), Nat.testBit_lt_two_pow (Nat.lt_of_lt_of_le hy (Nat.pow_le_pow_right (by decide) (by omega)))]
/-- m coefficients of a byte; a block out of i coefficients -/
def bytK (f : Nat → Nat) (j : Nat) : Nat → Nat
  | 0 => 0
  | m + 1 => bytK f j m + f (8 * j + m) * 2 ^ (7 - m)
def outK (f : Nat → Nat) (i : Nat) : List Nat := of16 fun j => bytK f j (min 8 (i - 8 * j))
def blkP (x : Nat) : List Nat := of16 fun j => bytK (fun k => x / 2 ^ k % 2) j 8
theorem outK_zero (f : Nat → Nat) : outK f 0 = List.replicate 16 0 := by unfold outK of16; simp [bytK]; decide
theorem bytK_mul {f : Nat → Nat} (hf : ∀ k, f k < 2) (j : Nat) : ∀ m, m ≤ 8 → ∃ z, bytK f j m = 2 ^ (8 - m) * z ∧ bytK f j m < 256
  | 0, _ => ⟨0, rfl, by show (0 : Nat) < 256; decide⟩
  | m + 1, h => by
    obtain ⟨z, h1, h2⟩ := bytK_mul hf j m (by omega)
    have h3 := hf (8 * j + m)
    have h5 : 2 ^ (8 - m) * z < 256 := by omega
    have h4 : bytK f j (m + 1) = 2 ^ (8 - (m + 1)) * (2 * z + f (8 * j + m)) := by
      show bytK f j m + f (8 * j + m) * 2 ^ (7 - m) = _
      rw [h1, show 8 - m = (7 - m) + 1 by omega, Nat.pow_succ, show 8 - (m + 1) = 7 - m by omega, Nat.mul_add, Nat.mul_assoc, Nat.mul_comm (f (8 * j + m))]
    refine ⟨_, h4, ?_⟩
    rw [h4]
    generalize f (8 * j + m) = x at *
    clear h4 h1 h2
    have e8 : m = 0 ∨ m = 1 ∨ m = 2 ∨ m = 3 ∨ m = 4 ∨ m = 5 ∨ m = 6 ∨ m = 7 := by omega
    rcases e8 with rfl | rfl | rfl | rfl | rfl | rfl | rfl | rfl <;> simp at h5 ⊢ <;> omega
theorem outK_step {f : Nat → Nat} (hf : ∀ k, f k < 2) {i : Nat} (hi : i < 128) : (outK f i).set (i / 8) (el (outK f i) (i / 8) ||| f i * 2 ^ (7 - i % 8)) = outK f (i + 1) := by
  have h16 : i / 8 < 16 := by omega
  refine ext16 (by rw [List.length_set]; exact of16_len _) (of16_len _) fun j hj => ?_
  rw [el_set (by rw [show (outK f i).length = 16 from of16_len _]; exact h16)]
  unfold outK
  rw [of16_el _ hj, of16_el _ hj]
  by_cases e : j = i / 8
  · rw [if_pos e, of16_el _ h16, ← e, show min 8 (i - 8 * j) = i % 8 by omega, show min 8 (i + 1 - 8 * j) = i % 8 + 1 by omega]
    obtain ⟨z, h1, _⟩ := bytK_mul hf j (i % 8) (by omega)
    have h3 := hf i
    show _ = bytK f j (i % 8) + f (8 * j + i % 8) * 2 ^ (7 - i % 8)
    rw [show 8 * j + i % 8 = i by omega, h1]
    refine (Nat.two_pow_add_eq_or_of_lt ?_ z).symm
    rw [show 8 - i % 8 = (7 - i % 8) + 1 by omega, Nat.pow_succ]
    have := Nat.pow_pos (n := 7 - i % 8) (show 0 < 2 by decide)
    rcases bit_one h3 with h | h <;> rw [h] <;> omega
  · rw [if_neg e]
    congr 1
    omega
theorem outK_all (x : Nat) : outK (fun k => x / 2 ^ k % 2) 128 = blkP x := by
  refine ext16 (of16_len _) (of16_len _) fun j hj => ?_
  unfold outK blkP
  rw [of16_el _ hj, of16_el _ hj, show min 8 (128 - 8 * j) = 8 by omega]
theorem blkP_b (x : Nat) : B16 (blkP x) := of16_b fun j _ => by
  obtain ⟨_, _, h⟩ := bytK_mul (f := fun k => x / 2 ^ k % 2) (fun k => Nat.mod_lt _ (by decide)) j 8 (Nat.le_refl _)
  exact h
theorem bytK_bit {f : Nat → Nat} (hf : ∀ k, f k < 2) (j t : Nat) (ht : t < 8) : bytK f j 8 / 2 ^ (7 - t) % 2 = f (8 * j + t) := by
  have a0 := hf (8 * j + 0)
  have a1 := hf (8 * j + 1)
  have a2 := hf (8 * j + 2)
  have a3 := hf (8 * j + 3)
  have a4 := hf (8 * j + 4)
  have a5 := hf (8 * j + 5)
  have a6 := hf (8 * j + 6)
  have a7 := hf (8 * j + 7)
  show (0 + f (8 * j + 0) * 2 ^ (7 - 0) + f (8 * j + 1) * 2 ^ (7 - 1) + f (8 * j + 2) * 2 ^ (7 - 2) + f (8 * j + 3) * 2 ^ (7 - 3) + f (8 * j + 4) * 2 ^ (7 - 4) + f (8 * j + 5) * 2 ^ (7 - 5) + f (8 * j + 6) * 2 ^ (7 - 6) + f (8 * j + 7) * 2 ^ (7 - 7)) / 2 ^ (7 - t) % 2 = _
  have e8 : t = 0 ∨ t = 1 ∨ t = 2 ∨ t = 3 ∨ t = 4 ∨ t = 5 ∨ t = 6 ∨ t = 7 := by omega
  rcases e8 with rfl | rfl | rfl | rfl | rfl | rfl | rfl | rfl <;> (generalize f (8 * j + 0) = x0 at *; generalize f (8 * j + 1) = x1 at *; generalize f (8 * j + 2) = x2 at *; generalize f (8 * j + 3) = x3 at *; generalize f (8 * j + 4) = x4 at *; generalize f (8 * j + 5) = x5 at *; generalize f (8 * j + 6) = x6 at *; generalize f (8 * j + 7) = x7 at *; simp only [Nat.sub_self, Nat.reduceSub, Nat.reducePow]; omega)
theorem pol_blk {x : Nat} (hx : x < 2 ^ 128) : polB (blkP x) = x := by
  refine eq_bits (polB_lt _) hx fun k hk => ?_
  rw [polB_bit _ hk]
  unfold bitB blkP
  rw [of16_el _ (by omega), bytK_bit (fun k => Nat.mod_lt _ (by decide)) _ _ (by omega), show 8 * (k / 8) + k % 8 = k by omega]
theorem blk_pol {b : List Nat} (hb : B16 b) : blkP (polB b) = b := by
  refine ext16 (of16_len _) hb.1 fun j hj => ?_
  have hx := hb.el j
  have key : ∀ t, t < 8 → polB b / 2 ^ (8 * j + t) % 2 = el b j / 2 ^ (7 - t) % 2 := fun t ht => by
    rw [polB_bit _ (by omega)]
    unfold bitB
    rw [show (8 * j + t) / 8 = j by omega, show (8 * j + t) % 8 = t by omega]
  unfold blkP
  rw [of16_el _ hj]
  show 0 + polB b / 2 ^ (8 * j + 0) % 2 * 2 ^ (7 - 0) + polB b / 2 ^ (8 * j + 1) % 2 * 2 ^ (7 - 1) + polB b / 2 ^ (8 * j + 2) % 2 * 2 ^ (7 - 2) + polB b / 2 ^ (8 * j + 3) % 2 * 2 ^ (7 - 3) + polB b / 2 ^ (8 * j + 4) % 2 * 2 ^ (7 - 4) + polB b / 2 ^ (8 * j + 5) % 2 * 2 ^ (7 - 5) + polB b / 2 ^ (8 * j + 6) % 2 * 2 ^ (7 - 6) + polB b / 2 ^ (8 * j + 7) % 2 * 2 ^ (7 - 7) = _
  rw [key 0 (by decide), key 1 (by decide), key 2 (by decide), key 3 (by decide), key 4 (by decide), key 5 (by decide), key 6 (by decide), key 7 (by decide)]
  generalize el b j = y at *
  simp only [Nat.sub_self, Nat.reduceSub, Nat.reducePow]
  omega
theorem pol_xor {a b : List Nat} (ha : B16 a) (hb : B16 b) : polB (xr2 a b) = polB a ^^^ polB b := by
  refine eq_bits (polB_lt _) (Nat.xor_lt_two_pow (polB_lt _) (polB_lt _)) fun k hk => ?_
  rw [bit_xor, polB_bit _ hk, polB_bit _ hk, polB_bit _ hk]
  unfold bitB xr2
  rw [of16_el _ (by omega), bit_xor]
/-- the product of two blocks -/
def mulP (a b : List Nat) : List Nat := blkP (mulG (polB a) (polB b))
theorem mulP_b (a b : List Nat) : B16 (mulP a b) := blkP_b _
theorem mulP_pol (a b : List Nat) : polB (mulP a b) = mulG (polB a) (polB b) := pol_blk (mulG_lt (polB_lt a) (polB_lt b))
theorem mulP_comm (a b : List Nat) : mulP a b = mulP b a := by unfold mulP; rw [mulG_comm]
theorem mulP_assoc (a b c : List Nat) : mulP a (mulP b c) = mulP (mulP a b) c := by
  show blkP (mulG (polB a) (polB (mulP b c))) = blkP (mulG (polB (mulP a b)) (polB c))
  rw [mulP_pol, mulP_pol, mulG_assoc (polB_lt a) (polB_lt b) (polB_lt c)]
theorem blk_xor {x y : Nat} (hx : x < 2 ^ 128) (hy : y < 2 ^ 128) : blkP (x ^^^ y) = xr2 (blkP x) (blkP y) := by
  rw [← blk_pol (xr2_b (blkP_b x) (blkP_b y)), pol_xor (blkP_b x) (blkP_b y), pol_blk hx, pol_blk hy]
theorem mulP_xor {a b c : List Nat} (hb : B16 b) (hc : B16 c) : mulP a (xr2 b c) = xr2 (mulP a b) (mulP a c) := by
  show blkP (mulG (polB a) (polB (xr2 b c))) = _
  rw [pol_xor hb hc, mulG_xor (polB_lt a) (polB_lt b) (polB_lt c), blk_xor (mulG_lt (polB_lt a) (polB_lt b)) (mulG_lt (polB_lt a) (polB_lt c))]
  rfl
theorem blkP_mod (y : Nat) : blkP (y % 2 ^ 128) = blkP y := by
  have key : ∀ k, k < 128 → y % 2 ^ 128 / 2 ^ k % 2 = y / 2 ^ k % 2 := fun k hk => by
    have h1 := Nat.testBit_mod_two_pow y 128 k
    rw [Nat.testBit_eq_decide_div_mod_eq, Nat.testBit_eq_decide_div_mod_eq, decide_eq_true hk, Bool.true_and] at h1
    have h2 : y % 2 ^ 128 / 2 ^ k % 2 < 2 := Nat.mod_lt _ (by decide)
    have h3 : y / 2 ^ k % 2 < 2 := Nat.mod_lt _ (by decide)
    have h4 : (y % 2 ^ 128 / 2 ^ k % 2 = 1) = (y / 2 ^ k % 2 = 1) := by simpa using h1
    generalize y % 2 ^ 128 / 2 ^ k % 2 = u at *
    generalize y / 2 ^ k % 2 = v at *
    by_cases e : v = 1
    · rw [e] at h4; simp at h4; omega
    · have : ¬ u = 1 := fun hu => e (h4 ▸ hu)
      omega
  refine ext16 (of16_len _) (of16_len _) fun j hj => ?_
  unfold blkP
  rw [of16_el _ hj, of16_el _ hj]
  show 0 + y % 2 ^ 128 / 2 ^ (8 * j + 0) % 2 * 2 ^ (7 - 0) + y % 2 ^ 128 / 2 ^ (8 * j + 1) % 2 * 2 ^ (7 - 1) + y % 2 ^ 128 / 2 ^ (8 * j + 2) % 2 * 2 ^ (7 - 2) + y % 2 ^ 128 / 2 ^ (8 * j + 3) % 2 * 2 ^ (7 - 3) + y % 2 ^ 128 / 2 ^ (8 * j + 4) % 2 * 2 ^ (7 - 4) + y % 2 ^ 128 / 2 ^ (8 * j + 5) % 2 * 2 ^ (7 - 5) + y % 2 ^ 128 / 2 ^ (8 * j + 6) % 2 * 2 ^ (7 - 6) + y % 2 ^ 128 / 2 ^ (8 * j + 7) % 2 * 2 ^ (7 - 7) = _
  rw [key _ (by omega), key _ (by omega), key _ (by omega), key _ (by omega), key _ (by omega), key _ (by omega), key _ (by omega), key _ (by omega)]
  rfl
end Go.Proofs.Ytjeofkemfpdieaa

/- Contract of bits.Le. -/
namespace Go.Proofs.Ytjeofkemfpdieaa
open Go.RowKit
set_option linter.unusedVariables false

/-- the bytes of a number, the lowest first -/
def leL (n size : Nat) : List Nat := (List.range size).map (fun i => n / 256 ^ i % 256)
def leTo (n size k : Nat) : List Nat := (List.range size).map (fun i => if i < k then n / 256 ^ i % 256 else 0)

theorem leTo_zero (n size : Nat) : leTo n size 0 = List.replicate size 0 := by
  apply List.ext_getElem <;> simp [leTo]
theorem leTo_length (n size k : Nat) : (leTo n size k).length = size := by simp [leTo]
theorem leTo_set (n size k : Nat) : (leTo n size k).set k (n / 256 ^ k % 256) = leTo n size (k + 1) := by
  apply List.ext_getElem
  · simp [leTo]
  · intro i h1 h2
    simp only [leTo, List.getElem_set, List.getElem_map, List.getElem_range]
    by_cases h : k = i
    · subst h; simp
    · simp [h]; by_cases h3 : i < k
      · simp [h3, show i < k + 1 by omega]
      · simp [h3, show ¬ i < k + 1 by omega]
theorem leTo_full (n size k : Nat) (hn : n < 18446744073709551616) (h : k = size ∨ 8 ≤ k) : leTo n size k = leL n size := by
  unfold leTo leL
  apply List.map_congr_left
  intro i hi
  have hi' : i < size := List.mem_range.1 hi
  by_cases h1 : i < k
  · simp [h1]
  · have h8 : 8 ≤ i := by omega
    have h3 : 256 ^ 8 ≤ 256 ^ i := Nat.pow_le_pow_right (by decide) h8
    have h4 : (256 : Nat) ^ 8 = 18446744073709551616 := by decide
    rw [Nat.div_eq_of_lt (by omega)]
    simp
theorem leTo_under (n size k : Nat) : Under 256 (leTo n size k) := by
  intro x hx
  obtain ⟨i, _, rfl⟩ := List.mem_map.1 hx
  split <;> omega

theorem byte_shr (n k : Nat) : (n : Int) / 2 ^ (8 * k) % 256 = ((n / 256 ^ k % 256 : Nat) : Int) := by
  rw [show (256 : Nat) ^ k = 2 ^ (8 * k) from by rw [Nat.pow_mul]]
  simp

/-- what Le tells -/
def leS (n : Nat) (size : Int) : List Nat := if size ≤ 0 ∨ 65536 < size then [] else leL n size.toNat

set_option maxHeartbeats 400000 in
set_option maxRecDepth 100000 in
theorem le_any (n : Nat) (size : Int) (w : World) (hn : n < 18446744073709551616) (hs0 : -9223372036854775808 ≤ size) (hs1 : size ≤ 9223372036854775807) :
    Calls Try.prog 50 #[.int .u64 n, .int .i64 size] w fun e w' => ∃ v, e = .returned v ∧ Own 5 .u8 256 w' w.heap.size v (leS n size) ∧ Below w.heap.size w w' := by
  by_cases h0 : size ≤ 0
  · have hS : leS n size = [] := by unfold leS; rw [if_pos (by omega)]
    rw [hS]
    clear hS
    go_enter Try.func50, Try.ntmps50
    go_wp2
    go_ret
    exact ⟨_, rfl, ⟨World.ownsRow_nil _ _ _ _, fun x hx => by simp at hx⟩, Below.refl _ _⟩
  by_cases h1 : 65536 < size
  · have hS : leS n size = [] := by unfold leS; rw [if_pos (by omega)]
    rw [hS]
    clear hS
    go_enter Try.func50, Try.ntmps50
    go_wp2
    go_ret
    exact ⟨_, rfl, ⟨World.ownsRow_nil _ _ _ _, fun x hx => by simp at hx⟩, Below.refl _ _⟩
  have hS : leS n size = leL n size.toNat := by unfold leS; rw [if_neg (by omega)]
  rw [hS]
  clear hS
  obtain ⟨N, rfl⟩ := Int.eq_ofNat_of_zero_le (show 0 ≤ size by omega)
  rw [Int.toNat_natCast]
  obtain ⟨i0, hi, hz0, hz1, hz2⟩ := info_parts Try.info5
  have hNN : N ≤ 65536 := by omega
  by_cases h8 : (8 : Int) < (N : Int)
  all_goals
    go_enter Try.func50, Try.ntmps50
    go_wp2_with (first | (at_make; refine wpList_make_full _ rfl _ _ 22 rfl w.heap.size 5 i0 (.int .u8 0) 1 Try.underlying22 hi hz0 hz1 _ _ _ _ N rfl rfl rfl rfl (by rw [hz2]; omega) (by unfold maxLen; omega) (Nat.le_refl _) ?_; intro w1 hown hgrow) | go_in)
    rw [made_u8] at hown
    have hb := (Below.refl w.heap.size w).grown hgrow (Nat.le_refl _) (fun k h => by cases h)
    clear hgrow
    go_loopw [17] (fun i wr => ∃ k : Nat, k ≤ N ∧ k ≤ 8 ∧ i = .int .i64 k ∧ wr.ownsRow w.heap.size 5 1 (.slice (some ⟨w.heap.size, 0, none⟩) N N) N (vals .u8 (leTo n N k)) ∧ Below w.heap.size w wr) (fun i _ => 8 - (intOf i).toNat)
    case atStart => exact ⟨0, Nat.zero_le _, by omega, rfl, by rw [leTo_zero]; exact hown, hb⟩
    case round =>
      obtain ⟨k, hk, hk8, rfl, how, hbr⟩ := hrel
      clear hown hb
      by_cases hlt : k < N ∧ k < 8
      · obtain ⟨hlt, hlt8⟩ := hlt
        have c1 := how.cellAt k (by omega)
        rw [vals_get _ _ _ (by rw [leTo_length]; exact hlt)] at c1
        have f1 := how.frozenAt k
        have st := how.stored k (.int .u8 ((n / 256 ^ k % 256 : Nat) : Int))
        rw [vals_set, leTo_set] at st
        have HST := hide st
        clear st
        go_wp2
        rw [byte_shr]
        go_roundw
        case rel => exact ⟨k + 1, by omega, by omega, by go_num, HST.out.1, hbr.setCell (by simp) _⟩
        case measure => simp [intOf]; omega
      · go_wp2
        go_ret
        exact ⟨_, rfl, ⟨by rw [← leTo_full n N k hn (by omega), leTo_length]; exact how, by rw [← leTo_full n N k hn (by omega)]; exact leTo_under _ _ _⟩, hbr⟩
end Go.Proofs.Ytjeofkemfpdieaa

/- Contract of slices.Reverse. -/
namespace Go.Proofs.Ytjeofkemfpdieaa
open Go.RowKit
set_option linter.unusedVariables false

/-- a list, its first and last k elements exchanged -/
def revTo (l : List Nat) (k : Nat) : List Nat := (List.range l.length).map (fun t => if t < k ∨ l.length - k ≤ t then el l (l.length - 1 - t) else el l t)

theorem revTo_length (l : List Nat) (k : Nat) : (revTo l k).length = l.length := by simp [revTo]
theorem revTo_zero (l : List Nat) : revTo l 0 = l := by
  apply List.ext_getElem
  · simp [revTo]
  · intro i h1 h2
    simp only [revTo, List.getElem_map, List.getElem_range]
    rw [if_neg (by omega), el_at h2]
theorem revTo_full (l : List Nat) (k : Nat) (h : l.length ≤ 2 * k + 1) : revTo l k = l.reverse := by
  apply List.ext_getElem
  · simp [revTo]
  · intro i h1 h2
    have h3 : i < l.length := by simpa using h2
    simp only [revTo, List.getElem_map, List.getElem_range, List.getElem_reverse]
    by_cases hc : i < k ∨ l.length - k ≤ i
    · rw [if_pos hc, el_at]
    · rw [if_neg hc, el_at h3]
      have e : i = l.length - 1 - i := by omega
      congr 1
theorem revTo_el (l : List Nat) (k t : Nat) (ht : t < l.length) (h : k ≤ t ∧ t < l.length - k) : el (revTo l k) t = el l t := by
  rw [el_at (by rw [revTo_length]; exact ht)]
  simp only [revTo, List.getElem_map, List.getElem_range]
  rw [if_neg (by omega)]
theorem revTo_set (l : List Nat) (k j : Nat) (hj : j = l.length - 1 - k) (h : k < j) :
    ((revTo l k).set k (el l j)).set j (el l k) = revTo l (k + 1) := by
  apply List.ext_getElem
  · simp [revTo]
  · intro i h1 h2
    have h3 : i < l.length := by simpa [revTo] using h2
    simp only [revTo, List.getElem_set, List.getElem_map, List.getElem_range]
    by_cases e1 : j = i
    · subst e1; rw [if_pos rfl, if_pos (by omega)]; congr 1; omega
    · rw [if_neg e1]
      by_cases e2 : k = i
      · subst e2; rw [if_pos rfl, if_pos (by omega)]; congr 1
      · rw [if_neg e2]
        by_cases e3 : i < k ∨ l.length - k ≤ i
        · rw [if_pos e3, if_pos (by omega)]
        · rw [if_neg e3, if_neg (by omega)]
theorem revTo_under (l : List Nat) (k : Nat) (m : Nat) (hm : 0 < m) (h : Under m l) : Under m (revTo l k) := by
  intro x hx
  obtain ⟨i, _, rfl⟩ := List.mem_map.1 hx
  split <;> exact el_lt h hm _
theorem set_comm' (l : List Nat) (i j x y : Nat) (h : i ≠ j) : (l.set i x).set j y = (l.set j y).set i x := List.set_comm x y h

set_option maxHeartbeats 400000 in
theorem rev_any (v : Value) (l : List Nat) (B : Nat) (w : World) (h : Own 5 .u8 256 w B v l) :
    Calls Try.prog 51 #[v] w fun e w' => e = .returned (.tuple #[]) ∧ Own 5 .u8 256 w' B v l.reverse ∧ Below B w w' := by
  obtain ⟨ho, hu⟩ := h
  have ho' := ho
  obtain ⟨h1, ⟨rfl, h2⟩ | ⟨g, cap, cur, rfl, h3, h4, h5, h6, h7, h8⟩⟩ := ho
  · have : l = [] := List.eq_nil_of_length_eq_zero h2
    subst this
    go_enter Try.func51, Try.ntmps51
    go_wp2
    refine wp_loop_rounds 1 ?_; rw [rounds_succ]
    go_wp2
    go_end0
    exact ⟨rfl, ⟨ho', hu⟩, Below.refl _ _⟩
  · clear h4 h7 h8 h1
    unfold maxLen at h6
    generalize hN : l.length = N at *
    have HN := hide hN
    clear hN
    go_enter Try.func51, Try.ntmps51
    go_wp2
    go_loopw [2, 3] (fun i j wr => ∃ k jn : Nat, i = .int .i64 k ∧ j = .int .i64 ((jn : Int) - 1) ∧ k + jn = N ∧ wr.ownsRow B 5 1 (.slice (some ⟨g, 0, none⟩) N cap) N (vals .u8 (revTo l k)) ∧ Below B w wr) (fun _ j _ => (intOf j).toNat)
    case atStart => exact ⟨0, N, rfl, rfl, by omega, by rw [revTo_zero]; exact ho', Below.refl _ _⟩
    case round =>
      obtain ⟨k, jn, rfl, rfl, hkj, how, hbr⟩ := hrel
      have hle1 : k ≤ N := by omega
      have hle2 : jn ≤ N := by omega
      have HKJ := hide hkj
      clear hkj
      by_cases hlt : k + 1 < jn
      · obtain ⟨j, rfl⟩ : ∃ j, jn = j + 1 := ⟨jn - 1, by omega⟩
        have hkj : k < j := by omega
        have hjN : j < N := by omega
        have c1 := how.cellAt k (by omega)
        rw [vals_get _ _ _ (by rw [revTo_length, HN.out]; omega)] at c1
        have c2 := how.cellAt j (by omega)
        rw [vals_get _ _ _ (by rw [revTo_length, HN.out]; omega)] at c2
        have f1 := how.frozenAt k
        have f2 := how.frozenAt j
        rw [show (((j + 1 : Nat) : Int) - 1) = (j : Int) from by omega]
        go_wp2
        go_region
        go_wp2
        go_roundw
        case rel =>
          have e1 : el (revTo l k) j = el l j := revTo_el l k j (by rw [HN.out]; omega) (by rw [HN.out]; have := HKJ.out; omega)
          have e2 : el (revTo l k) k = el l k := revTo_el l k k (by rw [HN.out]; omega) (by rw [HN.out]; have := HKJ.out; omega)
          have s1 := (how.stored k (.int .u8 (el (revTo l k) j : Int))).1
          have s2 := (s1.stored j (.int .u8 (el (revTo l k) k : Int))).1
          rw [vals_set, vals_set, e1, e2, revTo_set l k j (by rw [HN.out]; have := HKJ.out; omega) hkj] at s2
          rw [e1, e2]
          exact ⟨k + 1, j, by go_num, rfl, by have := HKJ.out; omega, s2, ((hbr.setCell (by simpa using h3) _).setCell (by simpa using h3) _).drew⟩
        case measure => simp [intOf]; omega
      · go_wp2
        go_end0
        have e : revTo l k = l.reverse := revTo_full l k (by rw [HN.out]; have := HKJ.out; omega)
        refine ⟨rfl, ⟨?_, ?_⟩, hbr⟩
        · rw [← e, revTo_length, HN.out]; exact how
        · rw [← e]; exact revTo_under _ _ _ (by decide) hu
end Go.Proofs.Ytjeofkemfpdieaa
