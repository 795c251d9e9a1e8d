/- Words of four bytes, and the cipher by words: plain. -/
import Derived.Test.YteiknfcegchbcaaAesS
namespace Go.Proofs.Yteiknfcegchbcaa
set_option linter.unusedVariables false
set_option linter.unusedSimpArgs false

/-- the word of four bytes, the first the highest -/
def wd (a b c d : Nat) : Nat := 256 * (256 * (256 * a + b) + c) + d
theorem wd_lt {a b c d : Nat} (ha : a < 256) (hb : b < 256) (hc : c < 256) (hd : d < 256) : wd a b c d < 4294967296 := by unfold wd; omega
theorem wd_0 {a b c d : Nat} (ha : a < 256) (hb : b < 256) (hc : c < 256) (hd : d < 256) : wd a b c d / 16777216 = a := by unfold wd; omega
theorem wd_1 {a b c d : Nat} (ha : a < 256) (hb : b < 256) (hc : c < 256) (hd : d < 256) : wd a b c d / 65536 % 256 = b := by unfold wd; omega
theorem wd_2 {a b c d : Nat} (ha : a < 256) (hb : b < 256) (hc : c < 256) (hd : d < 256) : wd a b c d / 256 % 256 = c := by unfold wd; omega
theorem wd_3 {a b c d : Nat} (ha : a < 256) (hb : b < 256) (hc : c < 256) (hd : d < 256) : wd a b c d % 256 = d := by unfold wd; omega
theorem cat_xor (a b x y : Nat) (hx : x < 256) (hy : y < 256) : (256 * a + x) ^^^ (256 * b + y) = 256 * (a ^^^ b) + (x ^^^ y) := by
  apply Nat.eq_of_testBit_eq
  intro i
  have h1 := Nat.testBit_two_pow_mul_add (i := 8) a (b := x) hx i
  have h2 := Nat.testBit_two_pow_mul_add (i := 8) b (b := y) hy i
  have h3 := Nat.testBit_two_pow_mul_add (i := 8) (a ^^^ b) (b := x ^^^ y) (xor_8 hx hy) i
  rw [Nat.testBit_xor]
  simp only [show (2 : Nat) ^ 8 = 256 from rfl] at h1 h2 h3
  rw [h1, h2, h3]
  split <;> simp [Nat.testBit_xor]
theorem and_8 {x y : Nat} (hx : x < 256) : x &&& y < 256 := Nat.lt_of_le_of_lt Nat.and_le_left hx
theorem or_8 {x y : Nat} (hx : x < 256) (hy : y < 256) : x ||| y < 256 := Nat.or_lt_two_pow (n := 8) hx hy
theorem cat_and (a b x y : Nat) (hx : x < 256) (hy : y < 256) : (256 * a + x) &&& (256 * b + y) = 256 * (a &&& b) + (x &&& y) := by
  apply Nat.eq_of_testBit_eq
  intro i
  have h1 := Nat.testBit_two_pow_mul_add (i := 8) a (b := x) hx i
  have h2 := Nat.testBit_two_pow_mul_add (i := 8) b (b := y) hy i
  have h3 := Nat.testBit_two_pow_mul_add (i := 8) (a &&& b) (b := x &&& y) (and_8 hx) i
  rw [Nat.testBit_and]
  simp only [show (2 : Nat) ^ 8 = 256 from rfl] at h1 h2 h3
  rw [h1, h2, h3]
  split <;> simp [Nat.testBit_and]
theorem cat_or (a b x y : Nat) (hx : x < 256) (hy : y < 256) : (256 * a + x) ||| (256 * b + y) = 256 * (a ||| b) + (x ||| y) := by
  apply Nat.eq_of_testBit_eq
  intro i
  have h1 := Nat.testBit_two_pow_mul_add (i := 8) a (b := x) hx i
  have h2 := Nat.testBit_two_pow_mul_add (i := 8) b (b := y) hy i
  have h3 := Nat.testBit_two_pow_mul_add (i := 8) (a ||| b) (b := x ||| y) (or_8 hx hy) i
  rw [Nat.testBit_or]
  simp only [show (2 : Nat) ^ 8 = 256 from rfl] at h1 h2 h3
  rw [h1, h2, h3]
  split <;> simp [Nat.testBit_or]
theorem wd_xor {a b c d a' b' c' d' : Nat} (hb : b < 256) (hc : c < 256) (hd : d < 256) (hb' : b' < 256) (hc' : c' < 256) (hd' : d' < 256) :
    wd a b c d ^^^ wd a' b' c' d' = wd (a ^^^ a') (b ^^^ b') (c ^^^ c') (d ^^^ d') := by
  unfold wd
  rw [cat_xor _ _ _ _ hd hd', cat_xor _ _ _ _ hc hc', cat_xor _ _ _ _ hb hb']
theorem wd_and {a b c d a' b' c' d' : Nat} (hb : b < 256) (hc : c < 256) (hd : d < 256) (hb' : b' < 256) (hc' : c' < 256) (hd' : d' < 256) :
    wd a b c d &&& wd a' b' c' d' = wd (a &&& a') (b &&& b') (c &&& c') (d &&& d') := by
  unfold wd
  rw [cat_and _ _ _ _ hd hd', cat_and _ _ _ _ hc hc', cat_and _ _ _ _ hb hb']
theorem wd_or {a b c d a' b' c' d' : Nat} (hb : b < 256) (hc : c < 256) (hd : d < 256) (hb' : b' < 256) (hc' : c' < 256) (hd' : d' < 256) :
    wd a b c d ||| wd a' b' c' d' = wd (a ||| a') (b ||| b') (c ||| c') (d ||| d') := by
  unfold wd
  rw [cat_or _ _ _ _ hd hd', cat_or _ _ _ _ hc hc', cat_or _ _ _ _ hb hb']
theorem wd_all (w : Nat) (h : w < 4294967296) : w = wd (w / 16777216) (w / 65536 % 256) (w / 256 % 256) (w % 256) := by unfold wd; omega
/-- four bytes brought together by 'or' -/
theorem wd_gather {a b c d : Nat} (ha : a < 256) (hb : b < 256) (hc : c < 256) (hd : d < 256) : (((a * 16777216) ||| (b * 65536)) ||| (c * 256)) ||| d = wd a b c d := by
  have e1 : a * 16777216 = wd a 0 0 0 := by simp only [wd, Nat.add_zero]; omega
  have e2 : b * 65536 = wd 0 b 0 0 := by simp only [wd, Nat.add_zero, Nat.mul_zero, Nat.zero_add]; rw [← Nat.mul_assoc]; exact Nat.mul_comm _ _
  have e3 : c * 256 = wd 0 0 c 0 := by simp only [wd, Nat.add_zero, Nat.mul_zero, Nat.zero_add]; exact Nat.mul_comm _ _
  have e4 : d = wd 0 0 0 d := by unfold wd; omega
  rw [e1, e2, e3]
  rw [wd_or (by decide) (by decide) (by decide) hb (by decide) (by decide)]
  rw [wd_or (by simpa using hb) (by decide) (by decide) (by decide) hc (by decide)]
  conv => lhs; rhs; rw [e4]
  rw [wd_or (by simpa using hb) (by simpa using hc) (by decide) (by decide) (by decide) hd]
  simp
/-- a word's bytes turned -/
def trn : Nat → Nat → Nat → Nat → Nat → Nat
  | 0, a, b, c, d => wd a b c d
  | 1, a, b, c, d => wd b c d a
  | 2, a, b, c, d => wd c d a b
  | _, a, b, c, d => wd d a b c
theorem trn_1 {a b c d : Nat} (ha : a < 256) (hb : b < 256) (hc : c < 256) (hd : d < 256) : (wd a b c d * 256 % 4294967296) ||| (wd a b c d / 16777216) = wd b c d a := by
  have e1 : wd a b c d * 256 % 4294967296 = wd b c d 0 := by unfold wd; omega
  have e2 : wd a b c d / 16777216 = wd 0 0 0 a := by unfold wd; omega
  rw [e1, e2, wd_or hc hd (by decide) (by decide) (by decide) ha]
  simp
theorem trn_2 {a b c d : Nat} (ha : a < 256) (hb : b < 256) (hc : c < 256) (hd : d < 256) : (wd a b c d * 65536 % 4294967296) ||| (wd a b c d / 65536) = wd c d a b := by
  have e1 : wd a b c d * 65536 % 4294967296 = wd c d 0 0 := by unfold wd; omega
  have e2 : wd a b c d / 65536 = wd 0 0 a b := by unfold wd; omega
  rw [e1, e2, wd_or hd (by decide) (by decide) (by decide) ha hb]
  simp
theorem trn_3 {a b c d : Nat} (ha : a < 256) (hb : b < 256) (hc : c < 256) (hd : d < 256) : (wd a b c d * 16777216 % 4294967296) ||| (wd a b c d / 256) = wd d a b c := by
  have e1 : wd a b c d * 16777216 % 4294967296 = wd d 0 0 0 := by unfold wd; omega
  have e2 : wd a b c d / 256 = wd 0 a b c := by unfold wd; omega
  rw [e1, e2, wd_or (by decide) (by decide) (by decide) ha hb hc]
  simp
/-- each of a word's bytes times x -/
def dblW (w : Nat) : Nat := ((w &&& 2139062143) * 2 % 4294967296) ^^^ ((w / 128 &&& 16843009) * 27 % 4294967296)
theorem xt_is {x : Nat} (h : x < 256) : ((x &&& 127) * 2) ^^^ (x / 128 * 27) = xt x := by
  have : ((List.range 256).all fun x => ((x &&& 127) * 2) ^^^ (x / 128 * 27) == xt x) = true := by kernel_rfl
  exact eq_of_beq (all256 this x h)
theorem and_127 {x : Nat} (h : x < 256) : (x &&& 127) < 128 := Nat.lt_of_le_of_lt Nat.and_le_right (by decide)
theorem dbl_wd {a b c d : Nat} (ha : a < 256) (hb : b < 256) (hc : c < 256) (hd : d < 256) : dblW (wd a b c d) = wd (xt a) (xt b) (xt c) (xt d) := by
  unfold dblW
  have k1 : (2139062143 : Nat) = wd 127 127 127 127 := rfl
  have k2 : (16843009 : Nat) = wd 1 1 1 1 := rfl
  have e1 : wd a b c d / 128 = wd (a / 128) (b / 128 + 2 * (a % 128)) (c / 128 + 2 * (b % 128)) (d / 128 + 2 * (c % 128)) := by unfold wd; omega
  rw [k1, k2, wd_and hb hc hd (by decide) (by decide) (by decide), e1, wd_and (by omega) (by omega) (by omega) (by decide) (by decide) (by decide)]
  have q : ∀ x y : Nat, x < 256 → (x / 128 + 2 * (y % 128)) &&& 1 = x / 128 := fun x y hx => by rw [Nat.and_one_is_mod]; omega
  have q0 : a / 128 &&& 1 = a / 128 := by rw [Nat.and_one_is_mod]; omega
  rw [q0, q b a hb, q c b hc, q d c hd]
  have a1 := and_127 ha
  have b1 := and_127 hb
  have c1 := and_127 hc
  have d1 := and_127 hd
  rw [← xt_is ha, ← xt_is hb, ← xt_is hc, ← xt_is hd]
  generalize a &&& 127 = A at *
  generalize b &&& 127 = B at *
  generalize c &&& 127 = C at *
  generalize d &&& 127 = D at *
  have f1 : wd A B C D * 2 % 4294967296 = wd (A * 2) (B * 2) (C * 2) (D * 2) := by unfold wd; omega
  have f2 : wd (a / 128) (b / 128) (c / 128) (d / 128) * 27 % 4294967296 = wd (a / 128 * 27) (b / 128 * 27) (c / 128 * 27) (d / 128 * 27) := by unfold wd; omega
  rw [f1, f2, wd_xor (by omega) (by omega) (by omega) (by omega) (by omega) (by omega)]
theorem dbl_byte {x : Nat} (h : x < 256) : dblW x = xt x := by
  have := dbl_wd (a := 0) (b := 0) (c := 0) (by decide) (by decide) (by decide) h
  have e : wd 0 0 0 x = x := by unfold wd; omega
  rw [e] at this
  rw [this]
  have : xt 0 = 0 := by decide
  rw [this]
  unfold wd; omega
/-- the columns of a block, as words -/
def col (s : List Nat) (c : Nat) : Nat := wd (el s (4 * c)) (el s (4 * c + 1)) (el s (4 * c + 2)) (el s (4 * c + 3))
def sw (s : List Nat) : List Nat := [col s 0, col s 1, col s 2, col s 3]
theorem sw_len (s : List Nat) : (sw s).length = 4 := rfl
theorem col_lt {s : List Nat} (h : Under 256 s) (c : Nat) : col s c < 4294967296 := wd_lt (el_lt h (by decide) _) (el_lt h (by decide) _) (el_lt h (by decide) _) (el_lt h (by decide) _)
theorem sw_el (s : List Nat) {c : Nat} (h : c < 4) : el (sw s) c = col s c := by
  match c, h with
  | 0, _ => rfl
  | 1, _ => rfl
  | 2, _ => rfl
  | 3, _ => rfl
theorem sw_under {s : List Nat} (h : Under 256 s) : Under 4294967296 (sw s) := by
  intro x hx
  simp only [sw, List.mem_cons, List.not_mem_nil, or_false] at hx
  rcases hx with rfl | rfl | rfl | rfl <;> exact col_lt h _
/-- a list with its first k places new -/
def upd (f : Nat → Nat) (l : List Nat) : Nat → List Nat
  | 0 => l
  | k + 1 => (upd f l k).set k (f k)
theorem upd_len (f : Nat → Nat) (l : List Nat) : ∀ k, (upd f l k).length = l.length
  | 0 => rfl
  | k + 1 => by show ((upd f l k).set k (f k)).length = _; rw [List.length_set, upd_len f l k]
theorem el_set {l : List Nat} {i j x : Nat} (hi : i < l.length) : el (l.set i x) j = if j = i then x else el l j := by
  unfold el
  rw [List.getElem?_set]
  by_cases h : j = i
  · subst h
    rw [if_pos rfl, if_pos rfl, if_pos hi]
    rfl
  · rw [if_neg (fun e => h e.symm), if_neg h]
theorem upd_el (f : Nat → Nat) (l : List Nat) : ∀ (k : Nat) {i : Nat}, k ≤ l.length → el (upd f l k) i = if i < k then f i else el l i
  | 0, i, _ => by rw [if_neg (by omega)]; rfl
  | k + 1, i, hk => by
    show el ((upd f l k).set k (f k)) i = _
    rw [el_set (by rw [upd_len]; omega), upd_el f l k (by omega)]
    by_cases h : i = k
    · subst h
      rw [if_pos rfl, if_pos (by omega)]
    · rw [if_neg h]
      by_cases h2 : i < k
      · rw [if_pos h2, if_pos (by omega)]
      · rw [if_neg h2, if_neg (by omega)]
theorem upd_same (f : Nat → Nat) (l : List Nat) {k i : Nat} (hk : k ≤ l.length) (hi : k ≤ i) : el (upd f l k) i = el l i := by rw [upd_el f l k hk, if_neg (by omega)]
theorem ext_el {a b : List Nat} (h : a.length = b.length) (he : ∀ i, i < a.length → el a i = el b i) : a = b := by
  apply List.ext_getElem h
  intro i h1 h2
  rw [← el_at h1, ← el_at h2]
  exact he i h1
theorem upd_sw {f : Nat → Nat} {l s : List Nat} (hl : l.length = 4) (h : ∀ i, i < 4 → f i = col s i) : upd f l 4 = sw s := by
  refine ext_el (by rw [upd_len, hl]; rfl) fun i hi => ?_
  rw [upd_len, hl] at hi
  rw [upd_el f l 4 (by omega), if_pos hi, sw_el s hi, h i hi]
/-- the steps by words -/
theorem col_of16 (f : Nat → Nat) {c : Nat} (h : c < 4) : col (of16 f) c = wd (f (4 * c)) (f (4 * c + 1)) (f (4 * c + 2)) (f (4 * c + 3)) := by
  unfold col
  rw [of16_el _ (by omega), of16_el _ (by omega), of16_el _ (by omega), of16_el _ (by omega)]
theorem col_key {w s : List Nat} {r c : Nat} (hw : Under 256 w) (hs : Under 256 s) (h : c < 4) : col s c ^^^ wd (el w (16 * r + 4 * c)) (el w (16 * r + 4 * c + 1)) (el w (16 * r + 4 * c + 2)) (el w (16 * r + 4 * c + 3)) = col (keyAt w r s) c := by
  unfold keyAt
  rw [col_of16 _ h]
  unfold col
  rw [wd_xor (el_lt hs (by decide) _) (el_lt hs (by decide) _) (el_lt hs (by decide) _) (el_lt hw (by decide) _) (el_lt hw (by decide) _) (el_lt hw (by decide) _)]
  rfl
theorem col_xr {a b : List Nat} {c : Nat} (ha : Under 256 a) (hb : Under 256 b) (h : c < 4) : col a c ^^^ col b c = col (of16 fun i => el a i ^^^ el b i) c := by
  rw [col_of16 _ h]
  unfold col
  rw [wd_xor (el_lt ha (by decide) _) (el_lt ha (by decide) _) (el_lt ha (by decide) _) (el_lt hb (by decide) _) (el_lt hb (by decide) _) (el_lt hb (by decide) _)]
theorem col_left {T s : List Nat} {c : Nat} (h : c < 4) : col (rowsL (eachL T s)) c = wd (el T (el s (4 * c))) (el T (el s (4 * ((c + 1) % 4) + 1))) (el T (el s (4 * ((c + 2) % 4) + 2))) (el T (el s (4 * ((c + 3) % 4) + 3))) := by
  unfold rowsL
  rw [col_of16 _ h]
  unfold eachL
  have hm : ∀ k, k < 4 → (4 * c + k) % 4 = k ∧ (4 * c + k) / 4 = c := fun k hk => by omega
  have h0 : (4 * c) % 4 = 0 ∧ (4 * c) / 4 = c := by omega
  rw [(hm 1 (by decide)).1, (hm 2 (by decide)).1, (hm 3 (by decide)).1, (hm 1 (by decide)).2, (hm 2 (by decide)).2, (hm 3 (by decide)).2, h0.1, h0.2]
  rw [of16_el _ (by omega), of16_el _ (by omega), of16_el _ (by omega), of16_el _ (by omega)]
  congr 3
  · omega
theorem col_right {T s : List Nat} {c : Nat} (h : c < 4) : col (eachL T (rowsR s)) c = wd (el T (el s (4 * c))) (el T (el s (4 * ((c + 3) % 4) + 1))) (el T (el s (4 * ((c + 6) % 4) + 2))) (el T (el s (4 * ((c + 9) % 4) + 3))) := by
  unfold eachL
  rw [col_of16 _ h]
  unfold rowsR
  have hm : ∀ k, k < 4 → (4 * c + k) % 4 = k ∧ (4 * c + k) / 4 = c := fun k hk => by omega
  have h0 : (4 * c) % 4 = 0 ∧ (4 * c) / 4 = c := by omega
  rw [of16_el _ (by omega), of16_el _ (by omega), of16_el _ (by omega), of16_el _ (by omega)]
  rw [(hm 1 (by decide)).1, (hm 2 (by decide)).1, (hm 3 (by decide)).1, (hm 1 (by decide)).2, (hm 2 (by decide)).2, (hm 3 (by decide)).2, h0.1, h0.2]
  rw [show (c + 4 - 0) % 4 = c by omega, show (c + 4 - 1) % 4 = (c + 3) % 4 by omega, show (c + 4 - 2) % 4 = (c + 6) % 4 by omega, show (c + 4 - 3) % 4 = (c + 9) % 4 by omega]
  rfl
theorem mul_2 {x : Nat} (h : x < 256) : mulB 2 x = xt x := by
  have : ((List.range 256).all fun x => mulB 2 x == xt x) = true := by kernel_rfl
  exact eq_of_beq (all256 this x h)
theorem mul_3 {x : Nat} (h : x < 256) : mulB 3 x = xt x ^^^ x := by
  have : ((List.range 256).all fun x => mulB 3 x == xt x ^^^ x) = true := by kernel_rfl
  exact eq_of_beq (all256 this x h)
/-- a column multiplied -/
def mixW (a b c d : Nat) : Nat := wd (mulB 2 a ^^^ mulB 3 b ^^^ mulB 1 c ^^^ mulB 1 d) (mulB 2 b ^^^ mulB 3 c ^^^ mulB 1 d ^^^ mulB 1 a) (mulB 2 c ^^^ mulB 3 d ^^^ mulB 1 a ^^^ mulB 1 b) (mulB 2 d ^^^ mulB 3 a ^^^ mulB 1 b ^^^ mulB 1 c)
theorem mix_is {a b c d : Nat} (ha : a < 256) (hb : b < 256) (hc : c < 256) (hd : d < 256) :
    dblW (wd a b c d ^^^ wd b c d a) ^^^ wd b c d a ^^^ wd c d a b ^^^ wd d a b c = mixW a b c d := by
  rw [wd_xor hb hc hd hc hd ha, dbl_wd (xor_8 ha hb) (xor_8 hb hc) (xor_8 hc hd) (xor_8 hd ha)]
  rw [xt_xor ha hb, xt_xor hb hc, xt_xor hc hd, xt_xor hd ha]
  have x1 := xt_lt ha
  have x2 := xt_lt hb
  have x3 := xt_lt hc
  have x4 := xt_lt hd
  unfold mixW
  rw [mul_2 ha, mul_2 hb, mul_2 hc, mul_2 hd, mul_3 ha, mul_3 hb, mul_3 hc, mul_3 hd, one_mul8 ha, one_mul8 hb, one_mul8 hc, one_mul8 hd]
  rw [wd_xor (xor_8 x2 x3) (xor_8 x3 x4) (xor_8 x4 x1) hc hd ha]
  rw [wd_xor (xor_8 (xor_8 x2 x3) hc) (xor_8 (xor_8 x3 x4) hd) (xor_8 (xor_8 x4 x1) ha) hd ha hb]
  rw [wd_xor (xor_8 (xor_8 (xor_8 x2 x3) hc) hd) (xor_8 (xor_8 (xor_8 x3 x4) hd) ha) (xor_8 (xor_8 (xor_8 x4 x1) ha) hb) ha hb hc]
  congr 1 <;> ac_rfl
theorem col_mix {s : List Nat} {c : Nat} (h : c < 4) : col (colsL 2 3 1 1 s) c = mixW (el s (4 * c)) (el s (4 * c + 1)) (el s (4 * c + 2)) (el s (4 * c + 3)) := by
  unfold colsL
  rw [col_of16 _ h]
  have hm : ∀ k, k < 4 → (4 * c + k) % 4 = k ∧ (4 * c + k) / 4 = c := fun k hk => by omega
  have h0 : (4 * c) % 4 = 0 ∧ (4 * c) / 4 = c := by omega
  rw [(hm 1 (by decide)).1, (hm 2 (by decide)).1, (hm 3 (by decide)).1, (hm 1 (by decide)).2, (hm 2 (by decide)).2, (hm 3 (by decide)).2, h0.1, h0.2]
  rfl
/-- what goes ahead of multiplying, to undo it -/
def preB (a c : Nat) : Nat := a ^^^ xt (xt (a ^^^ c))
theorem preB_lt {a c : Nat} (ha : a < 256) (hc : c < 256) : preB a c < 256 := xor_8 ha (xt_lt (xt_lt (xor_8 ha hc)))
theorem pre_is {a b c d : Nat} (ha : a < 256) (hb : b < 256) (hc : c < 256) (hd : d < 256) :
    wd a b c d ^^^ dblW (dblW (wd a b c d ^^^ wd c d a b)) = wd (preB a c) (preB b d) (preB c a) (preB d b) := by
  rw [wd_xor hb hc hd hd ha hb, dbl_wd (xor_8 ha hc) (xor_8 hb hd) (xor_8 hc ha) (xor_8 hd hb), dbl_wd (xt_lt (xor_8 ha hc)) (xt_lt (xor_8 hb hd)) (xt_lt (xor_8 hc ha)) (xt_lt (xor_8 hd hb))]
  rw [wd_xor hb hc hd (xt_lt (xt_lt (xor_8 hb hd))) (xt_lt (xt_lt (xor_8 hc ha))) (xt_lt (xt_lt (xor_8 hd hb)))]
  rfl
theorem mul_4 {x : Nat} (h : x < 256) : xt (xt x) = mulB 4 x := by
  have : ((List.range 256).all fun x => xt (xt x) == mulB 4 x) = true := by kernel_rfl
  exact eq_of_beq (all256 this x h)
theorem pre_mul {a c : Nat} (ha : a < 256) (hc : c < 256) : preB a c = mulB 5 a ^^^ mulB 4 c := by
  unfold preB
  rw [mul_4 (xor_8 ha hc), mul_r]
  have e : mulB 5 a = a ^^^ mulB 4 a := by
    have := mul_l 1 4 a (by decide) (by decide)
    rw [one_mul8 ha] at this
    exact this
  rw [e, Nat.xor_assoc]
theorem unmix_b {a b c d : Nat} (ha : a < 256) (hb : b < 256) (hc : c < 256) (hd : d < 256) :
    mulB 2 (preB a c) ^^^ mulB 3 (preB b d) ^^^ mulB 1 (preB c a) ^^^ mulB 1 (preB d b) = mulB 14 a ^^^ mulB 11 b ^^^ mulB 13 c ^^^ mulB 9 d := by
  rw [pre_mul ha hc, pre_mul hb hd, pre_mul hc ha, pre_mul hd hb]
  simp only [mul_r]
  rw [mul2 (by decide) (by decide) ha, mul2 (by decide) (by decide) hc, mul2 (by decide) (by decide) hb, mul2 (by decide) (by decide) hd, mul2 (by decide) (by decide) hc, mul2 (by decide) (by decide) ha, mul2 (by decide) (by decide) hd, mul2 (by decide) (by decide) hb]
  rw [show mulB 2 5 = 10 by decide, show mulB 2 4 = 8 by decide, show mulB 3 5 = 15 by decide, show mulB 3 4 = 12 by decide, show mulB 1 5 = 5 by decide, show mulB 1 4 = 4 by decide]
  have q : ∀ p r x : Nat, p < 256 → r < 256 → mulB p x ^^^ mulB r x = mulB (p ^^^ r) x := fun p r x hp hr => (mul_l p r x hp hr).symm
  rw [show mulB 10 a ^^^ mulB 8 c ^^^ (mulB 15 b ^^^ mulB 12 d) ^^^ (mulB 5 c ^^^ mulB 4 a) ^^^ (mulB 5 d ^^^ mulB 4 b) = (mulB 10 a ^^^ mulB 4 a) ^^^ (mulB 15 b ^^^ mulB 4 b) ^^^ (mulB 8 c ^^^ mulB 5 c) ^^^ (mulB 12 d ^^^ mulB 5 d) by ac_rfl]
  rw [q _ _ a (by decide) (by decide), q _ _ b (by decide) (by decide), q _ _ c (by decide) (by decide), q _ _ d (by decide) (by decide)]
  rfl
theorem col_unmix {s : List Nat} {c : Nat} (hs : Under 256 s) (h : c < 4) : mixW (preB (el s (4 * c)) (el s (4 * c + 2))) (preB (el s (4 * c + 1)) (el s (4 * c + 3))) (preB (el s (4 * c + 2)) (el s (4 * c))) (preB (el s (4 * c + 3)) (el s (4 * c + 1))) = col (colsL 14 11 13 9 s) c := by
  have e := fun i => el_lt hs (m := 256) (by decide) i
  unfold mixW
  rw [unmix_b (e _) (e _) (e _) (e _), unmix_b (e _) (e _) (e _) (e _), unmix_b (e _) (e _) (e _) (e _), unmix_b (e _) (e _) (e _) (e _)]
  unfold colsL
  rw [col_of16 _ h]
  have hm : ∀ k, k < 4 → (4 * c + k) % 4 = k ∧ (4 * c + k) / 4 = c := fun k hk => by omega
  have h0 : (4 * c) % 4 = 0 ∧ (4 * c) / 4 = c := by omega
  rw [(hm 1 (by decide)).1, (hm 2 (by decide)).1, (hm 3 (by decide)).1, (hm 1 (by decide)).2, (hm 2 (by decide)).2, (hm 3 (by decide)).2, h0.1, h0.2]
  rfl
end Go.Proofs.Yteiknfcegchbcaa

/- The document's Mul, inverse, Box. -/
namespace Go.Proofs.Yteiknfcegchbcaa
open Go.RowKit
set_option linter.unusedVariables false
set_option linter.unusedSimpArgs false

theorem mulS_next {k a b p : Nat} : mulS (k + 1) a b p = mulS k (xt a) (b / 2) (if b % 2 = 1 then p ^^^ a else p) := rfl
theorem and_1 (b : Nat) (h : b < 256) : bits .and .u8 (b : Int) 1 = ((b % 2 : Nat) : Int) := by
  have : ((List.range 256).all fun b => bits .and .u8 (b : Int) 1 == ((b % 2 : Nat) : Int)) = true := by kernel_rfl
  exact eq_of_beq (all256 this b h)
theorem xor_27 (b : Nat) (h : b < 256) : bits .xor .u8 (b : Int) 27 = ((b ^^^ 27 : Nat) : Int) := by
  have : ((List.range 256).all fun b => bits .xor .u8 (b : Int) 27 == ((b ^^^ 27 : Nat) : Int)) = true := by kernel_rfl
  exact eq_of_beq (all256 this b h)
theorem xt_hi (A : Nat) (h : A < 256) : 128 ≤ A → bits .xor .u8 ((A : Int) * 2 % 256) 27 = ((xt A : Nat) : Int) := fun h1 => by
  have e : ((A : Int) * 2 % 256) = ((2 * A % 256 : Nat) : Int) := by omega
  rw [e, xor_27 _ (by omega)]
  unfold xt
  rw [if_pos h1]
theorem xt_lo (A : Nat) : ¬ 128 ≤ A → (A : Int) * 2 = ((xt A : Nat) : Int) := fun h1 => by
  unfold xt
  rw [if_neg h1]
  omega
/-- where the loop stands -/
def MuL (M : Nat) (va vb vp vi : Value) : Prop := ∃ i A B p : Nat, i ≤ 8 ∧ A < 256 ∧ B < 256 ∧ p < 256 ∧ va = .int .u8 (A : Int) ∧ vb = .int .u8 (B : Int) ∧ vp = .int .u8 (p : Int) ∧ vi = .int .i64 (i : Int) ∧ mulS (8 - i) A B p = M

set_option maxHeartbeats 2000000 in
set_option maxRecDepth 100000 in
theorem rmul_any (a b : Nat) (ha : a < 256) (hb : b < 256) (w : World) : Calls Try.prog 20 #[.int .u8 (a : Int), .int .u8 (b : Int)] w fun e w' => e = .returned (.int .u8 (mulB a b : Nat)) ∧ w' = w := by
  have H0 : Hid (MuL (mulB a b) (.int .u8 (a : Int)) (.int .u8 (b : Int)) (.int .u8 0) (.int .i64 0)) := hide ⟨0, a, b, 0, by decide, ha, hb, by decide, rfl, rfl, rfl, rfl, rfl⟩
  generalize mulB a b = M at *
  go_enter Try.func20, Try.ntmps20
  go_wp2
  go_loop [0, 1, 5, 6] (fun va vb vp vi => MuL M va vb vp vi) (fun _ _ _ vi => 8 - (intOf vi).toNat)
  case atStart => exact H0.out
  case round =>
    obtain ⟨i, A, B, p, hi, hA, hB, hp, rfl, rfl, rfl, rfl, hM⟩ := hrel
    clear H0
    by_cases hlt : i < 8
    · have hli : (i : Int) < 8 := by omega
      have fa := and_1 B hB
      obtain ⟨k, hk⟩ : ∃ k : Nat, 8 - i = k + 1 := ⟨7 - i, by omega⟩
      have hk2 : 8 - (i + 1) = k := by omega
      rw [hk, mulS_next] at hM
      have xA := xt_lt hA
      have fx := u8_xor_nat p A hp hA
      have px := xor_8 hp hA
      have x1 := xt_hi A hA
      have x2 := xt_lo A
      have HH := hide (And.intro hk2 (And.intro xA (And.intro px (And.intro x1 x2))))
      clear hk hk2 xA px x1 x2
      by_cases hodd : B % 2 = 1
      · rw [if_pos hodd] at hM
        rw [hodd] at fa
        have HM := hide hM
        clear hM hodd
        by_cases hhi : 128 ≤ A
        · have hhiI : (128 : Int) ≤ (A : Int) := by omega
          go_wp2
          exact ⟨⟨i + 1, xt A, B / 2, p ^^^ A, by omega, HH.out.2.1, by omega, HH.out.2.2.1, vint (HH.out.2.2.2.1 hhi), vint (by omega), rfl, by go_num, by rw [HH.out.1]; exact HM.out⟩, by simp [intOf]; omega⟩
        · have hhiI : ¬ (128 : Int) ≤ (A : Int) := by omega
          go_wp2
          exact ⟨⟨i + 1, xt A, B / 2, p ^^^ A, by omega, HH.out.2.1, by omega, HH.out.2.2.1, vint (HH.out.2.2.2.2 hhi), vint (by omega), rfl, by go_num, by rw [HH.out.1]; exact HM.out⟩, by simp [intOf]; omega⟩
      · rw [if_neg hodd] at hM
        have hev : B % 2 = 0 := by omega
        rw [hev] at fa
        have HM := hide hM
        clear hM hodd hev
        by_cases hhi : 128 ≤ A
        · have hhiI : (128 : Int) ≤ (A : Int) := by omega
          go_wp2
          exact ⟨⟨i + 1, xt A, B / 2, p, by omega, HH.out.2.1, by omega, hp, vint (HH.out.2.2.2.1 hhi), vint (by omega), rfl, by go_num, by rw [HH.out.1]; exact HM.out⟩, by simp [intOf]; omega⟩
        · have hhiI : ¬ (128 : Int) ≤ (A : Int) := by omega
          go_wp2
          exact ⟨⟨i + 1, xt A, B / 2, p, by omega, HH.out.2.1, by omega, hp, vint (HH.out.2.2.2.2 hhi), vint (by omega), rfl, by go_num, by rw [HH.out.1]; exact HM.out⟩, by simp [intOf]; omega⟩
    · obtain rfl : i = 8 := by omega
      have hM' : p = M := hM
      subst hM'
      go_wp2
      go_ret
      exact ⟨rfl, rfl⟩
/-- where the loop stands -/
def InL (M : Nat) (vc vx vi : Value) : Prop := ∃ i C x : Nat, i ≤ 7 ∧ C < 256 ∧ x < 256 ∧ vc = .int .u8 (C : Int) ∧ vx = .int .u8 (x : Int) ∧ vi = .int .i64 (i : Int) ∧ sqN (7 - i) C x = M
theorem sqN_next {k c x : Nat} : sqN (k + 1) c x = sqN k (mulB c c) (mulB x (mulB c c)) := rfl
set_option maxHeartbeats 2000000 in
set_option maxRecDepth 100000 in
theorem rinv_any (c : Nat) (hc : c < 256) (w : World) : Calls Try.prog 40 #[.int .u8 (c : Int)] w fun e w' => e = .returned (.int .u8 (invB c : Nat)) ∧ w' = w := by
  have H0 : Hid (InL (invB c) (.int .u8 (c : Int)) (.int .u8 1) (.int .i64 0)) := hide ⟨0, c, 1, by decide, hc, by decide, rfl, rfl, rfl, rfl⟩
  generalize invB c = M at *
  go_enter Try.func40, Try.ntmps40
  go_wp2
  go_loop [0, 3, 4] (fun vc vx vi => InL M vc vx vi) (fun _ _ vi => 7 - (intOf vi).toNat)
  case atStart => exact H0.out
  case round =>
    obtain ⟨i, C, x, hi, hC, hx, rfl, rfl, rfl, hM⟩ := hrel
    clear H0
    by_cases hlt : i < 7
    · have hli : (i : Int) < 7 := by omega
      obtain ⟨k, hk⟩ : ∃ k : Nat, 7 - i = k + 1 := ⟨6 - i, by omega⟩
      have hk2 : 7 - (i + 1) = k := by omega
      rw [hk, sqN_next] at hM
      have m1 := mulB_lt (b := C) hC
      have c1 := rmul_any C C hC hC
      generalize mulB C C = D at *
      have m2 := mulB_lt (b := D) hx
      have c2 := rmul_any x D hx m1
      generalize mulB x D = X at *
      have HH := hide (And.intro hk2 hM)
      clear hk hk2 hM
      go_wp2_with fail
      refine (c1 _).mono ?_
      rintro e y ⟨rfl, hy⟩
      obtain rfl := hy.symm
      go_wp2_with fail
      refine (c2 _).mono ?_
      rintro e y ⟨rfl, hy⟩
      obtain rfl := hy.symm
      go_wp2
      exact ⟨⟨i + 1, D, X, by omega, m1, m2, rfl, rfl, by go_num, by rw [HH.out.1]; exact HH.out.2⟩, by simp [intOf]; omega⟩
    · obtain rfl : i = 7 := by omega
      have hM' : x = M := hM
      subst hM'
      go_wp2
      go_ret
      exact ⟨rfl, rfl⟩
theorem rot_0 (x : Nat) (h : x < 256) : bits .or .u8 ((x : Int)) ((x : Int) / 256) = ((rotB x 0 : Nat) : Int) ∧ rotB x 0 < 256 := by
  have : ((List.range 256).all fun x => bits .or .u8 ((x : Int)) ((x : Int) / 256) == ((rotB x 0 : Nat) : Int) && decide (rotB x 0 < 256)) = true := by kernel_rfl
  have := all256 this x h
  rw [Bool.and_eq_true] at this
  exact ⟨eq_of_beq this.1, of_decide_eq_true this.2⟩
theorem rot_1 (x : Nat) (h : x < 256) : bits .or .u8 ((x : Int) * 2 % 256) ((x : Int) / 128) = ((rotB x 1 : Nat) : Int) ∧ rotB x 1 < 256 := by
  have : ((List.range 256).all fun x => bits .or .u8 ((x : Int) * 2 % 256) ((x : Int) / 128) == ((rotB x 1 : Nat) : Int) && decide (rotB x 1 < 256)) = true := by kernel_rfl
  have := all256 this x h
  rw [Bool.and_eq_true] at this
  exact ⟨eq_of_beq this.1, of_decide_eq_true this.2⟩
theorem rot_2 (x : Nat) (h : x < 256) : bits .or .u8 ((x : Int) * 4 % 256) ((x : Int) / 64) = ((rotB x 2 : Nat) : Int) ∧ rotB x 2 < 256 := by
  have : ((List.range 256).all fun x => bits .or .u8 ((x : Int) * 4 % 256) ((x : Int) / 64) == ((rotB x 2 : Nat) : Int) && decide (rotB x 2 < 256)) = true := by kernel_rfl
  have := all256 this x h
  rw [Bool.and_eq_true] at this
  exact ⟨eq_of_beq this.1, of_decide_eq_true this.2⟩
theorem rot_3 (x : Nat) (h : x < 256) : bits .or .u8 ((x : Int) * 8 % 256) ((x : Int) / 32) = ((rotB x 3 : Nat) : Int) ∧ rotB x 3 < 256 := by
  have : ((List.range 256).all fun x => bits .or .u8 ((x : Int) * 8 % 256) ((x : Int) / 32) == ((rotB x 3 : Nat) : Int) && decide (rotB x 3 < 256)) = true := by kernel_rfl
  have := all256 this x h
  rw [Bool.and_eq_true] at this
  exact ⟨eq_of_beq this.1, of_decide_eq_true this.2⟩
theorem rot_4 (x : Nat) (h : x < 256) : bits .or .u8 ((x : Int) * 16 % 256) ((x : Int) / 16) = ((rotB x 4 : Nat) : Int) ∧ rotB x 4 < 256 := by
  have : ((List.range 256).all fun x => bits .or .u8 ((x : Int) * 16 % 256) ((x : Int) / 16) == ((rotB x 4 : Nat) : Int) && decide (rotB x 4 < 256)) = true := by kernel_rfl
  have := all256 this x h
  rw [Bool.and_eq_true] at this
  exact ⟨eq_of_beq this.1, of_decide_eq_true this.2⟩
/-- where the loop stands -/
def BoL (w : World) (x M : Nat) (vy vi : Value) (wr : World) : Prop := ∃ i y q : Nat, i ≤ 5 ∧ y < 256 ∧ vy = .int .u8 (y : Int) ∧ vi = .int .i64 (i : Int) ∧ boxS (5 - i) x i y = M ∧ wr = w.drewN q
theorem boxS_next {k x i y : Nat} : boxS (k + 1) x i y = boxS k x (i + 1) (y ^^^ rotB x i) := rfl
theorem invB_lt {c : Nat} (h : c < 256) : invB c < 256 := by
  have : ((List.range 256).all fun c => decide (invB c < 256)) = true := by kernel_rfl
  exact of_decide_eq_true (all256 this c h)
set_option maxHeartbeats 2000000 in
set_option maxRecDepth 100000 in
theorem rbox_any (c : Nat) (hc : c < 256) (w : World) : Calls Try.prog 18 #[.int .u8 (c : Int)] w fun e w' => e = .returned (.int .u8 (boxB c : Nat)) ∧ Below w.heap.size w w' := by
  have hinv := fun y => rinv_any c hc y
  have hx := invB_lt hc
  have H0 : Hid (BoL w (invB c) (boxB c) (.int .u8 99) (.int .i64 0) w) := hide ⟨0, 99, 0, by decide, by decide, rfl, rfl, rfl, rfl⟩
  generalize boxB c = M at *
  generalize invB c = x at *
  go_enter Try.func18, Try.ntmps18
  go_wp2_with fail
  refine (hinv _).mono ?_
  rintro e y ⟨rfl, hy⟩
  obtain rfl := hy.symm
  go_wp2_with fail
  go_loopw [4, 5] (fun vy vi wr => BoL w x M vy vi wr) (fun _ vi _ => 5 - (intOf vi).toNat)
  case atStart => exact H0.out
  case round =>
    obtain ⟨i, y, q, hi, hy, rfl, rfl, hM, rfl⟩ := hrel
    clear H0 hinv
    by_cases hlt : i < 5
    · have h5 : i = 0 ∨ i = 1 ∨ i = 2 ∨ i = 3 ∨ i = 4 := by omega
      rcases h5 with h | h | h | h | h <;> subst h
      · obtain ⟨fr, rl⟩ := rot_0 x hx
        have hM' : boxS 4 x 1 (y ^^^ rotB x 0) = M := hM
        generalize rotB x 0 = R at *
        have fx := u8_xor_nat y R hy rl
        have py := xor_8 hy rl
        have HM := hide hM'
        clear hM hM'
        go_wp2
        go_quiet (fail)
        go_wp2
        exact ⟨⟨1, y ^^^ R, q + nq, by decide, py, rfl, rfl, HM.out, rfl⟩, by simp [intOf]⟩
      · obtain ⟨fr, rl⟩ := rot_1 x hx
        have hM' : boxS 3 x 2 (y ^^^ rotB x 1) = M := hM
        generalize rotB x 1 = R at *
        have fx := u8_xor_nat y R hy rl
        have py := xor_8 hy rl
        have HM := hide hM'
        clear hM hM'
        go_wp2
        go_quiet (fail)
        go_wp2
        exact ⟨⟨2, y ^^^ R, q + nq, by decide, py, rfl, rfl, HM.out, rfl⟩, by simp [intOf]⟩
      · obtain ⟨fr, rl⟩ := rot_2 x hx
        have hM' : boxS 2 x 3 (y ^^^ rotB x 2) = M := hM
        generalize rotB x 2 = R at *
        have fx := u8_xor_nat y R hy rl
        have py := xor_8 hy rl
        have HM := hide hM'
        clear hM hM'
        go_wp2
        go_quiet (fail)
        go_wp2
        exact ⟨⟨3, y ^^^ R, q + nq, by decide, py, rfl, rfl, HM.out, rfl⟩, by simp [intOf]⟩
      · obtain ⟨fr, rl⟩ := rot_3 x hx
        have hM' : boxS 1 x 4 (y ^^^ rotB x 3) = M := hM
        generalize rotB x 3 = R at *
        have fx := u8_xor_nat y R hy rl
        have py := xor_8 hy rl
        have HM := hide hM'
        clear hM hM'
        go_wp2
        go_quiet (fail)
        go_wp2
        exact ⟨⟨4, y ^^^ R, q + nq, by decide, py, rfl, rfl, HM.out, rfl⟩, by simp [intOf]⟩
      · obtain ⟨fr, rl⟩ := rot_4 x hx
        have hM' : boxS 0 x 5 (y ^^^ rotB x 4) = M := hM
        generalize rotB x 4 = R at *
        have fx := u8_xor_nat y R hy rl
        have py := xor_8 hy rl
        have HM := hide hM'
        clear hM hM'
        go_wp2
        go_quiet (fail)
        go_wp2
        exact ⟨⟨5, y ^^^ R, q + nq, by decide, py, rfl, rfl, HM.out, rfl⟩, by simp [intOf]⟩
    · obtain rfl : i = 5 := by omega
      have hM' : y = M := hM
      subst hM'
      go_wp2
      go_ret
      exact ⟨rfl, below_drewN (Below.refl _ _) q⟩
end Go.Proofs.Yteiknfcegchbcaa
