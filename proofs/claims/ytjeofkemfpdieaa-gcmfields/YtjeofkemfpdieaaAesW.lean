/- Words of four bytes, and the cipher by words: plain. -/
import Derived.Test.YtjeofkemfpdieaaAesM
namespace Go.Proofs.Ytjeofkemfpdieaa
set_option linter.unusedVariables false
set_option linter.unusedSimpArgs false

/-- the word of four bytes, the first the highest -/
def wd (a b c d : Nat) : Nat := 256 * (256 * (256 * a + b) + c) + d
theorem wd_lt {a b c d : Nat} (ha : a < 256) (hb : b < 256) (hc : c < 256) (hd : d < 256) : wd a b c d < 4294967296 := by unfold wd; omega
theorem wd_0 {a b c d : Nat} (ha : a < 256) (hb : b < 256) (hc : c < 256) (hd : d < 256) : wd a b c d / 16777216 = a := by unfold wd; omega
theorem wd_1 {a b c d : Nat} (ha : a < 256) (hb : b < 256) (hc : c < 256) (hd : d < 256) : wd a b c d / 65536 % 256 = b := by unfold wd; omega
theorem wd_2 {a b c d : Nat} (ha : a < 256) (hb : b < 256) (hc : c < 256) (hd : d < 256) : wd a b c d / 256 % 256 = c := by unfold wd; omega
theorem wd_3 {a b c d : Nat} (ha : a < 256) (hb : b < 256) (hc : c < 256) (hd : d < 256) : wd a b c d % 256 = d := by unfold wd; omega
theorem cat_xor (a b x y : Nat) (hx : x < 256) (hy : y < 256) : (256 * a + x) ^^^ (256 * b + y) = 256 * (a ^^^ b) + (x ^^^ y) := by
  apply Nat.eq_of_testBit_eq
  intro i
  have h1 := Nat.testBit_two_pow_mul_add (i := 8) a (b := x) hx i
  have h2 := Nat.testBit_two_pow_mul_add (i := 8) b (b := y) hy i
  have h3 := Nat.testBit_two_pow_mul_add (i := 8) (a ^^^ b) (b := x ^^^ y) (xor_8 hx hy) i
  rw [Nat.testBit_xor]
  simp only [show (2 : Nat) ^ 8 = 256 from rfl] at h1 h2 h3
  rw [h1, h2, h3]
  split <;> simp [Nat.testBit_xor]
theorem and_8 {x y : Nat} (hx : x < 256) : x &&& y < 256 := Nat.lt_of_le_of_lt Nat.and_le_left hx
theorem or_8 {x y : Nat} (hx : x < 256) (hy : y < 256) : x ||| y < 256 := Nat.or_lt_two_pow (n := 8) hx hy
theorem cat_and (a b x y : Nat) (hx : x < 256) (hy : y < 256) : (256 * a + x) &&& (256 * b + y) = 256 * (a &&& b) + (x &&& y) := by
  apply Nat.eq_of_testBit_eq
  intro i
  have h1 := Nat.testBit_two_pow_mul_add (i := 8) a (b := x) hx i
  have h2 := Nat.testBit_two_pow_mul_add (i := 8) b (b := y) hy i
  have h3 := Nat.testBit_two_pow_mul_add (i := 8) (a &&& b) (b := x &&& y) (and_8 hx) i
  rw [Nat.testBit_and]
  simp only [show (2 : Nat) ^ 8 = 256 from rfl] at h1 h2 h3
  rw [h1, h2, h3]
  split <;> simp [Nat.testBit_and]
theorem cat_or (a b x y : Nat) (hx : x < 256) (hy : y < 256) : (256 * a + x) ||| (256 * b + y) = 256 * (a ||| b) + (x ||| y) := by
  apply Nat.eq_of_testBit_eq
  intro i
  have h1 := Nat.testBit_two_pow_mul_add (i := 8) a (b := x) hx i
  have h2 := Nat.testBit_two_pow_mul_add (i := 8) b (b := y) hy i
  have h3 := Nat.testBit_two_pow_mul_add (i := 8) (a ||| b) (b := x ||| y) (or_8 hx hy) i
  rw [Nat.testBit_or]
  simp only [show (2 : Nat) ^ 8 = 256 from rfl] at h1 h2 h3
  rw [h1, h2, h3]
  split <;> simp [Nat.testBit_or]
theorem wd_xor {a b c d a' b' c' d' : Nat} (hb : b < 256) (hc : c < 256) (hd : d < 256) (hb' : b' < 256) (hc' : c' < 256) (hd' : d' < 256) :
    wd a b c d ^^^ wd a' b' c' d' = wd (a ^^^ a') (b ^^^ b') (c ^^^ c') (d ^^^ d') := by
  unfold wd
  rw [cat_xor _ _ _ _ hd hd', cat_xor _ _ _ _ hc hc', cat_xor _ _ _ _ hb hb']
theorem wd_and {a b c d a' b' c' d' : Nat} (hb : b < 256) (hc : c < 256) (hd : d < 256) (hb' : b' < 256) (hc' : c' < 256) (hd' : d' < 256) :
    wd a b c d &&& wd a' b' c' d' = wd (a &&& a') (b &&& b') (c &&& c') (d &&& d') := by
  unfold wd
  rw [cat_and _ _ _ _ hd hd', cat_and _ _ _ _ hc hc', cat_and _ _ _ _ hb hb']
theorem wd_or {a b c d a' b' c' d' : Nat} (hb : b < 256) (hc : c < 256) (hd : d < 256) (hb' : b' < 256) (hc' : c' < 256) (hd' : d' < 256) :
    wd a b c d ||| wd a' b' c' d' = wd (a ||| a') (b ||| b') (c ||| c') (d ||| d') := by
  unfold wd
  rw [cat_or _ _ _ _ hd hd', cat_or _ _ _ _ hc hc', cat_or _ _ _ _ hb hb']
theorem wd_all (w : Nat) (h : w < 4294967296) : w = wd (w / 16777216) (w / 65536 % 256) (w / 256 % 256) (w % 256) := by unfold wd; omega
/-- four bytes brought together by 'or' -/
theorem wd_gather {a b c d : Nat} (ha : a < 256) (hb : b < 256) (hc : c < 256) (hd : d < 256) : (((a * 16777216) ||| (b * 65536)) ||| (c * 256)) ||| d = wd a b c d := by
  have e1 : a * 16777216 = wd a 0 0 0 := by simp only [wd, Nat.add_zero]; omega
  have e2 : b * 65536 = wd 0 b 0 0 := by simp only [wd, Nat.add_zero, Nat.mul_zero, Nat.zero_add]; rw [← Nat.mul_assoc]; exact Nat.mul_comm _ _
  have e3 : c * 256 = wd 0 0 c 0 := by simp only [wd, Nat.add_zero, Nat.mul_zero, Nat.zero_add]; exact Nat.mul_comm _ _
  have e4 : d = wd 0 0 0 d := by unfold wd; omega
  rw [e1, e2, e3]
  rw [wd_or (by decide) (by decide) (by decide) hb (by decide) (by decide)]
  rw [wd_or (by simpa using hb) (by decide) (by decide) (by decide) hc (by decide)]
  conv => lhs; rhs; rw [e4]
  rw [wd_or (by simpa using hb) (by simpa using hc) (by decide) (by decide) (by decide) hd]
  simp
/-- a word's bytes turned -/
def trn : Nat → Nat → Nat → Nat → Nat → Nat
  | 0, a, b, c, d => wd a b c d
  | 1, a, b, c, d => wd b c d a
  | 2, a, b, c, d => wd c d a b
  | _, a, b, c, d => wd d a b c
theorem trn_1 {a b c d : Nat} (ha : a < 256) (hb : b < 256) (hc : c < 256) (hd : d < 256) : (wd a b c d * 256 % 4294967296) ||| (wd a b c d / 16777216) = wd b c d a := by
  have e1 : wd a b c d * 256 % 4294967296 = wd b c d 0 := by unfold wd; omega
  have e2 : wd a b c d / 16777216 = wd 0 0 0 a := by unfold wd; omega
  rw [e1, e2, wd_or hc hd (by decide) (by decide) (by decide) ha]
  simp
theorem trn_2 {a b c d : Nat} (ha : a < 256) (hb : b < 256) (hc : c < 256) (hd : d < 256) : (wd a b c d * 65536 % 4294967296) ||| (wd a b c d / 65536) = wd c d a b := by
  have e1 : wd a b c d * 65536 % 4294967296 = wd c d 0 0 := by unfold wd; omega
  have e2 : wd a b c d / 65536 = wd 0 0 a b := by unfold wd; omega
  rw [e1, e2, wd_or hd (by decide) (by decide) (by decide) ha hb]
  simp
theorem trn_3 {a b c d : Nat} (ha : a < 256) (hb : b < 256) (hc : c < 256) (hd : d < 256) : (wd a b c d * 16777216 % 4294967296) ||| (wd a b c d / 256) = wd d a b c := by
  have e1 : wd a b c d * 16777216 % 4294967296 = wd d 0 0 0 := by unfold wd; omega
  have e2 : wd a b c d / 256 = wd 0 a b c := by unfold wd; omega
  rw [e1, e2, wd_or (by decide) (by decide) (by decide) ha hb hc]
  simp
/-- each of a word's bytes times x -/
def dblW (w : Nat) : Nat := ((w &&& 2139062143) * 2 % 4294967296) ^^^ ((w / 128 &&& 16843009) * 27 % 4294967296)
theorem xt_is {x : Nat} (h : x < 256) : ((x &&& 127) * 2) ^^^ (x / 128 * 27) = xt x := by
  have : ((List.range 256).all fun x => ((x &&& 127) * 2) ^^^ (x / 128 * 27) == xt x) = true := by kernel_rfl
  exact eq_of_beq (all256 this x h)
theorem and_127 {x : Nat} (h : x < 256) : (x &&& 127) < 128 := Nat.lt_of_le_of_lt Nat.and_le_right (by decide)
theorem dbl_wd {a b c d : Nat} (ha : a < 256) (hb : b < 256) (hc : c < 256) (hd : d < 256) : dblW (wd a b c d) = wd (xt a) (xt b) (xt c) (xt d) := by
  unfold dblW
  have k1 : (2139062143 : Nat) = wd 127 127 127 127 := rfl
  have k2 : (16843009 : Nat) = wd 1 1 1 1 := rfl
  have e1 : wd a b c d / 128 = wd (a / 128) (b / 128 + 2 * (a % 128)) (c / 128 + 2 * (b % 128)) (d / 128 + 2 * (c % 128)) := by unfold wd; omega
  rw [k1, k2, wd_and hb hc hd (by decide) (by decide) (by decide), e1, wd_and (by omega) (by omega) (by omega) (by decide) (by decide) (by decide)]
  have q : ∀ x y : Nat, x < 256 → (x / 128 + 2 * (y % 128)) &&& 1 = x / 128 := fun x y hx => by rw [Nat.and_one_is_mod]; omega
  have q0 : a / 128 &&& 1 = a / 128 := by rw [Nat.and_one_is_mod]; omega
  rw [q0, q b a hb, q c b hc, q d c hd]
  have a1 := and_127 ha
  have b1 := and_127 hb
  have c1 := and_127 hc
  have d1 := and_127 hd
  rw [← xt_is ha, ← xt_is hb, ← xt_is hc, ← xt_is hd]
  generalize a &&& 127 = A at *
  generalize b &&& 127 = B at *
  generalize c &&& 127 = C at *
  generalize d &&& 127 = D at *
  have f1 : wd A B C D * 2 % 4294967296 = wd (A * 2) (B * 2) (C * 2) (D * 2) := by unfold wd; omega
  have f2 : wd (a / 128) (b / 128) (c / 128) (d / 128) * 27 % 4294967296 = wd (a / 128 * 27) (b / 128 * 27) (c / 128 * 27) (d / 128 * 27) := by unfold wd; omega
  rw [f1, f2, wd_xor (by omega) (by omega) (by omega) (by omega) (by omega) (by omega)]
theorem dbl_byte {x : Nat} (h : x < 256) : dblW x = xt x := by
  have := dbl_wd (a := 0) (b := 0) (c := 0) (by decide) (by decide) (by decide) h
  have e : wd 0 0 0 x = x := by unfold wd; omega
  rw [e] at this
  rw [this]
  have : xt 0 = 0 := by decide
  rw [this]
  unfold wd; omega
/-- the columns of a block, as words -/
def col (s : List Nat) (c : Nat) : Nat := wd (el s (4 * c)) (el s (4 * c + 1)) (el s (4 * c + 2)) (el s (4 * c + 3))
def sw (s : List Nat) : List Nat := [col s 0, col s 1, col s 2, col s 3]
theorem sw_len (s : List Nat) : (sw s).length = 4 := rfl
theorem col_lt {s : List Nat} (h : Under 256 s) (c : Nat) : col s c < 4294967296 := wd_lt (el_lt h (by decide) _) (el_lt h (by decide) _) (el_lt h (by decide) _) (el_lt h (by decide) _)
theorem sw_el (s : List Nat) {c : Nat} (h : c < 4) : el (sw s) c = col s c := by
  match c, h with
  | 0, _ => rfl
  | 1, _ => rfl
  | 2, _ => rfl
  | 3, _ => rfl
theorem sw_under {s : List Nat} (h : Under 256 s) : Under 4294967296 (sw s) := by
  intro x hx
  simp only [sw, List.mem_cons, List.not_mem_nil, or_false] at hx
  rcases hx with rfl | rfl | rfl | rfl <;> exact col_lt h _
/-- a list with its first k places new -/
def upd (f : Nat → Nat) (l : List Nat) : Nat → List Nat
  | 0 => l
  | k + 1 => (upd f l k).set k (f k)
theorem upd_len (f : Nat → Nat) (l : List Nat) : ∀ k, (upd f l k).length = l.length
  | 0 => rfl
  | k + 1 => by show ((upd f l k).set k (f k)).length = _; rw [List.length_set, upd_len f l k]
theorem el_set {l : List Nat} {i j x : Nat} (hi : i < l.length) : el (l.set i x) j = if j = i then x else el l j := by
  unfold el
  rw [List.getElem?_set]
  by_cases h : j = i
  · subst h
    rw [if_pos rfl, if_pos rfl, if_pos hi]
    rfl
  · rw [if_neg (fun e => h e.symm), if_neg h]
theorem upd_el (f : Nat → Nat) (l : List Nat) : ∀ (k : Nat) {i : Nat}, k ≤ l.length → el (upd f l k) i = if i < k then f i else el l i
  | 0, i, _ => by rw [if_neg (by omega)]; rfl
  | k + 1, i, hk => by
    show el ((upd f l k).set k (f k)) i = _
    rw [el_set (by rw [upd_len]; omega), upd_el f l k (by omega)]
    by_cases h : i = k
    · subst h
      rw [if_pos rfl, if_pos (by omega)]
    · rw [if_neg h]
      by_cases h2 : i < k
      · rw [if_pos h2, if_pos (by omega)]
      · rw [if_neg h2, if_neg (by omega)]
theorem upd_same (f : Nat → Nat) (l : List Nat) {k i : Nat} (hk : k ≤ l.length) (hi : k ≤ i) : el (upd f l k) i = el l i := by rw [upd_el f l k hk, if_neg (by omega)]
theorem ext_el {a b : List Nat} (h : a.length = b.length) (he : ∀ i, i < a.length → el a i = el b i) : a = b := by
  apply List.ext_getElem h
  intro i h1 h2
  rw [← el_at h1, ← el_at h2]
  exact he i h1
theorem upd_sw {f : Nat → Nat} {l s : List Nat} (hl : l.length = 4) (h : ∀ i, i < 4 → f i = col s i) : upd f l 4 = sw s := by
  refine ext_el (by rw [upd_len, hl]; rfl) fun i hi => ?_
  rw [upd_len, hl] at hi
  rw [upd_el f l 4 (by omega), if_pos hi, sw_el s hi, h i hi]
/-- the steps by words -/
theorem col_of16 (f : Nat → Nat) {c : Nat} (h : c < 4) : col (of16 f) c = wd (f (4 * c)) (f (4 * c + 1)) (f (4 * c + 2)) (f (4 * c + 3)) := by
  unfold col
  rw [of16_el _ (by omega), of16_el _ (by omega), of16_el _ (by omega), of16_el _ (by omega)]
theorem col_key {w s : List Nat} {r c : Nat} (hw : Under 256 w) (hs : Under 256 s) (h : c < 4) : col s c ^^^ wd (el w (16 * r + 4 * c)) (el w (16 * r + 4 * c + 1)) (el w (16 * r + 4 * c + 2)) (el w (16 * r + 4 * c + 3)) = col (keyAt w r s) c := by
  unfold keyAt
  rw [col_of16 _ h]
  unfold col
  rw [wd_xor (el_lt hs (by decide) _) (el_lt hs (by decide) _) (el_lt hs (by decide) _) (el_lt hw (by decide) _) (el_lt hw (by decide) _) (el_lt hw (by decide) _)]
  rfl
theorem col_xr {a b : List Nat} {c : Nat} (ha : Under 256 a) (hb : Under 256 b) (h : c < 4) : col a c ^^^ col b c = col (of16 fun i => el a i ^^^ el b i) c := by
  rw [col_of16 _ h]
  unfold col
  rw [wd_xor (el_lt ha (by decide) _) (el_lt ha (by decide) _) (el_lt ha (by decide) _) (el_lt hb (by decide) _) (el_lt hb (by decide) _) (el_lt hb (by decide) _)]
theorem col_left {T s : List Nat} {c : Nat} (h : c < 4) : col (rowsL (eachL T s)) c = wd (el T (el s (4 * c))) (el T (el s (4 * ((c + 1) % 4) + 1))) (el T (el s (4 * ((c + 2) % 4) + 2))) (el T (el s (4 * ((c + 3) % 4) + 3))) := by
  unfold rowsL
  rw [col_of16 _ h]
  unfold eachL
  have hm : ∀ k, k < 4 → (4 * c + k) % 4 = k ∧ (4 * c + k) / 4 = c := fun k hk => by omega
  have h0 : (4 * c) % 4 = 0 ∧ (4 * c) / 4 = c := by omega
  rw [(hm 1 (by decide)).1, (hm 2 (by decide)).1, (hm 3 (by decide)).1, (hm 1 (by decide)).2, (hm 2 (by decide)).2, (hm 3 (by decide)).2, h0.1, h0.2]
  rw [of16_el _ (by omega), of16_el _ (by omega), of16_el _ (by omega), of16_el _ (by omega)]
  congr 3
  · omega
theorem col_right {T s : List Nat} {c : Nat} (h : c < 4) : col (eachL T (rowsR s)) c = wd (el T (el s (4 * c))) (el T (el s (4 * ((c + 3) % 4) + 1))) (el T (el s (4 * ((c + 6) % 4) + 2))) (el T (el s (4 * ((c + 9) % 4) + 3))) := by
  unfold eachL
  rw [col_of16 _ h]
  unfold rowsR
  have hm : ∀ k, k < 4 → (4 * c + k) % 4 = k ∧ (4 * c + k) / 4 = c := fun k hk => by omega
  have h0 : (4 * c) % 4 = 0 ∧ (4 * c) / 4 = c := by omega
  rw [of16_el _ (by omega), of16_el _ (by omega), of16_el _ (by omega), of16_el _ (by omega)]
  rw [(hm 1 (by decide)).1, (hm 2 (by decide)).1, (hm 3 (by decide)).1, (hm 1 (by decide)).2, (hm 2 (by decide)).2, (hm 3 (by decide)).2, h0.1, h0.2]
  rw [show (c + 4 - 0) % 4 = c by omega, show (c + 4 - 1) % 4 = (c + 3) % 4 by omega, show (c + 4 - 2) % 4 = (c + 6) % 4 by omega, show (c + 4 - 3) % 4 = (c + 9) % 4 by omega]
  rfl
theorem mul_2 {x : Nat} (h : x < 256) : mulB 2 x = xt x := by
  have : ((List.range 256).all fun x => mulB 2 x == xt x) = true := by kernel_rfl
  exact eq_of_beq (all256 this x h)
theorem mul_3 {x : Nat} (h : x < 256) : mulB 3 x = xt x ^^^ x := by
  have : ((List.range 256).all fun x => mulB 3 x == xt x ^^^ x) = true := by kernel_rfl
  exact eq_of_beq (all256 this x h)
/-- a column multiplied -/
def mixW (a b c d : Nat) : Nat := wd (mulB 2 a ^^^ mulB 3 b ^^^ mulB 1 c ^^^ mulB 1 d) (mulB 2 b ^^^ mulB 3 c ^^^ mulB 1 d ^^^ mulB 1 a) (mulB 2 c ^^^ mulB 3 d ^^^ mulB 1 a ^^^ mulB 1 b) (mulB 2 d ^^^ mulB 3 a ^^^ mulB 1 b ^^^ mulB 1 c)
theorem mix_is {a b c d : Nat} (ha : a < 256) (hb : b < 256) (hc : c < 256) (hd : d < 256) :
    dblW (wd a b c d ^^^ wd b c d a) ^^^ wd b c d a ^^^ wd c d a b ^^^ wd d a b c = mixW a b c d := by
  rw [wd_xor hb hc hd hc hd ha, dbl_wd (xor_8 ha hb) (xor_8 hb hc) (xor_8 hc hd) (xor_8 hd ha)]
  rw [xt_xor ha hb, xt_xor hb hc, xt_xor hc hd, xt_xor hd ha]
  have x1 := xt_lt ha
  have x2 := xt_lt hb
  have x3 := xt_lt hc
  have x4 := xt_lt hd
  unfold mixW
  rw [mul_2 ha, mul_2 hb, mul_2 hc, mul_2 hd, mul_3 ha, mul_3 hb, mul_3 hc, mul_3 hd, one_mul8 ha, one_mul8 hb, one_mul8 hc, one_mul8 hd]
  rw [wd_xor (xor_8 x2 x3) (xor_8 x3 x4) (xor_8 x4 x1) hc hd ha]
  rw [wd_xor (xor_8 (xor_8 x2 x3) hc) (xor_8 (xor_8 x3 x4) hd) (xor_8 (xor_8 x4 x1) ha) hd ha hb]
  rw [wd_xor (xor_8 (xor_8 (xor_8 x2 x3) hc) hd) (xor_8 (xor_8 (xor_8 x3 x4) hd) ha) (xor_8 (xor_8 (xor_8 x4 x1) ha) hb) ha hb hc]
  congr 1 <;> ac_rfl
theorem col_mix {s : List Nat} {c : Nat} (h : c < 4) : col (colsL 2 3 1 1 s) c = mixW (el s (4 * c)) (el s (4 * c + 1)) (el s (4 * c + 2)) (el s (4 * c + 3)) := by
  unfold colsL
  rw [col_of16 _ h]
  have hm : ∀ k, k < 4 → (4 * c + k) % 4 = k ∧ (4 * c + k) / 4 = c := fun k hk => by omega
  have h0 : (4 * c) % 4 = 0 ∧ (4 * c) / 4 = c := by omega
  rw [(hm 1 (by decide)).1, (hm 2 (by decide)).1, (hm 3 (by decide)).1, (hm 1 (by decide)).2, (hm 2 (by decide)).2, (hm 3 (by decide)).2, h0.1, h0.2]
  rfl
/-- what goes ahead of multiplying, to undo it -/
def preB (a c : Nat) : Nat := a ^^^ xt (xt (a ^^^ c))
theorem preB_lt {a c : Nat} (ha : a < 256) (hc : c < 256) : preB a c < 256 := xor_8 ha (xt_lt (xt_lt (xor_8 ha hc)))
theorem pre_is {a b c d : Nat} (ha : a < 256) (hb : b < 256) (hc : c < 256) (hd : d < 256) :
    wd a b c d ^^^ dblW (dblW (wd a b c d ^^^ wd c d a b)) = wd (preB a c) (preB b d) (preB c a) (preB d b) := by
  rw [wd_xor hb hc hd hd ha hb, dbl_wd (xor_8 ha hc) (xor_8 hb hd) (xor_8 hc ha) (xor_8 hd hb), dbl_wd (xt_lt (xor_8 ha hc)) (xt_lt (xor_8 hb hd)) (xt_lt (xor_8 hc ha)) (xt_lt (xor_8 hd hb))]
  rw [wd_xor hb hc hd (xt_lt (xt_lt (xor_8 hb hd))) (xt_lt (xt_lt (xor_8 hc ha))) (xt_lt (xt_lt (xor_8 hd hb)))]
  rfl
theorem mul_4 {x : Nat} (h : x < 256) : xt (xt x) = mulB 4 x := by
  have : ((List.range 256).all fun x => xt (xt x) == mulB 4 x) = true := by kernel_rfl
  exact eq_of_beq (all256 this x h)
theorem pre_mul {a c : Nat} (ha : a < 256) (hc : c < 256) : preB a c = mulB 5 a ^^^ mulB 4 c := by
  unfold preB
  rw [mul_4 (xor_8 ha hc), mul_r]
  have e : mulB 5 a = a ^^^ mulB 4 a := by
    have := mul_l 1 4 a (by decide) (by decide)
    rw [one_mul8 ha] at this
    exact this
  rw [e, Nat.xor_assoc]
theorem unmix_b {a b c d : Nat} (ha : a < 256) (hb : b < 256) (hc : c < 256) (hd : d < 256) :
    mulB 2 (preB a c) ^^^ mulB 3 (preB b d) ^^^ mulB 1 (preB c a) ^^^ mulB 1 (preB d b) = mulB 14 a ^^^ mulB 11 b ^^^ mulB 13 c ^^^ mulB 9 d := by
  rw [pre_mul ha hc, pre_mul hb hd, pre_mul hc ha, pre_mul hd hb]
  simp only [mul_r]
  rw [mul2 (by decide) (by decide) ha, mul2 (by decide) (by decide) hc, mul2 (by decide) (by decide) hb, mul2 (by decide) (by decide) hd, mul2 (by decide) (by decide) hc, mul2 (by decide) (by decide) ha, mul2 (by decide) (by decide) hd, mul2 (by decide) (by decide) hb]
  rw [show mulB 2 5 = 10 by decide, show mulB 2 4 = 8 by decide, show mulB 3 5 = 15 by decide, show mulB 3 4 = 12 by decide, show mulB 1 5 = 5 by decide, show mulB 1 4 = 4 by decide]
  have q : ∀ p r x : Nat, p < 256 → r < 256 → mulB p x ^^^ mulB r x = mulB (p ^^^ r) x := fun p r x hp hr => (mul_l p r x hp hr).symm
  rw [show mulB 10 a ^^^ mulB 8 c ^^^ (mulB 15 b ^^^ mulB 12 d) ^^^ (mulB 5 c ^^^ mulB 4 a) ^^^ (mulB 5 d ^^^ mulB 4 b) = (mulB 10 a ^^^ mulB 4 a) ^^^ (mulB 15 b ^^^ mulB 4 b) ^^^ (mulB 8 c ^^^ mulB 5 c) ^^^ (mulB 12 d ^^^ mulB 5 d) by ac_rfl]
  rw [q _ _ a (by decide) (by decide), q _ _ b (by decide) (by decide), q _ _ c (by decide) (by decide), q _ _ d (by decide) (by decide)]
  rfl
theorem col_unmix {s : List Nat} {c : Nat} (hs : Under 256 s) (h : c < 4) : mixW (preB (el s (4 * c)) (el s (4 * c + 2))) (preB (el s (4 * c + 1)) (el s (4 * c + 3))) (preB (el s (4 * c + 2)) (el s (4 * c))) (preB (el s (4 * c + 3)) (el s (4 * c + 1))) = col (colsL 14 11 13 9 s) c := by
  have e := fun i => el_lt hs (m := 256) (by decide) i
  unfold mixW
  rw [unmix_b (e _) (e _) (e _) (e _), unmix_b (e _) (e _) (e _) (e _), unmix_b (e _) (e _) (e _) (e _), unmix_b (e _) (e _) (e _) (e _)]
  unfold colsL
  rw [col_of16 _ h]
  have hm : ∀ k, k < 4 → (4 * c + k) % 4 = k ∧ (4 * c + k) / 4 = c := fun k hk => by omega
  have h0 : (4 * c) % 4 = 0 ∧ (4 * c) / 4 = c := by omega
  rw [(hm 1 (by decide)).1, (hm 2 (by decide)).1, (hm 3 (by decide)).1, (hm 1 (by decide)).2, (hm 2 (by decide)).2, (hm 3 (by decide)).2, h0.1, h0.2]
  rfl
end Go.Proofs.Ytjeofkemfpdieaa

/- Blocks in a chain: plain, over whatever cipher. -/
namespace Go.Proofs.Ytjeofkemfpdieaa
set_option linter.unusedVariables false
set_option linter.unusedSimpArgs false

/-- two blocks xored -/
def xr2 (a b : List Nat) : List Nat := of16 fun i => el a i ^^^ el b i
theorem xr2_b {a b : List Nat} (ha : B16 a) (hb : B16 b) : B16 (xr2 a b) := of16_b fun i _ => xor_8 (ha.el _) (hb.el _)
theorem xr2_xr2 {a b : List Nat} (ha : B16 a) : xr2 (xr2 a b) b = a := by
  refine ext16 (of16_len _) ha.1 fun i hi => ?_
  unfold xr2
  rw [of16_el _ hi, of16_el _ hi, Nat.xor_assoc, Nat.xor_self, Nat.xor_zero]
/-- a text's block -/
def blkOf (L : List Nat) (i : Nat) : List Nat := (L.drop (16 * i)).take 16
theorem blkOf_b {L : List Nat} {i : Nat} (hu : Under 256 L) (h : 16 * i + 16 ≤ L.length) : B16 (blkOf L i) := by
  refine ⟨?_, fun x hx => hu x (List.mem_of_mem_drop (List.mem_of_mem_take hx))⟩
  unfold blkOf
  rw [List.length_take, List.length_drop]
  omega
theorem take_blk {L : List Nat} {i : Nat} : L.take (16 * (i + 1)) = L.take (16 * i) ++ blkOf L i := by
  unfold blkOf
  rw [show 16 * (i + 1) = 16 * i + 16 by omega, List.take_add]
theorem blk_app {A b c : List Nat} {i : Nat} (hA : A.length = 16 * i) (hb : b.length = 16) : blkOf (A ++ b ++ c) i = b := by
  unfold blkOf
  rw [List.append_assoc, ← hA, List.drop_left, List.take_append_of_le_length (by omega), List.take_of_length_le (by omega)]
section
variable (T B : List Nat → List Nat) (f : List Nat)
/-- the block that came last, behind i blocks -/
def lastC (L : List Nat) : Nat → List Nat
  | 0 => f
  | i + 1 => T (xr2 (blkOf L i) (lastC L i))
/-- what is out, behind i blocks -/
def outC (L : List Nat) : Nat → List Nat
  | 0 => []
  | i + 1 => outC L i ++ lastC T f L (i + 1)
/-- the block ahead of block i -/
def prevU (C : List Nat) : Nat → List Nat
  | 0 => f
  | i + 1 => blkOf C i
def outU (C : List Nat) : Nat → List Nat
  | 0 => []
  | i + 1 => outU C i ++ xr2 (B (blkOf C i)) (prevU f C i)
end
section
variable {T B : List Nat → List Nat} {f : List Nat} (hT : ∀ s, B16 s → B16 (T s)) (hB : ∀ s, B16 s → B16 (B s)) (hf : B16 f)
include hT hf in
theorem lastC_b {L : List Nat} (hu : Under 256 L) : ∀ i, 16 * i ≤ L.length → B16 (lastC T f L i)
  | 0, _ => hf
  | i + 1, h => hT _ (xr2_b (blkOf_b hu (by omega)) (lastC_b hu i (by omega)))
include hT hf in
theorem outC_len {L : List Nat} (hu : Under 256 L) : ∀ i, 16 * i ≤ L.length → (outC T f L i).length = 16 * i
  | 0, _ => rfl
  | i + 1, h => by
    show (outC T f L i ++ lastC T f L (i + 1)).length = _
    rw [List.length_append, outC_len hu i (by omega), (lastC_b hT hf hu (i + 1) h).1]
    omega
include hT hf in
theorem outC_under {L : List Nat} (hu : Under 256 L) : ∀ i, 16 * i ≤ L.length → Under 256 (outC T f L i)
  | 0, _ => fun x hx => by cases hx
  | i + 1, h => Under.append (outC_under hu i (by omega)) (lastC_b hT hf hu (i + 1) h).2
theorem prevU_b (hf : B16 f) {C : List Nat} (hu : Under 256 C) : ∀ i, 16 * i ≤ C.length → B16 (prevU f C i)
  | 0, _ => hf
  | i + 1, h => blkOf_b hu (by omega)
theorem outU_len {C : List Nat} : ∀ i, (outU B f C i).length = 16 * i
  | 0 => rfl
  | i + 1 => by
    show (outU B f C i ++ xr2 _ _).length = _
    rw [List.length_append, outU_len i, show (xr2 (B (blkOf C i)) (prevU f C i)).length = 16 from of16_len _]
    omega
include hB hf in
theorem outU_under {C : List Nat} (hu : Under 256 C) : ∀ i, 16 * i ≤ C.length → Under 256 (outU B f C i)
  | 0, _ => fun x hx => by cases hx
  | i + 1, h => Under.append (outU_under hu i (by omega)) (xr2_b (hB _ (blkOf_b hu (by omega))) (prevU_b hf hu i (by omega))).2
include hT hf in
theorem blk_outC {L : List Nat} (hu : Under 256 L) {n : Nat} (hn : 16 * n ≤ L.length) : ∀ k i, i + 1 + k = n → blkOf (outC T f L n) i = lastC T f L (i + 1) := by
  have key : ∀ k i, 16 * (i + 1 + k) ≤ L.length → ∃ c, outC T f L (i + 1 + k) = outC T f L i ++ lastC T f L (i + 1) ++ c := by
    intro k
    induction k with
    | zero => intro i _; exact ⟨[], by rw [List.append_nil]; rfl⟩
    | succ k ih =>
      intro i h
      obtain ⟨c, hc⟩ := ih i (by omega)
      refine ⟨c ++ lastC T f L (i + 1 + k + 1), ?_⟩
      show outC T f L (i + 1 + k) ++ lastC T f L (i + 1 + k + 1) = _
      rw [hc, List.append_assoc]
  intro k i h
  obtain ⟨c, hc⟩ := key k i (by omega)
  rw [← h, hc]
  exact blk_app (outC_len hT hf hu i (by omega)) (lastC_b hT hf hu (i + 1) (by omega)).1
include hT hf in
/-- there and back -/
theorem un_ch (hBT : ∀ s, B16 s → B (T s) = s) {L : List Nat} (hu : Under 256 L) {n : Nat} (hn : L.length = 16 * n) : outU B f (outC T f L n) n = L := by
  have key : ∀ i, i ≤ n → outU B f (outC T f L n) i = L.take (16 * i) := by
    intro i
    induction i with
    | zero => intro _; simp [outU]
    | succ i ih =>
      intro hi
      show outU B f (outC T f L n) i ++ xr2 (B (blkOf (outC T f L n) i)) (prevU f (outC T f L n) i) = _
      have hb1 : B16 (blkOf L i) := blkOf_b hu (by omega)
      have hb2 := lastC_b hT hf hu i (by omega)
      have hp : prevU f (outC T f L n) i = lastC T f L i := by
        cases i with
        | zero => rfl
        | succ j => exact blk_outC hT hf hu (by omega) (n - (j + 1)) j (by omega)
      rw [ih (by omega), take_blk, hp, blk_outC hT hf hu (by omega) (n - (i + 1)) i (by omega)]
      show _ ++ xr2 (B (T (xr2 (blkOf L i) (lastC T f L i)))) (lastC T f L i) = _
      rw [hBT _ (xr2_b hb1 hb2), xr2_xr2 hb1]
  rw [key n (Nat.le_refl _), ← hn, List.take_of_length_le (Nat.le_refl _)]
theorem blk_outU {C : List Nat} (hu : Under 256 C) {n : Nat} (hn : 16 * n ≤ C.length) : ∀ k i, i + 1 + k = n → blkOf (outU B f C n) i = xr2 (B (blkOf C i)) (prevU f C i) := by
  have key : ∀ k i, 16 * (i + 1 + k) ≤ C.length → ∃ c, outU B f C (i + 1 + k) = outU B f C i ++ xr2 (B (blkOf C i)) (prevU f C i) ++ c := by
    intro k
    induction k with
    | zero => intro i _; exact ⟨[], by rw [List.append_nil]; rfl⟩
    | succ k ih =>
      intro i h
      obtain ⟨c, hc⟩ := ih i (by omega)
      refine ⟨c ++ xr2 (B (blkOf C (i + 1 + k))) (prevU f C (i + 1 + k)), ?_⟩
      show outU B f C (i + 1 + k) ++ xr2 (B (blkOf C (i + 1 + k))) (prevU f C (i + 1 + k)) = _
      rw [hc, List.append_assoc]
  intro k i h
  obtain ⟨c, hc⟩ := key k i (by omega)
  rw [← h, hc]
  exact blk_app (outU_len i) (of16_len _)
include hB in
/-- back and there -/
theorem ch_un (hTB : ∀ s, B16 s → T (B s) = s) {C : List Nat} (hu : Under 256 C) {n : Nat} (hn : C.length = 16 * n) : outC T f (outU B f C n) n = C := by
  have hl : ∀ i, i ≤ n → lastC T f (outU B f C n) i = prevU f C i := by
    intro i
    induction i with
    | zero => intro _; rfl
    | succ i ih =>
      intro hi
      have hb1 : B16 (blkOf C i) := blkOf_b hu (by omega)
      show T (xr2 (blkOf (outU B f C n) i) (lastC T f (outU B f C n) i)) = blkOf C i
      rw [ih (by omega), blk_outU hu (by omega) (n - (i + 1)) i (by omega), xr2_xr2 (hB _ hb1), hTB _ hb1]
  have key : ∀ i, i ≤ n → outC T f (outU B f C n) i = C.take (16 * i) := by
    intro i
    induction i with
    | zero => intro _; simp [outC]
    | succ i ih =>
      intro hi
      show outC T f (outU B f C n) i ++ lastC T f (outU B f C n) (i + 1) = _
      rw [ih (by omega), take_blk, hl (i + 1) hi]
      rfl
  rw [key n (Nat.le_refl _), ← hn, List.take_of_length_le (Nat.le_refl _)]
end
/-- how many bytes fill a text up, and the text filled up -/
def padN (l : List Nat) : Nat := 16 - l.length % 16
def padL (l : List Nat) : List Nat := l ++ List.replicate (padN l) (padN l)
theorem padN_le (l : List Nat) : 1 ≤ padN l ∧ padN l ≤ 16 := by unfold padN; omega
theorem padL_len (l : List Nat) : (padL l).length = 16 * (l.length / 16 + 1) := by
  unfold padL padN
  rw [List.length_append, List.length_replicate]
  omega
theorem padL_under {l : List Nat} (h : Under 256 l) : Under 256 (padL l) := Under.append h fun x hx => by
  have := (padN_le l).2
  rw [List.eq_of_mem_replicate hx]
  omega
/-- what a text is without what fills it up -/
def unpO (b : List Nat) : Option (List Nat) :=
  let n := el b (b.length - 1)
  if 1 ≤ n ∧ n ≤ 16 ∧ b.drop (b.length - n) = List.replicate n n then some (b.take (b.length - n)) else none
theorem unp_pad (l : List Nat) : unpO (padL l) = some l := by
  obtain ⟨h1, h2⟩ := padN_le l
  have hlen : (padL l).length = l.length + padN l := by unfold padL; rw [List.length_append, List.length_replicate]
  have hel : el (padL l) ((padL l).length - 1) = padN l := by
    rw [el_at (by omega)]
    unfold padL
    rw [List.getElem_append_right (by rw [List.length_append, List.length_replicate]; omega), List.getElem_replicate]
  have hd : (padL l).drop l.length = List.replicate (padN l) (padN l) := by unfold padL; rw [List.drop_left]
  have ht : (padL l).take l.length = l := by unfold padL; rw [List.take_left]
  unfold unpO
  simp only [hel]
  rw [show (padL l).length - padN l = l.length by omega, hd, ht, if_pos ⟨h1, h2, rfl⟩]
theorem pad_unp {b l : List Nat} (hb : b.length % 16 = 0) (h0 : 0 < b.length) (h : unpO b = some l) : padL l = b := by
  unfold unpO at h
  simp only at h
  split at h
  · rename_i hc
    obtain ⟨h1, h2, h3⟩ := hc
    generalize el b (b.length - 1) = n at *
    have hnb : n ≤ b.length := by omega
    simp only [Option.some.injEq] at h
    have hl : l.length = b.length - n := by rw [← h, List.length_take]; omega
    have hp : padN l = n := by unfold padN; rw [hl]; omega
    unfold padL
    rw [hp, ← h, ← h3, List.take_append_drop]
  · cases h
theorem drop_rep {X : List Nat} {Z n : Nat} (hX : X.length = Z) (hn : n ≤ Z) (h : ∀ t, Z - n ≤ t → t < Z → el X t = n) : X.drop (Z - n) = List.replicate n n := by
  refine ext_el (by rw [List.length_drop, List.length_replicate]; omega) fun i hi => ?_
  rw [List.length_drop] at hi
  rw [el_drop, h _ (by omega) (by omega), el_at (by rw [List.length_replicate]; omega), List.getElem_replicate]
theorem rep_at {X : List Nat} {Z n t : Nat} (hX : X.length = Z) (h : X.drop (Z - n) = List.replicate n n) (h1 : Z - n ≤ t) (h2 : t < Z) (hn : n ≤ Z) : el X t = n := by
  have : el (X.drop (Z - n)) (t - (Z - n)) = n := by rw [h, el_at (by rw [List.length_replicate]; omega), List.getElem_replicate]
  rw [el_drop, show Z - n + (t - (Z - n)) = t by omega] at this
  exact this
/-- what is told of a text that is filled up, or not -/
def unpX (X : List Nat) : List Nat := (unpO X).getD []
def unpC (X : List Nat) : Int := if (unpO X).isSome then 0 else 15
theorem unp_no {X : List Nat} (h : unpO X = none) : unpX X = [] ∧ unpC X = 15 := by unfold unpX unpC; rw [h]; exact ⟨rfl, rfl⟩
theorem unp_yes {X Y : List Nat} (h : unpO X = some Y) : unpX X = Y ∧ unpC X = 0 := by unfold unpX unpC; rw [h]; exact ⟨rfl, rfl⟩
theorem unpO_no {X : List Nat} (h : ¬ (1 ≤ el X (X.length - 1) ∧ el X (X.length - 1) ≤ 16 ∧ X.drop (X.length - el X (X.length - 1)) = List.replicate (el X (X.length - 1)) (el X (X.length - 1)))) : unpO X = none := by unfold unpO; simp only; rw [if_neg h]
theorem unpO_yes {X : List Nat} (h : 1 ≤ el X (X.length - 1) ∧ el X (X.length - 1) ≤ 16 ∧ X.drop (X.length - el X (X.length - 1)) = List.replicate (el X (X.length - 1)) (el X (X.length - 1))) : unpO X = some (X.take (X.length - el X (X.length - 1))) := by unfold unpO; simp only; rw [if_pos h]
end Go.Proofs.Ytjeofkemfpdieaa
