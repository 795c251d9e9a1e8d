/- Plain facts on the sums of SHA-3: words, rounds, bytes in and out. No walk. -/
import Derived.Test.YtnbohjoakngkeaaDoorHaM
namespace Go.Proofs.YtnbohjoakngkeaaDoor
set_option linter.unusedVariables false
set_option linter.unusedSimpArgs false

/-- a word turned to the left -/
def rotl (x n : Nat) : Nat := x * 2 ^ (n % 64) % 18446744073709551616 ||| x / 2 ^ (64 - n % 64)
theorem w64 : (18446744073709551616 : Nat) = 2 ^ 64 := by decide
theorem rotl_lt {x : Nat} (hx : x < 18446744073709551616) (n : Nat) : rotl x n < 18446744073709551616 := by
  unfold rotl
  rw [w64] at *
  exact Nat.or_lt_two_pow (Nat.mod_lt _ (Nat.two_pow_pos _)) (Nat.lt_of_le_of_lt (Nat.div_le_self _ _) hx)
theorem xor_w {x y : Nat} (hx : x < 18446744073709551616) (hy : y < 18446744073709551616) : x ^^^ y < 18446744073709551616 := by rw [w64] at *; exact Nat.xor_lt_two_pow hx hy
theorem and_w {x y : Nat} (hx : x < 18446744073709551616) : x &&& y < 18446744073709551616 := Nat.lt_of_le_of_lt Nat.and_le_left hx
theorem or_w {x y : Nat} (hx : x < 18446744073709551616) (hy : y < 18446744073709551616) : x ||| y < 18446744073709551616 := by rw [w64] at *; exact Nat.or_lt_two_pow hx hy

/-- 25 words -/
def W25 (a : List Nat) : Prop := a.length = 25 ∧ Under 18446744073709551616 a
theorem W25.el {a : List Nat} (h : W25 a) (i : Nat) : el a i < 18446744073709551616 := el_lt h.2 (by decide) i
theorem W25.set {a : List Nat} (h : W25 a) (i x : Nat) (hx : x < 18446744073709551616) : W25 (a.set i x) := ⟨by rw [List.length_set]; exact h.1, h.2.set i x hx⟩
theorem W25.zero : W25 (List.replicate 25 0) := ⟨by decide, Under.replicate _ _ (by decide)⟩

/-- the parities of columns, of so many words -/
def colN (a : List Nat) : Nat → List Nat
  | 0 => List.replicate 5 0
  | n + 1 => (colN a n).set (n % 5) (el (colN a n) (n % 5) ^^^ el a n)
theorem colN_length (a : List Nat) : ∀ n, (colN a n).length = 5
  | 0 => rfl
  | n + 1 => by simp [colN, colN_length a n]
theorem colN_under {a : List Nat} (h : W25 a) : ∀ n, Under 18446744073709551616 (colN a n)
  | 0 => Under.replicate _ _ (by decide)
  | n + 1 => (colN_under h n).set _ _ (xor_w (el_lt (colN_under h n) (by decide) _) (h.el _))
/-- so many words xored with their neighbours' columns -/
def sprN (a c : List Nat) : Nat → List Nat
  | 0 => a
  | n + 1 => (sprN a c n).set n (el (sprN a c n) n ^^^ el c ((n + 4) % 5) ^^^ rotl (el c ((n + 1) % 5)) 1)
theorem sprN_w {a c : List Nat} (h : W25 a) (hc : Under 18446744073709551616 c) : ∀ n, W25 (sprN a c n)
  | 0 => h
  | n + 1 => (sprN_w h hc n).set _ _ (xor_w (xor_w ((sprN_w h hc n).el _) (el_lt hc (by decide) _)) (rotl_lt (el_lt hc (by decide) _) 1))
def spreadK (a : List Nat) : List Nat := sprN a (colN a 25) 25
theorem spreadK_w {a : List Nat} (h : W25 a) : W25 (spreadK a) := sprN_w h (colN_under h 25) 25
/-- the t-th place -/
def plc : Nat → Nat × Nat
  | 0 => (1, 0)
  | t + 1 => ((plc t).2, (2 * (plc t).1 + 3 * (plc t).2) % 5)
theorem plc_lt : ∀ t, (plc t).1 < 5 ∧ (plc t).2 < 5
  | 0 => by decide
  | t + 1 => ⟨(plc_lt t).2, Nat.mod_lt _ (by decide)⟩
/-- so many words turned, at their new places -/
def movN (a : List Nat) : Nat → List Nat
  | 0 => (List.replicate 25 0).set 0 (el a 0)
  | t + 1 => (movN a t).set ((plc (t + 1)).1 + 5 * (plc (t + 1)).2) (rotl (el a ((plc t).1 + 5 * (plc t).2)) ((t + 1) * (t + 2) / 2))
theorem movN_w {a : List Nat} (h : W25 a) : ∀ t, W25 (movN a t)
  | 0 => W25.zero.set _ _ (h.el 0)
  | t + 1 => (movN_w h t).set _ _ (rotl_lt (h.el _) _)
def moveK (a : List Nat) : List Nat := movN a 24
theorem moveK_w {a : List Nat} (h : W25 a) : W25 (moveK a) := movN_w h 24
/-- so many words xored with what stands behind them in their row -/
def chiV (b : List Nat) (n : Nat) : Nat := el b n ^^^ ((18446744073709551615 - el b (n / 5 * 5 + (n + 1) % 5)) &&& el b (n / 5 * 5 + (n + 2) % 5))
theorem chiV_lt {b : List Nat} (h : W25 b) (n : Nat) : chiV b n < 18446744073709551616 := xor_w (h.el _) (and_w (by omega))
def chiN (a b : List Nat) : Nat → List Nat
  | 0 => a
  | n + 1 => (chiN a b n).set n (chiV b n)
theorem chiN_w {a b : List Nat} (h : W25 a) (hb : W25 b) : ∀ n, W25 (chiN a b n)
  | 0 => h
  | n + 1 => (chiN_w h hb n).set _ _ (chiV_lt hb n)
/-- the register, and the constants, behind so many steps -/
def reg : Nat → Nat
  | 0 => 1
  | n + 1 => if 256 ≤ reg n * 2 then (reg n * 2 % 256) ^^^ 113 else reg n * 2
theorem reg_lt : ∀ n, reg n < 256
  | 0 => by decide
  | n + 1 => by
    unfold reg
    split
    · exact Nat.xor_lt_two_pow (n := 8) (Nat.mod_lt _ (by decide)) (by decide)
    · omega
def cstN : Nat → List Nat
  | 0 => List.replicate 24 0
  | n + 1 => if reg n % 2 = 1 then (cstN n).set (n / 7) (el (cstN n) (n / 7) ||| 2 ^ (2 ^ (n % 7) - 1)) else cstN n
theorem cstN_length : ∀ n, (cstN n).length = 24
  | 0 => rfl
  | n + 1 => by unfold cstN; split <;> simp [cstN_length n]
theorem bit_lt (n : Nat) : 2 ^ (2 ^ (n % 7) - 1) < 18446744073709551616 := by
  have h : n % 7 < 7 := Nat.mod_lt _ (by decide)
  generalize n % 7 = k at h
  match k, h with
  | 0, _ => decide
  | 1, _ => decide
  | 2, _ => decide
  | 3, _ => decide
  | 4, _ => decide
  | 5, _ => decide
  | 6, _ => decide
theorem cstN_under : ∀ n, Under 18446744073709551616 (cstN n)
  | 0 => Under.replicate _ _ (by decide)
  | n + 1 => by
    unfold cstN
    split
    · exact (cstN_under n).set _ _ (or_w (el_lt (cstN_under n) (by decide) _) (bit_lt n))
    · exact cstN_under n
def csts : List Nat := cstN 168
theorem csts_length : csts.length = 24 := cstN_length 168
theorem csts_under : Under 18446744073709551616 csts := cstN_under 168
/-- so many rounds -/
def rndK (a : List Nat) (c : Nat) : List Nat := (chiN a (moveK (spreadK a)) 25).set 0 (el (chiN a (moveK (spreadK a)) 25) 0 ^^^ c)
theorem rndK_w {a : List Nat} (h : W25 a) {c : Nat} (hc : c < 18446744073709551616) : W25 (rndK a c) := by
  have hw := chiN_w h (moveK_w (spreadK_w h)) 25
  exact hw.set _ _ (xor_w (hw.el 0) hc)
def rdsK (a : List Nat) : Nat → List Nat
  | 0 => a
  | r + 1 => rndK (rdsK a r) (el csts r)
theorem rdsK_w {a : List Nat} (h : W25 a) : ∀ r, W25 (rdsK a r)
  | 0 => h
  | r + 1 => rndK_w (rdsK_w h r) (el_lt csts_under (by decide) _)
def perm (a : List Nat) : List Nat := rdsK a 24
theorem perm_w {a : List Nat} (h : W25 a) : W25 (perm a) := rdsK_w h 24

/-- a byte into the words -/
def putK (a : List Nat) (p c : Nat) : List Nat := a.set (p / 8) (el a (p / 8) ^^^ c * 2 ^ (8 * (p % 8)) % 18446744073709551616)
theorem putK_w {a : List Nat} (h : W25 a) (p c : Nat) : W25 (putK a p c) := h.set _ _ (xor_w (h.el _) (Nat.mod_lt _ (by decide)))
/-- words, and the place in the block -/
def inK (rate : Nat) (s : List Nat × Nat) (c : Nat) : List Nat × Nat := if s.2 + 1 = rate then (perm (putK s.1 s.2 c), 0) else (putK s.1 s.2 c, s.2 + 1)
def absK (rate : Nat) (s : List Nat × Nat) (b : List Nat) : List Nat × Nat := b.foldl (inK rate) s
theorem absK_parts (rate : Nat) (s : List Nat × Nat) (a b : List Nat) : absK rate s (a ++ b) = absK rate (absK rate s a) b := List.foldl_append ..
theorem absK_snoc (rate : Nat) (s : List Nat × Nat) (a : List Nat) (c : Nat) : absK rate s (a ++ [c]) = inK rate (absK rate s a) c := by rw [absK_parts]; rfl
theorem inK_w {rate : Nat} {s : List Nat × Nat} (h : W25 s.1) (c : Nat) : W25 (inK rate s c).1 := by
  unfold inK
  split
  · dsimp only; exact perm_w (putK_w h _ _)
  · dsimp only; exact putK_w h _ _
theorem inK_at {rate : Nat} {s : List Nat × Nat} (h : s.2 < rate) (c : Nat) : (inK rate s c).2 < rate := by
  unfold inK
  split
  · show 0 < rate; omega
  · show s.2 + 1 < rate; omega
theorem absK_w {rate : Nat} : ∀ (b : List Nat) (s : List Nat × Nat), W25 s.1 → W25 (absK rate s b).1
  | [], _, h => h
  | c :: b, s, h => absK_w b (inK rate s c) (inK_w h c)
theorem absK_at {rate : Nat} : ∀ (b : List Nat) (s : List Nat × Nat), s.2 < rate → (absK rate s b).2 < rate
  | [], _, h => h
  | c :: b, s, h => absK_at b (inK rate s c) (inK_at h c)
/-- the mark, and the last byte: all rounds -/
def endK (rate mark : Nat) (s : List Nat × Nat) : List Nat := perm (putK (putK s.1 s.2 mark) (rate - 1) 128)
theorem endK_w {rate mark : Nat} {s : List Nat × Nat} (h : W25 s.1) : W25 (endK rate mark s) := perm_w (putK_w (putK_w h _ _) _ _)
/-- all rounds, where a block is used up; a byte out of the words; so many bytes -/
def fresh (rate : Nat) (s : List Nat × Nat) : List Nat × Nat := if s.2 = rate then (perm s.1, 0) else s
def outB (s : List Nat × Nat) : Nat := el s.1 (s.2 / 8) / 2 ^ (8 * (s.2 % 8)) % 256
def sqzS (rate : Nat) (s : List Nat × Nat) : Nat → List Nat × Nat
  | 0 => s
  | n + 1 => ((fresh rate (sqzS rate s n)).1, (fresh rate (sqzS rate s n)).2 + 1)
def sqzB (rate : Nat) (s : List Nat × Nat) : Nat → List Nat
  | 0 => []
  | n + 1 => sqzB rate s n ++ [outB (fresh rate (sqzS rate s n))]
theorem sqzB_length (rate : Nat) (s : List Nat × Nat) : ∀ n, (sqzB rate s n).length = n
  | 0 => rfl
  | n + 1 => by simp [sqzB, sqzB_length rate s n]
theorem sqzB_under (rate : Nat) (s : List Nat × Nat) : ∀ n, Under 256 (sqzB rate s n)
  | 0 => fun x hx => by simp [sqzB] at hx
  | n + 1 => (sqzB_under rate s n).append (Under.one (Nat.mod_lt _ (by decide)))
theorem fresh_w {rate : Nat} {s : List Nat × Nat} (h : W25 s.1) : W25 (fresh rate s).1 := by
  unfold fresh
  split
  · dsimp only; exact perm_w h
  · exact h
theorem fresh_at {rate : Nat} {s : List Nat × Nat} (hr : 0 < rate) (h : s.2 ≤ rate) : (fresh rate s).2 < rate := by
  unfold fresh
  split
  · exact hr
  · omega
theorem sqzS_w {rate : Nat} {s : List Nat × Nat} (h : W25 s.1) : ∀ n, W25 (sqzS rate s n).1
  | 0 => h
  | n + 1 => fresh_w (sqzS_w h n)
theorem sqzS_at {rate : Nat} {s : List Nat × Nat} (hr : 0 < rate) (h : s.2 ≤ rate) : ∀ n, (sqzS rate s n).2 ≤ rate
  | 0 => h
  | n + 1 => fresh_at hr (sqzS_at hr h n)
/-- PARTS -/
theorem sqzS_parts (rate : Nat) (s : List Nat × Nat) (n : Nat) : ∀ m, sqzS rate s (n + m) = sqzS rate (sqzS rate s n) m
  | 0 => rfl
  | m + 1 => by rw [← Nat.add_assoc]; show _ = (_, _); simp only [sqzS]; rw [sqzS_parts rate s n m]
theorem sqzB_parts (rate : Nat) (s : List Nat × Nat) (n : Nat) : ∀ m, sqzB rate s (n + m) = sqzB rate s n ++ sqzB rate (sqzS rate s n) m
  | 0 => by simp [sqzB]
  | m + 1 => by rw [← Nat.add_assoc]; simp only [sqzB]; rw [sqzB_parts rate s n m, sqzS_parts, List.append_assoc]
/-- a kind's block; its mark -/
def rateK (kind : Int) : Nat := if kind = 4 ∨ kind = 7 then 136 else if kind = 5 then 72 else if kind = 6 then 168 else 0
def markK (kind : Int) : Nat := if kind = 4 ∨ kind = 5 then 6 else 31
end Go.Proofs.YtnbohjoakngkeaaDoor
