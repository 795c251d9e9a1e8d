/- The document's Add, End and Sum, of whatever kind; New and Sum of the code, of whatever kind. -/
import Derived.Test.YtejlmgbmfeacdaaGreatDoorGEn32
import Derived.Test.YtejlmgbmfeacdaaGreatDoorGEn64
import Derived.Test.YtejlmgbmfeacdaaGreatDoorRev
import Derived.Test.YtejlmgbmfeacdaaGreatDoorHSpr32
import Derived.Laws.ShiftsVarLaws
import Derived.BigRegion
namespace Go.Proofs.YtejlmgbmfeacdaaGreatDoor
open Go.RowKit
set_option linter.unusedVariables false
set_option linter.unusedSimpArgs false

theorem fill_left (c : Bool) (l : List Nat) (s : Nat) : fill c (left c l).length s = fill c l.length s := by
  unfold fill room
  rw [left_length, Nat.mod_mod]
/-- a sum's end is that of its parts -/
theorem endS_parts (c : Bool) (E b : List Nat) (s n : Nat) : endS c (eat c E b) (left c b) s n = endS c E b s n := by
  unfold endS
  rw [fill_left, ← eat_parts]
theorem rEnd_new (kind : Int) (ws : List Nat) (tv : Value) (tl : List Nat) (size : Nat) (w : World) (h8 : ws.length = 8) (hu : Under (wm (wide kind)) ws) (hRt : Row .u8 256 w tv tl) (tT : Tidy tv) (htl : tl.length < bz (wide kind)) (hsz : size < 1152921504606846976) :
    Calls Tryz.prog 39 #[.agg (hv kind ws tv size)] w fun e w' => ∃ v', e = .returned v' ∧ Row .u8 256 w' v' (endS (wide kind) ws tl size (outn kind)) ∧ New w.heap.size v' ∧ Below w.heap.size w w' := by
  cases hk : wide kind with
  | false => rw [hk] at hu htl; exact rend_new32 kind hk ws tv tl size w h8 hu hRt tT htl hsz
  | true => rw [hk] at hu htl; exact rend_new64 kind hk ws tv tl size w h8 hu hRt tT htl hsz
theorem rEnd_any (kind : Int) (ws : List Nat) (tv : Value) (tl : List Nat) (size : Nat) (w : World) (h8 : ws.length = 8) (hu : Under (wm (wide kind)) ws) (hRt : Row .u8 256 w tv tl) (tT : Tidy tv) (htl : tl.length < bz (wide kind)) (hsz : size < 1152921504606846976) :
    Calls Tryz.prog 39 #[.agg (hv kind ws tv size)] w fun e w' => ∃ v', e = .returned v' ∧ Row .u8 256 w' v' (endS (wide kind) ws tl size (outn kind)) ∧ Below w.heap.size w w' := by
  cases hk : wide kind with
  | false => rw [hk] at hu htl; exact rend_any32 kind hk ws tv tl size w h8 hu hRt tT htl hsz
  | true => rw [hk] at hu htl; exact rend_any64 kind hk ws tv tl size w h8 hu hRt tT htl hsz
theorem rAdd_any (kind : Int) (ws : List Nat) (tv bv : Value) (tl b : List Nat) (size : Nat) (w : World) (h8 : ws.length = 8) (hu : Under (wm (wide kind)) ws) (hRt : Row .u8 256 w tv tl) (tT : Tidy tv) (hRb : Row .u8 256 w bv b) (tB : Tidy bv) (htl : tl.length ≤ 100000) (hbl : b.length ≤ 100000) (hsz : size < 1152921504606846976) :
    Calls Tryz.prog 40 #[.agg (hv kind ws tv size), bv] w fun e w' => ∃ v', e = .returned (.agg (hv kind (eat (wide kind) ws (tl ++ b)) v' (size + b.length))) ∧ Row .u8 256 w' v' (left (wide kind) (tl ++ b)) ∧ Tidy v' ∧ Below w.heap.size w w' := by
  cases hk : wide kind with
  | false => rw [hk] at hu; exact radd_any32 kind hk ws tv bv tl b size w h8 hu hRt tT hRb tB htl hbl hsz
  | true => rw [hk] at hu; exact radd_any64 kind hk ws tv bv tl b size w h8 hu hRt tT hRb tB htl hbl hsz

set_option maxHeartbeats 2000000 in
set_option maxRecDepth 100000 in
theorem rsum_new (kind : Int) (E : List Nat) (bv : Value) (b : List Nat) (w : World) (h8 : E.length = 8) (hu : Under (wm (wide kind)) E) (hR : Row .u8 256 w bv b) (tB : Tidy bv) (hbl : b.length ≤ 100000)
    (hnew : Calls Tryz.prog 38 #[.int .i64 kind] w fun e w' => e = .returned (.tuple #[.agg (hv kind E (.slice none 0 0) 0), .int .i64 0]) ∧ Below w.heap.size w w') :
    Calls Tryz.prog 19 #[.int .i64 kind, bv] w fun e w' => ∃ v', e = .returned (.tuple #[v', .int .i64 0]) ∧ Row .u8 256 w' v' (endS (wide kind) E b b.length (outn kind)) ∧ New w.heap.size v' ∧ Below w.heap.size w w' := by
  obtain ⟨ba, bc, rfl⟩ := hR.form
  have hadd := fun w1 (hb1 : Below w.heap.size w w1) => rAdd_any kind E (.slice none 0 0) _ [] b 0 w1 h8 hu (Row.nil _ _ _) tidy_nil (hR.below hb1) tB (by decide) hbl (by decide)
  have hend := fun w1 v1 (hR1 : Row .u8 256 w1 v1 (left (wide kind) b)) (hT1 : Tidy v1) => rEnd_new kind (eat (wide kind) E b) v1 (left (wide kind) b) b.length w1 (eat_len _ h8) (eat_under _ hu) hR1 hT1 (left_lt _ _) (by omega)
  rw [endS_parts] at hend
  simp only [List.nil_append, Nat.zero_add] at hadd
  unfold hv at hadd hend hnew
  generalize eat (wide kind) E b = X at *
  generalize left (wide kind) b = L at *
  go_enter Tryz.func19, Tryz.ntmps19
  go_wp2_with (first
    | (go_at_call 38; refine hnew.mono ?_; rintro e w1 ⟨rfl, hb1⟩)
    | (go_at_call 40; refine (hadd _ (keep_trans hb1 (keep_alloc _ _))).mono ?_; rintro e w2 ⟨v2, rfl, hR2, hT2, hb2⟩)
    | (go_at_call 39; refine (hend _ _ hR2 hT2).mono ?_; rintro e w3 ⟨v3, rfl, hR3, hN3, hb3⟩)
    | fail)
  go_ret2
  exact ⟨_, rfl, hR3, hN3.mono (keep_trans (keep_trans hb1 (keep_alloc _ _)) hb2).size, keep_trans (keep_trans (keep_trans hb1 (keep_alloc _ _)) hb2) hb3⟩
theorem rsum_of (kind : Int) (E : List Nat) (bv : Value) (b : List Nat) (w : World) (h8 : E.length = 8) (hu : Under (wm (wide kind)) E) (hR : Row .u8 256 w bv b) (tB : Tidy bv) (hbl : b.length ≤ 100000)
    (hnew : Calls Tryz.prog 38 #[.int .i64 kind] w fun e w' => e = .returned (.tuple #[.agg (hv kind E (.slice none 0 0) 0), .int .i64 0]) ∧ Below w.heap.size w w') :
    Calls Tryz.prog 19 #[.int .i64 kind, bv] w fun e w' => ∃ v', e = .returned (.tuple #[v', .int .i64 0]) ∧ Row .u8 256 w' v' (endS (wide kind) E b b.length (outn kind)) ∧ Below w.heap.size w w' :=
  (rsum_new kind E bv b w h8 hu hR tB hbl hnew).mono fun e w' ⟨v', h1, h2, _, h3⟩ => ⟨v', h1, h2, h3⟩
set_option maxHeartbeats 2000000 in
set_option maxRecDepth 100000 in
theorem rsum_0 (kind : Int) (bv : Value) (w : World) (h1 : ¬ kind = 1) (h2 : ¬ kind = 2) (h3 : ¬ kind = 3) :
    Calls Tryz.prog 19 #[.int .i64 kind, bv] w fun e w' => e = .returned (.tuple #[.slice none 0 0, .int .i64 9]) ∧ Below w.heap.size w w' := by
  have hnew := rnew_0 kind w h1 h2 h3
  unfold hv at *
  go_enter Tryz.func19, Tryz.ntmps19
  go_wp2_with (first
    | (go_at_call 38; refine hnew.mono ?_; rintro e w1 ⟨rfl, hb1⟩)
    | fail)
  go_ret2
  exact ⟨rfl, keep_trans hb1 (keep_alloc _ _)⟩

/-- New and Sum, of whatever kind: what is told -/
def NewE (F : FuncId) (kind : Int) (k : Int) (E : List Nat) (c : Int) (w : World) : Prop := Calls Tryz.prog F #[.int .i64 kind] w fun e w' => e = .returned (.tuple #[.agg (hv k E (.slice none 0 0) 0), .int .i64 c]) ∧ Below w.heap.size w w'
def SumE (F : FuncId) (kind : Int) (bv : Value) (s : List Nat) (c : Int) (w : World) : Prop := Calls Tryz.prog F #[.int .i64 kind, bv] w fun e w' => ∃ v', e = .returned (.tuple #[v', .int .i64 c]) ∧ Row .u8 256 w' v' s ∧ Below w.heap.size w w'
end Go.Proofs.YtejlmgbmfeacdaaGreatDoor

/- Plain facts on the sums of SHA-3: words, rounds, bytes in and out. No walk. -/
namespace Go.Proofs.YtejlmgbmfeacdaaGreatDoor
set_option linter.unusedVariables false
set_option linter.unusedSimpArgs false

/-- a word turned to the left -/
def rotl (x n : Nat) : Nat := x * 2 ^ (n % 64) % 18446744073709551616 ||| x / 2 ^ (64 - n % 64)
theorem w64 : (18446744073709551616 : Nat) = 2 ^ 64 := by decide
theorem rotl_lt {x : Nat} (hx : x < 18446744073709551616) (n : Nat) : rotl x n < 18446744073709551616 := by
  unfold rotl
  rw [w64] at *
  exact Nat.or_lt_two_pow (Nat.mod_lt _ (Nat.two_pow_pos _)) (Nat.lt_of_le_of_lt (Nat.div_le_self _ _) hx)
theorem xor_w {x y : Nat} (hx : x < 18446744073709551616) (hy : y < 18446744073709551616) : x ^^^ y < 18446744073709551616 := by rw [w64] at *; exact Nat.xor_lt_two_pow hx hy
theorem and_w {x y : Nat} (hx : x < 18446744073709551616) : x &&& y < 18446744073709551616 := Nat.lt_of_le_of_lt Nat.and_le_left hx
theorem or_w {x y : Nat} (hx : x < 18446744073709551616) (hy : y < 18446744073709551616) : x ||| y < 18446744073709551616 := by rw [w64] at *; exact Nat.or_lt_two_pow hx hy

/-- 25 words -/
def W25 (a : List Nat) : Prop := a.length = 25 ∧ Under 18446744073709551616 a
theorem W25.el {a : List Nat} (h : W25 a) (i : Nat) : el a i < 18446744073709551616 := el_lt h.2 (by decide) i
theorem W25.set {a : List Nat} (h : W25 a) (i x : Nat) (hx : x < 18446744073709551616) : W25 (a.set i x) := ⟨by rw [List.length_set]; exact h.1, h.2.set i x hx⟩
theorem W25.zero : W25 (List.replicate 25 0) := ⟨by decide, Under.replicate _ _ (by decide)⟩

/-- the parities of columns, of so many words -/
def colN (a : List Nat) : Nat → List Nat
  | 0 => List.replicate 5 0
  | n + 1 => (colN a n).set (n % 5) (el (colN a n) (n % 5) ^^^ el a n)
theorem colN_length (a : List Nat) : ∀ n, (colN a n).length = 5
  | 0 => rfl
  | n + 1 => by simp [colN, colN_length a n]
theorem colN_under {a : List Nat} (h : W25 a) : ∀ n, Under 18446744073709551616 (colN a n)
  | 0 => Under.replicate _ _ (by decide)
  | n + 1 => (colN_under h n).set _ _ (xor_w (el_lt (colN_under h n) (by decide) _) (h.el _))
/-- so many words xored with their neighbours' columns -/
def sprN (a c : List Nat) : Nat → List Nat
  | 0 => a
  | n + 1 => (sprN a c n).set n (el (sprN a c n) n ^^^ el c ((n + 4) % 5) ^^^ rotl (el c ((n + 1) % 5)) 1)
theorem sprN_w {a c : List Nat} (h : W25 a) (hc : Under 18446744073709551616 c) : ∀ n, W25 (sprN a c n)
  | 0 => h
  | n + 1 => (sprN_w h hc n).set _ _ (xor_w (xor_w ((sprN_w h hc n).el _) (el_lt hc (by decide) _)) (rotl_lt (el_lt hc (by decide) _) 1))
def spreadK (a : List Nat) : List Nat := sprN a (colN a 25) 25
theorem spreadK_w {a : List Nat} (h : W25 a) : W25 (spreadK a) := sprN_w h (colN_under h 25) 25
/-- the t-th place -/
def plc : Nat → Nat × Nat
  | 0 => (1, 0)
  | t + 1 => ((plc t).2, (2 * (plc t).1 + 3 * (plc t).2) % 5)
theorem plc_lt : ∀ t, (plc t).1 < 5 ∧ (plc t).2 < 5
  | 0 => by decide
  | t + 1 => ⟨(plc_lt t).2, Nat.mod_lt _ (by decide)⟩
/-- so many words turned, at their new places -/
def movN (a : List Nat) : Nat → List Nat
  | 0 => (List.replicate 25 0).set 0 (el a 0)
  | t + 1 => (movN a t).set ((plc (t + 1)).1 + 5 * (plc (t + 1)).2) (rotl (el a ((plc t).1 + 5 * (plc t).2)) ((t + 1) * (t + 2) / 2))
theorem movN_w {a : List Nat} (h : W25 a) : ∀ t, W25 (movN a t)
  | 0 => W25.zero.set _ _ (h.el 0)
  | t + 1 => (movN_w h t).set _ _ (rotl_lt (h.el _) _)
def moveK (a : List Nat) : List Nat := movN a 24
theorem moveK_w {a : List Nat} (h : W25 a) : W25 (moveK a) := movN_w h 24
/-- so many words xored with what stands behind them in their row -/
def chiV (b : List Nat) (n : Nat) : Nat := el b n ^^^ ((18446744073709551615 - el b (n / 5 * 5 + (n + 1) % 5)) &&& el b (n / 5 * 5 + (n + 2) % 5))
theorem chiV_lt {b : List Nat} (h : W25 b) (n : Nat) : chiV b n < 18446744073709551616 := xor_w (h.el _) (and_w (by omega))
def chiN (a b : List Nat) : Nat → List Nat
  | 0 => a
  | n + 1 => (chiN a b n).set n (chiV b n)
theorem chiN_w {a b : List Nat} (h : W25 a) (hb : W25 b) : ∀ n, W25 (chiN a b n)
  | 0 => h
  | n + 1 => (chiN_w h hb n).set _ _ (chiV_lt hb n)
/-- the register, and the constants, behind so many steps -/
def reg : Nat → Nat
  | 0 => 1
  | n + 1 => if 256 ≤ reg n * 2 then (reg n * 2 % 256) ^^^ 113 else reg n * 2
theorem reg_lt : ∀ n, reg n < 256
  | 0 => by decide
  | n + 1 => by
    unfold reg
    split
    · exact Nat.xor_lt_two_pow (n := 8) (Nat.mod_lt _ (by decide)) (by decide)
    · omega
def cstN : Nat → List Nat
  | 0 => List.replicate 24 0
  | n + 1 => if reg n % 2 = 1 then (cstN n).set (n / 7) (el (cstN n) (n / 7) ||| 2 ^ (2 ^ (n % 7) - 1)) else cstN n
theorem cstN_length : ∀ n, (cstN n).length = 24
  | 0 => rfl
  | n + 1 => by unfold cstN; split <;> simp [cstN_length n]
theorem bit_lt (n : Nat) : 2 ^ (2 ^ (n % 7) - 1) < 18446744073709551616 := by
  have h : n % 7 < 7 := Nat.mod_lt _ (by decide)
  generalize n % 7 = k at h
  match k, h with
  | 0, _ => decide
  | 1, _ => decide
  | 2, _ => decide
  | 3, _ => decide
  | 4, _ => decide
  | 5, _ => decide
  | 6, _ => decide
theorem cstN_under : ∀ n, Under 18446744073709551616 (cstN n)
  | 0 => Under.replicate _ _ (by decide)
  | n + 1 => by
    unfold cstN
    split
    · exact (cstN_under n).set _ _ (or_w (el_lt (cstN_under n) (by decide) _) (bit_lt n))
    · exact cstN_under n
def csts : List Nat := cstN 168
theorem csts_length : csts.length = 24 := cstN_length 168
theorem csts_under : Under 18446744073709551616 csts := cstN_under 168
/-- so many rounds -/
def rndK (a : List Nat) (c : Nat) : List Nat := (chiN a (moveK (spreadK a)) 25).set 0 (el (chiN a (moveK (spreadK a)) 25) 0 ^^^ c)
theorem rndK_w {a : List Nat} (h : W25 a) {c : Nat} (hc : c < 18446744073709551616) : W25 (rndK a c) := by
  have hw := chiN_w h (moveK_w (spreadK_w h)) 25
  exact hw.set _ _ (xor_w (hw.el 0) hc)
def rdsK (a : List Nat) : Nat → List Nat
  | 0 => a
  | r + 1 => rndK (rdsK a r) (el csts r)
theorem rdsK_w {a : List Nat} (h : W25 a) : ∀ r, W25 (rdsK a r)
  | 0 => h
  | r + 1 => rndK_w (rdsK_w h r) (el_lt csts_under (by decide) _)
def perm (a : List Nat) : List Nat := rdsK a 24
theorem perm_w {a : List Nat} (h : W25 a) : W25 (perm a) := rdsK_w h 24

/-- a byte into the words -/
def putK (a : List Nat) (p c : Nat) : List Nat := a.set (p / 8) (el a (p / 8) ^^^ c * 2 ^ (8 * (p % 8)) % 18446744073709551616)
theorem putK_w {a : List Nat} (h : W25 a) (p c : Nat) : W25 (putK a p c) := h.set _ _ (xor_w (h.el _) (Nat.mod_lt _ (by decide)))
/-- words, and the place in the block -/
def inK (rate : Nat) (s : List Nat × Nat) (c : Nat) : List Nat × Nat := if s.2 + 1 = rate then (perm (putK s.1 s.2 c), 0) else (putK s.1 s.2 c, s.2 + 1)
def absK (rate : Nat) (s : List Nat × Nat) (b : List Nat) : List Nat × Nat := b.foldl (inK rate) s
theorem absK_parts (rate : Nat) (s : List Nat × Nat) (a b : List Nat) : absK rate s (a ++ b) = absK rate (absK rate s a) b := List.foldl_append ..
theorem absK_snoc (rate : Nat) (s : List Nat × Nat) (a : List Nat) (c : Nat) : absK rate s (a ++ [c]) = inK rate (absK rate s a) c := by rw [absK_parts]; rfl
theorem inK_w {rate : Nat} {s : List Nat × Nat} (h : W25 s.1) (c : Nat) : W25 (inK rate s c).1 := by
  unfold inK
  split
  · dsimp only; exact perm_w (putK_w h _ _)
  · dsimp only; exact putK_w h _ _
theorem inK_at {rate : Nat} {s : List Nat × Nat} (h : s.2 < rate) (c : Nat) : (inK rate s c).2 < rate := by
  unfold inK
  split
  · show 0 < rate; omega
  · show s.2 + 1 < rate; omega
theorem absK_w {rate : Nat} : ∀ (b : List Nat) (s : List Nat × Nat), W25 s.1 → W25 (absK rate s b).1
  | [], _, h => h
  | c :: b, s, h => absK_w b (inK rate s c) (inK_w h c)
theorem absK_at {rate : Nat} : ∀ (b : List Nat) (s : List Nat × Nat), s.2 < rate → (absK rate s b).2 < rate
  | [], _, h => h
  | c :: b, s, h => absK_at b (inK rate s c) (inK_at h c)
/-- the mark, and the last byte: all rounds -/
def endK (rate mark : Nat) (s : List Nat × Nat) : List Nat := perm (putK (putK s.1 s.2 mark) (rate - 1) 128)
theorem endK_w {rate mark : Nat} {s : List Nat × Nat} (h : W25 s.1) : W25 (endK rate mark s) := perm_w (putK_w (putK_w h _ _) _ _)
/-- all rounds, where a block is used up; a byte out of the words; so many bytes -/
def fresh (rate : Nat) (s : List Nat × Nat) : List Nat × Nat := if s.2 = rate then (perm s.1, 0) else s
def outB (s : List Nat × Nat) : Nat := el s.1 (s.2 / 8) / 2 ^ (8 * (s.2 % 8)) % 256
def sqzS (rate : Nat) (s : List Nat × Nat) : Nat → List Nat × Nat
  | 0 => s
  | n + 1 => ((fresh rate (sqzS rate s n)).1, (fresh rate (sqzS rate s n)).2 + 1)
def sqzB (rate : Nat) (s : List Nat × Nat) : Nat → List Nat
  | 0 => []
  | n + 1 => sqzB rate s n ++ [outB (fresh rate (sqzS rate s n))]
theorem sqzB_length (rate : Nat) (s : List Nat × Nat) : ∀ n, (sqzB rate s n).length = n
  | 0 => rfl
  | n + 1 => by simp [sqzB, sqzB_length rate s n]
theorem sqzB_under (rate : Nat) (s : List Nat × Nat) : ∀ n, Under 256 (sqzB rate s n)
  | 0 => fun x hx => by simp [sqzB] at hx
  | n + 1 => (sqzB_under rate s n).append (Under.one (Nat.mod_lt _ (by decide)))
theorem fresh_w {rate : Nat} {s : List Nat × Nat} (h : W25 s.1) : W25 (fresh rate s).1 := by
  unfold fresh
  split
  · dsimp only; exact perm_w h
  · exact h
theorem fresh_at {rate : Nat} {s : List Nat × Nat} (hr : 0 < rate) (h : s.2 ≤ rate) : (fresh rate s).2 < rate := by
  unfold fresh
  split
  · exact hr
  · omega
theorem sqzS_w {rate : Nat} {s : List Nat × Nat} (h : W25 s.1) : ∀ n, W25 (sqzS rate s n).1
  | 0 => h
  | n + 1 => fresh_w (sqzS_w h n)
theorem sqzS_at {rate : Nat} {s : List Nat × Nat} (hr : 0 < rate) (h : s.2 ≤ rate) : ∀ n, (sqzS rate s n).2 ≤ rate
  | 0 => h
  | n + 1 => fresh_at hr (sqzS_at hr h n)
/-- PARTS -/
theorem sqzS_parts (rate : Nat) (s : List Nat × Nat) (n : Nat) : ∀ m, sqzS rate s (n + m) = sqzS rate (sqzS rate s n) m
  | 0 => rfl
  | m + 1 => by rw [← Nat.add_assoc]; show _ = (_, _); simp only [sqzS]; rw [sqzS_parts rate s n m]
theorem sqzB_parts (rate : Nat) (s : List Nat × Nat) (n : Nat) : ∀ m, sqzB rate s (n + m) = sqzB rate s n ++ sqzB rate (sqzS rate s n) m
  | 0 => by simp [sqzB]
  | m + 1 => by rw [← Nat.add_assoc]; simp only [sqzB]; rw [sqzB_parts rate s n m, sqzS_parts, List.append_assoc]
/-- a kind's block; its mark -/
def rateK (kind : Int) : Nat := if kind = 4 ∨ kind = 7 then 136 else if kind = 5 then 72 else if kind = 6 then 168 else 0
def markK (kind : Int) : Nat := if kind = 4 ∨ kind = 5 then 6 else 31
end Go.Proofs.YtejlmgbmfeacdaaGreatDoor

/- Contract of the document's left: a word turned to the left. -/
namespace Go.Proofs.YtejlmgbmfeacdaaGreatDoor
open Go.RowKit
set_option linter.unusedVariables false
set_option linter.unusedSimpArgs false

theorem rotl_mod (x n : Nat) : rotl x (n % 64) = rotl x n := by unfold rotl; rw [Nat.mod_mod]
theorem rotl_is (x k : Nat) (hx : x < 18446744073709551616) (hk : k < 64) : bits .or .u64 (IntKind.u64.wrap ((x : Int) * 2 ^ k)) ((x : Int) / 2 ^ (64 - k)) = ((rotl x k : Nat) : Int) := by
  have e1 : (x : Int) / 2 ^ (64 - k) = ((x / 2 ^ (64 - k) : Nat) : Int) := by simp
  have e2 : IntKind.u64.wrap ((x : Int) * 2 ^ k) = ((x * 2 ^ k % 18446744073709551616 : Nat) : Int) := by rw [IntKind.wrap_u64]; simp
  rw [e1, e2, u64_or_nat _ _ (Nat.mod_lt _ (by decide)) (Nat.lt_of_le_of_lt (Nat.div_le_self _ _) hx)]
  unfold rotl
  rw [Nat.mod_eq_of_lt hk]
set_option maxHeartbeats 1000000 in
theorem kleft_any (x n : Nat) (w : World) (hx : x < 18446744073709551616) (hn : n < 1000000) :
    Calls Tryz.prog 103 #[.int .u64 x, .int .i64 n] w fun e w' => e = .returned (.int .u64 (rotl x n : Nat)) ∧ ∃ m, w' = w.drewN m := by
  obtain ⟨k, hk⟩ : ∃ k, k = n % 64 := ⟨_, rfl⟩
  have hk64 : k < 64 := by omega
  have hm : (n : Int) % 64 = (k : Int) := by omega
  have m1 : min k 64 = k := by omega
  have m2 : min (64 - k) 64 = 64 - k := by omega
  rw [← rotl_mod, ← hk]
  clear hk
  go_enter Tryz.func103, Tryz.ntmps103
  go_wp2
  go_quiet (fail)
  go_wp2
  go_ret
  exact ⟨ret_int (rotl_is x k hx hk64), _, rfl⟩
end Go.Proofs.YtejlmgbmfeacdaaGreatDoor

/- Contract of the document's spread. -/
namespace Go.Proofs.YtejlmgbmfeacdaaGreatDoor
open Go.RowKit
set_option linter.unusedVariables false
set_option linter.unusedSimpArgs false

/-- so many zeros, under a name of their own -/
def zs (n : Nat) : List Nat := List.replicate n 0
theorem zs_len (n : Nat) : (zs n).length = n := List.length_replicate
theorem zero25 : ∀ w, (zeroValue 57).run Tryz.prog w = .ok (.agg (arr .u64 (zs 25))) w := zero_arr (by kernel_rfl)
theorem zero5 : ∀ w, (zeroValue 126).run Tryz.prog w = .ok (.agg (arr .u64 (zs 5))) w := zero_arr (by kernel_rfl)
theorem xor_k (x y : Nat) (hx : x < 18446744073709551616) (hy : y < 18446744073709551616) : bits .xor .u64 (x : Int) (y : Int) = ((x ^^^ y : Nat) : Int) := u64_xor_nat x y hx hy
theorem colN_next (a : List Nat) (n : Nat) : colN a (n + 1) = (colN a n).set (n % 5) (el (colN a n) (n % 5) ^^^ el a n) := rfl
theorem sprN_next (a c : List Nat) (n : Nat) : sprN a c (n + 1) = (sprN a c n).set n (el (sprN a c n) n ^^^ el c ((n + 4) % 5) ^^^ rotl (el c ((n + 1) % 5)) 1) := rfl

set_option maxHeartbeats 4000000 in
set_option maxRecDepth 100000 in
theorem kspread_any (a : List Nat) (w : World) (hw : W25 a) :
    Calls Tryz.prog 87 #[.agg (arr .u64 a)] w fun e w' => e = .returned (.agg (arr .u64 (spreadK a))) ∧ Below w.heap.size w w' := by
  have hz := zero25
  have hz5 := zero5
  have hA1 : Lies .u64 57 (((w.alloc (.cells (arr .u64 a) 57)).alloc (.cells (arr .u64 (zs 25)) 57)).alloc (.cells (arr .u64 (zs 5)) 126)) w.heap.size a := ((Lies.new .u64 57 w a).alloc _).alloc _
  have hR1 : Lies .u64 57 (((w.alloc (.cells (arr .u64 a) 57)).alloc (.cells (arr .u64 (zs 25)) 57)).alloc (.cells (arr .u64 (zs 5)) 126)) (w.heap.size + 1) (zs 25) := by
    have := (Lies.new .u64 57 (w.alloc (.cells (arr .u64 a) 57)) (zs 25)).alloc (.cells (arr .u64 (zs 5)) 126)
    rw [World.size_alloc] at this
    exact this
  have hC1 : Lies .u64 126 (((w.alloc (.cells (arr .u64 a) 57)).alloc (.cells (arr .u64 (zs 25)) 57)).alloc (.cells (arr .u64 (zs 5)) 126)) (w.heap.size + 1 + 1) (zs 5) := by
    have := Lies.new .u64 126 ((w.alloc (.cells (arr .u64 a) 57)).alloc (.cells (arr .u64 (zs 25)) 57)) (zs 5)
    rw [World.size_alloc, World.size_alloc] at this
    exact this
  have hb1 := keep_trans (keep_trans (keep_alloc w (.cells (arr .u64 a) 57)) (keep_alloc _ (.cells (arr .u64 (zs 25)) 57))) (keep_alloc _ (.cells (arr .u64 (zs 5)) 126))
  go_enter Tryz.func87, Tryz.ntmps87
  go_wp2
  clear hz hz5
  generalize ((w.alloc (.cells (arr .u64 a) 57)).alloc (.cells (arr .u64 (zs 25)) 57)).alloc (.cells (arr .u64 (zs 5)) 126) = x1 at *
  go_loopw [4] (fun i wr => ∃ n : Nat, n ≤ 25 ∧ i = .int .i64 n ∧ Lies .u64 126 wr (w.heap.size + 1 + 1) (colN a n) ∧ But (w.heap.size + 1 + 1) x1 wr) (fun i _ => 25 - (intOf i).toNat)
  case atStart => exact ⟨0, Nat.zero_le _, rfl, hC1, But.refl _ _⟩
  case round =>
    obtain ⟨n, hn, rfl, hC, hB⟩ := hrel
    have hA := hA1.but hB (by omega)
    by_cases hlt : n < 25
    · obtain ⟨m, hm⟩ : ∃ m, m = n % 5 := ⟨_, rfl⟩
      have hmi : (n : Int) % 5 = (m : Int) := by omega
      have hm5 : m < 5 := by omega
      have hnx := colN_next a n
      rw [← hm] at hnx
      have h1 : el (colN a n) m < 18446744073709551616 := el_lt (colN_under hw n) (by decide) m
      have h2 := hw.el n
      have hst := hC.set m (el (colN a n) m ^^^ el a n)
      rw [← hnx] at hst
      have HST := hide hst
      have c1 := hC.cell (i := m) (by rw [colN_length]; omega)
      have f1 := hC.frozen m
      have c2 := hA.cell (i := n) (by rw [hw.1]; omega)
      have i0 : (0 : Int) ≤ (n : Int) := Int.natCast_nonneg _
      have i1 : (n : Int) < 25 := by omega
      have i2 : (0 : Int) ≤ (m : Int) := Int.natCast_nonneg _
      have i3 : (m : Int) < 5 := by omega
      clear hm hnx hst
      generalize el (colN a n) m = p at *
      generalize el a n = q at *
      go_wp2
      go_region
      go_wp2
      rw [xor_k p q h1 h2]
      exact ⟨⟨n + 1, by omega, by go_num, HST.out, (hB.setCell m _).drew⟩, by simp [intOf]; omega⟩
    · obtain rfl : n = 25 := by omega
      have hcu := colN_under hw 25
      have hcl := colN_length a 25
      have hsp : spreadK a = sprN a (colN a 25) 25 := rfl
      have HSP := hide hsp
      clear hsp
      generalize colN a 25 = c at *
      have hR := hR1.but hB (by omega)
      have hbx := hb1.trans (hB.below (by omega) hb1.size)
      clear hA1 hR1 hC1 hb1 hB
      go_wp2
      go_loopw [5] (fun i wz => ∃ n : Nat, n ≤ 25 ∧ i = .int .i64 n ∧ Lies .u64 57 wz w.heap.size (sprN a c n) ∧ But w.heap.size wr wz) (fun i _ => 25 - (intOf i).toNat)
      case atStart => exact ⟨0, Nat.zero_le _, rfl, hA, But.refl _ _⟩
      case round =>
        clear hA
        obtain ⟨n, hn, rfl, hA, hB⟩ := hrel
        have hsw := sprN_w hw hcu n
        by_cases hlt : n < 25
        · obtain ⟨m, hm⟩ : ∃ m, m = (n + 4) % 5 := ⟨_, rfl⟩
          obtain ⟨k, hk⟩ : ∃ k, k = (n + 1) % 5 := ⟨_, rfl⟩
          obtain ⟨n4, hn4⟩ : ∃ n4, n4 = n + 4 := ⟨_, rfl⟩
          obtain ⟨n1, hn1⟩ : ∃ n1, n1 = n + 1 := ⟨_, rfl⟩
          have e4 : (n : Int) + 4 = (n4 : Int) := by omega
          have e1 : (n : Int) + 1 = (n1 : Int) := by omega
          have r4 : IntKind.i64.wrap (n4 : Int) = (n4 : Int) := by rw [IntKind.wrap_i64]; omega
          have r1 : IntKind.i64.wrap (n1 : Int) = (n1 : Int) := by rw [IntKind.wrap_i64]; omega
          have hmi : (n4 : Int) % 5 = (m : Int) := by omega
          have hki : (n1 : Int) % 5 = (k : Int) := by omega
          have hmt : (n4 : Int).tmod 5 = (m : Int) := by rw [Int.tmod_eq_emod_of_nonneg (by omega)]; exact hmi
          have hkt : (n1 : Int).tmod 5 = (k : Int) := by rw [Int.tmod_eq_emod_of_nonneg (by omega)]; exact hki
          have HN1 := hide hn1
          have hCz := hC.but hB (by omega)
          have hnx := sprN_next a c n
          rw [← hm, ← hk] at hnx
          have h1 := hsw.el n
          have h2 : el c m < 18446744073709551616 := el_lt hcu (by decide) m
          have h3 : el c k < 18446744073709551616 := el_lt hcu (by decide) k
          have h4 := rotl_lt h3 1
          have hst := fun q => (hA.drewN q).set n (el (sprN a c n) n ^^^ el c m ^^^ rotl (el c k) 1)
          rw [← hnx, ← hn1] at hst
          have HST := hide hst
          have c1 := hA.cell (i := n) (by rw [hsw.1]; omega)
          have f1 := hA.frozen n
          have c2 := hCz.cell (i := m) (by omega)
          have c3 := hCz.cell (i := k) (by omega)
          have i0 : (0 : Int) ≤ (n : Int) := Int.natCast_nonneg _
          have i1 : (n : Int) < 25 := by omega
          have i2 : (0 : Int) ≤ (m : Int) := Int.natCast_nonneg _
          have i3 : (m : Int) < 5 := by omega
          have i4 : (0 : Int) ≤ (k : Int) := Int.natCast_nonneg _
          have i5 : (k : Int) < 5 := by omega
          have hlf := fun w' => kleft_any (el c k) 1 w' h3 (by decide)
          clear hm hk hnx hst hn4 hn1
          generalize el (sprN a c n) n = p at *
          generalize el c m = q at *
          generalize rotl (el c k) 1 = r at *
          generalize el c k = t at *
          go_wp2
          go_region_with (go_at_call 103; refine (hlf _).mono ?_; rintro e w5 ⟨rfl, mm, rfl⟩)
          all_goals (
            go_wp2
            rw [xor_k p q h1 h2, xor_k _ r (xor_w h1 h2) h4]
            first
              | exact ⟨⟨n1, by have := HN1.out; omega, rfl, HST.out _, (hB.drewN _).setCell n _⟩, by have := HN1.out; simp [intOf]; omega⟩
              | (go_roundw
                 case rel =>
                   (repeat apply Exists.intro)
                   exact ⟨⟨n1, by have := HN1.out; omega, rfl, HST.out _, (hB.drewN _).setCell n _⟩, rfl⟩
                 case measure => have := HN1.out; simp [intOf]; omega))
        · obtain rfl : n = 25 := by omega
          rw [← HSP.out] at hA hsw
          have hRz := hR.but hB (by omega)
          have hOf : Lies .u64 57 (wr.setRow (w.heap.size + 1) (arr .u64 (spreadK a))) (w.heap.size + 1) (spreadK a) := hRz.row
          have hbf := (hbx.trans (hB.below (Nat.le_refl _) hbx.size)).trans ((But.setRow (But.refl (w.heap.size + 1) _) (arr .u64 (spreadK a))).below (by omega) (by have := hbx.size; have := hB.size; omega))
          have hsl := hsw.1
          go_wp2_with (first
            | (refine wpList_load_row rfl 57 _ (by rfl) w.heap.size (by rfl) _ _ _ (.array 25 45) hA (by kernel_rfl) rfl (by rw [arr_size, hsl]; kernel_rfl) ?_)
            | (refine wpList_store_row rfl 57 _ _ (by rfl) (w.heap.size + 1) (arr .u64 (spreadK a)) (by rfl) (by rfl) _ _ hRz (by rw [arr_size, hsl]; kernel_rfl) (by rw [arr_size, arr_size, hsl, zs_len]) (arr_one _ _) ?_)
            | fail)
          refine bodyPost_ret (v := .agg (arr .u64 (spreadK a))) ?_ rfl ⟨rfl, hbf⟩
          exact results_cell_row Tryz.results87 _ _ (w.heap.size + 1) _ _ _ (.array 25 45) (by rfl) hOf (by kernel_rfl) rfl (by rw [arr_size, hsl]; kernel_rfl)
end Go.Proofs.YtejlmgbmfeacdaaGreatDoor
