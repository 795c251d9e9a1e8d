/- The document's End, of words of 32 bits. -/
import Derived.Test.YtejlmgbmfeacdaaDoorHN2
import Derived.Test.YtejlmgbmfeacdaaDoorGApp
import Derived.Test.YtejlmgbmfeacdaaDoorRev
import Derived.Deep.RegionLaw
import Derived.Deep.AppendLies
import Derived.Test.YtejlmgbmfeacdaaDoorHAdd32
import Derived.Test.YtejlmgbmfeacdaaDoorHRes64
import Derived.Test.YtejlmgbmfeacdaaDoorHTak32
import Derived.Test.YtejlmgbmfeacdaaDoorHFin64
import Derived.Test.YtejlmgbmfeacdaaDoorHSl
import Derived.Test.YtejlmgbmfeacdaaDoorHSpr32
import Derived.Laws.ShiftsVarLaws
import Derived.BigRegion
namespace Go.Proofs.YtejlmgbmfeacdaaDoor
open Go.RowKit
set_option linter.unusedVariables false
set_option linter.unusedSimpArgs false

/-- so many bytes 0 -/
def zer32 (off t : Nat) : Nat := if t + 1 ≤ 64 - off then 64 - off - 1 - t else 2 * 64 - off - 1 - t
theorem zer_at32 (off t j : Nat) (ho : off = 8 ∨ off = 16) (ht : t < 64) (hj : j ≤ zer32 off t) : (t + (j + 1)) % 64 = 64 - off ↔ j = zer32 off t := by
  unfold zer32 at *
  split at hj <;> rename_i h <;> (first | rw [if_pos h] | rw [if_neg h]) <;> rcases ho with rfl | rfl <;> omega
theorem bytes_take32 (X : List Nat) (k : Nat) (hk : k < X.length) : bytesW false (X.take (k + 1)) = bytesW false (X.take k) ++ (leL (el X k) 4).reverse := by
  unfold bytesW
  rw [List.take_add_one, List.map_append, List.flatten_append, List.getElem?_eq_getElem hk, el_at hk]
  simp [ez]
theorem leS_e32 (n : Nat) : leS n 4 = leL n 4 := by unfold leS; rw [if_neg (by decide)]; rfl
/-- where the loop of words stands -/
def ROut32 (w xf : World) (X : List Nat) (o i : Value) (wz : World) : Prop := ∃ k : Nat, k ≤ 8 ∧ i = .int .i64 k ∧ wz.ownsRow (w.heap.size + 1) 5 1 o (k * 4) (vals .u8 (bytesW false (X.take k))) ∧ Below (w.heap.size + 1) xf wz

end Go.Proofs.YtejlmgbmfeacdaaDoor

/- Contract of the document's words, of 64 bits. -/
namespace Go.Proofs.YtejlmgbmfeacdaaDoor
open Go.RowKit
set_option linter.unusedVariables false
set_option linter.unusedSimpArgs false

theorem Tryd.infoU64 : (Tryd.prog.info? 37).map (fun i => (i.zero, i.size, i.bytes)) = some (some (.int .u64 0), 1, 8) := by kernel_rfl
/-- the first words of a block -/
def wl64 (l : List Nat) (t : Nat) : List Nat := if t < 16 then words true l t else sched true l (t - 16)
theorem wl_length64 (l : List Nat) (t : Nat) : (wl64 l t).length = t := by
  unfold wl64
  split
  · exact words_length _ _ _
  · rw [sched_length]; omega
theorem wl_low64 (l : List Nat) (t : Nat) (h : t < 16) : wl64 l (t + 1) = wl64 l t ++ [word true l t] := by
  unfold wl64
  rw [if_pos h]
  by_cases h2 : t + 1 < 16
  · rw [if_pos h2]; exact words_succ _ _ _
  · obtain rfl : t = 15 := by omega
    exact words_succ _ _ _
theorem wl_high64 (l : List Nat) (t : Nat) (h : 16 ≤ t) : wl64 l (t + 1) = wl64 l t ++ [nxt true (wl64 l t)] := by
  unfold wl64
  rw [if_neg (by omega), if_neg (by omega), show t + 1 - 16 = (t - 16) + 1 by omega]; rfl
theorem wl_under64 (l : List Nat) (t : Nat) (hu : Under 256 l) : Under (wm true) (wl64 l t) := by
  unfold wl64
  split
  · exact words_under hu _
  · exact sched_under hu _

end Go.Proofs.YtejlmgbmfeacdaaDoor

/- Contract of the document's block, of words of 64 bits. -/
namespace Go.Proofs.YtejlmgbmfeacdaaDoor
open Go.RowKit
set_option linter.unusedVariables false
set_option linter.unusedSimpArgs false

theorem rchs64 (e f g : Nat) (he : e < 18446744073709551616) (hf : f < 18446744073709551616) (hg : g < 18446744073709551616) : bits .xor .u64 (bits .and .u64 (e : Int) (f : Int)) (bits .and .u64 (bits .xor .u64 18446744073709551615 (e : Int)) (g : Int)) = ((chs true e f g : Nat) : Int) := by
  have hn : bits .xor .u64 18446744073709551615 (e : Int) = ((18446744073709551616 - 1 - e : Nat) : Int) := by
    rw [show (18446744073709551615 : Int) = ((18446744073709551616 - 1 : Nat) : Int) from rfl, u64_xor_nat _ _ (by decide) (by omega), ← ones_xor 64 e he]
  rw [hn, and_is64 e f (by omega) (by omega), and_is64 _ g (by omega) (by omega), xor_is64 _ _ (Nat.lt_of_le_of_lt Nat.and_le_left (by omega)) (Nat.lt_of_le_of_lt Nat.and_le_left (by omega))]
  rfl
theorem rr064 (s : List Nat) (k w : Nat) : ((((((el s 7 + turn3 true 14 18 41 (el s 4)) % 18446744073709551616 + chs true (el s 4) (el s 5) (el s 6)) % 18446744073709551616 + k) % 18446744073709551616 + w) % 18446744073709551616 + (turn3 true 28 34 39 (el s 0) + maj (el s 0) (el s 1) (el s 2)) % 18446744073709551616) % 18446744073709551616) = el (rnd true k w s) 0 := by
  show _ = (tOne true s k w + tTwo true s) % wm true
  unfold tOne tTwo
  simp only [gS0, gS1, wm, cond_true, cond_false]
  omega
theorem rr464 (s : List Nat) (k w : Nat) : ((el s 3 + ((((el s 7 + turn3 true 14 18 41 (el s 4)) % 18446744073709551616 + chs true (el s 4) (el s 5) (el s 6)) % 18446744073709551616 + k) % 18446744073709551616 + w) % 18446744073709551616) % 18446744073709551616) = el (rnd true k w s) 4 := by
  show _ = (el s 3 + tOne true s k w) % wm true
  unfold tOne
  simp only [gS0, gS1, wm, cond_true, cond_false]
  omega
theorem addS_get64 (h s : List Nat) (j : Nat) (hj : j < s.length) : el (addW true h s j ++ s.drop j) j = el s j := by
  rw [el_app_right (by rw [addW_length]; omega), addW_length, el_drop, Nat.sub_self]; rfl
theorem addS_set64 (h s : List Nat) (j : Nat) (hj : j < s.length) : (addW true h s j ++ s.drop j).set j ((el s j + el h j) % wm true) = addW true h s (j + 1) ++ s.drop (j + 1) := by
  have e : addW true h s (j + 1) = addW true h s j ++ [(el s j + el h j) % wm true] := by simp [addW, List.range_succ]
  rw [e, drop_el hj, List.append_assoc, List.set_append_right _ _ (by rw [addW_length]; omega), addW_length, Nat.sub_self]
  rfl
theorem eight64 {t : TypeId} {w : World} {g : Nat} {l : List Nat} (h : Lies .u64 t w g l) (h8 : l.length = 8) : w.cell? ⟨g, 0, none⟩ = some (.int .u64 (el l 0)) ∧ w.cell? ⟨g, 1, none⟩ = some (.int .u64 (el l 1)) ∧ w.cell? ⟨g, 2, none⟩ = some (.int .u64 (el l 2)) ∧ w.cell? ⟨g, 3, none⟩ = some (.int .u64 (el l 3)) ∧ w.cell? ⟨g, 4, none⟩ = some (.int .u64 (el l 4)) ∧ w.cell? ⟨g, 5, none⟩ = some (.int .u64 (el l 5)) ∧ w.cell? ⟨g, 6, none⟩ = some (.int .u64 (el l 6)) ∧ w.cell? ⟨g, 7, none⟩ = some (.int .u64 (el l 7)) :=
  ⟨h.cell (by omega), h.cell (by omega), h.cell (by omega), h.cell (by omega), h.cell (by omega), h.cell (by omega), h.cell (by omega), h.cell (by omega)⟩
theorem set864 (s : List Nat) (h : s.length = 8) (a b c d e f g i : Nat) : (((((((s.set 0 a).set 1 b).set 2 c).set 3 d).set 4 e).set 5 f).set 6 g).set 7 i = [a, b, c, d, e, f, g, i] := by
  match s, h with
  | [_, _, _, _, _, _, _, _], _ => rfl
theorem Lies.to64 {t : TypeId} {w : World} {g : Nat} {l l' : List Nat} (h : Lies .u64 t w g l) {cs : Array Value} (e : cs = arr .u64 l') : Lies .u64 t (w.setRow g cs) g l' := by rw [e]; exact h.row

end Go.Proofs.YtejlmgbmfeacdaaDoor

/- Contract of the document's Add, of words of 64 bits. -/
namespace Go.Proofs.YtejlmgbmfeacdaaDoor
open Go.RowKit
set_option linter.unusedVariables false
set_option linter.unusedSimpArgs false

/-- where the document's Add stands behind some blocks -/
def RAdd64 (w : World) (kind : Int) (tv : Value) (N : Nat) (ws all : List Nat) (u : Value) (wr : World) : Prop := ∃ (L H : List Nat), L.length ≤ 200000 ∧ slen u = L.length ∧ Row .u8 256 wr u L ∧ Away w.heap.size u L ∧ Away (w.heap.size + 1) u L ∧ Tidy u ∧ Hb wr w.heap.size kind H tv N ∧ El wr (w.heap.size + 1) ∧ Below w.heap.size w wr ∧ eat true ws all = eat true H L ∧ left true all = left true L ∧ H.length = 8 ∧ Under 18446744073709551616 H

end Go.Proofs.YtejlmgbmfeacdaaDoor

/- The document's End, of words of 64 bits. -/
namespace Go.Proofs.YtejlmgbmfeacdaaDoor
open Go.RowKit
set_option linter.unusedVariables false
set_option linter.unusedSimpArgs false

/-- so many bytes 0 -/
def zer64 (off t : Nat) : Nat := if t + 1 ≤ 128 - off then 128 - off - 1 - t else 2 * 128 - off - 1 - t
theorem zer_at64 (off t j : Nat) (ho : off = 8 ∨ off = 16) (ht : t < 128) (hj : j ≤ zer64 off t) : (t + (j + 1)) % 128 = 128 - off ↔ j = zer64 off t := by
  unfold zer64 at *
  split at hj <;> rename_i h <;> (first | rw [if_pos h] | rw [if_neg h]) <;> rcases ho with rfl | rfl <;> omega
theorem bytes_take64 (X : List Nat) (k : Nat) (hk : k < X.length) : bytesW true (X.take (k + 1)) = bytesW true (X.take k) ++ (leL (el X k) 8).reverse := by
  unfold bytesW
  rw [List.take_add_one, List.map_append, List.flatten_append, List.getElem?_eq_getElem hk, el_at hk]
  simp [ez]
theorem leS_e64 (n : Nat) : leS n 8 = leL n 8 := by unfold leS; rw [if_neg (by decide)]; rfl
/-- where the loop of words stands -/
def ROut64 (w xf : World) (X : List Nat) (o i : Value) (wz : World) : Prop := ∃ k : Nat, k ≤ 8 ∧ i = .int .i64 k ∧ wz.ownsRow (w.heap.size + 1) 5 1 o (k * 8) (vals .u8 (bytesW true (X.take k))) ∧ Below (w.heap.size + 1) xf wz

end Go.Proofs.YtejlmgbmfeacdaaDoor

/- Contract of the document's New. -/
namespace Go.Proofs.YtejlmgbmfeacdaaDoor
open Go.RowKit
set_option linter.unusedVariables false
set_option linter.unusedSimpArgs false

end Go.Proofs.YtejlmgbmfeacdaaDoor

/- Contract of sha.Sum. -/
namespace Go.Proofs.YtejlmgbmfeacdaaDoor
open Go.RowKit
set_option linter.unusedVariables false
set_option linter.unusedSimpArgs false

end Go.Proofs.YtejlmgbmfeacdaaDoor

/- The document's Add, End and Sum, of whatever kind; New and Sum of the code, of whatever kind. -/
namespace Go.Proofs.YtejlmgbmfeacdaaDoor
open Go.RowKit
set_option linter.unusedVariables false
set_option linter.unusedSimpArgs false

theorem fill_left (c : Bool) (l : List Nat) (s : Nat) : fill c (left c l).length s = fill c l.length s := by
  unfold fill room
  rw [left_length, Nat.mod_mod]
/-- a sum's end is that of its parts -/
theorem endS_parts (c : Bool) (E b : List Nat) (s n : Nat) : endS c (eat c E b) (left c b) s n = endS c E b s n := by
  unfold endS
  rw [fill_left, ← eat_parts]
/-- New and Sum, of whatever kind: what is told -/
def NewE (F : FuncId) (kind : Int) (k : Int) (E : List Nat) (c : Int) (w : World) : Prop := Calls Tryd.prog F #[.int .i64 kind] w fun e w' => e = .returned (.tuple #[.agg (hv k E (.slice none 0 0) 0), .int .i64 c]) ∧ Below w.heap.size w w'
def SumE (F : FuncId) (kind : Int) (bv : Value) (s : List Nat) (c : Int) (w : World) : Prop := Calls Tryd.prog F #[.int .i64 kind, bv] w fun e w' => ∃ v', e = .returned (.tuple #[v', .int .i64 c]) ∧ Row .u8 256 w' v' s ∧ Below w.heap.size w w'
end Go.Proofs.YtejlmgbmfeacdaaDoor

/- Plain facts on the sums of SHA-3: words, rounds, bytes in and out. No walk. -/
namespace Go.Proofs.YtejlmgbmfeacdaaDoor
set_option linter.unusedVariables false
set_option linter.unusedSimpArgs false

/-- a word turned to the left -/
def rotl (x n : Nat) : Nat := x * 2 ^ (n % 64) % 18446744073709551616 ||| x / 2 ^ (64 - n % 64)
theorem w64 : (18446744073709551616 : Nat) = 2 ^ 64 := by decide
theorem rotl_lt {x : Nat} (hx : x < 18446744073709551616) (n : Nat) : rotl x n < 18446744073709551616 := by
  unfold rotl
  rw [w64] at *
  exact Nat.or_lt_two_pow (Nat.mod_lt _ (Nat.two_pow_pos _)) (Nat.lt_of_le_of_lt (Nat.div_le_self _ _) hx)
theorem xor_w {x y : Nat} (hx : x < 18446744073709551616) (hy : y < 18446744073709551616) : x ^^^ y < 18446744073709551616 := by rw [w64] at *; exact Nat.xor_lt_two_pow hx hy
theorem and_w {x y : Nat} (hx : x < 18446744073709551616) : x &&& y < 18446744073709551616 := Nat.lt_of_le_of_lt Nat.and_le_left hx
theorem or_w {x y : Nat} (hx : x < 18446744073709551616) (hy : y < 18446744073709551616) : x ||| y < 18446744073709551616 := by rw [w64] at *; exact Nat.or_lt_two_pow hx hy

/-- 25 words -/
def W25 (a : List Nat) : Prop := a.length = 25 ∧ Under 18446744073709551616 a
theorem W25.el {a : List Nat} (h : W25 a) (i : Nat) : el a i < 18446744073709551616 := el_lt h.2 (by decide) i
theorem W25.set {a : List Nat} (h : W25 a) (i x : Nat) (hx : x < 18446744073709551616) : W25 (a.set i x) := ⟨by rw [List.length_set]; exact h.1, h.2.set i x hx⟩
theorem W25.zero : W25 (List.replicate 25 0) := ⟨by decide, Under.replicate _ _ (by decide)⟩

/-- the parities of columns, of so many words -/
def colN (a : List Nat) : Nat → List Nat
  | 0 => List.replicate 5 0
  | n + 1 => (colN a n).set (n % 5) (el (colN a n) (n % 5) ^^^ el a n)
theorem colN_length (a : List Nat) : ∀ n, (colN a n).length = 5
  | 0 => rfl
  | n + 1 => by simp [colN, colN_length a n]
theorem colN_under {a : List Nat} (h : W25 a) : ∀ n, Under 18446744073709551616 (colN a n)
  | 0 => Under.replicate _ _ (by decide)
  | n + 1 => (colN_under h n).set _ _ (xor_w (el_lt (colN_under h n) (by decide) _) (h.el _))
/-- so many words xored with their neighbours' columns -/
def sprN (a c : List Nat) : Nat → List Nat
  | 0 => a
  | n + 1 => (sprN a c n).set n (el (sprN a c n) n ^^^ el c ((n + 4) % 5) ^^^ rotl (el c ((n + 1) % 5)) 1)
theorem sprN_w {a c : List Nat} (h : W25 a) (hc : Under 18446744073709551616 c) : ∀ n, W25 (sprN a c n)
  | 0 => h
  | n + 1 => (sprN_w h hc n).set _ _ (xor_w (xor_w ((sprN_w h hc n).el _) (el_lt hc (by decide) _)) (rotl_lt (el_lt hc (by decide) _) 1))
def spreadK (a : List Nat) : List Nat := sprN a (colN a 25) 25
theorem spreadK_w {a : List Nat} (h : W25 a) : W25 (spreadK a) := sprN_w h (colN_under h 25) 25
/-- the t-th place -/
def plc : Nat → Nat × Nat
  | 0 => (1, 0)
  | t + 1 => ((plc t).2, (2 * (plc t).1 + 3 * (plc t).2) % 5)
theorem plc_lt : ∀ t, (plc t).1 < 5 ∧ (plc t).2 < 5
  | 0 => by decide
  | t + 1 => ⟨(plc_lt t).2, Nat.mod_lt _ (by decide)⟩
/-- so many words turned, at their new places -/
def movN (a : List Nat) : Nat → List Nat
  | 0 => (List.replicate 25 0).set 0 (el a 0)
  | t + 1 => (movN a t).set ((plc (t + 1)).1 + 5 * (plc (t + 1)).2) (rotl (el a ((plc t).1 + 5 * (plc t).2)) ((t + 1) * (t + 2) / 2))
theorem movN_w {a : List Nat} (h : W25 a) : ∀ t, W25 (movN a t)
  | 0 => W25.zero.set _ _ (h.el 0)
  | t + 1 => (movN_w h t).set _ _ (rotl_lt (h.el _) _)
def moveK (a : List Nat) : List Nat := movN a 24
theorem moveK_w {a : List Nat} (h : W25 a) : W25 (moveK a) := movN_w h 24
/-- so many words xored with what stands behind them in their row -/
def chiV (b : List Nat) (n : Nat) : Nat := el b n ^^^ ((18446744073709551615 - el b (n / 5 * 5 + (n + 1) % 5)) &&& el b (n / 5 * 5 + (n + 2) % 5))
theorem chiV_lt {b : List Nat} (h : W25 b) (n : Nat) : chiV b n < 18446744073709551616 := xor_w (h.el _) (and_w (by omega))
def chiN (a b : List Nat) : Nat → List Nat
  | 0 => a
  | n + 1 => (chiN a b n).set n (chiV b n)
theorem chiN_w {a b : List Nat} (h : W25 a) (hb : W25 b) : ∀ n, W25 (chiN a b n)
  | 0 => h
  | n + 1 => (chiN_w h hb n).set _ _ (chiV_lt hb n)
/-- the register, and the constants, behind so many steps -/
def reg : Nat → Nat
  | 0 => 1
  | n + 1 => if 256 ≤ reg n * 2 then (reg n * 2 % 256) ^^^ 113 else reg n * 2
theorem reg_lt : ∀ n, reg n < 256
  | 0 => by decide
  | n + 1 => by
    unfold reg
    split
    · exact Nat.xor_lt_two_pow (n := 8) (Nat.mod_lt _ (by decide)) (by decide)
    · omega
def cstN : Nat → List Nat
  | 0 => List.replicate 24 0
  | n + 1 => if reg n % 2 = 1 then (cstN n).set (n / 7) (el (cstN n) (n / 7) ||| 2 ^ (2 ^ (n % 7) - 1)) else cstN n
theorem cstN_length : ∀ n, (cstN n).length = 24
  | 0 => rfl
  | n + 1 => by unfold cstN; split <;> simp [cstN_length n]
theorem bit_lt (n : Nat) : 2 ^ (2 ^ (n % 7) - 1) < 18446744073709551616 := by
  have h : n % 7 < 7 := Nat.mod_lt _ (by decide)
  generalize n % 7 = k at h
  match k, h with
  | 0, _ => decide
  | 1, _ => decide
  | 2, _ => decide
  | 3, _ => decide
  | 4, _ => decide
  | 5, _ => decide
  | 6, _ => decide
theorem cstN_under : ∀ n, Under 18446744073709551616 (cstN n)
  | 0 => Under.replicate _ _ (by decide)
  | n + 1 => by
    unfold cstN
    split
    · exact (cstN_under n).set _ _ (or_w (el_lt (cstN_under n) (by decide) _) (bit_lt n))
    · exact cstN_under n
def csts : List Nat := cstN 168
theorem csts_length : csts.length = 24 := cstN_length 168
theorem csts_under : Under 18446744073709551616 csts := cstN_under 168
/-- so many rounds -/
def rndK (a : List Nat) (c : Nat) : List Nat := (chiN a (moveK (spreadK a)) 25).set 0 (el (chiN a (moveK (spreadK a)) 25) 0 ^^^ c)
theorem rndK_w {a : List Nat} (h : W25 a) {c : Nat} (hc : c < 18446744073709551616) : W25 (rndK a c) := by
  have hw := chiN_w h (moveK_w (spreadK_w h)) 25
  exact hw.set _ _ (xor_w (hw.el 0) hc)
def rdsK (a : List Nat) : Nat → List Nat
  | 0 => a
  | r + 1 => rndK (rdsK a r) (el csts r)
theorem rdsK_w {a : List Nat} (h : W25 a) : ∀ r, W25 (rdsK a r)
  | 0 => h
  | r + 1 => rndK_w (rdsK_w h r) (el_lt csts_under (by decide) _)
def perm (a : List Nat) : List Nat := rdsK a 24
theorem perm_w {a : List Nat} (h : W25 a) : W25 (perm a) := rdsK_w h 24

/-- a byte into the words -/
def putK (a : List Nat) (p c : Nat) : List Nat := a.set (p / 8) (el a (p / 8) ^^^ c * 2 ^ (8 * (p % 8)) % 18446744073709551616)
theorem putK_w {a : List Nat} (h : W25 a) (p c : Nat) : W25 (putK a p c) := h.set _ _ (xor_w (h.el _) (Nat.mod_lt _ (by decide)))
/-- words, and the place in the block -/
def inK (rate : Nat) (s : List Nat × Nat) (c : Nat) : List Nat × Nat := if s.2 + 1 = rate then (perm (putK s.1 s.2 c), 0) else (putK s.1 s.2 c, s.2 + 1)
def absK (rate : Nat) (s : List Nat × Nat) (b : List Nat) : List Nat × Nat := b.foldl (inK rate) s
theorem absK_parts (rate : Nat) (s : List Nat × Nat) (a b : List Nat) : absK rate s (a ++ b) = absK rate (absK rate s a) b := List.foldl_append ..
theorem absK_snoc (rate : Nat) (s : List Nat × Nat) (a : List Nat) (c : Nat) : absK rate s (a ++ [c]) = inK rate (absK rate s a) c := by rw [absK_parts]; rfl
theorem inK_w {rate : Nat} {s : List Nat × Nat} (h : W25 s.1) (c : Nat) : W25 (inK rate s c).1 := by
  unfold inK
  split
  · dsimp only; exact perm_w (putK_w h _ _)
  · dsimp only; exact putK_w h _ _
theorem inK_at {rate : Nat} {s : List Nat × Nat} (h : s.2 < rate) (c : Nat) : (inK rate s c).2 < rate := by
  unfold inK
  split
  · show 0 < rate; omega
  · show s.2 + 1 < rate; omega
theorem absK_w {rate : Nat} : ∀ (b : List Nat) (s : List Nat × Nat), W25 s.1 → W25 (absK rate s b).1
  | [], _, h => h
  | c :: b, s, h => absK_w b (inK rate s c) (inK_w h c)
theorem absK_at {rate : Nat} : ∀ (b : List Nat) (s : List Nat × Nat), s.2 < rate → (absK rate s b).2 < rate
  | [], _, h => h
  | c :: b, s, h => absK_at b (inK rate s c) (inK_at h c)
/-- the mark, and the last byte: all rounds -/
def endK (rate mark : Nat) (s : List Nat × Nat) : List Nat := perm (putK (putK s.1 s.2 mark) (rate - 1) 128)
theorem endK_w {rate mark : Nat} {s : List Nat × Nat} (h : W25 s.1) : W25 (endK rate mark s) := perm_w (putK_w (putK_w h _ _) _ _)
/-- all rounds, where a block is used up; a byte out of the words; so many bytes -/
def fresh (rate : Nat) (s : List Nat × Nat) : List Nat × Nat := if s.2 = rate then (perm s.1, 0) else s
def outB (s : List Nat × Nat) : Nat := el s.1 (s.2 / 8) / 2 ^ (8 * (s.2 % 8)) % 256
def sqzS (rate : Nat) (s : List Nat × Nat) : Nat → List Nat × Nat
  | 0 => s
  | n + 1 => ((fresh rate (sqzS rate s n)).1, (fresh rate (sqzS rate s n)).2 + 1)
def sqzB (rate : Nat) (s : List Nat × Nat) : Nat → List Nat
  | 0 => []
  | n + 1 => sqzB rate s n ++ [outB (fresh rate (sqzS rate s n))]
theorem sqzB_length (rate : Nat) (s : List Nat × Nat) : ∀ n, (sqzB rate s n).length = n
  | 0 => rfl
  | n + 1 => by simp [sqzB, sqzB_length rate s n]
theorem sqzB_under (rate : Nat) (s : List Nat × Nat) : ∀ n, Under 256 (sqzB rate s n)
  | 0 => fun x hx => by simp [sqzB] at hx
  | n + 1 => (sqzB_under rate s n).append (Under.one (Nat.mod_lt _ (by decide)))
theorem fresh_w {rate : Nat} {s : List Nat × Nat} (h : W25 s.1) : W25 (fresh rate s).1 := by
  unfold fresh
  split
  · dsimp only; exact perm_w h
  · exact h
theorem fresh_at {rate : Nat} {s : List Nat × Nat} (hr : 0 < rate) (h : s.2 ≤ rate) : (fresh rate s).2 < rate := by
  unfold fresh
  split
  · exact hr
  · omega
theorem sqzS_w {rate : Nat} {s : List Nat × Nat} (h : W25 s.1) : ∀ n, W25 (sqzS rate s n).1
  | 0 => h
  | n + 1 => fresh_w (sqzS_w h n)
theorem sqzS_at {rate : Nat} {s : List Nat × Nat} (hr : 0 < rate) (h : s.2 ≤ rate) : ∀ n, (sqzS rate s n).2 ≤ rate
  | 0 => h
  | n + 1 => fresh_at hr (sqzS_at hr h n)
/-- PARTS -/
theorem sqzS_parts (rate : Nat) (s : List Nat × Nat) (n : Nat) : ∀ m, sqzS rate s (n + m) = sqzS rate (sqzS rate s n) m
  | 0 => rfl
  | m + 1 => by rw [← Nat.add_assoc]; show _ = (_, _); simp only [sqzS]; rw [sqzS_parts rate s n m]
theorem sqzB_parts (rate : Nat) (s : List Nat × Nat) (n : Nat) : ∀ m, sqzB rate s (n + m) = sqzB rate s n ++ sqzB rate (sqzS rate s n) m
  | 0 => by simp [sqzB]
  | m + 1 => by rw [← Nat.add_assoc]; simp only [sqzB]; rw [sqzB_parts rate s n m, sqzS_parts, List.append_assoc]
/-- a kind's block; its mark -/
def rateK (kind : Int) : Nat := if kind = 4 ∨ kind = 7 then 136 else if kind = 5 then 72 else if kind = 6 then 168 else 0
def markK (kind : Int) : Nat := if kind = 4 ∨ kind = 5 then 6 else 31
end Go.Proofs.YtejlmgbmfeacdaaDoor

/- Contract of the document's left: a word turned to the left. -/
namespace Go.Proofs.YtejlmgbmfeacdaaDoor
open Go.RowKit
set_option linter.unusedVariables false
set_option linter.unusedSimpArgs false

theorem rotl_mod (x n : Nat) : rotl x (n % 64) = rotl x n := by unfold rotl; rw [Nat.mod_mod]
theorem rotl_is (x k : Nat) (hx : x < 18446744073709551616) (hk : k < 64) : bits .or .u64 (IntKind.u64.wrap ((x : Int) * 2 ^ k)) ((x : Int) / 2 ^ (64 - k)) = ((rotl x k : Nat) : Int) := by
  have e1 : (x : Int) / 2 ^ (64 - k) = ((x / 2 ^ (64 - k) : Nat) : Int) := by simp
  have e2 : IntKind.u64.wrap ((x : Int) * 2 ^ k) = ((x * 2 ^ k % 18446744073709551616 : Nat) : Int) := by rw [IntKind.wrap_u64]; simp
  rw [e1, e2, u64_or_nat _ _ (Nat.mod_lt _ (by decide)) (Nat.lt_of_le_of_lt (Nat.div_le_self _ _) hx)]
  unfold rotl
  rw [Nat.mod_eq_of_lt hk]
end Go.Proofs.YtejlmgbmfeacdaaDoor

/- Contract of the document's spread. -/
namespace Go.Proofs.YtejlmgbmfeacdaaDoor
open Go.RowKit
set_option linter.unusedVariables false
set_option linter.unusedSimpArgs false

/-- so many zeros, under a name of their own -/
def zs (n : Nat) : List Nat := List.replicate n 0
theorem zs_len (n : Nat) : (zs n).length = n := List.length_replicate
theorem zero25 : ∀ w, (zeroValue 53).run Tryd.prog w = .ok (.agg (arr .u64 (zs 25))) w := zero_arr (by kernel_rfl)
theorem xor_k (x y : Nat) (hx : x < 18446744073709551616) (hy : y < 18446744073709551616) : bits .xor .u64 (x : Int) (y : Int) = ((x ^^^ y : Nat) : Int) := u64_xor_nat x y hx hy
theorem colN_next (a : List Nat) (n : Nat) : colN a (n + 1) = (colN a n).set (n % 5) (el (colN a n) (n % 5) ^^^ el a n) := rfl
theorem sprN_next (a c : List Nat) (n : Nat) : sprN a c (n + 1) = (sprN a c n).set n (el (sprN a c n) n ^^^ el c ((n + 4) % 5) ^^^ rotl (el c ((n + 1) % 5)) 1) := rfl

end Go.Proofs.YtejlmgbmfeacdaaDoor

/- Contract of the document's move. -/
namespace Go.Proofs.YtejlmgbmfeacdaaDoor
open Go.RowKit
set_option linter.unusedVariables false
set_option linter.unusedSimpArgs false

theorem movN_next (a : List Nat) (t : Nat) : movN a (t + 1) = (movN a t).set ((plc t).2 + 5 * ((2 * (plc t).1 + 3 * (plc t).2) % 5)) (rotl (el a ((plc t).1 + 5 * (plc t).2)) ((t + 1) * (t + 2) / 2)) := rfl
theorem plc_next (t : Nat) : plc (t + 1) = ((plc t).2, (2 * (plc t).1 + 3 * (plc t).2) % 5) := rfl
/-- where the loop stands -/
def KMov (w x1 : World) (a : List Nat) (x y i : Value) (wr : World) : Prop := ∃ t : Nat, t ≤ 24 ∧ i = .int .i64 t ∧ x = .int .i64 ((plc t).1 : Nat) ∧ y = .int .i64 ((plc t).2 : Nat) ∧ Lies .u64 53 wr (w.heap.size + 1 + 1) (movN a t) ∧ But (w.heap.size + 1 + 1) x1 wr

end Go.Proofs.YtejlmgbmfeacdaaDoor

/- Contract of the document's constants. -/
namespace Go.Proofs.YtejlmgbmfeacdaaDoor
open Go.RowKit
set_option linter.unusedVariables false
set_option linter.unusedSimpArgs false

theorem zero24 : ∀ w, (zeroValue 102).run Tryd.prog w = .ok (.agg (arr .u64 (zs 24))) w := zero_arr (by kernel_rfl)
theorem reg_next (n : Nat) : reg (n + 1) = if 256 ≤ reg n * 2 then (reg n * 2 % 256) ^^^ 113 else reg n * 2 := rfl
theorem cstN_next (n : Nat) : cstN (n + 1) = if reg n % 2 = 1 then (cstN n).set (n / 7) (el (cstN n) (n / 7) ||| 2 ^ (2 ^ (n % 7) - 1)) else cstN n := rfl
theorem and_one (x : Nat) (hx : x < 18446744073709551616) : bits .and .u64 (x : Int) 1 = ((x % 2 : Nat) : Int) := by
  rw [show (1 : Int) = ((1 : Nat) : Int) from rfl, u64_and_nat x _ hx (by decide)]
  congr 1
  exact Nat.and_two_pow_sub_one_eq_mod x 1
theorem and_255 (x : Nat) (hx : x < 18446744073709551616) : bits .and .u64 (x : Int) 255 = ((x % 256 : Nat) : Int) := by
  rw [show (255 : Int) = ((255 : Nat) : Int) from rfl, u64_and_nat x _ hx (by decide)]
  congr 1
  exact Nat.and_two_pow_sub_one_eq_mod x 8
/-- where the loop stands -/
def KCst (w x1 : World) (r i : Value) (wr : World) : Prop := ∃ n : Nat, n ≤ 168 ∧ i = .int .i64 n ∧ r = .int .u64 (reg n : Nat) ∧ Lies .u64 102 wr (w.heap.size + 1) (cstN n) ∧ But (w.heap.size + 1) x1 wr

end Go.Proofs.YtejlmgbmfeacdaaDoor

/- Contract of the document's Permute. -/
namespace Go.Proofs.YtejlmgbmfeacdaaDoor
open Go.RowKit
set_option linter.unusedVariables false
set_option linter.unusedSimpArgs false

theorem chi_is (p q r : Nat) (hp : p < 18446744073709551616) (hq : q < 18446744073709551616) (hr : r < 18446744073709551616) :
    bits .xor .u64 (p : Int) (bits .and .u64 (bits .xor .u64 (q : Int) 18446744073709551615) (r : Int)) = ((p ^^^ ((18446744073709551615 - q) &&& r) : Nat) : Int) := by
  have e1 : bits .xor .u64 (q : Int) 18446744073709551615 = ((18446744073709551615 - q : Nat) : Int) := by
    rw [show (18446744073709551615 : Int) = ((18446744073709551615 : Nat) : Int) from rfl, xor_k q _ hq (by decide)]
    congr 1
    rw [Nat.xor_comm]
    exact ones_xor 64 q hq
  rw [e1, u64_and_nat _ _ (by omega) hr, xor_k p _ hp (and_w (by omega))]
theorem chiN_next (a b : List Nat) (n : Nat) : chiN a b (n + 1) = (chiN a b n).set n (el b n ^^^ ((18446744073709551615 - el b (n / 5 * 5 + (n + 1) % 5)) &&& el b (n / 5 * 5 + (n + 2) % 5))) := rfl
theorem rdsK_next (a : List Nat) (r : Nat) : rdsK a (r + 1) = (chiN (rdsK a r) (moveK (spreadK (rdsK a r))) 25).set 0 (el (chiN (rdsK a r) (moveK (spreadK (rdsK a r))) 25) 0 ^^^ el csts r) := rfl
/-- where the loop of rounds stands -/
def KPer (w : World) (q : Nat) (a : List Nat) (i : Value) (wr : World) : Prop := ∃ r : Nat, r ≤ 24 ∧ i = .int .i64 r ∧ Lies .u64 53 wr w.heap.size (rdsK a r) ∧ Lies .u64 102 wr q csts ∧ Lies .u64 53 wr (w.heap.size + 1) (zs 25) ∧ Below w.heap.size w wr
/-- where the loop of words stands -/
def KChi (w wx : World) (A B : List Nat) (i : Value) (wz : World) : Prop := ∃ n : Nat, n ≤ 25 ∧ i = .int .i64 n ∧ Lies .u64 53 wz w.heap.size (chiN A B n) ∧ But w.heap.size wx wz

end Go.Proofs.YtejlmgbmfeacdaaDoor

/- Contracts of the document's Rate and put. -/
namespace Go.Proofs.YtejlmgbmfeacdaaDoor
open Go.RowKit
set_option linter.unusedVariables false
set_option linter.unusedSimpArgs false

end Go.Proofs.YtejlmgbmfeacdaaDoor
