/- The document's End, of words of 32 bits. -/
import Derived.Test.YtefndnbaifiboaaDoorLmC
import Derived.Test.YtefndnbaifiboaaDoorHEnd
import Derived.Test.YtefndnbaifiboaaDoorBe
import Derived.Deep.RegionLaw
import Derived.Deep.AppendLies
import Derived.Test.YtefndnbaifiboaaDoorHTur64
import Derived.Test.YtefndnbaifiboaaDoorHRes64
import Derived.Test.YtefndnbaifiboaaDoorNumLe
import Derived.Test.YtefndnbaifiboaaDoorHFin64
import Derived.Test.YtefndnbaifiboaaDoorHSl
import Derived.Test.YtefndnbaifiboaaDoorPApp
import Derived.Test.YtefndnbaifiboaaDoorHRes32
import Derived.Test.YtefndnbaifiboaaDoorBase
import Derived.Laws.AppendOwnNone
import Derived.ArgAppend
import Derived.BigQuiet
namespace Go.Proofs.YtefndnbaifiboaaDoor
open Go.RowKit
set_option linter.unusedVariables false
set_option linter.unusedSimpArgs false

/-- so many bytes 0 -/
def zer32 (off t : Nat) : Nat := if t + 1 ≤ 64 - off then 64 - off - 1 - t else 2 * 64 - off - 1 - t
theorem zer_at32 (off t j : Nat) (ho : off = 8 ∨ off = 16) (ht : t < 64) (hj : j ≤ zer32 off t) : (t + (j + 1)) % 64 = 64 - off ↔ j = zer32 off t := by
  unfold zer32 at *
  split at hj <;> rename_i h <;> (first | rw [if_pos h] | rw [if_neg h]) <;> rcases ho with rfl | rfl <;> omega
theorem bytes_take32 (X : List Nat) (k : Nat) (hk : k < X.length) : bytesW false (X.take (k + 1)) = bytesW false (X.take k) ++ (leL (el X k) 4).reverse := by
  unfold bytesW
  rw [List.take_add_one, List.map_append, List.flatten_append, List.getElem?_eq_getElem hk, el_at hk]
  simp [ez]
theorem leS_e32 (n : Nat) : leS n 4 = leL n 4 := by unfold leS; rw [if_neg (by decide)]; rfl
/-- where the loop of words stands -/
def ROut32 (w xf : World) (X : List Nat) (o i : Value) (wz : World) : Prop := ∃ k : Nat, k ≤ 8 ∧ i = .int .i64 k ∧ wz.ownsRow (w.heap.size + 1) 5 1 o (k * 4) (vals .u8 (bytesW false (X.take k))) ∧ Below (w.heap.size + 1) xf wz

end Go.Proofs.YtefndnbaifiboaaDoor

/- Contract of the document's words, of 64 bits. -/
namespace Go.Proofs.YtefndnbaifiboaaDoor
open Go.RowKit
set_option linter.unusedVariables false
set_option linter.unusedSimpArgs false

theorem Tryd.infoU64 : (Tryd.prog.info? 53).map (fun i => (i.zero, i.size, i.bytes)) = some (some (.int .u64 0), 1, 8) := by kernel_rfl
/-- the first words of a block -/
def wl64 (l : List Nat) (t : Nat) : List Nat := if t < 16 then words true l t else sched true l (t - 16)
theorem wl_length64 (l : List Nat) (t : Nat) : (wl64 l t).length = t := by
  unfold wl64
  split
  · exact words_length _ _ _
  · rw [sched_length]; omega
theorem wl_low64 (l : List Nat) (t : Nat) (h : t < 16) : wl64 l (t + 1) = wl64 l t ++ [word true l t] := by
  unfold wl64
  rw [if_pos h]
  by_cases h2 : t + 1 < 16
  · rw [if_pos h2]; exact words_succ _ _ _
  · obtain rfl : t = 15 := by omega
    exact words_succ _ _ _
theorem wl_high64 (l : List Nat) (t : Nat) (h : 16 ≤ t) : wl64 l (t + 1) = wl64 l t ++ [nxt true (wl64 l t)] := by
  unfold wl64
  rw [if_neg (by omega), if_neg (by omega), show t + 1 - 16 = (t - 16) + 1 by omega]; rfl
theorem wl_under64 (l : List Nat) (t : Nat) (hu : Under 256 l) : Under (wm true) (wl64 l t) := by
  unfold wl64
  split
  · exact words_under hu _
  · exact sched_under hu _

end Go.Proofs.YtefndnbaifiboaaDoor

/- Contract of the document's block, of words of 64 bits. -/
namespace Go.Proofs.YtefndnbaifiboaaDoor
open Go.RowKit
set_option linter.unusedVariables false
set_option linter.unusedSimpArgs false

theorem rchs64 (e f g : Nat) (he : e < 18446744073709551616) (hf : f < 18446744073709551616) (hg : g < 18446744073709551616) : bits .xor .u64 (bits .and .u64 (e : Int) (f : Int)) (bits .and .u64 (bits .xor .u64 18446744073709551615 (e : Int)) (g : Int)) = ((chs true e f g : Nat) : Int) := by
  have hn : bits .xor .u64 18446744073709551615 (e : Int) = ((18446744073709551616 - 1 - e : Nat) : Int) := by
    rw [show (18446744073709551615 : Int) = ((18446744073709551616 - 1 : Nat) : Int) from rfl, u64_xor_nat _ _ (by decide) (by omega), ← ones_xor 64 e he]
  rw [hn, and_is64 e f (by omega) (by omega), and_is64 _ g (by omega) (by omega), xor_is64 _ _ (Nat.lt_of_le_of_lt Nat.and_le_left (by omega)) (Nat.lt_of_le_of_lt Nat.and_le_left (by omega))]
  rfl
theorem rr064 (s : List Nat) (k w : Nat) : ((((((el s 7 + turn3 true 14 18 41 (el s 4)) % 18446744073709551616 + chs true (el s 4) (el s 5) (el s 6)) % 18446744073709551616 + k) % 18446744073709551616 + w) % 18446744073709551616 + (turn3 true 28 34 39 (el s 0) + maj (el s 0) (el s 1) (el s 2)) % 18446744073709551616) % 18446744073709551616) = el (rnd true k w s) 0 := by
  show _ = (tOne true s k w + tTwo true s) % wm true
  unfold tOne tTwo
  simp only [gS0, gS1, wm, cond_true, cond_false]
  omega
theorem rr464 (s : List Nat) (k w : Nat) : ((el s 3 + ((((el s 7 + turn3 true 14 18 41 (el s 4)) % 18446744073709551616 + chs true (el s 4) (el s 5) (el s 6)) % 18446744073709551616 + k) % 18446744073709551616 + w) % 18446744073709551616) % 18446744073709551616) = el (rnd true k w s) 4 := by
  show _ = (el s 3 + tOne true s k w) % wm true
  unfold tOne
  simp only [gS0, gS1, wm, cond_true, cond_false]
  omega
theorem addS_get64 (h s : List Nat) (j : Nat) (hj : j < s.length) : el (addW true h s j ++ s.drop j) j = el s j := by
  rw [el_app_right (by rw [addW_length]; omega), addW_length, el_drop, Nat.sub_self]; rfl
theorem addS_set64 (h s : List Nat) (j : Nat) (hj : j < s.length) : (addW true h s j ++ s.drop j).set j ((el s j + el h j) % wm true) = addW true h s (j + 1) ++ s.drop (j + 1) := by
  have e : addW true h s (j + 1) = addW true h s j ++ [(el s j + el h j) % wm true] := by simp [addW, List.range_succ]
  rw [e, drop_el hj, List.append_assoc, List.set_append_right _ _ (by rw [addW_length]; omega), addW_length, Nat.sub_self]
  rfl
theorem eight64 {t : TypeId} {w : World} {g : Nat} {l : List Nat} (h : Lies .u64 t w g l) (h8 : l.length = 8) : w.cell? ⟨g, 0, none⟩ = some (.int .u64 (el l 0)) ∧ w.cell? ⟨g, 1, none⟩ = some (.int .u64 (el l 1)) ∧ w.cell? ⟨g, 2, none⟩ = some (.int .u64 (el l 2)) ∧ w.cell? ⟨g, 3, none⟩ = some (.int .u64 (el l 3)) ∧ w.cell? ⟨g, 4, none⟩ = some (.int .u64 (el l 4)) ∧ w.cell? ⟨g, 5, none⟩ = some (.int .u64 (el l 5)) ∧ w.cell? ⟨g, 6, none⟩ = some (.int .u64 (el l 6)) ∧ w.cell? ⟨g, 7, none⟩ = some (.int .u64 (el l 7)) :=
  ⟨h.cell (by omega), h.cell (by omega), h.cell (by omega), h.cell (by omega), h.cell (by omega), h.cell (by omega), h.cell (by omega), h.cell (by omega)⟩
theorem set864 (s : List Nat) (h : s.length = 8) (a b c d e f g i : Nat) : (((((((s.set 0 a).set 1 b).set 2 c).set 3 d).set 4 e).set 5 f).set 6 g).set 7 i = [a, b, c, d, e, f, g, i] := by
  match s, h with
  | [_, _, _, _, _, _, _, _], _ => rfl
theorem Lies.to64 {t : TypeId} {w : World} {g : Nat} {l l' : List Nat} (h : Lies .u64 t w g l) {cs : Array Value} (e : cs = arr .u64 l') : Lies .u64 t (w.setRow g cs) g l' := by rw [e]; exact h.row

end Go.Proofs.YtefndnbaifiboaaDoor

/- Contract of the document's Add, of words of 64 bits. -/
namespace Go.Proofs.YtefndnbaifiboaaDoor
open Go.RowKit
set_option linter.unusedVariables false
set_option linter.unusedSimpArgs false

/-- where the document's Add stands behind some blocks -/
def RAdd64 (w : World) (kind : Int) (tv : Value) (N : Nat) (ws all : List Nat) (u : Value) (wr : World) : Prop := ∃ (L H : List Nat), L.length ≤ 200000 ∧ slen u = L.length ∧ Row .u8 256 wr u L ∧ Away w.heap.size u L ∧ Away (w.heap.size + 1) u L ∧ Tidy u ∧ Hb wr w.heap.size kind H tv N ∧ El wr (w.heap.size + 1) ∧ Below w.heap.size w wr ∧ eat true ws all = eat true H L ∧ left true all = left true L ∧ H.length = 8 ∧ Under 18446744073709551616 H

end Go.Proofs.YtefndnbaifiboaaDoor

/- The document's End, of words of 64 bits. -/
namespace Go.Proofs.YtefndnbaifiboaaDoor
open Go.RowKit
set_option linter.unusedVariables false
set_option linter.unusedSimpArgs false

/-- so many bytes 0 -/
def zer64 (off t : Nat) : Nat := if t + 1 ≤ 128 - off then 128 - off - 1 - t else 2 * 128 - off - 1 - t
theorem zer_at64 (off t j : Nat) (ho : off = 8 ∨ off = 16) (ht : t < 128) (hj : j ≤ zer64 off t) : (t + (j + 1)) % 128 = 128 - off ↔ j = zer64 off t := by
  unfold zer64 at *
  split at hj <;> rename_i h <;> (first | rw [if_pos h] | rw [if_neg h]) <;> rcases ho with rfl | rfl <;> omega
theorem bytes_take64 (X : List Nat) (k : Nat) (hk : k < X.length) : bytesW true (X.take (k + 1)) = bytesW true (X.take k) ++ (leL (el X k) 8).reverse := by
  unfold bytesW
  rw [List.take_add_one, List.map_append, List.flatten_append, List.getElem?_eq_getElem hk, el_at hk]
  simp [ez]
theorem leS_e64 (n : Nat) : leS n 8 = leL n 8 := by unfold leS; rw [if_neg (by decide)]; rfl
/-- where the loop of words stands -/
def ROut64 (w xf : World) (X : List Nat) (o i : Value) (wz : World) : Prop := ∃ k : Nat, k ≤ 8 ∧ i = .int .i64 k ∧ wz.ownsRow (w.heap.size + 1) 5 1 o (k * 8) (vals .u8 (bytesW true (X.take k))) ∧ Below (w.heap.size + 1) xf wz

end Go.Proofs.YtefndnbaifiboaaDoor

/- Contract of the document's New. -/
namespace Go.Proofs.YtefndnbaifiboaaDoor
open Go.RowKit
set_option linter.unusedVariables false
set_option linter.unusedSimpArgs false

end Go.Proofs.YtefndnbaifiboaaDoor

/- The document's Add, End and Sum, of whatever kind; New and Sum of the code, of whatever kind. -/
namespace Go.Proofs.YtefndnbaifiboaaDoor
open Go.RowKit
set_option linter.unusedVariables false
set_option linter.unusedSimpArgs false

theorem fill_left (c : Bool) (l : List Nat) (s : Nat) : fill c (left c l).length s = fill c l.length s := by
  unfold fill room
  rw [left_length, Nat.mod_mod]
/-- a sum's end is that of its parts -/
theorem endS_parts (c : Bool) (E b : List Nat) (s n : Nat) : endS c (eat c E b) (left c b) s n = endS c E b s n := by
  unfold endS
  rw [fill_left, ← eat_parts]
/-- New and Sum, of whatever kind: what is told -/
def NewE (F : FuncId) (kind : Int) (k : Int) (E : List Nat) (c : Int) (w : World) : Prop := Calls Tryd.prog F #[.int .i64 kind] w fun e w' => e = .returned (.tuple #[.agg (hv k E (.slice none 0 0) 0), .int .i64 c]) ∧ Below w.heap.size w w'
def SumE (F : FuncId) (kind : Int) (bv : Value) (s : List Nat) (c : Int) (w : World) : Prop := Calls Tryd.prog F #[.int .i64 kind, bv] w fun e w' => ∃ v', e = .returned (.tuple #[v', .int .i64 c]) ∧ Row .u8 256 w' v' s ∧ Below w.heap.size w w'
end Go.Proofs.YtefndnbaifiboaaDoor

/- Leaves that sign once: the document's Kind, Size, H, part, chain, key, digest. -/
namespace Go.Proofs.YtefndnbaifiboaaDoor
open Go.RowKit
set_option linter.unusedVariables false
set_option linter.unusedSimpArgs false

/-- SHA-256 -/
def shaL (b : List Nat) : List Nat := endS (wide 1) (ini 1) b b.length (outn 1)
theorem shaL_len (b : List Nat) : (shaL b).length = 32 := by
  have e8 : ∀ (c : Bool) (l : List Nat), (eat c (ini 1) l).length = 8 := fun c l => eat_len _ (by decide)
  unfold shaL
  simp [endS, bytesW_length, e8, outn, wide, ez]
/-- what a kind is: digits of a digest, of its check, the shift, the typecode -/
inductive Kd : Nat → Nat → Nat → Nat → Nat → Prop
  | k1 : Kd 1 256 9 7 1
  | k2 : Kd 2 128 5 6 2
  | k4 : Kd 4 64 3 4 3
  | k8 : Kd 8 32 2 0 4
theorem Kd.kind {w n m s c : Nat} (h : Kd w n m s c) : KindL w n m s := by
  cases h
  · exact kind_1
  · exact kind_2
  · exact kind_4
  · exact kind_8
def NoK (x : Int) : Prop := ¬ x = 1 ∧ ¬ x = 2 ∧ ¬ x = 4 ∧ ¬ x = 8
theorem kd_or (x : Int) : NoK x ∨ ∃ w n m s c : Nat, x = (w : Int) ∧ Kd w n m s c := by
  by_cases h1 : x = 1
  · exact .inr ⟨1, _, _, _, _, h1, .k1⟩
  by_cases h2 : x = 2
  · exact .inr ⟨2, _, _, _, _, h2, .k2⟩
  by_cases h4 : x = 4
  · exact .inr ⟨4, _, _, _, _, h4, .k4⟩
  by_cases h8 : x = 8
  · exact .inr ⟨8, _, _, _, _, h8, .k8⟩
  exact .inl ⟨h1, h2, h4, h8⟩
theorem texts_cons {w : World} {u : Value} {x : List Nat} {us : List Value} {ls : List (List Nat)} (h : Row .u8 256 w u x) (t : Tidy u) (k : Texts w us ls) : Texts w (u :: us) (x :: ls) := (Texts.one h t).append k
theorem rows_litL {w : World} {us : List Value} {ls : List (List Nat)} {B k : Nat} (h : Texts w us ls) (hB : w.heap.size = B) (hk : ls.length = k) (hl : k ≤ 1000) : Rows2 (w.alloc (.cells us.toArray 25)) (.slice (some ⟨B, 0, none⟩) k k) ls := by
  subst hB hk
  refine ⟨_, ls.length, rfl, Nat.le_refl _, by unfold maxLen; omega, fun _ => ⟨_, _, rfl, fun i hi => ?_⟩⟩
  have hb := keep_alloc w (.cells us.toArray 25)
  obtain ⟨u, hu, hr, ht⟩ := h.2 i hi
  refine ⟨u, ?_, hr.below hb, ht⟩
  rw [World.cell?_alloc_at _ _ _ _ rfl, Nat.zero_add]
  simpa using hu
theorem new_ntidy {w : World} {v : Value} {l : List Nat} (h : Row .u8 256 w v l) (hl : 0 < l.length) : Tidy v := by
  obtain ⟨a, c, rfl, _, _, g⟩ := h.opens rfl
  obtain ⟨b, o, rfl, _⟩ := g hl
  intro n c e
  cases e
theorem leS_2 (n : Nat) : leS n 2 = leL n 2 := by unfold leS; rw [if_neg (by decide)]; rfl
theorem leS_4 (n : Nat) : leS n 4 = leL n 4 := by unfold leS; rw [if_neg (by decide)]; rfl
theorem one_byte (w : World) (x : Nat) (hx : x < 256) : Row .u8 256 (w.alloc (.cells #[.int .u8 (x : Int)] 5)) (.slice (some ⟨w.heap.size, 0, none⟩) 1 1) [x] ∧ Tidy (.slice (some ⟨w.heap.size, 0, none⟩) 1 1) := by
  refine ⟨⟨_, 1, rfl, Nat.le_refl _, by unfold maxLen; decide, fun _ => ⟨_, _, rfl, fun i hi => ?_⟩, ?_⟩, fun n c e => by cases e⟩
  · match i, hi with
    | 0, _ => rw [World.cell?_alloc_at _ _ _ _ rfl]; rfl
  · intro y hy
    simp at hy
    omega
/-- what stands ahead: the tree's id and the leaf's number -/
def preL (id : List Nat) (q : Nat) : List Nat := id ++ be4 q
theorem len_pre (id : List Nat) (q : Nat) : (preL id q).length = id.length + 4 := by unfold preL; rw [List.length_append, be4_len]
end Go.Proofs.YtefndnbaifiboaaDoor

/- Leaves that sign once: the document's chain, key, digest. -/
namespace Go.Proofs.YtefndnbaifiboaaDoor
open Go.RowKit
set_option linter.unusedVariables false
set_option linter.unusedSimpArgs false

/-- where the chain stands -/
def ChL (w : World) (HH : List Nat → List Nat) (pre : List Nat) (i F N : Nat) (y : List Nat) (yv vy vj : Value) (wr : World) : Prop := ∃ k : Nat, k ≤ N ∧ vj = .int .i64 ((F + k : Nat) : Int) ∧ Row .u8 256 wr vy (chN HH pre i F k y) ∧ Tidy vy ∧ (New w.heap.size vy ∨ vy = yv) ∧ Below w.heap.size w wr
end Go.Proofs.YtefndnbaifiboaaDoor

/- Leaves that sign once: the document's key, digest, wrong, Size. -/
namespace Go.Proofs.YtefndnbaifiboaaDoor
open Go.RowKit
set_option linter.unusedVariables false
set_option linter.unusedSimpArgs false

/-- what is wrong with a kind, an id, a seed -/
def wrgC (x : Int) (a b : Nat) : Int := if x = 1 ∨ x = 2 ∨ x = 4 ∨ x = 8 then (if a = 16 ∧ b = 32 then 0 else 14) else 9
theorem wrg_no {x : Int} (h : NoK x) (a b : Nat) : wrgC x a b = 9 := by
  obtain ⟨h1, h2, h4, h8⟩ := h
  unfold wrgC
  rw [if_neg (by omega)]
theorem wrg_kd {w n m s c : Nat} (h : Kd w n m s c) (a b : Nat) : wrgC (w : Int) a b = if a = 16 ∧ b = 32 then 0 else 14 := by
  unfold wrgC
  rw [if_pos (by cases h <;> simp)]
theorem Kd.pos {w n m s c : Nat} (h : Kd w n m s c) : 1 ≤ n + m ∧ n + m ≤ 265 ∧ w ≤ 8 ∧ 1 ≤ w ∧ n * w = 256 ∧ c ≤ 4 ∧ s ≤ 7 := by cases h <;> decide
end Go.Proofs.YtefndnbaifiboaaDoor

/- Trees of leaves that sign once: the document's Code, height, digit, over, leafSum. -/
namespace Go.Proofs.YtefndnbaifiboaaDoor
open Go.RowKit
set_option linter.unusedVariables false
set_option linter.unusedSimpArgs false

/-- the first number from f on that is meant, of k; 0: none is -/
def findN (P : Nat → Bool) : Nat → Nat → Nat
  | _, 0 => 0
  | f, k + 1 => if P f = true then f else findN P (f + 1) k
def hgtL (c : Nat) : Nat := findN (fun h : Nat => decide (lmCode (h : Int) = c ∧ c ≠ 0)) 1 25
def kdC (w : Nat) : Nat := if w = 1 then 1 else if w = 2 then 2 else if w = 4 then 3 else if w = 8 then 4 else 0
def dgtL (c : Nat) : Nat := findN (fun w => decide (kdC w = c ∧ c ≠ 0)) 1 8
def FnL (P : Nat → Bool) (T k0 : Nat) (vi : Value) (w wr : World) : Prop := ∃ f k : Nat, f + k = T ∧ 1 ≤ f ∧ vi = .int .i64 (f : Int) ∧ findN P f k = k0 ∧ wr = w
end Go.Proofs.YtefndnbaifiboaaDoor

/- append of whatever row, apart from mac's and aes'. -/
namespace Go.Proofs.YtefndnbaifiboaaDoor
open Go.RowKit
set_option linter.unusedVariables false
set_option linter.unusedSimpArgs false

theorem tidy_atA (x : Addr) (n c : Nat) : Tidy (.slice (some x) n c) := fun n c he => by simp at he
theorem own_belowA {w w' : World} {base : Nat} {e : TypeId} {size : Nat} {v : Value} {n : Nat} {xs : List Value} (h : w.ownsRow base e size v n xs) (hb : Below w.heap.size w w') : w'.ownsRow base e size v n xs := by
  obtain ⟨h1, h2⟩ := h
  refine ⟨h1, ?_⟩
  rcases h2 with h2 | ⟨g, cap, cur, rfl, h3, h4, h5⟩
  · exact .inl h2
  · refine .inr ⟨g, cap, cur, rfl, h3, ?_, h5⟩
    rw [hb.block g (by
      rcases Nat.lt_or_ge g w.heap.size with hlt | hge
      · exact hlt
      · rw [Array.getElem?_eq_none hge] at h4; cases h4)]
    exact h4
theorem own_sliceA {w : World} {base : Nat} {e : TypeId} {v : Value} {n : Nat} {xs : List Value} (h : w.ownsRow base e 1 v n xs) : ∃ a c, v = .slice a n c := by
  obtain ⟨_, ⟨rfl, h0⟩ | ⟨g, cap, cur, rfl, _⟩⟩ := h
  · exact ⟨none, 0, by rw [h0]⟩
  · exact ⟨_, _, rfl⟩
theorem row_tidyA {k : IntKind} {m : Nat} {w : World} {v : Value} {l : List Nat} (h : Row k m w v l) (hl : 0 < l.length) : Tidy v := by
  obtain ⟨a, c, rfl, _, _, h3, _⟩ := h
  obtain ⟨b, off, rfl, _⟩ := h3 hl
  exact tidy_atA _ _ _
/-- append of whatever row onto one of the call's own -/
theorem wpList_appA {w : World} {ops : Array Oper} {rest : List Oper} {o : Oper} {a : Act} {Q : Exit → Act → World → Prop} (hgd : o.guard = none) (s x : Operand) (ho : o.op = .call { callee := .builtin .append, args := #[s, x], argTypes := #[25, 25] })
    (base : Nat) (v bv : Value) (n : Nat) (l b : List Nat) (hs : a.eval s = v) (hown : w.ownsRow base 5 1 v n (vals .u8 l)) (hx : a.eval x = bv) (rb : Row .u8 256 w bv b) (tb : Tidy bv) (hn : n ≤ 1000000) (hb : b.length ≤ 1000000) (hbase : base ≤ w.heap.size)
    (h : ∀ v' w', w'.ownsRow base 5 1 v' (n + b.length) (vals .u8 (l ++ b)) → w.grownBy w' v.ownBlock → wpList Tryd.prog ops Q rest (a.put o.dst v') w') : wpList Tryd.prog ops Q (o :: rest) a w := by
  obtain ⟨i0, hi, hz0, hz1, hz2⟩ := info_parts Tryd.info5
  obtain ⟨ba, bc, rfl, h1, h2, h3, h4⟩ := rb
  cases ba with
  | none =>
    obtain ⟨h0, rfl⟩ := tb _ _ rfl
    obtain rfl := List.eq_nil_of_length_eq_zero h0
    refine wpList_append_own_none hgd s x 25 ho base 5 i0 1 Tryd.underlying25 hi _ _ _ hs hown hx ?_
    exact h v w (by rw [List.append_nil]; exact hown) ⟨rfl, rfl, rfl, Nat.le_refl _, fun _ _ _ => rfl⟩
  | some y =>
    refine wpList_append_own _ hgd s x 25 ho base 5 i0 (.int .u8 0) 1 1 Tryd.underlying25 hi hz0 hz1 hz2 rfl (by decide) _ _ _ hs hown y b.length bc (vals .u8 b) hx (by rw [vals_length, Nat.mul_one]) (cells_news h3) (vals_one _ _) (by unfold maxLen; omega) (by omega) hbase ?_
    intro v' w3 how' hgrow _
    exact h v' w3 (by rw [vals_append]; exact how') hgrow
/-- a row of the call's own that is not empty -/
theorem own_at {w : World} {base : Nat} {e : TypeId} {v : Value} {n : Nat} {k : IntKind} {l : List Nat} (h : w.ownsRow base e 1 v n (vals k l)) (hn : 0 < n) (hl : l.length = n) :
    ∃ g c, v = .slice (some ⟨g, 0, none⟩) n c ∧ base ≤ g ∧ g < w.heap.size ∧ n ≤ c ∧ c ≤ maxLen ∧ ∀ i, i < n → w.cell? ⟨g, i, none⟩ = some (.int k (el l i : Nat)) := by
  have h' := h
  obtain ⟨_, ⟨_, h0⟩ | ⟨g, cap, cur, rfl, h1, h2, h3, h4, _⟩⟩ := h
  · omega
  · refine ⟨g, cap, rfl, h1, (h'.lt g (by simp [Value.ownBlock])).2, h3, h4, fun i hi => ?_⟩
    rw [h'.cellAt i (by rw [Nat.mul_one]; exact hi), vals_get k l i (by omega)]
theorem run_append_keepsA {P : Program} (w : World) (t ty : TypeId) (base : Nat) (e : TypeId) (i : TypeInfo) (z : Value) (bytes : Nat) (ht : P.underlying t = some (.slice e)) (hi : P.info? e = some i) (hz : i.zero = some z)
    (hsize : i.size = 1) (hby : i.bytes = bytes) (hzs : z.cells.size = 1)
    (g0 n cap0 : Nat) (xs : List Value) (hown : w.ownsRow base e 1 (.slice (some ⟨g0, 0, none⟩) n cap0) n xs)
    (ad : Addr) (m c : Nat) (news : List Value) (hl : news.length = m) (hnews : ∀ j u, news[j]? = some u → w.cell? (ad.add j) = some u) (h1 : ∀ u ∈ news, u.oneCell' = true)
    (hm : 0 < m) (h63 : n + m ≤ maxLen) (hbytes : (n + m) * bytes ≤ 140737488355328) (hbase : base ≤ w.heap.size) :
    ∃ g cap w', (Builtin.append_ #[t, t] ty #[.slice (some ⟨g0, 0, none⟩) n cap0, .slice (some ad) m c]).run P w = .ok (.slice (some ⟨g, 0, none⟩) (n + m) cap) w' ∧
      w'.ownsRow base e 1 (.slice (some ⟨g, 0, none⟩) (n + m) cap) (n + m) (xs ++ news) ∧ w.grownBy w' (some g0) ∧ (g0 = g ∨ g = w.heap.size) ∧ ∀ j, j < n → w'.cell? ⟨g0, j, none⟩ = w.cell? ⟨g0, j, none⟩ := by
  obtain ⟨g, cap, w', hr, h2, h3, h4, h5⟩ := run_append_lies (P := P) w t ty base e i z 1 bytes ht hi hz hsize hby hzs (by decide) _ n xs hown ad m c news (by rw [hl, Nat.mul_one]) hnews h1 hm h63 hbytes hbase _ rfl
  refine ⟨g, cap, w', hr, h2, h3, h4.imp (fun h => by simpa [Value.ownBlock] using h) id, fun j hj => ?_⟩
  have hown' := hown
  obtain ⟨hlen, ⟨he, _⟩ | ⟨q, cq, cur, he, hB, hg, hn, hc, hcs, htk⟩⟩ := hown
  · cases he
  · obtain ⟨rfl, rfl⟩ : g0 = q ∧ cap0 = cq := by simpa using he
    by_cases hroom : n + m ≤ cap0
    · have hrr := run_append_room_cells (P := P) w t ty e i ht hi g0 0 n cap0 ad m c news (by rw [hl, hsize, Nat.mul_one]) hnews h1 hroom
        (fun j hj => by rw [cell_of_row w g0 _ cur e (0, 0) hg, hsize]; simp; omega)
        (fun j hj => by simp [World.frozen?, hg])
      rw [hr] at hrr
      obtain rfl : w' = w.setCells g0 (0 + n * i.size) news := (Result.ok.inj hrr).2
      exact World.cell?_setCells_out g0 news _ w ⟨g0, j, none⟩ (fun _ _ => .inl (by show j < 0 + n * i.size; rw [hsize]; omega))
    · obtain ⟨v2, w2, hr2, _, hg2⟩ := run_append_arg_grows (P := P) w t ty e i z 1 bytes ht hi hz hsize hby hzs (by decide) ⟨g0, 0, none⟩ n cap0 xs hlen
        (fun j u hu => by
          have hjx : j < xs.length := (List.getElem?_eq_some_iff.1 hu).1
          rw [Addr.add_lit, Nat.zero_add, hown'.cellAt j (by omega)]; exact hu) ad m c news (by rw [hl, Nat.mul_one]) hnews (by omega) h63 hbytes
      rw [hr] at hr2
      obtain rfl : w' = w2 := (Result.ok.inj hr2).2
      exact World.cell?_of_block (hg2.block g0 (by rcases Nat.lt_or_ge g0 w.heap.size with h' | h'
                                                   · exact h'
                                                   · rw [Array.getElem?_eq_none h'] at hg; cases hg) (by simp))

theorem step_append_keepsA {P : Program} {w : World} {ops : Array Oper} {o : Oper} {a : Act} {K : Act → World → Prop} {Q : Exit → Act → World → Prop} {E : Prop} (hgd : o.guard = none) (s x : Operand) (t : TypeId)
    (ho : o.op = .call { callee := .builtin .append, args := #[s, x], argTypes := #[t, t] })
    (base : Nat) (e : TypeId) (i : TypeInfo) (z : Value) (bytes : Nat) (ht : P.underlying t = some (.slice e)) (hi : P.info? e = some i) (hz : i.zero = some z)
    (hsize : i.size = 1) (hby : i.bytes = bytes) (hzs : z.cells.size = 1)
    (g0 n cap0 : Nat) (xs : List Value) (hs : a.eval s = .slice (some ⟨g0, 0, none⟩) n cap0) (hown : w.ownsRow base e 1 (.slice (some ⟨g0, 0, none⟩) n cap0) n xs)
    (ad : Addr) (m c : Nat) (news : List Value) (hx : a.eval x = .slice (some ad) m c) (hl : news.length = m) (hnews : ∀ j u, news[j]? = some u → w.cell? (ad.add j) = some u) (h1 : ∀ u ∈ news, u.oneCell' = true)
    (hm : 0 < m) (h63 : n + m ≤ maxLen) (hbytes : (n + m) * bytes ≤ 140737488355328) (hbase : base ≤ w.heap.size)
    (h : ∀ g cap w', w'.ownsRow base e 1 (.slice (some ⟨g, 0, none⟩) (n + m) cap) (n + m) (xs ++ news) → w.grownBy w' (some g0) → (g0 = g ∨ g = w.heap.size) → (∀ j, j < n → w'.cell? ⟨g0, j, none⟩ = w.cell? ⟨g0, j, none⟩) → K (a.put o.dst (.slice (some ⟨g, 0, none⟩) (n + m) cap)) w') :
    if Region.wanted o (yielded ops a.tmps) = true then Oper.wp P o a w K Q else E := by
  have hw : Region.wanted o (yielded ops a.tmps) = true := by simp [Region.wanted, hgd]
  rw [if_pos hw]
  obtain ⟨g, cap, w', hr, h2, h3, h4, h5⟩ := run_append_keepsA (P := P) w t o.type base e i z bytes ht hi hz hsize hby hzs g0 n cap0 xs hown ad m c news hl hnews h1 hm h63 hbytes hbase
  unfold Oper.wp execOp
  simp only [ho, resolve, invoke, builtin, Sem.run_bind, Sem.run_pure, Result.andThen_ok, List.map_toArray, List.map_cons, List.map_nil, hs, hx, hr]
  exact h g cap w' h2 h3 h4 h5
end Go.Proofs.YtefndnbaifiboaaDoor

/- Trees of leaves that sign once: the document's over, leafSum, Fit, Size, wrong, head. -/
namespace Go.Proofs.YtefndnbaifiboaaDoor
open Go.RowKit
set_option linter.unusedVariables false
set_option linter.unusedSimpArgs false

/-- the sums of a knot and of a leaf -/
def ovL (id : List Nat) (n : Nat) (a b : List Nat) : List Nat := shaL (id ++ (be4 n ++ (be2 33667 ++ (a ++ b))))
def lfS (id : List Nat) (n : Nat) (k : List Nat) : List Nat := shaL (id ++ (be4 n ++ (be2 33410 ++ k)))
/-- how many bytes a leaf's signature has; 0: there is no such kind -/
def szW (x : Int) : Nat := if x = 1 then 8516 else if x = 2 then 4292 else if x = 4 then 2180 else if x = 8 then 1124 else 0
/-- a tree is fit -/
def FitL (h x : Int) : Prop := lmCode h ≠ 0 ∧ szW x ≠ 0
instance (h x : Int) : Decidable (FitL h x) := by unfold FitL; infer_instance
structure Bx2T (W : World) (B : Nat) (v0 v1 : Value) : Prop where
  here : W.heap[B]? = some (.cells #[v0, v1] 29 (0, 0))
theorem Bx2T.lt {W : World} {B : Nat} {v0 v1 : Value} (h : Bx2T W B v0 v1) : B < W.heap.size := (Array.getElem?_eq_some_iff.1 h.here).1
theorem Bx2T.c0 {W : World} {B : Nat} {v0 v1 : Value} (h : Bx2T W B v0 v1) : W.cell? ⟨B, 0, none⟩ = some v0 := by simp [World.cell?, h.here]
theorem Bx2T.c1 {W : World} {B : Nat} {v0 v1 : Value} (h : Bx2T W B v0 v1) : W.cell? ⟨B, 1, none⟩ = some v1 := by simp [World.cell?, h.here]
theorem Bx2T.below {W W' : World} {B : Nat} {v0 v1 : Value} (h : Bx2T W B v0 v1) (hb : Below W.heap.size W W') : Bx2T W' B v0 v1 := ⟨(hb.block _ h.lt).trans h.here⟩
theorem Bx2T.new (W : World) (v0 v1 : Value) : Bx2T (W.alloc (.cells #[v0, v1] 29)) W.heap.size v0 v1 := ⟨heap_alloc_new W _⟩
end Go.Proofs.YtefndnbaifiboaaDoor

/- Trees of leaves that sign once: the document's Size, wrong. -/
namespace Go.Proofs.YtefndnbaifiboaaDoor
open Go.RowKit
set_option linter.unusedVariables false
set_option linter.unusedSimpArgs false

theorem below_drewLt {B : Nat} {a w : World} (h : Below B a w) (n : Nat) : Below B a (w.drewN n) := h.trans ⟨rfl, rfl, rfl, Nat.le_refl _, fun _ _ => rfl⟩
theorem FitL.pos {h x : Int} (hf : FitL h x) : 1 ≤ h ∧ h ≤ 25 ∧ 1124 ≤ szW x ∧ szW x ≤ 8516 := by
  obtain ⟨h1, h2⟩ := hf
  refine ⟨?_, ?_, ?_, ?_⟩
  · unfold lmCode at h1; split at h1; · omega
    split at h1 <;> omega
  · unfold lmCode at h1; split at h1; · omega
    split at h1 <;> omega
  · unfold szW at h2 ⊢; repeat' split
    all_goals first | omega | (exfalso; simp_all)
  · unfold szW; repeat' split
    all_goals omega
/-- how many bytes a signature has -/
def szT (h x : Int) : Nat := if FitL h x then 8 + 32 * h.toNat + szW x else 0
/-- what is wrong with a tree's kind, an id, a seed -/
def wrgT (h x : Int) (a b : Nat) : Int := if FitL h x then (if a = 16 ∧ b = 32 then (if 10 < h then 8 else 0) else 14) else 9
end Go.Proofs.YtefndnbaifiboaaDoor
