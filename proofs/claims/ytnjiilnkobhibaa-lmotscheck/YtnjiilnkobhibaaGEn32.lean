/- The document's End, of words of 32 bits. -/
import Derived.Test.YtnjiilnkobhibaaLcFrm
import Derived.Test.YtnjiilnkobhibaaRJoin
import Derived.Test.YtnjiilnkobhibaaGEnM
import Derived.Test.YtnjiilnkobhibaaBe
import Derived.Test.YtnjiilnkobhibaaHTak64
import Derived.Deep.RegionLaw
import Derived.Deep.AppendLies
import Derived.Test.YtnjiilnkobhibaaHTur64
import Derived.Test.YtnjiilnkobhibaaGWd32
namespace Go.Proofs.Ytnjiilnkobhibaa
open Go.RowKit
set_option linter.unusedVariables false
set_option linter.unusedSimpArgs false

/-- so many bytes 0 -/
def zer32 (off t : Nat) : Nat := if t + 1 ≤ 64 - off then 64 - off - 1 - t else 2 * 64 - off - 1 - t
theorem zer_at32 (off t j : Nat) (ho : off = 8 ∨ off = 16) (ht : t < 64) (hj : j ≤ zer32 off t) : (t + (j + 1)) % 64 = 64 - off ↔ j = zer32 off t := by
  unfold zer32 at *
  split at hj <;> rename_i h <;> (first | rw [if_pos h] | rw [if_neg h]) <;> rcases ho with rfl | rfl <;> omega
theorem bytes_take32 (X : List Nat) (k : Nat) (hk : k < X.length) : bytesW false (X.take (k + 1)) = bytesW false (X.take k) ++ (leL (el X k) 4).reverse := by
  unfold bytesW
  rw [List.take_add_one, List.map_append, List.flatten_append, List.getElem?_eq_getElem hk, el_at hk]
  simp [ez]
theorem leS_e32 (n : Nat) : leS n 4 = leL n 4 := by unfold leS; rw [if_neg (by decide)]; rfl
/-- where the loop of words stands -/
def ROut32 (w xf : World) (X : List Nat) (o i : Value) (wz : World) : Prop := ∃ k : Nat, k ≤ 8 ∧ i = .int .i64 k ∧ wz.ownsRow (w.heap.size + 1) 5 1 o (k * 4) (vals .u8 (bytesW false (X.take k))) ∧ Below (w.heap.size + 1) xf wz

end Go.Proofs.Ytnjiilnkobhibaa

/- Contract of the document's words, of 64 bits. -/
namespace Go.Proofs.Ytnjiilnkobhibaa
open Go.RowKit
set_option linter.unusedVariables false
set_option linter.unusedSimpArgs false

theorem Try.infoU64 : (Try.prog.info? 39).map (fun i => (i.zero, i.size, i.bytes)) = some (some (.int .u64 0), 1, 8) := by kernel_rfl
/-- the first words of a block -/
def wl64 (l : List Nat) (t : Nat) : List Nat := if t < 16 then words true l t else sched true l (t - 16)
theorem wl_length64 (l : List Nat) (t : Nat) : (wl64 l t).length = t := by
  unfold wl64
  split
  · exact words_length _ _ _
  · rw [sched_length]; omega
theorem wl_low64 (l : List Nat) (t : Nat) (h : t < 16) : wl64 l (t + 1) = wl64 l t ++ [word true l t] := by
  unfold wl64
  rw [if_pos h]
  by_cases h2 : t + 1 < 16
  · rw [if_pos h2]; exact words_succ _ _ _
  · obtain rfl : t = 15 := by omega
    exact words_succ _ _ _
theorem wl_high64 (l : List Nat) (t : Nat) (h : 16 ≤ t) : wl64 l (t + 1) = wl64 l t ++ [nxt true (wl64 l t)] := by
  unfold wl64
  rw [if_neg (by omega), if_neg (by omega), show t + 1 - 16 = (t - 16) + 1 by omega]; rfl
theorem wl_under64 (l : List Nat) (t : Nat) (hu : Under 256 l) : Under (wm true) (wl64 l t) := by
  unfold wl64
  split
  · exact words_under hu _
  · exact sched_under hu _

end Go.Proofs.Ytnjiilnkobhibaa

/- Contract of the document's block, of words of 64 bits. -/
namespace Go.Proofs.Ytnjiilnkobhibaa
open Go.RowKit
set_option linter.unusedVariables false
set_option linter.unusedSimpArgs false

theorem rchs64 (e f g : Nat) (he : e < 18446744073709551616) (hf : f < 18446744073709551616) (hg : g < 18446744073709551616) : bits .xor .u64 (bits .and .u64 (e : Int) (f : Int)) (bits .and .u64 (bits .xor .u64 18446744073709551615 (e : Int)) (g : Int)) = ((chs true e f g : Nat) : Int) := by
  have hn : bits .xor .u64 18446744073709551615 (e : Int) = ((18446744073709551616 - 1 - e : Nat) : Int) := by
    rw [show (18446744073709551615 : Int) = ((18446744073709551616 - 1 : Nat) : Int) from rfl, u64_xor_nat _ _ (by decide) (by omega), ← ones_xor 64 e he]
  rw [hn, and_is64 e f (by omega) (by omega), and_is64 _ g (by omega) (by omega), xor_is64 _ _ (Nat.lt_of_le_of_lt Nat.and_le_left (by omega)) (Nat.lt_of_le_of_lt Nat.and_le_left (by omega))]
  rfl
theorem rr064 (s : List Nat) (k w : Nat) : ((((((el s 7 + turn3 true 14 18 41 (el s 4)) % 18446744073709551616 + chs true (el s 4) (el s 5) (el s 6)) % 18446744073709551616 + k) % 18446744073709551616 + w) % 18446744073709551616 + (turn3 true 28 34 39 (el s 0) + maj (el s 0) (el s 1) (el s 2)) % 18446744073709551616) % 18446744073709551616) = el (rnd true k w s) 0 := by
  show _ = (tOne true s k w + tTwo true s) % wm true
  unfold tOne tTwo
  simp only [gS0, gS1, wm, cond_true, cond_false]
  omega
theorem rr464 (s : List Nat) (k w : Nat) : ((el s 3 + ((((el s 7 + turn3 true 14 18 41 (el s 4)) % 18446744073709551616 + chs true (el s 4) (el s 5) (el s 6)) % 18446744073709551616 + k) % 18446744073709551616 + w) % 18446744073709551616) % 18446744073709551616) = el (rnd true k w s) 4 := by
  show _ = (el s 3 + tOne true s k w) % wm true
  unfold tOne
  simp only [gS0, gS1, wm, cond_true, cond_false]
  omega
theorem addS_get64 (h s : List Nat) (j : Nat) (hj : j < s.length) : el (addW true h s j ++ s.drop j) j = el s j := by
  rw [el_app_right (by rw [addW_length]; omega), addW_length, el_drop, Nat.sub_self]; rfl
theorem addS_set64 (h s : List Nat) (j : Nat) (hj : j < s.length) : (addW true h s j ++ s.drop j).set j ((el s j + el h j) % wm true) = addW true h s (j + 1) ++ s.drop (j + 1) := by
  have e : addW true h s (j + 1) = addW true h s j ++ [(el s j + el h j) % wm true] := by simp [addW, List.range_succ]
  rw [e, drop_el hj, List.append_assoc, List.set_append_right _ _ (by rw [addW_length]; omega), addW_length, Nat.sub_self]
  rfl
theorem eight64 {t : TypeId} {w : World} {g : Nat} {l : List Nat} (h : Lies .u64 t w g l) (h8 : l.length = 8) : w.cell? ⟨g, 0, none⟩ = some (.int .u64 (el l 0)) ∧ w.cell? ⟨g, 1, none⟩ = some (.int .u64 (el l 1)) ∧ w.cell? ⟨g, 2, none⟩ = some (.int .u64 (el l 2)) ∧ w.cell? ⟨g, 3, none⟩ = some (.int .u64 (el l 3)) ∧ w.cell? ⟨g, 4, none⟩ = some (.int .u64 (el l 4)) ∧ w.cell? ⟨g, 5, none⟩ = some (.int .u64 (el l 5)) ∧ w.cell? ⟨g, 6, none⟩ = some (.int .u64 (el l 6)) ∧ w.cell? ⟨g, 7, none⟩ = some (.int .u64 (el l 7)) :=
  ⟨h.cell (by omega), h.cell (by omega), h.cell (by omega), h.cell (by omega), h.cell (by omega), h.cell (by omega), h.cell (by omega), h.cell (by omega)⟩
theorem set864 (s : List Nat) (h : s.length = 8) (a b c d e f g i : Nat) : (((((((s.set 0 a).set 1 b).set 2 c).set 3 d).set 4 e).set 5 f).set 6 g).set 7 i = [a, b, c, d, e, f, g, i] := by
  match s, h with
  | [_, _, _, _, _, _, _, _], _ => rfl
theorem Lies.to64 {t : TypeId} {w : World} {g : Nat} {l l' : List Nat} (h : Lies .u64 t w g l) {cs : Array Value} (e : cs = arr .u64 l') : Lies .u64 t (w.setRow g cs) g l' := by rw [e]; exact h.row

end Go.Proofs.Ytnjiilnkobhibaa

/- Contract of the document's Add, of words of 64 bits. -/
namespace Go.Proofs.Ytnjiilnkobhibaa
open Go.RowKit
set_option linter.unusedVariables false
set_option linter.unusedSimpArgs false

end Go.Proofs.Ytnjiilnkobhibaa

/- The document's End, of words of 64 bits. -/
namespace Go.Proofs.Ytnjiilnkobhibaa
open Go.RowKit
set_option linter.unusedVariables false
set_option linter.unusedSimpArgs false

/-- so many bytes 0 -/
def zer64 (off t : Nat) : Nat := if t + 1 ≤ 128 - off then 128 - off - 1 - t else 2 * 128 - off - 1 - t
theorem zer_at64 (off t j : Nat) (ho : off = 8 ∨ off = 16) (ht : t < 128) (hj : j ≤ zer64 off t) : (t + (j + 1)) % 128 = 128 - off ↔ j = zer64 off t := by
  unfold zer64 at *
  split at hj <;> rename_i h <;> (first | rw [if_pos h] | rw [if_neg h]) <;> rcases ho with rfl | rfl <;> omega
theorem bytes_take64 (X : List Nat) (k : Nat) (hk : k < X.length) : bytesW true (X.take (k + 1)) = bytesW true (X.take k) ++ (leL (el X k) 8).reverse := by
  unfold bytesW
  rw [List.take_add_one, List.map_append, List.flatten_append, List.getElem?_eq_getElem hk, el_at hk]
  simp [ez]
theorem leS_e64 (n : Nat) : leS n 8 = leL n 8 := by unfold leS; rw [if_neg (by decide)]; rfl
/-- where the loop of words stands -/
def ROut64 (w xf : World) (X : List Nat) (o i : Value) (wz : World) : Prop := ∃ k : Nat, k ≤ 8 ∧ i = .int .i64 k ∧ wz.ownsRow (w.heap.size + 1) 5 1 o (k * 8) (vals .u8 (bytesW true (X.take k))) ∧ Below (w.heap.size + 1) xf wz

end Go.Proofs.Ytnjiilnkobhibaa

/- Contract of the document's New. -/
namespace Go.Proofs.Ytnjiilnkobhibaa
open Go.RowKit
set_option linter.unusedVariables false
set_option linter.unusedSimpArgs false

end Go.Proofs.Ytnjiilnkobhibaa

/- Contract of sha.Sum. -/
namespace Go.Proofs.Ytnjiilnkobhibaa
open Go.RowKit
set_option linter.unusedVariables false
set_option linter.unusedSimpArgs false

end Go.Proofs.Ytnjiilnkobhibaa

/- The document's Add, End and Sum, of whatever kind; New and Sum of the code, of whatever kind. -/
namespace Go.Proofs.Ytnjiilnkobhibaa
open Go.RowKit
set_option linter.unusedVariables false
set_option linter.unusedSimpArgs false

theorem fill_left (c : Bool) (l : List Nat) (s : Nat) : fill c (left c l).length s = fill c l.length s := by
  unfold fill room
  rw [left_length, Nat.mod_mod]
/-- a sum's end is that of its parts -/
theorem endS_parts (c : Bool) (E b : List Nat) (s n : Nat) : endS c (eat c E b) (left c b) s n = endS c E b s n := by
  unfold endS
  rw [fill_left, ← eat_parts]
/-- New and Sum, of whatever kind: what is told -/
def NewE (F : FuncId) (kind : Int) (k : Int) (E : List Nat) (c : Int) (w : World) : Prop := Calls Try.prog F #[.int .i64 kind] w fun e w' => e = .returned (.tuple #[.agg (hv k E (.slice none 0 0) 0), .int .i64 c]) ∧ Below w.heap.size w w'
def SumE (F : FuncId) (kind : Int) (bv : Value) (s : List Nat) (c : Int) (w : World) : Prop := Calls Try.prog F #[.int .i64 kind, bv] w fun e w' => ∃ v', e = .returned (.tuple #[v', .int .i64 c]) ∧ Row .u8 256 w' v' s ∧ Below w.heap.size w w'
end Go.Proofs.Ytnjiilnkobhibaa
