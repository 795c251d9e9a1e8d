/- Contract of the document's words, of 32 bits. -/
import Derived.Test.YtnjiilnkobhibaaHTur64
import Derived.Test.YtnjiilnkobhibaaFrameT
import Derived.Test.YtnjiilnkobhibaaLcFrm
import Derived.Test.YtnjiilnkobhibaaHKit
import Derived.Laws.ShiftsVarLaws
import Derived.BigRegion
import Derived.Test.YtnjiilnkobhibaaPlan2
namespace Go.Proofs.Ytnjiilnkobhibaa
open Go.RowKit
set_option linter.unusedVariables false
set_option linter.unusedSimpArgs false

theorem Try.infoU32 : (Try.prog.info? 39).map (fun i => (i.zero, i.size, i.bytes)) = some (some (.int .u64 0), 1, 8) := by kernel_rfl
/-- the first words of a block -/
def wl32 (l : List Nat) (t : Nat) : List Nat := if t < 16 then words false l t else sched false l (t - 16)
theorem wl_length32 (l : List Nat) (t : Nat) : (wl32 l t).length = t := by
  unfold wl32
  split
  · exact words_length _ _ _
  · rw [sched_length]; omega
theorem wl_low32 (l : List Nat) (t : Nat) (h : t < 16) : wl32 l (t + 1) = wl32 l t ++ [word false l t] := by
  unfold wl32
  rw [if_pos h]
  by_cases h2 : t + 1 < 16
  · rw [if_pos h2]; exact words_succ _ _ _
  · obtain rfl : t = 15 := by omega
    exact words_succ _ _ _
theorem wl_high32 (l : List Nat) (t : Nat) (h : 16 ≤ t) : wl32 l (t + 1) = wl32 l t ++ [nxt false (wl32 l t)] := by
  unfold wl32
  rw [if_neg (by omega), if_neg (by omega), show t + 1 - 16 = (t - 16) + 1 by omega]; rfl
theorem wl_under32 (l : List Nat) (t : Nat) (hu : Under 256 l) : Under (wm false) (wl32 l t) := by
  unfold wl32
  split
  · exact words_under hu _
  · exact sched_under hu _

end Go.Proofs.Ytnjiilnkobhibaa

/- Contract of sha.spread at words of 64 bits. -/
namespace Go.Proofs.Ytnjiilnkobhibaa
open Go.RowKit
set_option linter.unusedVariables false
set_option linter.unusedSimpArgs false

end Go.Proofs.Ytnjiilnkobhibaa

/- Contracts of the document's tables. -/
namespace Go.Proofs.Ytnjiilnkobhibaa
open Go.RowKit
set_option linter.unusedVariables false
set_option linter.unusedSimpArgs false

theorem wpList_build_is {P : Program} {ops : Array Oper} {rest : List Oper} {o : Oper} {a : Act} {w : World} {Q : Exit → Act → World → Prop} (hg : o.guard = none) (t : TypeId) (parts : Array (Nat × Operand)) (ho : o.op = .build t parts) (cells : Array Value)
    (hf : P.built t (parts.map fun (i, x) => (i, a.eval x)).toList = some cells)
    (h : wpList P ops Q rest (a.put o.dst (.agg cells)) w) : wpList P ops Q (o :: rest) a w :=
  wpList_build hg t parts ho (by rw [hf]; rfl) (by rw [hf]; exact h)
/-- the document's table of 64 words -/
def k256 : List Nat := (ks false).take 64
theorem k256_length : k256.length = 64 := rfl
theorem k256_el {i : Nat} (h : i < 64) : el k256 i = el (ks false) i := el_take h
end Go.Proofs.Ytnjiilnkobhibaa

/- Contracts of sha.either, turned, shifted, firstBits at words of 32 bits. -/
namespace Go.Proofs.Ytnjiilnkobhibaa
open Go.RowKit
set_option linter.unusedVariables false
set_option linter.unusedSimpArgs false

theorem ones32 : bits BinOp.xor .u32 IntKind.u32.max 0 = 4294967296 - 1 := by decide
theorem sgn32 : IntKind.u32.signed = false := rfl

theorem wrapN32 (n : Nat) : IntKind.u32.wrap (n : Int) = ((n % 4294967296 : Nat) : Int) := by rw [IntKind.wrap_u32]; omega
/-- a word turned, in the walk's spelling -/
theorem rot_is32 (x r : Nat) (hx : x < 4294967296) (hr : r < 32) : bits .or .u32 ((x : Int) / 2 ^ r) ((x : Int) * 2 ^ (32 - r) % 4294967296) = ((rot false r x : Nat) : Int) := by
  have e1 : (x : Int) / 2 ^ r = ((x / 2 ^ r : Nat) : Int) := by simp
  have e2 : ((x : Int) * 2 ^ (32 - r) % 4294967296) = ((x * 2 ^ (32 - r) % 4294967296 : Nat) : Int) := by
    simp
  rw [e1, e2, u32_or_nat _ _ (Nat.lt_of_le_of_lt (Nat.div_le_self _ _) hx) (Nat.mod_lt _ (by decide))]
  rfl
theorem xor_is32 (x y : Nat) (hx : x < 4294967296) (hy : y < 4294967296) : bits .xor .u32 (x : Int) (y : Int) = ((x ^^^ y : Nat) : Int) := u32_xor_nat x y hx hy
theorem turn_is32 (x a b c : Nat) (hx : x < 4294967296) (ha : a < 32) (hb : b < 32) (hc : c < 32) :
    bits .xor .u32 (bits .xor .u32 (bits .or .u32 ((x : Int) / 2 ^ a) ((x : Int) * 2 ^ (32 - a) % 4294967296)) (bits .or .u32 ((x : Int) / 2 ^ b) ((x : Int) * 2 ^ (32 - b) % 4294967296))) (bits .or .u32 ((x : Int) / 2 ^ c) ((x : Int) * 2 ^ (32 - c) % 4294967296)) = ((turn3 false a b c x : Nat) : Int) := by
  have r := fun r => rot_lt (b := false) hx r
  rw [rot_is32 x a hx ha, rot_is32 x b hx hb, rot_is32 x c hx hc, xor_is32 _ _ (r a) (r b), xor_is32 _ _ (xor_lt (b := false) (r a) (r b)) (r c)]
  rfl
theorem shft_is32 (x a b c : Nat) (hx : x < 4294967296) (ha : a < 32) (hb : b < 32) (hc : c < 32) :
    bits .xor .u32 (bits .xor .u32 (bits .or .u32 ((x : Int) / 2 ^ a) ((x : Int) * 2 ^ (32 - a) % 4294967296)) (bits .or .u32 ((x : Int) / 2 ^ b) ((x : Int) * 2 ^ (32 - b) % 4294967296))) ((x : Int) / 2 ^ c) = ((shft3 false a b c x : Nat) : Int) := by
  have r := fun r => rot_lt (b := false) hx r
  have e1 : (x : Int) / 2 ^ c = ((x / 2 ^ c : Nat) : Int) := by simp
  rw [rot_is32 x a hx ha, rot_is32 x b hx hb, e1, xor_is32 _ _ (r a) (r b), xor_is32 _ _ (xor_lt (b := false) (r a) (r b)) (shr_lt (b := false) hx c)]
  rfl

theorem and_is32 (x y : Nat) (hx : x < 4294967296) (hy : y < 4294967296) : bits .and .u32 (x : Int) (y : Int) = ((x &&& y : Nat) : Int) := u32_and_nat x y hx hy
theorem add_is32 (x y : Nat) : (((x : Int) + (y : Int)) % 4294967296) = (((x + y) % 4294967296 : Nat) : Int) := by
  skip
  omega
theorem not_is32 (e : Nat) (he : e < 4294967296) : bits .xor .u32 IntKind.u32.max (e : Int) = ((4294967296 - 1 - e : Nat) : Int) := by
  rw [show IntKind.u32.max = ((4294967296 - 1 : Nat) : Int) from rfl, xor_is32 _ _ (by decide) he, ← ones_xor 32 e he]
theorem chs_is32 (e f g : Nat) (he : e < 4294967296) (hf : f < 4294967296) (hg : g < 4294967296) : bits .xor .u32 (bits .and .u32 (e : Int) (f : Int)) (bits .and .u32 (bits .xor .u32 IntKind.u32.max (e : Int)) (g : Int)) = ((chs false e f g : Nat) : Int) := by
  rw [not_is32 e he, and_is32 e f he hf, and_is32 _ g (by omega) hg, xor_is32 _ _ (and_lt (b := false) he) (and_lt (b := false) (by show 4294967296 - 1 - e < 4294967296; omega))]
  rfl
theorem maj_is32 (x y z : Nat) (hx : x < 4294967296) (hy : y < 4294967296) (hz : z < 4294967296) : bits .xor .u32 (bits .xor .u32 (bits .and .u32 (x : Int) (y : Int)) (bits .and .u32 (x : Int) (z : Int))) (bits .and .u32 (y : Int) (z : Int)) = ((maj x y z : Nat) : Int) := by
  rw [and_is32 x y hx hy, and_is32 x z hx hz, and_is32 y z hy hz, xor_is32 _ _ (and_lt (b := false) hx) (and_lt (b := false) hx), xor_is32 _ _ (xor_lt (b := false) (and_lt (b := false) hx) (and_lt (b := false) hx)) (and_lt (b := false) hy)]
  rfl
theorem rnd032 (s : List Nat) (k w : Nat) : (((((el s 7 + turn3 false 6 11 25 (el s 4)) % 4294967296 + chs false (el s 4) (el s 5) (el s 6)) % 4294967296 + k) % 4294967296 + w) % 4294967296 + (turn3 false 2 13 22 (el s 0) + maj (el s 0) (el s 1) (el s 2)) % 4294967296) % 4294967296 = el (rnd false k w s) 0 := by
  show _ = (tOne false s k w + tTwo false s) % wm false
  unfold tOne tTwo
  simp only [gS0, gS1, wm, cond_true, cond_false]
  omega
theorem rnd432 (s : List Nat) (k w : Nat) : (el s 3 + ((((el s 7 + turn3 false 6 11 25 (el s 4)) % 4294967296 + chs false (el s 4) (el s 5) (el s 6)) % 4294967296 + k) % 4294967296 + w) % 4294967296) % 4294967296 = el (rnd false k w s) 4 := by
  show _ = (el s 3 + tOne false s k w) % wm false
  unfold tOne
  simp only [gS0, gS1, wm, cond_true, cond_false]
  omega

/-- three turns, as a value -/
def tur32 (a b c : Nat) : Value := .agg #[.int .i64 (a : Int), .int .i64 (b : Int), .int .i64 (c : Int)]

end Go.Proofs.Ytnjiilnkobhibaa

/- Contracts of sha.begin, stored, resume, block at words of 64 bits. -/
namespace Go.Proofs.Ytnjiilnkobhibaa
open Go.RowKit
set_option linter.unusedVariables false
set_option linter.unusedSimpArgs false

theorem el_map_hi64 (b : Bool) (r : List Nat) (j : Nat) (hj : j < r.length) : el (r.map (hi b)) j = hi b (el r j) := by
  rw [el_at (by rw [List.length_map]; exact hj), List.getElem_map, el_at hj]

end Go.Proofs.Ytnjiilnkobhibaa

/- Contract of the document's block, of words of 32 bits. -/
namespace Go.Proofs.Ytnjiilnkobhibaa
open Go.RowKit
set_option linter.unusedVariables false
set_option linter.unusedSimpArgs false

theorem rchs32 (e f g : Nat) (he : e < 4294967296) (hf : f < 4294967296) (hg : g < 4294967296) : bits .xor .u64 (bits .and .u64 (e : Int) (f : Int)) (bits .and .u64 (bits .xor .u64 4294967295 (e : Int)) (g : Int)) = ((chs false e f g : Nat) : Int) := by
  have hn : bits .xor .u64 4294967295 (e : Int) = ((4294967296 - 1 - e : Nat) : Int) := by
    rw [show (4294967295 : Int) = ((4294967296 - 1 : Nat) : Int) from rfl, u64_xor_nat _ _ (by decide) (by omega), ← ones_xor 32 e he]
  rw [hn, and_is64 e f (by omega) (by omega), and_is64 _ g (by omega) (by omega), xor_is64 _ _ (Nat.lt_of_le_of_lt Nat.and_le_left (by omega)) (Nat.lt_of_le_of_lt Nat.and_le_left (by omega))]
  rfl
theorem rr032 (s : List Nat) (k w : Nat) : ((((((el s 7 + turn3 false 6 11 25 (el s 4)) % 18446744073709551616 + chs false (el s 4) (el s 5) (el s 6)) % 18446744073709551616 + k) % 18446744073709551616 + w) % 18446744073709551616 + (turn3 false 2 13 22 (el s 0) + maj (el s 0) (el s 1) (el s 2)) % 18446744073709551616) % 18446744073709551616) % 4294967296 = el (rnd false k w s) 0 := by
  show _ = (tOne false s k w + tTwo false s) % wm false
  unfold tOne tTwo
  simp only [gS0, gS1, wm, cond_true, cond_false]
  omega
theorem rr432 (s : List Nat) (k w : Nat) : ((el s 3 + ((((el s 7 + turn3 false 6 11 25 (el s 4)) % 18446744073709551616 + chs false (el s 4) (el s 5) (el s 6)) % 18446744073709551616 + k) % 18446744073709551616 + w) % 18446744073709551616) % 18446744073709551616) % 4294967296 = el (rnd false k w s) 4 := by
  show _ = (el s 3 + tOne false s k w) % wm false
  unfold tOne
  simp only [gS0, gS1, wm, cond_true, cond_false]
  omega
theorem addS_get32 (h s : List Nat) (j : Nat) (hj : j < s.length) : el (addW false h s j ++ s.drop j) j = el s j := by
  rw [el_app_right (by rw [addW_length]; omega), addW_length, el_drop, Nat.sub_self]; rfl
theorem addS_set32 (h s : List Nat) (j : Nat) (hj : j < s.length) : (addW false h s j ++ s.drop j).set j ((el s j + el h j) % wm false) = addW false h s (j + 1) ++ s.drop (j + 1) := by
  have e : addW false h s (j + 1) = addW false h s j ++ [(el s j + el h j) % wm false] := by simp [addW, List.range_succ]
  rw [e, drop_el hj, List.append_assoc, List.set_append_right _ _ (by rw [addW_length]; omega), addW_length, Nat.sub_self]
  rfl
theorem eight32 {t : TypeId} {w : World} {g : Nat} {l : List Nat} (h : Lies .u64 t w g l) (h8 : l.length = 8) : w.cell? ⟨g, 0, none⟩ = some (.int .u64 (el l 0)) ∧ w.cell? ⟨g, 1, none⟩ = some (.int .u64 (el l 1)) ∧ w.cell? ⟨g, 2, none⟩ = some (.int .u64 (el l 2)) ∧ w.cell? ⟨g, 3, none⟩ = some (.int .u64 (el l 3)) ∧ w.cell? ⟨g, 4, none⟩ = some (.int .u64 (el l 4)) ∧ w.cell? ⟨g, 5, none⟩ = some (.int .u64 (el l 5)) ∧ w.cell? ⟨g, 6, none⟩ = some (.int .u64 (el l 6)) ∧ w.cell? ⟨g, 7, none⟩ = some (.int .u64 (el l 7)) :=
  ⟨h.cell (by omega), h.cell (by omega), h.cell (by omega), h.cell (by omega), h.cell (by omega), h.cell (by omega), h.cell (by omega), h.cell (by omega)⟩
theorem set832 (s : List Nat) (h : s.length = 8) (a b c d e f g i : Nat) : (((((((s.set 0 a).set 1 b).set 2 c).set 3 d).set 4 e).set 5 f).set 6 g).set 7 i = [a, b, c, d, e, f, g, i] := by
  match s, h with
  | [_, _, _, _, _, _, _, _], _ => rfl
theorem Lies.to32 {t : TypeId} {w : World} {g : Nat} {l l' : List Nat} (h : Lies .u64 t w g l) {cs : Array Value} (e : cs = arr .u64 l') : Lies .u64 t (w.setRow g cs) g l' := by rw [e]; exact h.row

end Go.Proofs.Ytnjiilnkobhibaa
