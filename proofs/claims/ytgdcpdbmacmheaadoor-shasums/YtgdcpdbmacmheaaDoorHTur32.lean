/- Contracts of sha.either, turned, shifted, firstBits at words of 32 bits. -/
import Derived.Test.YtgdcpdbmacmheaaDoorHKit
import Derived.Laws.ShiftsVarLaws
import Derived.BigRegion
namespace Go.Proofs.YtgdcpdbmacmheaaDoor
open Go.RowKit
set_option linter.unusedVariables false
set_option linter.unusedSimpArgs false

theorem ones32 : bits BinOp.xor .u32 IntKind.u32.max 0 = 4294967296 - 1 := by decide
theorem sgn32 : IntKind.u32.signed = false := rfl

theorem wrapN32 (n : Nat) : IntKind.u32.wrap (n : Int) = ((n % 4294967296 : Nat) : Int) := by rw [IntKind.wrap_u32]; omega
/-- a word turned, in the walk's spelling -/
theorem rot_is32 (x r : Nat) (hx : x < 4294967296) (hr : r < 32) : bits .or .u32 ((x : Int) / 2 ^ r) ((x : Int) * 2 ^ (32 - r) % 4294967296) = ((rot false r x : Nat) : Int) := by
  have e1 : (x : Int) / 2 ^ r = ((x / 2 ^ r : Nat) : Int) := by simp
  have e2 : ((x : Int) * 2 ^ (32 - r) % 4294967296) = ((x * 2 ^ (32 - r) % 4294967296 : Nat) : Int) := by
    simp
  rw [e1, e2, u32_or_nat _ _ (Nat.lt_of_le_of_lt (Nat.div_le_self _ _) hx) (Nat.mod_lt _ (by decide))]
  rfl
theorem xor_is32 (x y : Nat) (hx : x < 4294967296) (hy : y < 4294967296) : bits .xor .u32 (x : Int) (y : Int) = ((x ^^^ y : Nat) : Int) := u32_xor_nat x y hx hy
theorem turn_is32 (x a b c : Nat) (hx : x < 4294967296) (ha : a < 32) (hb : b < 32) (hc : c < 32) :
    bits .xor .u32 (bits .xor .u32 (bits .or .u32 ((x : Int) / 2 ^ a) ((x : Int) * 2 ^ (32 - a) % 4294967296)) (bits .or .u32 ((x : Int) / 2 ^ b) ((x : Int) * 2 ^ (32 - b) % 4294967296))) (bits .or .u32 ((x : Int) / 2 ^ c) ((x : Int) * 2 ^ (32 - c) % 4294967296)) = ((turn3 false a b c x : Nat) : Int) := by
  have r := fun r => rot_lt (b := false) hx r
  rw [rot_is32 x a hx ha, rot_is32 x b hx hb, rot_is32 x c hx hc, xor_is32 _ _ (r a) (r b), xor_is32 _ _ (xor_lt (b := false) (r a) (r b)) (r c)]
  rfl
theorem shft_is32 (x a b c : Nat) (hx : x < 4294967296) (ha : a < 32) (hb : b < 32) (hc : c < 32) :
    bits .xor .u32 (bits .xor .u32 (bits .or .u32 ((x : Int) / 2 ^ a) ((x : Int) * 2 ^ (32 - a) % 4294967296)) (bits .or .u32 ((x : Int) / 2 ^ b) ((x : Int) * 2 ^ (32 - b) % 4294967296))) ((x : Int) / 2 ^ c) = ((shft3 false a b c x : Nat) : Int) := by
  have r := fun r => rot_lt (b := false) hx r
  have e1 : (x : Int) / 2 ^ c = ((x / 2 ^ c : Nat) : Int) := by simp
  rw [rot_is32 x a hx ha, rot_is32 x b hx hb, e1, xor_is32 _ _ (r a) (r b), xor_is32 _ _ (xor_lt (b := false) (r a) (r b)) (shr_lt (b := false) hx c)]
  rfl

theorem and_is32 (x y : Nat) (hx : x < 4294967296) (hy : y < 4294967296) : bits .and .u32 (x : Int) (y : Int) = ((x &&& y : Nat) : Int) := u32_and_nat x y hx hy
theorem add_is32 (x y : Nat) : (((x : Int) + (y : Int)) % 4294967296) = (((x + y) % 4294967296 : Nat) : Int) := by
  skip
  omega
theorem not_is32 (e : Nat) (he : e < 4294967296) : bits .xor .u32 IntKind.u32.max (e : Int) = ((4294967296 - 1 - e : Nat) : Int) := by
  rw [show IntKind.u32.max = ((4294967296 - 1 : Nat) : Int) from rfl, xor_is32 _ _ (by decide) he, ← ones_xor 32 e he]
theorem chs_is32 (e f g : Nat) (he : e < 4294967296) (hf : f < 4294967296) (hg : g < 4294967296) : bits .xor .u32 (bits .and .u32 (e : Int) (f : Int)) (bits .and .u32 (bits .xor .u32 IntKind.u32.max (e : Int)) (g : Int)) = ((chs false e f g : Nat) : Int) := by
  rw [not_is32 e he, and_is32 e f he hf, and_is32 _ g (by omega) hg, xor_is32 _ _ (and_lt (b := false) he) (and_lt (b := false) (by show 4294967296 - 1 - e < 4294967296; omega))]
  rfl
theorem maj_is32 (x y z : Nat) (hx : x < 4294967296) (hy : y < 4294967296) (hz : z < 4294967296) : bits .xor .u32 (bits .xor .u32 (bits .and .u32 (x : Int) (y : Int)) (bits .and .u32 (x : Int) (z : Int))) (bits .and .u32 (y : Int) (z : Int)) = ((maj x y z : Nat) : Int) := by
  rw [and_is32 x y hx hy, and_is32 x z hx hz, and_is32 y z hy hz, xor_is32 _ _ (and_lt (b := false) hx) (and_lt (b := false) hx), xor_is32 _ _ (xor_lt (b := false) (and_lt (b := false) hx) (and_lt (b := false) hx)) (and_lt (b := false) hy)]
  rfl
theorem rnd032 (s : List Nat) (k w : Nat) : (((((el s 7 + turn3 false 6 11 25 (el s 4)) % 4294967296 + chs false (el s 4) (el s 5) (el s 6)) % 4294967296 + k) % 4294967296 + w) % 4294967296 + (turn3 false 2 13 22 (el s 0) + maj (el s 0) (el s 1) (el s 2)) % 4294967296) % 4294967296 = el (rnd false k w s) 0 := by
  show _ = (tOne false s k w + tTwo false s) % wm false
  unfold tOne tTwo
  simp only [gS0, gS1, wm, cond_true, cond_false]
  omega
theorem rnd432 (s : List Nat) (k w : Nat) : (el s 3 + ((((el s 7 + turn3 false 6 11 25 (el s 4)) % 4294967296 + chs false (el s 4) (el s 5) (el s 6)) % 4294967296 + k) % 4294967296 + w) % 4294967296) % 4294967296 = el (rnd false k w s) 4 := by
  show _ = (el s 3 + tOne false s k w) % wm false
  unfold tOne
  simp only [gS0, gS1, wm, cond_true, cond_false]
  omega

theorem either_int32 (x y : Value) (w : World) :
    Calls Tryd.prog 54 #[x, y] w fun e w' => e = .returned x ∧ w' = w := by
  have h1 := ones32
  have h2 := sgn32
  go_enter Tryd.func54, Tryd.ntmps54
  go_wp2
  go_ret
  exact ⟨rfl, rfl⟩

/-- three turns, as a value -/
def tur32 (a b c : Nat) : Value := .agg #[.int .i64 (a : Int), .int .i64 (b : Int), .int .i64 (c : Int)]

/-- three turns, boxed -/
def Tu32 (w : World) (q a b c : Nat) : Prop := w.heap[q]? = some (.cells #[.int .i64 (a : Int), .int .i64 (b : Int), .int .i64 (c : Int)] 94)
theorem Tu32.new (w : World) (a b c : Nat) : Tu32 (w.alloc (.cells #[.int .i64 (a : Int), .int .i64 (b : Int), .int .i64 (c : Int)] 94)) w.heap.size a b c := heap_alloc_last w _
theorem Tu32.below {w w' : World} {q a b c : Nat} (h : Tu32 w q a b c) (hb : Below w.heap.size w w') : Tu32 w' q a b c := by
  unfold Tu32 at *
  rcases Nat.lt_or_ge q w.heap.size with hlt | hge
  · rw [hb.block q hlt]; exact h
  · rw [Array.getElem?_eq_none hge] at h; cases h
theorem Tu32.but {w w' : World} {q g a b c : Nat} (h : Tu32 w q a b c) (hb : But g w w') (hn : q ≠ g) : Tu32 w' q a b c := by
  unfold Tu32 at *
  rcases Nat.lt_or_ge q w.heap.size with hlt | hge
  · rw [hb.block q hlt hn]; exact h
  · rw [Array.getElem?_eq_none hge] at h; cases h
theorem Tu32.cells {w : World} {q a b c : Nat} (h : Tu32 w q a b c) : w.cell? ⟨q, 0, none⟩ = some (.int .i64 (a : Int)) ∧ w.cell? ⟨q, 1, none⟩ = some (.int .i64 (b : Int)) ∧ w.cell? ⟨q, 2, none⟩ = some (.int .i64 (c : Int)) := by
  unfold Tu32 at h
  refine ⟨?_, ?_, ?_⟩ <;> rw [cell_of_row w q _ _ _ (0, 0) h] <;> rfl

theorem either_tur32 (a b c a' b' c' : Nat) (w : World) :
    Calls Tryd.prog 64 #[tur32 a b c, tur32 a' b' c'] w fun e w' => e = .returned (tur32 a b c) ∧ Below w.heap.size w w' := by
  unfold tur32
  have h1 := ones32
  have h2 := sgn32
  go_enter Tryd.func64, Tryd.ntmps64
  go_wp2
  refine bodyPost_ret (v := .agg #[.int .i64 (a : Int), .int .i64 (b : Int), .int .i64 (c : Int)]) (by simp [results, Tryd.results64, go_sem]) rfl ⟨rfl, ?_⟩
  exact (((Below.refl _ _).alloc (Nat.le_refl _) _).alloc (by simp) _).alloc (by simp; omega) _

theorem first32 (n : Nat) (w : World) (hn : n < 18446744073709551616) :
    Calls Tryd.prog 38 #[.int .u64 n] w fun e w' => e = .returned (.int .u32 (hi false n : Nat)) ∧ w' = w := by
  go_enter Tryd.func38, Tryd.ntmps38
  go_wp2_with fail
  refine (either_int32 _ _ _).mono ?_
  rintro e w1 ⟨rfl, rfl⟩
  go_wp2
  go_ret
  exact ⟨ret_int (by simp only [hi, cond_true, cond_false]; omega), rfl⟩

set_option maxHeartbeats 1000000 in
theorem turned32 (x a b c : Nat) (w : World) (hx : x < 4294967296) (ha : a < 32) (hb : b < 32) (hc : c < 32) :
    Calls Tryd.prog 65 #[.int .u32 x, tur32 a b c] w fun e w' => e = .returned (.int .u32 (turn3 false a b c x : Nat)) ∧ Below w.heap.size w w' := by
  unfold tur32
  have m1 : min a 32 = a := by omega
  have m2 : min b 32 = b := by omega
  have m3 : min c 32 = c := by omega
  go_enter Tryd.func65, Tryd.ntmps65
  go_wp2_with fail
  refine (either_int32 _ _ _).mono ?_
  rintro e w1 ⟨rfl, rfl⟩
  go_wp2
  go_quiet (fail)
  go_wp2
  go_ret
  exact ⟨ret_int (turn_is32 x a b c hx ha hb hc), bel_drewN (keep_alloc _ _) _⟩

set_option maxHeartbeats 1000000 in
theorem shifted32 (x a b c : Nat) (w : World) (hx : x < 4294967296) (ha : a < 32) (hb : b < 32) (hc : c < 32) :
    Calls Tryd.prog 67 #[.int .u32 x, tur32 a b c] w fun e w' => e = .returned (.int .u32 (shft3 false a b c x : Nat)) ∧ Below w.heap.size w w' := by
  unfold tur32
  have m1 : min a 32 = a := by omega
  have m2 : min b 32 = b := by omega
  have m3 : min c 32 = c := by omega
  go_enter Tryd.func67, Tryd.ntmps67
  go_wp2_with fail
  refine (either_int32 _ _ _).mono ?_
  rintro e w1 ⟨rfl, rfl⟩
  go_wp2
  go_quiet (fail)
  go_wp2
  go_ret
  exact ⟨ret_int (shft_is32 x a b c hx ha hb hc), bel_drewN (keep_alloc _ _) _⟩
end Go.Proofs.YtgdcpdbmacmheaaDoor
