/- Contracts of sha.either, turned, shifted, firstBits at words of 32 bits. -/
import Derived.Test.YtpmobjfhhkglbaaDoorHKit
import Derived.Laws.ShiftsVarLaws
import Derived.BigRegion
import Derived.Test.YtpmobjfhhkglbaaDoorHHsh
import Derived.Test.YtpmobjfhhkglbaaDoorWtM
namespace Go.Proofs.YtpmobjfhhkglbaaDoor
open Go.RowKit
set_option linter.unusedVariables false
set_option linter.unusedSimpArgs false

theorem ones32 : bits BinOp.xor .u32 IntKind.u32.max 0 = 4294967296 - 1 := by decide
theorem sgn32 : IntKind.u32.signed = false := rfl

/-- a word turned, in the walk's spelling -/
theorem rot_is32 (x r : Nat) (hx : x < 4294967296) (hr : r < 32) : bits .or .u32 ((x : Int) / 2 ^ r) ((x : Int) * 2 ^ (32 - r) % 4294967296) = ((rot false r x : Nat) : Int) := by
  have e1 : (x : Int) / 2 ^ r = ((x / 2 ^ r : Nat) : Int) := by simp
  have e2 : ((x : Int) * 2 ^ (32 - r) % 4294967296) = ((x * 2 ^ (32 - r) % 4294967296 : Nat) : Int) := by
    simp
  rw [e1, e2, u32_or_nat _ _ (Nat.lt_of_le_of_lt (Nat.div_le_self _ _) hx) (Nat.mod_lt _ (by decide))]
  rfl
theorem xor_is32 (x y : Nat) (hx : x < 4294967296) (hy : y < 4294967296) : bits .xor .u32 (x : Int) (y : Int) = ((x ^^^ y : Nat) : Int) := u32_xor_nat x y hx hy
theorem turn_is32 (x a b c : Nat) (hx : x < 4294967296) (ha : a < 32) (hb : b < 32) (hc : c < 32) :
    bits .xor .u32 (bits .xor .u32 (bits .or .u32 ((x : Int) / 2 ^ a) ((x : Int) * 2 ^ (32 - a) % 4294967296)) (bits .or .u32 ((x : Int) / 2 ^ b) ((x : Int) * 2 ^ (32 - b) % 4294967296))) (bits .or .u32 ((x : Int) / 2 ^ c) ((x : Int) * 2 ^ (32 - c) % 4294967296)) = ((turn3 false a b c x : Nat) : Int) := by
  have r := fun r => rot_lt (b := false) hx r
  rw [rot_is32 x a hx ha, rot_is32 x b hx hb, rot_is32 x c hx hc, xor_is32 _ _ (r a) (r b), xor_is32 _ _ (xor_lt (b := false) (r a) (r b)) (r c)]
  rfl
theorem shft_is32 (x a b c : Nat) (hx : x < 4294967296) (ha : a < 32) (hb : b < 32) (hc : c < 32) :
    bits .xor .u32 (bits .xor .u32 (bits .or .u32 ((x : Int) / 2 ^ a) ((x : Int) * 2 ^ (32 - a) % 4294967296)) (bits .or .u32 ((x : Int) / 2 ^ b) ((x : Int) * 2 ^ (32 - b) % 4294967296))) ((x : Int) / 2 ^ c) = ((shft3 false a b c x : Nat) : Int) := by
  have r := fun r => rot_lt (b := false) hx r
  have e1 : (x : Int) / 2 ^ c = ((x / 2 ^ c : Nat) : Int) := by simp
  rw [rot_is32 x a hx ha, rot_is32 x b hx hb, e1, xor_is32 _ _ (r a) (r b), xor_is32 _ _ (xor_lt (b := false) (r a) (r b)) (shr_lt (b := false) hx c)]
  rfl

theorem and_is32 (x y : Nat) (hx : x < 4294967296) (hy : y < 4294967296) : bits .and .u32 (x : Int) (y : Int) = ((x &&& y : Nat) : Int) := u32_and_nat x y hx hy
theorem add_is32 (x y : Nat) : (((x : Int) + (y : Int)) % 4294967296) = (((x + y) % 4294967296 : Nat) : Int) := by
  skip
  omega
theorem not_is32 (e : Nat) (he : e < 4294967296) : bits .xor .u32 IntKind.u32.max (e : Int) = ((4294967296 - 1 - e : Nat) : Int) := by
  rw [show IntKind.u32.max = ((4294967296 - 1 : Nat) : Int) from rfl, xor_is32 _ _ (by decide) he, ← ones_xor 32 e he]
theorem chs_is32 (e f g : Nat) (he : e < 4294967296) (hf : f < 4294967296) (hg : g < 4294967296) : bits .xor .u32 (bits .and .u32 (e : Int) (f : Int)) (bits .and .u32 (bits .xor .u32 IntKind.u32.max (e : Int)) (g : Int)) = ((chs false e f g : Nat) : Int) := by
  rw [not_is32 e he, and_is32 e f he hf, and_is32 _ g (by omega) hg, xor_is32 _ _ (and_lt (b := false) he) (and_lt (b := false) (by show 4294967296 - 1 - e < 4294967296; omega))]
  rfl
theorem maj_is32 (x y z : Nat) (hx : x < 4294967296) (hy : y < 4294967296) (hz : z < 4294967296) : bits .xor .u32 (bits .xor .u32 (bits .and .u32 (x : Int) (y : Int)) (bits .and .u32 (x : Int) (z : Int))) (bits .and .u32 (y : Int) (z : Int)) = ((maj x y z : Nat) : Int) := by
  rw [and_is32 x y hx hy, and_is32 x z hx hz, and_is32 y z hy hz, xor_is32 _ _ (and_lt (b := false) hx) (and_lt (b := false) hx), xor_is32 _ _ (xor_lt (b := false) (and_lt (b := false) hx) (and_lt (b := false) hx)) (and_lt (b := false) hy)]
  rfl
theorem rnd032 (s : List Nat) (k w : Nat) : (((((el s 7 + turn3 false 6 11 25 (el s 4)) % 4294967296 + chs false (el s 4) (el s 5) (el s 6)) % 4294967296 + k) % 4294967296 + w) % 4294967296 + (turn3 false 2 13 22 (el s 0) + maj (el s 0) (el s 1) (el s 2)) % 4294967296) % 4294967296 = el (rnd false k w s) 0 := by
  show _ = (tOne false s k w + tTwo false s) % wm false
  unfold tOne tTwo
  simp only [gS0, gS1, wm, cond_true, cond_false]
  omega
theorem rnd432 (s : List Nat) (k w : Nat) : (el s 3 + ((((el s 7 + turn3 false 6 11 25 (el s 4)) % 4294967296 + chs false (el s 4) (el s 5) (el s 6)) % 4294967296 + k) % 4294967296 + w) % 4294967296) % 4294967296 = el (rnd false k w s) 4 := by
  show _ = (el s 3 + tOne false s k w) % wm false
  unfold tOne
  simp only [gS0, gS1, wm, cond_true, cond_false]
  omega

theorem either_int32 (x y : Value) (w : World) :
    Calls Tryd.prog 81 #[x, y] w fun e w' => e = .returned x ∧ w' = w := by
  have h1 := ones32
  have h2 := sgn32
  go_enter Tryd.func81, Tryd.ntmps81
  go_wp2
  go_ret
  exact ⟨rfl, rfl⟩

/-- three turns, as a value -/
def tur32 (a b c : Nat) : Value := .agg #[.int .i64 (a : Int), .int .i64 (b : Int), .int .i64 (c : Int)]

/-- three turns, boxed -/
def Tu32 (w : World) (q a b c : Nat) : Prop := w.heap[q]? = some (.cells #[.int .i64 (a : Int), .int .i64 (b : Int), .int .i64 (c : Int)] 126)
theorem Tu32.new (w : World) (a b c : Nat) : Tu32 (w.alloc (.cells #[.int .i64 (a : Int), .int .i64 (b : Int), .int .i64 (c : Int)] 126)) w.heap.size a b c := heap_alloc_last w _
theorem Tu32.below {w w' : World} {q a b c : Nat} (h : Tu32 w q a b c) (hb : Below w.heap.size w w') : Tu32 w' q a b c := by
  unfold Tu32 at *
  rcases Nat.lt_or_ge q w.heap.size with hlt | hge
  · rw [hb.block q hlt]; exact h
  · rw [Array.getElem?_eq_none hge] at h; cases h
theorem Tu32.but {w w' : World} {q g a b c : Nat} (h : Tu32 w q a b c) (hb : But g w w') (hn : q ≠ g) : Tu32 w' q a b c := by
  unfold Tu32 at *
  rcases Nat.lt_or_ge q w.heap.size with hlt | hge
  · rw [hb.block q hlt hn]; exact h
  · rw [Array.getElem?_eq_none hge] at h; cases h
theorem Tu32.cells {w : World} {q a b c : Nat} (h : Tu32 w q a b c) : w.cell? ⟨q, 0, none⟩ = some (.int .i64 (a : Int)) ∧ w.cell? ⟨q, 1, none⟩ = some (.int .i64 (b : Int)) ∧ w.cell? ⟨q, 2, none⟩ = some (.int .i64 (c : Int)) := by
  unfold Tu32 at h
  refine ⟨?_, ?_, ?_⟩ <;> rw [cell_of_row w q _ _ _ (0, 0) h] <;> rfl

theorem either_tur32 (a b c a' b' c' : Nat) (w : World) :
    Calls Tryd.prog 90 #[tur32 a b c, tur32 a' b' c'] w fun e w' => e = .returned (tur32 a b c) ∧ Below w.heap.size w w' := by
  unfold tur32
  have h1 := ones32
  have h2 := sgn32
  go_enter Tryd.func90, Tryd.ntmps90
  go_wp2
  refine bodyPost_ret (v := .agg #[.int .i64 (a : Int), .int .i64 (b : Int), .int .i64 (c : Int)]) (by simp [results, Tryd.results90, go_sem]) rfl ⟨rfl, ?_⟩
  exact (((Below.refl _ _).alloc (Nat.le_refl _) _).alloc (by simp) _).alloc (by simp; omega) _

theorem first32 (n : Nat) (w : World) (hn : n < 18446744073709551616) :
    Calls Tryd.prog 66 #[.int .u64 n] w fun e w' => e = .returned (.int .u32 (hi false n : Nat)) ∧ w' = w := by
  go_enter Tryd.func66, Tryd.ntmps66
  go_wp2_with fail
  refine (either_int32 _ _ _).mono ?_
  rintro e w1 ⟨rfl, rfl⟩
  go_wp2
  go_ret
  exact ⟨ret_int (by simp only [hi, cond_true, cond_false]; omega), rfl⟩

set_option maxHeartbeats 1000000 in
theorem turned32 (x a b c : Nat) (w : World) (hx : x < 4294967296) (ha : a < 32) (hb : b < 32) (hc : c < 32) :
    Calls Tryd.prog 91 #[.int .u32 x, tur32 a b c] w fun e w' => e = .returned (.int .u32 (turn3 false a b c x : Nat)) ∧ Below w.heap.size w w' := by
  unfold tur32
  have m1 : min a 32 = a := by omega
  have m2 : min b 32 = b := by omega
  have m3 : min c 32 = c := by omega
  go_enter Tryd.func91, Tryd.ntmps91
  go_wp2_with fail
  refine (either_int32 _ _ _).mono ?_
  rintro e w1 ⟨rfl, rfl⟩
  go_wp2
  go_quiet (fail)
  go_wp2
  go_ret
  exact ⟨ret_int (turn_is32 x a b c hx ha hb hc), bel_drewN (keep_alloc _ _) _⟩

set_option maxHeartbeats 1000000 in
theorem shifted32 (x a b c : Nat) (w : World) (hx : x < 4294967296) (ha : a < 32) (hb : b < 32) (hc : c < 32) :
    Calls Tryd.prog 92 #[.int .u32 x, tur32 a b c] w fun e w' => e = .returned (.int .u32 (shft3 false a b c x : Nat)) ∧ Below w.heap.size w w' := by
  unfold tur32
  have m1 : min a 32 = a := by omega
  have m2 : min b 32 = b := by omega
  have m3 : min c 32 = c := by omega
  go_enter Tryd.func92, Tryd.ntmps92
  go_wp2_with fail
  refine (either_int32 _ _ _).mono ?_
  rintro e w1 ⟨rfl, rfl⟩
  go_wp2
  go_quiet (fail)
  go_wp2
  go_ret
  exact ⟨ret_int (shft_is32 x a b c hx ha hb hc), bel_drewN (keep_alloc _ _) _⟩
end Go.Proofs.YtpmobjfhhkglbaaDoor

/- Contracts of sha.begin, stored, resume, block at words of 64 bits. -/
namespace Go.Proofs.YtpmobjfhhkglbaaDoor
open Go.RowKit
set_option linter.unusedVariables false
set_option linter.unusedSimpArgs false

theorem block_any64 (v : Value) (w : World) :
    Calls Tryd.prog 74 #[v] w fun e w' => e = .returned (.int .i64 128) ∧ w' = w := by
  go_enter Tryd.func74, Tryd.ntmps74
  go_wp2_with fail
  refine (either_int64 _ _ _).mono ?_
  rintro e w1 ⟨rfl, rfl⟩
  go_wp2
  go_ret
  exact ⟨rfl, rfl⟩


set_option maxHeartbeats 2000000 in
set_option maxRecDepth 100000 in
theorem stored_any64 (l : List Nat) (w : World) (h8 : l.length = 8) (hu : Under 18446744073709551616 l) :
    Calls Tryd.prog 59 #[.agg (arr .u64 l)] w fun e w' => e = .returned (.agg (arr .u64 l)) ∧ Below w.heap.size w w' := by
  have hA : Lies .u64 97 (((w.alloc (.cells (arr .u64 l) 97)).alloc (.cells #[.int .u64 0, .int .u64 0, .int .u64 0, .int .u64 0, .int .u64 0, .int .u64 0, .int .u64 0, .int .u64 0] 77)).alloc (.cells #[.int .u64 0, .int .u64 0, .int .u64 0, .int .u64 0, .int .u64 0, .int .u64 0, .int .u64 0, .int .u64 0] 77)) w.heap.size l := ((Lies.new _ _ w l).alloc _).alloc _
  have hO : Lies .u64 77 (((w.alloc (.cells (arr .u64 l) 97)).alloc (.cells #[.int .u64 0, .int .u64 0, .int .u64 0, .int .u64 0, .int .u64 0, .int .u64 0, .int .u64 0, .int .u64 0] 77)).alloc (.cells #[.int .u64 0, .int .u64 0, .int .u64 0, .int .u64 0, .int .u64 0, .int .u64 0, .int .u64 0, .int .u64 0] 77)) (w.heap.size + 1) (List.replicate 8 0) := by
    have := (Lies.new .u64 77 (w.alloc (.cells (arr .u64 l) 97)) (List.replicate 8 0)).alloc (.cells #[.int .u64 0, .int .u64 0, .int .u64 0, .int .u64 0, .int .u64 0, .int .u64 0, .int .u64 0, .int .u64 0] 77)
    rw [World.size_alloc] at this
    exact this
  have hL : Lies .u64 77 (((w.alloc (.cells (arr .u64 l) 97)).alloc (.cells #[.int .u64 0, .int .u64 0, .int .u64 0, .int .u64 0, .int .u64 0, .int .u64 0, .int .u64 0, .int .u64 0] 77)).alloc (.cells #[.int .u64 0, .int .u64 0, .int .u64 0, .int .u64 0, .int .u64 0, .int .u64 0, .int .u64 0, .int .u64 0] 77)) (w.heap.size + 1 + 1) (pad 8 (l.take 0)) := by
    have := Lies.new .u64 77 ((w.alloc (.cells (arr .u64 l) 97)).alloc (.cells #[.int .u64 0, .int .u64 0, .int .u64 0, .int .u64 0, .int .u64 0, .int .u64 0, .int .u64 0, .int .u64 0] 77)) (List.replicate 8 0)
    rw [World.size_alloc, World.size_alloc] at this
    exact this
  have hb : Below w.heap.size w (((w.alloc (.cells (arr .u64 l) 97)).alloc (.cells #[.int .u64 0, .int .u64 0, .int .u64 0, .int .u64 0, .int .u64 0, .int .u64 0, .int .u64 0, .int .u64 0] 77)).alloc (.cells #[.int .u64 0, .int .u64 0, .int .u64 0, .int .u64 0, .int .u64 0, .int .u64 0, .int .u64 0, .int .u64 0] 77)) := keep_trans (keep_trans (keep_alloc _ _) (keep_alloc _ _)) (keep_alloc _ _)
  have HO := hide hO
  have HL := hide hL
  have HB := hide hb
  clear hO hL hb
  go_enter Tryd.func59, Tryd.ntmps59
  go_wp2_with (first
    | (refine wpList_load_row rfl 97 _ (by rfl) w.heap.size (by rfl) _ _ _ (.array 8 49) hA (by kernel_rfl) rfl (by rw [arr_size, h8]; kernel_rfl) ?_)
    | fail)
  go_loopw [7] (fun i wr => ∃ j : Nat, j ≤ 8 ∧ i = .int .i64 j ∧ Lies .u64 77 wr (w.heap.size + 1 + 1) (pad 8 (l.take j)) ∧ Lies .u64 77 wr (w.heap.size + 1) (List.replicate 8 0) ∧ Below w.heap.size w wr) (fun i _ => 8 - (intOf i).toNat)
  case atStart => exact ⟨0, Nat.zero_le _, rfl, HL.out, HO.out, HB.out⟩
  case round =>
    obtain ⟨j, hj, rfl, hLj, hOj, hbj⟩ := hrel
    clear hA
    by_cases hlt : j < 8
    · have hix : ∀ w : World, (Instr.index 97 (.agg (arr .u64 l)) (.int .i64 (j : Int))).run Tryd.prog w = .ok (.int .u64 (el l j)) w := fun w =>
        index_arr _ 49 8 .u64 l (by kernel_rfl) (by kernel_rfl) (by kernel_rfl) h8 j hlt w
      have hel : el l j < 18446744073709551616 := el_lt hu (by decide) j
      have htl : (l.take j).length = j := by rw [List.length_take]; omega
      have c1 := hLj.cell (i := j) (by rw [pad_length (by omega)]; omega)
      have f1 := hLj.frozen j
      have hst := hLj.set j (el l j)
      have hse := pad_set (n := 8) (l := l.take j) (by omega) (el l j)
      rw [htl, ← take_el (by omega)] at hse
      rw [hse] at hst
      have HST := hide hst
      clear hst hse htl
      have ij0 : (0 : Int) ≤ (j : Int) := Int.natCast_nonneg _
      have ij1 : (j : Int) < 8 := by omega
      go_wp2
      refine ⟨⟨j + 1, by omega, by go_num, HST.out, hOj.but (But.setCell (But.refl (w.heap.size + 1 + 1) _) _ _) (by omega), hbj.setCell (by simp; omega) _⟩, by simp [intOf]; omega⟩
    · obtain rfl : j = 8 := by omega
      rw [List.take_of_length_le (by omega), pad_full h8] at hLj
      have hOf : Lies .u64 77 (wr.setRow (w.heap.size + 1) (arr .u64 l)) (w.heap.size + 1) l := hOj.row
      have hbf : Below w.heap.size w (wr.setRow (w.heap.size + 1) (arr .u64 l)) := hbj.trans ((But.setRow (But.refl _ _) _).below (by omega) hbj.size)
      go_wp2_with (first
        | (refine wpList_load_row rfl 77 _ (by rfl) (w.heap.size + 1 + 1) (by rfl) _ _ _ (.array 8 49) hLj (by kernel_rfl) rfl (by rw [arr_size, h8]; kernel_rfl) ?_)
        | (refine wpList_store_row rfl 77 _ _ (by rfl) (w.heap.size + 1) (arr .u64 l) (by rfl) (by rfl) _ _ hOj (by rw [arr_size, h8]; kernel_rfl) (by rw [arr_size, arr_size, h8, List.length_replicate]) (arr_one _ _) ?_)
        | fail)
      refine bodyPost_ret (v := .agg (arr .u64 l)) ?_ ?_ ?_
      · exact results_cell_row Tryd.results59 _ _ (w.heap.size + 1) _ _ _ (.array 8 49) (by rfl) hOf (by kernel_rfl) rfl (by rw [arr_size, h8]; kernel_rfl)
      · rfl
      · exact ⟨rfl, hbf⟩

set_option maxHeartbeats 2000000 in
set_option maxRecDepth 100000 in
theorem begin_any64 (r : List Nat) (f : Nat) (w : World) (h16 : r.length = 16) (hu : Under 18446744073709551616 r) (hf : f ≤ 8) :
    Calls Tryd.prog 58 #[.agg (arr .u64 r), .int .i64 f] w fun e w' => e = .returned (.agg (arr .u64 (((r.drop f).take 8).map (hi true)))) ∧ Below w.heap.size w w' := by
  have h8 : (((r.drop f).take 8).map (hi true)).length = 8 := by rw [List.length_map, List.length_take, List.length_drop]; omega
  have hel : ∀ j, j < 8 → el (((r.drop f).take 8).map (hi true)) j = hi true (el r (f + j)) := fun j hj => by
    rw [el_at (by omega), List.getElem_map, List.getElem_take, List.getElem_drop, el_at (by omega)]
  have HE := hide hel
  clear hel
  have hA : Lies .u64 95 (((w.alloc (.cells (arr .u64 r) 95)).alloc (.cells #[.int .u64 0, .int .u64 0, .int .u64 0, .int .u64 0, .int .u64 0, .int .u64 0, .int .u64 0, .int .u64 0] 97)).alloc (.cells #[.int .u64 0, .int .u64 0, .int .u64 0, .int .u64 0, .int .u64 0, .int .u64 0, .int .u64 0, .int .u64 0] 97)) w.heap.size r := ((Lies.new _ _ w r).alloc _).alloc _
  have hO : Lies .u64 97 (((w.alloc (.cells (arr .u64 r) 95)).alloc (.cells #[.int .u64 0, .int .u64 0, .int .u64 0, .int .u64 0, .int .u64 0, .int .u64 0, .int .u64 0, .int .u64 0] 97)).alloc (.cells #[.int .u64 0, .int .u64 0, .int .u64 0, .int .u64 0, .int .u64 0, .int .u64 0, .int .u64 0, .int .u64 0] 97)) (w.heap.size + 1) (List.replicate 8 0) := by
    have := (Lies.new .u64 97 (w.alloc (.cells (arr .u64 r) 95)) (List.replicate 8 0)).alloc (.cells #[.int .u64 0, .int .u64 0, .int .u64 0, .int .u64 0, .int .u64 0, .int .u64 0, .int .u64 0, .int .u64 0] 97)
    rw [World.size_alloc] at this
    exact this
  have hL : Lies .u64 97 (((w.alloc (.cells (arr .u64 r) 95)).alloc (.cells #[.int .u64 0, .int .u64 0, .int .u64 0, .int .u64 0, .int .u64 0, .int .u64 0, .int .u64 0, .int .u64 0] 97)).alloc (.cells #[.int .u64 0, .int .u64 0, .int .u64 0, .int .u64 0, .int .u64 0, .int .u64 0, .int .u64 0, .int .u64 0] 97)) (w.heap.size + 1 + 1) (pad 8 ((((r.drop f).take 8).map (hi true)).take 0)) := by
    have := Lies.new .u64 97 ((w.alloc (.cells (arr .u64 r) 95)).alloc (.cells #[.int .u64 0, .int .u64 0, .int .u64 0, .int .u64 0, .int .u64 0, .int .u64 0, .int .u64 0, .int .u64 0] 97)) (List.replicate 8 0)
    rw [World.size_alloc, World.size_alloc] at this
    exact this
  have hb : Below w.heap.size w (((w.alloc (.cells (arr .u64 r) 95)).alloc (.cells #[.int .u64 0, .int .u64 0, .int .u64 0, .int .u64 0, .int .u64 0, .int .u64 0, .int .u64 0, .int .u64 0] 97)).alloc (.cells #[.int .u64 0, .int .u64 0, .int .u64 0, .int .u64 0, .int .u64 0, .int .u64 0, .int .u64 0, .int .u64 0] 97)) := keep_trans (keep_trans (keep_alloc _ _) (keep_alloc _ _)) (keep_alloc _ _)
  have HA := hide hA
  have HO := hide hO
  have HL := hide hL
  have HB := hide hb
  clear hA hO hL hb
  generalize hl : ((r.drop f).take 8).map (hi true) = l at *
  go_enter Tryd.func58, Tryd.ntmps58
  go_wp2
  go_loopw [7] (fun i wr => ∃ j : Nat, j ≤ 8 ∧ i = .int .i64 j ∧ Lies .u64 97 wr (w.heap.size + 1 + 1) (pad 8 (l.take j)) ∧ Lies .u64 97 wr (w.heap.size + 1) (List.replicate 8 0) ∧ Lies .u64 95 wr w.heap.size r ∧ Below w.heap.size w wr) (fun i _ => 8 - (intOf i).toNat)
  case atStart => exact ⟨0, Nat.zero_le _, rfl, HL.out, HO.out, HA.out, HB.out⟩
  case round =>
    obtain ⟨j, hj, rfl, hLj, hOj, hAj, hbj⟩ := hrel
    by_cases hlt : j < 8
    · have hle := HE.out j hlt
      have hrl : el r (f + j) < 18446744073709551616 := el_lt hu (by decide) _
      have htl : (l.take j).length = j := by rw [List.length_take]; omega
      have c1 := hLj.cell (i := j) (by rw [pad_length (by omega)]; omega)
      have c2 := hAj.cell (i := f + j) (by omega)
      have f1 := hLj.frozen j
      have hst := hLj.set j (el l j)
      have hse := pad_set (n := 8) (l := l.take j) (by omega) (el l j)
      rw [htl, ← take_el (by omega)] at hse
      rw [hse, hle] at hst
      have HST := hide hst
      clear hst hse htl hle
      have ij0 : (0 : Int) ≤ (j : Int) := Int.natCast_nonneg _
      have ij1 : (j : Int) < 8 := by omega
      have ij2 : (f : Int) + (j : Int) = ((f + j : Nat) : Int) := by omega
      have ij3 : f + j < 16 := by omega
      have ij4 : ((f + j : Nat) : Int) < 16 := by omega
      have ij5 : (0 : Int) ≤ ((f + j : Nat) : Int) := Int.natCast_nonneg _
      have ij6 : IntKind.i64.wrap ((f + j : Nat) : Int) = ((f + j : Nat) : Int) := by rw [IntKind.wrap_i64]; omega
      generalize f + j = q at *
      go_wp2_with fail
      refine (first64 (el r q) _ hrl).mono ?_
      rintro e w1 ⟨rfl, rfl⟩
      go_wp2
      refine ⟨⟨j + 1, by omega, by go_num, HST.out, hOj.but (But.setCell (But.refl (w.heap.size + 1 + 1) _) _ _) (by omega), hAj.but (But.setCell (But.refl (w.heap.size + 1 + 1) _) _ _) (by omega), hbj.setCell (by simp; omega) _⟩, by simp [intOf]; omega⟩
    · obtain rfl : j = 8 := by omega
      rw [List.take_of_length_le (by omega), pad_full h8] at hLj
      have hOf : Lies .u64 97 (wr.setRow (w.heap.size + 1) (arr .u64 l)) (w.heap.size + 1) l := hOj.row
      have hbf : Below w.heap.size w (wr.setRow (w.heap.size + 1) (arr .u64 l)) := hbj.trans ((But.setRow (But.refl _ _) _).below (by omega) hbj.size)
      go_wp2_with (first
        | (refine wpList_load_row rfl 97 _ (by rfl) (w.heap.size + 1 + 1) (by rfl) _ _ _ (.array 8 49) hLj (by kernel_rfl) rfl (by rw [arr_size, h8]; kernel_rfl) ?_)
        | (refine wpList_store_row rfl 97 _ _ (by rfl) (w.heap.size + 1) (arr .u64 l) (by rfl) (by rfl) _ _ hOj (by rw [arr_size, h8]; kernel_rfl) (by rw [arr_size, arr_size, h8, List.length_replicate]) (arr_one _ _) ?_)
        | fail)
      refine bodyPost_ret (v := .agg (arr .u64 l)) ?_ ?_ ?_
      · exact results_cell_row Tryd.results58 _ _ (w.heap.size + 1) _ _ _ (.array 8 49) (by rfl) hOf (by kernel_rfl) rfl (by rw [arr_size, h8]; kernel_rfl)
      · rfl
      · exact ⟨rfl, hbf⟩

set_option maxRecDepth 100000 in
theorem zero8864 : ∀ w, (zeroValue 115).run Tryd.prog w = .ok (.agg (arr .u64 (List.replicate 88 0))) w := zero_arr (by kernel_rfl)

theorem el_map_hi64 (b : Bool) (r : List Nat) (j : Nat) (hj : j < r.length) : el (r.map (hi b)) j = hi b (el r j) := by
  rw [el_at (by rw [List.length_map]; exact hj), List.getElem_map, el_at hj]

set_option maxHeartbeats 4000000 in
set_option maxRecDepth 100000 in
theorem resume_any64 (hs r : List Nat) (w : World) (h8 : hs.length = 8) (hhu : Under 18446744073709551616 hs) (h80 : r.length = 80) (hru : Under 18446744073709551616 r) :
    Calls Tryd.prog 73 #[.agg (arr .u64 hs), .agg (arr .u64 r)] w fun e w' => ∃ g, e = .returned (.pointer (some ⟨g, 0, none⟩)) ∧ w.heap.size ≤ g ∧ Lies .u64 115 w' g (hs ++ r.map (hi true)) ∧ Below w.heap.size w w' := by
  have hz := zero8864
  have hA : Lies .u64 77 (((w.alloc (.cells (arr .u64 hs) 77)).alloc (.cells (arr .u64 r) 107)).alloc (.cells (arr .u64 (List.replicate 88 0)) 115)) w.heap.size hs := ((Lies.new _ _ w hs).alloc _).alloc _
  have hC : Lies .u64 107 (((w.alloc (.cells (arr .u64 hs) 77)).alloc (.cells (arr .u64 r) 107)).alloc (.cells (arr .u64 (List.replicate 88 0)) 115)) (w.heap.size + 1) r := by
    have := (Lies.new .u64 107 (w.alloc (.cells (arr .u64 hs) 77)) r).alloc (.cells (arr .u64 (List.replicate 88 0)) 115)
    rw [World.size_alloc] at this
    exact this
  have hL : Lies .u64 115 (((w.alloc (.cells (arr .u64 hs) 77)).alloc (.cells (arr .u64 r) 107)).alloc (.cells (arr .u64 (List.replicate 88 0)) 115)) (w.heap.size + 1 + 1) (pad 88 (hs.take 0)) := by
    have := Lies.new .u64 115 ((w.alloc (.cells (arr .u64 hs) 77)).alloc (.cells (arr .u64 r) 107)) (List.replicate 88 0)
    rw [World.size_alloc, World.size_alloc] at this
    exact this
  have hb : Below w.heap.size w (((w.alloc (.cells (arr .u64 hs) 77)).alloc (.cells (arr .u64 r) 107)).alloc (.cells (arr .u64 (List.replicate 88 0)) 115)) := keep_trans (keep_trans (keep_alloc _ _) (keep_alloc _ _)) (keep_alloc _ _)
  have HC := hide hC
  have HL := hide hL
  have HB := hide hb
  clear hC hL hb
  go_enter Tryd.func73, Tryd.ntmps73
  go_wp2_with (first
    | (refine wpList_load_row rfl 77 _ (by rfl) w.heap.size (by rfl) _ _ _ (.array 8 49) hA (by kernel_rfl) rfl (by rw [arr_size, h8]; kernel_rfl) ?_)
    | fail)
  clear hA
  go_loopw [11] (fun i wr => ∃ j : Nat, j ≤ 8 ∧ i = .int .i64 j ∧ Lies .u64 115 wr (w.heap.size + 1 + 1) (pad 88 (hs.take j)) ∧ Lies .u64 107 wr (w.heap.size + 1) r ∧ Below w.heap.size w wr) (fun i _ => 8 - (intOf i).toNat)
  case atStart => exact ⟨0, Nat.zero_le _, rfl, HL.out, HC.out, HB.out⟩
  case round =>
    obtain ⟨j, hj, rfl, hLj, hCj, hbj⟩ := hrel
    by_cases hlt : j < 8
    · have hix : ∀ w : World, (Instr.index 77 (.agg (arr .u64 hs)) (.int .i64 (j : Int))).run Tryd.prog w = .ok (.int .u64 (el hs j)) w := fun w =>
        index_arr _ 49 8 .u64 hs (by kernel_rfl) (by kernel_rfl) (by kernel_rfl) h8 j hlt w
      have hel : el hs j < 18446744073709551616 := el_lt hhu (by decide) j
      have htl : (hs.take j).length = j := by rw [List.length_take]; omega
      have c1 := hLj.cell (i := j) (by rw [pad_length (by omega)]; omega)
      have f1 := hLj.frozen j
      have hst := hLj.set j (el hs j)
      have hse := pad_set (n := 88) (l := hs.take j) (by omega) (el hs j)
      rw [htl, ← take_el (by omega)] at hse
      rw [hse] at hst
      have HST := hide hst
      clear hst hse htl
      have ij0 : (0 : Int) ≤ (j : Int) := Int.natCast_nonneg _
      have ij1 : (j : Int) < 8 := by omega
      go_wp2
      refine ⟨⟨j + 1, by omega, by go_num, HST.out, hCj.but (But.setCell (But.refl (w.heap.size + 1 + 1) _) _ _) (by omega), hbj.setCell (by simp; omega) _⟩, by simp [intOf]; omega⟩
    · obtain rfl : j = 8 := by omega
      rw [List.take_of_length_le (by omega)] at hLj
      clear HL HC HB
      have hL0 : Lies .u64 115 wr (w.heap.size + 1 + 1) (pad 88 (hs ++ (r.map (hi true)).take 0)) := by rw [List.take_zero, List.append_nil]; exact hLj
      have hlr : (r.map (hi true)).length = 80 := by rw [List.length_map]; exact h80
      clear hLj
      go_wp2_with (first
        | (refine wpList_load_row rfl 107 _ (by rfl) (w.heap.size + 1) (by rfl) _ _ _ (.array 80 49) hCj (by kernel_rfl) rfl (by rw [arr_size, h80]; kernel_rfl) ?_)
        | fail)
      clear hCj
      go_loopw [21] (fun i wr => ∃ j : Nat, j ≤ 80 ∧ i = .int .i64 j ∧ Lies .u64 115 wr (w.heap.size + 1 + 1) (pad 88 (hs ++ (r.map (hi true)).take j)) ∧ Below w.heap.size w wr) (fun i _ => 80 - (intOf i).toNat)
      case atStart => exact ⟨0, Nat.zero_le _, rfl, hL0, hbj⟩
      case round =>
        obtain ⟨j, hj, rfl, hLj, hbj⟩ := hrel
        clear hL0
        by_cases hlt : j < 80
        · have hix : ∀ w : World, (Instr.index 107 (.agg (arr .u64 r)) (.int .i64 (j : Int))).run Tryd.prog w = .ok (.int .u64 (el r j)) w := fun w =>
            index_arr _ 49 80 .u64 r (by kernel_rfl) (by kernel_rfl) (by kernel_rfl) h80 j hlt w
          have hrl : el r j < 18446744073709551616 := el_lt hru (by decide) j
          have htl : (hs ++ (r.map (hi true)).take j).length = 8 + j := by rw [List.length_append, List.length_take]; omega
          have c1 := hLj.cell (i := 8 + j) (by rw [pad_length (by omega)]; omega)
          have f1 := hLj.frozen (8 + j)
          have hst := hLj.set (8 + j) (hi true (el r j))
          have hse := pad_set (n := 88) (l := hs ++ (r.map (hi true)).take j) (by omega) (hi true (el r j))
          rw [htl, List.append_assoc, ← el_map_hi64 true r j (by omega), ← take_el (by omega)] at hse
          rw [← el_map_hi64 true r j (by omega), hse, el_map_hi64 true r j (by omega)] at hst
          have HST := hide hst
          clear hst hse htl
          have ij0 : (0 : Int) ≤ (j : Int) := Int.natCast_nonneg _
          have ij1 : (j : Int) < 80 := by omega
          go_wp2_with fail
          refine (first64 (el r j) _ hrl).mono ?_
          rintro e w1 ⟨rfl, rfl⟩
          go_wp2
          refine ⟨⟨j + 1, by omega, by go_num, HST.out, hbj.setCell (by simp; omega) _⟩, by simp [intOf]; omega⟩
        · obtain rfl : j = 80 := by omega
          rw [List.take_of_length_le (by omega), pad_full (by rw [List.length_append]; omega)] at hLj
          go_wp2
          go_ret
          exact ⟨_, rfl, by omega, hLj, hbj⟩
end Go.Proofs.YtpmobjfhhkglbaaDoor

/- Which sums that go on can be: the code's, and the document's. -/
namespace Go.Proofs.YtpmobjfhhkglbaaDoor
open Go.RowKit
set_option linter.unusedVariables false
set_option linter.unusedSimpArgs false

/-- whether a kind has words of 64 bits -/
def wide (kind : Int) : Bool := decide (kind ≠ 1)
def wfit (kind : Int) (ws : List Nat) : Bool := decide (kind ≠ 1) || ws.all (fun x => decide (x < 4294967296))
def hfit (kind : Int) (ws : List Nat) (n size : Nat) : Bool := decide ((kind = 1 ∨ kind = 2 ∨ kind = 3) ∧ size < 1152921504606846976 ∧ n = size % bz (wide kind)) && wfit kind ws
theorem all8 {ws : List Nat} (h8 : ws.length = 8) : ws.all (fun x => decide (x < 4294967296)) = true ↔ ∀ j, j < 8 → el ws j < 4294967296 := by
  rw [List.all_eq_true]
  constructor
  · intro h j hj
    rw [el_at (by omega)]
    exact of_decide_eq_true (h _ (List.getElem_mem _))
  · intro h x hx
    obtain ⟨i, hi, rfl⟩ := List.getElem_of_mem hx
    have := h i (by omega)
    rw [el_at hi] at this
    exact decide_eq_true this
theorem wfit_one {ws : List Nat} (h8 : ws.length = 8) : wfit 1 ws = true ↔ ∀ j, j < 8 → el ws j < 4294967296 := by
  rw [← all8 h8]; simp [wfit]

def bk (kind : Int) : Nat := if kind = 1 then 64 else if kind = 2 ∨ kind = 3 then 128 else 0
theorem blockOf_any (kind : Int) (w : World) : Calls Tryd.prog 68 #[.int .i64 kind] w fun e w' => e = .returned (.int .u64 (bk kind : Nat)) ∧ w' = w := by
  by_cases h1 : kind = 1
  · subst h1
    go_enter Tryd.func68, Tryd.ntmps68
    go_wp2
    go_ret
    exact ⟨rfl, rfl⟩
  by_cases h2 : kind = 2
  · subst h2
    go_enter Tryd.func68, Tryd.ntmps68
    go_wp2
    go_ret
    exact ⟨rfl, rfl⟩
  by_cases h3 : kind = 3
  · subst h3
    go_enter Tryd.func68, Tryd.ntmps68
    go_wp2
    go_ret
    exact ⟨rfl, rfl⟩
  have hb : bk kind = 0 := by simp [bk, h1, h2, h3]
  rw [hb]
  go_enter Tryd.func68, Tryd.ntmps68
  go_wp2
  go_ret
  exact ⟨rfl, rfl⟩
set_option maxHeartbeats 2000000 in
set_option maxRecDepth 100000 in
theorem wordsFit_any (kind : Int) (ws : List Nat) (tv : Value) (size : Nat) (w : World) (h8 : ws.length = 8) (hu : Under 18446744073709551616 ws) :
    Calls Tryd.prog 69 #[.agg (hv kind ws tv size)] w fun e w' => e = .returned (.bool (wfit kind ws)) ∧ Below w.heap.size w w' := by
  unfold hv
  by_cases h1 : kind = 1
  · subst h1
    go_enter Tryd.func69, Tryd.ntmps69
    go_wp2
    have hb := keep_alloc w (.cells #[.int .i64 1, .int .u64 (el ws 0), .int .u64 (el ws 1), .int .u64 (el ws 2), .int .u64 (el ws 3), .int .u64 (el ws 4), .int .u64 (el ws 5), .int .u64 (el ws 6), .int .u64 (el ws 7), tv, .int .u64 size] 79)
    generalize w.alloc (.cells #[.int .i64 1, .int .u64 (el ws 0), .int .u64 (el ws 1), .int .u64 (el ws 2), .int .u64 (el ws 3), .int .u64 (el ws 4), .int .u64 (el ws 5), .int .u64 (el ws 6), .int .u64 (el ws 7), tv, .int .u64 size] 79) = w1 at *
    go_loopw [10] (fun i wr => ∃ j : Nat, j ≤ 8 ∧ i = .int .i64 j ∧ wr = w1 ∧ ∀ t, t < j → el ws t < 4294967296) (fun i _ => 8 - (intOf i).toNat)
    case atStart => exact ⟨0, Nat.zero_le _, rfl, rfl, fun t ht => by omega⟩
    case round =>
      obtain ⟨j, hj, rfl, rfl, hall⟩ := hrel
      have HA := hide hall
      clear hall
      by_cases hlt : j < 8
      · have hix : ∀ w : World, (Instr.index 77 (.agg #[.int .u64 (el ws 0), .int .u64 (el ws 1), .int .u64 (el ws 2), .int .u64 (el ws 3), .int .u64 (el ws 4), .int .u64 (el ws 5), .int .u64 (el ws 6), .int .u64 (el ws 7)]) (.int .i64 (j : Int))).run Tryd.prog w = .ok (.int .u64 (el ws j)) w := fun w => by
          rw [← arr8 .u64 ws h8]; exact index_arr _ 49 8 .u64 ws (by kernel_rfl) (by kernel_rfl) (by kernel_rfl) h8 j hlt w
        have ij0 : (0 : Int) ≤ (j : Int) := Int.natCast_nonneg _
        have ij1 : (j : Int) < 8 := by omega
        by_cases hx : el ws j < 4294967296
        · have hx2 : (el ws j : Int) ≤ 4294967295 := by omega
          go_wp2
          exact ⟨⟨j + 1, by omega, by go_num, trivial, fun t ht => by
            by_cases e : t = j
            · subst e; exact hx
            · exact HA.out t (by omega)⟩, by simp [intOf]; omega⟩
        · have hx2 : 4294967295 < (el ws j : Int) := by omega
          have hw : wfit 1 ws = false := by
            cases hq : wfit 1 ws with
            | false => rfl
            | true => exact absurd ((wfit_one h8).1 hq j hlt) hx
          go_wp2
          go_ret
          exact ⟨by rw [hw]; rfl, hb⟩
      · have hw : wfit 1 ws = true := (wfit_one h8).2 (fun t ht => HA.out t (by omega))
        go_wp2
        go_ret
        exact ⟨by rw [hw]; rfl, hb⟩
  · have hw : wfit kind ws = true := by simp [wfit, h1]
    rw [hw]
    go_enter Tryd.func69, Tryd.ntmps69
    go_wp2
    go_ret
    exact ⟨rfl, keep_alloc _ _⟩

end Go.Proofs.YtpmobjfhhkglbaaDoor
