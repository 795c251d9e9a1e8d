/- The document's each, rows, columns. -/
import Derived.Test.YtjnlkihhmenfnaaABox
import Derived.Test.YtjnlkihhmenfnaaTex
import Derived.Test.YtjnlkihhmenfnaaHKit
import Derived.Test.YtjnlkihhmenfnaaWrM
import Derived.Test.YtjnlkihhmenfnaaYXor
import Derived.Test.YtjnlkihhmenfnaaLe
import Derived.RangeFuncBox
import Derived.RangeFuncNested
import Derived.RangeFuncBound
import Derived.RangeFuncCalls
import Derived.RangeFuncLeaves
import Derived.Shelf.Abstract
import Derived.OwnWalkIn
import Derived.TacticsInMore
import Derived.LoopNIn
import Derived.LoopIn
import Derived.Maps.AppendAt
import Derived.Lib.MinMax
import Derived.Sort.QuietIn
import Derived.Test.YtjnlkihhmenfnaaAesW
import Derived.Test.YtjnlkihhmenfnaaBase
namespace Go.Proofs.Ytjnlkihhmenfnaa
open Go.RowKit
set_option linter.unusedVariables false
set_option linter.unusedSimpArgs false

/-- sixteen places, the first k of them filled -/
def fill16 (f : Nat → Nat) (k : Nat) : List Nat := of16 fun i => if i < k then f i else 0
theorem fill16_len (f : Nat → Nat) (k : Nat) : (fill16 f k).length = 16 := of16_len _
theorem fill16_all (f : Nat → Nat) : fill16 f 16 = of16 f := ext16 (of16_len _) (of16_len _) fun i hi => by
  unfold fill16
  rw [of16_el _ hi, of16_el _ hi, if_pos hi]
theorem fill16_zero (f : Nat → Nat) : fill16 f 0 = List.replicate 16 0 := ext16 (of16_len _) List.length_replicate fun i hi => by
  unfold fill16
  rw [of16_el _ hi, el_at (by simpa using hi), List.getElem_replicate, if_neg (by omega)]
theorem fill16_set (f : Nat → Nat) {k : Nat} (hk : k < 16) : (fill16 f k).set k (f k) = fill16 f (k + 1) := ext16 (by rw [List.length_set, fill16_len]) (of16_len _) fun i hi => by
  rw [el_at (by rw [List.length_set, fill16_len]; exact hi), List.getElem_set]
  by_cases h : k = i
  · subst h
    rw [if_pos rfl]
    unfold fill16
    rw [of16_el _ hi, if_pos (by omega)]
  · rw [if_neg h, ← el_at]
    unfold fill16
    rw [of16_el _ hi, of16_el _ hi]
    by_cases h2 : i < k
    · rw [if_pos h2, if_pos (by omega)]
    · rw [if_neg h2, if_neg (by omega)]
/-- a row of the call's own that lies in a whole block -/
theorem lies_own {k : IntKind} {e : TypeId} {w : World} {base g n : Nat} {l : List Nat} (h : w.ownsRow base e 1 (.slice (some ⟨g, 0, none⟩) n n) n (vals k l)) (hl : l.length = n) : Lies k e w g l := by
  obtain ⟨_, ⟨h1, _⟩ | ⟨g', cap, cur, h1, _, h3, _, _, h4, h5⟩⟩ := h
  · cases h1
  · simp only [Value.slice.injEq, Option.some.injEq, Addr.mk.injEq] at h1
    obtain ⟨⟨rfl, _⟩, rfl⟩ : (g = g' ∧ True) ∧ n = cap := ⟨⟨h1.1.1, trivial⟩, h1.2.2⟩
    have e1 : cur.toList = vals k l := by
      rw [List.take_of_length_le (by rw [Array.length_toList, h4]; exact Nat.le_refl _)] at h5
      exact h5
    unfold Lies
    rw [h3]
    have : cur = arr k l := by
      apply Array.toList_inj.1
      rw [e1]
      simp [arr, vals]
    rw [this]
theorem own_lies {k : IntKind} {e : TypeId} {w : World} {base g n : Nat} {l : List Nat} (h : Lies k e w g l) (hb : base ≤ g) (hl : l.length = n) (hm : n ≤ maxLen) : w.ownsRow base e 1 (.slice (some ⟨g, 0, none⟩) n n) n (vals k l) := by
  refine ⟨by rw [vals_length, hl, Nat.mul_one], .inr ⟨g, n, arr k l, rfl, hb, h, Nat.le_refl _, hm, by rw [arr_size, hl, Nat.mul_one], ?_⟩⟩
  rw [List.take_of_length_le (by rw [Array.length_toList, arr_size, hl, Nat.mul_one]; exact Nat.le_refl _)]
  simp [arr, vals]
/-- where the loop stands -/
def EcL (w1 : World) (H : Nat) (f : Nat → Nat) (vi : Value) (wr : World) : Prop := ∃ k : Nat, k ≤ 16 ∧ vi = .int .i64 (k : Int) ∧ Lies .u8 5 wr (H + 1) (fill16 f k) ∧ But (H + 1) w1 wr

set_option maxHeartbeats 2000000 in
set_option maxRecDepth 100000 in
theorem reach_any (T s : List Nat) (sv : Value) (w : World) (hT : T.length = 256) (hTu : Under 256 T) (hs : B16 s) (rs : Row .u8 256 w sv s) :
    Calls Try.prog 65 #[sv, .agg (arr .u8 T)] w fun e w' => ∃ v, e = .returned v ∧ Own 5 .u8 256 w' w.heap.size v (eachL T s) ∧ Below w.heap.size w w' := by
  obtain ⟨i0, hi, hz0, hz1, hz2⟩ := info_parts Try.info5
  have hA := Lies.new .u8 66 w T
  have hb0 := keep_alloc w (.cells (arr .u8 T) 66)
  have rs0 := rs.below hb0
  obtain ⟨sa, sc, rfl, g1, g2, g3⟩ := rs.opens hs.1
  go_enter Try.func65, Try.ntmps65
  go_wp2_with (first | (at_make; refine wpList_make_full _ rfl _ _ 22 rfl (w.heap.size + 1) 5 i0 (.int .u8 0) 1 Try.underlying22 hi hz0 hz1 _ _ _ _ 16 rfl rfl rfl rfl (by rw [hz2]; decide) (by unfold maxLen; decide) (by simp) ?_; intro w1 hown hgrow) | fail)
  rw [made_u8, ← fill16_zero (fun i => el T (el s i))] at hown
  have hL1 := lies_own hown (fill16_len _ _)
  have hb1 := (Below.refl (w.alloc (.cells (arr .u8 T) 66)).heap.size (w.alloc (.cells (arr .u8 T) 66))).grown hgrow (Nat.le_refl _) (fun k h => by cases h)
  have hA1 := hA.below hb1
  have rs1 := rs0.below hb1
  have hbw := keep_trans hb0 hb1
  rw [World.size_alloc] at hL1
  obtain ⟨_, _, he, _, _, g4⟩ := rs1.opens hs.1
  obtain ⟨rfl, rfl⟩ := by simpa using he
  obtain ⟨sb, so, rfl, hc⟩ := g4 (by decide)
  have hsb : sb < (w.alloc (.cells (arr .u8 T) 66)).heap.size := by
    obtain ⟨_, _, he2, _, _, g5⟩ := rs0.opens hs.1
    obtain ⟨b', o', h1, h2⟩ := g5 (by decide)
    simp at he2
    have := World.block_lt_of_cell? _ _ (h2 0 (by decide))
    rw [h1] at he2
    simp at he2
    obtain ⟨⟨rfl, _⟩, _⟩ := he2
    exact this
  rw [World.size_alloc] at hsb
  clear hown hgrow he g3 g4 rs rs0 rs1 hA
  go_loopw [6] (fun vi wr => EcL w1 w.heap.size (fun i => el T (el s i)) vi wr) (fun vi _ => 16 - (intOf vi).toNat)
  case atStart => exact ⟨0, by decide, rfl, hL1, But.refl _ _⟩
  case round =>
    obtain ⟨k, hk, rfl, hL, hB⟩ := hrel
    by_cases hlt : k < 16
    · have hli : (k : Int) < 16 := by omega
      have c1 := But.cell (hc k hlt) hB (by show sb ≠ w.heap.size + 1; omega)
      have ck := hs.el k
      have hA2 := hA1.but hB (by omega)
      have c2 := hA2.cell (i := el s k) (by omega)
      have c3 := hL.cell (i := k) (by rw [fill16_len]; exact hlt)
      have c4 := hL.frozen k
      have cl := el_lt hTu (by decide) (el s k)
      have hst := hL.set k (el T (el s k))
      rw [fill16_set (fun i => el T (el s i)) hlt] at hst
      have HST := hide hst
      generalize el T (el s k) = t at *
      generalize el s k = u at *
      have ui : (u : Int) < 256 := by omega
      clear hst hL
      go_wp2
      exact ⟨⟨k + 1, by omega, by go_num, HST.out, hB.setCell k _⟩, by simp [intOf]; omega⟩
    · obtain rfl : k = 16 := by omega
      rw [fill16_all] at hL
      go_wp2
      go_ret
      have ho : Own 5 .u8 256 wr w.heap.size (.slice (some ⟨w.heap.size + 1, 0, none⟩) 16 16) (eachL T s) := ⟨by rw [show (eachL T s).length = 16 from of16_len _]; exact own_lies hL (by omega) (of16_len _) (by unfold maxLen; decide), (eachL_b (fun c h => el_lt hTu (by decide) c) hs).2⟩
      exact ⟨_, rfl, ho, hbw.trans (hB.below (by omega) hbw.size)⟩
end Go.Proofs.Ytjnlkihhmenfnaa

/- The code's fit; Block at a key of another length; awake. -/
namespace Go.Proofs.Ytjnlkihhmenfnaa
open Go.RowKit
set_option linter.unusedVariables false
set_option linter.unusedSimpArgs false

/-- how many bytes a key may have -/
def Sz3 (n : Nat) : Prop := n = 16 ∨ n = 24 ∨ n = 32
set_option maxHeartbeats 2000000 in
set_option maxRecDepth 100000 in
theorem fit_key (key : List Nat) (kv bv : Value) (w : World) (rk : Row .u8 256 w kv key) (hk : ¬ Sz3 key.length) :
    Calls Try.prog 33 #[kv, bv] w fun e w' => e = .returned (.int .i64 10) ∧ w' = w := by
  obtain ⟨ka, kc, rfl, lc1, lc2, _⟩ := rk.opens rfl
  generalize key.length = L at *
  have h1 : ¬ ((L : Int) = 16) := fun h => hk (.inl (by omega))
  have h2 : ¬ ((L : Int) = 24) := fun h => hk (.inr (.inl (by omega)))
  have h3 : ¬ ((L : Int) = 32) := fun h => hk (.inr (.inr (by omega)))
  clear hk
  go_enter Try.func33, Try.ntmps33
  go_wp2
  go_ret
  exact ⟨rfl, rfl⟩
set_option maxHeartbeats 2000000 in
set_option maxRecDepth 100000 in
theorem fit_size (key b : List Nat) (kv bv : Value) (w : World) (rk : Row .u8 256 w kv key) (rb : Row .u8 256 w bv b) (hk : Sz3 key.length) (hb : b.length ≠ 16) :
    Calls Try.prog 33 #[kv, bv] w fun e w' => e = .returned (.int .i64 14) ∧ w' = w := by
  obtain ⟨ka, kc, rfl, lc1, lc2, _⟩ := rk.opens rfl
  obtain ⟨ba, bc, rfl, l1, l2, _⟩ := rb.opens rfl
  generalize key.length = L at *
  generalize b.length = M at *
  have h1 : ¬ ((M : Int) = 16) := by omega
  rcases hk with h | h | h <;> subst h
  · go_enter Try.func33, Try.ntmps33
    go_wp2
    go_ret
    exact ⟨rfl, rfl⟩
  · go_enter Try.func33, Try.ntmps33
    go_wp2
    go_ret
    exact ⟨rfl, rfl⟩
  · go_enter Try.func33, Try.ntmps33
    go_wp2
    go_ret
    exact ⟨rfl, rfl⟩
set_option maxHeartbeats 2000000 in
set_option maxRecDepth 100000 in
theorem fit_ok (key b : List Nat) (kv bv : Value) (w : World) (rk : Row .u8 256 w kv key) (rb : Row .u8 256 w bv b) (hk : Sz3 key.length) (hb : b.length = 16) :
    Calls Try.prog 33 #[kv, bv] w fun e w' => e = .returned (.int .i64 0) ∧ w' = w := by
  obtain ⟨ka, kc, rfl, lc1, lc2, _⟩ := rk.opens rfl
  obtain ⟨ba, bc, rfl, l1, l2, _⟩ := rb.opens hb
  generalize key.length = L at *
  rcases hk with h | h | h <;> subst h
  · go_enter Try.func33, Try.ntmps33
    go_wp2
    go_ret
    exact ⟨rfl, rfl⟩
  · go_enter Try.func33, Try.ntmps33
    go_wp2
    go_ret
    exact ⟨rfl, rfl⟩
  · go_enter Try.func33, Try.ntmps33
    go_wp2
    go_ret
    exact ⟨rfl, rfl⟩
set_option maxHeartbeats 2000000 in
set_option maxRecDepth 100000 in
theorem cblk_key (key : List Nat) (kv bv : Value) (w : World) (rk : Row .u8 256 w kv key) (hk : ¬ Sz3 key.length) :
    Calls Try.prog 15 #[kv, bv] w fun e w' => e = .returned (.tuple #[.slice none 0 0, .int .i64 10]) ∧ Below w.heap.size w w' := by
  have hf := fit_key key kv bv w rk hk
  go_enter Try.func15, Try.ntmps15
  go_wp2_with (first | (go_at_call 33; refine hf.mono ?_; rintro e w1 ⟨rfl, hy⟩; obtain rfl := hy.symm) | fail)
  go_ret2
  exact ⟨rfl, Below.refl _ _⟩
theorem lies_row {t : TypeId} {w : World} {g n : Nat} {l : List Nat} (h : Lies .u8 t w g l) (hl : l.length = n) (hu : Under 256 l) (hm : n ≤ maxLen) : Row .u8 256 w (.slice (some ⟨g, 0, none⟩) n n) l :=
  ⟨_, _, by rw [hl], by omega, hm, fun _ => ⟨g, 0, rfl, fun i hi => by rw [Nat.zero_add]; exact h.cell hi⟩, hu⟩
theorem zA_under (n : Nat) : Under 256 (zA n) := Under.replicate 256 n (by decide)
theorem mk_15 (y : World) : (Instr.makeSlice 22 (.int .i64 15) (.int .i64 15)).run Try.prog y = .ok (.slice (some ⟨y.heap.size, 0, none⟩) 15 15) (y.alloc (.cells (arr .u8 (zA 15)) 5)) := by
  obtain ⟨i0, hi, hz0, hz1, hz2⟩ := info_parts Try.info5
  have := run_makeSlice (P := Try.prog) y 22 5 i0 (.int .u8 0) Try.underlying22 hi hz0 .i64 .i64 15 15 (by decide) (by decide) (by rw [hz1]; decide) (by rw [hz2]; decide) (by decide)
  rw [hz1, show madeCells (Value.int .u8 0).cells (Int.toNat 15 * 1) = arr .u8 (zA 15) by kernel_rfl] at this
  exact this
theorem mk_16 (y : World) : (Instr.makeSlice 22 (.int .i64 16) (.int .i64 16)).run Try.prog y = .ok (.slice (some ⟨y.heap.size, 0, none⟩) 16 16) (y.alloc (.cells (arr .u8 (zA 16)) 5)) := by
  obtain ⟨i0, hi, hz0, hz1, hz2⟩ := info_parts Try.info5
  have := run_makeSlice (P := Try.prog) y 22 5 i0 (.int .u8 0) Try.underlying22 hi hz0 .i64 .i64 16 16 (by decide) (by decide) (by rw [hz1]; decide) (by rw [hz2]; decide) (by decide)
  rw [hz1, show madeCells (Value.int .u8 0).cells (Int.toNat 16 * 1) = arr .u8 (zA 16) by kernel_rfl] at this
  exact this
theorem zeros_key {y : World} {v : Value} (h : Row .u8 256 y v (zA 15)) (bv : Value) :
    Calls Try.prog 15 #[v, bv] y fun e w' => e = .returned (.tuple #[.slice none 0 0, .int .i64 10]) ∧ Below y.heap.size y w' := cblk_key _ v bv y h (by unfold Sz3; rw [zA_len]; decide)
end Go.Proofs.Ytjnlkihhmenfnaa

/- Wrapped keys: the code's small functions. -/
namespace Go.Proofs.Ytjnlkihhmenfnaa
open Go.RowKit
set_option linter.unusedVariables false
set_option linter.unusedSimpArgs false

theorem leS_8C (n : Nat) : leS n 8 = leL n 8 := by unfold leS; rw [if_neg (by decide)]; rfl
theorem be8_open (n : Nat) : be8 n = [n / 256 ^ 7 % 256, n / 256 ^ 6 % 256, n / 256 ^ 5 % 256, n / 256 ^ 4 % 256, n / 256 ^ 3 % 256, n / 256 ^ 2 % 256, n / 256 ^ 1 % 256, n / 256 ^ 0 % 256] := rfl
theorem xor_dig (x y k : Nat) : (x ^^^ y) / 256 ^ k % 256 = (x / 256 ^ k % 256) ^^^ (y / 256 ^ k % 256) := by
  have e : (256 : Nat) ^ k = 2 ^ (8 * k) := by rw [Nat.pow_mul]
  rw [e, Nat.xor_div_two_pow, show (256 : Nat) = 2 ^ 8 from rfl, Nat.xor_mod_two_pow]
theorem be8_xor (x y : Nat) : be8 (x ^^^ y) = xrL (be8 x) (be8 y) := by
  rw [be8_open (x ^^^ y), xor_dig, xor_dig, xor_dig, xor_dig, xor_dig, xor_dig, xor_dig, xor_dig]
  rfl
theorem be8_mark : be8 markW = List.replicate 8 166 := by decide
set_option maxHeartbeats 2000000 in
set_option maxRecDepth 100000 in
theorem mul_8 (y : World) : Calls Try.prog 48 #[.int .u64 1, .int .u64 8] y fun e y' => e = .returned (.tuple #[.int .u64 0, .int .u64 8]) ∧ y' = y := by
  go_enter Try.func48, Try.ntmps48
  go_wp2
  go_ret2
  exact ⟨rfl, rfl⟩
theorem row_one8 (w : World) : Row .u8 256 (w.alloc (.cells #[.int .u8 166] 5)) (.slice (some ⟨w.heap.size, 0, none⟩) 1 1) [166] := by
  refine ⟨_, 1, rfl, Nat.le_refl _, by unfold maxLen; decide, fun _ => ⟨_, _, rfl, fun i hi => ?_⟩, ?_⟩
  · match i, hi with
    | 0, _ => rw [World.cell?_alloc_at _ _ _ _ rfl]; rfl
  · intro x hx
    simp at hx
    omega
set_option maxHeartbeats 2000000 in
set_option maxRecDepth 100000 in
theorem begin_any (w : World) :
    Calls Try.prog 12 #[] w fun e w' => ∃ v, e = .returned v ∧ Row .u8 256 w' v (be8 markW) ∧ New w.heap.size v ∧ Below w.heap.size w w' := by
  have hr := rep_of _ 8 166 _ (row_one8 w) (by decide) (by decide) (fun y => mul_8 y)
  rw [← be8_mark] at hr
  go_enter Try.func12, Try.ntmps12
  go_wp2_with (first
    | (go_at_call 27; refine hr.mono ?_; rintro e w1 ⟨v1, rfl, r1, n1, hb1⟩)
    | fail)
  go_ret
  exact ⟨_, rfl, r1, n1.mono (by simp), keep_trans (keep_alloc _ _) hb1⟩
set_option maxHeartbeats 2000000 in
set_option maxRecDepth 100000 in
theorem numb_any (av : Value) (a s : Nat) (w : World) (ra : Row .u8 256 w av (be8 a)) (hs : s < 18446744073709551616) :
    Calls Try.prog 17 #[av, .int .u64 (s : Int)] w fun e w' => ∃ v, e = .returned v ∧ Own 5 .u8 256 w' w.heap.size v (be8 (a ^^^ s)) ∧ Below w.heap.size w w' := by
  have hbe := be_any s 8 w hs (by decide) (by decide)
  rw [leS_8C] at hbe
  go_enter Try.func17, Try.ntmps17
  go_wp2_with (first
    | (go_at_call 40; refine hbe.mono ?_; rintro e w1 ⟨v1, rfl, o1, hb1⟩)
    | (go_at_call 39; refine (xr_any _ _ (be8 a) (be8 s) _ (ra.below hb1) o1.row (by rw [be8_len]; decide)).mono ?_; rintro e w2 ⟨v2, rfl, o2, hb2⟩)
    | fail)
  go_ret
  rw [be8_xor]
  exact ⟨_, rfl, o2.mono hb1.size, keep_trans hb1 hb2⟩
set_option maxHeartbeats 2000000 in
set_option maxRecDepth 100000 in
theorem wfit_key (key : List Nat) (kv : Value) (s : Int) (w : World) (rk : Row .u8 256 w kv key) (hk : ¬ Sz3 key.length) :
    Calls Try.prog 11 #[kv, .int .i64 s] w fun e w' => e = .returned (.int .i64 10) ∧ w' = w := by
  obtain ⟨ka, kc, rfl, lc1, lc2, _⟩ := rk.opens rfl
  generalize key.length = L at *
  have h1 : ¬ ((L : Int) = 16) := fun h => hk (.inl (by omega))
  have h2 : ¬ ((L : Int) = 24) := fun h => hk (.inr (.inl (by omega)))
  have h3 : ¬ ((L : Int) = 32) := fun h => hk (.inr (.inr (by omega)))
  clear hk
  go_enter Try.func11, Try.ntmps11
  go_wp2
  go_ret
  exact ⟨rfl, rfl⟩
set_option maxHeartbeats 2000000 in
set_option maxRecDepth 100000 in
theorem wfit_ok (key : List Nat) (kv : Value) (s : Int) (w : World) (rk : Row .u8 256 w kv key) (hk : Sz3 key.length) (h1 : 16 ≤ s) (h2 : s ≤ 4096) (h3 : s % 8 = 0) :
    Calls Try.prog 11 #[kv, .int .i64 s] w fun e w' => e = .returned (.int .i64 0) ∧ w' = w := by
  obtain ⟨ka, kc, rfl, lc1, lc2, _⟩ := rk.opens rfl
  generalize key.length = L at *
  have g1 : ¬ s < 16 := by omega
  have g2 : ¬ 4096 < s := by omega
  have g3 : s.tmod 8 = 0 := by rw [Int.tmod_eq_emod_of_nonneg (by omega)]; exact h3
  clear h1 h2 h3
  rcases hk with h | h | h <;> subst h
  · go_enter Try.func11, Try.ntmps11
    go_wp2
    go_ret
    exact ⟨rfl, rfl⟩
  · go_enter Try.func11, Try.ntmps11
    go_wp2
    go_ret
    exact ⟨rfl, rfl⟩
  · go_enter Try.func11, Try.ntmps11
    go_wp2
    go_ret
    exact ⟨rfl, rfl⟩
set_option maxHeartbeats 4000000 in
set_option maxRecDepth 100000 in
theorem wfit_size (key : List Nat) (kv : Value) (s : Int) (w : World) (rk : Row .u8 256 w kv key) (hk : Sz3 key.length) (hs : s < 16 ∨ 4096 < s ∨ s % 8 ≠ 0) :
    Calls Try.prog 11 #[kv, .int .i64 s] w fun e w' => e = .returned (.int .i64 14) ∧ w' = w := by
  obtain ⟨ka, kc, rfl, lc1, lc2, _⟩ := rk.opens rfl
  generalize key.length = L at *
  by_cases g1 : s < 16
  · clear hs
    rcases hk with h | h | h <;> subst h
    · go_enter Try.func11, Try.ntmps11
      go_wp2
      go_ret
      exact ⟨rfl, rfl⟩
    · go_enter Try.func11, Try.ntmps11
      go_wp2
      go_ret
      exact ⟨rfl, rfl⟩
    · go_enter Try.func11, Try.ntmps11
      go_wp2
      go_ret
      exact ⟨rfl, rfl⟩
  by_cases g2 : 4096 < s
  · clear hs
    rcases hk with h | h | h <;> subst h
    · go_enter Try.func11, Try.ntmps11
      go_wp2
      go_ret
      exact ⟨rfl, rfl⟩
    · go_enter Try.func11, Try.ntmps11
      go_wp2
      go_ret
      exact ⟨rfl, rfl⟩
    · go_enter Try.func11, Try.ntmps11
      go_wp2
      go_ret
      exact ⟨rfl, rfl⟩
  have g3 : ¬ s.tmod 8 = 0 := by rw [Int.tmod_eq_emod_of_nonneg (by omega)]; omega
  have g4 : (s % 8 != 0) = true := by have : s % 8 ≠ 0 := by omega
                                      simp [this]
  clear hs
  rcases hk with h | h | h <;> subst h
  · go_enter Try.func11, Try.ntmps11
    go_wp2
    go_ret
    exact ⟨rfl, rfl⟩
  · go_enter Try.func11, Try.ntmps11
    go_wp2
    go_ret
    exact ⟨rfl, rfl⟩
  · go_enter Try.func11, Try.ntmps11
    go_wp2
    go_ret
    exact ⟨rfl, rfl⟩
set_option maxHeartbeats 2000000 in
set_option maxRecDepth 100000 in
theorem steps_any (a : Option Addr) (n c : Nat) (w : World) (hn : n ≤ 1000) :
    Calls Try.prog 31 #[.slice a n c] w fun e w' => e = .returned (.int .i64 ((6 * n : Nat) : Int)) ∧ w' = w := by
  obtain ⟨K, hK⟩ : ∃ x : Nat, x = 6 * n := ⟨_, rfl⟩
  have e_K : (6 : Int) * (n : Int) = (K : Int) := by omega
  have s_K : IntKind.i64.wrap (K : Int) = (K : Int) := by rw [IntKind.wrap_i64]; omega
  rw [← hK]
  clear hK
  go_enter Try.func31, Try.ntmps31
  go_wp2
  go_ret
  exact ⟨rfl, rfl⟩
set_option maxHeartbeats 2000000 in
set_option maxRecDepth 100000 in
theorem step_any (a : Option Addr) (n c t : Nat) (w : World) (hn : 1 ≤ n) (ht : t ≤ 10000) (hn2 : n ≤ 1000) :
    Calls Try.prog 32 #[.slice a n c, .int .i64 (t : Int)] w fun e w' => e = .returned (.tuple #[.int .u64 ((t + 1 : Nat) : Int), .int .i64 ((t % n : Nat) : Int)]) ∧ Below w.heap.size w w' := by
  obtain ⟨S, hS⟩ : ∃ x : Nat, x = t + 1 := ⟨_, rfl⟩
  obtain ⟨M, hM⟩ : ∃ x : Nat, x = t % n := ⟨_, rfl⟩
  have hMn : M < n := by rw [hM]; exact Nat.mod_lt _ hn
  have e_S : (t : Int) + 1 = (S : Int) := by omega
  have s_S : IntKind.i64.wrap (S : Int) = (S : Int) := by rw [IntKind.wrap_i64]; omega
  have u_S : IntKind.u64.wrap (S : Int) = (S : Int) := by rw [IntKind.wrap_u64]; omega
  have e_M : (t : Int) % (n : Int) = (M : Int) := by rw [hM]; simp
  have t_M : (t : Int).tmod (n : Int) = (M : Int) := by rw [Int.tmod_eq_emod_of_nonneg (by omega)]; exact e_M
  have z_n : ¬ ((n : Int) = 0) := by omega
  have s_M : IntKind.i64.wrap (M : Int) = (M : Int) := by rw [IntKind.wrap_i64]; omega
  rw [← hS, ← hM]
  clear hS hM
  go_enter Try.func32, Try.ntmps32
  go_wp2
  go_quiet (fail)
  go_wp2
  go_ret2
  exact ⟨rfl, ((But.refl w.heap.size w).drewN nq).below (Nat.le_refl _) (Nat.le_refl _)⟩
end Go.Proofs.Ytjnlkihhmenfnaa

/- The code's iterators: slices.Chunk of 16 bytes. -/
namespace Go.Proofs.Ytjnlkihhmenfnaa
open Go.RowKit Go.Shelf
set_option linter.unusedVariables false
set_option linter.unusedSimpArgs false
attribute [local go_sem] Oper.semAt_some

/-- the first k of N numbers -/
def finL (N : Nat) : Nat → List (Fin N)
  | 0 => []
  | k + 1 => if h : k < N then finL N k ++ [⟨k, h⟩] else finL N k
theorem finL_next {N k : Nat} (h : k < N) : finL N (k + 1) = finL N k ++ [⟨k, h⟩] := by show (if h : k < N then _ else _) = _; rw [dif_pos h]
theorem finL_len {N : Nat} : ∀ k, k ≤ N → (finL N k).length = k
  | 0, _ => rfl
  | k + 1, h => by rw [finL_next (by omega), List.length_append, finL_len k (by omega)]; rfl
theorem finL_pre {N : Nat} : ∀ k, k ≤ N → ∀ j, j ≤ k → finL N j <+: finL N k
  | 0, _, j, hj => by obtain rfl : j = 0 := by omega
                      exact List.prefix_refl _
  | k + 1, h, j, hj => by
    by_cases e : j = k + 1
    · rw [e]; exact List.prefix_refl _
    · rw [finL_next (by omega)]
      exact (finL_pre k (by omega) j (by omega)).trans (List.prefix_append _ _)
/-- the blocks from lo up to hi are as they were -/
def KpC (lo hi : Nat) (A B : World) : Prop := ∀ k, lo ≤ k → k < hi → B.heap[k]? = A.heap[k]?
theorem KpC.trans {lo hi : Nat} {A B C : World} (h : KpC lo hi A B) (k : KpC lo hi B C) : KpC lo hi A C := fun i h1 h2 => (k i h1 h2).trans (h i h1 h2)
theorem KpC.cell {lo hi : Nat} {A B : World} (h : KpC lo hi A B) {p : Addr} {v : Value} (h1 : lo ≤ p.block) (h2 : p.block < hi) (hc : A.cell? p = some v) : B.cell? p = some v := by
  rw [World.cell?_of_block (h _ h1 h2)]; exact hc
set_option maxRecDepth 100000 in
set_option maxHeartbeats 4000000 in
theorem chunk1_in (n : Nat) (hn : 1 ≤ n) (l lo hi Bs Bn xb xo xc N Z : Nat) (hZ : Z = 16 * N) (hZc : Z ≤ xc) (hZ6 : xc ≤ 9223372036854775807) (w0 : World) (hBs : lo ≤ Bs ∧ Bs < hi) (hBn : lo ≤ Bn ∧ Bn < hi) (J Jx : List (Fin N) → World → Prop)
    (hY : ∀ pre (x : Fin N) W, J pre W → pre.length < N → YieldAt Fence.wide (n - 1) Try.prog l #[.slice (some ⟨xb, xo + 16 * x.1, none⟩) 16 16] W fun e W' =>
      (e = .returned (.bool true) ∧ J (pre ++ [x]) W' ∧ KpC lo hi W W') ∨ (e = .returned (.bool false) ∧ Jx (pre ++ [x]) W'))
    (hJd : ∀ pre W q, J pre W → J pre (W.drewN q))
    (W : World) (hW : KpC lo hi w0 W) (hcs : w0.cell? ⟨Bs, 0, none⟩ = some (.slice (some ⟨xb, xo, none⟩) Z xc)) (hcn : w0.cell? ⟨Bn, 0, none⟩ = some (.int .i64 16)) (h0 : J [] W) :
    CallsIn Fence.wide n Try.prog 51 #[.func (.yield l) #[] #[], .pointer (some ⟨Bs, 0, none⟩), .pointer (some ⟨Bn, 0, none⟩)] W fun e W' => (∃ v, e = .returned v) ∧
      ((∃ ys, ys = finL N N ∧ J ys W') ∨ (∃ pre, pre <+: finL N N ∧ Jx pre W')) := by
  refine callsIn_of_wp Try.func51 rfl trivial ?_ rfl
  simp only [Try.ntmps51, List.size_toArray, List.length_cons, List.length_nil, Nat.reduceAdd, Nat.reduceSub, Array.replicate_succ, Array.replicate_zero, List.push_toArray, List.append_toArray, List.nil_append, List.cons_append]
  gi_wp2
  gi_loopw [4] (fun vi wr => ∃ k : Nat, k ≤ N ∧ vi = .int .i64 ((16 * k : Nat) : Int) ∧ J (finL N k) wr ∧ KpC lo hi w0 wr) (fun vi _ => Z - (intOf vi).toNat)
  case atStart => exact ⟨0, Nat.zero_le _, rfl, h0, hW⟩
  case round =>
    obtain ⟨k, hk, rfl, hJs, hbr⟩ := hrel
    have cs : wr.cell? ⟨Bs, 0, none⟩ = some (.slice (some ⟨xb, xo, none⟩) Z xc) := hbr.cell hBs.1 hBs.2 hcs
    have cn : wr.cell? ⟨Bn, 0, none⟩ = some (.int .i64 16) := hbr.cell hBn.1 hBn.2 hcn
    by_cases hlt : k < N
    · obtain ⟨P, hP⟩ : ∃ x : Nat, x = 16 * k := ⟨_, rfl⟩
      obtain ⟨Q, hQ⟩ : ∃ x : Nat, x = P + 16 := ⟨_, rfl⟩
      have hPZ : (P : Int) < (Z : Int) := by omega
      have z_P : (0 : Int) ≤ (P : Int) := Int.natCast_nonneg _
      have l_PZ : (P : Int) ≤ (Z : Int) := by omega
      have e_Q : (P : Int) + 16 = (Q : Int) := by omega
      have s_Q : IntKind.i64.wrap (Q : Int) = (Q : Int) := by rw [IntKind.wrap_i64]; omega
      have l_PQ : (P : Int) ≤ (Q : Int) := by omega
      have l_Qc : (Q : Int) ≤ (xc : Int) := by omega
      have d_QP : Q - P = 16 := by omega
      have n_cP : ¬ xc = P := by omega
      have n_QP : ¬ Q = P := by omega
      obtain ⟨R, hR⟩ : ∃ x : Nat, x = Z - P := ⟨_, rfl⟩
      have l_R : (16 : Int) ≤ (R : Int) := by omega
      have g_R : ¬ ((R : Int) < 16) := by omega
      have HX := hide (And.intro hP (And.intro hQ hR))
      rw [← hP]
      have e_R : Z - P = R := hR.symm
      have HZN := hide hZ
      clear hP hQ hR hZ
      have m_R : min (16 : Int) (R : Int) = 16 := by omega
      gi_wp2
      gi_quiet (fail)
      have hJ2 := hJd _ _ nq hJs
      have hb2 : KpC lo hi w0 (wr.drewN nq) := hbr
      have cs2 : (wr.drewN nq).cell? ⟨Bs, 0, none⟩ = some (.slice (some ⟨xb, xo, none⟩) Z xc) := cs
      have cn2 : (wr.drewN nq).cell? ⟨Bn, 0, none⟩ = some (.int .i64 16) := cn
      generalize wr.drewN nq = W2 at *
      obtain ⟨fn, tmps, assign, body, hy, hR⟩ := hY (finL N k) ⟨k, hlt⟩ W2 hJ2 (by rw [finL_len k hk]; exact hlt)
      have hy2 : (Instr.yield l #[.slice (some ⟨xb, xo + P, none⟩) 16 16]).run Try.prog W2 = .ok (.round l fn tmps assign body) W2 := by rw [HX.out.1]; exact hy
      clear hy cs cn
      gi_wp2
      refine hR.mono ?_
      rintro e W3 (⟨rfl, hJ3, hk3⟩ | ⟨rfl, hJx3⟩)
      · have hb3 := hb2.trans hk3
        have cn3 : W3.cell? ⟨Bn, 0, none⟩ = some (.int .i64 16) := hb3.cell hBn.1 hBn.2 hcn
        gi_wp2
        go_roundw
        case rel => exact ⟨k + 1, by omega, vint (by have := HX.out; omega), by rw [finL_next hlt]; exact hJ3, hb3⟩
        case measure => have := HX.out; simp [intOf]; omega
      · gi_wp2
        refine bodyPost_ret (results_none rfl _ _ _) rfl ?_
        exact ⟨⟨_, rfl⟩, .inr ⟨finL N k ++ [⟨k, hlt⟩], by rw [← finL_next hlt]; exact finL_pre N (Nat.le_refl _) (k + 1) (by omega), hJx3⟩⟩
    · obtain rfl : k = N := by omega
      obtain ⟨P, hP⟩ : ∃ x : Nat, x = 16 * k := ⟨_, rfl⟩
      have hge : ¬ ((P : Int) < (Z : Int)) := by omega
      rw [← hP]
      clear hP hZ
      gi_wp2
      go_end0
      exact ⟨⟨_, rfl⟩, .inl hJs⟩
end Go.Proofs.Ytjnlkihhmenfnaa

/- An append whose second argument is a slice of another named type. -/
namespace Go.Proofs.Ytjnlkihhmenfnaa
open Go.RowKit
set_option linter.unusedVariables false

theorem append_types {P : Program} (w : World) (t tx ty e e' : TypeId) (ht : P.underlying t = some (.slice e)) (hx : P.underlying tx = some (.slice e')) (v x : Value) :
    (Builtin.append_ #[t, tx] ty #[v, x]).run P w = (Builtin.append_ #[t, t] ty #[v, x]).run P w := by
  unfold Builtin.append_
  simp only [List.getElem?_toArray, List.getElem?_cons_zero, List.getElem?_cons_succ, Sem.run_bind, run_underlying ht, Result.andThen_ok]
  cases v <;> try rfl
  simp only [Sem.run_bind]
  cases (sizeOf e).run P w
  · simp only [Result.andThen, run_underlying ht, run_underlying hx]
  all_goals rfl

theorem wpList_append_own2 {P : Program} (w : World) {ops : Array Oper} {rest : List Oper} {o : Oper} {a : Act} {Q : Exit → Act → World → Prop} (hgd : o.guard = none) (s x : Operand) (t tx e' : TypeId)
    (ho : o.op = .call { callee := .builtin .append, args := #[s, x], argTypes := #[t, tx] }) (htx : P.underlying tx = some (.slice e'))
    (base : Nat) (e : TypeId) (i : TypeInfo) (z : Value) (size bytes : Nat) (ht : P.underlying t = some (.slice e)) (hi : P.info? e = some i) (hz : i.zero = some z)
    (hsize : i.size = size) (hby : i.bytes = bytes) (hzs : z.cells.size = size) (hsz : 0 < size)
    (v : Value) (n : Nat) (xs : List Value) (hs : a.eval s = v) (hown : w.ownsRow base e size v n xs)
    (ad : Addr) (m c : Nat) (news : List Value) (hx : a.eval x = .slice (some ad) m c) (hl : news.length = m * size) (hnews : ∀ j u, news[j]? = some u → w.cell? (ad.add j) = some u) (h1 : ∀ u ∈ news, u.oneCell' = true)
    (h63 : n + m ≤ maxLen) (hbytes : (n + m) * bytes ≤ 140737488355328) (hbase : base ≤ w.heap.size)
    (h : ∀ v' w', w'.ownsRow base e size v' (n + m) (xs ++ news) → w.grownBy w' v.ownBlock → (v' = .slice none 0 0 ↔ v = .slice none 0 0 ∧ m = 0) → wpList P ops Q rest (a.put o.dst v') w') : wpList P ops Q (o :: rest) a w :=
  wpList_plain hgd fun _ hK => by
    obtain ⟨v', w', hr, h2, h3, h4⟩ := run_append_own (P := P) w base t o.type e i z size bytes ht hi hz hsize hby hzs hsz v n xs hown ad m c news hl hnews h1 h63 hbytes hbase
    rw [← append_types w t tx o.type e e' ht htx] at hr
    unfold Oper.wp execOp
    simp only [ho, resolve, invoke, builtin, Sem.run_bind, Sem.run_pure, Result.andThen_ok, List.map_toArray, List.map_cons, List.map_nil, hs, hx, hr]
    exact hK _ _ (h v' w' h2 h3 h4)
end Go.Proofs.Ytjnlkihhmenfnaa
