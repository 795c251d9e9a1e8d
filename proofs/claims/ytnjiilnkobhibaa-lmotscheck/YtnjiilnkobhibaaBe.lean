/- Contracts of bits.Be, apostilleref01.Be. -/
import Derived.Test.YtnjiilnkobhibaaLe
namespace Go.Proofs.Ytnjiilnkobhibaa
open Go.RowKit
set_option linter.unusedVariables false

set_option maxHeartbeats 400000 in
set_option maxRecDepth 100000 in
theorem be_any (n : Nat) (size : Int) (w : World) (hn : n < 18446744073709551616) (hs0 : -9223372036854775808 ≤ size) (hs1 : size ≤ 9223372036854775807) :
    Calls Try.prog 22 #[.int .u64 n, .int .i64 size] w fun e w' => ∃ v, e = .returned v ∧ Own 5 .u8 256 w' w.heap.size v (leS n size).reverse ∧ Below w.heap.size w w' := by
  go_enter Try.func22, Try.ntmps22
  go_wp2_with fail
  refine (le_any n size _ hn hs0 hs1).mono ?_
  rintro e w1 ⟨v, rfl, ho, hb⟩
  go_wp2_with fail
  refine (rev_any v _ _ _ ho).mono ?_
  rintro e w2 ⟨rfl, ho2, hb2⟩
  go_wp2
  go_ret
  exact ⟨_, rfl, ho2, hb.trans hb2⟩

/-- the bytes of a number, the highest first, the lowest k of them laid -/
def beTo (n size k : Nat) : List Nat := (List.range size).map (fun t => if size - k ≤ t then n / 256 ^ (size - 1 - t) % 256 else 0)

theorem beTo_zero (n size : Nat) : beTo n size 0 = List.replicate size 0 := by
  apply List.ext_getElem
  · simp [beTo]
  · intro i h1 h2
    have : i < size := by simpa [beTo] using h1
    simp only [beTo, List.getElem_map, List.getElem_range, List.getElem_replicate]
    rw [if_neg (by omega)]
theorem beTo_length (n size k : Nat) : (beTo n size k).length = size := by simp [beTo]
theorem beTo_set (n size k j : Nat) (h : j + 1 + k = size) : (beTo n size k).set j (n / 256 ^ k % 256) = beTo n size (k + 1) := by
  apply List.ext_getElem
  · simp [beTo]
  · intro i h1 h2
    have h3 : i < size := by simpa [beTo] using h2
    simp only [beTo, List.getElem_set, List.getElem_map, List.getElem_range]
    by_cases e : j = i
    · subst e; rw [if_pos rfl, if_pos (by omega)]; congr 3; omega
    · rw [if_neg e]
      by_cases h4 : size - k ≤ i
      · rw [if_pos h4, if_pos (by omega)]
      · rw [if_neg h4, if_neg (by omega)]
theorem leL_length (n size : Nat) : (leL n size).length = size := by simp [leL]
theorem beTo_full (n size : Nat) : beTo n size size = (leL n size).reverse := by
  apply List.ext_getElem
  · simp [beTo, leL]
  · intro i h1 h2
    have h3 : i < size := by simpa [beTo] using h1
    simp only [beTo, leL, List.getElem_map, List.getElem_range, List.getElem_reverse, List.length_map, List.length_range]
    rw [if_pos (by omega)]
theorem beTo_under (n size k : Nat) : Under 256 (beTo n size k) := by
  intro x hx
  obtain ⟨i, _, rfl⟩ := List.mem_map.1 hx
  split <;> omega

theorem rbe_nil (n : Nat) (size : Int) (h : size ≤ 0 ∨ 65536 < size) : (leS n size).reverse = [] := by
  unfold leS; rw [if_pos h]; rfl

theorem and255 (M : Nat) (h : M < 18446744073709551616) : bits BinOp.and IntKind.u64 (M : Int) 255 % 256 = ((M % 256 : Nat) : Int) := by
  rw [show (255 : Int) = ((255 : Nat) : Int) from rfl, u64_and_nat M 255 h (by decide), show M &&& 255 = M % 256 from Nat.and_two_pow_sub_one_eq_mod M 8]
  omega

set_option maxHeartbeats 400000 in
set_option maxRecDepth 100000 in
theorem rbe_any (n : Nat) (size : Int) (w : World) (hn : n < 18446744073709551616) (hs0 : -9223372036854775808 ≤ size) (hs1 : size ≤ 9223372036854775807) :
    Calls Try.prog 17 #[.int .u64 n, .int .i64 size] w fun e w' => ∃ v, e = .returned v ∧ Own 5 .u8 256 w' w.heap.size v (leS n size).reverse ∧ Below w.heap.size w w' := by
  by_cases h0 : size < 0
  · rw [rbe_nil n size (by omega)]
    go_enter Try.func17, Try.ntmps17
    go_wp2
    go_ret
    exact ⟨_, rfl, ⟨World.ownsRow_nil _ _ _ _, fun x hx => by simp at hx⟩, Below.refl _ _⟩
  by_cases h1 : 65536 < size
  · rw [rbe_nil n size (by omega)]
    go_enter Try.func17, Try.ntmps17
    go_wp2
    go_ret
    exact ⟨_, rfl, ⟨World.ownsRow_nil _ _ _ _, fun x hx => by simp at hx⟩, Below.refl _ _⟩
  obtain ⟨N, rfl⟩ := Int.eq_ofNat_of_zero_le (show 0 ≤ size by omega)
  have hS : (leS n (N : Int)).reverse = beTo n N N := by
    rw [beTo_full]; unfold leS
    by_cases hz : N = 0
    · subst hz; rfl
    · rw [if_neg (by omega), Int.toNat_natCast]
  rw [hS]
  clear hS
  obtain ⟨i0, hi, hz0, hz1, hz2⟩ := info_parts Try.info5
  have hNN : N ≤ 65536 := by omega
  go_enter Try.func17, Try.ntmps17
  go_wp2_with (first | (at_make; refine wpList_make_full _ rfl _ _ 22 rfl w.heap.size 5 i0 (.int .u8 0) 1 Try.underlying22 hi hz0 hz1 _ _ _ _ N rfl rfl rfl rfl (by rw [hz2]; omega) (by unfold maxLen; omega) (Nat.le_refl _) ?_; intro w1 hown hgrow) | go_in)
  rw [made_u8] at hown
  have hb := (Below.refl w.heap.size w).grown hgrow (Nat.le_refl _) (fun k h => by cases h)
  clear hgrow
  go_loopw [0, 6] (fun nn i wr => ∃ k jn : Nat, jn + k = N ∧ i = .int .i64 ((jn : Int) - 1) ∧ nn = .int .u64 ((n / 256 ^ k : Nat) : Int) ∧ wr.ownsRow w.heap.size 5 1 (.slice (some ⟨w.heap.size, 0, none⟩) N N) N (vals .u8 (beTo n N k)) ∧ Below w.heap.size w wr) (fun _ i _ => (intOf i + 1).toNat)
  case atStart => exact ⟨0, N, by omega, rfl, by simp, by rw [beTo_zero]; exact hown, hb⟩
  case round =>
    obtain ⟨k, jn, hkj, rfl, rfl, how, hbr⟩ := hrel
    clear hown hb
    have HKJ := hide hkj
    have hle : jn ≤ N := by omega
    clear hkj
    have hM : n / 256 ^ k < 18446744073709551616 := Nat.lt_of_le_of_lt (Nat.div_le_self _ _) hn
    generalize hMM : n / 256 ^ k = M at *
    have HM := hide hMM
    clear hMM
    by_cases hlt : 0 < jn
    · obtain ⟨j, rfl⟩ : ∃ j, jn = j + 1 := ⟨jn - 1, by omega⟩
      rw [show (((j + 1 : Nat) : Int) - 1) = (j : Int) from by omega]
      have c1 := how.cellAt j (by omega)
      rw [vals_get _ _ _ (by rw [beTo_length]; omega)] at c1
      have f1 := how.frozenAt j
      go_wp2
      rw [and255 M hM]
      go_roundw
      case rel =>
        have e : M % 256 = n / 256 ^ k % 256 := by rw [HM.out]
        have st := (how.stored j (.int .u8 ((M % 256 : Nat) : Int))).1
        rw [vals_set, e, beTo_set n N k j HKJ.out] at st
        rw [e]
        exact ⟨k + 1, j, by have := HKJ.out; omega, rfl, vint (by rw [Nat.pow_succ, ← Nat.div_div_eq_div_mul, HM.out]; simp), st, hbr.setCell (by simp) _⟩
      case measure => simp [intOf]
    · go_wp2
      go_ret
      have e : k = N := by have := HKJ.out; omega
      subst e
      exact ⟨_, rfl, ⟨by rw [beTo_length]; exact how, beTo_under _ _ _⟩, hbr⟩
end Go.Proofs.Ytnjiilnkobhibaa
