/- Contracts of bits.Be, apostilleref01.Be. -/
import Derived.Test.YtjeofkemfpdieaaGfB
import Derived.Test.YtjeofkemfpdieaaBase
namespace Go.Proofs.Ytjeofkemfpdieaa
open Go.RowKit
set_option linter.unusedVariables false

set_option maxHeartbeats 400000 in
set_option maxRecDepth 100000 in
theorem be_any (n : Nat) (size : Int) (w : World) (hn : n < 18446744073709551616) (hs0 : -9223372036854775808 ≤ size) (hs1 : size ≤ 9223372036854775807) :
    Calls Try.prog 38 #[.int .u64 n, .int .i64 size] w fun e w' => ∃ v, e = .returned v ∧ Own 5 .u8 256 w' w.heap.size v (leS n size).reverse ∧ Below w.heap.size w w' := by
  go_enter Try.func38, Try.ntmps38
  go_wp2_with fail
  refine (le_any n size _ hn hs0 hs1).mono ?_
  rintro e w1 ⟨v, rfl, ho, hb⟩
  go_wp2_with fail
  refine (rev_any v _ _ _ ho).mono ?_
  rintro e w2 ⟨rfl, ho2, hb2⟩
  go_wp2
  go_ret
  exact ⟨_, rfl, ho2, hb.trans hb2⟩

/-- the bytes of a number, the highest first, the lowest k of them laid -/
def beTo (n size k : Nat) : List Nat := (List.range size).map (fun t => if size - k ≤ t then n / 256 ^ (size - 1 - t) % 256 else 0)

theorem beTo_zero (n size : Nat) : beTo n size 0 = List.replicate size 0 := by
  apply List.ext_getElem
  · simp [beTo]
  · intro i h1 h2
    have : i < size := by simpa [beTo] using h1
    simp only [beTo, List.getElem_map, List.getElem_range, List.getElem_replicate]
    rw [if_neg (by omega)]
theorem beTo_length (n size k : Nat) : (beTo n size k).length = size := by simp [beTo]
theorem beTo_set (n size k j : Nat) (h : j + 1 + k = size) : (beTo n size k).set j (n / 256 ^ k % 256) = beTo n size (k + 1) := by
  apply List.ext_getElem
  · simp [beTo]
  · intro i h1 h2
    have h3 : i < size := by simpa [beTo] using h2
    simp only [beTo, List.getElem_set, List.getElem_map, List.getElem_range]
    by_cases e : j = i
    · subst e; rw [if_pos rfl, if_pos (by omega)]; congr 3; omega
    · rw [if_neg e]
      by_cases h4 : size - k ≤ i
      · rw [if_pos h4, if_pos (by omega)]
      · rw [if_neg h4, if_neg (by omega)]
theorem leL_length (n size : Nat) : (leL n size).length = size := by simp [leL]
theorem beTo_full (n size : Nat) : beTo n size size = (leL n size).reverse := by
  apply List.ext_getElem
  · simp [beTo, leL]
  · intro i h1 h2
    have h3 : i < size := by simpa [beTo] using h1
    simp only [beTo, leL, List.getElem_map, List.getElem_range, List.getElem_reverse, List.length_map, List.length_range]
    rw [if_pos (by omega)]
theorem beTo_under (n size k : Nat) : Under 256 (beTo n size k) := by
  intro x hx
  obtain ⟨i, _, rfl⟩ := List.mem_map.1 hx
  split <;> omega

theorem rbe_nil (n : Nat) (size : Int) (h : size ≤ 0 ∨ 65536 < size) : (leS n size).reverse = [] := by
  unfold leS; rw [if_pos h]; rfl

theorem and255 (M : Nat) (h : M < 18446744073709551616) : bits BinOp.and IntKind.u64 (M : Int) 255 % 256 = ((M % 256 : Nat) : Int) := by
  rw [show (255 : Int) = ((255 : Nat) : Int) from rfl, u64_and_nat M 255 h (by decide), show M &&& 255 = M % 256 from Nat.and_two_pow_sub_one_eq_mod M 8]
  omega

set_option maxHeartbeats 400000 in
set_option maxRecDepth 100000 in
theorem rbe_any (n : Nat) (size : Int) (w : World) (hn : n < 18446744073709551616) (hs0 : -9223372036854775808 ≤ size) (hs1 : size ≤ 9223372036854775807) :
    Calls Try.prog 47 #[.int .u64 n, .int .i64 size] w fun e w' => ∃ v, e = .returned v ∧ Own 5 .u8 256 w' w.heap.size v (leS n size).reverse ∧ Below w.heap.size w w' := by
  by_cases h0 : size < 0
  · rw [rbe_nil n size (by omega)]
    go_enter Try.func47, Try.ntmps47
    go_wp2
    go_ret
    exact ⟨_, rfl, ⟨World.ownsRow_nil _ _ _ _, fun x hx => by simp at hx⟩, Below.refl _ _⟩
  by_cases h1 : 65536 < size
  · rw [rbe_nil n size (by omega)]
    go_enter Try.func47, Try.ntmps47
    go_wp2
    go_ret
    exact ⟨_, rfl, ⟨World.ownsRow_nil _ _ _ _, fun x hx => by simp at hx⟩, Below.refl _ _⟩
  obtain ⟨N, rfl⟩ := Int.eq_ofNat_of_zero_le (show 0 ≤ size by omega)
  have hS : (leS n (N : Int)).reverse = beTo n N N := by
    rw [beTo_full]; unfold leS
    by_cases hz : N = 0
    · subst hz; rfl
    · rw [if_neg (by omega), Int.toNat_natCast]
  rw [hS]
  clear hS
  obtain ⟨i0, hi, hz0, hz1, hz2⟩ := info_parts Try.info5
  have hNN : N ≤ 65536 := by omega
  go_enter Try.func47, Try.ntmps47
  go_wp2_with (first | (at_make; refine wpList_make_full _ rfl _ _ 22 rfl w.heap.size 5 i0 (.int .u8 0) 1 Try.underlying22 hi hz0 hz1 _ _ _ _ N rfl rfl rfl rfl (by rw [hz2]; omega) (by unfold maxLen; omega) (Nat.le_refl _) ?_; intro w1 hown hgrow) | go_in)
  rw [made_u8] at hown
  have hb := (Below.refl w.heap.size w).grown hgrow (Nat.le_refl _) (fun k h => by cases h)
  clear hgrow
  go_loopw [0, 6] (fun nn i wr => ∃ k jn : Nat, jn + k = N ∧ i = .int .i64 ((jn : Int) - 1) ∧ nn = .int .u64 ((n / 256 ^ k : Nat) : Int) ∧ wr.ownsRow w.heap.size 5 1 (.slice (some ⟨w.heap.size, 0, none⟩) N N) N (vals .u8 (beTo n N k)) ∧ Below w.heap.size w wr) (fun _ i _ => (intOf i + 1).toNat)
  case atStart => exact ⟨0, N, by omega, rfl, by simp, by rw [beTo_zero]; exact hown, hb⟩
  case round =>
    obtain ⟨k, jn, hkj, rfl, rfl, how, hbr⟩ := hrel
    clear hown hb
    have HKJ := hide hkj
    have hle : jn ≤ N := by omega
    clear hkj
    have hM : n / 256 ^ k < 18446744073709551616 := Nat.lt_of_le_of_lt (Nat.div_le_self _ _) hn
    generalize hMM : n / 256 ^ k = M at *
    have HM := hide hMM
    clear hMM
    by_cases hlt : 0 < jn
    · obtain ⟨j, rfl⟩ : ∃ j, jn = j + 1 := ⟨jn - 1, by omega⟩
      rw [show (((j + 1 : Nat) : Int) - 1) = (j : Int) from by omega]
      have c1 := how.cellAt j (by omega)
      rw [vals_get _ _ _ (by rw [beTo_length]; omega)] at c1
      have f1 := how.frozenAt j
      go_wp2
      rw [and255 M hM]
      go_roundw
      case rel =>
        have e : M % 256 = n / 256 ^ k % 256 := by rw [HM.out]
        have st := (how.stored j (.int .u8 ((M % 256 : Nat) : Int))).1
        rw [vals_set, e, beTo_set n N k j HKJ.out] at st
        rw [e]
        exact ⟨k + 1, j, by have := HKJ.out; omega, rfl, vint (by rw [Nat.pow_succ, ← Nat.div_div_eq_div_mul, HM.out]; simp), st, hbr.setCell (by simp) _⟩
      case measure => simp [intOf]
    · go_wp2
      go_ret
      have e : k = N := by have := HKJ.out; omega
      subst e
      exact ⟨_, rfl, ⟨by rw [beTo_length]; exact how, beTo_under _ _ _⟩, hbr⟩
end Go.Proofs.Ytjeofkemfpdieaa

/- Contracts of bits.Num, apostilleref01.Num. -/
namespace Go.Proofs.Ytjeofkemfpdieaa
open Go.RowKit
set_option linter.unusedVariables false

/-- the number of bytes, the highest first, modulo 2^64 -/
def numL (l : List Nat) : Nat := l.foldl (fun n x => (n * 256 + x) % 18446744073709551616) 0

theorem take_snoc {l : List Nat} {k : Nat} (h : k < l.length) : l.take (k + 1) = l.take k ++ [el l k] := by
  rw [List.take_succ_eq_append_getElem h, el_at h]

theorem numL_snoc (l : List Nat) (x : Nat) : numL (l ++ [x]) = (numL l * 256 + x) % 18446744073709551616 := by
  unfold numL; rw [List.foldl_append]; rfl

theorem numL_lt (l : List Nat) : numL l < 18446744073709551616 := by
  rcases List.eq_nil_or_concat l with rfl | ⟨m, x, rfl⟩
  · decide
  · rw [List.concat_eq_append, numL_snoc]; exact Nat.mod_lt _ (by decide)

theorem step_num (N x : Nat) (hN : N < 18446744073709551616) (hx : x < 256) :
    bits .or .u64 (IntKind.u64.wrap ((N : Int) * 256)) (x : Int) = (((N * 256 + x) % 18446744073709551616 : Nat) : Int) := by
  have e : IntKind.u64.wrap ((N : Int) * 256) = ((N * 256 % 18446744073709551616 : Nat) : Int) := by
    rw [IntKind.wrap_u64]; omega
  rw [e, u64_or_nat _ _ (Nat.mod_lt _ (by decide)) (by omega), nat_join 8 _ _ (by omega) (by omega)]
  congr 1
  omega

set_option maxHeartbeats 400000 in
theorem num_any (va : Value) (l : List Nat) (w : World) (ha : Row .u8 256 w va l) :
    Calls Try.prog 34 #[va] w fun e w' => e = .returned (.int .u64 (numL l)) ∧ w' = w := by
  obtain ⟨a, ca, rfl, ha1, ha2, ha3, ha4⟩ := ha
  unfold maxLen at ha2
  go_enter Try.func34, Try.ntmps34
  go_wp2
  go_loop [3, 8] (fun n i => ∃ k : Nat, k ≤ l.length ∧ i = .int .i64 k ∧ n = .int .u64 (numL (l.take k))) (fun _ i => l.length - (intOf i).toNat)
  case atStart => exact ⟨0, Nat.zero_le _, rfl, rfl⟩
  case round =>
    obtain ⟨k, hk, rfl, rfl⟩ := hrel
    have hn := numL_lt (l.take k)
    by_cases hlt : k < l.length
    · obtain ⟨ba, oa, rfl, hca⟩ := ha3 (by omega)
      have c1 := hca k hlt
      have hx := el_lt ha4 (by decide) k
      clear hca
      generalize hN : numL (l.take k) = N at *
      have HN : Hid (numL (l.take k) = N) := hN
      clear hN
      go_wp2
      go_round
      case rel => exact ⟨k + 1, by omega, by go_num, vint (by rw [take_snoc hlt, numL_snoc, HN.out]; exact step_num N _ hn hx)⟩
      case measure => simp [intOf]; omega
    · go_wp2
      go_ret
      exact ⟨ret_int (by rw [List.take_of_length_le (by omega)]), rfl⟩

end Go.Proofs.Ytjeofkemfpdieaa

/- Contracts of bits.NumLe. -/
namespace Go.Proofs.Ytjeofkemfpdieaa
open Go.RowKit
set_option linter.unusedVariables false

/-- the number of bytes, the lowest first (unbounded) -/
def valLe : List Nat → Nat
  | [] => 0
  | x :: r => x + 256 * valLe r

theorem valLe_append (a b : List Nat) : valLe (a ++ b) = valLe a + 256 ^ a.length * valLe b := by
  induction a with
  | nil => simp [valLe]
  | cons x r ih => simp only [List.cons_append, valLe, ih, List.length_cons, Nat.pow_succ]; rw [Nat.mul_add]; rw [show 256 ^ r.length * 256 * valLe b = 256 * (256 ^ r.length * valLe b) from by rw [Nat.mul_comm (256 ^ r.length) 256, Nat.mul_assoc]]; omega

theorem valLe_lt (a : List Nat) (h : Under 256 a) : valLe a < 256 ^ a.length := by
  induction a with
  | nil => simp [valLe]
  | cons x r ih =>
    have hx := h x (by simp)
    have := ih (fun y hy => h y (by simp [hy]))
    simp only [valLe, List.length_cons, Nat.pow_succ]
    omega

theorem numL_rev (l : List Nat) : numL l.reverse = valLe l % 18446744073709551616 := by
  induction l with
  | nil => rfl
  | cons x r ih => rw [List.reverse_cons, numL_snoc, ih]; simp only [valLe]; omega

theorem Under.take {m : Nat} {l : List Nat} (h : Under m l) (k : Nat) : Under m (l.take k) := fun x hx => h x (List.mem_of_mem_take hx)
theorem Under.drop {m : Nat} {l : List Nat} (h : Under m l) (k : Nat) : Under m (l.drop k) := fun x hx => h x (List.mem_of_mem_drop hx)

/-- a number's lowest eight bytes tell it modulo 2^64 -/
theorem valLe_min (l : List Nat) : valLe (l.take (min l.length 8)) % 18446744073709551616 = valLe l % 18446744073709551616 := by
  by_cases h : l.length ≤ 8
  · rw [List.take_of_length_le (by omega)]
  · have e := valLe_append (l.take 8) (l.drop 8)
    rw [List.take_append_drop] at e
    have hl : (l.take 8).length = 8 := by simp; omega
    rw [hl] at e
    rw [show min l.length 8 = 8 by omega, e]
    omega

theorem step_numLe (N x k : Nat) (hk : k < 8) (hN : N < 256 ^ k) (hx : x < 256) :
    bits .or .u64 (N : Int) (IntKind.u64.wrap ((x : Int) * 2 ^ (8 * k))) = ((N + 256 ^ k * x : Nat) : Int) := by
  have e2 : (256 : Nat) ^ k = 2 ^ (8 * k) := by rw [Nat.pow_mul]
  have hb : 256 ^ k * x < 18446744073709551616 := by
    have h1 : 256 ^ k * x < 256 ^ k * 256 := Nat.mul_lt_mul_of_pos_left hx (Nat.pow_pos (by decide))
    have h2 : 256 ^ k * 256 = 256 ^ (k + 1) := by rw [Nat.pow_succ]
    have h3 : 256 ^ (k + 1) ≤ 256 ^ 8 := Nat.pow_le_pow_right (by decide) (by omega)
    have h4 : (256 : Nat) ^ 8 = 18446744073709551616 := by decide
    omega
  have hN' : N < 18446744073709551616 := by
    have h3 : 256 ^ k ≤ 256 ^ 8 := Nat.pow_le_pow_right (by decide) (by omega)
    have h4 : (256 : Nat) ^ 8 = 18446744073709551616 := by decide
    omega
  have e : IntKind.u64.wrap ((x : Int) * 2 ^ (8 * k)) = ((256 ^ k * x : Nat) : Int) := by
    have e3 : ((x : Int) * 2 ^ (8 * k)) = ((256 ^ k * x : Nat) : Int) := by
      rw [e2, Int.natCast_mul, Int.mul_comm, Int.natCast_pow]; rfl
    rw [e3, IntKind.wrap_u64]; omega
  rw [e, u64_or_nat _ _ hN' hb, Nat.or_comm, nat_join (8 * k) _ _ (by rw [← e2]; exact Nat.mul_mod_right _ _) (by rw [← e2]; exact hN), Nat.add_comm]

theorem valLe_lt8 (a : List Nat) (h : Under 256 a) (h8 : a.length ≤ 8) : valLe a < 18446744073709551616 := by
  have h1 := valLe_lt a h
  have h3 : 256 ^ a.length ≤ 256 ^ 8 := Nat.pow_le_pow_right (by decide) h8
  have h4 : (256 : Nat) ^ 8 = 18446744073709551616 := by decide
  omega

end Go.Proofs.Ytjeofkemfpdieaa

/- Contract of apostilleref01.Back. -/
namespace Go.Proofs.Ytjeofkemfpdieaa
open Go.RowKit
set_option linter.unusedVariables false

/-- the last k elements, the last one first -/
theorem rev_take_succ (l : List Nat) (k j : Nat) (h : j + 1 + k = l.length) : l.reverse.take (k + 1) = l.reverse.take k ++ [el l j] := by
  have hk : k < l.reverse.length := by simp; omega
  rw [List.take_succ_eq_append_getElem hk]
  congr 2
  rw [List.getElem_reverse, el_at (by omega)]
  congr 1
  omega

theorem Under.rev {m : Nat} {l : List Nat} (h : Under m l) : Under m l.reverse := fun x hx => h x (List.mem_reverse.1 hx)
theorem Under.take' {m : Nat} {l : List Nat} (h : Under m l) (k : Nat) : Under m (l.take k) := fun x hx => h x (List.mem_of_mem_take hx)

end Go.Proofs.Ytjeofkemfpdieaa

/- Contracts of apostilleref01.Le, apostilleref01.NumLe. -/
namespace Go.Proofs.Ytjeofkemfpdieaa
open Go.RowKit
set_option linter.unusedVariables false

theorem leS_length (n : Nat) (size : Int) : (leS n size).length ≤ 65536 := by
  unfold leS; split
  · simp
  · rw [leL_length]; omega

end Go.Proofs.Ytjeofkemfpdieaa

/- Plain facts on bits, bytes and groups of bits: no program in sight. -/
namespace Go.Proofs.Ytjeofkemfpdieaa
open Go.RowKit
set_option linter.unusedVariables false

theorem p256 (k : Nat) : (256 : Nat) ^ k = 2 ^ (8 * k) := by rw [Nat.pow_mul]
theorem pp (k : Nat) : 0 < (2 : Nat) ^ k := Nat.pow_pos (by decide)

/-- a part of the bits of a remainder -/
theorem mod_div_mod (V a h w : Nat) (hh : h + w ≤ a) : V % 2 ^ a / 2 ^ h % 2 ^ w = V / 2 ^ h % 2 ^ w := by
  obtain ⟨d, rfl⟩ : ∃ d, a = h + (w + d) := ⟨a - h - w, by omega⟩
  rw [Nat.pow_add, Nat.mod_mul_right_div_self, Nat.pow_add]
  exact Nat.mod_mod_of_dvd _ (Nat.dvd_mul_right _ _)
theorem div_div_pow (V a b : Nat) : V / 2 ^ a / 2 ^ b = V / 2 ^ (a + b) := by
  rw [Nat.div_div_eq_div_mul, Nat.pow_add]
theorem mod_succ (X k : Nat) : X / 2 % 2 ^ k * 2 + X % 2 = X % 2 ^ (k + 1) := by
  rw [Nat.pow_succ, Nat.mul_comm (2 ^ k) 2, Nat.mod_mul, Nat.mul_comm 2 (X / 2 % 2 ^ k)]
  omega
theorem mod_top (X k : Nat) : X % 2 ^ (k + 1) = X % 2 ^ k + 2 ^ k * (X / 2 ^ k % 2) := by
  rw [Nat.pow_succ, Nat.mod_mul]
theorem add_high_div (A X a b : Nat) (h : b ≤ a) : (A + 2 ^ a * X) / 2 ^ b = A / 2 ^ b + 2 ^ (a - b) * X := by
  obtain ⟨d, rfl⟩ : ∃ d, a = b + d := ⟨a - b, by omega⟩
  rw [Nat.pow_add, Nat.mul_assoc, Nat.add_mul_div_left _ _ (pp b), show b + d - b = d by omega]
/-- what is added above a group of bits does not turn it -/
theorem add_high_mod (A X a h w : Nat) (hh : h + w ≤ a) : (A + 2 ^ a * X) / 2 ^ h % 2 ^ w = A / 2 ^ h % 2 ^ w := by
  rw [add_high_div A X a h (by omega)]
  obtain ⟨d, hd⟩ : ∃ d, a - h = w + d := ⟨a - h - w, by omega⟩
  rw [hd, Nat.pow_add, Nat.mul_assoc, Nat.add_mul_mod_self_left]
theorem div_lt_pow (V a b : Nat) (h : V < 2 ^ (a + b)) : V / 2 ^ a < 2 ^ b := by
  rw [Nat.div_lt_iff_lt_mul (pp a), ← Nat.pow_add, Nat.add_comm b a]; exact h

/-! ### bytes as one number, the highest first -/
def valBe (l : List Nat) : Nat := l.foldl (fun n x => n * 256 + x) 0
theorem valBe_snoc (l : List Nat) (x : Nat) : valBe (l ++ [x]) = valBe l * 256 + x := by
  unfold valBe; rw [List.foldl_append]; rfl
theorem valBe_le (l : List Nat) : valBe l.reverse = valLe l := by
  induction l with
  | nil => rfl
  | cons x r ih => rw [List.reverse_cons, valBe_snoc, ih]; simp only [valLe]; omega
theorem valBe_eq (l : List Nat) : valBe l = valLe l.reverse := by rw [← valBe_le, List.reverse_reverse]
theorem valBe_take (l : List Nat) (hu : Under 256 l) (a : Nat) (ha : a ≤ l.length) : valBe (l.take a) = valBe l / 2 ^ (8 * (l.length - a)) := by
  have e : l.reverse = (l.drop a).reverse ++ (l.take a).reverse := by rw [← List.reverse_append, List.take_append_drop]
  rw [valBe_eq l, e, valLe_append, valBe_eq, List.length_reverse, List.length_drop, p256]
  have hlt := valLe_lt (l.drop a).reverse (fun x hx => hu x (List.mem_of_mem_drop (List.mem_reverse.1 hx)))
  rw [List.length_reverse, List.length_drop, p256] at hlt
  rw [Nat.add_mul_div_left _ _ (pp _), Nat.div_eq_of_lt hlt, Nat.zero_add]
theorem valBe_lt (l : List Nat) (hu : Under 256 l) : valBe l < 2 ^ (8 * l.length) := by
  rw [valBe_eq]
  have := valLe_lt l.reverse (fun x hx => hu x (List.mem_reverse.1 hx))
  rw [List.length_reverse, p256] at this
  exact this
theorem valBe_el (l : List Nat) (hu : Under 256 l) (j : Nat) (hj : j < l.length) : el l j = valBe l / 2 ^ (8 * (l.length - 1 - j)) % 256 := by
  have h1 := valBe_take l hu (j + 1) (by omega)
  rw [take_snoc hj, valBe_snoc] at h1
  have hx := el_lt hu (by decide) j
  rw [show l.length - 1 - j = l.length - (j + 1) by omega, ← h1]
  omega

/-- the i-th group of w bits, the highest first -/
def dig (l : List Nat) (w i : Nat) : Nat := valBe l / 2 ^ (8 * l.length - (i + 1) * w) % 2 ^ w
def digL (l : List Nat) (w c : Nat) : List Nat := (List.range c).map (dig l w)

theorem digL_length (l : List Nat) (w c : Nat) : (digL l w c).length = c := by simp [digL]
theorem digL_succ (l : List Nat) (w c : Nat) : digL l w (c + 1) = digL l w c ++ [dig l w c] := by simp [digL, List.range_succ]
theorem digL_under (l : List Nat) (w c : Nat) (hw : w ≤ 24) : Under 4294967296 (digL l w c) := by
  intro x hx
  obtain ⟨i, _, rfl⟩ := List.mem_map.1 hx
  have h1 : dig l w i < 2 ^ w := Nat.mod_lt _ (pp w)
  have h2 : 2 ^ w ≤ 2 ^ 24 := Nat.pow_le_pow_right (by decide) hw
  have h3 : (2 : Nat) ^ 24 = 16777216 := by decide
  omega

/-- what the program tells: the bits of what was read so far -/
theorem dig_read (l : List Nat) (hu : Under 256 l) (w i a : Nat) (ha : a ≤ l.length) (hi : (i + 1) * w ≤ 8 * a) (h32 : 8 * a - (i + 1) * w + w ≤ 32) :
    valBe (l.take a) % 2 ^ 32 / 2 ^ (8 * a - (i + 1) * w) % 2 ^ w = dig l w i := by
  rw [mod_div_mod _ _ _ _ h32, valBe_take l hu a ha, div_div_pow]
  unfold dig
  congr 3
  omega

/-- a bit -/
theorem bit_be (l : List Nat) (hu : Under 256 l) (p : Nat) (hp : p < 8 * l.length) :
    el l (p / 8) / 2 ^ (7 - p % 8) % 2 = valBe l / 2 ^ (8 * l.length - 1 - p) % 2 := by
  rw [valBe_el l hu (p / 8) (by omega)]
  have h := mod_div_mod (valBe l / 2 ^ (8 * (l.length - 1 - p / 8))) 8 (7 - p % 8) 1 (by omega)
  rw [show (256 : Nat) = 2 ^ 8 from rfl]
  rw [show (2 : Nat) ^ 1 = 2 from rfl] at h
  rw [h, div_div_pow]
  congr 3
  omega

/-- the first k bits of the i-th group -/
def digTo (l : List Nat) (w i k : Nat) : Nat := valBe l / 2 ^ (8 * l.length - (i * w + k)) % 2 ^ k
theorem digTo_zero (l : List Nat) (w i : Nat) : digTo l w i 0 = 0 := by unfold digTo; exact Nat.mod_one _
theorem digTo_full (l : List Nat) (w i : Nat) : digTo l w i w = dig l w i := by unfold digTo dig; rw [Nat.add_mul, Nat.one_mul]
theorem digTo_succ (l : List Nat) (hu : Under 256 l) (w i k : Nat) (hp : i * w + k < 8 * l.length) :
    digTo l w i k * 2 + el l ((i * w + k) / 8) / 2 ^ (7 - (i * w + k) % 8) % 2 = digTo l w i (k + 1) := by
  rw [bit_be l hu _ hp]
  unfold digTo
  have e : valBe l / 2 ^ (8 * l.length - (i * w + k)) = valBe l / 2 ^ (8 * l.length - 1 - (i * w + k)) / 2 := by
    rw [show (2 : Nat) = 2 ^ 1 from rfl, ← Nat.pow_mul, ← Nat.pow_mul, Nat.one_mul, Nat.one_mul, div_div_pow]
    congr 2
    omega
  rw [e, mod_succ]
  congr 3
  omega
theorem digTo_lt (l : List Nat) (w i k : Nat) : digTo l w i k < 2 ^ k := Nat.mod_lt _ (pp k)
end Go.Proofs.Ytjeofkemfpdieaa
