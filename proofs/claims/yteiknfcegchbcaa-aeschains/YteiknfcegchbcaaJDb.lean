/- The code's doubled, Mul. -/
import Derived.Test.YteiknfcegchbcaaAesW
import Derived.Test.YteiknfcegchbcaaJIt
import Derived.Laws.ShiftsVarLaws
import Derived.Test.YteiknfcegchbcaaBase
import Derived.RegionTactic
import Derived.BigRegion
namespace Go.Proofs.Yteiknfcegchbcaa
open Go.RowKit
set_option linter.unusedVariables false
set_option linter.unusedSimpArgs false

theorem dbl_int (w : Nat) (h : w < 4294967296) : bits .xor .u32 (bits .and .u32 (w : Int) 2139062143 * 2 % 4294967296) (bits .and .u32 ((w : Int) / 128) 16843009 * 27 % 4294967296) = ((dblW w : Nat) : Int) := by
  have e1 : bits .and .u32 (w : Int) 2139062143 = ((w &&& 2139062143 : Nat) : Int) := u32_and_nat w 2139062143 h (by decide)
  have e2 : (w : Int) / 128 = ((w / 128 : Nat) : Int) := by omega
  have e3 : bits .and .u32 ((w / 128 : Nat) : Int) 16843009 = ((w / 128 &&& 16843009 : Nat) : Int) := u32_and_nat (w / 128) 16843009 (by omega) (by decide)
  rw [e1, e2, e3]
  have e4 : (((w &&& 2139062143 : Nat) : Int) * 2 % 4294967296) = (((w &&& 2139062143) * 2 % 4294967296 : Nat) : Int) := by simp
  have e5 : (((w / 128 &&& 16843009 : Nat) : Int) * 27 % 4294967296) = (((w / 128 &&& 16843009) * 27 % 4294967296 : Nat) : Int) := by simp
  rw [e4, e5, u32_xor_nat _ _ (Nat.mod_lt _ (by decide)) (Nat.mod_lt _ (by decide))]
  rfl
theorem dblW_lt (w : Nat) : dblW w < 4294967296 := Nat.xor_lt_two_pow (n := 32) (Nat.mod_lt _ (by decide)) (Nat.mod_lt _ (by decide))
set_option maxHeartbeats 2000000 in
set_option maxRecDepth 100000 in
theorem dbl_any (x : Nat) (h : x < 4294967296) (w : World) : Calls Try.prog 41 #[.int .u32 (x : Int)] w fun e w' => e = .returned (.int .u32 (dblW x : Nat)) ∧ w' = w := by
  have HD := hide (dbl_int x h)
  go_enter Try.func41, Try.ntmps41
  go_wp2
  go_ret
  exact ⟨ret_int HD.out, rfl⟩
/-- a product, from the highest bit on -/
def horN (a b : Nat) : Nat → Nat
  | 0 => 0
  | i + 1 => xt (horN a b i) ^^^ (if b / 2 ^ (7 - i) % 2 = 1 then a else 0)
theorem horN_lt {a : Nat} (ha : a < 256) (b : Nat) : ∀ i, horN a b i < 256
  | 0 => by show 0 < 256; decide
  | i + 1 => by
    show xt (horN a b i) ^^^ _ < 256
    refine xor_8 (xt_lt (horN_lt ha b i)) ?_
    split
    · exact ha
    · decide
theorem horN_l {a a' : Nat} (ha : a < 256) (ha' : a' < 256) (b : Nat) : ∀ i, horN (a ^^^ a') b i = horN a b i ^^^ horN a' b i
  | 0 => by simp [horN]
  | i + 1 => by
    show xt (horN (a ^^^ a') b i) ^^^ _ = (xt (horN a b i) ^^^ _) ^^^ (xt (horN a' b i) ^^^ _)
    rw [horN_l ha ha' b i, xt_xor (horN_lt ha b i) (horN_lt ha' b i)]
    split
    · ac_rfl
    · simp
theorem hor_mul {a b : Nat} (ha : a < 256) (hb : b < 256) : horN a b 8 = mulB a b := by
  have h : ((List.range 8).all fun i => (List.range 256).all fun b => horN (2 ^ i) b 8 == mulB (2 ^ i) b) = true := by kernel_rfl
  have h0 : ((List.range 256).all fun b => horN 0 b 8 == mulB 0 b) = true := by kernel_rfl
  exact add_ext (f := fun a => horN a b 8) (g := fun a => mulB a b) (fun x y hx hy => horN_l hx hy b 8) (adds_l b) (eq_of_beq (all256 h0 b hb)) (fun i hi => eq_of_beq (all256 (List.all_eq_true.1 h i (List.mem_range.2 hi)) b hb)) a ha
/-- where the loop stands -/
def HoL (a b : Nat) (vp vi : Value) : Prop := ∃ i : Nat, i ≤ 8 ∧ vp = .int .u8 (horN a b i : Nat) ∧ vi = .int .i64 (i : Int)
theorem hor_next {a b i : Nat} : horN a b (i + 1) = xt (horN a b i) ^^^ (if b / 2 ^ (7 - i) % 2 = 1 then a else 0) := rfl
set_option maxHeartbeats 4000000 in
set_option maxRecDepth 100000 in
theorem cmul_any (a b : Nat) (ha : a < 256) (hb : b < 256) (w : World) : Calls Try.prog 19 #[.int .u8 (a : Int), .int .u8 (b : Int)] w fun e w' => e = .returned (.int .u8 (mulB a b : Nat)) ∧ w' = w := by
  go_enter Try.func19, Try.ntmps19
  go_wp2
  go_loop [5, 8] (fun vp vi => HoL a b vp vi) (fun _ vi => 8 - (intOf vi).toNat)
  case atStart => exact ⟨0, by decide, rfl, rfl⟩
  case round =>
    obtain ⟨i, hi, rfl, rfl⟩ := hrel
    by_cases hlt : i < 8
    · have hli : (i : Int) < 8 := by omega
      have hp := horN_lt ha b i
      have hnx := hor_next (a := a) (b := b) (i := i)
      generalize horN a b i = p at *
      have xl := xt_lt hp
      have hdb := fun y => dbl_any p (by omega) y
      rw [dbl_byte hp] at hdb
      generalize xt p = q at *
      have s_q : IntKind.u8.wrap (q : Int) = (q : Int) := by rw [IntKind.wrap_u8]; omega
      have s_p : IntKind.u32.wrap (p : Int) = (p : Int) := by rw [IntKind.wrap_u32]; omega
      have s_a : IntKind.u8.wrap (a : Int) = (a : Int) := by rw [IntKind.wrap_u8]; omega
      have m_a : (a : Int) % 256 = (a : Int) := by omega
      have m_q : (q : Int) % 256 = (q : Int) := by omega
      have fx := u8_xor_nat q a xl ha
      have fz := u8_xor_nat q 0 xl (by decide)
      rw [Nat.xor_zero] at fz
      have h8 : i = 0 ∨ i = 1 ∨ i = 2 ∨ i = 3 ∨ i = 4 ∨ i = 5 ∨ i = 6 ∨ i = 7 := by omega
      rcases h8 with h | h | h | h | h | h | h | h <;> subst h
      · have fb : bits .and .u8 ((b : Int) / 128) 1 = ((b / 128 % 2 : Nat) : Int) := by
          have e : (b : Int) / 128 = ((b / 128 : Nat) : Int) := by omega
          rw [e, and_1 _ (by omega)]
        have hnx' : horN a b 1 = q ^^^ (if b / 128 % 2 = 1 then a else 0) := by simpa using hnx
        clear hnx
        by_cases ho : b / 128 % 2 = 1
        · rw [if_pos ho] at hnx'
          rw [ho] at fb
          have HN := hide hnx'
          clear hnx' ho
          go_wp2_with fail
          refine (hdb _).mono ?_
          rintro e y ⟨rfl, hy⟩
          obtain rfl := hy.symm
          go_wp2
          exact ⟨⟨1, by decide, by rw [HN.out], rfl⟩, by simp [intOf]⟩
        · rw [if_neg ho, Nat.xor_zero] at hnx'
          have ho' : b / 128 % 2 = 0 := by omega
          rw [ho'] at fb
          have HN := hide hnx'
          clear hnx' ho ho'
          go_wp2_with fail
          refine (hdb _).mono ?_
          rintro e y ⟨rfl, hy⟩
          obtain rfl := hy.symm
          go_wp2
          exact ⟨⟨1, by decide, by rw [HN.out]; exact vint fz, rfl⟩, by simp [intOf]⟩
      · have fb : bits .and .u8 ((b : Int) / 64) 1 = ((b / 64 % 2 : Nat) : Int) := by
          have e : (b : Int) / 64 = ((b / 64 : Nat) : Int) := by omega
          rw [e, and_1 _ (by omega)]
        have hnx' : horN a b 2 = q ^^^ (if b / 64 % 2 = 1 then a else 0) := by simpa using hnx
        clear hnx
        by_cases ho : b / 64 % 2 = 1
        · rw [if_pos ho] at hnx'
          rw [ho] at fb
          have HN := hide hnx'
          clear hnx' ho
          go_wp2_with fail
          refine (hdb _).mono ?_
          rintro e y ⟨rfl, hy⟩
          obtain rfl := hy.symm
          go_wp2
          exact ⟨⟨2, by decide, by rw [HN.out], rfl⟩, by simp [intOf]⟩
        · rw [if_neg ho, Nat.xor_zero] at hnx'
          have ho' : b / 64 % 2 = 0 := by omega
          rw [ho'] at fb
          have HN := hide hnx'
          clear hnx' ho ho'
          go_wp2_with fail
          refine (hdb _).mono ?_
          rintro e y ⟨rfl, hy⟩
          obtain rfl := hy.symm
          go_wp2
          exact ⟨⟨2, by decide, by rw [HN.out]; exact vint fz, rfl⟩, by simp [intOf]⟩
      · have fb : bits .and .u8 ((b : Int) / 32) 1 = ((b / 32 % 2 : Nat) : Int) := by
          have e : (b : Int) / 32 = ((b / 32 : Nat) : Int) := by omega
          rw [e, and_1 _ (by omega)]
        have hnx' : horN a b 3 = q ^^^ (if b / 32 % 2 = 1 then a else 0) := by simpa using hnx
        clear hnx
        by_cases ho : b / 32 % 2 = 1
        · rw [if_pos ho] at hnx'
          rw [ho] at fb
          have HN := hide hnx'
          clear hnx' ho
          go_wp2_with fail
          refine (hdb _).mono ?_
          rintro e y ⟨rfl, hy⟩
          obtain rfl := hy.symm
          go_wp2
          exact ⟨⟨3, by decide, by rw [HN.out], rfl⟩, by simp [intOf]⟩
        · rw [if_neg ho, Nat.xor_zero] at hnx'
          have ho' : b / 32 % 2 = 0 := by omega
          rw [ho'] at fb
          have HN := hide hnx'
          clear hnx' ho ho'
          go_wp2_with fail
          refine (hdb _).mono ?_
          rintro e y ⟨rfl, hy⟩
          obtain rfl := hy.symm
          go_wp2
          exact ⟨⟨3, by decide, by rw [HN.out]; exact vint fz, rfl⟩, by simp [intOf]⟩
      · have fb : bits .and .u8 ((b : Int) / 16) 1 = ((b / 16 % 2 : Nat) : Int) := by
          have e : (b : Int) / 16 = ((b / 16 : Nat) : Int) := by omega
          rw [e, and_1 _ (by omega)]
        have hnx' : horN a b 4 = q ^^^ (if b / 16 % 2 = 1 then a else 0) := by simpa using hnx
        clear hnx
        by_cases ho : b / 16 % 2 = 1
        · rw [if_pos ho] at hnx'
          rw [ho] at fb
          have HN := hide hnx'
          clear hnx' ho
          go_wp2_with fail
          refine (hdb _).mono ?_
          rintro e y ⟨rfl, hy⟩
          obtain rfl := hy.symm
          go_wp2
          exact ⟨⟨4, by decide, by rw [HN.out], rfl⟩, by simp [intOf]⟩
        · rw [if_neg ho, Nat.xor_zero] at hnx'
          have ho' : b / 16 % 2 = 0 := by omega
          rw [ho'] at fb
          have HN := hide hnx'
          clear hnx' ho ho'
          go_wp2_with fail
          refine (hdb _).mono ?_
          rintro e y ⟨rfl, hy⟩
          obtain rfl := hy.symm
          go_wp2
          exact ⟨⟨4, by decide, by rw [HN.out]; exact vint fz, rfl⟩, by simp [intOf]⟩
      · have fb : bits .and .u8 ((b : Int) / 8) 1 = ((b / 8 % 2 : Nat) : Int) := by
          have e : (b : Int) / 8 = ((b / 8 : Nat) : Int) := by omega
          rw [e, and_1 _ (by omega)]
        have hnx' : horN a b 5 = q ^^^ (if b / 8 % 2 = 1 then a else 0) := by simpa using hnx
        clear hnx
        by_cases ho : b / 8 % 2 = 1
        · rw [if_pos ho] at hnx'
          rw [ho] at fb
          have HN := hide hnx'
          clear hnx' ho
          go_wp2_with fail
          refine (hdb _).mono ?_
          rintro e y ⟨rfl, hy⟩
          obtain rfl := hy.symm
          go_wp2
          exact ⟨⟨5, by decide, by rw [HN.out], rfl⟩, by simp [intOf]⟩
        · rw [if_neg ho, Nat.xor_zero] at hnx'
          have ho' : b / 8 % 2 = 0 := by omega
          rw [ho'] at fb
          have HN := hide hnx'
          clear hnx' ho ho'
          go_wp2_with fail
          refine (hdb _).mono ?_
          rintro e y ⟨rfl, hy⟩
          obtain rfl := hy.symm
          go_wp2
          exact ⟨⟨5, by decide, by rw [HN.out]; exact vint fz, rfl⟩, by simp [intOf]⟩
      · have fb : bits .and .u8 ((b : Int) / 4) 1 = ((b / 4 % 2 : Nat) : Int) := by
          have e : (b : Int) / 4 = ((b / 4 : Nat) : Int) := by omega
          rw [e, and_1 _ (by omega)]
        have hnx' : horN a b 6 = q ^^^ (if b / 4 % 2 = 1 then a else 0) := by simpa using hnx
        clear hnx
        by_cases ho : b / 4 % 2 = 1
        · rw [if_pos ho] at hnx'
          rw [ho] at fb
          have HN := hide hnx'
          clear hnx' ho
          go_wp2_with fail
          refine (hdb _).mono ?_
          rintro e y ⟨rfl, hy⟩
          obtain rfl := hy.symm
          go_wp2
          exact ⟨⟨6, by decide, by rw [HN.out], rfl⟩, by simp [intOf]⟩
        · rw [if_neg ho, Nat.xor_zero] at hnx'
          have ho' : b / 4 % 2 = 0 := by omega
          rw [ho'] at fb
          have HN := hide hnx'
          clear hnx' ho ho'
          go_wp2_with fail
          refine (hdb _).mono ?_
          rintro e y ⟨rfl, hy⟩
          obtain rfl := hy.symm
          go_wp2
          exact ⟨⟨6, by decide, by rw [HN.out]; exact vint fz, rfl⟩, by simp [intOf]⟩
      · have fb : bits .and .u8 ((b : Int) / 2) 1 = ((b / 2 % 2 : Nat) : Int) := by
          have e : (b : Int) / 2 = ((b / 2 : Nat) : Int) := by omega
          rw [e, and_1 _ (by omega)]
        have hnx' : horN a b 7 = q ^^^ (if b / 2 % 2 = 1 then a else 0) := by simpa using hnx
        clear hnx
        by_cases ho : b / 2 % 2 = 1
        · rw [if_pos ho] at hnx'
          rw [ho] at fb
          have HN := hide hnx'
          clear hnx' ho
          go_wp2_with fail
          refine (hdb _).mono ?_
          rintro e y ⟨rfl, hy⟩
          obtain rfl := hy.symm
          go_wp2
          exact ⟨⟨7, by decide, by rw [HN.out], rfl⟩, by simp [intOf]⟩
        · rw [if_neg ho, Nat.xor_zero] at hnx'
          have ho' : b / 2 % 2 = 0 := by omega
          rw [ho'] at fb
          have HN := hide hnx'
          clear hnx' ho ho'
          go_wp2_with fail
          refine (hdb _).mono ?_
          rintro e y ⟨rfl, hy⟩
          obtain rfl := hy.symm
          go_wp2
          exact ⟨⟨7, by decide, by rw [HN.out]; exact vint fz, rfl⟩, by simp [intOf]⟩
      · have fb : bits .and .u8 ((b : Int)) 1 = ((b % 2 : Nat) : Int) := by
          have e : (b : Int) = ((b : Nat) : Int) := by omega
          rw [e, and_1 _ (by omega)]
        have hnx' : horN a b 8 = q ^^^ (if b % 2 = 1 then a else 0) := by simpa using hnx
        clear hnx
        by_cases ho : b % 2 = 1
        · rw [if_pos ho] at hnx'
          rw [ho] at fb
          have HN := hide hnx'
          clear hnx' ho
          go_wp2_with fail
          refine (hdb _).mono ?_
          rintro e y ⟨rfl, hy⟩
          obtain rfl := hy.symm
          go_wp2
          exact ⟨⟨8, by decide, by rw [HN.out], rfl⟩, by simp [intOf]⟩
        · rw [if_neg ho, Nat.xor_zero] at hnx'
          have ho' : b % 2 = 0 := by omega
          rw [ho'] at fb
          have HN := hide hnx'
          clear hnx' ho ho'
          go_wp2_with fail
          refine (hdb _).mono ?_
          rintro e y ⟨rfl, hy⟩
          obtain rfl := hy.symm
          go_wp2
          exact ⟨⟨8, by decide, by rw [HN.out]; exact vint fz, rfl⟩, by simp [intOf]⟩
    · obtain rfl : i = 8 := by omega
      have HE := hide (hor_mul ha hb)
      generalize horN a b 8 = M at *
      go_wp2
      go_ret
      exact ⟨by rw [← HE.out]; rfl, rfl⟩
end Go.Proofs.Yteiknfcegchbcaa

/- Contracts of bits.Num, apostilleref01.Num. -/
namespace Go.Proofs.Yteiknfcegchbcaa
open Go.RowKit
set_option linter.unusedVariables false

/-- the number of bytes, the highest first, modulo 2^64 -/
def numL (l : List Nat) : Nat := l.foldl (fun n x => (n * 256 + x) % 18446744073709551616) 0

theorem take_snoc {l : List Nat} {k : Nat} (h : k < l.length) : l.take (k + 1) = l.take k ++ [el l k] := by
  rw [List.take_succ_eq_append_getElem h, el_at h]

theorem numL_snoc (l : List Nat) (x : Nat) : numL (l ++ [x]) = (numL l * 256 + x) % 18446744073709551616 := by
  unfold numL; rw [List.foldl_append]; rfl

theorem numL_lt (l : List Nat) : numL l < 18446744073709551616 := by
  rcases List.eq_nil_or_concat l with rfl | ⟨m, x, rfl⟩
  · decide
  · rw [List.concat_eq_append, numL_snoc]; exact Nat.mod_lt _ (by decide)

theorem step_num (N x : Nat) (hN : N < 18446744073709551616) (hx : x < 256) :
    bits .or .u64 (IntKind.u64.wrap ((N : Int) * 256)) (x : Int) = (((N * 256 + x) % 18446744073709551616 : Nat) : Int) := by
  have e : IntKind.u64.wrap ((N : Int) * 256) = ((N * 256 % 18446744073709551616 : Nat) : Int) := by
    rw [IntKind.wrap_u64]; omega
  rw [e, u64_or_nat _ _ (Nat.mod_lt _ (by decide)) (by omega), nat_join 8 _ _ (by omega) (by omega)]
  congr 1
  omega

set_option maxHeartbeats 400000 in
theorem num_any (va : Value) (l : List Nat) (w : World) (ha : Row .u8 256 w va l) :
    Calls Try.prog 42 #[va] w fun e w' => e = .returned (.int .u64 (numL l)) ∧ w' = w := by
  obtain ⟨a, ca, rfl, ha1, ha2, ha3, ha4⟩ := ha
  unfold maxLen at ha2
  go_enter Try.func42, Try.ntmps42
  go_wp2
  go_loop [3, 8] (fun n i => ∃ k : Nat, k ≤ l.length ∧ i = .int .i64 k ∧ n = .int .u64 (numL (l.take k))) (fun _ i => l.length - (intOf i).toNat)
  case atStart => exact ⟨0, Nat.zero_le _, rfl, rfl⟩
  case round =>
    obtain ⟨k, hk, rfl, rfl⟩ := hrel
    have hn := numL_lt (l.take k)
    by_cases hlt : k < l.length
    · obtain ⟨ba, oa, rfl, hca⟩ := ha3 (by omega)
      have c1 := hca k hlt
      have hx := el_lt ha4 (by decide) k
      clear hca
      generalize hN : numL (l.take k) = N at *
      have HN : Hid (numL (l.take k) = N) := hN
      clear hN
      go_wp2
      go_round
      case rel => exact ⟨k + 1, by omega, by go_num, vint (by rw [take_snoc hlt, numL_snoc, HN.out]; exact step_num N _ hn hx)⟩
      case measure => simp [intOf]; omega
    · go_wp2
      go_ret
      exact ⟨ret_int (by rw [List.take_of_length_le (by omega)]), rfl⟩

end Go.Proofs.Yteiknfcegchbcaa

/- Contract of bits.Le. -/
namespace Go.Proofs.Yteiknfcegchbcaa
open Go.RowKit
set_option linter.unusedVariables false

/-- the bytes of a number, the lowest first -/
def leL (n size : Nat) : List Nat := (List.range size).map (fun i => n / 256 ^ i % 256)
def leTo (n size k : Nat) : List Nat := (List.range size).map (fun i => if i < k then n / 256 ^ i % 256 else 0)

theorem leTo_zero (n size : Nat) : leTo n size 0 = List.replicate size 0 := by
  apply List.ext_getElem <;> simp [leTo]
theorem leTo_length (n size k : Nat) : (leTo n size k).length = size := by simp [leTo]
theorem leTo_set (n size k : Nat) : (leTo n size k).set k (n / 256 ^ k % 256) = leTo n size (k + 1) := by
  apply List.ext_getElem
  · simp [leTo]
  · intro i h1 h2
    simp only [leTo, List.getElem_set, List.getElem_map, List.getElem_range]
    by_cases h : k = i
    · subst h; simp
    · simp [h]; by_cases h3 : i < k
      · simp [h3, show i < k + 1 by omega]
      · simp [h3, show ¬ i < k + 1 by omega]
theorem leTo_full (n size k : Nat) (hn : n < 18446744073709551616) (h : k = size ∨ 8 ≤ k) : leTo n size k = leL n size := by
  unfold leTo leL
  apply List.map_congr_left
  intro i hi
  have hi' : i < size := List.mem_range.1 hi
  by_cases h1 : i < k
  · simp [h1]
  · have h8 : 8 ≤ i := by omega
    have h3 : 256 ^ 8 ≤ 256 ^ i := Nat.pow_le_pow_right (by decide) h8
    have h4 : (256 : Nat) ^ 8 = 18446744073709551616 := by decide
    rw [Nat.div_eq_of_lt (by omega)]
    simp
theorem leTo_under (n size k : Nat) : Under 256 (leTo n size k) := by
  intro x hx
  obtain ⟨i, _, rfl⟩ := List.mem_map.1 hx
  split <;> omega

theorem byte_shr (n k : Nat) : (n : Int) / 2 ^ (8 * k) % 256 = ((n / 256 ^ k % 256 : Nat) : Int) := by
  rw [show (256 : Nat) ^ k = 2 ^ (8 * k) from by rw [Nat.pow_mul]]
  simp

/-- what Le tells -/
def leS (n : Nat) (size : Int) : List Nat := if size ≤ 0 ∨ 65536 < size then [] else leL n size.toNat

end Go.Proofs.Yteiknfcegchbcaa

/- Contract of slices.Reverse. -/
namespace Go.Proofs.Yteiknfcegchbcaa
open Go.RowKit
set_option linter.unusedVariables false

/-- a list, its first and last k elements exchanged -/
def revTo (l : List Nat) (k : Nat) : List Nat := (List.range l.length).map (fun t => if t < k ∨ l.length - k ≤ t then el l (l.length - 1 - t) else el l t)

theorem revTo_length (l : List Nat) (k : Nat) : (revTo l k).length = l.length := by simp [revTo]
theorem revTo_zero (l : List Nat) : revTo l 0 = l := by
  apply List.ext_getElem
  · simp [revTo]
  · intro i h1 h2
    simp only [revTo, List.getElem_map, List.getElem_range]
    rw [if_neg (by omega), el_at h2]
theorem revTo_full (l : List Nat) (k : Nat) (h : l.length ≤ 2 * k + 1) : revTo l k = l.reverse := by
  apply List.ext_getElem
  · simp [revTo]
  · intro i h1 h2
    have h3 : i < l.length := by simpa using h2
    simp only [revTo, List.getElem_map, List.getElem_range, List.getElem_reverse]
    by_cases hc : i < k ∨ l.length - k ≤ i
    · rw [if_pos hc, el_at]
    · rw [if_neg hc, el_at h3]
      have e : i = l.length - 1 - i := by omega
      congr 1
theorem revTo_el (l : List Nat) (k t : Nat) (ht : t < l.length) (h : k ≤ t ∧ t < l.length - k) : el (revTo l k) t = el l t := by
  rw [el_at (by rw [revTo_length]; exact ht)]
  simp only [revTo, List.getElem_map, List.getElem_range]
  rw [if_neg (by omega)]
theorem revTo_set (l : List Nat) (k j : Nat) (hj : j = l.length - 1 - k) (h : k < j) :
    ((revTo l k).set k (el l j)).set j (el l k) = revTo l (k + 1) := by
  apply List.ext_getElem
  · simp [revTo]
  · intro i h1 h2
    have h3 : i < l.length := by simpa [revTo] using h2
    simp only [revTo, List.getElem_set, List.getElem_map, List.getElem_range]
    by_cases e1 : j = i
    · subst e1; rw [if_pos rfl, if_pos (by omega)]; congr 1; omega
    · rw [if_neg e1]
      by_cases e2 : k = i
      · subst e2; rw [if_pos rfl, if_pos (by omega)]; congr 1
      · rw [if_neg e2]
        by_cases e3 : i < k ∨ l.length - k ≤ i
        · rw [if_pos e3, if_pos (by omega)]
        · rw [if_neg e3, if_neg (by omega)]
theorem revTo_under (l : List Nat) (k : Nat) (m : Nat) (hm : 0 < m) (h : Under m l) : Under m (revTo l k) := by
  intro x hx
  obtain ⟨i, _, rfl⟩ := List.mem_map.1 hx
  split <;> exact el_lt h hm _
theorem set_comm' (l : List Nat) (i j x y : Nat) (h : i ≠ j) : (l.set i x).set j y = (l.set j y).set i x := List.set_comm x y h

end Go.Proofs.Yteiknfcegchbcaa

/- Contracts of bits.Be, apostilleref01.Be. -/
namespace Go.Proofs.Yteiknfcegchbcaa
open Go.RowKit
set_option linter.unusedVariables false

/-- the bytes of a number, the highest first, the lowest k of them laid -/
def beTo (n size k : Nat) : List Nat := (List.range size).map (fun t => if size - k ≤ t then n / 256 ^ (size - 1 - t) % 256 else 0)

theorem beTo_zero (n size : Nat) : beTo n size 0 = List.replicate size 0 := by
  apply List.ext_getElem
  · simp [beTo]
  · intro i h1 h2
    have : i < size := by simpa [beTo] using h1
    simp only [beTo, List.getElem_map, List.getElem_range, List.getElem_replicate]
    rw [if_neg (by omega)]
theorem beTo_length (n size k : Nat) : (beTo n size k).length = size := by simp [beTo]
theorem beTo_set (n size k j : Nat) (h : j + 1 + k = size) : (beTo n size k).set j (n / 256 ^ k % 256) = beTo n size (k + 1) := by
  apply List.ext_getElem
  · simp [beTo]
  · intro i h1 h2
    have h3 : i < size := by simpa [beTo] using h2
    simp only [beTo, List.getElem_set, List.getElem_map, List.getElem_range]
    by_cases e : j = i
    · subst e; rw [if_pos rfl, if_pos (by omega)]; congr 3; omega
    · rw [if_neg e]
      by_cases h4 : size - k ≤ i
      · rw [if_pos h4, if_pos (by omega)]
      · rw [if_neg h4, if_neg (by omega)]
theorem leL_length (n size : Nat) : (leL n size).length = size := by simp [leL]
theorem beTo_full (n size : Nat) : beTo n size size = (leL n size).reverse := by
  apply List.ext_getElem
  · simp [beTo, leL]
  · intro i h1 h2
    have h3 : i < size := by simpa [beTo] using h1
    simp only [beTo, leL, List.getElem_map, List.getElem_range, List.getElem_reverse, List.length_map, List.length_range]
    rw [if_pos (by omega)]
theorem beTo_under (n size k : Nat) : Under 256 (beTo n size k) := by
  intro x hx
  obtain ⟨i, _, rfl⟩ := List.mem_map.1 hx
  split <;> omega

theorem rbe_nil (n : Nat) (size : Int) (h : size ≤ 0 ∨ 65536 < size) : (leS n size).reverse = [] := by
  unfold leS; rw [if_pos h]; rfl

theorem and255 (M : Nat) (h : M < 18446744073709551616) : bits BinOp.and IntKind.u64 (M : Int) 255 % 256 = ((M % 256 : Nat) : Int) := by
  rw [show (255 : Int) = ((255 : Nat) : Int) from rfl, u64_and_nat M 255 h (by decide), show M &&& 255 = M % 256 from Nat.and_two_pow_sub_one_eq_mod M 8]
  omega

end Go.Proofs.Yteiknfcegchbcaa
