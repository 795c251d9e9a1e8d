/- Plain facts: the round, written out word by word, is the document's. No walk. -/
import Derived.Test.YtnbohjoakngkeaaDoorKecM
import Derived.Test.YtnbohjoakngkeaaDoorHKi2
namespace Go.Proofs.YtnbohjoakngkeaaDoor
set_option linter.unusedVariables false
set_option linter.unusedSimpArgs false

/-- a column's parity; what a column's words are xored with -/
def parK (a : List Nat) (i : Nat) : Nat := el a i ^^^ el a (i + 5) ^^^ el a (i + 10) ^^^ el a (i + 15) ^^^ el a (i + 20)
def besK (p q : Nat) : Nat := p ^^^ rotl q 1
def mixW (x y z : Nat) : Nat := x ^^^ ((18446744073709551615 - y) &&& z)
/-- a row behind its mixing -/
def mixL (w0 w1 w2 w3 w4 : Nat) : List Nat := [mixW w0 w1 w2, mixW w1 w2 w3, mixW w2 w3 w4, mixW w3 w4 w0, mixW w4 w0 w1]
/-- words moved, of words and columns -/
def row0 (a c : List Nat) : List Nat := mixL (el a 0 ^^^ el c 0) (rotl (el a 6 ^^^ el c 1) 44) (rotl (el a 12 ^^^ el c 2) 43) (rotl (el a 18 ^^^ el c 3) 21) (rotl (el a 24 ^^^ el c 4) 14)
def row1 (a c : List Nat) : List Nat := mixL (rotl (el a 3 ^^^ el c 3) 28) (rotl (el a 9 ^^^ el c 4) 20) (rotl (el a 10 ^^^ el c 0) 3) (rotl (el a 16 ^^^ el c 1) 45) (rotl (el a 22 ^^^ el c 2) 61)
def row2 (a c : List Nat) : List Nat := mixL (rotl (el a 1 ^^^ el c 1) 1) (rotl (el a 7 ^^^ el c 2) 6) (rotl (el a 13 ^^^ el c 3) 25) (rotl (el a 19 ^^^ el c 4) 8) (rotl (el a 20 ^^^ el c 0) 18)
def row3 (a c : List Nat) : List Nat := mixL (rotl (el a 4 ^^^ el c 4) 27) (rotl (el a 5 ^^^ el c 0) 36) (rotl (el a 11 ^^^ el c 1) 10) (rotl (el a 17 ^^^ el c 2) 15) (rotl (el a 23 ^^^ el c 3) 56)
def row4 (a c : List Nat) : List Nat := mixL (rotl (el a 2 ^^^ el c 2) 62) (rotl (el a 8 ^^^ el c 3) 55) (rotl (el a 14 ^^^ el c 4) 39) (rotl (el a 15 ^^^ el c 0) 41) (rotl (el a 21 ^^^ el c 1) 2)
def colK (a : List Nat) : List Nat := [besK (parK a 4) (parK a 1), besK (parK a 0) (parK a 2), besK (parK a 1) (parK a 3), besK (parK a 2) (parK a 4), besK (parK a 3) (parK a 0)]
def roundK (a : List Nat) : List Nat := row0 a (colK a) ++ row1 a (colK a) ++ row2 a (colK a) ++ row3 a (colK a) ++ row4 a (colK a)
theorem list25 : ∀ a : List Nat, a.length = 25 → ∃ a0 a1 a2 a3 a4 a5 a6 a7 a8 a9 a10 a11 a12 a13 a14 a15 a16 a17 a18 a19 a20 a21 a22 a23 a24, a = [a0, a1, a2, a3, a4, a5, a6, a7, a8, a9, a10, a11, a12, a13, a14, a15, a16, a17, a18, a19, a20, a21, a22, a23, a24]
  | [a0, a1, a2, a3, a4, a5, a6, a7, a8, a9, a10, a11, a12, a13, a14, a15, a16, a17, a18, a19, a20, a21, a22, a23, a24], _ => ⟨a0, a1, a2, a3, a4, a5, a6, a7, a8, a9, a10, a11, a12, a13, a14, a15, a16, a17, a18, a19, a20, a21, a22, a23, a24, rfl⟩
theorem colN_is (a0 a1 a2 a3 a4 a5 a6 a7 a8 a9 a10 a11 a12 a13 a14 a15 a16 a17 a18 a19 a20 a21 a22 a23 a24 : Nat) : colN [a0, a1, a2, a3, a4, a5, a6, a7, a8, a9, a10, a11, a12, a13, a14, a15, a16, a17, a18, a19, a20, a21, a22, a23, a24] 25 = [0 ^^^ a0 ^^^ a5 ^^^ a10 ^^^ a15 ^^^ a20, 0 ^^^ a1 ^^^ a6 ^^^ a11 ^^^ a16 ^^^ a21, 0 ^^^ a2 ^^^ a7 ^^^ a12 ^^^ a17 ^^^ a22, 0 ^^^ a3 ^^^ a8 ^^^ a13 ^^^ a18 ^^^ a23, 0 ^^^ a4 ^^^ a9 ^^^ a14 ^^^ a19 ^^^ a24] := by kernel_rfl
theorem sprN_is (a0 a1 a2 a3 a4 a5 a6 a7 a8 a9 a10 a11 a12 a13 a14 a15 a16 a17 a18 a19 a20 a21 a22 a23 a24 c0 c1 c2 c3 c4 : Nat) : sprN [a0, a1, a2, a3, a4, a5, a6, a7, a8, a9, a10, a11, a12, a13, a14, a15, a16, a17, a18, a19, a20, a21, a22, a23, a24] [c0, c1, c2, c3, c4] 25 = [a0 ^^^ c4 ^^^ rotl c1 1, a1 ^^^ c0 ^^^ rotl c2 1, a2 ^^^ c1 ^^^ rotl c3 1, a3 ^^^ c2 ^^^ rotl c4 1, a4 ^^^ c3 ^^^ rotl c0 1, a5 ^^^ c4 ^^^ rotl c1 1, a6 ^^^ c0 ^^^ rotl c2 1, a7 ^^^ c1 ^^^ rotl c3 1, a8 ^^^ c2 ^^^ rotl c4 1, a9 ^^^ c3 ^^^ rotl c0 1, a10 ^^^ c4 ^^^ rotl c1 1, a11 ^^^ c0 ^^^ rotl c2 1, a12 ^^^ c1 ^^^ rotl c3 1, a13 ^^^ c2 ^^^ rotl c4 1, a14 ^^^ c3 ^^^ rotl c0 1, a15 ^^^ c4 ^^^ rotl c1 1, a16 ^^^ c0 ^^^ rotl c2 1, a17 ^^^ c1 ^^^ rotl c3 1, a18 ^^^ c2 ^^^ rotl c4 1, a19 ^^^ c3 ^^^ rotl c0 1, a20 ^^^ c4 ^^^ rotl c1 1, a21 ^^^ c0 ^^^ rotl c2 1, a22 ^^^ c1 ^^^ rotl c3 1, a23 ^^^ c2 ^^^ rotl c4 1, a24 ^^^ c3 ^^^ rotl c0 1] := by kernel_rfl
theorem movN_is (b0 b1 b2 b3 b4 b5 b6 b7 b8 b9 b10 b11 b12 b13 b14 b15 b16 b17 b18 b19 b20 b21 b22 b23 b24 : Nat) : movN [b0, b1, b2, b3, b4, b5, b6, b7, b8, b9, b10, b11, b12, b13, b14, b15, b16, b17, b18, b19, b20, b21, b22, b23, b24] 24 = [b0, rotl b6 44, rotl b12 43, rotl b18 21, rotl b24 14, rotl b3 28, rotl b9 20, rotl b10 3, rotl b16 45, rotl b22 61, rotl b1 1, rotl b7 6, rotl b13 25, rotl b19 8, rotl b20 18, rotl b4 27, rotl b5 36, rotl b11 10, rotl b17 15, rotl b23 56, rotl b2 62, rotl b8 55, rotl b14 39, rotl b15 41, rotl b21 2] := by kernel_rfl
theorem chiN_is (a0 a1 a2 a3 a4 a5 a6 a7 a8 a9 a10 a11 a12 a13 a14 a15 a16 a17 a18 a19 a20 a21 a22 a23 a24 b0 b1 b2 b3 b4 b5 b6 b7 b8 b9 b10 b11 b12 b13 b14 b15 b16 b17 b18 b19 b20 b21 b22 b23 b24 : Nat) : chiN [a0, a1, a2, a3, a4, a5, a6, a7, a8, a9, a10, a11, a12, a13, a14, a15, a16, a17, a18, a19, a20, a21, a22, a23, a24] [b0, b1, b2, b3, b4, b5, b6, b7, b8, b9, b10, b11, b12, b13, b14, b15, b16, b17, b18, b19, b20, b21, b22, b23, b24] 25 = [mixW b0 b1 b2, mixW b1 b2 b3, mixW b2 b3 b4, mixW b3 b4 b0, mixW b4 b0 b1, mixW b5 b6 b7, mixW b6 b7 b8, mixW b7 b8 b9, mixW b8 b9 b5, mixW b9 b5 b6, mixW b10 b11 b12, mixW b11 b12 b13, mixW b12 b13 b14, mixW b13 b14 b10, mixW b14 b10 b11, mixW b15 b16 b17, mixW b16 b17 b18, mixW b17 b18 b19, mixW b18 b19 b15, mixW b19 b15 b16, mixW b20 b21 b22, mixW b21 b22 b23, mixW b22 b23 b24, mixW b23 b24 b20, mixW b24 b20 b21] := by kernel_rfl
theorem roundK_is (a : List Nat) (h : a.length = 25) : chiN a (moveK (spreadK a)) 25 = roundK a := by
  obtain ⟨a0, a1, a2, a3, a4, a5, a6, a7, a8, a9, a10, a11, a12, a13, a14, a15, a16, a17, a18, a19, a20, a21, a22, a23, a24, rfl⟩ := list25 a h
  unfold moveK spreadK
  rw [colN_is, sprN_is, movN_is, chiN_is]
  simp only [Nat.zero_xor, Nat.xor_assoc]
  unfold roundK row0 row1 row2 row3 row4 mixL
  simp only [colK, besK, parK, el, List.getElem?_cons_zero, List.getElem?_cons_succ, Option.getD_some, List.cons_append, List.nil_append, Nat.xor_assoc, Nat.reduceAdd]
theorem rndK_is (a : List Nat) (c : Nat) (h : a.length = 25) : rndK a c = (roundK a).set 0 (el (roundK a) 0 ^^^ c) := by unfold rndK; rw [roundK_is a h]
end Go.Proofs.YtnbohjoakngkeaaDoor

/- Contracts of bits.RotateLeft64, keccak.turned, beside, mixed. -/
namespace Go.Proofs.YtnbohjoakngkeaaDoor
open Go.RowKit
set_option linter.unusedVariables false
set_option linter.unusedSimpArgs false

theorem and63 (n : Nat) (h : n < 64) : bits .and .u64 (n : Int) 63 = (n : Int) := by
  rw [show (63 : Int) = ((63 : Nat) : Int) from rfl, u64_and_nat n 63 (by omega) (by decide), show (63 : Nat) = 2 ^ 6 - 1 from rfl, Nat.and_two_pow_sub_one_eq_mod, Nat.mod_eq_of_lt (by omega)]
set_option maxHeartbeats 1000000 in
theorem rotl64_any (x n : Nat) (w : World) (hx : x < 18446744073709551616) (hn : n < 64) :
    Calls Tryd.prog 37 #[.int .u64 x, .int .i64 n] w fun e w' => e = .returned (.int .u64 (rotl x n : Nat)) ∧ w' = w := by
  have ha := and63 n hn
  have m1 : min n 64 = n := by omega
  obtain ⟨m, hm⟩ : ∃ m, m = 64 - n := ⟨_, rfl⟩
  have em : (64 : Int) - (n : Int) = (m : Int) := by omega
  have wm : IntKind.u64.wrap (m : Int) = (m : Int) := by rw [IntKind.wrap_u64]; omega
  have wn : IntKind.u64.wrap (n : Int) = (n : Int) := by rw [IntKind.wrap_u64]; omega
  have m2 : min m 64 = m := by omega
  have hr := rotl_is x n hx hn
  rw [← hm] at hr
  clear hm
  go_enter Tryd.func37, Tryd.ntmps37
  go_wp2
  go_ret
  exact ⟨rfl, rfl⟩
theorem turn_any (x n : Nat) (w : World) (hx : x < 18446744073709551616) (hn : n < 64) :
    Calls Tryd.prog 34 #[.int .u64 x, .int .i64 n] w fun e w' => e = .returned (.int .u64 (rotl x n : Nat)) ∧ w' = w := by
  go_enter Tryd.func34, Tryd.ntmps34
  go_wp2_with fail
  refine (rotl64_any x n _ hx hn).mono ?_
  rintro e w1 ⟨rfl, rfl⟩
  go_wp2
  go_ret
  exact ⟨rfl, rfl⟩
/-- five words, as a value -/
def five (a b c d e : Nat) : Value := .tuple #[.int .u64 a, .int .u64 b, .int .u64 c, .int .u64 d, .int .u64 e]
theorem bes_is (p q : Nat) (hp : p < 18446744073709551616) (hq : q < 18446744073709551616) : bits .xor .u64 (p : Int) ((rotl q 1 : Nat) : Int) = ((besK p q : Nat) : Int) := by
  rw [u64_xor_nat p (rotl q 1) hp (rotl_lt hq 1)]
  rfl
theorem mix_is (x y z : Nat) (hx : x < 18446744073709551616) (hy : y < 18446744073709551616) (hz : z < 18446744073709551616) :
    bits .xor .u64 (x : Int) (bits .and .u64 (bits .xor .u64 IntKind.u64.max (y : Int)) (z : Int)) = ((mixW x y z : Nat) : Int) := by
  have e1 : bits .xor .u64 IntKind.u64.max (y : Int) = ((18446744073709551615 - y : Nat) : Int) := by
    rw [show IntKind.u64.max = ((18446744073709551615 : Nat) : Int) from rfl, u64_xor_nat _ y (by decide) hy]
    congr 1
    exact ones_xor 64 y hy
  rw [e1, u64_and_nat _ _ (by omega) hz, u64_xor_nat x _ hx (and_w (by omega))]
  rfl
set_option maxHeartbeats 1000000 in
theorem beside_any (p0 p1 p2 p3 p4 : Nat) (w : World) (h0 : p0 < 18446744073709551616) (h1 : p1 < 18446744073709551616) (h2 : p2 < 18446744073709551616) (h3 : p3 < 18446744073709551616) (h4 : p4 < 18446744073709551616) :
    Calls Tryd.prog 32 #[.int .u64 p0, .int .u64 p1, .int .u64 p2, .int .u64 p3, .int .u64 p4] w fun e w' => e = .returned (five (besK p4 p1) (besK p0 p2) (besK p1 p3) (besK p2 p4) (besK p3 p0)) ∧ w' = w := by
  go_enter Tryd.func32, Tryd.ntmps32
  go_wp2_with fail
  refine (turn_any p1 1 _ h1 (by decide)).mono ?_
  rintro e w1 ⟨rfl, rfl⟩
  go_wp2_with fail
  refine (turn_any p2 1 _ h2 (by decide)).mono ?_
  rintro e w2 ⟨rfl, rfl⟩
  go_wp2_with fail
  refine (turn_any p3 1 _ h3 (by decide)).mono ?_
  rintro e w3 ⟨rfl, rfl⟩
  go_wp2_with fail
  refine (turn_any p4 1 _ h4 (by decide)).mono ?_
  rintro e w4 ⟨rfl, rfl⟩
  go_wp2_with fail
  refine (turn_any p0 1 _ h0 (by decide)).mono ?_
  rintro e w5 ⟨rfl, rfl⟩
  go_wp2
  rw [bes_is p4 p1 h4 h1, bes_is p0 p2 h0 h2, bes_is p1 p3 h1 h3, bes_is p2 p4 h2 h4, bes_is p3 p0 h3 h0]
  refine bodyPost_ret (v := five (besK p4 p1) (besK p0 p2) (besK p1 p3) (besK p2 p4) (besK p3 p0)) (by simp [results, Tryd.results32, go_sem, five]) rfl ⟨rfl, rfl⟩
set_option maxHeartbeats 1000000 in
theorem mixed_any (p0 p1 p2 p3 p4 : Nat) (w : World) (h0 : p0 < 18446744073709551616) (h1 : p1 < 18446744073709551616) (h2 : p2 < 18446744073709551616) (h3 : p3 < 18446744073709551616) (h4 : p4 < 18446744073709551616) :
    Calls Tryd.prog 33 #[.int .u64 p0, .int .u64 p1, .int .u64 p2, .int .u64 p3, .int .u64 p4] w fun e w' => e = .returned (five (mixW p0 p1 p2) (mixW p1 p2 p3) (mixW p2 p3 p4) (mixW p3 p4 p0) (mixW p4 p0 p1)) ∧ w' = w := by
  go_enter Tryd.func33, Tryd.ntmps33
  go_wp2
  rw [mix_is p0 p1 p2 h0 h1 h2, mix_is p1 p2 p3 h1 h2 h3, mix_is p2 p3 p4 h2 h3 h4, mix_is p3 p4 p0 h3 h4 h0, mix_is p4 p0 p1 h4 h0 h1]
  refine bodyPost_ret (v := five (mixW p0 p1 p2) (mixW p1 p2 p3) (mixW p2 p3 p4) (mixW p3 p4 p0) (mixW p4 p0 p1)) (by simp [results, Tryd.results33, go_sem, five]) rfl ⟨rfl, rfl⟩
end Go.Proofs.YtnbohjoakngkeaaDoor
