/- Contracts of keccak.blockOf, endOf, New, Fit. -/
import Derived.Test.YtpmobjfhhkglbaaDoorWyA
import Derived.Test.YtpmobjfhhkglbaaDoorPlan2
namespace Go.Proofs.YtpmobjfhhkglbaaDoor
open Go.RowKit
set_option linter.unusedVariables false
set_option linter.unusedSimpArgs false


theorem block_any (kind : Int) (w : World) : Calls Tryd.prog 50 #[.int .i64 kind] w fun e w' => e = .returned (.int .i64 (rateK kind : Nat)) ∧ w' = w := by
  by_cases h4 : kind = 4
  · subst h4
    go_enter Tryd.func50, Tryd.ntmps50
    go_wp2
    go_ret
    exact ⟨rfl, rfl⟩
  by_cases h7 : kind = 7
  · subst h7
    go_enter Tryd.func50, Tryd.ntmps50
    go_wp2
    go_ret
    exact ⟨rfl, rfl⟩
  by_cases h5 : kind = 5
  · subst h5
    go_enter Tryd.func50, Tryd.ntmps50
    go_wp2
    go_ret
    exact ⟨rfl, rfl⟩
  by_cases h6 : kind = 6
  · subst h6
    go_enter Tryd.func50, Tryd.ntmps50
    go_wp2
    go_ret
    exact ⟨rfl, rfl⟩
  have hr : rateK kind = 0 := by simp [rateK, h4, h5, h6, h7]
  rw [hr]
  go_enter Tryd.func50, Tryd.ntmps50
  go_wp2
  go_ret
  exact ⟨rfl, rfl⟩

set_option maxHeartbeats 4000000 in
set_option maxRecDepth 100000 in
theorem cnew_ok (kind : Int) (w : World) (hr : 0 < rateK kind) :
    Calls Tryd.prog 38 #[.int .i64 kind] w fun e w' => e = .returned (.tuple #[.agg (sl kind (zs 25) 0 false).toArray, .int .i64 0]) ∧ Below w.heap.size w w' := by
  have hz := zero28
  have hrk := fun w' => block_any kind w'
  have hne : (((rateK kind : Nat) : Int) == 0) = false := by rw [beq_eq_false_iff_ne]; omega
  have hR : (w.alloc (.cells (sl 0 (zs 25) 0 false).toArray 70)).heap[w.heap.size]? = some (.cells (sl 0 (zs 25) 0 false).toArray 70 (0, 0)) := heap_alloc_last w _
  go_enter Tryd.func38, Tryd.ntmps38
  have hsz : (sl kind (zs 25) 0 false).toArray.size = 28 := by simp [sl_len (zs_len 25)]
  have hsz0 : (sl 0 (zs 25) 0 false).toArray.size = 28 := by simp [sl_len (zs_len 25)]
  go_wp2_with (first
    | (go_at_call 50; refine (hrk _).mono ?_; rintro e w' ⟨rfl, rfl⟩)
    | (refine wpList_store_row rfl 70 _ _ (by rfl) w.heap.size (sl kind (zs 25) 0 false).toArray (by rfl) (by rfl) _ _ hR (by rw [hsz]; kernel_rfl) (by rw [hsz, hsz0]) (all_oneCell_toArray (sl_one _ _ _ _)) ?_)
    | fail)
  have hfu := setRow_heap (w.alloc (.cells (sl 0 (zs 25) 0 false).toArray 70)) w.heap.size _ (sl kind (zs 25) 0 false).toArray 70 _ hR
  have hlv := run_loadVar_row (P := Tryd.prog) ((w.alloc (.cells (sl 0 (zs 25) 0 false).toArray 70)).setRow w.heap.size (sl kind (zs 25) 0 false).toArray) w.heap.size _ 70 _ _ _ hfu Tryd.underlying70 rfl (by rw [hsz]; kernel_rfl)
  have hbf := (keep_alloc w (.cells (sl 0 (zs 25) 0 false).toArray 70)).trans ((But.setRow (But.refl w.heap.size _) (sl kind (zs 25) 0 false).toArray).below (Nat.le_refl _) (by simp))
  refine bodyPost_ret (v := .tuple #[.agg (sl kind (zs 25) 0 false).toArray, .int .i64 0]) ?_ rfl ⟨rfl, hbf⟩
  simp [results, Tryd.results38, asAddr, hlv]
theorem endof_any (kind : Int) (w : World) :
    Calls Tryd.prog 65 #[.int .i64 kind] w fun e w' => e = .returned (.int .u8 (markK kind : Nat)) ∧ w' = w := by
  unfold markK
  by_cases h4 : kind = 4
  · subst h4
    go_enter Tryd.func65, Tryd.ntmps65
    go_wp2
    go_ret
    exact ⟨rfl, rfl⟩
  · by_cases h5 : kind = 5
    · subst h5
      go_enter Tryd.func65, Tryd.ntmps65
      go_wp2
      go_ret
      exact ⟨rfl, rfl⟩
    · have b4 : (kind == 4) = false := by rw [beq_eq_false_iff_ne]; exact h4
      have b5 : (kind == 5) = false := by rw [beq_eq_false_iff_ne]; exact h5
      rw [if_neg (by omega)]
      go_enter Tryd.func65, Tryd.ntmps65
      go_wp2
      go_ret
      exact ⟨rfl, rfl⟩
set_option maxHeartbeats 4000000 in
set_option maxRecDepth 100000 in
theorem cfit_any (kind : Int) (ws : List Nat) (p : Int) (o : Bool) (w : World) (hl : ws.length = 25) :
    Calls Tryd.prog 51 #[.agg (sl kind ws p o).toArray] w fun e w' => e = .returned (.bool (fitK kind p o)) ∧ Below w.heap.size w w' := by
  have hS := Sg.new w 70 kind ws p o hl
  have hb := keep_alloc w (.cells (sl kind ws p o).toArray 70)
  have c0 := hS.kind
  have c26 := hS.at
  have c27 := hS.out
  have hrk := fun w' => block_any kind w'
  obtain ⟨bb, hbb⟩ : ∃ x, x = fitK kind p o := ⟨_, rfl⟩
  rw [← hbb]
  unfold fitK at hbb
  generalize rateK kind = rt at *
  by_cases h1 : 0 < rt
  · have h1i : ((rt : Int) == 0) = false := by rw [beq_eq_false_iff_ne]; omega
    have h1n : (rt == 0) = false := by rw [beq_eq_false_iff_ne]; omega
    have h1e : ¬ rt = 0 := by omega
    by_cases h2 : 0 ≤ p
    · have h2d : decide (p < 0) = false := decide_eq_false (by omega)
      have h2e : ¬ p < 0 := by omega
      by_cases h3 : p < (rt : Int)
      · simp [h1, h2, h3] at hbb
        subst hbb
        go_enter Tryd.func51, Tryd.ntmps51
        go_wp2_with (first
          | (go_at_call 50; refine (hrk _).mono ?_; rintro e w' ⟨rfl, rfl⟩)
          | fail)
        go_ret
        exact ⟨rfl, hb⟩
      · have h3d : decide (p < (rt : Int)) = false := decide_eq_false h3
        cases o with
        | false =>
          simp [h1, h2, h3] at hbb
          subst hbb
          go_enter Tryd.func51, Tryd.ntmps51
          go_wp2_with (first
            | (go_at_call 50; refine (hrk _).mono ?_; rintro e w' ⟨rfl, rfl⟩)
            | fail)
          go_ret
          exact ⟨rfl, hb⟩
        | true =>
          by_cases h4 : p = (rt : Int)
          · subst h4
            simp [h1] at hbb
            subst hbb
            go_enter Tryd.func51, Tryd.ntmps51
            go_wp2_with (first
              | (go_at_call 50; refine (hrk _).mono ?_; rintro e w' ⟨rfl, rfl⟩)
              | fail)
            go_ret
            exact ⟨rfl, hb⟩
          · have h4b : (p == (rt : Int)) = false := by rw [beq_eq_false_iff_ne]; exact h4
            simp [h1, h2, h3, h4] at hbb
            subst hbb
            go_enter Tryd.func51, Tryd.ntmps51
            go_wp2_with (first
              | (go_at_call 50; refine (hrk _).mono ?_; rintro e w' ⟨rfl, rfl⟩)
              | fail)
            go_ret
            exact ⟨rfl, hb⟩
    · have h2d : decide (p < 0) = true := decide_eq_true (by omega)
      have h2e : p < 0 := by omega
      simp [h1, h2] at hbb
      subst hbb
      go_enter Tryd.func51, Tryd.ntmps51
      go_wp2_with (first
        | (go_at_call 50; refine (hrk _).mono ?_; rintro e w' ⟨rfl, rfl⟩)
        | fail)
      go_ret
      exact ⟨rfl, hb⟩
  · obtain rfl : rt = 0 := by omega
    simp at hbb
    subst hbb
    go_enter Tryd.func51, Tryd.ntmps51
    go_wp2_with (first
      | (go_at_call 50; refine (hrk _).mono ?_; rintro e w' ⟨rfl, rfl⟩)
      | fail)
    go_ret
    exact ⟨rfl, hb⟩
end Go.Proofs.YtpmobjfhhkglbaaDoor

/- Plain facts: the round, written out word by word, is the document's. No walk. -/
namespace Go.Proofs.YtpmobjfhhkglbaaDoor
set_option linter.unusedVariables false
set_option linter.unusedSimpArgs false

/-- a column's parity; what a column's words are xored with -/
def parK (a : List Nat) (i : Nat) : Nat := el a i ^^^ el a (i + 5) ^^^ el a (i + 10) ^^^ el a (i + 15) ^^^ el a (i + 20)
def besK (p q : Nat) : Nat := p ^^^ rotl q 1
def mixW (x y z : Nat) : Nat := x ^^^ ((18446744073709551615 - y) &&& z)
/-- a row behind its mixing -/
def mixL (w0 w1 w2 w3 w4 : Nat) : List Nat := [mixW w0 w1 w2, mixW w1 w2 w3, mixW w2 w3 w4, mixW w3 w4 w0, mixW w4 w0 w1]
/-- words moved, of words and columns -/
def row0 (a c : List Nat) : List Nat := mixL (el a 0 ^^^ el c 0) (rotl (el a 6 ^^^ el c 1) 44) (rotl (el a 12 ^^^ el c 2) 43) (rotl (el a 18 ^^^ el c 3) 21) (rotl (el a 24 ^^^ el c 4) 14)
def row1 (a c : List Nat) : List Nat := mixL (rotl (el a 3 ^^^ el c 3) 28) (rotl (el a 9 ^^^ el c 4) 20) (rotl (el a 10 ^^^ el c 0) 3) (rotl (el a 16 ^^^ el c 1) 45) (rotl (el a 22 ^^^ el c 2) 61)
def row2 (a c : List Nat) : List Nat := mixL (rotl (el a 1 ^^^ el c 1) 1) (rotl (el a 7 ^^^ el c 2) 6) (rotl (el a 13 ^^^ el c 3) 25) (rotl (el a 19 ^^^ el c 4) 8) (rotl (el a 20 ^^^ el c 0) 18)
def row3 (a c : List Nat) : List Nat := mixL (rotl (el a 4 ^^^ el c 4) 27) (rotl (el a 5 ^^^ el c 0) 36) (rotl (el a 11 ^^^ el c 1) 10) (rotl (el a 17 ^^^ el c 2) 15) (rotl (el a 23 ^^^ el c 3) 56)
def row4 (a c : List Nat) : List Nat := mixL (rotl (el a 2 ^^^ el c 2) 62) (rotl (el a 8 ^^^ el c 3) 55) (rotl (el a 14 ^^^ el c 4) 39) (rotl (el a 15 ^^^ el c 0) 41) (rotl (el a 21 ^^^ el c 1) 2)
def colK (a : List Nat) : List Nat := [besK (parK a 4) (parK a 1), besK (parK a 0) (parK a 2), besK (parK a 1) (parK a 3), besK (parK a 2) (parK a 4), besK (parK a 3) (parK a 0)]
def roundK (a : List Nat) : List Nat := row0 a (colK a) ++ row1 a (colK a) ++ row2 a (colK a) ++ row3 a (colK a) ++ row4 a (colK a)
theorem list25 : ∀ a : List Nat, a.length = 25 → ∃ a0 a1 a2 a3 a4 a5 a6 a7 a8 a9 a10 a11 a12 a13 a14 a15 a16 a17 a18 a19 a20 a21 a22 a23 a24, a = [a0, a1, a2, a3, a4, a5, a6, a7, a8, a9, a10, a11, a12, a13, a14, a15, a16, a17, a18, a19, a20, a21, a22, a23, a24]
  | [a0, a1, a2, a3, a4, a5, a6, a7, a8, a9, a10, a11, a12, a13, a14, a15, a16, a17, a18, a19, a20, a21, a22, a23, a24], _ => ⟨a0, a1, a2, a3, a4, a5, a6, a7, a8, a9, a10, a11, a12, a13, a14, a15, a16, a17, a18, a19, a20, a21, a22, a23, a24, rfl⟩
theorem colN_is (a0 a1 a2 a3 a4 a5 a6 a7 a8 a9 a10 a11 a12 a13 a14 a15 a16 a17 a18 a19 a20 a21 a22 a23 a24 : Nat) : colN [a0, a1, a2, a3, a4, a5, a6, a7, a8, a9, a10, a11, a12, a13, a14, a15, a16, a17, a18, a19, a20, a21, a22, a23, a24] 25 = [0 ^^^ a0 ^^^ a5 ^^^ a10 ^^^ a15 ^^^ a20, 0 ^^^ a1 ^^^ a6 ^^^ a11 ^^^ a16 ^^^ a21, 0 ^^^ a2 ^^^ a7 ^^^ a12 ^^^ a17 ^^^ a22, 0 ^^^ a3 ^^^ a8 ^^^ a13 ^^^ a18 ^^^ a23, 0 ^^^ a4 ^^^ a9 ^^^ a14 ^^^ a19 ^^^ a24] := by kernel_rfl
theorem sprN_is (a0 a1 a2 a3 a4 a5 a6 a7 a8 a9 a10 a11 a12 a13 a14 a15 a16 a17 a18 a19 a20 a21 a22 a23 a24 c0 c1 c2 c3 c4 : Nat) : sprN [a0, a1, a2, a3, a4, a5, a6, a7, a8, a9, a10, a11, a12, a13, a14, a15, a16, a17, a18, a19, a20, a21, a22, a23, a24] [c0, c1, c2, c3, c4] 25 = [a0 ^^^ c4 ^^^ rotl c1 1, a1 ^^^ c0 ^^^ rotl c2 1, a2 ^^^ c1 ^^^ rotl c3 1, a3 ^^^ c2 ^^^ rotl c4 1, a4 ^^^ c3 ^^^ rotl c0 1, a5 ^^^ c4 ^^^ rotl c1 1, a6 ^^^ c0 ^^^ rotl c2 1, a7 ^^^ c1 ^^^ rotl c3 1, a8 ^^^ c2 ^^^ rotl c4 1, a9 ^^^ c3 ^^^ rotl c0 1, a10 ^^^ c4 ^^^ rotl c1 1, a11 ^^^ c0 ^^^ rotl c2 1, a12 ^^^ c1 ^^^ rotl c3 1, a13 ^^^ c2 ^^^ rotl c4 1, a14 ^^^ c3 ^^^ rotl c0 1, a15 ^^^ c4 ^^^ rotl c1 1, a16 ^^^ c0 ^^^ rotl c2 1, a17 ^^^ c1 ^^^ rotl c3 1, a18 ^^^ c2 ^^^ rotl c4 1, a19 ^^^ c3 ^^^ rotl c0 1, a20 ^^^ c4 ^^^ rotl c1 1, a21 ^^^ c0 ^^^ rotl c2 1, a22 ^^^ c1 ^^^ rotl c3 1, a23 ^^^ c2 ^^^ rotl c4 1, a24 ^^^ c3 ^^^ rotl c0 1] := by kernel_rfl
theorem movN_is (b0 b1 b2 b3 b4 b5 b6 b7 b8 b9 b10 b11 b12 b13 b14 b15 b16 b17 b18 b19 b20 b21 b22 b23 b24 : Nat) : movN [b0, b1, b2, b3, b4, b5, b6, b7, b8, b9, b10, b11, b12, b13, b14, b15, b16, b17, b18, b19, b20, b21, b22, b23, b24] 24 = [b0, rotl b6 44, rotl b12 43, rotl b18 21, rotl b24 14, rotl b3 28, rotl b9 20, rotl b10 3, rotl b16 45, rotl b22 61, rotl b1 1, rotl b7 6, rotl b13 25, rotl b19 8, rotl b20 18, rotl b4 27, rotl b5 36, rotl b11 10, rotl b17 15, rotl b23 56, rotl b2 62, rotl b8 55, rotl b14 39, rotl b15 41, rotl b21 2] := by kernel_rfl
theorem chiN_is (a0 a1 a2 a3 a4 a5 a6 a7 a8 a9 a10 a11 a12 a13 a14 a15 a16 a17 a18 a19 a20 a21 a22 a23 a24 b0 b1 b2 b3 b4 b5 b6 b7 b8 b9 b10 b11 b12 b13 b14 b15 b16 b17 b18 b19 b20 b21 b22 b23 b24 : Nat) : chiN [a0, a1, a2, a3, a4, a5, a6, a7, a8, a9, a10, a11, a12, a13, a14, a15, a16, a17, a18, a19, a20, a21, a22, a23, a24] [b0, b1, b2, b3, b4, b5, b6, b7, b8, b9, b10, b11, b12, b13, b14, b15, b16, b17, b18, b19, b20, b21, b22, b23, b24] 25 = [mixW b0 b1 b2, mixW b1 b2 b3, mixW b2 b3 b4, mixW b3 b4 b0, mixW b4 b0 b1, mixW b5 b6 b7, mixW b6 b7 b8, mixW b7 b8 b9, mixW b8 b9 b5, mixW b9 b5 b6, mixW b10 b11 b12, mixW b11 b12 b13, mixW b12 b13 b14, mixW b13 b14 b10, mixW b14 b10 b11, mixW b15 b16 b17, mixW b16 b17 b18, mixW b17 b18 b19, mixW b18 b19 b15, mixW b19 b15 b16, mixW b20 b21 b22, mixW b21 b22 b23, mixW b22 b23 b24, mixW b23 b24 b20, mixW b24 b20 b21] := by kernel_rfl
theorem roundK_is (a : List Nat) (h : a.length = 25) : chiN a (moveK (spreadK a)) 25 = roundK a := by
  obtain ⟨a0, a1, a2, a3, a4, a5, a6, a7, a8, a9, a10, a11, a12, a13, a14, a15, a16, a17, a18, a19, a20, a21, a22, a23, a24, rfl⟩ := list25 a h
  unfold moveK spreadK
  rw [colN_is, sprN_is, movN_is, chiN_is]
  simp only [Nat.zero_xor, Nat.xor_assoc]
  unfold roundK row0 row1 row2 row3 row4 mixL
  simp only [colK, besK, parK, el, List.getElem?_cons_zero, List.getElem?_cons_succ, Option.getD_some, List.cons_append, List.nil_append, Nat.xor_assoc, Nat.reduceAdd]
theorem rndK_is (a : List Nat) (c : Nat) (h : a.length = 25) : rndK a c = (roundK a).set 0 (el (roundK a) 0 ^^^ c) := by unfold rndK; rw [roundK_is a h]
end Go.Proofs.YtpmobjfhhkglbaaDoor

/- Contracts of bits.RotateLeft64, keccak.turned, beside, mixed. -/
namespace Go.Proofs.YtpmobjfhhkglbaaDoor
open Go.RowKit
set_option linter.unusedVariables false
set_option linter.unusedSimpArgs false

theorem and63 (n : Nat) (h : n < 64) : bits .and .u64 (n : Int) 63 = (n : Int) := by
  rw [show (63 : Int) = ((63 : Nat) : Int) from rfl, u64_and_nat n 63 (by omega) (by decide), show (63 : Nat) = 2 ^ 6 - 1 from rfl, Nat.and_two_pow_sub_one_eq_mod, Nat.mod_eq_of_lt (by omega)]
set_option maxHeartbeats 1000000 in
theorem rotl64_any (x n : Nat) (w : World) (hx : x < 18446744073709551616) (hn : n < 64) :
    Calls Tryd.prog 89 #[.int .u64 x, .int .i64 n] w fun e w' => e = .returned (.int .u64 (rotl x n : Nat)) ∧ w' = w := by
  have ha := and63 n hn
  have m1 : min n 64 = n := by omega
  obtain ⟨m, hm⟩ : ∃ m, m = 64 - n := ⟨_, rfl⟩
  have em : (64 : Int) - (n : Int) = (m : Int) := by omega
  have wm : IntKind.u64.wrap (m : Int) = (m : Int) := by rw [IntKind.wrap_u64]; omega
  have wn : IntKind.u64.wrap (n : Int) = (n : Int) := by rw [IntKind.wrap_u64]; omega
  have m2 : min m 64 = m := by omega
  have hr := rotl_is x n hx hn
  rw [← hm] at hr
  clear hm
  go_enter Tryd.func89, Tryd.ntmps89
  go_wp2
  go_ret
  exact ⟨rfl, rfl⟩
theorem turn_any (x n : Nat) (w : World) (hx : x < 18446744073709551616) (hn : n < 64) :
    Calls Tryd.prog 80 #[.int .u64 x, .int .i64 n] w fun e w' => e = .returned (.int .u64 (rotl x n : Nat)) ∧ w' = w := by
  go_enter Tryd.func80, Tryd.ntmps80
  go_wp2_with fail
  refine (rotl64_any x n _ hx hn).mono ?_
  rintro e w1 ⟨rfl, rfl⟩
  go_wp2
  go_ret
  exact ⟨rfl, rfl⟩
/-- five words, as a value -/
def five (a b c d e : Nat) : Value := .tuple #[.int .u64 a, .int .u64 b, .int .u64 c, .int .u64 d, .int .u64 e]
theorem bes_is (p q : Nat) (hp : p < 18446744073709551616) (hq : q < 18446744073709551616) : bits .xor .u64 (p : Int) ((rotl q 1 : Nat) : Int) = ((besK p q : Nat) : Int) := by
  rw [u64_xor_nat p (rotl q 1) hp (rotl_lt hq 1)]
  rfl
theorem mix_is (x y z : Nat) (hx : x < 18446744073709551616) (hy : y < 18446744073709551616) (hz : z < 18446744073709551616) :
    bits .xor .u64 (x : Int) (bits .and .u64 (bits .xor .u64 IntKind.u64.max (y : Int)) (z : Int)) = ((mixW x y z : Nat) : Int) := by
  have e1 : bits .xor .u64 IntKind.u64.max (y : Int) = ((18446744073709551615 - y : Nat) : Int) := by
    rw [show IntKind.u64.max = ((18446744073709551615 : Nat) : Int) from rfl, u64_xor_nat _ y (by decide) hy]
    congr 1
    exact ones_xor 64 y hy
  rw [e1, u64_and_nat _ _ (by omega) hz, u64_xor_nat x _ hx (and_w (by omega))]
  rfl
set_option maxHeartbeats 1000000 in
theorem beside_any (p0 p1 p2 p3 p4 : Nat) (w : World) (h0 : p0 < 18446744073709551616) (h1 : p1 < 18446744073709551616) (h2 : p2 < 18446744073709551616) (h3 : p3 < 18446744073709551616) (h4 : p4 < 18446744073709551616) :
    Calls Tryd.prog 78 #[.int .u64 p0, .int .u64 p1, .int .u64 p2, .int .u64 p3, .int .u64 p4] w fun e w' => e = .returned (five (besK p4 p1) (besK p0 p2) (besK p1 p3) (besK p2 p4) (besK p3 p0)) ∧ w' = w := by
  go_enter Tryd.func78, Tryd.ntmps78
  go_wp2_with fail
  refine (turn_any p1 1 _ h1 (by decide)).mono ?_
  rintro e w1 ⟨rfl, rfl⟩
  go_wp2_with fail
  refine (turn_any p2 1 _ h2 (by decide)).mono ?_
  rintro e w2 ⟨rfl, rfl⟩
  go_wp2_with fail
  refine (turn_any p3 1 _ h3 (by decide)).mono ?_
  rintro e w3 ⟨rfl, rfl⟩
  go_wp2_with fail
  refine (turn_any p4 1 _ h4 (by decide)).mono ?_
  rintro e w4 ⟨rfl, rfl⟩
  go_wp2_with fail
  refine (turn_any p0 1 _ h0 (by decide)).mono ?_
  rintro e w5 ⟨rfl, rfl⟩
  go_wp2
  rw [bes_is p4 p1 h4 h1, bes_is p0 p2 h0 h2, bes_is p1 p3 h1 h3, bes_is p2 p4 h2 h4, bes_is p3 p0 h3 h0]
  refine bodyPost_ret (v := five (besK p4 p1) (besK p0 p2) (besK p1 p3) (besK p2 p4) (besK p3 p0)) (by simp [results, Tryd.results78, go_sem, five]) rfl ⟨rfl, rfl⟩
set_option maxHeartbeats 1000000 in
theorem mixed_any (p0 p1 p2 p3 p4 : Nat) (w : World) (h0 : p0 < 18446744073709551616) (h1 : p1 < 18446744073709551616) (h2 : p2 < 18446744073709551616) (h3 : p3 < 18446744073709551616) (h4 : p4 < 18446744073709551616) :
    Calls Tryd.prog 79 #[.int .u64 p0, .int .u64 p1, .int .u64 p2, .int .u64 p3, .int .u64 p4] w fun e w' => e = .returned (five (mixW p0 p1 p2) (mixW p1 p2 p3) (mixW p2 p3 p4) (mixW p3 p4 p0) (mixW p4 p0 p1)) ∧ w' = w := by
  go_enter Tryd.func79, Tryd.ntmps79
  go_wp2
  rw [mix_is p0 p1 p2 h0 h1 h2, mix_is p1 p2 p3 h1 h2 h3, mix_is p2 p3 p4 h2 h3 h4, mix_is p3 p4 p0 h3 h4 h0, mix_is p4 p0 p1 h4 h0 h1]
  refine bodyPost_ret (v := five (mixW p0 p1 p2) (mixW p1 p2 p3) (mixW p2 p3 p4) (mixW p3 p4 p0) (mixW p4 p0 p1)) (by simp [results, Tryd.results79, go_sem, five]) rfl ⟨rfl, rfl⟩
end Go.Proofs.YtpmobjfhhkglbaaDoor

/- The frame of keccak.round at the slots in use, and the steps of its regions. -/
namespace Go.Proofs.YtpmobjfhhkglbaaDoor
open Go.RowKit
set_option linter.unusedVariables false
set_option linter.unusedSimpArgs false

/-- parts of a code -/
def cL : Code → Code
  | .seq a _ => a
  | c => c
def cR : Code → Code
  | .seq _ b => b
  | c => c
def opsOf : Code → Array Oper
  | .region _ ops _ => ops
  | _ => #[]
theorem par_is (a : List Nat) (i : Nat) (h : W25 a) : bits .xor .u64 (bits .xor .u64 (bits .xor .u64 (bits .xor .u64 (el a i : Int) (el a (i + 5) : Int)) (el a (i + 10) : Int)) (el a (i + 15) : Int)) (el a (i + 20) : Int) = ((parK a i : Nat) : Int) := by
  rw [xor_k _ _ (h.el _) (h.el _), xor_k _ _ (xor_w (h.el _) (h.el _)) (h.el _), xor_k _ _ (xor_w (xor_w (h.el _) (h.el _)) (h.el _)) (h.el _), xor_k _ _ (xor_w (xor_w (xor_w (h.el _) (h.el _)) (h.el _)) (h.el _)) (h.el _)]
  rfl
theorem parK_lt (a : List Nat) (i : Nat) (h : W25 a) : parK a i < 18446744073709551616 := xor_w (xor_w (xor_w (xor_w (h.el _) (h.el _)) (h.el _)) (h.el _)) (h.el _)
theorem besK_lt {p q : Nat} (hp : p < 18446744073709551616) (hq : q < 18446744073709551616) : besK p q < 18446744073709551616 := xor_w hp (rotl_lt hq 1)
/-- the words, and what is made of them, in memory: of these that 25 cells are there -/
def RK (q : Nat) (a : List Nat) (w : World) : Prop := Lies .u64 68 w q a ∧ ∃ cs : Array Value, cs.size = 25 ∧ w.heap[q + 1]? = some (.cells cs 68 (0, 0))
theorem RK.set {q : Nat} {a : List Nat} {w : World} (h : RK q a w) (i : Nat) (v : Value) : RK q a (w.setCell ⟨q + 1, i, none⟩ v) := by
  obtain ⟨h1, cs, h2, h3⟩ := h
  refine ⟨h1.but ((But.refl (q + 1) w).setCell i v) (by omega), cs.setIfInBounds i v, by simp [h2], ?_⟩
  rw [setCell_eq_setRow w (q + 1) i _ 68 (0, 0) _ h3]
  exact setRow_heap w (q + 1) _ _ 68 _ h3
theorem RK.there {q : Nat} {a : List Nat} {w : World} (h : RK q a w) {i : Nat} (hi : i < 25) : (w.cell? ⟨q + 1, i, none⟩).isSome = true := by
  obtain ⟨_, cs, h2, h3⟩ := h
  rw [cell_of_row w (q + 1) i _ _ (0, 0) h3, Array.getElem?_eq_getElem (by omega)]; rfl
theorem RK.frozen {q : Nat} {a : List Nat} {w : World} (h : RK q a w) (i : Nat) : w.frozen? ⟨q + 1, i, none⟩ = false := by
  obtain ⟨_, cs, h2, h3⟩ := h
  simp [World.frozen?, h3]
theorem RK.of {q : Nat} {a L : List Nat} {w : World} (h1 : Lies .u64 68 w q a) (h2 : Lies .u64 68 w (q + 1) L) (hl : L.length = 25) : RK q a w := ⟨h1, _, by rw [arr_size]; exact hl, h2⟩
/-- the frame -/
structure FrC (q d0 d1 d2 d3 d4 : Nat) (a : Act) : Prop where
  size : a.tmps.size = 270
  dfr : a.defers = []
  t1 : a.eval (.tmp 1) = .pointer (some ⟨q, 0, none⟩)
  t2 : a.eval (.tmp 2) = .pointer (some ⟨q + 1, 0, none⟩)
  t3 : a.eval (.tmp 3) = .int .u64 (d0 : Nat)
  t4 : a.eval (.tmp 4) = .int .u64 (d1 : Nat)
  t5 : a.eval (.tmp 5) = .int .u64 (d2 : Nat)
  t6 : a.eval (.tmp 6) = .int .u64 (d3 : Nat)
  t7 : a.eval (.tmp 7) = .int .u64 (d4 : Nat)
theorem FrC.put {q d0 d1 d2 d3 d4 : Nat} {a : Act} (h : FrC q d0 d1 d2 d3 d4 a) {k : Nat} (hk : 8 ≤ k) (v : Value) : FrC q d0 d1 d2 d3 d4 (a.put (some k) v) :=
  ⟨put_size.trans h.size, h.dfr, (put_else (by omega)).trans h.t1, (put_else (by omega)).trans h.t2, (put_else (by omega)).trans h.t3, (put_else (by omega)).trans h.t4, (put_else (by omega)).trans h.t5, (put_else (by omega)).trans h.t6, (put_else (by omega)).trans h.t7⟩
section
variable {ops : Array Oper} {Q : Exit → Act → World → Prop} {S : World → Prop}
theorem st_take {q d0 d1 d2 d3 d4 : Nat} {i k : Nat} {r : List (Nat × Bool)} {a : Act} {w : World} {o : Oper} {v : Value} (F : FrC q d0 d1 d2 d3 d4 a) (hi : ops[i]? = some o) (hd : o.dst = some k) (h8 : 8 ≤ k) (hk : k < 270) (hy : YieldsIf Tryd.prog ops S o v a)
    (h : ∀ a' : Act, FrC q d0 d1 d2 d3 d4 a' → a'.eval (.tmp k) = v → (∀ j, k ≠ j → a'.eval (.tmp j) = a.eval (.tmp j)) → wpPlan Tryd.prog ops Q S r a' w) : wpPlan Tryd.prog ops Q S ((i, true) :: r) a w := by
  refine ⟨o, v, hi, hy, ?_⟩
  rw [hd]
  exact h _ (F.put h8 v) (put_same (by rw [F.size]; exact hk)) (fun j hj => put_else hj)
theorem st_call {q d0 d1 d2 d3 d4 : Nat} {i k : Nat} {r : List (Nat × Bool)} {a : Act} {w : World} {o : Oper} {v : Value} {f : FuncId} {xs : Array Operand} {ts : Array TypeId} {args : Array Value} (F : FrC q d0 d1 d2 d3 d4 a) (hi : ops[i]? = some o) (hd : o.dst = some k) (h8 : 8 ≤ k) (hk : k < 270) (hg : o.guard = none)
    (ho : o.op = .call { callee := .value (.func f), args := xs, argTypes := ts }) (hf : ∀ (args : Array Value) (w : World), (callFunc f args).run Tryd.prog w = .ok (.enter f args) w) (ha : xs.map a.eval = args) (hc : Calls Tryd.prog f args w fun e w' => e = .returned v ∧ w' = w) (hS : S w)
    (h : ∀ a' : Act, FrC q d0 d1 d2 d3 d4 a' → a'.eval (.tmp k) = v → (∀ j, k ≠ j → a'.eval (.tmp j) = a.eval (.tmp j)) → wpPlan Tryd.prog ops Q S r a' w) : wpPlan Tryd.prog ops Q S ((i, false) :: r) a w := by
  refine p_call hi hg ho ha hf (hc.mono ?_)
  rintro e w' ⟨rfl, rfl⟩
  refine ⟨v, rfl, hS, ?_⟩
  rw [hd]
  exact h _ (F.put h8 v) (put_same (by rw [F.size]; exact hk)) (fun j hj => put_else hj)
theorem st_store {i c : Nat} {r : List (Nat × Bool)} {a : Act} {w : World} {o : Oper} {x y : Operand} {q m : Nat} {l : List Nat} (hi : ops[i]? = some o) (hg : o.guard = none) (ho : o.op = .store 49 x y) (hd : o.dst = none) (hx : a.eval x = .pointer (some ⟨q + 1, c, none⟩)) (hy : a.eval y = .int .u64 (m : Nat)) (hc : c < 25) (hS : RK q l w)
    (h : wpPlan Tryd.prog ops Q (RK q l) r a (w.setCell ⟨q + 1, c, none⟩ (.int .u64 (m : Nat)))) : wpPlan Tryd.prog ops Q (RK q l) ((i, false) :: r) a w :=
  p_store hi hg ho hd hx hy Tryd.underlying49 (by kernel_rfl) (hS.there hc) (hS.frozen c) ⟨hS.set c _, h⟩
theorem y_ix {q d0 d1 d2 d3 d4 : Nat} {o : Oper} {a : Act} {x : Operand} {b i : Nat} (hg : o.guard = none) (ho : o.op = .indexAddr 68 x (.const (.int .i64 (i : Int)))) (hx : a.eval x = .pointer (some ⟨b, 0, none⟩)) (hi : i < 25) : YieldsIf Tryd.prog ops S o (.pointer (some ⟨b, i, none⟩)) a :=
  y_index hg ho hx Tryd.underlying68 (by kernel_rfl) hi
theorem y_ld {o : Oper} {a : Act} {x : Operand} {q i : Nat} {l : List Nat} (hl : l.length = 25) (hg : o.guard = none) (ho : o.op = .load 49 x) (hx : a.eval x = .pointer (some ⟨q, i, none⟩)) (hi : i < 25) : YieldsIf Tryd.prog ops (RK q l) o (.int .u64 (el l i : Nat)) a :=
  y_load hg ho hx Tryd.underlying49 (fun w hw => hw.1.cell (by rw [hl]; exact hi))
theorem y_xor {o : Oper} {a : Act} {x y : Operand} {p q : Nat} (hg : o.guard = none) (ho : o.op = .binOp .xor 49 x y 49) (hx : a.eval x = .int .u64 (p : Nat)) (hy : a.eval y = .int .u64 (q : Nat)) (hp : p < 18446744073709551616) (hq : q < 18446744073709551616) : YieldsIf Tryd.prog ops S o (.int .u64 ((p ^^^ q : Nat) : Int)) a := by
  refine y_of hg fun w _ => ?_
  have hv := xor_k p q hp hq
  unfold execOp
  simp only [ho, hx, hy]
  simp [hv, go_sem]
end
end Go.Proofs.YtpmobjfhhkglbaaDoor
