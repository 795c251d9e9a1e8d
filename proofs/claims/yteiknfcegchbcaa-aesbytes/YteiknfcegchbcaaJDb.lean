/- The code's doubled, Mul. -/
import Derived.Test.YteiknfcegchbcaaAesW
import Derived.Test.YteiknfcegchbcaaAMul
import Derived.Laws.ShiftsVarLaws
namespace Go.Proofs.Yteiknfcegchbcaa
open Go.RowKit
set_option linter.unusedVariables false
set_option linter.unusedSimpArgs false

theorem dbl_int (w : Nat) (h : w < 4294967296) : bits .xor .u32 (bits .and .u32 (w : Int) 2139062143 * 2 % 4294967296) (bits .and .u32 ((w : Int) / 128) 16843009 * 27 % 4294967296) = ((dblW w : Nat) : Int) := by
  have e1 : bits .and .u32 (w : Int) 2139062143 = ((w &&& 2139062143 : Nat) : Int) := u32_and_nat w 2139062143 h (by decide)
  have e2 : (w : Int) / 128 = ((w / 128 : Nat) : Int) := by omega
  have e3 : bits .and .u32 ((w / 128 : Nat) : Int) 16843009 = ((w / 128 &&& 16843009 : Nat) : Int) := u32_and_nat (w / 128) 16843009 (by omega) (by decide)
  rw [e1, e2, e3]
  have e4 : (((w &&& 2139062143 : Nat) : Int) * 2 % 4294967296) = (((w &&& 2139062143) * 2 % 4294967296 : Nat) : Int) := by simp
  have e5 : (((w / 128 &&& 16843009 : Nat) : Int) * 27 % 4294967296) = (((w / 128 &&& 16843009) * 27 % 4294967296 : Nat) : Int) := by simp
  rw [e4, e5, u32_xor_nat _ _ (Nat.mod_lt _ (by decide)) (Nat.mod_lt _ (by decide))]
  rfl
theorem dblW_lt (w : Nat) : dblW w < 4294967296 := Nat.xor_lt_two_pow (n := 32) (Nat.mod_lt _ (by decide)) (Nat.mod_lt _ (by decide))
set_option maxHeartbeats 2000000 in
set_option maxRecDepth 100000 in
theorem dbl_any (x : Nat) (h : x < 4294967296) (w : World) : Calls Try.prog 41 #[.int .u32 (x : Int)] w fun e w' => e = .returned (.int .u32 (dblW x : Nat)) ∧ w' = w := by
  have HD := hide (dbl_int x h)
  go_enter Try.func41, Try.ntmps41
  go_wp2
  go_ret
  exact ⟨ret_int HD.out, rfl⟩
/-- a product, from the highest bit on -/
def horN (a b : Nat) : Nat → Nat
  | 0 => 0
  | i + 1 => xt (horN a b i) ^^^ (if b / 2 ^ (7 - i) % 2 = 1 then a else 0)
theorem horN_lt {a : Nat} (ha : a < 256) (b : Nat) : ∀ i, horN a b i < 256
  | 0 => by show 0 < 256; decide
  | i + 1 => by
    show xt (horN a b i) ^^^ _ < 256
    refine xor_8 (xt_lt (horN_lt ha b i)) ?_
    split
    · exact ha
    · decide
theorem horN_l {a a' : Nat} (ha : a < 256) (ha' : a' < 256) (b : Nat) : ∀ i, horN (a ^^^ a') b i = horN a b i ^^^ horN a' b i
  | 0 => by simp [horN]
  | i + 1 => by
    show xt (horN (a ^^^ a') b i) ^^^ _ = (xt (horN a b i) ^^^ _) ^^^ (xt (horN a' b i) ^^^ _)
    rw [horN_l ha ha' b i, xt_xor (horN_lt ha b i) (horN_lt ha' b i)]
    split
    · ac_rfl
    · simp
theorem hor_mul {a b : Nat} (ha : a < 256) (hb : b < 256) : horN a b 8 = mulB a b := by
  have h : ((List.range 8).all fun i => (List.range 256).all fun b => horN (2 ^ i) b 8 == mulB (2 ^ i) b) = true := by kernel_rfl
  have h0 : ((List.range 256).all fun b => horN 0 b 8 == mulB 0 b) = true := by kernel_rfl
  exact add_ext (f := fun a => horN a b 8) (g := fun a => mulB a b) (fun x y hx hy => horN_l hx hy b 8) (adds_l b) (eq_of_beq (all256 h0 b hb)) (fun i hi => eq_of_beq (all256 (List.all_eq_true.1 h i (List.mem_range.2 hi)) b hb)) a ha
/-- where the loop stands -/
def HoL (a b : Nat) (vp vi : Value) : Prop := ∃ i : Nat, i ≤ 8 ∧ vp = .int .u8 (horN a b i : Nat) ∧ vi = .int .i64 (i : Int)
theorem hor_next {a b i : Nat} : horN a b (i + 1) = xt (horN a b i) ^^^ (if b / 2 ^ (7 - i) % 2 = 1 then a else 0) := rfl
set_option maxHeartbeats 4000000 in
set_option maxRecDepth 100000 in
theorem cmul_any (a b : Nat) (ha : a < 256) (hb : b < 256) (w : World) : Calls Try.prog 19 #[.int .u8 (a : Int), .int .u8 (b : Int)] w fun e w' => e = .returned (.int .u8 (mulB a b : Nat)) ∧ w' = w := by
  go_enter Try.func19, Try.ntmps19
  go_wp2
  go_loop [5, 8] (fun vp vi => HoL a b vp vi) (fun _ vi => 8 - (intOf vi).toNat)
  case atStart => exact ⟨0, by decide, rfl, rfl⟩
  case round =>
    obtain ⟨i, hi, rfl, rfl⟩ := hrel
    by_cases hlt : i < 8
    · have hli : (i : Int) < 8 := by omega
      have hp := horN_lt ha b i
      have hnx := hor_next (a := a) (b := b) (i := i)
      generalize horN a b i = p at *
      have xl := xt_lt hp
      have hdb := fun y => dbl_any p (by omega) y
      rw [dbl_byte hp] at hdb
      generalize xt p = q at *
      have s_q : IntKind.u8.wrap (q : Int) = (q : Int) := by rw [IntKind.wrap_u8]; omega
      have s_p : IntKind.u32.wrap (p : Int) = (p : Int) := by rw [IntKind.wrap_u32]; omega
      have s_a : IntKind.u8.wrap (a : Int) = (a : Int) := by rw [IntKind.wrap_u8]; omega
      have m_a : (a : Int) % 256 = (a : Int) := by omega
      have m_q : (q : Int) % 256 = (q : Int) := by omega
      have fx := u8_xor_nat q a xl ha
      have fz := u8_xor_nat q 0 xl (by decide)
      rw [Nat.xor_zero] at fz
      have h8 : i = 0 ∨ i = 1 ∨ i = 2 ∨ i = 3 ∨ i = 4 ∨ i = 5 ∨ i = 6 ∨ i = 7 := by omega
      rcases h8 with h | h | h | h | h | h | h | h <;> subst h
      · have fb : bits .and .u8 ((b : Int) / 128) 1 = ((b / 128 % 2 : Nat) : Int) := by
          have e : (b : Int) / 128 = ((b / 128 : Nat) : Int) := by omega
          rw [e, and_1 _ (by omega)]
        have hnx' : horN a b 1 = q ^^^ (if b / 128 % 2 = 1 then a else 0) := by simpa using hnx
        clear hnx
        by_cases ho : b / 128 % 2 = 1
        · rw [if_pos ho] at hnx'
          rw [ho] at fb
          have HN := hide hnx'
          clear hnx' ho
          go_wp2_with fail
          refine (hdb _).mono ?_
          rintro e y ⟨rfl, hy⟩
          obtain rfl := hy.symm
          go_wp2
          exact ⟨⟨1, by decide, by rw [HN.out], rfl⟩, by simp [intOf]⟩
        · rw [if_neg ho, Nat.xor_zero] at hnx'
          have ho' : b / 128 % 2 = 0 := by omega
          rw [ho'] at fb
          have HN := hide hnx'
          clear hnx' ho ho'
          go_wp2_with fail
          refine (hdb _).mono ?_
          rintro e y ⟨rfl, hy⟩
          obtain rfl := hy.symm
          go_wp2
          exact ⟨⟨1, by decide, by rw [HN.out]; exact vint fz, rfl⟩, by simp [intOf]⟩
      · have fb : bits .and .u8 ((b : Int) / 64) 1 = ((b / 64 % 2 : Nat) : Int) := by
          have e : (b : Int) / 64 = ((b / 64 : Nat) : Int) := by omega
          rw [e, and_1 _ (by omega)]
        have hnx' : horN a b 2 = q ^^^ (if b / 64 % 2 = 1 then a else 0) := by simpa using hnx
        clear hnx
        by_cases ho : b / 64 % 2 = 1
        · rw [if_pos ho] at hnx'
          rw [ho] at fb
          have HN := hide hnx'
          clear hnx' ho
          go_wp2_with fail
          refine (hdb _).mono ?_
          rintro e y ⟨rfl, hy⟩
          obtain rfl := hy.symm
          go_wp2
          exact ⟨⟨2, by decide, by rw [HN.out], rfl⟩, by simp [intOf]⟩
        · rw [if_neg ho, Nat.xor_zero] at hnx'
          have ho' : b / 64 % 2 = 0 := by omega
          rw [ho'] at fb
          have HN := hide hnx'
          clear hnx' ho ho'
          go_wp2_with fail
          refine (hdb _).mono ?_
          rintro e y ⟨rfl, hy⟩
          obtain rfl := hy.symm
          go_wp2
          exact ⟨⟨2, by decide, by rw [HN.out]; exact vint fz, rfl⟩, by simp [intOf]⟩
      · have fb : bits .and .u8 ((b : Int) / 32) 1 = ((b / 32 % 2 : Nat) : Int) := by
          have e : (b : Int) / 32 = ((b / 32 : Nat) : Int) := by omega
          rw [e, and_1 _ (by omega)]
        have hnx' : horN a b 3 = q ^^^ (if b / 32 % 2 = 1 then a else 0) := by simpa using hnx
        clear hnx
        by_cases ho : b / 32 % 2 = 1
        · rw [if_pos ho] at hnx'
          rw [ho] at fb
          have HN := hide hnx'
          clear hnx' ho
          go_wp2_with fail
          refine (hdb _).mono ?_
          rintro e y ⟨rfl, hy⟩
          obtain rfl := hy.symm
          go_wp2
          exact ⟨⟨3, by decide, by rw [HN.out], rfl⟩, by simp [intOf]⟩
        · rw [if_neg ho, Nat.xor_zero] at hnx'
          have ho' : b / 32 % 2 = 0 := by omega
          rw [ho'] at fb
          have HN := hide hnx'
          clear hnx' ho ho'
          go_wp2_with fail
          refine (hdb _).mono ?_
          rintro e y ⟨rfl, hy⟩
          obtain rfl := hy.symm
          go_wp2
          exact ⟨⟨3, by decide, by rw [HN.out]; exact vint fz, rfl⟩, by simp [intOf]⟩
      · have fb : bits .and .u8 ((b : Int) / 16) 1 = ((b / 16 % 2 : Nat) : Int) := by
          have e : (b : Int) / 16 = ((b / 16 : Nat) : Int) := by omega
          rw [e, and_1 _ (by omega)]
        have hnx' : horN a b 4 = q ^^^ (if b / 16 % 2 = 1 then a else 0) := by simpa using hnx
        clear hnx
        by_cases ho : b / 16 % 2 = 1
        · rw [if_pos ho] at hnx'
          rw [ho] at fb
          have HN := hide hnx'
          clear hnx' ho
          go_wp2_with fail
          refine (hdb _).mono ?_
          rintro e y ⟨rfl, hy⟩
          obtain rfl := hy.symm
          go_wp2
          exact ⟨⟨4, by decide, by rw [HN.out], rfl⟩, by simp [intOf]⟩
        · rw [if_neg ho, Nat.xor_zero] at hnx'
          have ho' : b / 16 % 2 = 0 := by omega
          rw [ho'] at fb
          have HN := hide hnx'
          clear hnx' ho ho'
          go_wp2_with fail
          refine (hdb _).mono ?_
          rintro e y ⟨rfl, hy⟩
          obtain rfl := hy.symm
          go_wp2
          exact ⟨⟨4, by decide, by rw [HN.out]; exact vint fz, rfl⟩, by simp [intOf]⟩
      · have fb : bits .and .u8 ((b : Int) / 8) 1 = ((b / 8 % 2 : Nat) : Int) := by
          have e : (b : Int) / 8 = ((b / 8 : Nat) : Int) := by omega
          rw [e, and_1 _ (by omega)]
        have hnx' : horN a b 5 = q ^^^ (if b / 8 % 2 = 1 then a else 0) := by simpa using hnx
        clear hnx
        by_cases ho : b / 8 % 2 = 1
        · rw [if_pos ho] at hnx'
          rw [ho] at fb
          have HN := hide hnx'
          clear hnx' ho
          go_wp2_with fail
          refine (hdb _).mono ?_
          rintro e y ⟨rfl, hy⟩
          obtain rfl := hy.symm
          go_wp2
          exact ⟨⟨5, by decide, by rw [HN.out], rfl⟩, by simp [intOf]⟩
        · rw [if_neg ho, Nat.xor_zero] at hnx'
          have ho' : b / 8 % 2 = 0 := by omega
          rw [ho'] at fb
          have HN := hide hnx'
          clear hnx' ho ho'
          go_wp2_with fail
          refine (hdb _).mono ?_
          rintro e y ⟨rfl, hy⟩
          obtain rfl := hy.symm
          go_wp2
          exact ⟨⟨5, by decide, by rw [HN.out]; exact vint fz, rfl⟩, by simp [intOf]⟩
      · have fb : bits .and .u8 ((b : Int) / 4) 1 = ((b / 4 % 2 : Nat) : Int) := by
          have e : (b : Int) / 4 = ((b / 4 : Nat) : Int) := by omega
          rw [e, and_1 _ (by omega)]
        have hnx' : horN a b 6 = q ^^^ (if b / 4 % 2 = 1 then a else 0) := by simpa using hnx
        clear hnx
        by_cases ho : b / 4 % 2 = 1
        · rw [if_pos ho] at hnx'
          rw [ho] at fb
          have HN := hide hnx'
          clear hnx' ho
          go_wp2_with fail
          refine (hdb _).mono ?_
          rintro e y ⟨rfl, hy⟩
          obtain rfl := hy.symm
          go_wp2
          exact ⟨⟨6, by decide, by rw [HN.out], rfl⟩, by simp [intOf]⟩
        · rw [if_neg ho, Nat.xor_zero] at hnx'
          have ho' : b / 4 % 2 = 0 := by omega
          rw [ho'] at fb
          have HN := hide hnx'
          clear hnx' ho ho'
          go_wp2_with fail
          refine (hdb _).mono ?_
          rintro e y ⟨rfl, hy⟩
          obtain rfl := hy.symm
          go_wp2
          exact ⟨⟨6, by decide, by rw [HN.out]; exact vint fz, rfl⟩, by simp [intOf]⟩
      · have fb : bits .and .u8 ((b : Int) / 2) 1 = ((b / 2 % 2 : Nat) : Int) := by
          have e : (b : Int) / 2 = ((b / 2 : Nat) : Int) := by omega
          rw [e, and_1 _ (by omega)]
        have hnx' : horN a b 7 = q ^^^ (if b / 2 % 2 = 1 then a else 0) := by simpa using hnx
        clear hnx
        by_cases ho : b / 2 % 2 = 1
        · rw [if_pos ho] at hnx'
          rw [ho] at fb
          have HN := hide hnx'
          clear hnx' ho
          go_wp2_with fail
          refine (hdb _).mono ?_
          rintro e y ⟨rfl, hy⟩
          obtain rfl := hy.symm
          go_wp2
          exact ⟨⟨7, by decide, by rw [HN.out], rfl⟩, by simp [intOf]⟩
        · rw [if_neg ho, Nat.xor_zero] at hnx'
          have ho' : b / 2 % 2 = 0 := by omega
          rw [ho'] at fb
          have HN := hide hnx'
          clear hnx' ho ho'
          go_wp2_with fail
          refine (hdb _).mono ?_
          rintro e y ⟨rfl, hy⟩
          obtain rfl := hy.symm
          go_wp2
          exact ⟨⟨7, by decide, by rw [HN.out]; exact vint fz, rfl⟩, by simp [intOf]⟩
      · have fb : bits .and .u8 ((b : Int)) 1 = ((b % 2 : Nat) : Int) := by
          have e : (b : Int) = ((b : Nat) : Int) := by omega
          rw [e, and_1 _ (by omega)]
        have hnx' : horN a b 8 = q ^^^ (if b % 2 = 1 then a else 0) := by simpa using hnx
        clear hnx
        by_cases ho : b % 2 = 1
        · rw [if_pos ho] at hnx'
          rw [ho] at fb
          have HN := hide hnx'
          clear hnx' ho
          go_wp2_with fail
          refine (hdb _).mono ?_
          rintro e y ⟨rfl, hy⟩
          obtain rfl := hy.symm
          go_wp2
          exact ⟨⟨8, by decide, by rw [HN.out], rfl⟩, by simp [intOf]⟩
        · rw [if_neg ho, Nat.xor_zero] at hnx'
          have ho' : b % 2 = 0 := by omega
          rw [ho'] at fb
          have HN := hide hnx'
          clear hnx' ho ho'
          go_wp2_with fail
          refine (hdb _).mono ?_
          rintro e y ⟨rfl, hy⟩
          obtain rfl := hy.symm
          go_wp2
          exact ⟨⟨8, by decide, by rw [HN.out]; exact vint fz, rfl⟩, by simp [intOf]⟩
    · obtain rfl : i = 8 := by omega
      have HE := hide (hor_mul ha hb)
      generalize horN a b 8 = M at *
      go_wp2
      go_ret
      exact ⟨by rw [← HE.out]; rfl, rfl⟩
end Go.Proofs.Yteiknfcegchbcaa
