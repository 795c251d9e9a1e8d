/- The code's doubled, Mul. -/
import Derived.Test.YtjeofkemfpdieaaAesW
import Derived.Test.YtjeofkemfpdieaaAMul
import Derived.Laws.ShiftsVarLaws
namespace Go.Proofs.Ytjeofkemfpdieaa
open Go.RowKit
set_option linter.unusedVariables false
set_option linter.unusedSimpArgs false

theorem dbl_int (w : Nat) (h : w < 4294967296) : bits .xor .u32 (bits .and .u32 (w : Int) 2139062143 * 2 % 4294967296) (bits .and .u32 ((w : Int) / 128) 16843009 * 27 % 4294967296) = ((dblW w : Nat) : Int) := by
  have e1 : bits .and .u32 (w : Int) 2139062143 = ((w &&& 2139062143 : Nat) : Int) := u32_and_nat w 2139062143 h (by decide)
  have e2 : (w : Int) / 128 = ((w / 128 : Nat) : Int) := by omega
  have e3 : bits .and .u32 ((w / 128 : Nat) : Int) 16843009 = ((w / 128 &&& 16843009 : Nat) : Int) := u32_and_nat (w / 128) 16843009 (by omega) (by decide)
  rw [e1, e2, e3]
  have e4 : (((w &&& 2139062143 : Nat) : Int) * 2 % 4294967296) = (((w &&& 2139062143) * 2 % 4294967296 : Nat) : Int) := by simp
  have e5 : (((w / 128 &&& 16843009 : Nat) : Int) * 27 % 4294967296) = (((w / 128 &&& 16843009) * 27 % 4294967296 : Nat) : Int) := by simp
  rw [e4, e5, u32_xor_nat _ _ (Nat.mod_lt _ (by decide)) (Nat.mod_lt _ (by decide))]
  rfl
theorem dblW_lt (w : Nat) : dblW w < 4294967296 := Nat.xor_lt_two_pow (n := 32) (Nat.mod_lt _ (by decide)) (Nat.mod_lt _ (by decide))
set_option maxHeartbeats 2000000 in
set_option maxRecDepth 100000 in
theorem dbl_any (x : Nat) (h : x < 4294967296) (w : World) : Calls Try.prog 80 #[.int .u32 (x : Int)] w fun e w' => e = .returned (.int .u32 (dblW x : Nat)) ∧ w' = w := by
  have HD := hide (dbl_int x h)
  go_enter Try.func80, Try.ntmps80
  go_wp2
  go_ret
  exact ⟨ret_int HD.out, rfl⟩
/-- a product, from the highest bit on -/
def horN (a b : Nat) : Nat → Nat
  | 0 => 0
  | i + 1 => xt (horN a b i) ^^^ (if b / 2 ^ (7 - i) % 2 = 1 then a else 0)
theorem horN_lt {a : Nat} (ha : a < 256) (b : Nat) : ∀ i, horN a b i < 256
  | 0 => by show 0 < 256; decide
  | i + 1 => by
    show xt (horN a b i) ^^^ _ < 256
    refine xor_8 (xt_lt (horN_lt ha b i)) ?_
    split
    · exact ha
    · decide
theorem horN_l {a a' : Nat} (ha : a < 256) (ha' : a' < 256) (b : Nat) : ∀ i, horN (a ^^^ a') b i = horN a b i ^^^ horN a' b i
  | 0 => by simp [horN]
  | i + 1 => by
    show xt (horN (a ^^^ a') b i) ^^^ _ = (xt (horN a b i) ^^^ _) ^^^ (xt (horN a' b i) ^^^ _)
    rw [horN_l ha ha' b i, xt_xor (horN_lt ha b i) (horN_lt ha' b i)]
    split
    · ac_rfl
    · simp
theorem hor_mul {a b : Nat} (ha : a < 256) (hb : b < 256) : horN a b 8 = mulB a b := by
  have h : ((List.range 8).all fun i => (List.range 256).all fun b => horN (2 ^ i) b 8 == mulB (2 ^ i) b) = true := by kernel_rfl
  have h0 : ((List.range 256).all fun b => horN 0 b 8 == mulB 0 b) = true := by kernel_rfl
  exact add_ext (f := fun a => horN a b 8) (g := fun a => mulB a b) (fun x y hx hy => horN_l hx hy b 8) (adds_l b) (eq_of_beq (all256 h0 b hb)) (fun i hi => eq_of_beq (all256 (List.all_eq_true.1 h i (List.mem_range.2 hi)) b hb)) a ha
/-- where the loop stands -/
def HoL (a b : Nat) (vp vi : Value) : Prop := ∃ i : Nat, i ≤ 8 ∧ vp = .int .u8 (horN a b i : Nat) ∧ vi = .int .i64 (i : Int)
theorem hor_next {a b i : Nat} : horN a b (i + 1) = xt (horN a b i) ^^^ (if b / 2 ^ (7 - i) % 2 = 1 then a else 0) := rfl
set_option maxHeartbeats 4000000 in
set_option maxRecDepth 100000 in
theorem cmul_any (a b : Nat) (ha : a < 256) (hb : b < 256) (w : World) : Calls Try.prog 71 #[.int .u8 (a : Int), .int .u8 (b : Int)] w fun e w' => e = .returned (.int .u8 (mulB a b : Nat)) ∧ w' = w := by
  go_enter Try.func71, Try.ntmps71
  go_wp2
  go_loop [5, 8] (fun vp vi => HoL a b vp vi) (fun _ vi => 8 - (intOf vi).toNat)
  case atStart => exact ⟨0, by decide, rfl, rfl⟩
  case round =>
    obtain ⟨i, hi, rfl, rfl⟩ := hrel
    by_cases hlt : i < 8
    · have hli : (i : Int) < 8 := by omega
      have hp := horN_lt ha b i
      have hnx := hor_next (a := a) (b := b) (i := i)
      generalize horN a b i = p at *
      have xl := xt_lt hp
      have hdb := fun y => dbl_any p (by omega) y
      rw [dbl_byte hp] at hdb
      generalize xt p = q at *
      have s_q : IntKind.u8.wrap (q : Int) = (q : Int) := by rw [IntKind.wrap_u8]; omega
      have s_p : IntKind.u32.wrap (p : Int) = (p : Int) := by rw [IntKind.wrap_u32]; omega
      have s_a : IntKind.u8.wrap (a : Int) = (a : Int) := by rw [IntKind.wrap_u8]; omega
      have m_a : (a : Int) % 256 = (a : Int) := by omega
      have m_q : (q : Int) % 256 = (q : Int) := by omega
      have fx := u8_xor_nat q a xl ha
      have fz := u8_xor_nat q 0 xl (by decide)
      rw [Nat.xor_zero] at fz
      have h8 : i = 0 ∨ i = 1 ∨ i = 2 ∨ i = 3 ∨ i = 4 ∨ i = 5 ∨ i = 6 ∨ i = 7 := by omega
      rcases h8 with h | h | h | h | h | h | h | h <;> subst h
      · have fb : bits .and .u8 ((b : Int) / 128) 1 = ((b / 128 % 2 : Nat) : Int) := by
          have e : (b : Int) / 128 = ((b / 128 : Nat) : Int) := by omega
          rw [e, and_1 _ (by omega)]
        have hnx' : horN a b 1 = q ^^^ (if b / 128 % 2 = 1 then a else 0) := by simpa using hnx
        clear hnx
        by_cases ho : b / 128 % 2 = 1
        · rw [if_pos ho] at hnx'
          rw [ho] at fb
          have HN := hide hnx'
          clear hnx' ho
          go_wp2_with fail
          refine (hdb _).mono ?_
          rintro e y ⟨rfl, hy⟩
          obtain rfl := hy.symm
          go_wp2
          exact ⟨⟨1, by decide, by rw [HN.out], rfl⟩, by simp [intOf]⟩
        · rw [if_neg ho, Nat.xor_zero] at hnx'
          have ho' : b / 128 % 2 = 0 := by omega
          rw [ho'] at fb
          have HN := hide hnx'
          clear hnx' ho ho'
          go_wp2_with fail
          refine (hdb _).mono ?_
          rintro e y ⟨rfl, hy⟩
          obtain rfl := hy.symm
          go_wp2
          exact ⟨⟨1, by decide, by rw [HN.out]; exact vint fz, rfl⟩, by simp [intOf]⟩
      · have fb : bits .and .u8 ((b : Int) / 64) 1 = ((b / 64 % 2 : Nat) : Int) := by
          have e : (b : Int) / 64 = ((b / 64 : Nat) : Int) := by omega
          rw [e, and_1 _ (by omega)]
        have hnx' : horN a b 2 = q ^^^ (if b / 64 % 2 = 1 then a else 0) := by simpa using hnx
        clear hnx
        by_cases ho : b / 64 % 2 = 1
        · rw [if_pos ho] at hnx'
          rw [ho] at fb
          have HN := hide hnx'
          clear hnx' ho
          go_wp2_with fail
          refine (hdb _).mono ?_
          rintro e y ⟨rfl, hy⟩
          obtain rfl := hy.symm
          go_wp2
          exact ⟨⟨2, by decide, by rw [HN.out], rfl⟩, by simp [intOf]⟩
        · rw [if_neg ho, Nat.xor_zero] at hnx'
          have ho' : b / 64 % 2 = 0 := by omega
          rw [ho'] at fb
          have HN := hide hnx'
          clear hnx' ho ho'
          go_wp2_with fail
          refine (hdb _).mono ?_
          rintro e y ⟨rfl, hy⟩
          obtain rfl := hy.symm
          go_wp2
          exact ⟨⟨2, by decide, by rw [HN.out]; exact vint fz, rfl⟩, by simp [intOf]⟩
      · have fb : bits .and .u8 ((b : Int) / 32) 1 = ((b / 32 % 2 : Nat) : Int) := by
          have e : (b : Int) / 32 = ((b / 32 : Nat) : Int) := by omega
          rw [e, and_1 _ (by omega)]
        have hnx' : horN a b 3 = q ^^^ (if b / 32 % 2 = 1 then a else 0) := by simpa using hnx
        clear hnx
        by_cases ho : b / 32 % 2 = 1
        · rw [if_pos ho] at hnx'
          rw [ho] at fb
          have HN := hide hnx'
          clear hnx' ho
          go_wp2_with fail
          refine (hdb _).mono ?_
          rintro e y ⟨rfl, hy⟩
          obtain rfl := hy.symm
          go_wp2
          exact ⟨⟨3, by decide, by rw [HN.out], rfl⟩, by simp [intOf]⟩
        · rw [if_neg ho, Nat.xor_zero] at hnx'
          have ho' : b / 32 % 2 = 0 := by omega
          rw [ho'] at fb
          have HN := hide hnx'
          clear hnx' ho ho'
          go_wp2_with fail
          refine (hdb _).mono ?_
          rintro e y ⟨rfl, hy⟩
          obtain rfl := hy.symm
          go_wp2
          exact ⟨⟨3, by decide, by rw [HN.out]; exact vint fz, rfl⟩, by simp [intOf]⟩
      · have fb : bits .and .u8 ((b : Int) / 16) 1 = ((b / 16 % 2 : Nat) : Int) := by
          have e : (b : Int) / 16 = ((b / 16 : Nat) : Int) := by omega
          rw [e, and_1 _ (by omega)]
        have hnx' : horN a b 4 = q ^^^ (if b / 16 % 2 = 1 then a else 0) := by simpa using hnx
        clear hnx
        by_cases ho : b / 16 % 2 = 1
        · rw [if_pos ho] at hnx'
          rw [ho] at fb
          have HN := hide hnx'
          clear hnx' ho
          go_wp2_with fail
          refine (hdb _).mono ?_
          rintro e y ⟨rfl, hy⟩
          obtain rfl := hy.symm
          go_wp2
          exact ⟨⟨4, by decide, by rw [HN.out], rfl⟩, by simp [intOf]⟩
        · rw [if_neg ho, Nat.xor_zero] at hnx'
          have ho' : b / 16 % 2 = 0 := by omega
          rw [ho'] at fb
          have HN := hide hnx'
          clear hnx' ho ho'
          go_wp2_with fail
          refine (hdb _).mono ?_
          rintro e y ⟨rfl, hy⟩
          obtain rfl := hy.symm
          go_wp2
          exact ⟨⟨4, by decide, by rw [HN.out]; exact vint fz, rfl⟩, by simp [intOf]⟩
      · have fb : bits .and .u8 ((b : Int) / 8) 1 = ((b / 8 % 2 : Nat) : Int) := by
          have e : (b : Int) / 8 = ((b / 8 : Nat) : Int) := by omega
          rw [e, and_1 _ (by omega)]
        have hnx' : horN a b 5 = q ^^^ (if b / 8 % 2 = 1 then a else 0) := by simpa using hnx
        clear hnx
        by_cases ho : b / 8 % 2 = 1
        · rw [if_pos ho] at hnx'
          rw [ho] at fb
          have HN := hide hnx'
          clear hnx' ho
          go_wp2_with fail
          refine (hdb _).mono ?_
          rintro e y ⟨rfl, hy⟩
          obtain rfl := hy.symm
          go_wp2
          exact ⟨⟨5, by decide, by rw [HN.out], rfl⟩, by simp [intOf]⟩
        · rw [if_neg ho, Nat.xor_zero] at hnx'
          have ho' : b / 8 % 2 = 0 := by omega
          rw [ho'] at fb
          have HN := hide hnx'
          clear hnx' ho ho'
          go_wp2_with fail
          refine (hdb _).mono ?_
          rintro e y ⟨rfl, hy⟩
          obtain rfl := hy.symm
          go_wp2
          exact ⟨⟨5, by decide, by rw [HN.out]; exact vint fz, rfl⟩, by simp [intOf]⟩
      · have fb : bits .and .u8 ((b : Int) / 4) 1 = ((b / 4 % 2 : Nat) : Int) := by
          have e : (b : Int) / 4 = ((b / 4 : Nat) : Int) := by omega
          rw [e, and_1 _ (by omega)]
        have hnx' : horN a b 6 = q ^^^ (if b / 4 % 2 = 1 then a else 0) := by simpa using hnx
        clear hnx
        by_cases ho : b / 4 % 2 = 1
        · rw [if_pos ho] at hnx'
          rw [ho] at fb
          have HN := hide hnx'
          clear hnx' ho
          go_wp2_with fail
          refine (hdb _).mono ?_
          rintro e y ⟨rfl, hy⟩
          obtain rfl := hy.symm
          go_wp2
          exact ⟨⟨6, by decide, by rw [HN.out], rfl⟩, by simp [intOf]⟩
        · rw [if_neg ho, Nat.xor_zero] at hnx'
          have ho' : b / 4 % 2 = 0 := by omega
          rw [ho'] at fb
          have HN := hide hnx'
          clear hnx' ho ho'
          go_wp2_with fail
          refine (hdb _).mono ?_
          rintro e y ⟨rfl, hy⟩
          obtain rfl := hy.symm
          go_wp2
          exact ⟨⟨6, by decide, by rw [HN.out]; exact vint fz, rfl⟩, by simp [intOf]⟩
      · have fb : bits .and .u8 ((b : Int) / 2) 1 = ((b / 2 % 2 : Nat) : Int) := by
          have e : (b : Int) / 2 = ((b / 2 : Nat) : Int) := by omega
          rw [e, and_1 _ (by omega)]
        have hnx' : horN a b 7 = q ^^^ (if b / 2 % 2 = 1 then a else 0) := by simpa using hnx
        clear hnx
        by_cases ho : b / 2 % 2 = 1
        · rw [if_pos ho] at hnx'
          rw [ho] at fb
          have HN := hide hnx'
          clear hnx' ho
          go_wp2_with fail
          refine (hdb _).mono ?_
          rintro e y ⟨rfl, hy⟩
          obtain rfl := hy.symm
          go_wp2
          exact ⟨⟨7, by decide, by rw [HN.out], rfl⟩, by simp [intOf]⟩
        · rw [if_neg ho, Nat.xor_zero] at hnx'
          have ho' : b / 2 % 2 = 0 := by omega
          rw [ho'] at fb
          have HN := hide hnx'
          clear hnx' ho ho'
          go_wp2_with fail
          refine (hdb _).mono ?_
          rintro e y ⟨rfl, hy⟩
          obtain rfl := hy.symm
          go_wp2
          exact ⟨⟨7, by decide, by rw [HN.out]; exact vint fz, rfl⟩, by simp [intOf]⟩
      · have fb : bits .and .u8 ((b : Int)) 1 = ((b % 2 : Nat) : Int) := by
          have e : (b : Int) = ((b : Nat) : Int) := by omega
          rw [e, and_1 _ (by omega)]
        have hnx' : horN a b 8 = q ^^^ (if b % 2 = 1 then a else 0) := by simpa using hnx
        clear hnx
        by_cases ho : b % 2 = 1
        · rw [if_pos ho] at hnx'
          rw [ho] at fb
          have HN := hide hnx'
          clear hnx' ho
          go_wp2_with fail
          refine (hdb _).mono ?_
          rintro e y ⟨rfl, hy⟩
          obtain rfl := hy.symm
          go_wp2
          exact ⟨⟨8, by decide, by rw [HN.out], rfl⟩, by simp [intOf]⟩
        · rw [if_neg ho, Nat.xor_zero] at hnx'
          have ho' : b % 2 = 0 := by omega
          rw [ho'] at fb
          have HN := hide hnx'
          clear hnx' ho ho'
          go_wp2_with fail
          refine (hdb _).mono ?_
          rintro e y ⟨rfl, hy⟩
          obtain rfl := hy.symm
          go_wp2
          exact ⟨⟨8, by decide, by rw [HN.out]; exact vint fz, rfl⟩, by simp [intOf]⟩
    · obtain rfl : i = 8 := by omega
      have HE := hide (hor_mul ha hb)
      generalize horN a b 8 = M at *
      go_wp2
      go_ret
      exact ⟨by rw [← HE.out]; rfl, rfl⟩
end Go.Proofs.Ytjeofkemfpdieaa

/- The code's tables: spread, powers, boxes, inverse, Box. -/
namespace Go.Proofs.Ytjeofkemfpdieaa
open Go.RowKit
set_option linter.unusedVariables false
set_option linter.unusedSimpArgs false

/-- the powers of x + 1 -/
def powT : List Nat := [1, 3, 5, 15, 17, 51, 85, 255, 26, 46, 114, 150, 161, 248, 19, 53, 95, 225, 56, 72, 216, 115, 149, 164, 247, 2, 6, 10, 30, 34, 102, 170] ++ [229, 52, 92, 228, 55, 89, 235, 38, 106, 190, 217, 112, 144, 171, 230, 49, 83, 245, 4, 12, 20, 60, 68, 204, 79, 209, 104, 184, 211, 110, 178, 205] ++ [76, 212, 103, 169, 224, 59, 77, 215, 98, 166, 241, 8, 24, 40, 120, 136, 131, 158, 185, 208, 107, 189, 220, 127, 129, 152, 179, 206, 73, 219, 118, 154] ++ [181, 196, 87, 249, 16, 48, 80, 240, 11, 29, 39, 105, 187, 214, 97, 163, 254, 25, 43, 125, 135, 146, 173, 236, 47, 113, 147, 174, 233, 32, 96, 160] ++ [251, 22, 58, 78, 210, 109, 183, 194, 93, 231, 50, 86, 250, 21, 63, 65, 195, 94, 226, 61, 71, 201, 64, 192, 91, 237, 44, 116, 156, 191, 218, 117] ++ [159, 186, 213, 100, 172, 239, 42, 126, 130, 157, 188, 223, 122, 142, 137, 128, 155, 182, 193, 88, 232, 35, 101, 175, 234, 37, 111, 177, 200, 67, 197, 84] ++ [252, 31, 33, 99, 165, 244, 7, 9, 27, 45, 119, 153, 176, 203, 70, 202, 69, 207, 74, 222, 121, 139, 134, 145, 168, 227, 62, 66, 198, 81, 243, 14] ++ [18, 54, 90, 238, 41, 123, 141, 140, 143, 138, 133, 148, 167, 242, 13, 23, 57, 75, 221, 124, 132, 151, 162, 253, 28, 36, 108, 180, 199, 82, 246, 1]
def pwN (i : Nat) : Nat := if i < 256 then el powT i else 3
theorem powT_len : powT.length = 256 := by kernel_rfl
theorem pw_lt (i : Nat) : pwN i < 256 := by
  unfold pwN
  split
  · exact el_lt (dec_under (by kernel_rfl)) (by decide) i
  · decide
theorem pw_next {i : Nat} (h : i < 256) : pwN (i + 1) = pwN i ^^^ xt (pwN i) := by
  have : ((List.range 256).all fun i => pwN (i + 1) == pwN i ^^^ xt (pwN i)) = true := by kernel_rfl
  exact eq_of_beq (all256 this i h)
theorem pw_all : upd pwN (zA 256) 256 = powT := by
  refine ext_el (by rw [upd_len, zA_len, powT_len]) fun i hi => ?_
  rw [upd_len, zA_len] at hi
  rw [upd_el _ _ _ (by rw [zA_len]; exact Nat.le_refl _), if_pos hi]
  unfold pwN
  rw [if_pos hi]
theorem pw_el {i : Nat} (h : i < 256) : el powT i = pwN i := by unfold pwN; rw [if_pos h]
/-- a byte spread -/
def spB (c : Nat) : Nat := boxS 5 c 0 99
theorem spB_lt {c : Nat} (h : c < 256) : spB c < 256 := by
  have : ((List.range 256).all fun c => decide (spB c < 256)) = true := by kernel_rfl
  exact of_decide_eq_true (all256 this c h)
def wide (c : Int) : Int := bits .xor .u32 (bits .xor .u32 (bits .xor .u32 (bits .xor .u32 c (c * 2)) (c * 4)) (c * 8)) (c * 16)
theorem spread_int (c : Nat) (h : c < 256) : IntKind.u8.wrap (bits .xor .u32 (bits .xor .u32 (wide (c : Int)) (wide (c : Int) / 256)) 99) = ((spB c : Nat) : Int) := by
  have : ((List.range 256).all fun c => IntKind.u8.wrap (bits .xor .u32 (bits .xor .u32 (wide (c : Int)) (wide (c : Int) / 256)) 99) == ((spB c : Nat) : Int)) = true := by kernel_rfl
  exact eq_of_beq (all256 this c h)
set_option maxHeartbeats 2000000 in
set_option maxRecDepth 100000 in
theorem spread_any (c : Nat) (h : c < 256) (w : World) : Calls Try.prog 76 #[.int .u8 (c : Int)] w fun e w' => e = .returned (.int .u8 (spB c : Nat)) ∧ w' = w := by
  have HD := hide (spread_int c h)
  unfold wide at HD
  go_enter Try.func76, Try.ntmps76
  go_wp2
  go_ret
  exact ⟨ret_int HD.out, rfl⟩
/-- where the loop stands -/
def PwL (w : World) (vp vi : Value) (wr : World) : Prop := ∃ i : Nat, i ≤ 256 ∧ vp = .int .u8 (pwN i : Nat) ∧ vi = .int .i64 (i : Int) ∧ Lies .u8 74 wr w.heap.size (zA 256) ∧ Lies .u8 74 wr (w.heap.size + 1) (upd pwN (zA 256) i) ∧ Below w.heap.size w wr
set_option maxHeartbeats 4000000 in
set_option maxRecDepth 100000 in
theorem powers_any (w : World) : Calls Try.prog 77 #[] w fun e w' => e = .returned (.agg (arr .u8 powT)) ∧ Below w.heap.size w w' := by
  have hz := zero256
  have L0 := (Lies.new .u8 74 w (zA 256)).alloc (.cells (arr .u8 (zA 256)) 74)
  have L1 := Lies.new .u8 74 (w.alloc (.cells (arr .u8 (zA 256)) 74)) (zA 256)
  have hb := keep_trans (keep_alloc w (.cells (arr .u8 (zA 256)) 74)) (keep_alloc _ (.cells (arr .u8 (zA 256)) 74))
  simp only [World.size_alloc, Nat.add_assoc, Nat.reduceAdd] at L1
  go_enter Try.func77, Try.ntmps77
  go_wp2
  generalize (w.alloc (.cells (arr .u8 (zA 256)) 74)).alloc (.cells (arr .u8 (zA 256)) 74) = x1 at *
  clear hz
  go_loopw [2, 4] (fun vp vi wr => PwL w vp vi wr) (fun _ vi _ => 256 - (intOf vi).toNat)
  case atStart => exact ⟨0, by decide, rfl, rfl, L0, L1, hb⟩
  case round =>
    obtain ⟨i, hi, rfl, rfl, h0, h1, hbr⟩ := hrel
    clear L0 L1 hb
    by_cases hlt : i < 256
    · have hli : (i : Int) < 256 := by omega
      have hp := pw_lt i
      have hnx := pw_next hlt
      have ell : (upd pwN (zA 256) i).length = 256 := by rw [upd_len, zA_len]
      have hst : Lies .u8 74 (wr.setCell ⟨w.heap.size + 1, i, none⟩ (.int .u8 (pwN i : Nat))) (w.heap.size + 1) (upd pwN (zA 256) (i + 1)) := h1.set i (pwN i)
      have a1 := h1.cell (i := i) (by rw [ell]; exact hlt)
      have a2 := h1.frozen i
      have HS := hide hst
      have HL := hide ell
      clear hst ell
      have hdb := fun y => dbl_any (pwN i) (by omega) y
      rw [dbl_byte hp] at hdb
      generalize pwN i = p at *
      have xl := xt_lt hp
      generalize xt p = q at *
      have s_q : IntKind.u8.wrap (q : Int) = (q : Int) := by rw [IntKind.wrap_u8]; omega
      have m_q : (q : Int) % 256 = (q : Int) := by omega
      have fx := u8_xor_nat p q hp xl
      have HN := hide hnx
      clear hnx
      go_wp2_with fail
      refine (hdb _).mono ?_
      rintro e y ⟨rfl, hy⟩
      obtain rfl := hy.symm
      go_wp2
      have bA : But (w.heap.size + 1) wr (wr.setCell ⟨w.heap.size + 1, i, none⟩ (.int .u8 (p : Int))) := (But.refl _ _).setCell i _
      exact ⟨⟨i + 1, by omega, by rw [HN.out], by go_num, h0.but bA (by omega), HS.out, hbr.trans (bA.below (by omega) hbr.size)⟩, by simp [intOf]; omega⟩
    · obtain rfl : i = 256 := by omega
      rw [pw_all] at h1
      have v1 := lies_rangeA h1
      go_wp2_with (first
        | (refine wpList_load_mid rfl 74 _ (by rfl) (w.heap.size + 1) 0 (by rfl) (vals .u8 powT) (.array 256 5) v1 (by kernel_rfl) rfl (by kernel_rfl) ?_)
        | (refine wpList_store_row rfl 74 _ _ (by rfl) w.heap.size (arr .u8 powT) (by rfl) (by rfl) 74 _ h0 (by kernel_rfl) (by kernel_rfl) (arr_one _ _) ?_)
        | fail)
      have bA : But w.heap.size wr (wr.setRow w.heap.size (arr .u8 powT)) := (But.refl _ _).setRow _
      have k0 : Lies .u8 74 (wr.setRow w.heap.size (arr .u8 powT)) w.heap.size powT := h0.row
      have v0 := run_loadVar_row (P := Try.prog) (wr.setRow w.heap.size (arr .u8 powT)) w.heap.size _ 74 _ _ _ k0 Try.underlying74 rfl (by kernel_rfl)
      refine bodyPost_ret (v := .agg (arr .u8 powT)) ?_ rfl ⟨rfl, hbr.trans (bA.below (by omega) hbr.size)⟩
      simp [results, Try.results77, asAddr, Act.put, v0]
/-- an array's element, by a number of whatever kind -/
theorem index_arrK {P : Program} (t e : TypeId) (n : Nat) (k q : IntKind) (l : List Nat) (hu : P.underlying t = some (.array n e)) (he : P.underlying e = some (.int k)) (hs : (P.info? e).map (·.size) = some 1) (hn : l.length = n) (i : Nat) (hi : i < n) (w : World) :
    (Instr.index t (.agg (arr k l)) (.int q (i : Int))).run P w = .ok (.int k (el l i)) w := by
  cases hq : P.info? e with
  | none => simp [hq] at hs
  | some x =>
    have hx : x.size = 1 := by simpa [hq] using hs
    have ha := arr_get k l i (by omega)
    have hagg : (isAgg e).run P w = .ok false w := by
      unfold isAgg
      rw [Sem.run_bind, run_underlying he w]; rfl
    simp [Instr.index, asIntOf, Sem.run_bind, run_underlying hu w, sizeOf, typeInfo, hq, hx, part, hagg, ha, show (i : Int) < (n : Int) by omega]
    intro hh; omega
end Go.Proofs.Ytjeofkemfpdieaa

/- The code's boxes, inverse, Box. -/
namespace Go.Proofs.Ytjeofkemfpdieaa
open Go.RowKit
set_option linter.unusedVariables false
set_option linter.unusedSimpArgs false

/-- the boxes, so far -/
def bxN : Nat → List Nat
  | 0 => (zA 256).set 0 (spB 0)
  | i + 1 => (bxN i).set (pwN i) (spB (pwN (255 - i)))
theorem bxN_len : ∀ i, (bxN i).length = 256
  | 0 => by show ((zA 256).set 0 _).length = 256; rw [List.length_set, zA_len]
  | i + 1 => by show ((bxN i).set _ _).length = 256; rw [List.length_set, bxN_len i]
theorem bxN_all : bxN 256 = boxT := by kernel_rfl
theorem ix256 (l : List Nat) (hl : l.length = 256) (i : Nat) (hi : i < 256) (w : World) : (Instr.index 74 (.agg (arr .u8 l)) (.int .i64 (i : Int))).run Try.prog w = .ok (.int .u8 (el l i)) w := index_arr 74 5 256 .u8 l Try.underlying74 Try.underlying5 (by kernel_rfl) hl i hi w
/-- where the loop stands -/
def BoxL (w : World) (g : Nat) (vi : Value) (wr : World) : Prop := ∃ i : Nat, i ≤ 256 ∧ vi = .int .i64 (i : Int) ∧ Lies .u8 74 wr w.heap.size (zA 256) ∧ Lies .u8 74 wr (w.heap.size + 1) (bxN i) ∧ Lies .u8 74 wr g powT ∧ Below w.heap.size w wr
set_option maxHeartbeats 4000000 in
set_option maxRecDepth 100000 in
theorem boxes_any (w : World) : Calls Try.prog 68 #[] w fun e w' => e = .returned (.agg (arr .u8 boxT)) ∧ Below w.heap.size w w' := by
  have hz := zero256
  have L0 := (Lies.new .u8 74 w (zA 256)).alloc (.cells (arr .u8 (zA 256)) 74)
  have L1 := Lies.new .u8 74 (w.alloc (.cells (arr .u8 (zA 256)) 74)) (zA 256)
  have hb := keep_trans (keep_alloc w (.cells (arr .u8 (zA 256)) 74)) (keep_alloc _ (.cells (arr .u8 (zA 256)) 74))
  simp only [World.size_alloc, Nat.add_assoc, Nat.reduceAdd] at L1
  have hsp0 := fun y => spread_any 0 (by decide) y
  have a1 := L1.cell (i := 0) (by rw [zA_len]; decide)
  have a2 := L1.frozen 0
  have hst : Lies .u8 74 (((w.alloc (.cells (arr .u8 (zA 256)) 74)).alloc (.cells (arr .u8 (zA 256)) 74)).setCell ⟨w.heap.size + 1, 0, none⟩ (.int .u8 (spB 0 : Nat))) (w.heap.size + 1) (bxN 0) := L1.set 0 (spB 0)
  have HS := hide (And.intro L0 (And.intro hst hb))
  clear L0 L1 hst hb
  generalize spB 0 = s0 at *
  go_enter Try.func68, Try.ntmps68
  go_wp2_with fail
  refine (hsp0 _).mono ?_
  rintro e y ⟨rfl, hy⟩
  obtain rfl := hy.symm
  generalize (w.alloc (.cells (arr .u8 (zA 256)) 74)).alloc (.cells (arr .u8 (zA 256)) 74) = x0 at *
  go_wp2_with fail
  have hpw := powers_any (x0.setCell ⟨w.heap.size + 1, 0, none⟩ (.int .u8 (s0 : Nat)))
  refine hpw.mono ?_
  rintro e x1 ⟨rfl, hb1⟩
  have bA : But (w.heap.size + 1) x0 (x0.setCell ⟨w.heap.size + 1, 0, none⟩ (.int .u8 (s0 : Nat))) := (But.refl _ _).setCell 0 _
  have K0 : Lies .u8 74 x1 w.heap.size (zA 256) := (HS.out.1.but bA (by omega)).below hb1
  have K1 : Lies .u8 74 x1 (w.heap.size + 1) (bxN 0) := HS.out.2.1.below hb1
  have KB : Below w.heap.size w x1 := keep_trans (HS.out.2.2.trans (bA.below (by omega) HS.out.2.2.size)) hb1
  have KN := Lies.new .u8 74 x1 (zA 256)
  have ks := K1.lt
  clear a1 a2 hpw hb1 bA HS
  have HK := hide (And.intro K0 (And.intro K1 (And.intro KB ks)))
  clear K0 K1 KB ks
  go_wp2_with (first
    | (refine wpList_store_row rfl 74 _ _ (by rfl) x1.heap.size (arr .u8 powT) (by rfl) (by rfl) 74 _ KN (by kernel_rfl) (by kernel_rfl) (arr_one _ _) ?_)
    | (refine wpList_load_mid rfl 74 _ (by rfl) x1.heap.size 0 (by rfl) (vals .u8 powT) (.array 256 5) (lies_rangeA KN.row) (by kernel_rfl) rfl (by kernel_rfl) ?_)
    | fail)
  obtain ⟨K0, K1, KB, ks⟩ := HK.out
  have bN : But x1.heap.size (x1.alloc (.cells (arr .u8 (zA 256)) 74)) ((x1.alloc (.cells (arr .u8 (zA 256)) 74)).setRow x1.heap.size (arr .u8 powT)) := (But.refl _ _).setRow _
  have M0 := (K0.alloc (.cells (arr .u8 (zA 256)) 74)).but bN (by omega)
  have M1 := (K1.alloc (.cells (arr .u8 (zA 256)) 74)).but bN (by omega)
  have MP : Lies .u8 74 ((x1.alloc (.cells (arr .u8 (zA 256)) 74)).setRow x1.heap.size (arr .u8 powT)) x1.heap.size powT := KN.row
  have MB := keep_trans KB (keep_alloc x1 (.cells (arr .u8 (zA 256)) 74))
  have MB2 := MB.trans (bN.below (by omega) MB.size)
  clear K0 K1 KB KN HK MB bN
  have gH : w.heap.size + 1 < x1.heap.size := ks
  generalize hg : x1.heap.size = g at *
  generalize (x1.alloc (.cells (arr .u8 (zA 256)) 74)).setRow g (arr .u8 powT) = x2 at *
  clear hz hg ks
  show Code.wp _ _ _ _ _
  go_loopw [9] (fun vi wr => BoxL w g vi wr) (fun vi _ => 256 - (intOf vi).toNat)
  case atStart => exact ⟨0, by decide, rfl, M0, M1, MP, MB2⟩
  case round =>
    obtain ⟨i, hi, rfl, h0, h1, hp, hbr⟩ := hrel
    clear M0 M1 MP MB2
    by_cases hlt : i < 256
    · have hli : (i : Int) < 256 := by omega
      obtain ⟨j, hj⟩ : ∃ j : Nat, j = 255 - i := ⟨_, rfl⟩
      have e_j : (255 : Int) - (i : Int) = (j : Int) := by omega
      have s_j : IntKind.i64.wrap (j : Int) = (j : Int) := by rw [IntKind.wrap_i64]; omega
      have jl : j < 256 := by omega
      have jli : (j : Int) < 256 := by omega
      have hix := fun y => ix256 powT powT_len i hlt y
      have c1 := hp.cell (i := j) (by rw [powT_len]; exact jl)
      rw [pw_el hlt] at hix
      have hix2 : ∀ y, (Instr.index 74 (.agg (vals .u8 powT).toArray) (.int .i64 (i : Int))).run Try.prog y = .ok (.int .u8 (pwN i : Nat)) y := hix
      rw [pw_el jl] at c1
      have hc := pw_lt i
      have hd := pw_lt j
      have hsp := fun y => spread_any (pwN j) hd y
      have ell := bxN_len i
      have hst : Lies .u8 74 (wr.setCell ⟨w.heap.size + 1, pwN i, none⟩ (.int .u8 (spB (pwN j) : Nat))) (w.heap.size + 1) (bxN (i + 1)) := by
        have := h1.set (pwN i) (spB (pwN j))
        rw [hj] at this ⊢
        exact this
      have a1 := h1.cell (i := pwN i) (by rw [ell]; exact hc)
      have a2 := h1.frozen (pwN i)
      have HS := hide hst
      have HJ := hide hj
      clear hst hj ell
      generalize spB (pwN j) = s at *
      generalize pwN j = d at *
      generalize pwN i = c at *
      have ci : (c : Int) < 256 := by omega
      go_wp2_with fail
      refine (hsp _).mono ?_
      rintro e y ⟨rfl, hy⟩
      obtain rfl := hy.symm
      go_wp2
      have bA : But (w.heap.size + 1) wr (wr.setCell ⟨w.heap.size + 1, c, none⟩ (.int .u8 (s : Int))) := (But.refl _ _).setCell c _
      exact ⟨⟨i + 1, by omega, by go_num, h0.but bA (by omega), HS.out, hp.but bA (by omega), hbr.trans (bA.below (by omega) hbr.size)⟩, by simp [intOf]; omega⟩
    · obtain rfl : i = 256 := by omega
      rw [bxN_all] at h1
      have v1 := lies_rangeA h1
      go_wp2_with (first
        | (refine wpList_load_mid rfl 74 _ (by rfl) (w.heap.size + 1) 0 (by rfl) (vals .u8 boxT) (.array 256 5) v1 (by kernel_rfl) rfl (by kernel_rfl) ?_)
        | (refine wpList_store_row rfl 74 _ _ (by rfl) w.heap.size (arr .u8 boxT) (by rfl) (by rfl) 74 _ h0 (by kernel_rfl) (by kernel_rfl) (arr_one _ _) ?_)
        | fail)
      have bA : But w.heap.size wr (wr.setRow w.heap.size (arr .u8 boxT)) := (But.refl _ _).setRow _
      have k0 : Lies .u8 74 (wr.setRow w.heap.size (arr .u8 boxT)) w.heap.size boxT := h0.row
      have v0 := run_loadVar_row (P := Try.prog) (wr.setRow w.heap.size (arr .u8 boxT)) w.heap.size _ 74 _ _ _ k0 Try.underlying74 rfl (by rw [arr_size, boxT_len]; kernel_rfl)
      refine bodyPost_ret (v := .agg (arr .u8 boxT)) ?_ rfl ⟨rfl, hbr.trans (bA.below (by omega) hbr.size)⟩
      simp [results, Try.results68, asAddr, Act.put, v0]
/-- where the loop stands -/
def InvL (w : World) (vi : Value) (wr : World) : Prop := ∃ i : Nat, i ≤ 256 ∧ vi = .int .i64 (i : Int) ∧ Lies .u8 74 wr (w.heap.size + 1) (zA 256) ∧ Lies .u8 74 wr (w.heap.size + 2) (bkA i) ∧ Below w.heap.size w wr
end Go.Proofs.Ytjeofkemfpdieaa
