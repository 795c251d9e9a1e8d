/- The document's Mul, inverse, Box. -/
import Derived.Test.YtjnlkihhmenfnaaAesS
import Derived.Test.YtjnlkihhmenfnaaAesW
import Derived.Laws.ShiftsVarLaws
namespace Go.Proofs.Ytjnlkihhmenfnaa
open Go.RowKit
set_option linter.unusedVariables false
set_option linter.unusedSimpArgs false

theorem mulS_next {k a b p : Nat} : mulS (k + 1) a b p = mulS k (xt a) (b / 2) (if b % 2 = 1 then p ^^^ a else p) := rfl
theorem and_1 (b : Nat) (h : b < 256) : bits .and .u8 (b : Int) 1 = ((b % 2 : Nat) : Int) := by
  have : ((List.range 256).all fun b => bits .and .u8 (b : Int) 1 == ((b % 2 : Nat) : Int)) = true := by kernel_rfl
  exact eq_of_beq (all256 this b h)
theorem xor_27 (b : Nat) (h : b < 256) : bits .xor .u8 (b : Int) 27 = ((b ^^^ 27 : Nat) : Int) := by
  have : ((List.range 256).all fun b => bits .xor .u8 (b : Int) 27 == ((b ^^^ 27 : Nat) : Int)) = true := by kernel_rfl
  exact eq_of_beq (all256 this b h)
theorem xt_hi (A : Nat) (h : A < 256) : 128 ≤ A → bits .xor .u8 ((A : Int) * 2 % 256) 27 = ((xt A : Nat) : Int) := fun h1 => by
  have e : ((A : Int) * 2 % 256) = ((2 * A % 256 : Nat) : Int) := by omega
  rw [e, xor_27 _ (by omega)]
  unfold xt
  rw [if_pos h1]
theorem xt_lo (A : Nat) : ¬ 128 ≤ A → (A : Int) * 2 = ((xt A : Nat) : Int) := fun h1 => by
  unfold xt
  rw [if_neg h1]
  omega
/-- where the loop stands -/
def MuL (M : Nat) (va vb vp vi : Value) : Prop := ∃ i A B p : Nat, i ≤ 8 ∧ A < 256 ∧ B < 256 ∧ p < 256 ∧ va = .int .u8 (A : Int) ∧ vb = .int .u8 (B : Int) ∧ vp = .int .u8 (p : Int) ∧ vi = .int .i64 (i : Int) ∧ mulS (8 - i) A B p = M

set_option maxHeartbeats 2000000 in
set_option maxRecDepth 100000 in
theorem rmul_any (a b : Nat) (ha : a < 256) (hb : b < 256) (w : World) : Calls Try.prog 67 #[.int .u8 (a : Int), .int .u8 (b : Int)] w fun e w' => e = .returned (.int .u8 (mulB a b : Nat)) ∧ w' = w := by
  have H0 : Hid (MuL (mulB a b) (.int .u8 (a : Int)) (.int .u8 (b : Int)) (.int .u8 0) (.int .i64 0)) := hide ⟨0, a, b, 0, by decide, ha, hb, by decide, rfl, rfl, rfl, rfl, rfl⟩
  generalize mulB a b = M at *
  go_enter Try.func67, Try.ntmps67
  go_wp2
  go_loop [0, 1, 5, 6] (fun va vb vp vi => MuL M va vb vp vi) (fun _ _ _ vi => 8 - (intOf vi).toNat)
  case atStart => exact H0.out
  case round =>
    obtain ⟨i, A, B, p, hi, hA, hB, hp, rfl, rfl, rfl, rfl, hM⟩ := hrel
    clear H0
    by_cases hlt : i < 8
    · have hli : (i : Int) < 8 := by omega
      have fa := and_1 B hB
      obtain ⟨k, hk⟩ : ∃ k : Nat, 8 - i = k + 1 := ⟨7 - i, by omega⟩
      have hk2 : 8 - (i + 1) = k := by omega
      rw [hk, mulS_next] at hM
      have xA := xt_lt hA
      have fx := u8_xor_nat p A hp hA
      have px := xor_8 hp hA
      have x1 := xt_hi A hA
      have x2 := xt_lo A
      have HH := hide (And.intro hk2 (And.intro xA (And.intro px (And.intro x1 x2))))
      clear hk hk2 xA px x1 x2
      by_cases hodd : B % 2 = 1
      · rw [if_pos hodd] at hM
        rw [hodd] at fa
        have HM := hide hM
        clear hM hodd
        by_cases hhi : 128 ≤ A
        · have hhiI : (128 : Int) ≤ (A : Int) := by omega
          go_wp2
          exact ⟨⟨i + 1, xt A, B / 2, p ^^^ A, by omega, HH.out.2.1, by omega, HH.out.2.2.1, vint (HH.out.2.2.2.1 hhi), vint (by omega), rfl, by go_num, by rw [HH.out.1]; exact HM.out⟩, by simp [intOf]; omega⟩
        · have hhiI : ¬ (128 : Int) ≤ (A : Int) := by omega
          go_wp2
          exact ⟨⟨i + 1, xt A, B / 2, p ^^^ A, by omega, HH.out.2.1, by omega, HH.out.2.2.1, vint (HH.out.2.2.2.2 hhi), vint (by omega), rfl, by go_num, by rw [HH.out.1]; exact HM.out⟩, by simp [intOf]; omega⟩
      · rw [if_neg hodd] at hM
        have hev : B % 2 = 0 := by omega
        rw [hev] at fa
        have HM := hide hM
        clear hM hodd hev
        by_cases hhi : 128 ≤ A
        · have hhiI : (128 : Int) ≤ (A : Int) := by omega
          go_wp2
          exact ⟨⟨i + 1, xt A, B / 2, p, by omega, HH.out.2.1, by omega, hp, vint (HH.out.2.2.2.1 hhi), vint (by omega), rfl, by go_num, by rw [HH.out.1]; exact HM.out⟩, by simp [intOf]; omega⟩
        · have hhiI : ¬ (128 : Int) ≤ (A : Int) := by omega
          go_wp2
          exact ⟨⟨i + 1, xt A, B / 2, p, by omega, HH.out.2.1, by omega, hp, vint (HH.out.2.2.2.2 hhi), vint (by omega), rfl, by go_num, by rw [HH.out.1]; exact HM.out⟩, by simp [intOf]; omega⟩
    · obtain rfl : i = 8 := by omega
      have hM' : p = M := hM
      subst hM'
      go_wp2
      go_ret
      exact ⟨rfl, rfl⟩
/-- where the loop stands -/
def InL (M : Nat) (vc vx vi : Value) : Prop := ∃ i C x : Nat, i ≤ 7 ∧ C < 256 ∧ x < 256 ∧ vc = .int .u8 (C : Int) ∧ vx = .int .u8 (x : Int) ∧ vi = .int .i64 (i : Int) ∧ sqN (7 - i) C x = M
theorem sqN_next {k c x : Nat} : sqN (k + 1) c x = sqN k (mulB c c) (mulB x (mulB c c)) := rfl
set_option maxHeartbeats 2000000 in
set_option maxRecDepth 100000 in
theorem rinv_any (c : Nat) (hc : c < 256) (w : World) : Calls Try.prog 77 #[.int .u8 (c : Int)] w fun e w' => e = .returned (.int .u8 (invB c : Nat)) ∧ w' = w := by
  have H0 : Hid (InL (invB c) (.int .u8 (c : Int)) (.int .u8 1) (.int .i64 0)) := hide ⟨0, c, 1, by decide, hc, by decide, rfl, rfl, rfl, rfl⟩
  generalize invB c = M at *
  go_enter Try.func77, Try.ntmps77
  go_wp2
  go_loop [0, 3, 4] (fun vc vx vi => InL M vc vx vi) (fun _ _ vi => 7 - (intOf vi).toNat)
  case atStart => exact H0.out
  case round =>
    obtain ⟨i, C, x, hi, hC, hx, rfl, rfl, rfl, hM⟩ := hrel
    clear H0
    by_cases hlt : i < 7
    · have hli : (i : Int) < 7 := by omega
      obtain ⟨k, hk⟩ : ∃ k : Nat, 7 - i = k + 1 := ⟨6 - i, by omega⟩
      have hk2 : 7 - (i + 1) = k := by omega
      rw [hk, sqN_next] at hM
      have m1 := mulB_lt (b := C) hC
      have c1 := rmul_any C C hC hC
      generalize mulB C C = D at *
      have m2 := mulB_lt (b := D) hx
      have c2 := rmul_any x D hx m1
      generalize mulB x D = X at *
      have HH := hide (And.intro hk2 hM)
      clear hk hk2 hM
      go_wp2_with fail
      refine (c1 _).mono ?_
      rintro e y ⟨rfl, hy⟩
      obtain rfl := hy.symm
      go_wp2_with fail
      refine (c2 _).mono ?_
      rintro e y ⟨rfl, hy⟩
      obtain rfl := hy.symm
      go_wp2
      exact ⟨⟨i + 1, D, X, by omega, m1, m2, rfl, rfl, by go_num, by rw [HH.out.1]; exact HH.out.2⟩, by simp [intOf]; omega⟩
    · obtain rfl : i = 7 := by omega
      have hM' : x = M := hM
      subst hM'
      go_wp2
      go_ret
      exact ⟨rfl, rfl⟩
theorem rot_0 (x : Nat) (h : x < 256) : bits .or .u8 ((x : Int)) ((x : Int) / 256) = ((rotB x 0 : Nat) : Int) ∧ rotB x 0 < 256 := by
  have : ((List.range 256).all fun x => bits .or .u8 ((x : Int)) ((x : Int) / 256) == ((rotB x 0 : Nat) : Int) && decide (rotB x 0 < 256)) = true := by kernel_rfl
  have := all256 this x h
  rw [Bool.and_eq_true] at this
  exact ⟨eq_of_beq this.1, of_decide_eq_true this.2⟩
theorem rot_1 (x : Nat) (h : x < 256) : bits .or .u8 ((x : Int) * 2 % 256) ((x : Int) / 128) = ((rotB x 1 : Nat) : Int) ∧ rotB x 1 < 256 := by
  have : ((List.range 256).all fun x => bits .or .u8 ((x : Int) * 2 % 256) ((x : Int) / 128) == ((rotB x 1 : Nat) : Int) && decide (rotB x 1 < 256)) = true := by kernel_rfl
  have := all256 this x h
  rw [Bool.and_eq_true] at this
  exact ⟨eq_of_beq this.1, of_decide_eq_true this.2⟩
theorem rot_2 (x : Nat) (h : x < 256) : bits .or .u8 ((x : Int) * 4 % 256) ((x : Int) / 64) = ((rotB x 2 : Nat) : Int) ∧ rotB x 2 < 256 := by
  have : ((List.range 256).all fun x => bits .or .u8 ((x : Int) * 4 % 256) ((x : Int) / 64) == ((rotB x 2 : Nat) : Int) && decide (rotB x 2 < 256)) = true := by kernel_rfl
  have := all256 this x h
  rw [Bool.and_eq_true] at this
  exact ⟨eq_of_beq this.1, of_decide_eq_true this.2⟩
theorem rot_3 (x : Nat) (h : x < 256) : bits .or .u8 ((x : Int) * 8 % 256) ((x : Int) / 32) = ((rotB x 3 : Nat) : Int) ∧ rotB x 3 < 256 := by
  have : ((List.range 256).all fun x => bits .or .u8 ((x : Int) * 8 % 256) ((x : Int) / 32) == ((rotB x 3 : Nat) : Int) && decide (rotB x 3 < 256)) = true := by kernel_rfl
  have := all256 this x h
  rw [Bool.and_eq_true] at this
  exact ⟨eq_of_beq this.1, of_decide_eq_true this.2⟩
theorem rot_4 (x : Nat) (h : x < 256) : bits .or .u8 ((x : Int) * 16 % 256) ((x : Int) / 16) = ((rotB x 4 : Nat) : Int) ∧ rotB x 4 < 256 := by
  have : ((List.range 256).all fun x => bits .or .u8 ((x : Int) * 16 % 256) ((x : Int) / 16) == ((rotB x 4 : Nat) : Int) && decide (rotB x 4 < 256)) = true := by kernel_rfl
  have := all256 this x h
  rw [Bool.and_eq_true] at this
  exact ⟨eq_of_beq this.1, of_decide_eq_true this.2⟩
/-- where the loop stands -/
def BoL (w : World) (x M : Nat) (vy vi : Value) (wr : World) : Prop := ∃ i y q : Nat, i ≤ 5 ∧ y < 256 ∧ vy = .int .u8 (y : Int) ∧ vi = .int .i64 (i : Int) ∧ boxS (5 - i) x i y = M ∧ wr = w.drewN q
theorem boxS_next {k x i y : Nat} : boxS (k + 1) x i y = boxS k x (i + 1) (y ^^^ rotB x i) := rfl
theorem invB_lt {c : Nat} (h : c < 256) : invB c < 256 := by
  have : ((List.range 256).all fun c => decide (invB c < 256)) = true := by kernel_rfl
  exact of_decide_eq_true (all256 this c h)
set_option maxHeartbeats 2000000 in
set_option maxRecDepth 100000 in
theorem rbox_any (c : Nat) (hc : c < 256) (w : World) : Calls Try.prog 62 #[.int .u8 (c : Int)] w fun e w' => e = .returned (.int .u8 (boxB c : Nat)) ∧ Below w.heap.size w w' := by
  have hinv := fun y => rinv_any c hc y
  have hx := invB_lt hc
  have H0 : Hid (BoL w (invB c) (boxB c) (.int .u8 99) (.int .i64 0) w) := hide ⟨0, 99, 0, by decide, by decide, rfl, rfl, rfl, rfl⟩
  generalize boxB c = M at *
  generalize invB c = x at *
  go_enter Try.func62, Try.ntmps62
  go_wp2_with fail
  refine (hinv _).mono ?_
  rintro e y ⟨rfl, hy⟩
  obtain rfl := hy.symm
  go_wp2_with fail
  go_loopw [4, 5] (fun vy vi wr => BoL w x M vy vi wr) (fun _ vi _ => 5 - (intOf vi).toNat)
  case atStart => exact H0.out
  case round =>
    obtain ⟨i, y, q, hi, hy, rfl, rfl, hM, rfl⟩ := hrel
    clear H0 hinv
    by_cases hlt : i < 5
    · have h5 : i = 0 ∨ i = 1 ∨ i = 2 ∨ i = 3 ∨ i = 4 := by omega
      rcases h5 with h | h | h | h | h <;> subst h
      · obtain ⟨fr, rl⟩ := rot_0 x hx
        have hM' : boxS 4 x 1 (y ^^^ rotB x 0) = M := hM
        generalize rotB x 0 = R at *
        have fx := u8_xor_nat y R hy rl
        have py := xor_8 hy rl
        have HM := hide hM'
        clear hM hM'
        go_wp2
        go_quiet (fail)
        go_wp2
        exact ⟨⟨1, y ^^^ R, q + nq, by decide, py, rfl, rfl, HM.out, rfl⟩, by simp [intOf]⟩
      · obtain ⟨fr, rl⟩ := rot_1 x hx
        have hM' : boxS 3 x 2 (y ^^^ rotB x 1) = M := hM
        generalize rotB x 1 = R at *
        have fx := u8_xor_nat y R hy rl
        have py := xor_8 hy rl
        have HM := hide hM'
        clear hM hM'
        go_wp2
        go_quiet (fail)
        go_wp2
        exact ⟨⟨2, y ^^^ R, q + nq, by decide, py, rfl, rfl, HM.out, rfl⟩, by simp [intOf]⟩
      · obtain ⟨fr, rl⟩ := rot_2 x hx
        have hM' : boxS 2 x 3 (y ^^^ rotB x 2) = M := hM
        generalize rotB x 2 = R at *
        have fx := u8_xor_nat y R hy rl
        have py := xor_8 hy rl
        have HM := hide hM'
        clear hM hM'
        go_wp2
        go_quiet (fail)
        go_wp2
        exact ⟨⟨3, y ^^^ R, q + nq, by decide, py, rfl, rfl, HM.out, rfl⟩, by simp [intOf]⟩
      · obtain ⟨fr, rl⟩ := rot_3 x hx
        have hM' : boxS 1 x 4 (y ^^^ rotB x 3) = M := hM
        generalize rotB x 3 = R at *
        have fx := u8_xor_nat y R hy rl
        have py := xor_8 hy rl
        have HM := hide hM'
        clear hM hM'
        go_wp2
        go_quiet (fail)
        go_wp2
        exact ⟨⟨4, y ^^^ R, q + nq, by decide, py, rfl, rfl, HM.out, rfl⟩, by simp [intOf]⟩
      · obtain ⟨fr, rl⟩ := rot_4 x hx
        have hM' : boxS 0 x 5 (y ^^^ rotB x 4) = M := hM
        generalize rotB x 4 = R at *
        have fx := u8_xor_nat y R hy rl
        have py := xor_8 hy rl
        have HM := hide hM'
        clear hM hM'
        go_wp2
        go_quiet (fail)
        go_wp2
        exact ⟨⟨5, y ^^^ R, q + nq, by decide, py, rfl, rfl, HM.out, rfl⟩, by simp [intOf]⟩
    · obtain rfl : i = 5 := by omega
      have hM' : y = M := hM
      subst hM'
      go_wp2
      go_ret
      exact ⟨rfl, below_drewN (Below.refl _ _) q⟩
end Go.Proofs.Ytjnlkihhmenfnaa

/- The code's doubled, Mul. -/
namespace Go.Proofs.Ytjnlkihhmenfnaa
open Go.RowKit
set_option linter.unusedVariables false
set_option linter.unusedSimpArgs false

theorem dbl_int (w : Nat) (h : w < 4294967296) : bits .xor .u32 (bits .and .u32 (w : Int) 2139062143 * 2 % 4294967296) (bits .and .u32 ((w : Int) / 128) 16843009 * 27 % 4294967296) = ((dblW w : Nat) : Int) := by
  have e1 : bits .and .u32 (w : Int) 2139062143 = ((w &&& 2139062143 : Nat) : Int) := u32_and_nat w 2139062143 h (by decide)
  have e2 : (w : Int) / 128 = ((w / 128 : Nat) : Int) := by omega
  have e3 : bits .and .u32 ((w / 128 : Nat) : Int) 16843009 = ((w / 128 &&& 16843009 : Nat) : Int) := u32_and_nat (w / 128) 16843009 (by omega) (by decide)
  rw [e1, e2, e3]
  have e4 : (((w &&& 2139062143 : Nat) : Int) * 2 % 4294967296) = (((w &&& 2139062143) * 2 % 4294967296 : Nat) : Int) := by simp
  have e5 : (((w / 128 &&& 16843009 : Nat) : Int) * 27 % 4294967296) = (((w / 128 &&& 16843009) * 27 % 4294967296 : Nat) : Int) := by simp
  rw [e4, e5, u32_xor_nat _ _ (Nat.mod_lt _ (by decide)) (Nat.mod_lt _ (by decide))]
  rfl
theorem dblW_lt (w : Nat) : dblW w < 4294967296 := Nat.xor_lt_two_pow (n := 32) (Nat.mod_lt _ (by decide)) (Nat.mod_lt _ (by decide))
set_option maxHeartbeats 2000000 in
set_option maxRecDepth 100000 in
theorem dbl_any (x : Nat) (h : x < 4294967296) (w : World) : Calls Try.prog 76 #[.int .u32 (x : Int)] w fun e w' => e = .returned (.int .u32 (dblW x : Nat)) ∧ w' = w := by
  have HD := hide (dbl_int x h)
  go_enter Try.func76, Try.ntmps76
  go_wp2
  go_ret
  exact ⟨ret_int HD.out, rfl⟩
/-- a product, from the highest bit on -/
def horN (a b : Nat) : Nat → Nat
  | 0 => 0
  | i + 1 => xt (horN a b i) ^^^ (if b / 2 ^ (7 - i) % 2 = 1 then a else 0)
theorem horN_lt {a : Nat} (ha : a < 256) (b : Nat) : ∀ i, horN a b i < 256
  | 0 => by show 0 < 256; decide
  | i + 1 => by
    show xt (horN a b i) ^^^ _ < 256
    refine xor_8 (xt_lt (horN_lt ha b i)) ?_
    split
    · exact ha
    · decide
theorem horN_l {a a' : Nat} (ha : a < 256) (ha' : a' < 256) (b : Nat) : ∀ i, horN (a ^^^ a') b i = horN a b i ^^^ horN a' b i
  | 0 => by simp [horN]
  | i + 1 => by
    show xt (horN (a ^^^ a') b i) ^^^ _ = (xt (horN a b i) ^^^ _) ^^^ (xt (horN a' b i) ^^^ _)
    rw [horN_l ha ha' b i, xt_xor (horN_lt ha b i) (horN_lt ha' b i)]
    split
    · ac_rfl
    · simp
theorem hor_mul {a b : Nat} (ha : a < 256) (hb : b < 256) : horN a b 8 = mulB a b := by
  have h : ((List.range 8).all fun i => (List.range 256).all fun b => horN (2 ^ i) b 8 == mulB (2 ^ i) b) = true := by kernel_rfl
  have h0 : ((List.range 256).all fun b => horN 0 b 8 == mulB 0 b) = true := by kernel_rfl
  exact add_ext (f := fun a => horN a b 8) (g := fun a => mulB a b) (fun x y hx hy => horN_l hx hy b 8) (adds_l b) (eq_of_beq (all256 h0 b hb)) (fun i hi => eq_of_beq (all256 (List.all_eq_true.1 h i (List.mem_range.2 hi)) b hb)) a ha
/-- where the loop stands -/
def HoL (a b : Nat) (vp vi : Value) : Prop := ∃ i : Nat, i ≤ 8 ∧ vp = .int .u8 (horN a b i : Nat) ∧ vi = .int .i64 (i : Int)
theorem hor_next {a b i : Nat} : horN a b (i + 1) = xt (horN a b i) ^^^ (if b / 2 ^ (7 - i) % 2 = 1 then a else 0) := rfl
set_option maxHeartbeats 4000000 in
set_option maxRecDepth 100000 in
theorem cmul_any (a b : Nat) (ha : a < 256) (hb : b < 256) (w : World) : Calls Try.prog 56 #[.int .u8 (a : Int), .int .u8 (b : Int)] w fun e w' => e = .returned (.int .u8 (mulB a b : Nat)) ∧ w' = w := by
  go_enter Try.func56, Try.ntmps56
  go_wp2
  go_loop [5, 8] (fun vp vi => HoL a b vp vi) (fun _ vi => 8 - (intOf vi).toNat)
  case atStart => exact ⟨0, by decide, rfl, rfl⟩
  case round =>
    obtain ⟨i, hi, rfl, rfl⟩ := hrel
    by_cases hlt : i < 8
    · have hli : (i : Int) < 8 := by omega
      have hp := horN_lt ha b i
      have hnx := hor_next (a := a) (b := b) (i := i)
      generalize horN a b i = p at *
      have xl := xt_lt hp
      have hdb := fun y => dbl_any p (by omega) y
      rw [dbl_byte hp] at hdb
      generalize xt p = q at *
      have s_q : IntKind.u8.wrap (q : Int) = (q : Int) := by rw [IntKind.wrap_u8]; omega
      have s_p : IntKind.u32.wrap (p : Int) = (p : Int) := by rw [IntKind.wrap_u32]; omega
      have s_a : IntKind.u8.wrap (a : Int) = (a : Int) := by rw [IntKind.wrap_u8]; omega
      have m_a : (a : Int) % 256 = (a : Int) := by omega
      have m_q : (q : Int) % 256 = (q : Int) := by omega
      have fx := u8_xor_nat q a xl ha
      have fz := u8_xor_nat q 0 xl (by decide)
      rw [Nat.xor_zero] at fz
      have h8 : i = 0 ∨ i = 1 ∨ i = 2 ∨ i = 3 ∨ i = 4 ∨ i = 5 ∨ i = 6 ∨ i = 7 := by omega
      rcases h8 with h | h | h | h | h | h | h | h <;> subst h
      · have fb : bits .and .u8 ((b : Int) / 128) 1 = ((b / 128 % 2 : Nat) : Int) := by
          have e : (b : Int) / 128 = ((b / 128 : Nat) : Int) := by omega
          rw [e, and_1 _ (by omega)]
        have hnx' : horN a b 1 = q ^^^ (if b / 128 % 2 = 1 then a else 0) := by simpa using hnx
        clear hnx
        by_cases ho : b / 128 % 2 = 1
        · rw [if_pos ho] at hnx'
          rw [ho] at fb
          have HN := hide hnx'
          clear hnx' ho
          go_wp2_with fail
          refine (hdb _).mono ?_
          rintro e y ⟨rfl, hy⟩
          obtain rfl := hy.symm
          go_wp2
          exact ⟨⟨1, by decide, by rw [HN.out], rfl⟩, by simp [intOf]⟩
        · rw [if_neg ho, Nat.xor_zero] at hnx'
          have ho' : b / 128 % 2 = 0 := by omega
          rw [ho'] at fb
          have HN := hide hnx'
          clear hnx' ho ho'
          go_wp2_with fail
          refine (hdb _).mono ?_
          rintro e y ⟨rfl, hy⟩
          obtain rfl := hy.symm
          go_wp2
          exact ⟨⟨1, by decide, by rw [HN.out]; exact vint fz, rfl⟩, by simp [intOf]⟩
      · have fb : bits .and .u8 ((b : Int) / 64) 1 = ((b / 64 % 2 : Nat) : Int) := by
          have e : (b : Int) / 64 = ((b / 64 : Nat) : Int) := by omega
          rw [e, and_1 _ (by omega)]
        have hnx' : horN a b 2 = q ^^^ (if b / 64 % 2 = 1 then a else 0) := by simpa using hnx
        clear hnx
        by_cases ho : b / 64 % 2 = 1
        · rw [if_pos ho] at hnx'
          rw [ho] at fb
          have HN := hide hnx'
          clear hnx' ho
          go_wp2_with fail
          refine (hdb _).mono ?_
          rintro e y ⟨rfl, hy⟩
          obtain rfl := hy.symm
          go_wp2
          exact ⟨⟨2, by decide, by rw [HN.out], rfl⟩, by simp [intOf]⟩
        · rw [if_neg ho, Nat.xor_zero] at hnx'
          have ho' : b / 64 % 2 = 0 := by omega
          rw [ho'] at fb
          have HN := hide hnx'
          clear hnx' ho ho'
          go_wp2_with fail
          refine (hdb _).mono ?_
          rintro e y ⟨rfl, hy⟩
          obtain rfl := hy.symm
          go_wp2
          exact ⟨⟨2, by decide, by rw [HN.out]; exact vint fz, rfl⟩, by simp [intOf]⟩
      · have fb : bits .and .u8 ((b : Int) / 32) 1 = ((b / 32 % 2 : Nat) : Int) := by
          have e : (b : Int) / 32 = ((b / 32 : Nat) : Int) := by omega
          rw [e, and_1 _ (by omega)]
        have hnx' : horN a b 3 = q ^^^ (if b / 32 % 2 = 1 then a else 0) := by simpa using hnx
        clear hnx
        by_cases ho : b / 32 % 2 = 1
        · rw [if_pos ho] at hnx'
          rw [ho] at fb
          have HN := hide hnx'
          clear hnx' ho
          go_wp2_with fail
          refine (hdb _).mono ?_
          rintro e y ⟨rfl, hy⟩
          obtain rfl := hy.symm
          go_wp2
          exact ⟨⟨3, by decide, by rw [HN.out], rfl⟩, by simp [intOf]⟩
        · rw [if_neg ho, Nat.xor_zero] at hnx'
          have ho' : b / 32 % 2 = 0 := by omega
          rw [ho'] at fb
          have HN := hide hnx'
          clear hnx' ho ho'
          go_wp2_with fail
          refine (hdb _).mono ?_
          rintro e y ⟨rfl, hy⟩
          obtain rfl := hy.symm
          go_wp2
          exact ⟨⟨3, by decide, by rw [HN.out]; exact vint fz, rfl⟩, by simp [intOf]⟩
      · have fb : bits .and .u8 ((b : Int) / 16) 1 = ((b / 16 % 2 : Nat) : Int) := by
          have e : (b : Int) / 16 = ((b / 16 : Nat) : Int) := by omega
          rw [e, and_1 _ (by omega)]
        have hnx' : horN a b 4 = q ^^^ (if b / 16 % 2 = 1 then a else 0) := by simpa using hnx
        clear hnx
        by_cases ho : b / 16 % 2 = 1
        · rw [if_pos ho] at hnx'
          rw [ho] at fb
          have HN := hide hnx'
          clear hnx' ho
          go_wp2_with fail
          refine (hdb _).mono ?_
          rintro e y ⟨rfl, hy⟩
          obtain rfl := hy.symm
          go_wp2
          exact ⟨⟨4, by decide, by rw [HN.out], rfl⟩, by simp [intOf]⟩
        · rw [if_neg ho, Nat.xor_zero] at hnx'
          have ho' : b / 16 % 2 = 0 := by omega
          rw [ho'] at fb
          have HN := hide hnx'
          clear hnx' ho ho'
          go_wp2_with fail
          refine (hdb _).mono ?_
          rintro e y ⟨rfl, hy⟩
          obtain rfl := hy.symm
          go_wp2
          exact ⟨⟨4, by decide, by rw [HN.out]; exact vint fz, rfl⟩, by simp [intOf]⟩
      · have fb : bits .and .u8 ((b : Int) / 8) 1 = ((b / 8 % 2 : Nat) : Int) := by
          have e : (b : Int) / 8 = ((b / 8 : Nat) : Int) := by omega
          rw [e, and_1 _ (by omega)]
        have hnx' : horN a b 5 = q ^^^ (if b / 8 % 2 = 1 then a else 0) := by simpa using hnx
        clear hnx
        by_cases ho : b / 8 % 2 = 1
        · rw [if_pos ho] at hnx'
          rw [ho] at fb
          have HN := hide hnx'
          clear hnx' ho
          go_wp2_with fail
          refine (hdb _).mono ?_
          rintro e y ⟨rfl, hy⟩
          obtain rfl := hy.symm
          go_wp2
          exact ⟨⟨5, by decide, by rw [HN.out], rfl⟩, by simp [intOf]⟩
        · rw [if_neg ho, Nat.xor_zero] at hnx'
          have ho' : b / 8 % 2 = 0 := by omega
          rw [ho'] at fb
          have HN := hide hnx'
          clear hnx' ho ho'
          go_wp2_with fail
          refine (hdb _).mono ?_
          rintro e y ⟨rfl, hy⟩
          obtain rfl := hy.symm
          go_wp2
          exact ⟨⟨5, by decide, by rw [HN.out]; exact vint fz, rfl⟩, by simp [intOf]⟩
      · have fb : bits .and .u8 ((b : Int) / 4) 1 = ((b / 4 % 2 : Nat) : Int) := by
          have e : (b : Int) / 4 = ((b / 4 : Nat) : Int) := by omega
          rw [e, and_1 _ (by omega)]
        have hnx' : horN a b 6 = q ^^^ (if b / 4 % 2 = 1 then a else 0) := by simpa using hnx
        clear hnx
        by_cases ho : b / 4 % 2 = 1
        · rw [if_pos ho] at hnx'
          rw [ho] at fb
          have HN := hide hnx'
          clear hnx' ho
          go_wp2_with fail
          refine (hdb _).mono ?_
          rintro e y ⟨rfl, hy⟩
          obtain rfl := hy.symm
          go_wp2
          exact ⟨⟨6, by decide, by rw [HN.out], rfl⟩, by simp [intOf]⟩
        · rw [if_neg ho, Nat.xor_zero] at hnx'
          have ho' : b / 4 % 2 = 0 := by omega
          rw [ho'] at fb
          have HN := hide hnx'
          clear hnx' ho ho'
          go_wp2_with fail
          refine (hdb _).mono ?_
          rintro e y ⟨rfl, hy⟩
          obtain rfl := hy.symm
          go_wp2
          exact ⟨⟨6, by decide, by rw [HN.out]; exact vint fz, rfl⟩, by simp [intOf]⟩
      · have fb : bits .and .u8 ((b : Int) / 2) 1 = ((b / 2 % 2 : Nat) : Int) := by
          have e : (b : Int) / 2 = ((b / 2 : Nat) : Int) := by omega
          rw [e, and_1 _ (by omega)]
        have hnx' : horN a b 7 = q ^^^ (if b / 2 % 2 = 1 then a else 0) := by simpa using hnx
        clear hnx
        by_cases ho : b / 2 % 2 = 1
        · rw [if_pos ho] at hnx'
          rw [ho] at fb
          have HN := hide hnx'
          clear hnx' ho
          go_wp2_with fail
          refine (hdb _).mono ?_
          rintro e y ⟨rfl, hy⟩
          obtain rfl := hy.symm
          go_wp2
          exact ⟨⟨7, by decide, by rw [HN.out], rfl⟩, by simp [intOf]⟩
        · rw [if_neg ho, Nat.xor_zero] at hnx'
          have ho' : b / 2 % 2 = 0 := by omega
          rw [ho'] at fb
          have HN := hide hnx'
          clear hnx' ho ho'
          go_wp2_with fail
          refine (hdb _).mono ?_
          rintro e y ⟨rfl, hy⟩
          obtain rfl := hy.symm
          go_wp2
          exact ⟨⟨7, by decide, by rw [HN.out]; exact vint fz, rfl⟩, by simp [intOf]⟩
      · have fb : bits .and .u8 ((b : Int)) 1 = ((b % 2 : Nat) : Int) := by
          have e : (b : Int) = ((b : Nat) : Int) := by omega
          rw [e, and_1 _ (by omega)]
        have hnx' : horN a b 8 = q ^^^ (if b % 2 = 1 then a else 0) := by simpa using hnx
        clear hnx
        by_cases ho : b % 2 = 1
        · rw [if_pos ho] at hnx'
          rw [ho] at fb
          have HN := hide hnx'
          clear hnx' ho
          go_wp2_with fail
          refine (hdb _).mono ?_
          rintro e y ⟨rfl, hy⟩
          obtain rfl := hy.symm
          go_wp2
          exact ⟨⟨8, by decide, by rw [HN.out], rfl⟩, by simp [intOf]⟩
        · rw [if_neg ho, Nat.xor_zero] at hnx'
          have ho' : b % 2 = 0 := by omega
          rw [ho'] at fb
          have HN := hide hnx'
          clear hnx' ho ho'
          go_wp2_with fail
          refine (hdb _).mono ?_
          rintro e y ⟨rfl, hy⟩
          obtain rfl := hy.symm
          go_wp2
          exact ⟨⟨8, by decide, by rw [HN.out]; exact vint fz, rfl⟩, by simp [intOf]⟩
    · obtain rfl : i = 8 := by omega
      have HE := hide (hor_mul ha hb)
      generalize horN a b 8 = M at *
      go_wp2
      go_ret
      exact ⟨by rw [← HE.out]; rfl, rfl⟩
end Go.Proofs.Ytjnlkihhmenfnaa
