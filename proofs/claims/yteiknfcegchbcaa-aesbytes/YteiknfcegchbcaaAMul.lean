/- The document's Mul, inverse, Box. -/
import Derived.Test.YteiknfcegchbcaaAesS
namespace Go.Proofs.Yteiknfcegchbcaa
open Go.RowKit
set_option linter.unusedVariables false
set_option linter.unusedSimpArgs false

theorem mulS_next {k a b p : Nat} : mulS (k + 1) a b p = mulS k (xt a) (b / 2) (if b % 2 = 1 then p ^^^ a else p) := rfl
theorem and_1 (b : Nat) (h : b < 256) : bits .and .u8 (b : Int) 1 = ((b % 2 : Nat) : Int) := by
  have : ((List.range 256).all fun b => bits .and .u8 (b : Int) 1 == ((b % 2 : Nat) : Int)) = true := by kernel_rfl
  exact eq_of_beq (all256 this b h)
theorem xor_27 (b : Nat) (h : b < 256) : bits .xor .u8 (b : Int) 27 = ((b ^^^ 27 : Nat) : Int) := by
  have : ((List.range 256).all fun b => bits .xor .u8 (b : Int) 27 == ((b ^^^ 27 : Nat) : Int)) = true := by kernel_rfl
  exact eq_of_beq (all256 this b h)
theorem xt_hi (A : Nat) (h : A < 256) : 128 ≤ A → bits .xor .u8 ((A : Int) * 2 % 256) 27 = ((xt A : Nat) : Int) := fun h1 => by
  have e : ((A : Int) * 2 % 256) = ((2 * A % 256 : Nat) : Int) := by omega
  rw [e, xor_27 _ (by omega)]
  unfold xt
  rw [if_pos h1]
theorem xt_lo (A : Nat) : ¬ 128 ≤ A → (A : Int) * 2 = ((xt A : Nat) : Int) := fun h1 => by
  unfold xt
  rw [if_neg h1]
  omega
/-- where the loop stands -/
def MuL (M : Nat) (va vb vp vi : Value) : Prop := ∃ i A B p : Nat, i ≤ 8 ∧ A < 256 ∧ B < 256 ∧ p < 256 ∧ va = .int .u8 (A : Int) ∧ vb = .int .u8 (B : Int) ∧ vp = .int .u8 (p : Int) ∧ vi = .int .i64 (i : Int) ∧ mulS (8 - i) A B p = M

set_option maxHeartbeats 2000000 in
set_option maxRecDepth 100000 in
theorem rmul_any (a b : Nat) (ha : a < 256) (hb : b < 256) (w : World) : Calls Try.prog 20 #[.int .u8 (a : Int), .int .u8 (b : Int)] w fun e w' => e = .returned (.int .u8 (mulB a b : Nat)) ∧ w' = w := by
  have H0 : Hid (MuL (mulB a b) (.int .u8 (a : Int)) (.int .u8 (b : Int)) (.int .u8 0) (.int .i64 0)) := hide ⟨0, a, b, 0, by decide, ha, hb, by decide, rfl, rfl, rfl, rfl, rfl⟩
  generalize mulB a b = M at *
  go_enter Try.func20, Try.ntmps20
  go_wp2
  go_loop [0, 1, 5, 6] (fun va vb vp vi => MuL M va vb vp vi) (fun _ _ _ vi => 8 - (intOf vi).toNat)
  case atStart => exact H0.out
  case round =>
    obtain ⟨i, A, B, p, hi, hA, hB, hp, rfl, rfl, rfl, rfl, hM⟩ := hrel
    clear H0
    by_cases hlt : i < 8
    · have hli : (i : Int) < 8 := by omega
      have fa := and_1 B hB
      obtain ⟨k, hk⟩ : ∃ k : Nat, 8 - i = k + 1 := ⟨7 - i, by omega⟩
      have hk2 : 8 - (i + 1) = k := by omega
      rw [hk, mulS_next] at hM
      have xA := xt_lt hA
      have fx := u8_xor_nat p A hp hA
      have px := xor_8 hp hA
      have x1 := xt_hi A hA
      have x2 := xt_lo A
      have HH := hide (And.intro hk2 (And.intro xA (And.intro px (And.intro x1 x2))))
      clear hk hk2 xA px x1 x2
      by_cases hodd : B % 2 = 1
      · rw [if_pos hodd] at hM
        rw [hodd] at fa
        have HM := hide hM
        clear hM hodd
        by_cases hhi : 128 ≤ A
        · have hhiI : (128 : Int) ≤ (A : Int) := by omega
          go_wp2
          exact ⟨⟨i + 1, xt A, B / 2, p ^^^ A, by omega, HH.out.2.1, by omega, HH.out.2.2.1, vint (HH.out.2.2.2.1 hhi), vint (by omega), rfl, by go_num, by rw [HH.out.1]; exact HM.out⟩, by simp [intOf]; omega⟩
        · have hhiI : ¬ (128 : Int) ≤ (A : Int) := by omega
          go_wp2
          exact ⟨⟨i + 1, xt A, B / 2, p ^^^ A, by omega, HH.out.2.1, by omega, HH.out.2.2.1, vint (HH.out.2.2.2.2 hhi), vint (by omega), rfl, by go_num, by rw [HH.out.1]; exact HM.out⟩, by simp [intOf]; omega⟩
      · rw [if_neg hodd] at hM
        have hev : B % 2 = 0 := by omega
        rw [hev] at fa
        have HM := hide hM
        clear hM hodd hev
        by_cases hhi : 128 ≤ A
        · have hhiI : (128 : Int) ≤ (A : Int) := by omega
          go_wp2
          exact ⟨⟨i + 1, xt A, B / 2, p, by omega, HH.out.2.1, by omega, hp, vint (HH.out.2.2.2.1 hhi), vint (by omega), rfl, by go_num, by rw [HH.out.1]; exact HM.out⟩, by simp [intOf]; omega⟩
        · have hhiI : ¬ (128 : Int) ≤ (A : Int) := by omega
          go_wp2
          exact ⟨⟨i + 1, xt A, B / 2, p, by omega, HH.out.2.1, by omega, hp, vint (HH.out.2.2.2.2 hhi), vint (by omega), rfl, by go_num, by rw [HH.out.1]; exact HM.out⟩, by simp [intOf]; omega⟩
    · obtain rfl : i = 8 := by omega
      have hM' : p = M := hM
      subst hM'
      go_wp2
      go_ret
      exact ⟨rfl, rfl⟩
/-- where the loop stands -/
def InL (M : Nat) (vc vx vi : Value) : Prop := ∃ i C x : Nat, i ≤ 7 ∧ C < 256 ∧ x < 256 ∧ vc = .int .u8 (C : Int) ∧ vx = .int .u8 (x : Int) ∧ vi = .int .i64 (i : Int) ∧ sqN (7 - i) C x = M
theorem sqN_next {k c x : Nat} : sqN (k + 1) c x = sqN k (mulB c c) (mulB x (mulB c c)) := rfl
set_option maxHeartbeats 2000000 in
set_option maxRecDepth 100000 in
theorem rinv_any (c : Nat) (hc : c < 256) (w : World) : Calls Try.prog 40 #[.int .u8 (c : Int)] w fun e w' => e = .returned (.int .u8 (invB c : Nat)) ∧ w' = w := by
  have H0 : Hid (InL (invB c) (.int .u8 (c : Int)) (.int .u8 1) (.int .i64 0)) := hide ⟨0, c, 1, by decide, hc, by decide, rfl, rfl, rfl, rfl⟩
  generalize invB c = M at *
  go_enter Try.func40, Try.ntmps40
  go_wp2
  go_loop [0, 3, 4] (fun vc vx vi => InL M vc vx vi) (fun _ _ vi => 7 - (intOf vi).toNat)
  case atStart => exact H0.out
  case round =>
    obtain ⟨i, C, x, hi, hC, hx, rfl, rfl, rfl, hM⟩ := hrel
    clear H0
    by_cases hlt : i < 7
    · have hli : (i : Int) < 7 := by omega
      obtain ⟨k, hk⟩ : ∃ k : Nat, 7 - i = k + 1 := ⟨6 - i, by omega⟩
      have hk2 : 7 - (i + 1) = k := by omega
      rw [hk, sqN_next] at hM
      have m1 := mulB_lt (b := C) hC
      have c1 := rmul_any C C hC hC
      generalize mulB C C = D at *
      have m2 := mulB_lt (b := D) hx
      have c2 := rmul_any x D hx m1
      generalize mulB x D = X at *
      have HH := hide (And.intro hk2 hM)
      clear hk hk2 hM
      go_wp2_with fail
      refine (c1 _).mono ?_
      rintro e y ⟨rfl, hy⟩
      obtain rfl := hy.symm
      go_wp2_with fail
      refine (c2 _).mono ?_
      rintro e y ⟨rfl, hy⟩
      obtain rfl := hy.symm
      go_wp2
      exact ⟨⟨i + 1, D, X, by omega, m1, m2, rfl, rfl, by go_num, by rw [HH.out.1]; exact HH.out.2⟩, by simp [intOf]; omega⟩
    · obtain rfl : i = 7 := by omega
      have hM' : x = M := hM
      subst hM'
      go_wp2
      go_ret
      exact ⟨rfl, rfl⟩
theorem rot_0 (x : Nat) (h : x < 256) : bits .or .u8 ((x : Int)) ((x : Int) / 256) = ((rotB x 0 : Nat) : Int) ∧ rotB x 0 < 256 := by
  have : ((List.range 256).all fun x => bits .or .u8 ((x : Int)) ((x : Int) / 256) == ((rotB x 0 : Nat) : Int) && decide (rotB x 0 < 256)) = true := by kernel_rfl
  have := all256 this x h
  rw [Bool.and_eq_true] at this
  exact ⟨eq_of_beq this.1, of_decide_eq_true this.2⟩
theorem rot_1 (x : Nat) (h : x < 256) : bits .or .u8 ((x : Int) * 2 % 256) ((x : Int) / 128) = ((rotB x 1 : Nat) : Int) ∧ rotB x 1 < 256 := by
  have : ((List.range 256).all fun x => bits .or .u8 ((x : Int) * 2 % 256) ((x : Int) / 128) == ((rotB x 1 : Nat) : Int) && decide (rotB x 1 < 256)) = true := by kernel_rfl
  have := all256 this x h
  rw [Bool.and_eq_true] at this
  exact ⟨eq_of_beq this.1, of_decide_eq_true this.2⟩
theorem rot_2 (x : Nat) (h : x < 256) : bits .or .u8 ((x : Int) * 4 % 256) ((x : Int) / 64) = ((rotB x 2 : Nat) : Int) ∧ rotB x 2 < 256 := by
  have : ((List.range 256).all fun x => bits .or .u8 ((x : Int) * 4 % 256) ((x : Int) / 64) == ((rotB x 2 : Nat) : Int) && decide (rotB x 2 < 256)) = true := by kernel_rfl
  have := all256 this x h
  rw [Bool.and_eq_true] at this
  exact ⟨eq_of_beq this.1, of_decide_eq_true this.2⟩
theorem rot_3 (x : Nat) (h : x < 256) : bits .or .u8 ((x : Int) * 8 % 256) ((x : Int) / 32) = ((rotB x 3 : Nat) : Int) ∧ rotB x 3 < 256 := by
  have : ((List.range 256).all fun x => bits .or .u8 ((x : Int) * 8 % 256) ((x : Int) / 32) == ((rotB x 3 : Nat) : Int) && decide (rotB x 3 < 256)) = true := by kernel_rfl
  have := all256 this x h
  rw [Bool.and_eq_true] at this
  exact ⟨eq_of_beq this.1, of_decide_eq_true this.2⟩
theorem rot_4 (x : Nat) (h : x < 256) : bits .or .u8 ((x : Int) * 16 % 256) ((x : Int) / 16) = ((rotB x 4 : Nat) : Int) ∧ rotB x 4 < 256 := by
  have : ((List.range 256).all fun x => bits .or .u8 ((x : Int) * 16 % 256) ((x : Int) / 16) == ((rotB x 4 : Nat) : Int) && decide (rotB x 4 < 256)) = true := by kernel_rfl
  have := all256 this x h
  rw [Bool.and_eq_true] at this
  exact ⟨eq_of_beq this.1, of_decide_eq_true this.2⟩
/-- where the loop stands -/
def BoL (w : World) (x M : Nat) (vy vi : Value) (wr : World) : Prop := ∃ i y q : Nat, i ≤ 5 ∧ y < 256 ∧ vy = .int .u8 (y : Int) ∧ vi = .int .i64 (i : Int) ∧ boxS (5 - i) x i y = M ∧ wr = w.drewN q
theorem boxS_next {k x i y : Nat} : boxS (k + 1) x i y = boxS k x (i + 1) (y ^^^ rotB x i) := rfl
theorem invB_lt {c : Nat} (h : c < 256) : invB c < 256 := by
  have : ((List.range 256).all fun c => decide (invB c < 256)) = true := by kernel_rfl
  exact of_decide_eq_true (all256 this c h)
set_option maxHeartbeats 2000000 in
set_option maxRecDepth 100000 in
theorem rbox_any (c : Nat) (hc : c < 256) (w : World) : Calls Try.prog 18 #[.int .u8 (c : Int)] w fun e w' => e = .returned (.int .u8 (boxB c : Nat)) ∧ Below w.heap.size w w' := by
  have hinv := fun y => rinv_any c hc y
  have hx := invB_lt hc
  have H0 : Hid (BoL w (invB c) (boxB c) (.int .u8 99) (.int .i64 0) w) := hide ⟨0, 99, 0, by decide, by decide, rfl, rfl, rfl, rfl⟩
  generalize boxB c = M at *
  generalize invB c = x at *
  go_enter Try.func18, Try.ntmps18
  go_wp2_with fail
  refine (hinv _).mono ?_
  rintro e y ⟨rfl, hy⟩
  obtain rfl := hy.symm
  go_wp2_with fail
  go_loopw [4, 5] (fun vy vi wr => BoL w x M vy vi wr) (fun _ vi _ => 5 - (intOf vi).toNat)
  case atStart => exact H0.out
  case round =>
    obtain ⟨i, y, q, hi, hy, rfl, rfl, hM, rfl⟩ := hrel
    clear H0 hinv
    by_cases hlt : i < 5
    · have h5 : i = 0 ∨ i = 1 ∨ i = 2 ∨ i = 3 ∨ i = 4 := by omega
      rcases h5 with h | h | h | h | h <;> subst h
      · obtain ⟨fr, rl⟩ := rot_0 x hx
        have hM' : boxS 4 x 1 (y ^^^ rotB x 0) = M := hM
        generalize rotB x 0 = R at *
        have fx := u8_xor_nat y R hy rl
        have py := xor_8 hy rl
        have HM := hide hM'
        clear hM hM'
        go_wp2
        go_quiet (fail)
        go_wp2
        exact ⟨⟨1, y ^^^ R, q + nq, by decide, py, rfl, rfl, HM.out, rfl⟩, by simp [intOf]⟩
      · obtain ⟨fr, rl⟩ := rot_1 x hx
        have hM' : boxS 3 x 2 (y ^^^ rotB x 1) = M := hM
        generalize rotB x 1 = R at *
        have fx := u8_xor_nat y R hy rl
        have py := xor_8 hy rl
        have HM := hide hM'
        clear hM hM'
        go_wp2
        go_quiet (fail)
        go_wp2
        exact ⟨⟨2, y ^^^ R, q + nq, by decide, py, rfl, rfl, HM.out, rfl⟩, by simp [intOf]⟩
      · obtain ⟨fr, rl⟩ := rot_2 x hx
        have hM' : boxS 2 x 3 (y ^^^ rotB x 2) = M := hM
        generalize rotB x 2 = R at *
        have fx := u8_xor_nat y R hy rl
        have py := xor_8 hy rl
        have HM := hide hM'
        clear hM hM'
        go_wp2
        go_quiet (fail)
        go_wp2
        exact ⟨⟨3, y ^^^ R, q + nq, by decide, py, rfl, rfl, HM.out, rfl⟩, by simp [intOf]⟩
      · obtain ⟨fr, rl⟩ := rot_3 x hx
        have hM' : boxS 1 x 4 (y ^^^ rotB x 3) = M := hM
        generalize rotB x 3 = R at *
        have fx := u8_xor_nat y R hy rl
        have py := xor_8 hy rl
        have HM := hide hM'
        clear hM hM'
        go_wp2
        go_quiet (fail)
        go_wp2
        exact ⟨⟨4, y ^^^ R, q + nq, by decide, py, rfl, rfl, HM.out, rfl⟩, by simp [intOf]⟩
      · obtain ⟨fr, rl⟩ := rot_4 x hx
        have hM' : boxS 0 x 5 (y ^^^ rotB x 4) = M := hM
        generalize rotB x 4 = R at *
        have fx := u8_xor_nat y R hy rl
        have py := xor_8 hy rl
        have HM := hide hM'
        clear hM hM'
        go_wp2
        go_quiet (fail)
        go_wp2
        exact ⟨⟨5, y ^^^ R, q + nq, by decide, py, rfl, rfl, HM.out, rfl⟩, by simp [intOf]⟩
    · obtain rfl : i = 5 := by omega
      have hM' : y = M := hM
      subst hM'
      go_wp2
      go_ret
      exact ⟨rfl, below_drewN (Below.refl _ _) q⟩
end Go.Proofs.Yteiknfcegchbcaa
