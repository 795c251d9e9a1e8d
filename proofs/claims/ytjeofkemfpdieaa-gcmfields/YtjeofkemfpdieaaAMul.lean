/- The document's Mul, inverse, Box. -/
import Derived.Test.YtjeofkemfpdieaaAesM
import Derived.Test.YtjeofkemfpdieaaHKi2
import Derived.Test.YtjeofkemfpdieaaHKit
namespace Go.Proofs.Ytjeofkemfpdieaa
open Go.RowKit
set_option linter.unusedVariables false
set_option linter.unusedSimpArgs false

theorem mulS_next {k a b p : Nat} : mulS (k + 1) a b p = mulS k (xt a) (b / 2) (if b % 2 = 1 then p ^^^ a else p) := rfl
theorem and_1 (b : Nat) (h : b < 256) : bits .and .u8 (b : Int) 1 = ((b % 2 : Nat) : Int) := by
  have : ((List.range 256).all fun b => bits .and .u8 (b : Int) 1 == ((b % 2 : Nat) : Int)) = true := by kernel_rfl
  exact eq_of_beq (all256 this b h)
theorem xor_27 (b : Nat) (h : b < 256) : bits .xor .u8 (b : Int) 27 = ((b ^^^ 27 : Nat) : Int) := by
  have : ((List.range 256).all fun b => bits .xor .u8 (b : Int) 27 == ((b ^^^ 27 : Nat) : Int)) = true := by kernel_rfl
  exact eq_of_beq (all256 this b h)
theorem xt_hi (A : Nat) (h : A < 256) : 128 ≤ A → bits .xor .u8 ((A : Int) * 2 % 256) 27 = ((xt A : Nat) : Int) := fun h1 => by
  have e : ((A : Int) * 2 % 256) = ((2 * A % 256 : Nat) : Int) := by omega
  rw [e, xor_27 _ (by omega)]
  unfold xt
  rw [if_pos h1]
theorem xt_lo (A : Nat) : ¬ 128 ≤ A → (A : Int) * 2 = ((xt A : Nat) : Int) := fun h1 => by
  unfold xt
  rw [if_neg h1]
  omega
/-- where the loop stands -/
def MuL (M : Nat) (va vb vp vi : Value) : Prop := ∃ i A B p : Nat, i ≤ 8 ∧ A < 256 ∧ B < 256 ∧ p < 256 ∧ va = .int .u8 (A : Int) ∧ vb = .int .u8 (B : Int) ∧ vp = .int .u8 (p : Int) ∧ vi = .int .i64 (i : Int) ∧ mulS (8 - i) A B p = M

set_option maxHeartbeats 2000000 in
set_option maxRecDepth 100000 in
theorem rmul_any (a b : Nat) (ha : a < 256) (hb : b < 256) (w : World) : Calls Try.prog 64 #[.int .u8 (a : Int), .int .u8 (b : Int)] w fun e w' => e = .returned (.int .u8 (mulB a b : Nat)) ∧ w' = w := by
  have H0 : Hid (MuL (mulB a b) (.int .u8 (a : Int)) (.int .u8 (b : Int)) (.int .u8 0) (.int .i64 0)) := hide ⟨0, a, b, 0, by decide, ha, hb, by decide, rfl, rfl, rfl, rfl, rfl⟩
  generalize mulB a b = M at *
  go_enter Try.func64, Try.ntmps64
  go_wp2
  go_loop [0, 1, 5, 6] (fun va vb vp vi => MuL M va vb vp vi) (fun _ _ _ vi => 8 - (intOf vi).toNat)
  case atStart => exact H0.out
  case round =>
    obtain ⟨i, A, B, p, hi, hA, hB, hp, rfl, rfl, rfl, rfl, hM⟩ := hrel
    clear H0
    by_cases hlt : i < 8
    · have hli : (i : Int) < 8 := by omega
      have fa := and_1 B hB
      obtain ⟨k, hk⟩ : ∃ k : Nat, 8 - i = k + 1 := ⟨7 - i, by omega⟩
      have hk2 : 8 - (i + 1) = k := by omega
      rw [hk, mulS_next] at hM
      have xA := xt_lt hA
      have fx := u8_xor_nat p A hp hA
      have px := xor_8 hp hA
      have x1 := xt_hi A hA
      have x2 := xt_lo A
      have HH := hide (And.intro hk2 (And.intro xA (And.intro px (And.intro x1 x2))))
      clear hk hk2 xA px x1 x2
      by_cases hodd : B % 2 = 1
      · rw [if_pos hodd] at hM
        rw [hodd] at fa
        have HM := hide hM
        clear hM hodd
        by_cases hhi : 128 ≤ A
        · have hhiI : (128 : Int) ≤ (A : Int) := by omega
          go_wp2
          exact ⟨⟨i + 1, xt A, B / 2, p ^^^ A, by omega, HH.out.2.1, by omega, HH.out.2.2.1, vint (HH.out.2.2.2.1 hhi), vint (by omega), rfl, by go_num, by rw [HH.out.1]; exact HM.out⟩, by simp [intOf]; omega⟩
        · have hhiI : ¬ (128 : Int) ≤ (A : Int) := by omega
          go_wp2
          exact ⟨⟨i + 1, xt A, B / 2, p ^^^ A, by omega, HH.out.2.1, by omega, HH.out.2.2.1, vint (HH.out.2.2.2.2 hhi), vint (by omega), rfl, by go_num, by rw [HH.out.1]; exact HM.out⟩, by simp [intOf]; omega⟩
      · rw [if_neg hodd] at hM
        have hev : B % 2 = 0 := by omega
        rw [hev] at fa
        have HM := hide hM
        clear hM hodd hev
        by_cases hhi : 128 ≤ A
        · have hhiI : (128 : Int) ≤ (A : Int) := by omega
          go_wp2
          exact ⟨⟨i + 1, xt A, B / 2, p, by omega, HH.out.2.1, by omega, hp, vint (HH.out.2.2.2.1 hhi), vint (by omega), rfl, by go_num, by rw [HH.out.1]; exact HM.out⟩, by simp [intOf]; omega⟩
        · have hhiI : ¬ (128 : Int) ≤ (A : Int) := by omega
          go_wp2
          exact ⟨⟨i + 1, xt A, B / 2, p, by omega, HH.out.2.1, by omega, hp, vint (HH.out.2.2.2.2 hhi), vint (by omega), rfl, by go_num, by rw [HH.out.1]; exact HM.out⟩, by simp [intOf]; omega⟩
    · obtain rfl : i = 8 := by omega
      have hM' : p = M := hM
      subst hM'
      go_wp2
      go_ret
      exact ⟨rfl, rfl⟩
/-- where the loop stands -/
def InL (M : Nat) (vc vx vi : Value) : Prop := ∃ i C x : Nat, i ≤ 7 ∧ C < 256 ∧ x < 256 ∧ vc = .int .u8 (C : Int) ∧ vx = .int .u8 (x : Int) ∧ vi = .int .i64 (i : Int) ∧ sqN (7 - i) C x = M
theorem sqN_next {k c x : Nat} : sqN (k + 1) c x = sqN k (mulB c c) (mulB x (mulB c c)) := rfl
set_option maxHeartbeats 2000000 in
set_option maxRecDepth 100000 in
theorem rinv_any (c : Nat) (hc : c < 256) (w : World) : Calls Try.prog 75 #[.int .u8 (c : Int)] w fun e w' => e = .returned (.int .u8 (invB c : Nat)) ∧ w' = w := by
  have H0 : Hid (InL (invB c) (.int .u8 (c : Int)) (.int .u8 1) (.int .i64 0)) := hide ⟨0, c, 1, by decide, hc, by decide, rfl, rfl, rfl, rfl⟩
  generalize invB c = M at *
  go_enter Try.func75, Try.ntmps75
  go_wp2
  go_loop [0, 3, 4] (fun vc vx vi => InL M vc vx vi) (fun _ _ vi => 7 - (intOf vi).toNat)
  case atStart => exact H0.out
  case round =>
    obtain ⟨i, C, x, hi, hC, hx, rfl, rfl, rfl, hM⟩ := hrel
    clear H0
    by_cases hlt : i < 7
    · have hli : (i : Int) < 7 := by omega
      obtain ⟨k, hk⟩ : ∃ k : Nat, 7 - i = k + 1 := ⟨6 - i, by omega⟩
      have hk2 : 7 - (i + 1) = k := by omega
      rw [hk, sqN_next] at hM
      have m1 := mulB_lt (b := C) hC
      have c1 := rmul_any C C hC hC
      generalize mulB C C = D at *
      have m2 := mulB_lt (b := D) hx
      have c2 := rmul_any x D hx m1
      generalize mulB x D = X at *
      have HH := hide (And.intro hk2 hM)
      clear hk hk2 hM
      go_wp2_with fail
      refine (c1 _).mono ?_
      rintro e y ⟨rfl, hy⟩
      obtain rfl := hy.symm
      go_wp2_with fail
      refine (c2 _).mono ?_
      rintro e y ⟨rfl, hy⟩
      obtain rfl := hy.symm
      go_wp2
      exact ⟨⟨i + 1, D, X, by omega, m1, m2, rfl, rfl, by go_num, by rw [HH.out.1]; exact HH.out.2⟩, by simp [intOf]; omega⟩
    · obtain rfl : i = 7 := by omega
      have hM' : x = M := hM
      subst hM'
      go_wp2
      go_ret
      exact ⟨rfl, rfl⟩
theorem rot_0 (x : Nat) (h : x < 256) : bits .or .u8 ((x : Int)) ((x : Int) / 256) = ((rotB x 0 : Nat) : Int) ∧ rotB x 0 < 256 := by
  have : ((List.range 256).all fun x => bits .or .u8 ((x : Int)) ((x : Int) / 256) == ((rotB x 0 : Nat) : Int) && decide (rotB x 0 < 256)) = true := by kernel_rfl
  have := all256 this x h
  rw [Bool.and_eq_true] at this
  exact ⟨eq_of_beq this.1, of_decide_eq_true this.2⟩
theorem rot_1 (x : Nat) (h : x < 256) : bits .or .u8 ((x : Int) * 2 % 256) ((x : Int) / 128) = ((rotB x 1 : Nat) : Int) ∧ rotB x 1 < 256 := by
  have : ((List.range 256).all fun x => bits .or .u8 ((x : Int) * 2 % 256) ((x : Int) / 128) == ((rotB x 1 : Nat) : Int) && decide (rotB x 1 < 256)) = true := by kernel_rfl
  have := all256 this x h
  rw [Bool.and_eq_true] at this
  exact ⟨eq_of_beq this.1, of_decide_eq_true this.2⟩
theorem rot_2 (x : Nat) (h : x < 256) : bits .or .u8 ((x : Int) * 4 % 256) ((x : Int) / 64) = ((rotB x 2 : Nat) : Int) ∧ rotB x 2 < 256 := by
  have : ((List.range 256).all fun x => bits .or .u8 ((x : Int) * 4 % 256) ((x : Int) / 64) == ((rotB x 2 : Nat) : Int) && decide (rotB x 2 < 256)) = true := by kernel_rfl
  have := all256 this x h
  rw [Bool.and_eq_true] at this
  exact ⟨eq_of_beq this.1, of_decide_eq_true this.2⟩
theorem rot_3 (x : Nat) (h : x < 256) : bits .or .u8 ((x : Int) * 8 % 256) ((x : Int) / 32) = ((rotB x 3 : Nat) : Int) ∧ rotB x 3 < 256 := by
  have : ((List.range 256).all fun x => bits .or .u8 ((x : Int) * 8 % 256) ((x : Int) / 32) == ((rotB x 3 : Nat) : Int) && decide (rotB x 3 < 256)) = true := by kernel_rfl
  have := all256 this x h
  rw [Bool.and_eq_true] at this
  exact ⟨eq_of_beq this.1, of_decide_eq_true this.2⟩
theorem rot_4 (x : Nat) (h : x < 256) : bits .or .u8 ((x : Int) * 16 % 256) ((x : Int) / 16) = ((rotB x 4 : Nat) : Int) ∧ rotB x 4 < 256 := by
  have : ((List.range 256).all fun x => bits .or .u8 ((x : Int) * 16 % 256) ((x : Int) / 16) == ((rotB x 4 : Nat) : Int) && decide (rotB x 4 < 256)) = true := by kernel_rfl
  have := all256 this x h
  rw [Bool.and_eq_true] at this
  exact ⟨eq_of_beq this.1, of_decide_eq_true this.2⟩
/-- where the loop stands -/
def BoL (w : World) (x M : Nat) (vy vi : Value) (wr : World) : Prop := ∃ i y q : Nat, i ≤ 5 ∧ y < 256 ∧ vy = .int .u8 (y : Int) ∧ vi = .int .i64 (i : Int) ∧ boxS (5 - i) x i y = M ∧ wr = w.drewN q
theorem boxS_next {k x i y : Nat} : boxS (k + 1) x i y = boxS k x (i + 1) (y ^^^ rotB x i) := rfl
theorem invB_lt {c : Nat} (h : c < 256) : invB c < 256 := by
  have : ((List.range 256).all fun c => decide (invB c < 256)) = true := by kernel_rfl
  exact of_decide_eq_true (all256 this c h)
set_option maxHeartbeats 2000000 in
set_option maxRecDepth 100000 in
theorem rbox_any (c : Nat) (hc : c < 256) (w : World) : Calls Try.prog 63 #[.int .u8 (c : Int)] w fun e w' => e = .returned (.int .u8 (boxB c : Nat)) ∧ Below w.heap.size w w' := by
  have hinv := fun y => rinv_any c hc y
  have hx := invB_lt hc
  have H0 : Hid (BoL w (invB c) (boxB c) (.int .u8 99) (.int .i64 0) w) := hide ⟨0, 99, 0, by decide, by decide, rfl, rfl, rfl, rfl⟩
  generalize boxB c = M at *
  generalize invB c = x at *
  go_enter Try.func63, Try.ntmps63
  go_wp2_with fail
  refine (hinv _).mono ?_
  rintro e y ⟨rfl, hy⟩
  obtain rfl := hy.symm
  go_wp2_with fail
  go_loopw [4, 5] (fun vy vi wr => BoL w x M vy vi wr) (fun _ vi _ => 5 - (intOf vi).toNat)
  case atStart => exact H0.out
  case round =>
    obtain ⟨i, y, q, hi, hy, rfl, rfl, hM, rfl⟩ := hrel
    clear H0 hinv
    by_cases hlt : i < 5
    · have h5 : i = 0 ∨ i = 1 ∨ i = 2 ∨ i = 3 ∨ i = 4 := by omega
      rcases h5 with h | h | h | h | h <;> subst h
      · obtain ⟨fr, rl⟩ := rot_0 x hx
        have hM' : boxS 4 x 1 (y ^^^ rotB x 0) = M := hM
        generalize rotB x 0 = R at *
        have fx := u8_xor_nat y R hy rl
        have py := xor_8 hy rl
        have HM := hide hM'
        clear hM hM'
        go_wp2
        go_quiet (fail)
        go_wp2
        exact ⟨⟨1, y ^^^ R, q + nq, by decide, py, rfl, rfl, HM.out, rfl⟩, by simp [intOf]⟩
      · obtain ⟨fr, rl⟩ := rot_1 x hx
        have hM' : boxS 3 x 2 (y ^^^ rotB x 1) = M := hM
        generalize rotB x 1 = R at *
        have fx := u8_xor_nat y R hy rl
        have py := xor_8 hy rl
        have HM := hide hM'
        clear hM hM'
        go_wp2
        go_quiet (fail)
        go_wp2
        exact ⟨⟨2, y ^^^ R, q + nq, by decide, py, rfl, rfl, HM.out, rfl⟩, by simp [intOf]⟩
      · obtain ⟨fr, rl⟩ := rot_2 x hx
        have hM' : boxS 2 x 3 (y ^^^ rotB x 2) = M := hM
        generalize rotB x 2 = R at *
        have fx := u8_xor_nat y R hy rl
        have py := xor_8 hy rl
        have HM := hide hM'
        clear hM hM'
        go_wp2
        go_quiet (fail)
        go_wp2
        exact ⟨⟨3, y ^^^ R, q + nq, by decide, py, rfl, rfl, HM.out, rfl⟩, by simp [intOf]⟩
      · obtain ⟨fr, rl⟩ := rot_3 x hx
        have hM' : boxS 1 x 4 (y ^^^ rotB x 3) = M := hM
        generalize rotB x 3 = R at *
        have fx := u8_xor_nat y R hy rl
        have py := xor_8 hy rl
        have HM := hide hM'
        clear hM hM'
        go_wp2
        go_quiet (fail)
        go_wp2
        exact ⟨⟨4, y ^^^ R, q + nq, by decide, py, rfl, rfl, HM.out, rfl⟩, by simp [intOf]⟩
      · obtain ⟨fr, rl⟩ := rot_4 x hx
        have hM' : boxS 0 x 5 (y ^^^ rotB x 4) = M := hM
        generalize rotB x 4 = R at *
        have fx := u8_xor_nat y R hy rl
        have py := xor_8 hy rl
        have HM := hide hM'
        clear hM hM'
        go_wp2
        go_quiet (fail)
        go_wp2
        exact ⟨⟨5, y ^^^ R, q + nq, by decide, py, rfl, rfl, HM.out, rfl⟩, by simp [intOf]⟩
    · obtain rfl : i = 5 := by omega
      have hM' : y = M := hM
      subst hM'
      go_wp2
      go_ret
      exact ⟨rfl, below_drewN (Below.refl _ _) q⟩
end Go.Proofs.Ytjeofkemfpdieaa

/- The document's tables of boxes. -/
namespace Go.Proofs.Ytjeofkemfpdieaa
open Go.RowKit
set_option linter.unusedVariables false
set_option linter.unusedSimpArgs false

def zA (n : Nat) : List Nat := List.replicate n 0
theorem zA_len (n : Nat) : (zA n).length = n := List.length_replicate
theorem zero256 : ∀ w, (zeroValue 74).run Try.prog w = .ok (.agg (arr .u8 (zA 256))) w := zero_arr (by kernel_rfl)
/-- the tables, so far -/
def thA : Nat → List Nat
  | 0 => zA 256
  | i + 1 => (thA i).set i (boxB i)
def bkA : Nat → List Nat
  | 0 => zA 256
  | i + 1 => (bkA i).set (boxB i) i
theorem thA_len : ∀ i, (thA i).length = 256
  | 0 => zA_len _
  | i + 1 => by unfold thA; rw [List.length_set, thA_len i]
theorem bkA_len : ∀ i, (bkA i).length = 256
  | 0 => zA_len _
  | i + 1 => by unfold bkA; rw [List.length_set, bkA_len i]
theorem thA_all : thA 256 = boxT := by kernel_rfl
theorem bkA_all : bkA 256 = unT := by kernel_rfl
theorem boxT_len : boxT.length = 256 := by kernel_rfl
theorem unT_len : unT.length = 256 := by kernel_rfl
/-- where the loop stands -/
def BxL (w : World) (vi : Value) (wr : World) : Prop := ∃ i : Nat, i ≤ 256 ∧ vi = .int .i64 (i : Int) ∧ Lies .u8 74 wr (w.heap.size + 2) (thA i) ∧ Lies .u8 74 wr (w.heap.size + 3) (bkA i) ∧ Lies .u8 74 wr w.heap.size (zA 256) ∧ Lies .u8 74 wr (w.heap.size + 1) (zA 256) ∧ Below w.heap.size w wr
def bxlt : List Lt := [(0, some 20, [2]), (0, some 21, [3]), (1, none, [0, 20]), (7, none, [1, 21])]
theorem bxreg : Reg (opsA (cLA (cRA (cRA (cRA (cRA (Try.f55.body.getD .skip))))))) bxlt := ⟨by kernel_rfl, by kernel_rfl⟩
theorem bxis : (cLA (cRA (cRA (cRA (cRA (Try.f55.body.getD .skip)))))) = .region 9 (opsA (cLA (cRA (cRA (cRA (cRA (Try.f55.body.getD .skip))))))) true := by kernel_rfl
structure BxF (w : World) (a : Act) : Prop where
  fz : Fz 22 a
  t0 : a.eval (.tmp 0) = .pointer (some ⟨w.heap.size, 0, none⟩)
  t1 : a.eval (.tmp 1) = .pointer (some ⟨w.heap.size + 1, 0, none⟩)
  t2 : a.eval (.tmp 2) = .pointer (some ⟨w.heap.size + 2, 0, none⟩)
  t3 : a.eval (.tmp 3) = .pointer (some ⟨w.heap.size + 3, 0, none⟩)
structure BxS (w : World) (y : World) : Prop where
  a : Lies .u8 74 y (w.heap.size + 2) boxT
  b : Lies .u8 74 y (w.heap.size + 3) unT
section
variable {w : World} {Q : Exit → Act → World → Prop}
theorem lies_rangeA {w : World} {k : IntKind} {t : TypeId} {g : Nat} {l : List Nat} (h : Lies k t w g l) : w.rangeAt g 0 (vals k l) := fun j v hv => by
  have hj : j < l.length := by have := (List.getElem?_eq_some_iff.1 hv).1; rwa [vals_length] at this
  rw [Nat.zero_add, h.cell hj, ← hv, vals_get k l j hj]
theorem BxF.step {a : Act} {x : World} (h : BxF w a) {k fuel m : Nat} {v : Value} {d : Option Nat} {ops : Array Oper} {S : World → Prop} (hd : d = some k) (h3 : 4 ≤ k) (hk : k < 22)
    (hc : ∀ a' : Act, BxF w a' → a'.eval (.tmp k) = v → (∀ j, k ≠ j → a'.eval (.tmp j) = a.eval (.tmp j)) → At Try.prog ops Q S fuel m a' x) : At Try.prog ops Q S fuel m (a.put d v) x := by
  subst hd
  exact hc _ ⟨h.fz.put _ _, (put_else (by omega)).trans h.t0, (put_else (by omega)).trans h.t1, (put_else (by omega)).trans h.t2, (put_else (by omega)).trans h.t3⟩ (put_same (by rw [h.fz.1]; exact hk)) (fun j hj => put_else hj)
set_option maxRecDepth 100000 in
theorem bx_9 (hQ : ∀ (a : Act) (x : World), BxF w a → Lies .u8 74 x w.heap.size boxT → Lies .u8 74 x (w.heap.size + 1) unT → Below w.heap.size w x → Q .normal a x)
    {a : Act} {x : World} (F : BxF w a) (hA : Lies .u8 74 x (w.heap.size + 2) boxT) (hB : Lies .u8 74 x (w.heap.size + 3) unT) (h0 : Lies .u8 74 x w.heap.size (zA 256)) (h1 : Lies .u8 74 x (w.heap.size + 1) (zA 256)) (hb : Below w.heap.size w x) : Code.wp Try.prog (cLA (cRA (cRA (cRA (cRA (Try.f55.body.getD .skip)))))) Q a x := by
  rw [bxis]
  have s1 : (vals .u8 boxT).length = 256 := by rw [vals_length, boxT_len]
  have s2 : (vals .u8 unT).length = 256 := by rw [vals_length, unT_len]
  have hbd : Below x.heap.size x x.drew := (Below.refl _ _).drew
  have hS : BxS w x.drew := ⟨hA.below hbd, hB.below hbd⟩
  replace h0 := h0.below hbd
  replace h1 := h1.below hbd
  replace hb := keep_trans hb hbd
  refine at_begin (n := 4) (BxS w) (by kernel_rfl) (by kernel_rfl) ?_
  generalize x.drew = y at *
  refine at_take (i := 0) (m' := 1) bxreg rfl (by decide) rfl (y_load_row (cs := vals .u8 boxT) rfl rfl F.t2 Try.underlying74 rfl (by rw [s1]; kernel_rfl) (fun _ h => lies_rangeA h.a)) hS ?_
  refine F.step (k := 20) rfl (by decide) (by decide) ?_
  intro a1 F1 s20 e1
  refine at_take (i := 1) (m' := 3) bxreg rfl (by decide) rfl (y_load_row (cs := vals .u8 unT) rfl rfl F1.t3 Try.underlying74 rfl (by rw [s2]; kernel_rfl) (fun _ h => lies_rangeA h.b)) hS ?_
  refine F1.step (k := 21) rfl (by decide) (by decide) ?_
  intro a2 F2 s21 e2
  replace s20 : a2.eval (.tmp 20) = .agg (arr .u8 boxT) := (e2 20 (by decide)).trans s20
  replace s21 : a2.eval (.tmp 21) = .agg (arr .u8 unT) := s21
  have hB0 : But w.heap.size y (y.setRow w.heap.size (arr .u8 boxT)) := But.setRow (But.refl _ _) _
  refine at_one (i := 2) (m' := 7) bxreg (by decide) rfl ?_
  refine p_rowA rfl rfl rfl rfl F2.t0 s20 h0 (by rw [arr_size, boxT_len]; kernel_rfl) (by rw [arr_size, arr_size, boxT_len, zA_len]) (arr_one _ _) ⟨⟨hS.a.but hB0 (by omega), hS.b.but hB0 (by omega)⟩, ?_⟩
  have k0 := h0.row (l' := boxT)
  have k1 := h1.but hB0 (by omega)
  have kb := hb.trans (hB0.below (Nat.le_refl _) hb.size)
  have ka := hS.a.but hB0 (by omega)
  have kc := hS.b.but hB0 (by omega)
  generalize y.setRow w.heap.size (arr .u8 boxT) = z at *
  have hB1 : But (w.heap.size + 1) z (z.setRow (w.heap.size + 1) (arr .u8 unT)) := But.setRow (But.refl _ _) _
  refine at_one (i := 3) (m' := 15) bxreg (by decide) rfl ?_
  refine p_rowA rfl rfl rfl rfl F2.t1 s21 k1 (by rw [arr_size, unT_len]; kernel_rfl) (by rw [arr_size, arr_size, unT_len, zA_len]) (arr_one _ _) ⟨⟨ka.but hB1 (by omega), kc.but hB1 (by omega)⟩, ?_⟩
  exact at_done bxreg (by decide) (hQ _ _ F2 (k0.but hB1 (by omega)) k1.row (kb.trans (hB1.below (by omega) kb.size)))
end
set_option maxHeartbeats 4000000 in
set_option maxRecDepth 100000 in
theorem rboxes_any (w : World) : Calls Try.prog 55 #[] w fun e w' => e = .returned (.tuple #[.agg (arr .u8 boxT), .agg (arr .u8 unT)]) ∧ Below w.heap.size w w' := by
  have hz := zero256
  have L0 := (((Lies.new .u8 74 w (zA 256)).alloc (.cells (arr .u8 (zA 256)) 74)).alloc (.cells (arr .u8 (zA 256)) 74)).alloc (.cells (arr .u8 (zA 256)) 74)
  have L1 := ((Lies.new .u8 74 (w.alloc (.cells (arr .u8 (zA 256)) 74)) (zA 256)).alloc (.cells (arr .u8 (zA 256)) 74)).alloc (.cells (arr .u8 (zA 256)) 74)
  have L2 := (Lies.new .u8 74 ((w.alloc (.cells (arr .u8 (zA 256)) 74)).alloc (.cells (arr .u8 (zA 256)) 74)) (zA 256)).alloc (.cells (arr .u8 (zA 256)) 74)
  have L3 := Lies.new .u8 74 (((w.alloc (.cells (arr .u8 (zA 256)) 74)).alloc (.cells (arr .u8 (zA 256)) 74)).alloc (.cells (arr .u8 (zA 256)) 74)) (zA 256)
  have hb := keep_trans (keep_trans (keep_trans (keep_alloc w (.cells (arr .u8 (zA 256)) 74)) (keep_alloc _ (.cells (arr .u8 (zA 256)) 74))) (keep_alloc _ (.cells (arr .u8 (zA 256)) 74))) (keep_alloc _ (.cells (arr .u8 (zA 256)) 74))
  simp only [World.size_alloc, Nat.add_assoc, Nat.reduceAdd] at L1 L2 L3
  go_enter Try.func55, Try.ntmps55
  go_wp2
  generalize (((w.alloc (.cells (arr .u8 (zA 256)) 74)).alloc (.cells (arr .u8 (zA 256)) 74)).alloc (.cells (arr .u8 (zA 256)) 74)).alloc (.cells (arr .u8 (zA 256)) 74) = x1 at *
  clear hz
  go_loopw [4] (fun vi wr => BxL w vi wr) (fun vi _ => 256 - (intOf vi).toNat)
  case atStart => exact ⟨0, by decide, rfl, L2, L3, L0, L1, hb⟩
  case round =>
    obtain ⟨i, hi, rfl, hA, hB, h0, h1, hbr⟩ := hrel
    clear L0 L1 L2 L3 hb
    by_cases hlt : i < 256
    · have hli : (i : Int) < 256 := by omega
      have hbx := fun y => rbox_any i hlt y
      have hcl := boxB_lt hlt
      have eth : thA (i + 1) = (thA i).set i (boxB i) := rfl
      have ebk : bkA (i + 1) = (bkA i).set (boxB i) i := rfl
      have lt1 := thA_len i
      have lt2 := bkA_len i
      have s_i : IntKind.u8.wrap (i : Int) = (i : Int) := by rw [IntKind.wrap_u8]; omega
      have HE := hide (And.intro eth ebk)
      clear eth ebk
      generalize boxB i = c at *
      have ci : (c : Int) < 256 := by omega
      go_wp2_with fail
      refine (hbx _).mono ?_
      rintro e x2 ⟨rfl, hb2⟩
      have hA2 := hA.below hb2
      have hB2 := hB.below hb2
      have a1 := hA2.cell (i := i) (by omega)
      have a2 := hA2.frozen i
      have b1 := hB2.cell (i := c) (by omega)
      have b2 := hB2.frozen c
      go_wp2
      have bA : But (w.heap.size + 2) x2 (x2.setCell ⟨w.heap.size + 2, i, none⟩ (.int .u8 (c : Int))) := (But.refl _ _).setCell i _
      have bB : But (w.heap.size + 3) (x2.setCell ⟨w.heap.size + 2, i, none⟩ (.int .u8 (c : Int))) ((x2.setCell ⟨w.heap.size + 2, i, none⟩ (.int .u8 (c : Int))).setCell ⟨w.heap.size + 3, c, none⟩ (.int .u8 (i : Int))) := (But.refl _ _).setCell c _
      have hbw := keep_trans hbr hb2
      have hb3 := hbw.trans (bA.below (by omega) hbw.size)
      have hb4 := hb3.trans (bB.below (by omega) hb3.size)
      exact ⟨⟨i + 1, by omega, by go_num, by rw [HE.out.1]; exact (hA2.set i c).but bB (by omega), by rw [HE.out.2]; exact (hB2.but bA (by omega)).set c i, ((h0.below hb2).but bA (by omega)).but bB (by omega), ((h1.below hb2).but bA (by omega)).but bB (by omega), hb4⟩, by simp [intOf]; omega⟩
    · obtain rfl : i = 256 := by omega
      rw [thA_all] at hA
      rw [bkA_all] at hB
      go_wp2
      refine bx_9 (w := w) ?_ ⟨⟨rfl, rfl⟩, rfl, rfl, rfl, rfl⟩ hA hB h0 h1 hbr
      rename_i Q' K hK'
      intro a x F k0 k1 kb
      have v0 := run_loadVar_row (P := Try.prog) x w.heap.size _ 74 _ _ _ k0 Try.underlying74 rfl (by rw [arr_size, boxT_len]; kernel_rfl)
      have v1 := run_loadVar_row (P := Try.prog) x (w.heap.size + 1) _ 74 _ _ _ k1 Try.underlying74 rfl (by rw [arr_size, unT_len]; kernel_rfl)
      have e0 : a.tmps.getD 0 undef = .pointer (some ⟨w.heap.size, 0, none⟩) := F.t0
      have e1 : a.tmps.getD 1 undef = .pointer (some ⟨w.heap.size + 1, 0, none⟩) := F.t1
      rw [Array.getD_eq_getD_getElem?] at e0 e1
      refine hK' _ _ (wp_ret ?_)
      refine bodyPost_ret (v := .tuple #[.agg (arr .u8 boxT), .agg (arr .u8 unT)]) ?_ F.fz.2 ⟨rfl, kb⟩
      simp [results, Try.results55, asAddr, e0, e1, v0, v1]
end Go.Proofs.Ytjeofkemfpdieaa

/- A value whose block is not older than a bound. -/
namespace Go.Proofs.Ytjeofkemfpdieaa
open Go.RowKit
set_option linter.unusedVariables false
def New (B : Nat) (v : Value) : Prop := ∀ q, v.ownBlock = some q → B ≤ q
theorem New.at {B g n c o : Nat} (h : B ≤ g) : New B (.slice (some ⟨g, o, none⟩) n c) := fun q hq => by
  have : g = q := by simpa [Value.ownBlock] using hq
  omega
theorem New.nil (B n c : Nat) : New B (.slice none n c) := fun q hq => by simp [Value.ownBlock] at hq
theorem New.mono {B B' : Nat} {v : Value} (h : New B v) (hB : B' ≤ B) : New B' v := fun q hq => Nat.le_trans hB (h q hq)
theorem Own.new {e : TypeId} {k : IntKind} {m : Nat} {w : World} {B : Nat} {v : Value} {l : List Nat} (h : Own e k m w B v l) : New B v := fun q hq => (h.1.lt q hq).1
end Go.Proofs.Ytjeofkemfpdieaa

/- The document's each, rows, columns. -/
namespace Go.Proofs.Ytjeofkemfpdieaa
open Go.RowKit
set_option linter.unusedVariables false
set_option linter.unusedSimpArgs false

/-- sixteen places, the first k of them filled -/
def fill16 (f : Nat → Nat) (k : Nat) : List Nat := of16 fun i => if i < k then f i else 0
theorem fill16_len (f : Nat → Nat) (k : Nat) : (fill16 f k).length = 16 := of16_len _
theorem fill16_all (f : Nat → Nat) : fill16 f 16 = of16 f := ext16 (of16_len _) (of16_len _) fun i hi => by
  unfold fill16
  rw [of16_el _ hi, of16_el _ hi, if_pos hi]
theorem fill16_zero (f : Nat → Nat) : fill16 f 0 = List.replicate 16 0 := ext16 (of16_len _) List.length_replicate fun i hi => by
  unfold fill16
  rw [of16_el _ hi, el_at (by simpa using hi), List.getElem_replicate, if_neg (by omega)]
theorem fill16_set (f : Nat → Nat) {k : Nat} (hk : k < 16) : (fill16 f k).set k (f k) = fill16 f (k + 1) := ext16 (by rw [List.length_set, fill16_len]) (of16_len _) fun i hi => by
  rw [el_at (by rw [List.length_set, fill16_len]; exact hi), List.getElem_set]
  by_cases h : k = i
  · subst h
    rw [if_pos rfl]
    unfold fill16
    rw [of16_el _ hi, if_pos (by omega)]
  · rw [if_neg h, ← el_at]
    unfold fill16
    rw [of16_el _ hi, of16_el _ hi]
    by_cases h2 : i < k
    · rw [if_pos h2, if_pos (by omega)]
    · rw [if_neg h2, if_neg (by omega)]
/-- a row of the call's own that lies in a whole block -/
theorem lies_own {k : IntKind} {e : TypeId} {w : World} {base g n : Nat} {l : List Nat} (h : w.ownsRow base e 1 (.slice (some ⟨g, 0, none⟩) n n) n (vals k l)) (hl : l.length = n) : Lies k e w g l := by
  obtain ⟨_, ⟨h1, _⟩ | ⟨g', cap, cur, h1, _, h3, _, _, h4, h5⟩⟩ := h
  · cases h1
  · simp only [Value.slice.injEq, Option.some.injEq, Addr.mk.injEq] at h1
    obtain ⟨⟨rfl, _⟩, rfl⟩ : (g = g' ∧ True) ∧ n = cap := ⟨⟨h1.1.1, trivial⟩, h1.2.2⟩
    have e1 : cur.toList = vals k l := by
      rw [List.take_of_length_le (by rw [Array.length_toList, h4]; exact Nat.le_refl _)] at h5
      exact h5
    unfold Lies
    rw [h3]
    have : cur = arr k l := by
      apply Array.toList_inj.1
      rw [e1]
      simp [arr, vals]
    rw [this]
theorem own_lies {k : IntKind} {e : TypeId} {w : World} {base g n : Nat} {l : List Nat} (h : Lies k e w g l) (hb : base ≤ g) (hl : l.length = n) (hm : n ≤ maxLen) : w.ownsRow base e 1 (.slice (some ⟨g, 0, none⟩) n n) n (vals k l) := by
  refine ⟨by rw [vals_length, hl, Nat.mul_one], .inr ⟨g, n, arr k l, rfl, hb, h, Nat.le_refl _, hm, by rw [arr_size, hl, Nat.mul_one], ?_⟩⟩
  rw [List.take_of_length_le (by rw [Array.length_toList, arr_size, hl, Nat.mul_one]; exact Nat.le_refl _)]
  simp [arr, vals]
/-- where the loop stands -/
def EcL (w1 : World) (H : Nat) (f : Nat → Nat) (vi : Value) (wr : World) : Prop := ∃ k : Nat, k ≤ 16 ∧ vi = .int .i64 (k : Int) ∧ Lies .u8 5 wr (H + 1) (fill16 f k) ∧ But (H + 1) w1 wr

set_option maxHeartbeats 2000000 in
set_option maxRecDepth 100000 in
theorem reach_any (T s : List Nat) (sv : Value) (w : World) (hT : T.length = 256) (hTu : Under 256 T) (hs : B16 s) (rs : Row .u8 256 w sv s) :
    Calls Try.prog 66 #[sv, .agg (arr .u8 T)] w fun e w' => ∃ v, e = .returned v ∧ Own 5 .u8 256 w' w.heap.size v (eachL T s) ∧ Below w.heap.size w w' := by
  obtain ⟨i0, hi, hz0, hz1, hz2⟩ := info_parts Try.info5
  have hA := Lies.new .u8 74 w T
  have hb0 := keep_alloc w (.cells (arr .u8 T) 74)
  have rs0 := rs.below hb0
  obtain ⟨sa, sc, rfl, g1, g2, g3⟩ := rs.opens hs.1
  go_enter Try.func66, Try.ntmps66
  go_wp2_with (first | (at_make; refine wpList_make_full _ rfl _ _ 22 rfl (w.heap.size + 1) 5 i0 (.int .u8 0) 1 Try.underlying22 hi hz0 hz1 _ _ _ _ 16 rfl rfl rfl rfl (by rw [hz2]; decide) (by unfold maxLen; decide) (by simp) ?_; intro w1 hown hgrow) | fail)
  rw [made_u8, ← fill16_zero (fun i => el T (el s i))] at hown
  have hL1 := lies_own hown (fill16_len _ _)
  have hb1 := (Below.refl (w.alloc (.cells (arr .u8 T) 74)).heap.size (w.alloc (.cells (arr .u8 T) 74))).grown hgrow (Nat.le_refl _) (fun k h => by cases h)
  have hA1 := hA.below hb1
  have rs1 := rs0.below hb1
  have hbw := keep_trans hb0 hb1
  rw [World.size_alloc] at hL1
  obtain ⟨_, _, he, _, _, g4⟩ := rs1.opens hs.1
  obtain ⟨rfl, rfl⟩ := by simpa using he
  obtain ⟨sb, so, rfl, hc⟩ := g4 (by decide)
  have hsb : sb < (w.alloc (.cells (arr .u8 T) 74)).heap.size := by
    obtain ⟨_, _, he2, _, _, g5⟩ := rs0.opens hs.1
    obtain ⟨b', o', h1, h2⟩ := g5 (by decide)
    simp at he2
    have := World.block_lt_of_cell? _ _ (h2 0 (by decide))
    rw [h1] at he2
    simp at he2
    obtain ⟨⟨rfl, _⟩, _⟩ := he2
    exact this
  rw [World.size_alloc] at hsb
  clear hown hgrow he g3 g4 rs rs0 rs1 hA
  go_loopw [6] (fun vi wr => EcL w1 w.heap.size (fun i => el T (el s i)) vi wr) (fun vi _ => 16 - (intOf vi).toNat)
  case atStart => exact ⟨0, by decide, rfl, hL1, But.refl _ _⟩
  case round =>
    obtain ⟨k, hk, rfl, hL, hB⟩ := hrel
    by_cases hlt : k < 16
    · have hli : (k : Int) < 16 := by omega
      have c1 := But.cell (hc k hlt) hB (by show sb ≠ w.heap.size + 1; omega)
      have ck := hs.el k
      have hA2 := hA1.but hB (by omega)
      have c2 := hA2.cell (i := el s k) (by omega)
      have c3 := hL.cell (i := k) (by rw [fill16_len]; exact hlt)
      have c4 := hL.frozen k
      have cl := el_lt hTu (by decide) (el s k)
      have hst := hL.set k (el T (el s k))
      rw [fill16_set (fun i => el T (el s i)) hlt] at hst
      have HST := hide hst
      generalize el T (el s k) = t at *
      generalize el s k = u at *
      have ui : (u : Int) < 256 := by omega
      clear hst hL
      go_wp2
      exact ⟨⟨k + 1, by omega, by go_num, HST.out, hB.setCell k _⟩, by simp [intOf]; omega⟩
    · obtain rfl : k = 16 := by omega
      rw [fill16_all] at hL
      go_wp2
      go_ret
      have ho : Own 5 .u8 256 wr w.heap.size (.slice (some ⟨w.heap.size + 1, 0, none⟩) 16 16) (eachL T s) := ⟨by rw [show (eachL T s).length = 16 from of16_len _]; exact own_lies hL (by omega) (of16_len _) (by unfold maxLen; decide), (eachL_b (fun c h => el_lt hTu (by decide) c) hs).2⟩
      exact ⟨_, rfl, ho, hbw.trans (hB.below (by omega) hbw.size)⟩
end Go.Proofs.Ytjeofkemfpdieaa
