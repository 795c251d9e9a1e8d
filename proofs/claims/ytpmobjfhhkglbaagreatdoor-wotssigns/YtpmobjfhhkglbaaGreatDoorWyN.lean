import Derived.Test.YtpmobjfhhkglbaaGreatDoorWyF
set_option maxHeartbeats 8000000
set_option maxRecDepth 100000
namespace Go.Proofs.YtpmobjfhhkglbaaGreatDoor
open Go.RowKit
set_option linter.unusedVariables false
set_option linter.unusedSimpArgs false
theorem y_neTW {ops : Array Oper} {S : World → Prop} {o : Oper} {a : Act} {x y : Operand} {t t' : TypeId} {i j : Int} (hw : Region.wanted o (yielded ops a.tmps) = true) (ho : o.op = .binOp .neq t x y t') (hx : a.eval x = .int .i64 i) (hy : a.eval y = .int .i64 j) (hu : Tryz.prog.underlying t = some (.int .i64)) (hb : (i == j) = false) : YieldsIf Tryz.prog ops S o (.bool true) a := by
  have hne : ¬ i = j := by simpa using hb
  refine y_ofG hw fun w _ => ?_
  unfold execOp
  simp only [ho, hx, hy]
  simp [go_sem, Sem.run_bind, run_underlying hu, hb, hne]
section
variable {N : Nat} {H D A K : Int}
theorem wpub_no (sh : Bool) (a : List Nat) (sa pa : Option Addr) (sl sc pl pc : Nat) (w : World) (hF : FitX (N : Int) H D A K) (h : ¬ (sl = N ∧ pl = N)) :
    Calls Tryz.prog 19 #[slV (N : Int) H D A K sh, .slice sa sl sc, .slice pa pl pc, .agg (arr .u8 a)] w fun e w' => e = .returned (.slice none 0 0) ∧ Below w.heap.size w w' := by
  have hH : -9223372036854775808 ≤ H ∧ H ≤ 9223372036854775807 := by have := hF.2.2.1; have := hF.2.1; have := hF.2.2.2.1; omega
  obtain ⟨bx, La, k0⟩ := boxW (N := N) (H := H) (D := D) (A := A) (K := K) w sh (a := a)
  have bx0 := bx.here
  have hzs := zeroSg
  have hno := fun y => wsec_no (H := H) (D := D) (A := A) (K := K) (N : Int) sh sa pa sl sc pl pc y hH (fun e => h ⟨by have := e.2.1; omega, by have := e.2.2; omega⟩)
  unfold slV at hno ⊢
  clear hF hH
  go_enter Tryz.func19, Tryz.ntmps19
  go_wp2_with (first
    | (refine wpList_load_rowS (by rfl) 23 _ (by rfl) w.heap.size (by rfl) _ _ _ _ bx0 Tryz.underlying23 (by kernel_rfl) ?_)
    | (go_at_call 40; refine (hno _).mono ?_; rintro e x1 ⟨rfl, g1⟩; have hn1 := heap_alloc_last x1 (.cells (sgC 0 0 0 0 0 false .nilFunc).toArray 56))
    | (refine wpList_store_row rfl 56 _ _ (by rfl) x1.heap.size (sgC 0 0 0 0 0 false .nilFunc).toArray (by rfl) (by rfl) _ _ hn1 (by kernel_rfl) rfl (sg_one _ _ _ _ _ _ rfl) ?_)
    | fail)
  go_ret
  obtain ⟨g2, _⟩ := made_sg x1 (sgC 0 0 0 0 0 false .nilFunc)
  exact ⟨rfl, keep_trans k0 (keep_trans g1 g2)⟩
theorem wsgn_no1 (sh : Bool) (a : List Nat) (ta sa pa : Option Addr) (tl tc sl sc pl pc : Nat) (w : World) (hF : FitX (N : Int) H D A K) (h : ¬ (sl = N ∧ pl = N)) :
    Calls Tryz.prog 21 #[slV (N : Int) H D A K sh, .slice ta tl tc, .slice sa sl sc, .slice pa pl pc, .agg (arr .u8 a)] w fun e w' => e = .returned (.slice none 0 0) ∧ Below w.heap.size w w' := by
  have hH : -9223372036854775808 ≤ H ∧ H ≤ 9223372036854775807 := by have := hF.2.2.1; have := hF.2.1; have := hF.2.2.2.1; omega
  obtain ⟨bx, La, k0⟩ := boxW (N := N) (H := H) (D := D) (A := A) (K := K) w sh (a := a)
  have bx0 := bx.here
  have hzs := zeroSg
  have hno := fun y => wsec_no (H := H) (D := D) (A := A) (K := K) (N : Int) sh sa pa sl sc pl pc y hH (fun e => h ⟨by have := e.2.1; omega, by have := e.2.2; omega⟩)
  unfold slV at hno ⊢
  clear hF hH
  go_enter Tryz.func21, Tryz.ntmps21
  go_wp2_with (first
    | (refine wpList_load_rowS (by rfl) 23 _ (by rfl) w.heap.size (by rfl) _ _ _ _ bx0 Tryz.underlying23 (by kernel_rfl) ?_)
    | (go_at_call 40; refine (hno _).mono ?_; rintro e x1 ⟨rfl, g1⟩; have hn1 := heap_alloc_last x1 (.cells (sgC 0 0 0 0 0 false .nilFunc).toArray 56))
    | (refine wpList_store_row rfl 56 _ _ (by rfl) x1.heap.size (sgC 0 0 0 0 0 false .nilFunc).toArray (by rfl) (by rfl) _ _ hn1 (by kernel_rfl) rfl (sg_one _ _ _ _ _ _ rfl) ?_)
    | fail)
  go_ret
  obtain ⟨g2, _⟩ := made_sg x1 (sgC 0 0 0 0 0 false .nilFunc)
  exact ⟨rfl, keep_trans k0 (keep_trans g1 g2)⟩
theorem wsgn_no2 (sh : Bool) (a : List Nat) (pub : List Nat) (pv : Value) (ta sa : Option Addr) (tl tc sc : Nat) (w : World) (hF : FitX (N : Int) H D A K) (hC : Csts w) (hT : Roots w) (hp : Row .u8 256 w pv pub) (tp : Tidy pv) (hpl : pub.length = N) (h : ¬ tl = N) :
    Calls Tryz.prog 21 #[slV (N : Int) H D A K sh, .slice ta tl tc, .slice sa N sc, pv, .agg (arr .u8 a)] w fun e w' => e = .returned (.slice none 0 0) ∧ Below w.heap.size w w' := by
  have hH : -9223372036854775808 ≤ H ∧ H ≤ 9223372036854775807 := by have := hF.2.2.1; have := hF.2.1; have := hF.2.2.2.1; omega
  obtain ⟨bx, La, k0⟩ := boxW (N := N) (H := H) (D := D) (A := A) (K := K) w sh (a := a)
  have bx0 := bx.here
  have hzs := zeroSg
  have hsg := fun x (k : Below w.heap.size w x) => wsec_ok sh pub pv sa sc w x k hC hT hF hp tp hpl
  unfold slV at hsg ⊢
  obtain ⟨pa, pc, rfl, _⟩ := hp.opens hpl
  have b1 : ((tl : Int) != (N : Int)) = true := by simp; omega
  have b2 : ((tl : Int) == (N : Int)) = false := by simp; omega
  clear hF hH hp hC hT
  go_enter Tryz.func21, Tryz.ntmps21
  go_wp2_with (first
    | (refine wpList_load_rowS (by rfl) 23 _ (by rfl) w.heap.size (by rfl) _ _ _ _ bx0 Tryz.underlying23 (by kernel_rfl) ?_)
    | (go_at_call 40; refine (hsg _ k0).mono ?_; rintro e x1 ⟨fn, cap, Inv, rfl, hD, hI, hBt, g1⟩; have hn1 := heap_alloc_last x1 (.cells (sgC 0 0 0 0 0 false .nilFunc).toArray 56))
    | (refine wpList_store_row rfl 56 _ _ (by rfl) x1.heap.size (sgC (N : Int) H D A K sh (.func (.func fn) #[] cap)).toArray (by rfl) (by rfl) _ _ hn1 (by kernel_rfl) rfl (sg_one _ _ _ _ _ _ rfl) ?_; obtain ⟨g2, hsx⟩ := made_sg x1 (sgC (N : Int) H D A K sh (.func (.func fn) #[] cap)); have hc0 := (BxV.mk hsx).c0)
    | fail)
  go_ret
  exact ⟨rfl, keep_trans k0 (keep_trans g1 g2)⟩
def cnalt : List Lt := [(0, some 22, [12]), (1, some 23, [22]), (2, some 24, [23]), (4, some 25, [2, 24]), (12, some 26, [25, 24]), (4, some 27, [11, 24]), (36, some 28, [27, 24]), (68, some 29, [28, 24]), (148, some 30, [26, 29, 24]), (260, some 31, [24, 30]), (516, some 32, [31]), (1024, some 33, [1, 32]), (3072, some 34, [33, 32]), (1024, some 35, [11, 32]), (9216, some 36, [35, 32]), (17408, some 37, [36, 32]), (1024, some 38, [11, 32]), (66560, some 39, [38, 32]), (164864, some 40, [37, 39, 32]), (267264, some 41, [34, 40, 32]), (525312, some 42, [32, 41])]
theorem cnareg : Reg (opsA (cLA (cLA (cRA (cRA (Tryz.f23.body.getD .skip)))))) cnalt := ⟨by kernel_rfl, by kernel_rfl⟩
theorem wcnd_no1 (sh : Bool) (a : List Nat) (ga ta pa : Option Addr) (gl gc tl tc pl pc : Nat) (w : World) (hF : FitX (N : Int) H D A K) (h : ¬ pl = N) :
    Calls Tryz.prog 23 #[slV (N : Int) H D A K sh, .slice ga gl gc, .slice ta tl tc, .slice pa pl pc, .agg (arr .u8 a)] w fun e w' => e = .returned (.slice none 0 0) ∧ Below w.heap.size w w' := by
  have hH : -9223372036854775808 ≤ H ∧ H ≤ 9223372036854775807 := by have := hF.2.2.1; have := hF.2.1; have := hF.2.2.2.1; omega
  obtain ⟨bx, La, k0⟩ := boxW (N := N) (H := H) (D := D) (A := A) (K := K) w sh (a := a)
  have bx0 := bx.here
  have hzs := zeroSg
  have hno := fun y => wsig_no (H := H) (D := D) (A := A) (K := K) (N : Int) sh pa pl pc y hH (fun e => h (by have := e.2; omega))
  unfold slV at hno ⊢
  clear hF hH
  go_enter Tryz.func23, Tryz.ntmps23
  go_wp2_with (first
    | (refine wpList_load_rowS (by rfl) 23 _ (by rfl) w.heap.size (by rfl) _ _ _ _ bx0 Tryz.underlying23 (by kernel_rfl) ?_)
    | (go_at_call 35; refine (hno _).mono ?_; rintro e x1 ⟨rfl, g1⟩; have hn1 := heap_alloc_last x1 (.cells (sgC 0 0 0 0 0 false .nilFunc).toArray 56))
    | (refine wpList_store_row rfl 56 _ _ (by rfl) x1.heap.size (sgC 0 0 0 0 0 false .nilFunc).toArray (by rfl) (by rfl) _ _ hn1 (by kernel_rfl) rfl (sg_one _ _ _ _ _ _ rfl) ?_)
    | fail)
  obtain ⟨g2, hsx⟩ := made_sg x1 (sgC 0 0 0 0 0 false .nilFunc)
  obtain ⟨W2, hW2⟩ : ∃ W2 : World, W2 = (x1.alloc (.cells (sgC 0 0 0 0 0 false .nilFunc).toArray 56)).setRow x1.heap.size (sgC 0 0 0 0 0 false .nilFunc).toArray := ⟨_, rfl⟩
  have k2 := keep_trans k0 (keep_trans g1 g2)
  rw [← hW2] at k2 ⊢
  obtain ⟨X, hX⟩ : ∃ X : Nat, x1.heap.size = X := ⟨_, rfl⟩
  rw [hX]
  clear hW2 hX hsx hn1 g1 g2
  have hbd : Below W2.heap.size W2 W2.drew := (Below.refl _ _).drew
  refine at_begin (ops := opsA (cLA (cLA (cRA (cRA (Tryz.f23.body.getD .skip)))))) (n := 21) (fun y => Below W2.heap.size W2 y) (by kernel_rfl) (by kernel_rfl) ?_
  refine tkP 0 1 22 (.bool false) cnareg rfl (by decide) rfl rfl (y_moveG (wF rfl) rfl rfl) hbd ?_
  simp only [Act.put, plI, plZ, plS]
  refine tkP 1 3 23 (.bool true) cnareg rfl (by decide) rfl rfl (y_notG (b := false) (wF rfl) rfl rfl) hbd ?_
  simp only [Act.put, plI, plZ, plS]
  refine tkP 2 7 24 (.bool true) cnareg rfl (by decide) rfl rfl (y_moveG (wF rfl) rfl rfl) hbd ?_
  simp only [Act.put, plI, plZ, plS]
  refine tkP 3 15 25 (undef) cnareg rfl (by decide) rfl rfl (y_unG (wanted_nG (j := 2) (d := 24) (b := false) rfl rfl rfl rfl)) hbd ?_
  simp only [Act.put, plI, plZ, plS]
  refine tkP 4 31 26 (undef) cnareg rfl (by decide) rfl rfl (y_unG (wanted_nG (j := 2) (d := 24) (b := false) rfl rfl rfl rfl)) hbd ?_
  simp only [Act.put, plI, plZ, plS]
  refine tkP 5 63 27 (undef) cnareg rfl (by decide) rfl rfl (y_unG (wanted_nG (j := 2) (d := 24) (b := false) rfl rfl rfl rfl)) hbd ?_
  simp only [Act.put, plI, plZ, plS]
  refine tkP 6 127 28 (undef) cnareg rfl (by decide) rfl rfl (y_unG (wanted_nG (j := 2) (d := 24) (b := false) rfl rfl rfl rfl)) hbd ?_
  simp only [Act.put, plI, plZ, plS]
  refine tkP 7 255 29 (undef) cnareg rfl (by decide) rfl rfl (y_unG (wanted_nG (j := 2) (d := 24) (b := false) rfl rfl rfl rfl)) hbd ?_
  simp only [Act.put, plI, plZ, plS]
  refine tkP 8 511 30 (undef) cnareg rfl (by decide) rfl rfl (y_unG (wanted_nG (j := 2) (d := 24) (b := false) rfl rfl rfl rfl)) hbd ?_
  simp only [Act.put, plI, plZ, plS]
  refine tkP 9 1023 31 (.bool true) cnareg rfl (by decide) rfl rfl (y_pickTG (wF rfl) rfl rfl rfl) hbd ?_
  simp only [Act.put, plI, plZ, plS]
  refine tkP 10 2047 32 (.bool true) cnareg rfl (by decide) rfl rfl (y_moveG (wF rfl) rfl rfl) hbd ?_
  simp only [Act.put, plI, plZ, plS]
  refine tkP 11 4095 33 (undef) cnareg rfl (by decide) rfl rfl (y_unG (wanted_nG (j := 10) (d := 32) (b := false) rfl rfl rfl rfl)) hbd ?_
  simp only [Act.put, plI, plZ, plS]
  refine tkP 12 8191 34 (undef) cnareg rfl (by decide) rfl rfl (y_unG (wanted_nG (j := 10) (d := 32) (b := false) rfl rfl rfl rfl)) hbd ?_
  simp only [Act.put, plI, plZ, plS]
  refine tkP 13 16383 35 (undef) cnareg rfl (by decide) rfl rfl (y_unG (wanted_nG (j := 10) (d := 32) (b := false) rfl rfl rfl rfl)) hbd ?_
  simp only [Act.put, plI, plZ, plS]
  refine tkP 14 32767 36 (undef) cnareg rfl (by decide) rfl rfl (y_unG (wanted_nG (j := 10) (d := 32) (b := false) rfl rfl rfl rfl)) hbd ?_
  simp only [Act.put, plI, plZ, plS]
  refine tkP 15 65535 37 (undef) cnareg rfl (by decide) rfl rfl (y_unG (wanted_nG (j := 10) (d := 32) (b := false) rfl rfl rfl rfl)) hbd ?_
  simp only [Act.put, plI, plZ, plS]
  refine tkP 16 131071 38 (undef) cnareg rfl (by decide) rfl rfl (y_unG (wanted_nG (j := 10) (d := 32) (b := false) rfl rfl rfl rfl)) hbd ?_
  simp only [Act.put, plI, plZ, plS]
  refine tkP 17 262143 39 (undef) cnareg rfl (by decide) rfl rfl (y_unG (wanted_nG (j := 10) (d := 32) (b := false) rfl rfl rfl rfl)) hbd ?_
  simp only [Act.put, plI, plZ, plS]
  refine tkP 18 524287 40 (undef) cnareg rfl (by decide) rfl rfl (y_unG (wanted_nG (j := 10) (d := 32) (b := false) rfl rfl rfl rfl)) hbd ?_
  simp only [Act.put, plI, plZ, plS]
  refine tkP 19 1048575 41 (undef) cnareg rfl (by decide) rfl rfl (y_unG (wanted_nG (j := 10) (d := 32) (b := false) rfl rfl rfl rfl)) hbd ?_
  simp only [Act.put, plI, plZ, plS]
  refine tkP 20 2097151 42 (.bool true) cnareg rfl (by decide) rfl rfl (y_pickTG (wF rfl) rfl rfl rfl) hbd ?_
  simp only [Act.put, plI, plZ, plS]
  refine at_done cnareg (by decide) ?_
  have kq := hbd
  obtain ⟨W4, hW4⟩ : ∃ W4 : World, W4 = W2.drew := ⟨_, rfl⟩
  rw [← hW4] at kq ⊢
  go_wp2
  go_ret
  exact ⟨rfl, keep_trans k2 kq⟩
def cnblt : List Lt := [(0, some 22, [12]), (1, some 23, [22]), (2, some 24, [23]), (4, some 25, [2, 24]), (12, some 26, [25, 24]), (4, some 27, [11, 24]), (36, some 28, [27, 24]), (68, some 29, [28, 24]), (148, some 30, [26, 29, 24]), (260, some 31, [24, 30]), (516, some 32, [31]), (1024, some 33, [1, 32]), (3072, some 34, [33, 32]), (1024, some 35, [11, 32]), (9216, some 36, [35, 32]), (17408, some 37, [36, 32]), (1024, some 38, [11, 32]), (66560, some 39, [38, 32]), (164864, some 40, [37, 39, 32]), (267264, some 41, [34, 40, 32]), (525312, some 42, [32, 41])]
theorem cnbreg : Reg (opsA (cLA (cLA (cRA (cRA (Tryz.f23.body.getD .skip)))))) cnblt := ⟨by kernel_rfl, by kernel_rfl⟩
theorem wcnd_no2 (sh : Bool) (a : List Nat) (pub : List Nat) (pv : Value) (ga ta : Option Addr) (gl gc tl tc : Nat) (w : World) (hF : FitX (N : Int) H D A K) (hC : Csts w) (hT : Roots w) (hp : Row .u8 256 w pv pub) (tp : Tidy pv) (hpl : pub.length = N) (h : ¬ tl = N) :
    Calls Tryz.prog 23 #[slV (N : Int) H D A K sh, .slice ga gl gc, .slice ta tl tc, pv, .agg (arr .u8 a)] w fun e w' => e = .returned (.slice none 0 0) ∧ Below w.heap.size w w' := by
  have hH : -9223372036854775808 ≤ H ∧ H ≤ 9223372036854775807 := by have := hF.2.2.1; have := hF.2.1; have := hF.2.2.2.1; omega
  obtain ⟨bx, La, k0⟩ := boxW (N := N) (H := H) (D := D) (A := A) (K := K) w sh (a := a)
  have bx0 := bx.here
  have hzs := zeroSg
  have hsg := fun x (k : Below w.heap.size w x) => wsig_ok sh pub pv w x k hC hT hF hp tp hpl
  have hN := fitN hF
  obtain ⟨P9, hP9⟩ : ∃ P : Nat, P = 2 * N + 3 := ⟨_, rfl⟩
  obtain ⟨Z9, hZ⟩ : ∃ Z, Z = N * P9 := ⟨_, rfl⟩
  have hct := fun (f : Value) y => wcnt_any (N := N) (H := H) (D := D) (A := A) (K := K) sh f y (by omega)
  rw [← hP9] at hct
  have hZb : Z9 ≤ 50000 := by
    rw [hZ, hP9]
    calc N * (2 * N + 3) ≤ 32 * (2 * 32 + 3) := Nat.mul_le_mul hN.2 (by omega)
      _ ≤ 50000 := by decide
  have u_Z : IntKind.i64.wrap ((N : Int) * (P9 : Int)) = (Z9 : Int) := by
    rw [show (N : Int) * (P9 : Int) = (Z9 : Int) by rw [hZ]; norm_cast, IntKind.wrap_i64]; omega
  unfold slV at hsg ⊢
  obtain ⟨pa, pc, rfl, _⟩ := hp.opens hpl
  have b2 : ((tl : Int) == (N : Int)) = false := by simp; omega
  clear hF hH hp hC hT hP9 hZ hN
  go_enter Tryz.func23, Tryz.ntmps23
  go_wp2_with (first
    | (refine wpList_load_rowS (by rfl) 23 _ (by rfl) w.heap.size (by rfl) _ _ _ _ bx0 Tryz.underlying23 (by kernel_rfl) ?_)
    | (go_at_call 35; refine (hsg _ k0).mono ?_; rintro e x1 ⟨fn, cap, Inv, rfl, hD, hI, hBt, g1⟩; have hn1 := heap_alloc_last x1 (.cells (sgC 0 0 0 0 0 false .nilFunc).toArray 56))
    | (refine wpList_store_row rfl 56 _ _ (by rfl) x1.heap.size (sgC (N : Int) H D A K sh (.func (.func fn) #[] cap)).toArray (by rfl) (by rfl) _ _ hn1 (by kernel_rfl) rfl (sg_one _ _ _ _ _ _ rfl) ?_; obtain ⟨g2, hsx⟩ := made_sg x1 (sgC (N : Int) H D A K sh (.func (.func fn) #[] cap)); have hc0 := (BxV.mk hsx).c0)
    | fail)
  have sx2 := BxV.mk hsx
  obtain ⟨W2, hW2⟩ : ∃ W2 : World, W2 = (x1.alloc (.cells (sgC 0 0 0 0 0 false .nilFunc).toArray 56)).setRow x1.heap.size (sgC (N : Int) H D A K sh (.func (.func fn) #[] cap)).toArray := ⟨_, rfl⟩
  rw [← hW2] at sx2
  have k2 := keep_trans k0 (keep_trans g1 g2)
  rw [← hW2] at k2 ⊢
  obtain ⟨X, hX⟩ : ∃ X : Nat, x1.heap.size = X := ⟨_, rfl⟩
  rw [hX] at sx2 ⊢
  clear hW2 hX hsx hn1 g1 g2
  have hbd : Below W2.heap.size W2 W2.drew := (Below.refl _ _).drew
  refine at_begin (ops := opsA (cLA (cLA (cRA (cRA (Tryz.f23.body.getD .skip)))))) (n := 21) (fun y => Below W2.heap.size W2 y) (by kernel_rfl) (by kernel_rfl) ?_
  refine tkP 0 1 22 (.bool true) cnbreg rfl (by decide) rfl rfl (y_moveG (wF rfl) rfl rfl) hbd ?_
  simp only [Act.put, plI, plZ, plS]
  refine tkP 1 3 23 (.bool false) cnbreg rfl (by decide) rfl rfl (y_notG (b := true) (wF rfl) rfl rfl) hbd ?_
  simp only [Act.put, plI, plZ, plS]
  refine tkP 2 7 24 (.bool false) cnbreg rfl (by decide) rfl rfl (y_moveG (wF rfl) rfl rfl) hbd ?_
  simp only [Act.put, plI, plZ, plS]
  refine tkP 3 15 25 (.slice ta tl tc) cnbreg rfl (by decide) rfl rfl (y_moveG (wanted_gG (j := 2) (d := 24) (b := false) rfl rfl rfl rfl) rfl rfl) hbd ?_
  simp only [Act.put, plI, plZ, plS]
  refine tkP 4 31 26 (.int .i64 (tl : Int)) cnbreg rfl (by decide) rfl rfl (y_lenP (wanted_gG (j := 2) (d := 24) (b := false) rfl rfl rfl rfl) rfl rfl Tryz.underlying27) hbd ?_
  simp only [Act.put, plI, plZ, plS]
  refine tkP 5 63 27 (.pointer (some ⟨X, 0, none⟩)) cnbreg rfl (by decide) rfl rfl (y_fieldG (wanted_gG (j := 2) (d := 24) (b := false) rfl rfl rfl rfl) rfl rfl (fun w => by simp [go_sem])) hbd ?_
  simp only [Act.put, plI, plZ, plS]
  refine tkP 6 127 28 (.pointer (some ⟨X, 0, none⟩)) cnbreg rfl (by decide) rfl rfl (y_fieldG (wanted_gG (j := 2) (d := 24) (b := false) rfl rfl rfl rfl) rfl rfl (fun w => by simp [go_sem])) hbd ?_
  simp only [Act.put, plI, plZ, plS]
  refine tkP 7 255 29 (.int .i64 (N : Int)) cnbreg rfl (by decide) rfl rfl (y_plainG (wanted_gG (j := 2) (d := 24) (b := false) rfl rfl rfl rfl) rfl rfl Tryz.underlying3 rfl (fun _ h => (sx2.below h).c0)) hbd ?_
  simp only [Act.put, plI, plZ, plS]
  refine tkP 8 511 30 (.bool true) cnbreg rfl (by decide) rfl rfl (y_neTW (wanted_gG (j := 2) (d := 24) (b := false) rfl rfl rfl rfl) rfl rfl rfl Tryz.underlying3 b2) hbd ?_
  simp only [Act.put, plI, plZ, plS]
  refine tkP 9 1023 31 (.bool true) cnbreg rfl (by decide) rfl rfl (y_pickEG (wF rfl) rfl rfl rfl) hbd ?_
  simp only [Act.put, plI, plZ, plS]
  refine tkP 10 2047 32 (.bool true) cnbreg rfl (by decide) rfl rfl (y_moveG (wF rfl) rfl rfl) hbd ?_
  simp only [Act.put, plI, plZ, plS]
  refine tkP 11 4095 33 (undef) cnbreg rfl (by decide) rfl rfl (y_unG (wanted_nG (j := 10) (d := 32) (b := false) rfl rfl rfl rfl)) hbd ?_
  simp only [Act.put, plI, plZ, plS]
  refine tkP 12 8191 34 (undef) cnbreg rfl (by decide) rfl rfl (y_unG (wanted_nG (j := 10) (d := 32) (b := false) rfl rfl rfl rfl)) hbd ?_
  simp only [Act.put, plI, plZ, plS]
  refine tkP 13 16383 35 (undef) cnbreg rfl (by decide) rfl rfl (y_unG (wanted_nG (j := 10) (d := 32) (b := false) rfl rfl rfl rfl)) hbd ?_
  simp only [Act.put, plI, plZ, plS]
  refine tkP 14 32767 36 (undef) cnbreg rfl (by decide) rfl rfl (y_unG (wanted_nG (j := 10) (d := 32) (b := false) rfl rfl rfl rfl)) hbd ?_
  simp only [Act.put, plI, plZ, plS]
  refine tkP 15 65535 37 (undef) cnbreg rfl (by decide) rfl rfl (y_unG (wanted_nG (j := 10) (d := 32) (b := false) rfl rfl rfl rfl)) hbd ?_
  simp only [Act.put, plI, plZ, plS]
  refine tkP 16 131071 38 (undef) cnbreg rfl (by decide) rfl rfl (y_unG (wanted_nG (j := 10) (d := 32) (b := false) rfl rfl rfl rfl)) hbd ?_
  simp only [Act.put, plI, plZ, plS]
  refine tkP 17 262143 39 (undef) cnbreg rfl (by decide) rfl rfl (y_unG (wanted_nG (j := 10) (d := 32) (b := false) rfl rfl rfl rfl)) hbd ?_
  simp only [Act.put, plI, plZ, plS]
  refine tkP 18 524287 40 (undef) cnbreg rfl (by decide) rfl rfl (y_unG (wanted_nG (j := 10) (d := 32) (b := false) rfl rfl rfl rfl)) hbd ?_
  simp only [Act.put, plI, plZ, plS]
  refine tkP 19 1048575 41 (undef) cnbreg rfl (by decide) rfl rfl (y_unG (wanted_nG (j := 10) (d := 32) (b := false) rfl rfl rfl rfl)) hbd ?_
  simp only [Act.put, plI, plZ, plS]
  refine tkP 20 2097151 42 (.bool true) cnbreg rfl (by decide) rfl rfl (y_pickTG (wF rfl) rfl rfl rfl) hbd ?_
  simp only [Act.put, plI, plZ, plS]
  refine at_done cnbreg (by decide) ?_
  have kq := hbd
  obtain ⟨W4, hW4⟩ : ∃ W4 : World, W4 = W2.drew := ⟨_, rfl⟩
  rw [← hW4] at kq ⊢
  go_wp2
  go_ret
  exact ⟨rfl, keep_trans k2 kq⟩
def cnclt : List Lt := [(0, some 22, [12]), (1, some 23, [22]), (2, some 24, [23]), (4, some 25, [2, 24]), (12, some 26, [25, 24]), (4, some 27, [11, 24]), (36, some 28, [27, 24]), (68, some 29, [28, 24]), (148, some 30, [26, 29, 24]), (260, some 31, [24, 30]), (516, some 32, [31]), (1024, some 33, [1, 32]), (3072, some 34, [33, 32]), (1024, some 35, [11, 32]), (9216, some 36, [35, 32]), (17408, some 37, [36, 32]), (1024, some 38, [11, 32]), (66560, some 39, [38, 32]), (164864, some 40, [37, 39, 32]), (267264, some 41, [34, 40, 32]), (525312, some 42, [32, 41])]
theorem cncreg : Reg (opsA (cLA (cLA (cRA (cRA (Tryz.f23.body.getD .skip)))))) cnclt := ⟨by kernel_rfl, by kernel_rfl⟩
theorem wcnd_no3 (sh : Bool) (a : List Nat) (pub : List Nat) (pv : Value) (ga ta : Option Addr) (gl gc tc : Nat) (w : World) (hF : FitX (N : Int) H D A K) (hC : Csts w) (hT : Roots w) (hp : Row .u8 256 w pv pub) (tp : Tidy pv) (hpl : pub.length = N) (h : ¬ gl = N * (2 * N + 3)) :
    Calls Tryz.prog 23 #[slV (N : Int) H D A K sh, .slice ga gl gc, .slice ta N tc, pv, .agg (arr .u8 a)] w fun e w' => e = .returned (.slice none 0 0) ∧ Below w.heap.size w w' := by
  have hH : -9223372036854775808 ≤ H ∧ H ≤ 9223372036854775807 := by have := hF.2.2.1; have := hF.2.1; have := hF.2.2.2.1; omega
  obtain ⟨bx, La, k0⟩ := boxW (N := N) (H := H) (D := D) (A := A) (K := K) w sh (a := a)
  have bx0 := bx.here
  have hzs := zeroSg
  have hsg := fun x (k : Below w.heap.size w x) => wsig_ok sh pub pv w x k hC hT hF hp tp hpl
  have hN := fitN hF
  obtain ⟨P9, hP9⟩ : ∃ P : Nat, P = 2 * N + 3 := ⟨_, rfl⟩
  obtain ⟨Z9, hZ⟩ : ∃ Z, Z = N * P9 := ⟨_, rfl⟩
  have hct := fun (f : Value) y => wcnt_any (N := N) (H := H) (D := D) (A := A) (K := K) sh f y (by omega)
  rw [← hP9] at hct
  have hZb : Z9 ≤ 50000 := by
    rw [hZ, hP9]
    calc N * (2 * N + 3) ≤ 32 * (2 * 32 + 3) := Nat.mul_le_mul hN.2 (by omega)
      _ ≤ 50000 := by decide
  have u_Z : IntKind.i64.wrap ((N : Int) * (P9 : Int)) = (Z9 : Int) := by
    rw [show (N : Int) * (P9 : Int) = (Z9 : Int) by rw [hZ]; norm_cast, IntKind.wrap_i64]; omega
  unfold slV at hsg ⊢
  obtain ⟨pa, pc, rfl, _⟩ := hp.opens hpl
  rw [← hP9, ← hZ] at h
  have b2 : ((gl : Int) == (Z9 : Int)) = false := by simp; omega
  clear hF hH hp hC hT hP9 hZ hN
  go_enter Tryz.func23, Tryz.ntmps23
  go_wp2_with (first
    | (refine wpList_load_rowS (by rfl) 23 _ (by rfl) w.heap.size (by rfl) _ _ _ _ bx0 Tryz.underlying23 (by kernel_rfl) ?_)
    | (go_at_call 35; refine (hsg _ k0).mono ?_; rintro e x1 ⟨fn, cap, Inv, rfl, hD, hI, hBt, g1⟩; have hn1 := heap_alloc_last x1 (.cells (sgC 0 0 0 0 0 false .nilFunc).toArray 56))
    | (refine wpList_store_row rfl 56 _ _ (by rfl) x1.heap.size (sgC (N : Int) H D A K sh (.func (.func fn) #[] cap)).toArray (by rfl) (by rfl) _ _ hn1 (by kernel_rfl) rfl (sg_one _ _ _ _ _ _ rfl) ?_; obtain ⟨g2, hsx⟩ := made_sg x1 (sgC (N : Int) H D A K sh (.func (.func fn) #[] cap)); have hc0 := (BxV.mk hsx).c0)
    | fail)
  have sx2 := BxV.mk hsx
  obtain ⟨W2, hW2⟩ : ∃ W2 : World, W2 = (x1.alloc (.cells (sgC 0 0 0 0 0 false .nilFunc).toArray 56)).setRow x1.heap.size (sgC (N : Int) H D A K sh (.func (.func fn) #[] cap)).toArray := ⟨_, rfl⟩
  rw [← hW2] at sx2
  have k2 := keep_trans k0 (keep_trans g1 g2)
  rw [← hW2] at k2 ⊢
  obtain ⟨X, hX⟩ : ∃ X : Nat, x1.heap.size = X := ⟨_, rfl⟩
  rw [hX] at sx2 ⊢
  clear hW2 hX hsx hn1 g1 g2
  have hbd : Below W2.heap.size W2 W2.drew := (Below.refl _ _).drew
  refine at_begin (ops := opsA (cLA (cLA (cRA (cRA (Tryz.f23.body.getD .skip)))))) (n := 21) (fun y => Below W2.heap.size W2 y) (by kernel_rfl) (by kernel_rfl) ?_
  refine tkP 0 1 22 (.bool true) cncreg rfl (by decide) rfl rfl (y_moveG (wF rfl) rfl rfl) hbd ?_
  simp only [Act.put, plI, plZ, plS]
  refine tkP 1 3 23 (.bool false) cncreg rfl (by decide) rfl rfl (y_notG (b := true) (wF rfl) rfl rfl) hbd ?_
  simp only [Act.put, plI, plZ, plS]
  refine tkP 2 7 24 (.bool false) cncreg rfl (by decide) rfl rfl (y_moveG (wF rfl) rfl rfl) hbd ?_
  simp only [Act.put, plI, plZ, plS]
  refine tkP 3 15 25 (.slice ta N tc) cncreg rfl (by decide) rfl rfl (y_moveG (wanted_gG (j := 2) (d := 24) (b := false) rfl rfl rfl rfl) rfl rfl) hbd ?_
  simp only [Act.put, plI, plZ, plS]
  refine tkP 4 31 26 (.int .i64 (N : Int)) cncreg rfl (by decide) rfl rfl (y_lenP (wanted_gG (j := 2) (d := 24) (b := false) rfl rfl rfl rfl) rfl rfl Tryz.underlying27) hbd ?_
  simp only [Act.put, plI, plZ, plS]
  refine tkP 5 63 27 (.pointer (some ⟨X, 0, none⟩)) cncreg rfl (by decide) rfl rfl (y_fieldG (wanted_gG (j := 2) (d := 24) (b := false) rfl rfl rfl rfl) rfl rfl (fun w => by simp [go_sem])) hbd ?_
  simp only [Act.put, plI, plZ, plS]
  refine tkP 6 127 28 (.pointer (some ⟨X, 0, none⟩)) cncreg rfl (by decide) rfl rfl (y_fieldG (wanted_gG (j := 2) (d := 24) (b := false) rfl rfl rfl rfl) rfl rfl (fun w => by simp [go_sem])) hbd ?_
  simp only [Act.put, plI, plZ, plS]
  refine tkP 7 255 29 (.int .i64 (N : Int)) cncreg rfl (by decide) rfl rfl (y_plainG (wanted_gG (j := 2) (d := 24) (b := false) rfl rfl rfl rfl) rfl rfl Tryz.underlying3 rfl (fun _ h => (sx2.below h).c0)) hbd ?_
  simp only [Act.put, plI, plZ, plS]
  refine tkP 8 511 30 (.bool false) cncreg rfl (by decide) rfl rfl (y_neI (wanted_gG (j := 2) (d := 24) (b := false) rfl rfl rfl rfl) rfl rfl rfl Tryz.underlying3 (by simp)) hbd ?_
  simp only [Act.put, plI, plZ, plS]
  refine tkP 9 1023 31 (.bool false) cncreg rfl (by decide) rfl rfl (y_pickEG (wF rfl) rfl rfl rfl) hbd ?_
  simp only [Act.put, plI, plZ, plS]
  refine tkP 10 2047 32 (.bool false) cncreg rfl (by decide) rfl rfl (y_moveG (wF rfl) rfl rfl) hbd ?_
  simp only [Act.put, plI, plZ, plS]
  refine tkP 11 4095 33 (.slice ga gl gc) cncreg rfl (by decide) rfl rfl (y_moveG (wanted_gG (j := 10) (d := 32) (b := false) rfl rfl rfl rfl) rfl rfl) hbd ?_
  simp only [Act.put, plI, plZ, plS]
  refine tkP 12 8191 34 (.int .i64 (gl : Int)) cncreg rfl (by decide) rfl rfl (y_lenP (wanted_gG (j := 10) (d := 32) (b := false) rfl rfl rfl rfl) rfl rfl Tryz.underlying27) hbd ?_
  simp only [Act.put, plI, plZ, plS]
  refine tkP 13 16383 35 (.pointer (some ⟨X, 0, none⟩)) cncreg rfl (by decide) rfl rfl (y_fieldG (wanted_gG (j := 10) (d := 32) (b := false) rfl rfl rfl rfl) rfl rfl (fun w => by simp [go_sem])) hbd ?_
  simp only [Act.put, plI, plZ, plS]
  refine tkP 14 32767 36 (.pointer (some ⟨X, 0, none⟩)) cncreg rfl (by decide) rfl rfl (y_fieldG (wanted_gG (j := 10) (d := 32) (b := false) rfl rfl rfl rfl) rfl rfl (fun w => by simp [go_sem])) hbd ?_
  simp only [Act.put, plI, plZ, plS]
  refine tkP 15 65535 37 (.int .i64 (N : Int)) cncreg rfl (by decide) rfl rfl (y_plainG (wanted_gG (j := 10) (d := 32) (b := false) rfl rfl rfl rfl) rfl rfl Tryz.underlying3 rfl (fun _ h => (sx2.below h).c0)) hbd ?_
  simp only [Act.put, plI, plZ, plS]
  refine tkP 16 131071 38 (.agg (sgC (N : Int) H D A K sh (.func (.func fn) #[] cap)).toArray) cncreg rfl (by decide) rfl rfl (y_rowG (cs := sgC (N : Int) H D A K sh (.func (.func fn) #[] cap)) (wanted_gG (j := 10) (d := 32) (b := false) rfl rfl rfl rfl) rfl rfl Tryz.underlying56 rfl (by kernel_rfl) (fun _ h => (sx2.below h).range)) hbd ?_
  simp only [Act.put, plI, plZ, plS]
  refine at_one (i := 17) (m' := 262143) cncreg (by decide) rfl ?_
  refine p_callG (args := #[.agg (sgC (N : Int) H D A K sh (.func (.func fn) #[] cap)).toArray]) (d := some 39) rfl (wanted_gG (j := 10) (d := 32) (b := false) rfl rfl rfl rfl) rfl (by simp only [List.map_toArray, List.map_cons, List.map_nil]; rfl) rfl Tryz.call41 ((hct _ W2.drew).mono ?_)
  rintro e y18 ⟨rfl, g18⟩
  have hb18 := keep_trans hbd g18
  refine ⟨_, rfl, hb18, ?_⟩
  simp only [Act.put, plI, plZ, plS]
  refine tkP 18 524287 40 (.int .i64 (Z9 : Int)) cncreg rfl (by decide) rfl rfl (y_mulI (wanted_gG (j := 10) (d := 32) (b := false) rfl rfl rfl rfl) rfl rfl rfl Tryz.underlying3 u_Z) hb18 ?_
  simp only [Act.put, plI, plZ, plS]
  refine tkP 19 1048575 41 (.bool true) cncreg rfl (by decide) rfl rfl (y_neTW (wanted_gG (j := 10) (d := 32) (b := false) rfl rfl rfl rfl) rfl rfl rfl Tryz.underlying3 b2) hb18 ?_
  simp only [Act.put, plI, plZ, plS]
  refine tkP 20 2097151 42 (.bool true) cncreg rfl (by decide) rfl rfl (y_pickEG (wF rfl) rfl rfl rfl) hb18 ?_
  simp only [Act.put, plI, plZ, plS]
  refine at_done cncreg (by decide) ?_
  have kq := hb18
  obtain ⟨W4, hW4⟩ : ∃ W4 : World, W4 = y18 := ⟨_, rfl⟩
  rw [← hW4] at kq ⊢
  go_wp2
  go_ret
  exact ⟨rfl, keep_trans k2 kq⟩
end
end Go.Proofs.YtpmobjfhhkglbaaGreatDoor
