/- Keys of chains, the program's own: Candidate where it answers. -/
import Derived.Test.YtpmobjfhhkglbaaDoorWyF
import Derived.Test.YtpmobjfhhkglbaaDoorMDig
namespace Go.Proofs.YtpmobjfhhkglbaaDoor
open Go.RowKit
set_option linter.unusedVariables false
set_option linter.unusedSimpArgs false

section
variable {N : Nat} {H D A K : Int}
def cw2lt : List Lt := [(0, some 22, [12]), (1, some 23, [22]), (2, some 24, [23]), (4, some 25, [2, 24]), (12, some 26, [25, 24]), (4, some 27, [11, 24]), (36, some 28, [27, 24]), (68, some 29, [28, 24]), (148, some 30, [26, 29, 24]), (260, some 31, [24, 30]), (516, some 32, [31]), (1024, some 33, [1, 32]), (3072, some 34, [33, 32]), (1024, some 35, [11, 32]), (9216, some 36, [35, 32]), (17408, some 37, [36, 32]), (1024, some 38, [11, 32]), (66560, some 39, [38, 32]), (164864, some 40, [37, 39, 32]), (267264, some 41, [34, 40, 32]), (525312, some 42, [32, 41])]
theorem cw2reg : Reg (opsA (cLA (cLA (cRA (cRA (Tryd.f7.body.getD .skip)))))) cw2lt := ⟨by kernel_rfl, by kernel_rfl⟩
def cw8lt : List Lt := [(0, some 57, [13]), (0, some 58, [14]), (0, some 59, [11]), (0, some 60, [9]), (0, some 61, [14]), (0, some 62, [1]), (0, some 63, [14]), (0, some 64, [11]), (128, some 65, [64]), (256, some 66, [65]), (576, some 67, [63, 66]), (0, some 68, [14]), (2048, some 69, [68]), (0, some 70, [11]), (8192, some 71, [70]), (16384, some 72, [71]), (36864, some 73, [69, 72]), (66592, some 74, [62, 67, 73]), (0, some 75, [15]), (393244, some 76, [59, 60, 61, 74, 75]), (1048575, some 77, [57, 58]), (2097151, none, [77, 76])]
theorem cw8reg : Reg (opsA (cRA (cBA (cLA (cRA (cRA (cLpA (cBA (cRA (cLA (cRA (cRA (cRA (cRA (Tryd.f7.body.getD .skip))))))))))))))) cw8lt := ⟨by kernel_rfl, by kernel_rfl⟩
set_option maxHeartbeats 8000000 in
set_option maxRecDepth 100000 in
theorem wcnd_ok (sh : Bool) (pub a text sig : List Nat) (pv tv gv : Value) (w : World) (hC : Csts w) (hT : Roots w) (hF : FitX (N : Int) H D A K) (ha : Pl a) (hp : Row .u8 256 w pv pub) (tp : Tidy pv) (ht : Row .u8 256 w tv text) (tt : Tidy tv) (hg : Row .u8 256 w gv sig) (htl : text.length = N) (hgl : sig.length = N * (2 * N + 3)) (hpl : pub.length = N) :
    Calls Tryd.prog 7 #[slV (N : Int) H D A K sh, gv, tv, pv, .agg (arr .u8 a)] w fun e w' => ∃ v, e = .returned v ∧ Row .u8 256 w' v (wky (fun p x => sumW N sh pub p x) a (wcE (fun p x => sumW N sh pub p x) a N (dgW N text) sig)) ∧ New w.heap.size v ∧ Below w.heap.size w w' := by
  have hN := fitN hF
  obtain ⟨bx, La, k0⟩ := boxW (N := N) (H := H) (D := D) (A := A) (K := K) w sh (a := a)
  have hsg := fun x (k : Below w.heap.size w x) => wsig_ok sh pub pv w x k hC hT hF hp tp hpl
  have hdg := fun y (r : Row .u8 256 y tv text) => wdig_ok (fit3 hF) text tv y r tt htl
  obtain ⟨ta, tc, rfl, _⟩ := ht.opens htl
  obtain ⟨pa, pc, rfl, _⟩ := hp.opens hpl
  obtain ⟨Fs, hFs⟩ : ∃ Fs : List Nat → List Nat → List Nat, Fs = fun p x => sumW N sh pub p x := ⟨_, rfl⟩
  have hFl : ∀ p x, (Fs p x).length = N := fun p x => by rw [hFs]; exact sumW_len hN.2 _ _ _ _
  rw [← hFs] at hsg ⊢
  obtain ⟨P9, hP9⟩ : ∃ P : Nat, P = 2 * N + 3 := ⟨_, rfl⟩
  have hct := fun (f : Value) y => wcnt_any (N := N) (H := H) (D := D) (A := A) (K := K) sh f y (by omega)
  rw [← hP9] at hct
  have hds15 : ∀ i, el (dgW N text) i ≤ 15 := fun i => by have := el_le_ofW (K := 4) (dgW_lt N text) i; omega
  have hdsl := dgW_len N text
  obtain ⟨ds, hds⟩ : ∃ x, x = dgW N text := ⟨_, rfl⟩
  rw [← hds] at hdg hds15 hdsl ⊢
  rw [← hP9] at hdsl
  obtain ⟨Z9, hZ⟩ : ∃ Z, Z = N * P9 := ⟨_, rfl⟩
  rw [← hP9, ← hZ] at hgl
  have hZ0 : 0 < Z9 := by rw [hZ]; exact Nat.mul_pos (by omega) (by omega)
  have hZb : Z9 ≤ 50000 := by
    rw [hZ, hP9]
    calc N * (2 * N + 3) ≤ 32 * (2 * 32 + 3) := Nat.mul_le_mul hN.2 (by omega)
      _ ≤ 50000 := by decide
  obtain ⟨ga, gc, rfl, lg1, lg2, hog⟩ := hg.opens hgl
  obtain ⟨gb, go, rfl, _⟩ := hog hZ0
  have u_Z : IntKind.i64.wrap ((N : Int) * (P9 : Int)) = (Z9 : Int) := by
    rw [show (N : Int) * (P9 : Int) = (Z9 : Int) by rw [hZ]; norm_cast, IntKind.wrap_i64]; omega
  obtain ⟨f, hf⟩ : ∃ f : Nat → List Nat, f = fun i => wch Fs (putA a 4 i) (el ds i) (15 - el ds i) ((sig.drop (N * i)).take N) := ⟨_, rfl⟩
  have hfi : ∀ i, (fun i => wch Fs (putA a 4 i) (el ds i) (15 - el ds i) ((sig.drop (N * i)).take N)) i = f i := fun i => by rw [hf]
  dsimp only at hfi
  have hmul : ∀ i, i < P9 → N * i + N ≤ Z9 := fun i hi => by rw [hZ]; calc N * i + N = N * (i + 1) := by rw [Nat.mul_add, Nat.mul_one]
      _ ≤ N * P9 := Nat.mul_le_mul_left _ hi
  have hbl : ∀ i, i < P9 → ((sig.drop (N * i)).take N).length = N := fun i hi => by have := hmul i hi; rw [List.length_take, List.length_drop]; omega
  have hfl : ∀ i, i < P9 → (f i).length = N := fun i hi => by rw [← hfi]; exact wch_len hFl _ _ (hbl i hi) _
  have hcut : ∀ i F G, i < P9 → F = N * i → G = F + N → ∀ w, (Instr.slice 26 (.slice (some ⟨gb, go, none⟩) Z9 gc) (some (.int .i64 (F : Int))) (some (.int .i64 (G : Int))) none).run Tryd.prog w = .ok (.slice (some ⟨gb, go + F, none⟩) N (gc - F)) w := fun i F G hi hF hG w => by have := hmul i hi; exact mid_runW (by omega) (by omega) (by omega) w
  have rP : ∀ i F, i < P9 → F = N * i → Row .u8 256 w (.slice (some ⟨gb, go + F, none⟩) N (gc - F)) ((sig.drop (N * i)).take N) := fun i F hi hF => by
    have h0 := hmul i hi
    have := hg.mid (i := N * i) (j := N * i + N) (by omega) (by omega)
    rw [show N * i + N - N * i = N by omega] at this
    rw [hF]
    exact this
  have hel : ((List.range P9).map f).flatten.length ≤ 50000 := by
    rw [flat_N_len (N := N) _ (fun p hp => by obtain ⟨i, hi, rfl⟩ := List.mem_map.1 hp; exact hfl i (by simpa using hi)), List.length_map, List.length_range, hP9]
    calc N * (2 * N + 3) ≤ 32 * (2 * 32 + 3) := Nat.mul_le_mul hN.2 (by omega)
      _ ≤ 50000 := by decide
  have hE : wcE Fs a N ds sig = (List.range P9).map f := by unfold wcE; rw [hf, hdsl]
  rw [hE]
  have hPL := fun i => ha.put 4 i
  obtain ⟨i0, hi0, hz0, hz1, hz2⟩ := info_text
  unfold slV at hsg ⊢
  have hzs := zeroSg
  have bx0 := bx.here
  have hal := ha.1
  have hP9b : P9 ≤ 67 := by omega
  have HX := hide (And.intro hfi (And.intro hbl (And.intro hfl (And.intro hel (And.intro hN (And.intro hFl hP9))))))
  have HS := hide (And.intro hg (And.intro ha ht))
  have HDS := hide (And.intro hds15 (And.intro hdsl (And.intro hmul (And.intro hcut (And.intro rP hZb)))))
  clear hfi hbl hfl hel hN hFl ha hC hT hF hp tp hf hE hPL hFs hP9 hpl hds15 hdsl hds ht tt htl hmul hcut rP hZb hg hgl hog hZ lg1 lg2
  go_enter Tryd.func7, Tryd.ntmps7
  go_wp2_with (first
    | (refine wpList_load_rowS (by rfl) 25 _ (by rfl) w.heap.size (by rfl) _ _ _ _ bx0 Tryd.underlying25 (by kernel_rfl) ?_)
    | (go_at_call 16; refine (hsg _ k0).mono ?_; rintro e x1 ⟨fn, cap, Inv, rfl, hD, hI, hBt, g1⟩; have hn1 := heap_alloc_last x1 (.cells (sgC 0 0 0 0 0 false .nilFunc).toArray 35))
    | (refine wpList_store_row rfl 35 _ _ (by rfl) x1.heap.size (sgC (N : Int) H D A K sh (.func (.func fn) #[] cap)).toArray (by rfl) (by rfl) _ _ hn1 (by kernel_rfl) rfl (sg_one _ _ _ _ _ _ rfl) ?_; obtain ⟨g2, hsx⟩ := made_sg x1 (sgC (N : Int) H D A K sh (.func (.func fn) #[] cap)); have hc6 := (BxV.mk hsx).c6; have hc0 := (BxV.mk hsx).c0; have hen := hD.enters; have k2 := keep_trans k0 (keep_trans g1 g2); have La2 := (La.below g1).below g2)
    | fail)
  have sx2 := BxV.mk hsx
  have hI2 := hD.keep _ _ hI g2
  obtain ⟨W2, hW2⟩ : ∃ W2 : World, W2 = (x1.alloc (.cells (sgC 0 0 0 0 0 false .nilFunc).toArray 35)).setRow x1.heap.size (sgC (N : Int) H D A K sh (.func (.func fn) #[] cap)).toArray := ⟨_, rfl⟩
  rw [← hW2] at sx2 hI2 La2 k2 g2 ⊢
  obtain ⟨X, hX⟩ : ∃ X : Nat, x1.heap.size = X := ⟨_, rfl⟩
  have hXs := Nat.lt_of_lt_of_le La.lt g1.size
  rw [hX] at sx2 hXs ⊢
  clear hW2 hX hsx hc0 hc6 hn1 g1 g2 hBt hI
  have hbd : Below W2.heap.size W2 W2.drew := (Below.refl _ _).drew
  refine at_begin (ops := opsA (cLA (cLA (cRA (cRA (Tryd.f7.body.getD .skip)))))) (n := 21) (fun y => Below W2.heap.size W2 y) (by kernel_rfl) (by kernel_rfl) ?_
  refine at_takeD (i := 0) (m' := 1) (d := some 22) (v := .bool true) cw2reg rfl (by decide) rfl rfl (y_moveG (wanted_free rfl) rfl rfl) hbd ?_
  simp only [Act.put, List.setIfInBounds_toArray, List.set_cons_zero, List.set_cons_succ]
  refine at_takeD (i := 1) (m' := 3) (d := some 23) (v := .bool false) cw2reg rfl (by decide) rfl rfl (y_notG (b := true) (wanted_free rfl) rfl rfl) hbd ?_
  simp only [Act.put, List.setIfInBounds_toArray, List.set_cons_zero, List.set_cons_succ]
  refine at_takeD (i := 2) (m' := 7) (d := some 24) (v := .bool false) cw2reg rfl (by decide) rfl rfl (y_moveG (wanted_free rfl) rfl rfl) hbd ?_
  simp only [Act.put, List.setIfInBounds_toArray, List.set_cons_zero, List.set_cons_succ]
  refine at_takeD (i := 3) (m' := 15) (d := some 25) (v := .slice ta N tc) cw2reg rfl (by decide) rfl rfl (y_moveG (wanted_gG (j := 2) (d := 24) (b := false) rfl rfl rfl rfl) rfl rfl) hbd ?_
  simp only [Act.put, List.setIfInBounds_toArray, List.set_cons_zero, List.set_cons_succ]
  refine at_takeD (i := 4) (m' := 31) (d := some 26) (v := .int .i64 (N : Int)) cw2reg rfl (by decide) rfl rfl (y_lenP (wanted_gG (j := 2) (d := 24) (b := false) rfl rfl rfl rfl) rfl rfl Tryd.underlying26) hbd ?_
  simp only [Act.put, List.setIfInBounds_toArray, List.set_cons_zero, List.set_cons_succ]
  refine at_takeD (i := 5) (m' := 63) (d := some 27) (v := .pointer (some ⟨X, 0, none⟩)) cw2reg rfl (by decide) rfl rfl (y_fieldG (wanted_gG (j := 2) (d := 24) (b := false) rfl rfl rfl rfl) rfl rfl (fun w => by simp [go_sem])) hbd ?_
  simp only [Act.put, List.setIfInBounds_toArray, List.set_cons_zero, List.set_cons_succ]
  refine at_takeD (i := 6) (m' := 127) (d := some 28) (v := .pointer (some ⟨X, 0, none⟩)) cw2reg rfl (by decide) rfl rfl (y_fieldG (wanted_gG (j := 2) (d := 24) (b := false) rfl rfl rfl rfl) rfl rfl (fun w => by simp [go_sem])) hbd ?_
  simp only [Act.put, List.setIfInBounds_toArray, List.set_cons_zero, List.set_cons_succ]
  refine at_takeD (i := 7) (m' := 255) (d := some 29) (v := .int .i64 (N : Int)) cw2reg rfl (by decide) rfl rfl (y_plainG (wanted_gG (j := 2) (d := 24) (b := false) rfl rfl rfl rfl) rfl rfl Tryd.underlying3 rfl (fun _ h => (sx2.below h).c0)) hbd ?_
  simp only [Act.put, List.setIfInBounds_toArray, List.set_cons_zero, List.set_cons_succ]
  refine at_takeD (i := 8) (m' := 511) (d := some 30) (v := .bool false) cw2reg rfl (by decide) rfl rfl (y_neI (wanted_gG (j := 2) (d := 24) (b := false) rfl rfl rfl rfl) rfl rfl rfl Tryd.underlying3 (by simp)) hbd ?_
  simp only [Act.put, List.setIfInBounds_toArray, List.set_cons_zero, List.set_cons_succ]
  refine at_takeD (i := 9) (m' := 1023) (d := some 31) (v := .bool false) cw2reg rfl (by decide) rfl rfl (y_pickEG (wanted_free rfl) rfl rfl rfl) hbd ?_
  simp only [Act.put, List.setIfInBounds_toArray, List.set_cons_zero, List.set_cons_succ]
  refine at_takeD (i := 10) (m' := 2047) (d := some 32) (v := .bool false) cw2reg rfl (by decide) rfl rfl (y_moveG (wanted_free rfl) rfl rfl) hbd ?_
  simp only [Act.put, List.setIfInBounds_toArray, List.set_cons_zero, List.set_cons_succ]
  refine at_takeD (i := 11) (m' := 4095) (d := some 33) (v := .slice (some ⟨gb, go, none⟩) Z9 gc) cw2reg rfl (by decide) rfl rfl (y_moveG (wanted_gG (j := 10) (d := 32) (b := false) rfl rfl rfl rfl) rfl rfl) hbd ?_
  simp only [Act.put, List.setIfInBounds_toArray, List.set_cons_zero, List.set_cons_succ]
  refine at_takeD (i := 12) (m' := 8191) (d := some 34) (v := .int .i64 (Z9 : Int)) cw2reg rfl (by decide) rfl rfl (y_lenP (wanted_gG (j := 10) (d := 32) (b := false) rfl rfl rfl rfl) rfl rfl Tryd.underlying26) hbd ?_
  simp only [Act.put, List.setIfInBounds_toArray, List.set_cons_zero, List.set_cons_succ]
  refine at_takeD (i := 13) (m' := 16383) (d := some 35) (v := .pointer (some ⟨X, 0, none⟩)) cw2reg rfl (by decide) rfl rfl (y_fieldG (wanted_gG (j := 10) (d := 32) (b := false) rfl rfl rfl rfl) rfl rfl (fun w => by simp [go_sem])) hbd ?_
  simp only [Act.put, List.setIfInBounds_toArray, List.set_cons_zero, List.set_cons_succ]
  refine at_takeD (i := 14) (m' := 32767) (d := some 36) (v := .pointer (some ⟨X, 0, none⟩)) cw2reg rfl (by decide) rfl rfl (y_fieldG (wanted_gG (j := 10) (d := 32) (b := false) rfl rfl rfl rfl) rfl rfl (fun w => by simp [go_sem])) hbd ?_
  simp only [Act.put, List.setIfInBounds_toArray, List.set_cons_zero, List.set_cons_succ]
  refine at_takeD (i := 15) (m' := 65535) (d := some 37) (v := .int .i64 (N : Int)) cw2reg rfl (by decide) rfl rfl (y_plainG (wanted_gG (j := 10) (d := 32) (b := false) rfl rfl rfl rfl) rfl rfl Tryd.underlying3 rfl (fun _ h => (sx2.below h).c0)) hbd ?_
  simp only [Act.put, List.setIfInBounds_toArray, List.set_cons_zero, List.set_cons_succ]
  refine at_takeD (i := 16) (m' := 131071) (d := some 38) (v := .agg (sgC (N : Int) H D A K sh (.func (.func fn) #[] cap)).toArray) cw2reg rfl (by decide) rfl rfl (y_rowG (cs := sgC (N : Int) H D A K sh (.func (.func fn) #[] cap)) (wanted_gG (j := 10) (d := 32) (b := false) rfl rfl rfl rfl) rfl rfl Tryd.underlying35 rfl (by kernel_rfl) (fun _ h => (sx2.below h).range)) hbd ?_
  simp only [Act.put, List.setIfInBounds_toArray, List.set_cons_zero, List.set_cons_succ]
  refine at_one (i := 17) (m' := 262143) cw2reg (by decide) rfl ?_
  refine p_callG (args := #[.agg (sgC (N : Int) H D A K sh (.func (.func fn) #[] cap)).toArray]) (d := some 39) rfl (wanted_gG (j := 10) (d := 32) (b := false) rfl rfl rfl rfl) rfl (by simp only [List.map_toArray, List.map_cons, List.map_nil]; rfl) rfl Tryd.call10 ((hct _ W2.drew).mono ?_)
  rintro e y18 ⟨rfl, g18⟩
  have hb18 := keep_trans hbd g18
  refine ⟨_, rfl, hb18, ?_⟩
  simp only [Act.put, List.setIfInBounds_toArray, List.set_cons_zero, List.set_cons_succ]
  refine at_takeD (i := 18) (m' := 524287) (d := some 40) (v := .int .i64 (Z9 : Int)) cw2reg rfl (by decide) rfl rfl (y_mulI (wanted_gG (j := 10) (d := 32) (b := false) rfl rfl rfl rfl) rfl rfl rfl Tryd.underlying3 u_Z) hb18 ?_
  simp only [Act.put, List.setIfInBounds_toArray, List.set_cons_zero, List.set_cons_succ]
  refine at_takeD (i := 19) (m' := 1048575) (d := some 41) (v := .bool false) cw2reg rfl (by decide) rfl rfl (y_neI (wanted_gG (j := 10) (d := 32) (b := false) rfl rfl rfl rfl) rfl rfl rfl Tryd.underlying3 (by simp)) hb18 ?_
  simp only [Act.put, List.setIfInBounds_toArray, List.set_cons_zero, List.set_cons_succ]
  refine at_takeD (i := 20) (m' := 2097151) (d := some 42) (v := .bool false) cw2reg rfl (by decide) rfl rfl (y_pickEG (wanted_free rfl) rfl rfl rfl) hb18 ?_
  simp only [Act.put, List.setIfInBounds_toArray, List.set_cons_zero, List.set_cons_succ]
  refine at_done cw2reg (by decide) ?_
  have kq := hb18
  obtain ⟨W4, hW4⟩ : ∃ W4 : World, W4 = y18 := ⟨_, rfl⟩
  rw [← hW4] at kq ⊢
  have sx4 := sx2.below kq
  have hsx4 := sx4.here
  have hc04 := sx4.c0
  have La4 := La2.below kq
  have hI4 := hD.keep _ _ hI2 kq
  have k4 := keep_trans k2 kq
  clear hW4 sx2 hI2 La2 hbd
  go_wp2_with (first
    | (refine wpList_load_rowS (by rfl) 35 _ (by rfl) X (by rfl) _ _ _ _ hsx4 Tryd.underlying35 (by kernel_rfl) ?_)
    | (go_at_call 10; refine (hct _ _).mono ?_; rintro e x3 ⟨rfl, g3⟩)
    | (at_make; refine wpList_make_full _ rfl _ _ 38 rfl x3.heap.size 26 i0 (.slice none 0 0) 1 Tryd.underlying38 hi0 hz0 hz1 _ _ _ _ P9 rfl rfl rfl rfl (by rw [hz2]; omega) (by unfold maxLen; omega) (Nat.le_refl _) ?_; intro w3 hown hgrow; have hbg3 := (Below.refl x3.heap.size x3).grown hgrow (Nat.le_refl _) (fun k h => by cases h); have sx3 := (sx4.below g3).below hbg3; have hc03 := sx3.c0)
    | (go_at_call 14; refine (hdg _ (HS.out.2.2.below (keep_trans k4 (keep_trans g3 hbg3)))).mono ?_; rintro e w4 ⟨v3, rfl, o3, g4⟩; obtain ⟨a3, c3, rfl, _, _, ho3⟩ := o3.row.opens HDS.out.2.1)
    | fail)
  have hIx := hD.keep _ _ hI4 g3
  have kx3 := keep_trans k4 g3
  have La3 := ((La4.below g3).below hbg3).below g4
  have sx9 := sx3.below g4
  have k39 := keep_trans hbg3 g4
  have hX3 : X < x3.heap.size := heap_ltW (sx4.below g3).here
  obtain ⟨eb, eo, rfl, hec⟩ := ho3 (by have := HX.out.2.2.2.2.1; have := HX.out.2.2.2.2.2.2; omega)
  have hebH : eb ≠ x3.heap.size := by
    have h1 := o3.new eb (by simp [Value.ownBlock])
    have h2 := heap_ltW (UpW.made f hown).choose_spec.2.1
    omega
  have hU : UpW w4 x3.heap.size P9 0 f := (UpW.made f hown).below g4
  obtain ⟨H9, hH9⟩ : ∃ H9 : Nat, x3.heap.size = H9 := ⟨_, rfl⟩
  have hAH : w.heap.size + 1 ≠ H9 := by
    omega
  have hXH : X ≠ H9 := by omega
  have hwH : w.heap.size ≤ H9 := by have := kx3.size; omega
  rw [hH9] at hU hebH ⊢
  have hx9 : ∀ y : World, But H9 w4 y → Below x3.heap.size x3 y := fun y hb => k39.trans (hb.below (by omega) k39.size)
  have H0 := hide (PuW.start f hU)
  have HA := hide (And.intro sx9 (And.intro La3 (And.intro hIx (And.intro kx3 hx9))))
  have HE := hide (And.intro hec hebH)
  clear hIx kx3 La3 La4 sx3 sx4 sx9 hc03 hc04 hsx4 hI4 k4 kq hown hgrow hbg3 g3 k39 hX3 hH9 hx9 k2 hU La k0 bx bx0 hXs g4 o3 ho3 hec hebH
  go_loopw [52] (fun vi wr => PuW w4 H9 P9 f vi wr) (fun vi _ => P9 - (intOf vi).toNat)
  case atStart => exact H0.out
  case round =>
    obtain ⟨i, hi', rfl, hUr, hbr⟩ := hrel
    clear H0
    rename World => wr
    obtain ⟨hfi, hbl, hfl, hel, hN, hFl, hP9⟩ := HX.out
    obtain ⟨sx9, La3, hIx, kx3, hx9⟩ := HA.out
    have sxr := sx9.but hbr hXH
    have Lar := La3.but hbr hAH
    have hIr := hD.keep _ _ hIx (hx9 wr hbr)
    have hwr := keep_trans kx3 (hx9 wr hbr)
    by_cases hlt : i < P9
    · have hii : (i : Int) < (P9 : Int) := by omega
      have z_i : (0 : Int) ≤ (i : Int) := Int.natCast_nonneg _
      obtain ⟨I9, hI9⟩ : ∃ I : Nat, I = i + 1 := ⟨_, rfl⟩
      have e_I : (i : Int) + 1 = (I9 : Int) := by omega
      have s_I : IntKind.i64.wrap (I9 : Int) = (I9 : Int) := by rw [IntKind.wrap_i64]; omega
      have hfi0 := hfl i hlt
      have hi6 : i < 65536 := by omega
      obtain ⟨hg, ha, _⟩ := HS.out
      obtain ⟨hds15, hdsl, hmul, hcut, rP, hZb⟩ := HDS.out
      obtain ⟨hec, hebH⟩ := HE.out
      have ci := But.cell (hec i (by omega)) hbr hebH
      have hE15 := hds15 i
      have hfie := hfi i
      generalize el ds i = E at *
      obtain ⟨F9, hF9⟩ : ∃ F : Nat, F = N * i := ⟨_, rfl⟩
      obtain ⟨G9, hG9⟩ : ∃ G : Nat, G = F9 + N := ⟨_, rfl⟩
      have hmi := hmul i hlt
      have hcutw := hcut i F9 G9 hlt hF9 hG9
      have rgr := (rP i F9 hlt hF9).below hwr
      have s_I9 : IntKind.i64.wrap ((i : Int) + 1) = (I9 : Int) := by rw [e_I]; exact s_I
      have u_F : IntKind.i64.wrap ((i : Int) * (N : Int)) = (F9 : Int) := by
        rw [show (i : Int) * (N : Int) = (F9 : Int) by rw [hF9, Nat.mul_comm]; norm_cast, IntKind.wrap_i64]; omega
      have u_G : IntKind.i64.wrap ((I9 : Int) * (N : Int)) = (G9 : Int) := by
        rw [show (I9 : Int) * (N : Int) = (G9 : Int) by rw [hG9, hF9, hI9]; push_cast; rw [Int.add_mul, Int.one_mul, Int.mul_comm (i : Int)], IntKind.wrap_i64]; omega
      have hXl := hbl i hlt
      have hal9 : ∀ y yv, Inv y → Row .u8 256 y yv ((sig.drop (N * i)).take N) → Tidy yv → Calls Tryd.prog 11 #[.agg (sgC (N : Int) H D A K sh (.func (.func fn) #[] cap)).toArray, .agg (arr .u8 a), .int .i64 (i : Int), yv, .int .u32 (E : Int), .int .u32 15] y fun e w' => ∃ v, e = .returned v ∧ Row .u8 256 w' v (f i) ∧ Tidy v ∧ (New y.heap.size v ∨ v = yv) ∧ Below y.heap.size y w' := fun y yv hI ry ty => by
        have := walg_any (N := N) (H := H) (D := D) (A := A) (K := K) sh a _ i E (15 - E) yv y hD hI ha hFl (by omega) ry ty hXl hi6 (by omega)
        rw [hfie, show E + (15 - E) = 15 by omega] at this
        exact this
      have rgo : ∀ q, (Value.slice (some ⟨gb, go + F9, none⟩) N (gc - F9)).ownBlock = some q → q < w.heap.size := row_blockW (rP i F9 hlt hF9) (by rw [hXl]; omega)
      have hbd : But H9 wr wr.drew := (But.refl _ _).drew
      have kb : Below wr.heap.size wr wr.drew := (Below.refl _ _).drew
      have HK := hide (And.intro hI9 (And.intro hlt hbr))
      have hN16 := hN.1
      clear hfi hbl hfl hel hFl hI9 hbr hi' sx9 La3 hIx hx9 kx3
      go_wp2
      refine at_begin (ops := opsA (cRA (cBA (cLA (cRA (cRA (cLpA (cBA (cRA (cLA (cRA (cRA (cRA (cRA (Tryd.f7.body.getD .skip))))))))))))))) (n := 22) (fun y => But H9 wr y) (by kernel_rfl) (by kernel_rfl) ?_
      refine at_takeD (i := 0) (m' := 1) (d := some 57) (v := .slice (some ⟨H9, 0, none⟩) P9 P9) cw8reg rfl (by decide) rfl rfl (y_moveG (wanted_free rfl) rfl rfl) hbd ?_
      simp only [Act.put, List.setIfInBounds_toArray, List.set_cons_zero, List.set_cons_succ]
      refine at_takeD (i := 1) (m' := 3) (d := some 58) (v := .int .i64 (i : Int)) cw8reg rfl (by decide) rfl rfl (y_moveG (wanted_free rfl) rfl rfl) hbd ?_
      simp only [Act.put, List.setIfInBounds_toArray, List.set_cons_zero, List.set_cons_succ]
      refine at_takeD (i := 2) (m' := 7) (d := some 59) (v := .agg (sgC (N : Int) H D A K sh (.func (.func fn) #[] cap)).toArray) cw8reg rfl (by decide) rfl rfl (y_rowG (cs := sgC (N : Int) H D A K sh (.func (.func fn) #[] cap)) (wanted_free rfl) rfl rfl Tryd.underlying35 rfl (by kernel_rfl) (fun _ h => (sxr.but h hXH).range)) hbd ?_
      simp only [Act.put, List.setIfInBounds_toArray, List.set_cons_zero, List.set_cons_succ]
      refine at_takeD (i := 3) (m' := 15) (d := some 60) (v := .agg (arr .u8 a)) cw8reg rfl (by decide) rfl rfl (y_rowG (cs := vals .u8 a) (wanted_free rfl) rfl rfl Tryd.underlying23 rfl (by rw [vals_length, hal]; kernel_rfl) (fun _ h => lies_rangeW (Lar.but h hAH))) hbd ?_
      simp only [Act.put, List.setIfInBounds_toArray, List.set_cons_zero, List.set_cons_succ]
      refine at_takeD (i := 4) (m' := 31) (d := some 61) (v := .int .i64 (i : Int)) cw8reg rfl (by decide) rfl rfl (y_moveG (wanted_free rfl) rfl rfl) hbd ?_
      simp only [Act.put, List.setIfInBounds_toArray, List.set_cons_zero, List.set_cons_succ]
      refine at_takeD (i := 5) (m' := 63) (d := some 62) (v := .slice (some ⟨gb, go, none⟩) Z9 gc) cw8reg rfl (by decide) rfl rfl (y_moveG (wanted_free rfl) rfl rfl) hbd ?_
      simp only [Act.put, List.setIfInBounds_toArray, List.set_cons_zero, List.set_cons_succ]
      refine at_takeD (i := 6) (m' := 127) (d := some 63) (v := .int .i64 (i : Int)) cw8reg rfl (by decide) rfl rfl (y_moveG (wanted_free rfl) rfl rfl) hbd ?_
      simp only [Act.put, List.setIfInBounds_toArray, List.set_cons_zero, List.set_cons_succ]
      refine at_takeD (i := 7) (m' := 255) (d := some 64) (v := .pointer (some ⟨X, 0, none⟩)) cw8reg rfl (by decide) rfl rfl (y_fieldG (wanted_free rfl) rfl rfl (fun w => by simp [go_sem])) hbd ?_
      simp only [Act.put, List.setIfInBounds_toArray, List.set_cons_zero, List.set_cons_succ]
      refine at_takeD (i := 8) (m' := 511) (d := some 65) (v := .pointer (some ⟨X, 0, none⟩)) cw8reg rfl (by decide) rfl rfl (y_fieldG (wanted_free rfl) rfl rfl (fun w => by simp [go_sem])) hbd ?_
      simp only [Act.put, List.setIfInBounds_toArray, List.set_cons_zero, List.set_cons_succ]
      refine at_takeD (i := 9) (m' := 1023) (d := some 66) (v := .int .i64 (N : Int)) cw8reg rfl (by decide) rfl rfl (y_plainG (wanted_free rfl) rfl rfl Tryd.underlying3 rfl (fun _ h => (sxr.but h hXH).c0)) hbd ?_
      simp only [Act.put, List.setIfInBounds_toArray, List.set_cons_zero, List.set_cons_succ]
      refine at_takeD (i := 10) (m' := 2047) (d := some 67) (v := .int .i64 (F9 : Int)) cw8reg rfl (by decide) rfl rfl (y_mulI (wanted_free rfl) rfl rfl rfl Tryd.underlying3 u_F) hbd ?_
      simp only [Act.put, List.setIfInBounds_toArray, List.set_cons_zero, List.set_cons_succ]
      refine at_takeD (i := 11) (m' := 4095) (d := some 68) (v := .int .i64 (i : Int)) cw8reg rfl (by decide) rfl rfl (y_moveG (wanted_free rfl) rfl rfl) hbd ?_
      simp only [Act.put, List.setIfInBounds_toArray, List.set_cons_zero, List.set_cons_succ]
      refine at_takeD (i := 12) (m' := 8191) (d := some 69) (v := .int .i64 (I9 : Int)) cw8reg rfl (by decide) rfl rfl (y_addI (wanted_free rfl) rfl rfl rfl Tryd.underlying3 s_I9) hbd ?_
      simp only [Act.put, List.setIfInBounds_toArray, List.set_cons_zero, List.set_cons_succ]
      refine at_takeD (i := 13) (m' := 16383) (d := some 70) (v := .pointer (some ⟨X, 0, none⟩)) cw8reg rfl (by decide) rfl rfl (y_fieldG (wanted_free rfl) rfl rfl (fun w => by simp [go_sem])) hbd ?_
      simp only [Act.put, List.setIfInBounds_toArray, List.set_cons_zero, List.set_cons_succ]
      refine at_takeD (i := 14) (m' := 32767) (d := some 71) (v := .pointer (some ⟨X, 0, none⟩)) cw8reg rfl (by decide) rfl rfl (y_fieldG (wanted_free rfl) rfl rfl (fun w => by simp [go_sem])) hbd ?_
      simp only [Act.put, List.setIfInBounds_toArray, List.set_cons_zero, List.set_cons_succ]
      refine at_takeD (i := 15) (m' := 65535) (d := some 72) (v := .int .i64 (N : Int)) cw8reg rfl (by decide) rfl rfl (y_plainG (wanted_free rfl) rfl rfl Tryd.underlying3 rfl (fun _ h => (sxr.but h hXH).c0)) hbd ?_
      simp only [Act.put, List.setIfInBounds_toArray, List.set_cons_zero, List.set_cons_succ]
      refine at_takeD (i := 16) (m' := 131071) (d := some 73) (v := .int .i64 (G9 : Int)) cw8reg rfl (by decide) rfl rfl (y_mulI (wanted_free rfl) rfl rfl rfl Tryd.underlying3 u_G) hbd ?_
      simp only [Act.put, List.setIfInBounds_toArray, List.set_cons_zero, List.set_cons_succ]
      refine at_takeD (i := 17) (m' := 262143) (d := some 74) (v := .slice (some ⟨gb, go + F9, none⟩) N (gc - F9)) cw8reg rfl (by decide) rfl rfl (y_midW (wanted_free rfl) rfl rfl rfl rfl hcutw) hbd ?_
      simp only [Act.put, List.setIfInBounds_toArray, List.set_cons_zero, List.set_cons_succ]
      refine at_takeD (i := 18) (m' := 524287) (d := some 75) (v := .int .u32 (E : Int)) cw8reg rfl (by decide) rfl rfl (y_moveG (wanted_free rfl) rfl rfl) hbd ?_
      simp only [Act.put, List.setIfInBounds_toArray, List.set_cons_zero, List.set_cons_succ]
      refine at_one (i := 19) (m' := 1048575) cw8reg (by decide) rfl ?_
      refine p_callG (args := #[.agg (sgC (N : Int) H D A K sh (.func (.func fn) #[] cap)).toArray, .agg (arr .u8 a), .int .i64 (i : Int), .slice (some ⟨gb, go + F9, none⟩) N (gc - F9), .int .u32 (E : Int), .int .u32 15]) (d := some 76) rfl (wanted_free rfl) rfl (by simp only [List.map_toArray, List.map_cons, List.map_nil]; rfl) rfl Tryd.call11 ((hal9 wr.drew _ (hD.keep _ _ hIr kb) (rgr.below kb) tidy_someW).mono ?_)
      rintro e y20 ⟨xv, rfl, rx, tx, nx, g20⟩
      have kc := kb
      replace kb := keep_trans kb g20
      obtain ⟨xa, xc, rfl, _⟩ := rx.opens hfi0
      have hb20 := but_keepW hbd g20
      refine ⟨_, rfl, hb20, ?_⟩
      simp only [Act.put, List.setIfInBounds_toArray, List.set_cons_zero, List.set_cons_succ]
      refine at_takeD (i := 20) (m' := 2097151) (d := some 77) (v := .pointer (some ⟨H9, i, none⟩)) cw8reg rfl (by decide) rfl rfl (y_ix0W (wanted_free rfl) rfl rfl rfl Tryd.underlying38 (by kernel_rfl) hlt) hb20 ?_
      simp only [Act.put, List.setIfInBounds_toArray, List.set_cons_zero, List.set_cons_succ]
      refine at_one (i := 21) (m' := 4194303) cw8reg (by decide) rfl ?_
      have hsz := kb
      refine p_store_plain (P := Tryd.prog) rfl rfl rfl rfl rfl rfl Tryd.underlying26 rfl (by kernel_rfl) ((hUr.below kb).any hlt) ((hUr.below kb).frozen i) ?_
      have hb22 := hb20.setCell i (.slice xa N xc)
      refine ⟨hb22, ?_⟩
      refine at_done cw8reg (by decide) ?_
      go_wp2
      obtain ⟨hI9, hlt, hbr⟩ := HK.out
      have hn : ∀ q, (Value.slice xa N xc).ownBlock = some q → q ≠ H9 := fun q hq => by
        have hl := hUr.lt
        have hz : wr.drew.heap.size = wr.heap.size := rfl
        rcases nx with nx | nx
        · have h1 := nx q hq
          have h2 := kc.size
          omega
        · rw [nx] at hq
          have := rgo q hq
          omega
      have hnext := PuW.next hUr hbr kb hlt rx tx hn
      rw [← hI9] at hnext
      exact ⟨hnext, by simp [intOf]; omega⟩
    · obtain rfl : i = P9 := by omega
      have hge : ¬ ((i : Int) < (i : Int)) := by omega
      have rr := hUr.rows (by omega)
      have hky := wkey_any (N := N) (H := H) (D := D) (A := A) (K := K) sh a _ _ wr hD hIr HS.out.2.1 rr hel
      have hsxr := sxr.here
      have HK := hide hwr
      clear hfi hbl hfl hel hFl hbr hi' sx9 La3 hIx hx9 kx3 rr hwr hP9 hN
      go_wp2_with (first
        | (refine wpList_load_rowS (by rfl) 35 _ (by rfl) X (by rfl) _ _ _ _ hsxr Tryd.underlying35 (by kernel_rfl) ?_)
        | (refine wpList_load_row rfl 23 _ (by rfl) (w.heap.size + 1) (by rfl) _ _ _ (.array 32 5) Lar (by kernel_rfl) rfl (by rw [arr_size, hal]; kernel_rfl) ?_)
        | (go_at_call 13; refine hky.mono ?_; rintro e w9 ⟨v9, rfl, r9, n9, g9⟩)
        | fail)
      go_ret
      exact ⟨_, rfl, r9, n9.mono HK.out.size, keep_trans HK.out g9⟩
end
end Go.Proofs.YtpmobjfhhkglbaaDoor

/- Keys of chains: words for the laws: few, awake. -/
namespace Go.Proofs.YtpmobjfhhkglbaaDoor
open Go.RowKit
set_option linter.unusedVariables false
set_option linter.unusedSimpArgs false

theorem wpList_buildY {ops : Array Oper} {rest : List Oper} {o : Oper} {a : Act} {w : World} {Q : Exit → Act → World → Prop} (hg : Region.wanted o (yielded ops a.tmps) = true) (t : TypeId) (ho : o.op = .build t #[]) (cells : Array Value)
    (hr : (Instr.build t #[]).run Tryd.prog w = .ok (.agg cells) w)
    (h : wpList Tryd.prog ops Q rest (a.put o.dst (.agg cells)) w) : wpList Tryd.prog ops Q (o :: rest) a w := by
  refine BigFrame.wpList_want hg fun K hK => ?_
  unfold Oper.wp execOp
  simp only [ho, List.map_toArray, List.map_nil]
  simp [Sem.run_bind, hr]
  exact hK _ _ h
theorem build_ad (w : World) : (Instr.build 23 #[]).run Tryd.prog w = .ok (.agg (arr .u8 zP)) w := by kernel_rfl
theorem dg_zero : dgW 16 (List.replicate 16 0) = List.replicate 32 0 ++ [1, 14, 0] := by decide
set_option maxHeartbeats 4000000 in
set_option maxRecDepth 100000 in
theorem awakeY_any (w : World) : Calls Tryd.prog 8 #[] w fun e w' => e = .returned (.bool true) ∧ Below w.heap.size w w' := by
  obtain ⟨i0, hi, hz0, hz1, hz2⟩ := info_parts Tryd.info5
  have hz := zeroAd
  have hPz : Pl zP := ⟨by decide, fun x hx => by rw [List.eq_of_mem_replicate (show x ∈ List.replicate 32 0 from hx)]; decide⟩
  have hdg := fun y dv (r : Row .u8 256 y dv (List.replicate 16 0)) (t : Tidy dv) => wdig_ok (.inl rfl) _ dv y r t (List.length_replicate)
  rw [dg_zero] at hdg
  have hp1 := fun y => wput_any zP 4 7 y hPz (by decide)
  have h1 := hPz.put 4 7
  have hp2 := fun y => wput_any (putA zP 4 7) 2 2 y h1 (by decide)
  have h2 := h1.put 2 2
  have e1 : el (putA zP 4 7) 27 = 7 := by decide
  have e2 : el (putA (putA zP 4 7) 2 2) 19 = 2 := by decide
  have e3 : el (putA (putA zP 4 7) 2 2) 27 = 0 := by decide
  generalize putA (putA zP 4 7) 2 2 = A2 at *
  generalize putA zP 4 7 = A1 at *
  have hix : ∀ w : World, (Instr.index 23 (.agg (arr .u8 A1)) (.int .i64 27)).run Tryd.prog w = .ok (.int .u8 7) w := fun w => by
    have h := index_arr (P := Tryd.prog) 23 5 32 .u8 A1 Tryd.underlying23 Tryd.underlying5 (by kernel_rfl) h1.1 27 (by decide) w
    rw [e1] at h
    exact h
  have hl35 : (List.replicate 32 0 ++ [1, 14, 0]).length = 35 := by decide
  have d0 : el (List.replicate 32 0 ++ [1, 14, 0]) 0 = 0 := by decide
  have d32 : el (List.replicate 32 0 ++ [1, 14, 0]) 32 = 1 := by decide
  have d33 : el (List.replicate 32 0 ++ [1, 14, 0]) 33 = 14 := by decide
  have d34 : el (List.replicate 32 0 ++ [1, 14, 0]) 34 = 0 := by decide
  generalize List.replicate 32 0 ++ [1, 14, 0] = DS at *
  have ZR : Under 256 (List.replicate 16 0) := Under.replicate 256 16 (by decide)
  have hl2 := h2.1
  have hzl : zP.length = 32 := by decide
  have hbz := build_ad
  generalize zP = ZP at *
  go_enter Tryd.func8, Tryd.ntmps8
  go_wp2_with (first
    | (at_make; refine wpList_make_full _ rfl _ _ 26 rfl w.heap.size 5 i0 (.int .u8 0) 1 Tryd.underlying26 hi hz0 hz1 _ _ _ _ 16 rfl rfl rfl rfl (by rw [hz2]; omega) (by unfold maxLen; omega) (Nat.le_refl _) ?_; intro w1 hown hgrow; have kw := (Below.refl w.heap.size w).grown hgrow (Nat.le_refl _) (fun k h => by cases h); rw [made_u8] at hown; have ow : Own 5 .u8 256 w1 w.heap.size (.slice (some ⟨w.heap.size, 0, none⟩) 16 16) (List.replicate 16 0) := ⟨by rw [List.length_replicate]; exact hown, ZR⟩)
    | (go_at_call 14; refine (hdg _ _ ow.row tidy_someW).mono ?_; rintro e w2 ⟨v2, rfl, o2, hb2⟩; obtain ⟨da, dc, rfl, _, _, hcl⟩ := o2.row.opens hl35; obtain ⟨db, do_, rfl, hcell⟩ := hcl (by decide); have c0 := hcell 0 (by decide); rw [Nat.add_zero] at c0; have c32 := hcell 32 (by decide); have c33 := hcell 33 (by decide); have c34 := hcell 34 (by decide); rw [d0] at c0; rw [d32] at c32; rw [d33] at c33; rw [d34] at c34; clear hcl hcell)
    | (refine wpList_buildY (by rfl) 23 (by rfl) (arr .u8 ZP) (hbz _) ?_)
    | (go_at_call 17; have hp1x := hp1; clear hp1; refine (hp1x _).mono ?_; rintro e w3 ⟨rfl, hb3⟩)
    | (go_at_call 17; have hu2 := hp2; clear hp2; refine (hu2 _).mono ?_; rintro e w4 ⟨rfl, hb4⟩; have hn4 := heap_alloc_last w4 (.cells (arr .u8 ZP) 23))
    | (refine wpList_store_row rfl 23 _ _ (by rfl) w4.heap.size (arr .u8 A2) (by rfl) (by rfl) _ _ hn4 (by rw [arr_size, hl2]; kernel_rfl) (by rw [arr_size, arr_size, hl2, hzl]) (arr_one _ _) ?_; have ka := keep_alloc w4 (.cells (arr .u8 ZP) 23); have kz := keep_trans (keep_trans hb3 hb4) (ka.trans (((But.refl w4.heap.size (w4.alloc (.cells (arr .u8 ZP) 23))).setRow (arr .u8 A2)).below (Nat.le_refl _) ka.size)); have Lz : Lies .u8 23 ((w4.alloc (.cells (arr .u8 ZP) 23)).setRow w4.heap.size (arr .u8 A2)) w4.heap.size A2 := setRow_heap _ _ _ _ _ _ hn4; have x0 := keep_cell c0 kz; have x32 := keep_cell c32 kz; have x33 := keep_cell c33 kz; have x34 := keep_cell c34 kz; have x19 := Lz.cell (i := 19) (by rw [hl2]; decide); have x27 := Lz.cell (i := 27) (by rw [hl2]; decide); rw [e2] at x19; rw [e3] at x27)
    | (go_at_call 17; refine (hp1x _).mono ?_; rintro e w6 ⟨rfl, hb6⟩)
    | fail)
  go_ret
  exact ⟨rfl, keep_trans (keep_trans (keep_trans kw hb2) kz) hb6⟩
end Go.Proofs.YtpmobjfhhkglbaaDoor
