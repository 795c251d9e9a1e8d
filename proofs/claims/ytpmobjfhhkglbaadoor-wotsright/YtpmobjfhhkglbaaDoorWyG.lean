/- Keys of chains, the program's own: Sign where it answers. -/
import Derived.Test.YtpmobjfhhkglbaaDoorWyF
namespace Go.Proofs.YtpmobjfhhkglbaaDoor
open Go.RowKit
set_option linter.unusedVariables false
set_option linter.unusedSimpArgs false

section
variable {N : Nat} {H D A K : Int}
def sw8lt : List Lt := [(0, some 47, [13]), (0, some 48, [14]), (0, some 49, [11]), (0, some 50, [9]), (0, some 51, [14]), (0, some 52, [11]), (0, some 53, [9]), (0, some 54, [14]), (0, some 55, [2]), (480, some 56, [52, 53, 54, 55]), (0, some 57, [15]), (1564, some 58, [49, 50, 51, 56, 57]), (4095, some 59, [47, 48]), (8191, none, [59, 58])]
theorem sw8reg : Reg (opsA (cRA (cBA (cLA (cRA (cRA (cLpA (cBA (cRA (cLA (cRA (cRA (cRA (cRA (Tryd.f5.body.getD .skip))))))))))))))) sw8lt := ⟨by kernel_rfl, by kernel_rfl⟩
set_option maxHeartbeats 8000000 in
set_option maxRecDepth 100000 in
theorem wsgn_ok (sh : Bool) (pub a secret text : List Nat) (pv sv tv : Value) (w : World) (hC : Csts w) (hT : Roots w) (hF : FitX (N : Int) H D A K) (ha : Pl a) (hp : Row .u8 256 w pv pub) (tp : Tidy pv) (hs : Row .u8 256 w sv secret) (ts : Tidy sv) (ht : Row .u8 256 w tv text) (tt : Tidy tv) (htl : text.length = N) (hpl : pub.length = N) (hsl : secret.length = N) :
    Calls Tryd.prog 5 #[slV (N : Int) H D A K sh, tv, sv, pv, .agg (arr .u8 a)] w fun e w' => ∃ v, e = .returned v ∧ Row .u8 256 w' v ((wsP (fun p x => sumW N sh pub p x) a (dgW N text) secret).flatten) ∧ New w.heap.size v ∧ Below w.heap.size w w' := by
  have hN := fitN hF
  obtain ⟨bx, La, k0⟩ := boxW (N := N) (H := H) (D := D) (A := A) (K := K) w sh (a := a)
  obtain ⟨sa, sc, rfl, _⟩ := hs.opens hsl
  have hsg := fun x (k : Below w.heap.size w x) => wsec_ok sh pub pv sa sc w x k hC hT hF hp tp hpl
  have hdg := fun y (r : Row .u8 256 y tv text) => wdig_ok (fit3 hF) text tv y r tt htl
  obtain ⟨ta, tc, rfl, _⟩ := ht.opens htl
  obtain ⟨pa, pc, rfl, _⟩ := hp.opens hpl
  obtain ⟨Fs, hFs⟩ : ∃ Fs : List Nat → List Nat → List Nat, Fs = fun p x => sumW N sh pub p x := ⟨_, rfl⟩
  have hFl : ∀ p x, (Fs p x).length = N := fun p x => by rw [hFs]; exact sumW_len hN.2 _ _ _ _
  rw [← hFs] at hsg ⊢
  obtain ⟨P9, hP9⟩ : ∃ P : Nat, P = 2 * N + 3 := ⟨_, rfl⟩
  have hct := fun (f : Value) y => wcnt_any (N := N) (H := H) (D := D) (A := A) (K := K) sh f y (by omega)
  rw [← hP9] at hct
  have hds15 : ∀ i, el (dgW N text) i ≤ 15 := fun i => by have := el_le_ofW (K := 4) (dgW_lt N text) i; omega
  have hdsl := dgW_len N text
  obtain ⟨ds, hds⟩ : ∃ x, x = dgW N text := ⟨_, rfl⟩
  rw [← hds] at hdg hds15 hdsl ⊢
  rw [← hP9] at hdsl
  obtain ⟨f, hf⟩ : ∃ f : Nat → List Nat, f = fun i => wch Fs (putA a 4 i) 0 (el ds i) (wbg Fs a secret i) := ⟨_, rfl⟩
  have hfi : ∀ i, (fun i => wch Fs (putA a 4 i) 0 (el ds i) (wbg Fs a secret i)) i = f i := fun i => by rw [hf]
  dsimp only at hfi
  have hbl : ∀ i, (wbg Fs a secret i).length = N := fun i => hFl _ _
  have hfl : ∀ i, i < P9 → (f i).length = N := fun i hi => by rw [← hfi]; exact wch_len hFl _ _ (hbl i) _
  have hel : ((List.range P9).map f).flatten.length ≤ 50000 := by
    rw [flat_N_len (N := N) _ (fun p hp => by obtain ⟨i, hi, rfl⟩ := List.mem_map.1 hp; exact hfl i (by simpa using hi)), List.length_map, List.length_range, hP9]
    calc N * (2 * N + 3) ≤ 32 * (2 * 32 + 3) := Nat.mul_le_mul hN.2 (by omega)
      _ ≤ 50000 := by decide
  have hE : wsP Fs a ds secret = (List.range P9).map f := by unfold wsP; rw [hf, hdsl]
  rw [hE]
  have hjn := fun y lv (r : Rows2 y lv ((List.range P9).map f)) => join_any lv _ y r (by omega)
  have hPL := fun i => ha.put 4 i
  obtain ⟨i0, hi0, hz0, hz1, hz2⟩ := info_text
  unfold slV at hsg ⊢
  have hzs := zeroSg
  have bx0 := bx.here
  have hal := ha.1
  have hP9b : P9 ≤ 67 := by omega
  have HX := hide (And.intro hfi (And.intro hbl (And.intro hfl (And.intro hel (And.intro hN (And.intro hFl hP9))))))
  have HS := hide (And.intro hs (And.intro ts (And.intro ha (And.intro hsl ht))))
  have HDS := hide (And.intro hds15 hdsl)
  have HJ := hide hjn
  have hN0 : ((N : Int) != (N : Int)) = false := by simp
  clear hfi hbl hfl hel hN hFl hs ts ha hC hT hF hp tp hf hE hPL hFs hP9 hsl hpl hds15 hdsl hds ht tt htl hjn
  go_enter Tryd.func5, Tryd.ntmps5
  go_wp2_with (first
    | (refine wpList_load_rowS (by rfl) 25 _ (by rfl) w.heap.size (by rfl) _ _ _ _ bx0 Tryd.underlying25 (by kernel_rfl) ?_)
    | (go_at_call 9; refine (hsg _ k0).mono ?_; rintro e x1 ⟨fn, cap, Inv, rfl, hD, hI, hBt, g1⟩; have hn1 := heap_alloc_last x1 (.cells (sgC 0 0 0 0 0 false .nilFunc).toArray 35))
    | (refine wpList_store_row rfl 35 _ _ (by rfl) x1.heap.size (sgC (N : Int) H D A K sh (.func (.func fn) #[] cap)).toArray (by rfl) (by rfl) _ _ hn1 (by kernel_rfl) rfl (sg_one _ _ _ _ _ _ rfl) ?_; obtain ⟨g2, hsx⟩ := made_sg x1 (sgC (N : Int) H D A K sh (.func (.func fn) #[] cap)); have hc6 := (BxV.mk hsx).c6; have hc0 := (BxV.mk hsx).c0; have hen := hD.enters; have k2 := keep_trans k0 (keep_trans g1 g2); have La2 := (La.below g1).below g2)
    | (refine wpList_load_rowS (by rfl) 35 _ (by rfl) x1.heap.size (by rfl) _ _ _ _ hsx Tryd.underlying35 (by kernel_rfl) ?_)
    | (go_at_call 10; refine (hct _ _).mono ?_; rintro e x3 ⟨rfl, g3⟩)
    | (at_make; refine wpList_make_full _ rfl _ _ 38 rfl x3.heap.size 26 i0 (.slice none 0 0) 1 Tryd.underlying38 hi0 hz0 hz1 _ _ _ _ P9 rfl rfl rfl rfl (by rw [hz2]; omega) (by unfold maxLen; omega) (Nat.le_refl _) ?_; intro w3 hown hgrow; have hbg3 := (Below.refl x3.heap.size x3).grown hgrow (Nat.le_refl _) (fun k h => by cases h); have sx3 := ((BxV.mk hsx).below g3).below hbg3; have hc03 := sx3.c0)
    | (go_at_call 14; refine (hdg _ (HS.out.2.2.2.2.below (keep_trans k2 (keep_trans g3 hbg3)))).mono ?_; rintro e w4 ⟨v3, rfl, o3, g4⟩; obtain ⟨a3, c3, rfl, _, _, ho3⟩ := o3.row.opens HDS.out.2)
    | fail)
  have hI2 := hD.keep _ _ hI g2
  have hIx := hD.keep _ _ hI2 g3
  have kx3 := keep_trans k2 g3
  have hXs := Nat.lt_of_lt_of_le La.lt g1.size
  have hX3 : x1.heap.size < x3.heap.size := heap_ltW ((BxV.mk hsx).below g3).here
  have La3 := ((La2.below g3).below hbg3).below g4
  have sx9 := sx3.below g4
  have k39 := keep_trans hbg3 g4
  obtain ⟨X, hX⟩ : ∃ X : Nat, x1.heap.size = X := ⟨_, rfl⟩
  rw [hX] at sx9 hXs hX3 ⊢
  obtain ⟨eb, eo, rfl, hec⟩ := ho3 (by have := HX.out.2.2.2.2.1; have := HX.out.2.2.2.2.2.2; omega)
  have hebH : eb ≠ x3.heap.size := by
    have h1 := o3.new eb (by simp [Value.ownBlock])
    have h2 := heap_ltW (UpW.made f hown).choose_spec.2.1
    omega
  have hU : UpW w4 x3.heap.size P9 0 f := (UpW.made f hown).below g4
  obtain ⟨H9, hH9⟩ : ∃ H9 : Nat, x3.heap.size = H9 := ⟨_, rfl⟩
  have hAH : w.heap.size + 1 ≠ H9 := by
    omega
  have hXH : X ≠ H9 := by omega
  have hwH : w.heap.size ≤ H9 := by have := kx3.size; omega
  rw [hH9] at hU hebH ⊢
  have hx9 : ∀ y : World, But H9 w4 y → Below x3.heap.size x3 y := fun y hb => k39.trans (hb.below (by omega) k39.size)
  have H0 := hide (PuW.start f hU)
  have HA := hide (And.intro sx9 (And.intro La3 (And.intro hIx (And.intro kx3 hx9))))
  have HE := hide (And.intro hec hebH)
  clear hsx hc0 hc6 hn1 g1 g2 hBt hI hI2 hIx kx3 La2 La3 sx3 sx9 hc03 hown hgrow hbg3 g3 k39 hX hX3 hH9 hx9 k2 hU La k0 bx bx0 hXs g4 o3 ho3 hec hebH
  go_loopw [42] (fun vi wr => PuW w4 H9 P9 f vi wr) (fun vi _ => P9 - (intOf vi).toNat)
  case atStart => exact H0.out
  case round =>
    obtain ⟨i, hi', rfl, hUr, hbr⟩ := hrel
    clear H0
    rename World => wr
    obtain ⟨hfi, hbl, hfl, hel, hN, hFl, hP9⟩ := HX.out
    obtain ⟨sx9, La3, hIx, kx3, hx9⟩ := HA.out
    have sxr := sx9.but hbr hXH
    have Lar := La3.but hbr hAH
    have hIr := hD.keep _ _ hIx (hx9 wr hbr)
    have hwr := keep_trans kx3 (hx9 wr hbr)
    by_cases hlt : i < P9
    · have hii : (i : Int) < (P9 : Int) := by omega
      have z_i : (0 : Int) ≤ (i : Int) := Int.natCast_nonneg _
      obtain ⟨I9, hI9⟩ : ∃ I : Nat, I = i + 1 := ⟨_, rfl⟩
      have e_I : (i : Int) + 1 = (I9 : Int) := by omega
      have s_I : IntKind.i64.wrap (I9 : Int) = (I9 : Int) := by rw [IntKind.wrap_i64]; omega
      have hfi0 := hfl i hlt
      have hi6 : i < 65536 := by omega
      obtain ⟨hs, ts, ha, hsl, _⟩ := HS.out
      obtain ⟨hds15, hdsl⟩ := HDS.out
      obtain ⟨hec, hebH⟩ := HE.out
      have ci := But.cell (hec i (by omega)) hbr hebH
      have hE15 := hds15 i
      have hfie := hfi i
      generalize el ds i = E at *
      have rsr := hs.below hwr
      have hXl := hbl i
      have hbg := fun y (hI : Inv y) rs => wbgn_any (N := N) (H := H) (D := D) (A := A) (K := K) sh a secret i _ y hD hI ha rs ts (by omega) hi6
      have hal9 : ∀ y yv, Inv y → Row .u8 256 y yv (wbg Fs a secret i) → Tidy yv → Calls Tryd.prog 11 #[.agg (sgC (N : Int) H D A K sh (.func (.func fn) #[] cap)).toArray, .agg (arr .u8 a), .int .i64 (i : Int), yv, .int .u32 0, .int .u32 (E : Int)] y fun e w' => ∃ v, e = .returned v ∧ Row .u8 256 w' v (f i) ∧ Tidy v ∧ (New y.heap.size v ∨ v = yv) ∧ Below y.heap.size y w' := fun y yv hI ry ty => by
        have := walg_any (N := N) (H := H) (D := D) (A := A) (K := K) sh a _ i 0 E yv y hD hI ha hFl (by omega) ry ty hXl hi6 (by omega)
        rw [hfie, Nat.zero_add] at this
        exact this
      have hbd : But H9 wr wr.drew := (But.refl _ _).drew
      have kb : Below wr.heap.size wr wr.drew := (Below.refl _ _).drew
      have HK := hide (And.intro hI9 (And.intro hlt hbr))
      have hN16 := hN.1
      clear hfi hbl hfl hel hFl hI9 hbr hi' sx9 La3 hIx hx9 kx3
      go_wp2
      refine at_begin (ops := opsA (cRA (cBA (cLA (cRA (cRA (cLpA (cBA (cRA (cLA (cRA (cRA (cRA (cRA (Tryd.f5.body.getD .skip))))))))))))))) (n := 14) (fun y => But H9 wr y) (by kernel_rfl) (by kernel_rfl) ?_
      refine at_takeD (i := 0) (m' := 1) (d := some 47) (v := .slice (some ⟨H9, 0, none⟩) P9 P9) sw8reg rfl (by decide) rfl rfl (y_moveG (wanted_free rfl) rfl rfl) hbd ?_
      simp only [Act.put, List.setIfInBounds_toArray, List.set_cons_zero, List.set_cons_succ]
      refine at_takeD (i := 1) (m' := 3) (d := some 48) (v := .int .i64 (i : Int)) sw8reg rfl (by decide) rfl rfl (y_moveG (wanted_free rfl) rfl rfl) hbd ?_
      simp only [Act.put, List.setIfInBounds_toArray, List.set_cons_zero, List.set_cons_succ]
      refine at_takeD (i := 2) (m' := 7) (d := some 49) (v := .agg (sgC (N : Int) H D A K sh (.func (.func fn) #[] cap)).toArray) sw8reg rfl (by decide) rfl rfl (y_rowG (cs := sgC (N : Int) H D A K sh (.func (.func fn) #[] cap)) (wanted_free rfl) rfl rfl Tryd.underlying35 rfl (by kernel_rfl) (fun _ h => (sxr.but h hXH).range)) hbd ?_
      simp only [Act.put, List.setIfInBounds_toArray, List.set_cons_zero, List.set_cons_succ]
      refine at_takeD (i := 3) (m' := 15) (d := some 50) (v := .agg (arr .u8 a)) sw8reg rfl (by decide) rfl rfl (y_rowG (cs := vals .u8 a) (wanted_free rfl) rfl rfl Tryd.underlying23 rfl (by rw [vals_length, hal]; kernel_rfl) (fun _ h => lies_rangeW (Lar.but h hAH))) hbd ?_
      simp only [Act.put, List.setIfInBounds_toArray, List.set_cons_zero, List.set_cons_succ]
      refine at_takeD (i := 4) (m' := 31) (d := some 51) (v := .int .i64 (i : Int)) sw8reg rfl (by decide) rfl rfl (y_moveG (wanted_free rfl) rfl rfl) hbd ?_
      simp only [Act.put, List.setIfInBounds_toArray, List.set_cons_zero, List.set_cons_succ]
      refine at_takeD (i := 5) (m' := 63) (d := some 52) (v := .agg (sgC (N : Int) H D A K sh (.func (.func fn) #[] cap)).toArray) sw8reg rfl (by decide) rfl rfl (y_rowG (cs := sgC (N : Int) H D A K sh (.func (.func fn) #[] cap)) (wanted_free rfl) rfl rfl Tryd.underlying35 rfl (by kernel_rfl) (fun _ h => (sxr.but h hXH).range)) hbd ?_
      simp only [Act.put, List.setIfInBounds_toArray, List.set_cons_zero, List.set_cons_succ]
      refine at_takeD (i := 6) (m' := 127) (d := some 53) (v := .agg (arr .u8 a)) sw8reg rfl (by decide) rfl rfl (y_rowG (cs := vals .u8 a) (wanted_free rfl) rfl rfl Tryd.underlying23 rfl (by rw [vals_length, hal]; kernel_rfl) (fun _ h => lies_rangeW (Lar.but h hAH))) hbd ?_
      simp only [Act.put, List.setIfInBounds_toArray, List.set_cons_zero, List.set_cons_succ]
      refine at_takeD (i := 7) (m' := 255) (d := some 54) (v := .int .i64 (i : Int)) sw8reg rfl (by decide) rfl rfl (y_moveG (wanted_free rfl) rfl rfl) hbd ?_
      simp only [Act.put, List.setIfInBounds_toArray, List.set_cons_zero, List.set_cons_succ]
      refine at_takeD (i := 8) (m' := 511) (d := some 55) (v := .slice sa N sc) sw8reg rfl (by decide) rfl rfl (y_moveG (wanted_free rfl) rfl rfl) hbd ?_
      simp only [Act.put, List.setIfInBounds_toArray, List.set_cons_zero, List.set_cons_succ]
      refine at_takeD (i := 10) (m' := 1535) (d := some 57) (v := .int .u32 (E : Int)) sw8reg rfl (by decide) rfl rfl (y_moveG (wanted_free rfl) rfl rfl) hbd ?_
      simp only [Act.put, List.setIfInBounds_toArray, List.set_cons_zero, List.set_cons_succ]
      refine at_one (i := 9) (m' := 2047) sw8reg (by decide) rfl ?_
      refine p_callG (args := #[.agg (sgC (N : Int) H D A K sh (.func (.func fn) #[] cap)).toArray, .agg (arr .u8 a), .int .i64 (i : Int), .slice sa N sc]) (d := some 56) rfl (wanted_free rfl) rfl (by simp only [List.map_toArray, List.map_cons, List.map_nil]; rfl) rfl Tryd.call12 ((hbg wr.drew (hD.keep _ _ hIr kb) (rsr.below kb)).mono ?_)
      rintro e y11 ⟨dv, rfl, rd, nd, g11⟩
      have td := new_ntidy rd (by rw [hXl]; omega)
      obtain ⟨da, dc, rfl, _⟩ := rd.opens hXl
      replace kb := keep_trans kb g11
      have hb11 := but_keepW hbd g11
      refine ⟨_, rfl, hb11, ?_⟩
      simp only [Act.put, List.setIfInBounds_toArray, List.set_cons_zero, List.set_cons_succ]
      refine at_one (i := 11) (m' := 4095) sw8reg (by decide) rfl ?_
      refine p_callG (args := #[.agg (sgC (N : Int) H D A K sh (.func (.func fn) #[] cap)).toArray, .agg (arr .u8 a), .int .i64 (i : Int), .slice da N dc, .int .u32 0, .int .u32 (E : Int)]) (d := some 58) rfl (wanted_free rfl) rfl (by simp only [List.map_toArray, List.map_cons, List.map_nil]; rfl) rfl Tryd.call11 ((hal9 y11 _ (hD.keep _ _ hIr kb) rd td).mono ?_)
      rintro e y12 ⟨xv, rfl, rx, tx, nx, g12⟩
      have kc := kb
      replace kb := keep_trans kb g12
      obtain ⟨xa, xc, rfl, _⟩ := rx.opens hfi0
      have hb12 := but_keepW hb11 g12
      refine ⟨_, rfl, hb12, ?_⟩
      simp only [Act.put, List.setIfInBounds_toArray, List.set_cons_zero, List.set_cons_succ]
      refine at_takeD (i := 12) (m' := 8191) (d := some 59) (v := .pointer (some ⟨H9, i, none⟩)) sw8reg rfl (by decide) rfl rfl (y_ix0W (wanted_free rfl) rfl rfl rfl Tryd.underlying38 (by kernel_rfl) hlt) hb12 ?_
      simp only [Act.put, List.setIfInBounds_toArray, List.set_cons_zero, List.set_cons_succ]
      refine at_one (i := 13) (m' := 16383) sw8reg (by decide) rfl ?_
      have hsz := kb
      refine p_store_plain (P := Tryd.prog) rfl rfl rfl rfl rfl rfl Tryd.underlying26 rfl (by kernel_rfl) ((hUr.below kb).any hlt) ((hUr.below kb).frozen i) ?_
      have hb14 := hb12.setCell i (.slice xa N xc)
      refine ⟨hb14, ?_⟩
      refine at_done sw8reg (by decide) ?_
      go_wp2
      obtain ⟨hI9, hlt, hbr⟩ := HK.out
      have hn : ∀ q, (Value.slice xa N xc).ownBlock = some q → q ≠ H9 := fun q hq => by
        have hl := hUr.lt
        have hz : wr.drew.heap.size = wr.heap.size := rfl
        rcases nx with nx | nx
        · have h1 := nx q hq
          have h2 := kc.size
          omega
        · rw [nx] at hq
          have h1 := nd q hq
          omega
      have hnext := PuW.next hUr hbr kb hlt rx tx hn
      rw [← hI9] at hnext
      exact ⟨hnext, by simp [intOf]; omega⟩
    · obtain rfl : i = P9 := by omega
      have hge : ¬ ((i : Int) < (i : Int)) := by omega
      have rr := hUr.rows (by omega)
      have hj := HJ.out wr _ rr
      have HK := hide hwr
      clear hfi hbl hfl hel hFl hbr hi' sx9 La3 hIx hx9 kx3 rr sxr Lar hwr hP9 hN
      go_wp2_with (first
        | (go_at_call 15; refine hj.mono ?_; rintro e w9 ⟨v9, rfl, o9, g9⟩)
        | fail)
      go_ret
      exact ⟨_, rfl, o9.row, o9.new.mono HK.out.size, keep_trans HK.out g9⟩
end
end Go.Proofs.YtpmobjfhhkglbaaDoor
