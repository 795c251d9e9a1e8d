/- Trees of leaves that sign once, the program's own: Sign. -/
import Derived.Test.YtogiballdmgcpaaGreatDoorLsN
import Derived.Test.YtogiballdmgcpaaGreatDoorLcG
import Derived.Test.YtogiballdmgcpaaGreatDoorLhA
namespace Go.Proofs.YtogiballdmgcpaaGreatDoor
open Go.RowKit Go.Shelf
set_option linter.unusedVariables false
set_option linter.unusedSimpArgs false

def si11lt : List Lt := [(0, some 50, [3]), (1, some 51, [50]), (2, some 52, [51]), (0, some 53, [14]), (0, some 54, [15]), (0, some 55, [12]), (0, some 56, [3]), (100, some 57, [55, 56]), (128, some 58, [57]), (284, some 59, [52, 53, 54, 58]), (768, some 60, [59]), (2047, some 10, [60]), (4095, some 11, [])]
theorem si11reg : Reg (opsA (cLA (cRA (cRA (cRA (cRA (cRA (cRA (cRA (cRA (Tryz.f52.body.getD .skip))))))))))) si11lt := ⟨by kernel_rfl, by kernel_rfl⟩
set_option maxHeartbeats 8000000 in
set_option maxRecDepth 100000 in
theorem csignT_ok {k n m s c : Nat} (hk : Kd k n m s c) (h q : Nat) (id seed text : List Nat) (idv sv tv : Value) (w : World) (hT : Roots w) (ri : Row .u8 256 w idv id) (ti : Tidy idv) (rs : Row .u8 256 w sv seed) (ts : Tidy sv) (rt : Row .u8 256 w tv text) (tt : Tidy tv) (hil : id.length = 16) (hsl : seed.length = 32) (htl : text.length ≤ 10000) (hne : wrgT (h : Int) (k : Int) 16 32 = 0) (hq : q < 2 ^ h) :
    Calls Tryz.prog 52 #[.agg #[.int .i64 (h : Int), .int .i64 (k : Int)], idv, sv, .int .u32 (q : Int), tv] w fun e w' => ∃ v, e = .returned (.tuple #[v, .int .i64 0]) ∧ Own 5 .u8 256 w' w.heap.size v ([be4 q, sgT k n m s c id seed text q, be4 (lmCode h)] ++ pthA (knT k n m h id seed) h (2 ^ h + q)).flatten ∧ Below w.heap.size w w' := by
  obtain ⟨hfit, _, _, h10⟩ := wrgT_zero hne
  have hp := hfit.pos
  have hM10 := pow_le_1024 (h := h) (by omega)
  have hq2 : q < 4294967296 := by omega
  have hsg := fun y (kb : Below w.heap.size w y) => csgn_ok hk rfl q id seed text idv sv tv y (hT.below kb) (ri.below kb) ti (rs.below kb) ts (rt.below kb) tt hil hsl htl hq2
  rw [show sgnH shaL (preL id q) c (digsL k n m s (digH shaL (preL id q) (lmCn shaL (preL id q) seed) text)) seed = sgT k n m s c id seed text q from rfl] at hsg
  have hsgl := sgT_len k n m s c id seed text q
  obtain ⟨ia, ic, rfl, _⟩ := ri.opens hil
  obtain ⟨sa, sc, rfl, _⟩ := rs.opens hsl
  obtain ⟨TL, hTL⟩ : ∃ TL, text.length = TL := ⟨_, rfl⟩
  obtain ⟨ta, tc, rfl, _⟩ := rt.opens hTL
  have hg := fun y => cgrower_ok h (k : Int) ia sa ic sc (knT k n m h id seed) y hne
  have hgw := fun y H (kv : Below w.heap.size w y) (hv : w.heap.size ≤ H) kp => cgrow_any hk h H id seed _ _ w y hT (by omega) (by omega) ri ti hil rs ts hsl kv hv kp
  have hfl : ∀ i, (knT k n m h id seed i).length = 32 := fun i => knT_len _ _ _ _ _ _ _
  have hbs := fun y H kp => cbeside h q H (2 * 2 ^ h) (k : Int) (knT k n m h id seed) ia sa ic 32 sc y (by omega) hq rfl kp hfl
  have hpl : (pthA (knT k n m h id seed) h (2 ^ h + q)).flatten.length = 32 * h := pthA_flat hfl _ _
  have hj1 := fun y v (r : Rows2 y v (pthA (knT k n m h id seed) h (2 ^ h + q))) => join_any v _ y r (by omega)
  have hha := fun y => chas h q (.int .i64 (k : Int)) (.slice ia 16 ic) y (by omega) hq2 ⟨_, rfl⟩ ⟨_, _, _, rfl⟩
  rw [decide_eq_true hq] at hha
  have hhc := fun y => chc_b (h : Int) y
  have hcl := lmCode_32 (h : Int)
  have h4c := fun y => cbe4 (lmCode (h : Int)) y (by omega)
  have h4q := fun y => cbe4 q y (by omega)
  have hsz : n + m ≤ 300 := by cases hk <;> decide
  have hfin : [be4 q, sgT k n m s c id seed text q, be4 (lmCode h), (pthA (knT k n m h id seed) h (2 ^ h + q)).flatten].flatten = ([be4 q, sgT k n m s c id seed text q, be4 (lmCode h)] ++ pthA (knT k n m h id seed) h (2 ^ h + q)).flatten := by simp
  have hj2 := fun y v (r : Rows2 y v [be4 q, sgT k n m s c id seed text q, be4 (lmCode h), (pthA (knT k n m h id seed) h (2 ^ h + q)).flatten]) => join_any v _ y r (by simp only [List.flatten_cons, List.flatten_nil, List.length_append, List.append_nil, be4_len]; omega)
  rw [hfin] at hj2
  generalize hJ : ([be4 q, sgT k n m s c id seed text q, be4 (lmCode h)] ++ pthA (knT k n m h id seed) h (2 ^ h + q)).flatten = JN at *
  generalize (pthA (knT k n m h id seed) h (2 ^ h + q)).flatten = PF at *
  generalize pthA (knT k n m h id seed) h (2 ^ h + q) = PS at *
  generalize knT k n m h id seed = f at *
  generalize sgT k n m s c id seed text q = SG at *
  generalize lmCode (h : Int) = LC at *
  obtain ⟨LG, hLG⟩ : ∃ LG, LG = 36 + 32 * (n + m) := ⟨_, rfl⟩
  rw [← hLG] at hsgl
  obtain ⟨LP, hLP⟩ : ∃ LP, LP = 32 * h := ⟨_, rfl⟩
  rw [← hLP] at hpl
  generalize 2 * 2 ^ h = N at *
  obtain ⟨i0, hi0, hz0, hz1, hz2⟩ := info_text
  have bT := Bx2T.new w (.int .i64 (h : Int)) (.int .i64 (k : Int))
  have k0 := keep_alloc w (.cells #[.int .i64 (h : Int), .int .i64 (k : Int)] 45)
  have hHid := hide hJ
  have cT := bT.c1
  clear hJ hfit hp hne hfin h10 hLP hLG hfl hM10 hq hcl hsz htl hT hTL
  go_enter Tryz.func52, Tryz.ntmps52
  go_wp2_with (first
    | (go_at_call 74; refine (hg _).mono ?_; rintro e w1 ⟨H, rfl, kp, hH, g1⟩; have kp1 := kp.below (keep_alloc w1 (.cells #[.int .i64 (h : Int), .int .i64 (k : Int), .slice ia 16 ic, .slice sa 32 sc, .slice (some ⟨H, 0, none⟩) N N] 107)); have k1 := keep_trans (keep_trans k0 g1) (keep_alloc w1 (.cells #[.int .i64 (h : Int), .int .i64 (k : Int), .slice ia 16 ic, .slice sa 32 sc, .slice (some ⟨H, 0, none⟩) N N] 107)); have bg := BxW.new w1 (.int .i64 (h : Int)) (.int .i64 (k : Int)) (.slice ia 16 ic) (.slice sa 32 sc) (.slice (some ⟨H, 0, none⟩) N N); have bT1 := (bT.below g1).below (keep_alloc w1 (.cells #[.int .i64 (h : Int), .int .i64 (k : Int), .slice ia 16 ic, .slice sa 32 sc, .slice (some ⟨H, 0, none⟩) N N] 107)); have hH2 : w.heap.size < H := (by rw [World.size_alloc] at hH; omega); have hwH : w.heap.size ≠ H := (by omega); have hHl : w1.heap.size ≠ H := (by have := kp.lt; omega))
    | (refine wpList_load_mid rfl 96 _ (by rfl) w1.heap.size 0 (by rfl) [.int .i64 (h : Int), .int .i64 (k : Int), .slice ia 16 ic] _ bg.range3 Tryz.underlying96 rfl (by kernel_rfl) ?_)
    | (go_at_call 60; refine (hha _).mono ?_; rintro e w2 ⟨rfl, g2⟩; have bg2 := bg.below g2; have bT2 := bT1.below g2; have kp2 := kp1.below g2; have k2 := keep_trans k1 g2; have cT2 := bT2.c1)
    | (go_at_call 80; refine (hsg _ k2).mono ?_; rintro e w3 ⟨v3, rfl, o3, g3⟩; obtain ⟨la, lc, rfl, _⟩ := o3.row.opens hsgl; have rl3 := o3.row; have tl3 := o3.tidy; have bg3 := bg2.below g3; have bT3 := bT2.below g3; have kp3 := kp2.below g3; have k3 := keep_trans k2 g3)
    | (refine wpList_load_row rfl 107 _ (by rfl) w1.heap.size (by rfl) _ _ _ _ bg3.here Tryz.underlying107 rfl (by kernel_rfl) ?_)
    | (go_at_call 75; refine (hgw _ H k3 (Nat.le_of_lt hH2) kp3).mono ?_; rintro e w4 ⟨rfl, b4, kp4⟩; have bg4 := bg3.but b4 hHl; have bT4 := bT3.but b4 hwH; have cT4 := bT4.c0; have k4 : Below w.heap.size w w4 := k3.trans (b4.below (Nat.le_of_lt hH2) k3.size); have rl4 := rl3.but (fun _ z e => (by have := o3.new z e; have := kp2.lt; omega)) b4)
    | (go_at_call 72; refine (hhc _).mono ?_; rintro e w5 ⟨rfl, g5⟩)
    | (go_at_call 21; refine (h4c _).mono ?_; rintro e w6 ⟨v6, rfl, o6, g6⟩; obtain ⟨ca, cc, rfl, _⟩ := o6.row.opens (be4_len _))
    | fail)
  have g56 := keep_trans g5 g6
  have bg6 := bg4.below g56
  have kp6 := kp4.below g56
  have k6 := keep_trans k4 g56
  have rl6 := rl4.below g56
  have rc6 := o6.row
  have tc6 := o6.tidy
  generalize w1.heap.size = Y at *
  have hbd : Below w6.heap.size w6 w6.drew := (Below.refl _ _).drew
  refine at_begin (ops := opsA (cLA (cRA (cRA (cRA (cRA (cRA (cRA (cRA (cRA (Tryz.f52.body.getD .skip))))))))))) (n := 13) (fun y => Below w6.heap.size w6 y) (by kernel_rfl) (by kernel_rfl) ?_
  refine at_takeD (i := 0) (m' := 1) (d := some 50) (v := .int .u32 (q : Int)) si11reg rfl (by decide) rfl rfl (y_moveG (wanted_free rfl) rfl rfl) hbd ?_
  simp only [Act.put, List.setIfInBounds_toArray, List.set_cons_zero, List.set_cons_succ]
  refine at_takeD (i := 1) (m' := 3) (d := some 51) (v := .int .u64 (q : Int)) si11reg rfl (by decide) rfl rfl (y_convI (wanted_free rfl) rfl rfl (conv_u32u64 q (by omega))) hbd ?_
  simp only [Act.put, List.setIfInBounds_toArray, List.set_cons_zero, List.set_cons_succ]
  refine at_takeD (i := 3) (m' := 11) (d := some 53) (v := .slice la LG lc) si11reg rfl (by decide) rfl rfl (y_moveG (wanted_free rfl) rfl rfl) hbd ?_
  simp only [Act.put, List.setIfInBounds_toArray, List.set_cons_zero, List.set_cons_succ]
  refine at_takeD (i := 4) (m' := 27) (d := some 54) (v := .slice ca 4 cc) si11reg rfl (by decide) rfl rfl (y_moveG (wanted_free rfl) rfl rfl) hbd ?_
  simp only [Act.put, List.setIfInBounds_toArray, List.set_cons_zero, List.set_cons_succ]
  refine at_takeD (i := 5) (m' := 59) (d := some 55) (v := .agg #[.int .i64 (h : Int), .int .i64 (k : Int), .slice ia 16 ic, .slice sa 32 sc, .slice (some ⟨H, 0, none⟩) N N]) si11reg rfl (by decide) rfl rfl (y_rowG (cs := [.int .i64 (h : Int), .int .i64 (k : Int), .slice ia 16 ic, .slice sa 32 sc, .slice (some ⟨H, 0, none⟩) N N]) (wanted_free rfl) rfl rfl Tryz.underlying107 rfl (by kernel_rfl) (fun _ h => (bg6.below h).range)) hbd ?_
  simp only [Act.put, List.setIfInBounds_toArray, List.set_cons_zero, List.set_cons_succ]
  refine at_takeD (i := 6) (m' := 123) (d := some 56) (v := .int .u32 (q : Int)) si11reg rfl (by decide) rfl rfl (y_moveG (wanted_free rfl) rfl rfl) hbd ?_
  simp only [Act.put, List.setIfInBounds_toArray, List.set_cons_zero, List.set_cons_succ]
  refine at_one (i := 2) (m' := 127) si11reg (by decide) rfl ?_
  refine p_callG (args := #[.int .u64 (q : Int), .int .i64 4]) (d := some 52) rfl (wanted_free rfl) rfl (by simp only [List.map_toArray, List.map_cons, List.map_nil]; rfl) rfl Tryz.call21 ((h4q w6.drew).mono ?_)
  rintro e y7 ⟨bv, rfl, ob, g7⟩
  have rb := ob.row
  have tb := ob.tidy
  obtain ⟨ba, bc, rfl, _⟩ := ob.row.opens (be4_len q)
  have hb7 := keep_trans hbd g7
  refine ⟨_, rfl, hb7, ?_⟩
  simp only [Act.put, List.setIfInBounds_toArray, List.set_cons_zero, List.set_cons_succ]
  refine at_one (i := 7) (m' := 255) si11reg (by decide) rfl ?_
  refine p_callG (args := #[.agg #[.int .i64 (h : Int), .int .i64 (k : Int), .slice ia 16 ic, .slice sa 32 sc, .slice (some ⟨H, 0, none⟩) N N], .int .u32 (q : Int)]) (d := some 57) rfl (wanted_free rfl) rfl (by simp only [List.map_toArray, List.map_cons, List.map_nil]; rfl) rfl Tryz.call81 ((hbs y7 H (kp6.below hb7)).mono ?_)
  rintro e y8 ⟨ev, rfl, re, g8⟩
  replace rb := rb.below g8
  have re0 := re
  obtain ⟨ea, ec, rfl, _⟩ := re0
  have hb8 := keep_trans hb7 g8
  refine ⟨_, rfl, hb8, ?_⟩
  simp only [Act.put, List.setIfInBounds_toArray, List.set_cons_zero, List.set_cons_succ]
  refine at_one (i := 8) (m' := 511) si11reg (by decide) rfl ?_
  refine p_callG (args := #[.slice ea PS.length ec]) (d := some 58) rfl (wanted_free rfl) rfl (by simp only [List.map_toArray, List.map_cons, List.map_nil]; rfl) rfl Tryz.call20 ((hj1 y8 _ re).mono ?_)
  rintro e y9 ⟨jv, rfl, oj, g9⟩
  replace rb := rb.below g9
  obtain ⟨ja, jc, rfl, _⟩ := oj.row.opens hpl
  have hb9 := keep_trans hb8 g9
  refine ⟨_, rfl, hb9, ?_⟩
  simp only [Act.put, List.setIfInBounds_toArray, List.set_cons_zero, List.set_cons_succ]
  refine at_one (i := 9) (m' := 1023) si11reg (by decide) rfl ?_
  refine p_b4 (d := some 59) rfl (wanted_free rfl) rfl rfl rfl rfl rfl rfl Tryz.underlying48 hi0 hz1 hz0 ?_
  have rr := fun hB => rows_litL (B := (y9).heap.size) (k := 4) (texts_cons rb tb (texts_cons (rl6.below hb9) tl3 (texts_cons (rc6.below hb9) tc6 (texts_cons oj.row oj.tidy (Texts.nil _))))) hB rfl (by decide)
  replace rr := rr rfl
  obtain ⟨Gq10, hGq10⟩ : ∃ q : Nat, (y9).heap.size = q := ⟨_, rfl⟩
  obtain ⟨z10, hz10⟩ : ∃ z : World, z = (y9).alloc (.cells #[.slice ba 4 bc, .slice la LG lc, .slice ca 4 cc, .slice ja LP jc] 23) := ⟨_, rfl⟩
  have kz10 : Below (y9).heap.size y9 z10 := by rw [hz10]; exact keep_alloc _ _
  have hb10 := keep_trans hb9 kz10
  rw [← hz10] at rr ⊢
  rw [hGq10] at rr ⊢
  clear hz10 hGq10
  refine ⟨hb10, ?_⟩
  simp only [Act.put, List.setIfInBounds_toArray, List.set_cons_zero, List.set_cons_succ]
  refine at_one (i := 10) (m' := 2047) si11reg (by decide) rfl ?_
  refine p_callG (args := #[.slice (some ⟨Gq10, 0, none⟩) 4 4]) (d := some 60) rfl (wanted_free rfl) rfl (by simp only [List.map_toArray, List.map_cons, List.map_nil]; rfl) rfl Tryz.call20 ((hj2 z10 _ rr).mono ?_)
  rintro e y11 ⟨fv, rfl, of, g11⟩
  have kpre := hb10
  obtain ⟨fa, fc, rfl, _⟩ := of.row.opens rfl
  have hb11 := keep_trans hb10 g11
  refine ⟨_, rfl, hb11, ?_⟩
  simp only [Act.put, List.setIfInBounds_toArray, List.set_cons_zero, List.set_cons_succ]
  refine at_takeD (i := 11) (m' := 4095) (d := some 10) (v := .slice fa JN.length fc) si11reg rfl (by decide) rfl rfl (y_assignG (wanted_free rfl) rfl rfl) hb11 ?_
  simp only [Act.put, List.setIfInBounds_toArray, List.set_cons_zero, List.set_cons_succ]
  refine at_takeD (i := 12) (m' := 8191) (d := some 11) (v := .int .i64 0) si11reg rfl (by decide) rfl rfl (y_assignG (wanted_free rfl) rfl rfl) hb11 ?_
  simp only [Act.put, List.setIfInBounds_toArray, List.set_cons_zero, List.set_cons_succ]
  refine at_done si11reg (by decide) ?_
  go_wp2
  go_ret2
  exact ⟨_, rfl, of.mono (keep_trans k6 kpre).size, keep_trans k6 hb11⟩
end Go.Proofs.YtogiballdmgcpaaGreatDoor
