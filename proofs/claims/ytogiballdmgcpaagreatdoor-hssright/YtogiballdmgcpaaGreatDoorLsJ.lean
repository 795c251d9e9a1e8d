/- Trees of leaves that sign once, the program's own: Verify. -/
import Derived.Test.YtogiballdmgcpaaGreatDoorLtV8
namespace Go.Proofs.YtogiballdmgcpaaGreatDoor
open Go.RowKit Go.Shelf
set_option linter.unusedVariables false
set_option linter.unusedSimpArgs false

theorem num4_lt {l : List Nat} (hu : Under 256 l) (hl : l.length ≤ 4) : numL l < 4294967296 := numL_small l hu 4 (by decide) hl
set_option maxHeartbeats 4000000 in
set_option maxRecDepth 100000 in
theorem cver_spent (pub sig : List Nat) (pv tv sv : Value) (w : World) (hp : Row .u8 256 w pv pub) (hs : Row .u8 256 w sv sig) (hsl : sig.length ≤ 100000) (h : vKey pub) (hc : ctE sig = 0) (hm : sig.length = ctN sig) (hk : ctH sig = hgtL (numL (pub.take 4)) ∧ ctW sig = dgtL (numL ((pub.drop 4).take 4))) (hq : 2 ^ ctH sig ≤ numL (sig.take 4)) :
    Calls Tryz.prog 35 #[pv, tv, sv] w fun e w' => e = .returned (.int .i64 13) ∧ Below w.heap.size w w' := by
  have hct := fun y (k : Below w.heap.size w y) => ccut_ok sig sv y (hs.below k) hc hsl
  obtain ⟨pa, pc, rfl, lc1, lc2, ho⟩ := hp.opens h.1
  obtain ⟨pb, po, rfl, _⟩ := ho (by decide)
  have hto := fun y (k : Below w.heap.size w y) => ctree_56 pub pb po pc y (hp.below k) h.1 lc1
  unfold TrOf at hto
  rw [if_pos ((fit_hd _ _).2 ⟨h.2.1, h.2.2⟩), ← hk.1, ← hk.2] at hto
  have hdl : (sig.drop (ctN sig)).length = 0 := by rw [List.length_drop]; omega
  have heq := fun w => eqTr (ctH sig : Nat) (ctW sig : Nat) (ctH sig : Nat) (ctW sig : Nat) w
  simp only [and_self, decide_true] at heq
  obtain ⟨g8, gw0, _, gH0, _⟩ := ctE_zero hc
  have gH := ctH_le sig
  have hrow := hs
  obtain ⟨sa, sc, rfl, ls1, ls2, hso⟩ := hs.opens rfl
  have r4 : Row .u8 256 w (.slice sa 4 sc) (sig.take 4) := hrow.cut (by omega)
  have hn := fun y (k : Below w.heap.size w y) => num_any _ _ y (r4.below k)
  have hql := num4_lt r4.under (by rw [List.length_take]; omega)
  obtain ⟨q, hqq⟩ : ∃ q, q = numL (sig.take 4) := ⟨_, rfl⟩
  rw [← hqq] at hn hql hq
  have hha := fun y => chas (ctH sig) q (.int .i64 (ctW sig : Nat)) (.slice (some ⟨pb, po + 8, none⟩) 16 (pc - 8)) y gH hql ⟨_, rfl⟩ ⟨_, _, _, rfl⟩
  rw [decide_eq_false (by omega)] at hha
  have h4c : (4 : Int) ≤ (sc : Int) := by omega
  have u_q : IntKind.u32.wrap (q : Int) = (q : Int) := by rw [IntKind.wrap_u32]; omega
  generalize ctH sig = H at *
  generalize ctW sig = D at *
  generalize sig.drop (ctN sig) = bd at *
  generalize sig.take (ctN sig) = bt at *
  generalize sig.length = SL at *
  clear hp h hc hs ho hm hsl hk hq hqq hrow hso g8 gw0 gH0 gH r4 hql
  go_enter Tryz.func35, Tryz.ntmps35
  go_wp2_with (first
    | (go_at_call 59; refine (hto _ (Below.refl _ _)).mono ?_; rintro e w1 ⟨rfl, g1⟩; have bx := BxD.new w1 (.int .i64 (H : Int)) (.int .i64 (D : Int)) (.slice (some ⟨pb, po + 8, none⟩) 16 (pc - 8)))
    | (go_at_call 34; refine (hct _ (keep_trans g1 (keep_alloc _ _))).mono ?_; rintro e w2 ⟨v1, v2, rfl, o1, o2, g2⟩; obtain ⟨b1, c1, rfl, _⟩ := o1.row.opens rfl; obtain ⟨b2, c2, rfl, _⟩ := o2.row.opens hdl; have bx2 := bx.below g2; have bx3 := bx2.below (keep_alloc w2 (.cells #[.int .i64 (H : Int), .int .i64 (D : Int)] 45)); have cx0 := bx3.c0; have cx1 := bx3.c1; have k3 := keep_trans (keep_trans (keep_trans g1 (keep_alloc _ _)) g2) (keep_alloc w2 (.cells #[.int .i64 (H : Int), .int .i64 (D : Int)] 45)))
    | (go_at_call 32; refine (hn _ k3).mono ?_; rintro e yy ⟨rfl, hy⟩; obtain rfl := hy.symm)
    | (refine wpList_load_row rfl 96 _ (by rfl) w1.heap.size (by rfl) _ _ _ _ bx3.here Tryz.underlying96 rfl (by kernel_rfl) ?_)
    | (go_at_call 60; refine (hha _).mono ?_; rintro e w4 ⟨rfl, g4⟩)
    | fail)
  go_ret
  exact ⟨rfl, keep_trans k3 g4⟩
def vr12lt : List Lt := [(0, some 50, [7]), (1, some 51, [50]), (2, some 52, [51]), (0, some 53, [7]), (8, some 54, [53]), (0, some 55, [12]), (0, some 56, [1]), (0, some 57, [2]), (0, some 58, [7]), (256, some 59, [58]), (512, some 60, [59]), (1024, some 61, [60]), (2176, some 62, [57, 61]), (6260, some 63, [52, 54, 55, 56, 62]), (8192, some 49, [63]), (16384, some 64, [49]), (16384, some 65, [49]), (65535, some 13, [64]), (262143, some 8, [65])]
theorem vr12reg : Reg (opsA (cLA (cRA (cRA (cRA (cRA (cRA (cRA (cRA (cRA (Tryz.f35.body.getD .skip))))))))))) vr12lt := ⟨by kernel_rfl, by kernel_rfl⟩
def vr15lt : List Lt := [(0, some 69, [7]), (0, some 70, [12]), (0, some 71, [13]), (0, some 72, [2]), (0, some 73, [7]), (16, some 74, [73]), (32, some 75, [74]), (64, some 76, [75]), (136, some 77, [72, 76]), (391, some 78, [69, 70, 71, 77]), (0, some 79, [0]), (1024, some 80, [79]), (2560, some 81, [78, 80]), (4096, some 82, [81])]
theorem vr15reg : Reg (opsA (cLA (cLA (cRA (cRA (cRA (cRA (cRA (cRA (cRA (cRA (cRA (cRA (Tryz.f35.body.getD .skip)))))))))))))) vr15lt := ⟨by kernel_rfl, by kernel_rfl⟩
set_option maxHeartbeats 8000000 in
set_option maxRecDepth 100000 in
theorem cver_sums {k n m s c : Nat} (pub text sig : List Nat) (pv tv sv : Value) (w : World) (hT : Roots w) (hp : Row .u8 256 w pv pub) (ht : Row .u8 256 w tv text) (tt : Tidy tv) (htl : text.length ≤ 10000) (hs : Row .u8 256 w sv sig) (hsl : sig.length ≤ 100000) (h : vKey pub) (hc : ctE sig = 0) (hm : sig.length = ctN sig) (hk : ctH sig = hgtL (numL (pub.take 4)) ∧ ctW sig = dgtL (numL ((pub.drop 4).take 4))) (hq : numL (sig.take 4) < 2 ^ ctH sig) (hkd : Kd k n m s (numL ((sig.drop 4).take 4))) :
    Calls Tryz.prog 35 #[pv, tv, sv] w fun e w' => e = .returned (.int .i64 (if vTopK k n m s pub text sig = pub.drop 24 then 0 else 11)) ∧ Below w.heap.size w w' := by
  obtain rfl : ctW sig = k := dgtL_code hkd
  have hct := fun y (k : Below w.heap.size w y) => ccut_ok sig sv y (hs.below k) hc hsl
  have h56 := h.1
  have hprow := hp
  obtain ⟨pa, pc, rfl, lc1, lc2, ho⟩ := hp.opens h.1
  obtain ⟨pb, po, rfl, _⟩ := ho (by decide)
  have hto := fun y (k : Below w.heap.size w y) => ctree_56 pub pb po pc y (hp.below k) h.1 lc1
  unfold TrOf at hto
  rw [if_pos ((fit_hd _ _).2 ⟨h.2.1, h.2.2⟩), ← hk.1, ← hk.2] at hto
  have hdl : (sig.drop (ctN sig)).length = 0 := by rw [List.length_drop]; omega
  have heq := fun w => eqTr (ctH sig : Nat) (ctW sig : Nat) (ctH sig : Nat) (ctW sig : Nat) w
  simp only [and_self, decide_true] at heq
  obtain ⟨g8, gw0, _, gH0, _⟩ := ctE_zero hc
  have gH := ctH_le sig
  have hrow := hs
  obtain ⟨sa, sc, rfl, ls1, ls2, hso⟩ := hs.opens rfl
  obtain ⟨sb, so, rfl, _⟩ := hso (by omega)
  have r4 : Row .u8 256 w (.slice (some ⟨sb, so, none⟩) 4 sc) (sig.take 4) := hrow.cut (by omega)
  have hn := fun y (k : Below w.heap.size w y) => num_any _ _ y (r4.below k)
  have hql := num4_lt r4.under (by rw [List.length_take]; omega)
  obtain ⟨Z, hZ⟩ : ∃ Z, Z = szW (ctW sig : Nat) := ⟨_, rfl⟩
  have hZk : Z = 36 + 32 * (n + m) := by
    rw [hZ]
    have e0 : ∀ {k n m s c : Nat}, Kd k n m s c → szW (k : Int) = 36 + 32 * (n + m) := fun hk => by cases hk <;> rfl
    exact e0 hkd
  have hZ1 : Z ≤ 8516 := by rw [hZ]; exact szW_le _
  have hN : ctN sig = 8 + Z + 32 * ctH sig := by unfold ctN ctA; omega
  have hvT : vTopK (ctW sig) n m s pub text sig = climb (ovL ((pub.drop 8).take 16)) (vChk (sig.drop (8 + Z)) (ctH sig)) (2 ^ ctH sig + numL (sig.take 4)) (lfS ((pub.drop 8).take 16) (2 ^ ctH sig + numL (sig.take 4)) (cndT (ctW sig) n m s ((pub.drop 8).take 16) text ((sig.drop 4).take Z) (numL (sig.take 4)))) := by unfold vTopK; rw [hZ]
  rw [hvT]
  have rid : Row .u8 256 w (.slice (some ⟨pb, po + 8, none⟩) 16 (pc - 8)) ((pub.drop 8).take 16) := hprow.mid (i := 8) (j := 24) (by decide) (by omega)
  have hidl : ((pub.drop 8).take 16).length = 16 := by rw [List.length_take, List.length_drop]; omega
  have rsg : Row .u8 256 w (.slice (some ⟨sb, so + 4, none⟩) Z (sc - 4)) ((sig.drop 4).take Z) := by
    have := hrow.mid (i := 4) (j := 4 + Z) (by omega) (by omega)
    rwa [Nat.add_sub_cancel_left] at this
  have hsgl : ((sig.drop 4).take Z).length = 36 + 32 * (n + m) := by rw [List.length_take, List.length_drop]; omega
  have hsc : ((sig.drop 4).take Z).take 4 = be4 (numL ((sig.drop 4).take 4)) := by
    rw [List.take_take, Nat.min_eq_left (by omega)]
    have hcl : numL ((sig.drop 4).take 4) < 256 := by
      have e0 : ∀ {k n m s c : Nat}, Kd k n m s c → c < 256 := fun hk => by cases hk <;> decide
      exact e0 hkd
    have r48 : Row .u8 256 w (.slice (some ⟨sb, so + 4, none⟩) 4 (sc - 4)) ((sig.drop 4).take 4) := hrow.mid (i := 4) (j := 8) (by decide) (by omega)
    exact (be4_is hcl (by rw [List.length_take, List.length_drop]; omega) r48.under).2 rfl
  have hcn := fun y (k : Below w.heap.size w y) => ccnd_ok hkd rfl (numL (sig.take 4)) ((pub.drop 8).take 16) text ((sig.drop 4).take Z) _ tv _ y (hT.below k) (rid.below k) (tidy_some ⟨_, _, _, rfl⟩) (ht.below k) tt (rsg.below k) hidl htl hql hsgl hsc
  have hCe : keyH shaL (preL ((pub.drop 8).take 16) (numL (sig.take 4))) (endsC shaL (preL ((pub.drop 8).take 16) (numL (sig.take 4))) (2 ^ ctW sig - 1) (digsL (ctW sig) n m s (digH shaL (preL ((pub.drop 8).take 16) (numL (sig.take 4))) ((((sig.drop 4).take Z).drop 4).take 32) text)) ((sig.drop 4).take Z)) = cndT (ctW sig) n m s ((pub.drop 8).take 16) text ((sig.drop 4).take Z) (numL (sig.take 4)) := rfl
  rw [hCe] at hcn
  clear hCe
  have hCl : (cndT (ctW sig) n m s ((pub.drop 8).take 16) text ((sig.drop 4).take Z) (numL (sig.take 4))).length = 32 := cndT_len _ _ _ _ _ _ _ _
  generalize cndT (ctW sig) n m s ((pub.drop 8).take 16) text ((sig.drop 4).take Z) (numL (sig.take 4)) = CN at *
  have hm4 := fun w => mid_run (b := sb) (o := so) (n := sig.length) (c := sc) (F := 4) (G := 4 + Z) (L := Z) (by omega) (by omega) rfl w
  obtain ⟨AS, hfS, hAS⟩ := slice_from (some ⟨sb, so, none⟩) sig.length sc (8 + Z) (by omega) ls1
  have rbe := hrow.behind (F := 8 + Z) (by omega) hAS
  have hbel : (sig.drop (8 + Z)).length = 32 * ctH sig := by rw [List.length_drop]; omega
  obtain ⟨AP, hfP, hAP⟩ := slice_from (some ⟨pb, po, none⟩) 56 pc 24 (by omega) lc1
  have rpk := hprow.behind (F := 24) (by omega) hAP
  have htop := fun y (k : Below w.heap.size w y) kv (rk : Row .u8 256 y kv CN) => ctop_any (ctH sig) (numL (sig.take 4)) ((pub.drop 8).take 16) CN (sig.drop (8 + Z)) (ctW sig : Nat) _ kv _ y (hT.below k) gH (by omega) hq (rid.below k) (tidy_some ⟨_, _, _, rfl⟩) hidl rk hCl (rbe.below k) hbel
  have hsm := fun y (k : Below w.heap.size w y) v (r : Row .u8 256 y v (climb (ovL ((pub.drop 8).take 16)) (vChk (sig.drop (8 + Z)) (ctH sig)) (2 ^ ctH sig + numL (sig.take 4)) (lfS ((pub.drop 8).take 16) (2 ^ ctH sig + numL (sig.take 4)) CN))) => bsame_any v _ _ _ y r (rpk.below k)
  generalize climb (ovL ((pub.drop 8).take 16)) (vChk (sig.drop (8 + Z)) (ctH sig)) (2 ^ ctH sig + numL (sig.take 4)) (lfS ((pub.drop 8).take 16) (2 ^ ctH sig + numL (sig.take 4)) CN) = TOP at *
  obtain ⟨q, hqq⟩ : ∃ q, q = numL (sig.take 4) := ⟨_, rfl⟩
  rw [← hqq] at hn hql hq hcn htop
  have hha := fun y => chas (ctH sig) q (.int .i64 (ctW sig : Nat)) (.slice (some ⟨pb, po + 8, none⟩) 16 (pc - 8)) y gH hql ⟨_, rfl⟩ ⟨_, _, _, rfl⟩
  rw [decide_eq_true hq] at hha
  have hco := fun y => ccodeAt (ctW sig : Nat) y
  have hbe := fun y => cbesideAt (ctW sig : Nat) y
  rw [← hZ] at hco hbe
  have h4c : (4 : Int) ≤ (sc : Int) := by omega
  have u_q : IntKind.u32.wrap (q : Int) = (q : Int) := by rw [IntKind.wrap_u32]; omega
  obtain ⟨TL, hTL⟩ : ∃ TL, text.length = TL := ⟨_, rfl⟩
  obtain ⟨ta, tc, rfl, _⟩ := ht.opens hTL
  clear hvT rid rsg rbe rpk hkd hm hsc hsgl hidl hbel hAS hAP hqq hrow hprow hso hp h hc ho hk hq r4 hs
  generalize ctH sig = H at *
  generalize ctW sig = D at *
  generalize sig.drop (ctN sig) = bd at *
  generalize sig.take (ctN sig) = bt at *
  generalize hSL : sig.length = SL at *
  generalize pub.drop 24 = PK at *
  obtain ⟨RR, hRR⟩ : ∃ R : Int, R = if TOP = PK then 0 else 11 := ⟨_, rfl⟩
  rw [← hRR]
  have HR := hide hRR
  clear hRR
  have HN := hide (And.intro gH (And.intro hZ1 (And.intro hN (And.intro hql (And.intro g8 (And.intro ls1 lc1))))))
  clear gH hZ hZk hZ1 hN hql g8 gw0 gH0 hsl htl hT ht hSL
  go_enter Tryz.func35, Tryz.ntmps35
  go_wp2_with (first
    | (go_at_call 59; refine (hto _ (Below.refl _ _)).mono ?_; rintro e w1 ⟨rfl, g1⟩; have bx := BxD.new w1 (.int .i64 (H : Int)) (.int .i64 (D : Int)) (.slice (some ⟨pb, po + 8, none⟩) 16 (pc - 8)))
    | (go_at_call 34; refine (hct _ (keep_trans g1 (keep_alloc _ _))).mono ?_; rintro e w2 ⟨v1, v2, rfl, o1, o2, g2⟩; obtain ⟨b1, c1, rfl, _⟩ := o1.row.opens rfl; obtain ⟨b2, c2, rfl, _⟩ := o2.row.opens hdl; have bx2 := bx.below g2; have bx3 := bx2.below (keep_alloc w2 (.cells #[.int .i64 (H : Int), .int .i64 (D : Int)] 45)); have cx0 := bx3.c0; have cx1 := bx3.c1; have k3 := keep_trans (keep_trans (keep_trans g1 (keep_alloc _ _)) g2) (keep_alloc w2 (.cells #[.int .i64 (H : Int), .int .i64 (D : Int)] 45)))
    | (go_at_call 32; refine (hn _ k3).mono ?_; rintro e yy ⟨rfl, hy⟩; obtain rfl := hy.symm)
    | (refine wpList_load_row rfl 96 _ (by rfl) w1.heap.size (by rfl) _ _ _ _ bx3.here Tryz.underlying96 rfl (by kernel_rfl) ?_)
    | (go_at_call 60; refine (hha _).mono ?_; rintro e w4 ⟨rfl, g4⟩)
    | fail)
  have bx4 := bx3.below g4
  have k4 := keep_trans k3 g4
  generalize w1.heap.size = B at *
  clear bx bx2 bx3 cx0 cx1 g1 g2 k3 g4 o1 o2
  have hbd : Below w4.heap.size w4 w4.drew := (Below.refl _ _).drew
  refine at_begin (ops := opsA (cLA (cRA (cRA (cRA (cRA (cRA (cRA (cRA (cRA (Tryz.f35.body.getD .skip))))))))))) (n := 19) (fun y => Below w4.heap.size w4 y) (by kernel_rfl) (by kernel_rfl) ?_
  refine at_takeD (i := 0) (m' := 1) (d := some 50) (v := .pointer (some ⟨B, 0, none⟩)) vr12reg rfl (by decide) rfl rfl (y_fieldG (wanted_free rfl) rfl rfl (fun w => by simp [go_sem])) hbd ?_
  simp only [Act.put, List.setIfInBounds_toArray, List.set_cons_zero, List.set_cons_succ]
  refine at_takeD (i := 1) (m' := 3) (d := some 51) (v := .pointer (some ⟨B, 1, none⟩)) vr12reg rfl (by decide) rfl rfl (y_fieldG (wanted_free rfl) rfl rfl (fun w => by simp [go_sem])) hbd ?_
  simp only [Act.put, List.setIfInBounds_toArray, List.set_cons_zero, List.set_cons_succ]
  refine at_takeD (i := 2) (m' := 7) (d := some 52) (v := .int .i64 (D : Int)) vr12reg rfl (by decide) rfl rfl (y_plainG (wanted_free rfl) rfl rfl Tryz.underlying3 rfl (fun _ h => (bx4.below h).c1)) hbd ?_
  simp only [Act.put, List.setIfInBounds_toArray, List.set_cons_zero, List.set_cons_succ]
  refine at_takeD (i := 3) (m' := 15) (d := some 53) (v := .pointer (some ⟨B, 2, none⟩)) vr12reg rfl (by decide) rfl rfl (y_fieldG (wanted_free rfl) rfl rfl (fun w => by simp [go_sem])) hbd ?_
  simp only [Act.put, List.setIfInBounds_toArray, List.set_cons_zero, List.set_cons_succ]
  refine at_takeD (i := 4) (m' := 31) (d := some 54) (v := .slice (some ⟨pb, po + 8, none⟩) 16 (pc - 8)) vr12reg rfl (by decide) rfl rfl (y_plainG (wanted_free rfl) rfl rfl Tryz.underlying23 rfl (fun _ h => (bx4.below h).c2)) hbd ?_
  simp only [Act.put, List.setIfInBounds_toArray, List.set_cons_zero, List.set_cons_succ]
  refine at_takeD (i := 5) (m' := 63) (d := some 55) (v := .int .u32 (q : Int)) vr12reg rfl (by decide) rfl rfl (y_moveG (wanted_free rfl) rfl rfl) hbd ?_
  simp only [Act.put, List.setIfInBounds_toArray, List.set_cons_zero, List.set_cons_succ]
  refine at_takeD (i := 6) (m' := 127) (d := some 56) (v := .slice ta TL tc) vr12reg rfl (by decide) rfl rfl (y_moveG (wanted_free rfl) rfl rfl) hbd ?_
  simp only [Act.put, List.setIfInBounds_toArray, List.set_cons_zero, List.set_cons_succ]
  refine at_takeD (i := 7) (m' := 255) (d := some 57) (v := .slice (some ⟨sb, so, none⟩) SL sc) vr12reg rfl (by decide) rfl rfl (y_moveG (wanted_free rfl) rfl rfl) hbd ?_
  simp only [Act.put, List.setIfInBounds_toArray, List.set_cons_zero, List.set_cons_succ]
  refine at_takeD (i := 8) (m' := 511) (d := some 58) (v := .pointer (some ⟨B, 0, none⟩)) vr12reg rfl (by decide) rfl rfl (y_fieldG (wanted_free rfl) rfl rfl (fun w => by simp [go_sem])) hbd ?_
  simp only [Act.put, List.setIfInBounds_toArray, List.set_cons_zero, List.set_cons_succ]
  refine at_takeD (i := 9) (m' := 1023) (d := some 59) (v := .pointer (some ⟨B, 1, none⟩)) vr12reg rfl (by decide) rfl rfl (y_fieldG (wanted_free rfl) rfl rfl (fun w => by simp [go_sem])) hbd ?_
  simp only [Act.put, List.setIfInBounds_toArray, List.set_cons_zero, List.set_cons_succ]
  refine at_takeD (i := 10) (m' := 2047) (d := some 60) (v := .int .i64 (D : Int)) vr12reg rfl (by decide) rfl rfl (y_plainG (wanted_free rfl) rfl rfl Tryz.underlying3 rfl (fun _ h => (bx4.below h).c1)) hbd ?_
  simp only [Act.put, List.setIfInBounds_toArray, List.set_cons_zero, List.set_cons_succ]
  refine at_one (i := 11) (m' := 4095) vr12reg (by decide) rfl ?_
  refine p_callG (args := #[.int .i64 (D : Int)]) (d := some 61) rfl (wanted_free rfl) rfl (by simp only [List.map_toArray, List.map_cons, List.map_nil]; rfl) rfl Tryz.call62 ((hco w4.drew).mono ?_)
  rintro e y12 ⟨rfl, g12⟩
  have hb12 := keep_trans hbd g12
  refine ⟨_, rfl, hb12, ?_⟩
  simp only [Act.put, List.setIfInBounds_toArray, List.set_cons_zero, List.set_cons_succ]
  refine at_takeD (i := 12) (m' := 8191) (d := some 62) (v := .slice (some ⟨sb, so + 4, none⟩) Z (sc - 4)) vr12reg rfl (by decide) rfl rfl (y_midC (wanted_free rfl) rfl rfl rfl rfl hm4) hb12 ?_
  simp only [Act.put, List.setIfInBounds_toArray, List.set_cons_zero, List.set_cons_succ]
  refine at_one (i := 13) (m' := 16383) vr12reg (by decide) rfl ?_
  refine p_callG (args := #[.int .i64 (D : Int), .slice (some ⟨pb, po + 8, none⟩) 16 (pc - 8), .int .u32 (q : Int), .slice ta TL tc, .slice (some ⟨sb, so + 4, none⟩) Z (sc - 4)]) (d := some 63) rfl (wanted_free rfl) rfl (by simp only [List.map_toArray, List.map_cons, List.map_nil]; rfl) rfl Tryz.call61 ((hcn y12 (keep_trans k4 hb12)).mono ?_)
  rintro e y14 ⟨kv, rfl, ok, g14⟩
  obtain ⟨ka, kc, rfl, _⟩ := ok.row.opens hCl
  have hb14 := keep_trans hb12 g14
  refine ⟨_, rfl, hb14, ?_⟩
  simp only [Act.put, List.setIfInBounds_toArray, List.set_cons_zero, List.set_cons_succ]
  refine at_takeD (i := 14) (m' := 32767) (d := some 49) (v := .tuple #[.slice ka 32 kc, .int .i64 0]) vr12reg rfl (by decide) rfl rfl (y_moveG (wanted_free rfl) rfl rfl) hb14 ?_
  simp only [Act.put, List.setIfInBounds_toArray, List.set_cons_zero, List.set_cons_succ]
  refine at_takeD (i := 15) (m' := 65535) (d := some 64) (v := .slice ka 32 kc) vr12reg rfl (by decide) rfl rfl (y_extractG (wanted_free rfl) rfl rfl rfl) hb14 ?_
  simp only [Act.put, List.setIfInBounds_toArray, List.set_cons_zero, List.set_cons_succ]
  refine at_takeD (i := 16) (m' := 131071) (d := some 65) (v := .int .i64 0) vr12reg rfl (by decide) rfl rfl (y_extractG (wanted_free rfl) rfl rfl rfl) hb14 ?_
  simp only [Act.put, List.setIfInBounds_toArray, List.set_cons_zero, List.set_cons_succ]
  refine at_takeD (i := 17) (m' := 262143) (d := some 13) (v := .slice ka 32 kc) vr12reg rfl (by decide) rfl rfl (y_assignG (wanted_free rfl) rfl rfl) hb14 ?_
  simp only [Act.put, List.setIfInBounds_toArray, List.set_cons_zero, List.set_cons_succ]
  refine at_takeD (i := 18) (m' := 524287) (d := some 8) (v := .int .i64 0) vr12reg rfl (by decide) rfl rfl (y_assignG (wanted_free rfl) rfl rfl) hb14 ?_
  simp only [Act.put, List.setIfInBounds_toArray, List.set_cons_zero, List.set_cons_succ]
  refine at_done vr12reg (by decide) ?_
  go_wp2
  have k5 := keep_trans k4 hb14
  have bx5 := bx4.below hb14
  generalize y14 = w5 at *
  have hbd : Below w5.heap.size w5 w5.drew := (Below.refl _ _).drew
  by_cases hfin : TOP = PK
  · have hR : RR = 0 := by rw [HR.out, if_pos hfin]
    rw [decide_eq_true hfin] at hsm
    have HF := hide hR
    clear hfin hR
    refine at_begin (ops := opsA (cLA (cLA (cRA (cRA (cRA (cRA (cRA (cRA (cRA (cRA (cRA (cRA (Tryz.f35.body.getD .skip)))))))))))))) (n := 14) (fun y => Below w5.heap.size w5 y) (by kernel_rfl) (by kernel_rfl) ?_
    refine at_takeD (i := 0) (m' := 1) (d := some 69) (v := .agg #[.int .i64 (H : Int), .int .i64 (D : Int), .slice (some ⟨pb, po + 8, none⟩) 16 (pc - 8)]) vr15reg rfl (by decide) rfl rfl (y_rowG (cs := [.int .i64 (H : Int), .int .i64 (D : Int), .slice (some ⟨pb, po + 8, none⟩) 16 (pc - 8)]) (wanted_free rfl) rfl rfl Tryz.underlying96 rfl (by kernel_rfl) (fun _ h => (bx5.below h).range)) hbd ?_
    simp only [Act.put, List.setIfInBounds_toArray, List.set_cons_zero, List.set_cons_succ]
    refine at_takeD (i := 1) (m' := 3) (d := some 70) (v := .int .u32 (q : Int)) vr15reg rfl (by decide) rfl rfl (y_moveG (wanted_free rfl) rfl rfl) hbd ?_
    simp only [Act.put, List.setIfInBounds_toArray, List.set_cons_zero, List.set_cons_succ]
    refine at_takeD (i := 2) (m' := 7) (d := some 71) (v := .slice ka 32 kc) vr15reg rfl (by decide) rfl rfl (y_moveG (wanted_free rfl) rfl rfl) hbd ?_
    simp only [Act.put, List.setIfInBounds_toArray, List.set_cons_zero, List.set_cons_succ]
    refine at_takeD (i := 3) (m' := 15) (d := some 72) (v := .slice (some ⟨sb, so, none⟩) SL sc) vr15reg rfl (by decide) rfl rfl (y_moveG (wanted_free rfl) rfl rfl) hbd ?_
    simp only [Act.put, List.setIfInBounds_toArray, List.set_cons_zero, List.set_cons_succ]
    refine at_takeD (i := 4) (m' := 31) (d := some 73) (v := .pointer (some ⟨B, 0, none⟩)) vr15reg rfl (by decide) rfl rfl (y_fieldG (wanted_free rfl) rfl rfl (fun w => by simp [go_sem])) hbd ?_
    simp only [Act.put, List.setIfInBounds_toArray, List.set_cons_zero, List.set_cons_succ]
    refine at_takeD (i := 5) (m' := 63) (d := some 74) (v := .pointer (some ⟨B, 1, none⟩)) vr15reg rfl (by decide) rfl rfl (y_fieldG (wanted_free rfl) rfl rfl (fun w => by simp [go_sem])) hbd ?_
    simp only [Act.put, List.setIfInBounds_toArray, List.set_cons_zero, List.set_cons_succ]
    refine at_takeD (i := 6) (m' := 127) (d := some 75) (v := .int .i64 (D : Int)) vr15reg rfl (by decide) rfl rfl (y_plainG (wanted_free rfl) rfl rfl Tryz.underlying3 rfl (fun _ h => (bx5.below h).c1)) hbd ?_
    simp only [Act.put, List.setIfInBounds_toArray, List.set_cons_zero, List.set_cons_succ]
    refine at_takeD (i := 10) (m' := 1151) (d := some 79) (v := .slice (some ⟨pb, po, none⟩) 56 pc) vr15reg rfl (by decide) rfl rfl (y_moveG (wanted_free rfl) rfl rfl) hbd ?_
    simp only [Act.put, List.setIfInBounds_toArray, List.set_cons_zero, List.set_cons_succ]
    refine at_takeD (i := 11) (m' := 3199) (d := some 80) (v := .slice AP (56 - 24) (pc - 24)) vr15reg rfl (by decide) rfl rfl (y_fromC (wanted_free rfl) rfl rfl rfl hfP ⟨_, _, _, rfl⟩) hbd ?_
    simp only [Act.put, List.setIfInBounds_toArray, List.set_cons_zero, List.set_cons_succ]
    refine at_one (i := 7) (m' := 3327) vr15reg (by decide) rfl ?_
    refine p_callG (args := #[.int .i64 (D : Int)]) (d := some 76) rfl (wanted_free rfl) rfl (by simp only [List.map_toArray, List.map_cons, List.map_nil]; rfl) rfl Tryz.call65 ((hbe w5.drew).mono ?_)
    rintro e y10 ⟨rfl, g10⟩
    have hb10 := keep_trans hbd g10
    refine ⟨_, rfl, hb10, ?_⟩
    simp only [Act.put, List.setIfInBounds_toArray, List.set_cons_zero, List.set_cons_succ]
    refine at_takeD (i := 8) (m' := 3583) (d := some 77) (v := .slice AS (SL - (8 + Z)) (sc - (8 + Z))) vr15reg rfl (by decide) rfl rfl (y_fromC (wanted_free rfl) rfl rfl rfl hfS ⟨_, _, _, rfl⟩) hb10 ?_
    simp only [Act.put, List.setIfInBounds_toArray, List.set_cons_zero, List.set_cons_succ]
    refine at_one (i := 9) (m' := 4095) vr15reg (by decide) rfl ?_
    refine p_callG (args := #[.agg #[.int .i64 (H : Int), .int .i64 (D : Int), .slice (some ⟨pb, po + 8, none⟩) 16 (pc - 8)], .int .u32 (q : Int), .slice ka 32 kc, .slice AS (SL - (8 + Z)) (sc - (8 + Z))]) (d := some 78) rfl (wanted_free rfl) rfl (by simp only [List.map_toArray, List.map_cons, List.map_nil]; rfl) rfl Tryz.call64 ((htop y10 (keep_trans k5 hb10) _ (ok.row.below hb10)).mono ?_)
    rintro e y12 ⟨xv, rfl, rx, hxl, g12⟩
    obtain ⟨xa, xc, rfl, _⟩ := rx.opens hxl
    have hb12 := keep_trans hb10 g12
    refine ⟨_, rfl, hb12, ?_⟩
    simp only [Act.put, List.setIfInBounds_toArray, List.set_cons_zero, List.set_cons_succ]
    refine at_one (i := 12) (m' := 8191) vr15reg (by decide) rfl ?_
    refine p_callG (args := #[.slice xa 32 xc, .slice AP (56 - 24) (pc - 24)]) (d := some 81) rfl (wanted_free rfl) rfl (by simp only [List.map_toArray, List.map_cons, List.map_nil]; rfl) rfl Tryz.call63 ((hsm y12 (keep_trans k5 hb12) _ rx).mono ?_)
    rintro e y13 ⟨rfl, g13⟩
    have hb13 := keep_trans hb12 g13
    refine ⟨_, rfl, hb13, ?_⟩
    simp only [Act.put, List.setIfInBounds_toArray, List.set_cons_zero, List.set_cons_succ]
    refine at_takeD (i := 13) (m' := 16383) (d := some 82) (v := .bool false) vr15reg rfl (by decide) rfl rfl (y_notG (b := true) (wanted_free rfl) rfl rfl) hb13 ?_
    simp only [Act.put, List.setIfInBounds_toArray, List.set_cons_zero, List.set_cons_succ]
    refine at_done vr15reg (by decide) ?_
    go_wp2
    go_ret
    exact ⟨by rw [HF.out]; rfl, keep_trans k5 hb13⟩
  · have hR : RR = 11 := by rw [HR.out, if_neg hfin]
    rw [decide_eq_false hfin] at hsm
    have HF := hide hR
    clear hfin hR
    refine at_begin (ops := opsA (cLA (cLA (cRA (cRA (cRA (cRA (cRA (cRA (cRA (cRA (cRA (cRA (Tryz.f35.body.getD .skip)))))))))))))) (n := 14) (fun y => Below w5.heap.size w5 y) (by kernel_rfl) (by kernel_rfl) ?_
    refine at_takeD (i := 0) (m' := 1) (d := some 69) (v := .agg #[.int .i64 (H : Int), .int .i64 (D : Int), .slice (some ⟨pb, po + 8, none⟩) 16 (pc - 8)]) vr15reg rfl (by decide) rfl rfl (y_rowG (cs := [.int .i64 (H : Int), .int .i64 (D : Int), .slice (some ⟨pb, po + 8, none⟩) 16 (pc - 8)]) (wanted_free rfl) rfl rfl Tryz.underlying96 rfl (by kernel_rfl) (fun _ h => (bx5.below h).range)) hbd ?_
    simp only [Act.put, List.setIfInBounds_toArray, List.set_cons_zero, List.set_cons_succ]
    refine at_takeD (i := 1) (m' := 3) (d := some 70) (v := .int .u32 (q : Int)) vr15reg rfl (by decide) rfl rfl (y_moveG (wanted_free rfl) rfl rfl) hbd ?_
    simp only [Act.put, List.setIfInBounds_toArray, List.set_cons_zero, List.set_cons_succ]
    refine at_takeD (i := 2) (m' := 7) (d := some 71) (v := .slice ka 32 kc) vr15reg rfl (by decide) rfl rfl (y_moveG (wanted_free rfl) rfl rfl) hbd ?_
    simp only [Act.put, List.setIfInBounds_toArray, List.set_cons_zero, List.set_cons_succ]
    refine at_takeD (i := 3) (m' := 15) (d := some 72) (v := .slice (some ⟨sb, so, none⟩) SL sc) vr15reg rfl (by decide) rfl rfl (y_moveG (wanted_free rfl) rfl rfl) hbd ?_
    simp only [Act.put, List.setIfInBounds_toArray, List.set_cons_zero, List.set_cons_succ]
    refine at_takeD (i := 4) (m' := 31) (d := some 73) (v := .pointer (some ⟨B, 0, none⟩)) vr15reg rfl (by decide) rfl rfl (y_fieldG (wanted_free rfl) rfl rfl (fun w => by simp [go_sem])) hbd ?_
    simp only [Act.put, List.setIfInBounds_toArray, List.set_cons_zero, List.set_cons_succ]
    refine at_takeD (i := 5) (m' := 63) (d := some 74) (v := .pointer (some ⟨B, 1, none⟩)) vr15reg rfl (by decide) rfl rfl (y_fieldG (wanted_free rfl) rfl rfl (fun w => by simp [go_sem])) hbd ?_
    simp only [Act.put, List.setIfInBounds_toArray, List.set_cons_zero, List.set_cons_succ]
    refine at_takeD (i := 6) (m' := 127) (d := some 75) (v := .int .i64 (D : Int)) vr15reg rfl (by decide) rfl rfl (y_plainG (wanted_free rfl) rfl rfl Tryz.underlying3 rfl (fun _ h => (bx5.below h).c1)) hbd ?_
    simp only [Act.put, List.setIfInBounds_toArray, List.set_cons_zero, List.set_cons_succ]
    refine at_takeD (i := 10) (m' := 1151) (d := some 79) (v := .slice (some ⟨pb, po, none⟩) 56 pc) vr15reg rfl (by decide) rfl rfl (y_moveG (wanted_free rfl) rfl rfl) hbd ?_
    simp only [Act.put, List.setIfInBounds_toArray, List.set_cons_zero, List.set_cons_succ]
    refine at_takeD (i := 11) (m' := 3199) (d := some 80) (v := .slice AP (56 - 24) (pc - 24)) vr15reg rfl (by decide) rfl rfl (y_fromC (wanted_free rfl) rfl rfl rfl hfP ⟨_, _, _, rfl⟩) hbd ?_
    simp only [Act.put, List.setIfInBounds_toArray, List.set_cons_zero, List.set_cons_succ]
    refine at_one (i := 7) (m' := 3327) vr15reg (by decide) rfl ?_
    refine p_callG (args := #[.int .i64 (D : Int)]) (d := some 76) rfl (wanted_free rfl) rfl (by simp only [List.map_toArray, List.map_cons, List.map_nil]; rfl) rfl Tryz.call65 ((hbe w5.drew).mono ?_)
    rintro e y10 ⟨rfl, g10⟩
    have hb10 := keep_trans hbd g10
    refine ⟨_, rfl, hb10, ?_⟩
    simp only [Act.put, List.setIfInBounds_toArray, List.set_cons_zero, List.set_cons_succ]
    refine at_takeD (i := 8) (m' := 3583) (d := some 77) (v := .slice AS (SL - (8 + Z)) (sc - (8 + Z))) vr15reg rfl (by decide) rfl rfl (y_fromC (wanted_free rfl) rfl rfl rfl hfS ⟨_, _, _, rfl⟩) hb10 ?_
    simp only [Act.put, List.setIfInBounds_toArray, List.set_cons_zero, List.set_cons_succ]
    refine at_one (i := 9) (m' := 4095) vr15reg (by decide) rfl ?_
    refine p_callG (args := #[.agg #[.int .i64 (H : Int), .int .i64 (D : Int), .slice (some ⟨pb, po + 8, none⟩) 16 (pc - 8)], .int .u32 (q : Int), .slice ka 32 kc, .slice AS (SL - (8 + Z)) (sc - (8 + Z))]) (d := some 78) rfl (wanted_free rfl) rfl (by simp only [List.map_toArray, List.map_cons, List.map_nil]; rfl) rfl Tryz.call64 ((htop y10 (keep_trans k5 hb10) _ (ok.row.below hb10)).mono ?_)
    rintro e y12 ⟨xv, rfl, rx, hxl, g12⟩
    obtain ⟨xa, xc, rfl, _⟩ := rx.opens hxl
    have hb12 := keep_trans hb10 g12
    refine ⟨_, rfl, hb12, ?_⟩
    simp only [Act.put, List.setIfInBounds_toArray, List.set_cons_zero, List.set_cons_succ]
    refine at_one (i := 12) (m' := 8191) vr15reg (by decide) rfl ?_
    refine p_callG (args := #[.slice xa 32 xc, .slice AP (56 - 24) (pc - 24)]) (d := some 81) rfl (wanted_free rfl) rfl (by simp only [List.map_toArray, List.map_cons, List.map_nil]; rfl) rfl Tryz.call63 ((hsm y12 (keep_trans k5 hb12) _ rx).mono ?_)
    rintro e y13 ⟨rfl, g13⟩
    have hb13 := keep_trans hb12 g13
    refine ⟨_, rfl, hb13, ?_⟩
    simp only [Act.put, List.setIfInBounds_toArray, List.set_cons_zero, List.set_cons_succ]
    refine at_takeD (i := 13) (m' := 16383) (d := some 82) (v := .bool true) vr15reg rfl (by decide) rfl rfl (y_notG (b := false) (wanted_free rfl) rfl rfl) hb13 ?_
    simp only [Act.put, List.setIfInBounds_toArray, List.set_cons_zero, List.set_cons_succ]
    refine at_done vr15reg (by decide) ?_
    go_wp2
    go_ret
    exact ⟨by rw [HF.out]; rfl, keep_trans k5 hb13⟩
end Go.Proofs.YtogiballdmgcpaaGreatDoor
