/- Leaves that sign once, the program's own: Sign. -/
import Derived.Test.YtogiballdmgcpaaGreatDoorLcP
import Derived.Test.YtogiballdmgcpaaGreatDoorLhA
namespace Go.Proofs.YtogiballdmgcpaaGreatDoor
open Go.RowKit
set_option linter.unusedVariables false
set_option linter.unusedSimpArgs false

def sg6lt : List Lt := [(0, some 36, [12]), (1, some 37, [36]), (0, some 38, [12]), (0, some 39, [14]), (0, some 40, [4]), (24, some 41, [39, 40]), (36, some 42, [38, 41]), (66, some 43, [37, 42]), (128, some 44, [43]), (0, some 45, [])]
theorem sg6reg : Reg (opsA (cLA (cLA (cRA (cRA (cRA (cRA (cRA (Tryz.f80.body.getD .skip))))))))) sg6lt := ⟨by kernel_rfl, by kernel_rfl⟩
def sg9lt : List Lt := [(0, some 50, [15]), (0, some 51, [16]), (0, some 52, [12]), (0, some 53, [16]), (0, some 54, [12]), (0, some 55, [16]), (32, some 56, [55]), (0, some 57, [3]), (208, some 58, [54, 56, 57]), (0, some 59, [17]), (780, some 60, [52, 53, 58, 59]), (2047, some 61, [50, 51]), (4095, none, [61, 60])]
theorem sg9reg : Reg (opsA (cRA (cBA (cLA (cRA (cRA (cLpA (cBA (cRA (cLA (cRA (cRA (cRA (cRA (cRA (Tryz.f80.body.getD .skip)))))))))))))))) sg9lt := ⟨by kernel_rfl, by kernel_rfl⟩
set_option maxHeartbeats 4000000 in
set_option maxRecDepth 100000 in
theorem csgn_ok {k n m s c P : Nat} (h : Kd k n m s c) (hP : P = n + m) (q : Nat) (id seed text : List Nat) (idv sv tv : Value) (w : World) (hT : Roots w) (hi : Row .u8 256 w idv id) (ti : Tidy idv) (hs : Row .u8 256 w sv seed) (ts : Tidy sv) (ht : Row .u8 256 w tv text) (tt : Tidy tv) (hl : id.length = 16) (hsl : seed.length = 32) (htl : text.length ≤ 10000) (hq : q < 4294967296) :
    Calls Tryz.prog 80 #[.int .i64 (k : Int), idv, .int .u32 (q : Int), sv, tv] w fun e w' => ∃ v, e = .returned (.tuple #[v, .int .i64 0]) ∧ Own 5 .u8 256 w' w.heap.size v (sgnH shaL (preL id q) c (digsL k n m s (digH shaL (preL id q) (lmCn shaL (preL id q) seed) text)) seed) ∧ Below w.heap.size w w' := by
  obtain ⟨sa, sc, rfl, _⟩ := hs.opens hsl
  obtain ⟨tva, tvc, rfl, _⟩ := ht.opens rfl
  have hsec := csec_ok h hP q id idv sa sc w hi ti hl hq
  obtain ⟨ia, ic, rfl, _⟩ := hi.opens hl
  obtain ⟨p1, p2, p3, p4, p5, p6, p7⟩ := h.pos
  obtain ⟨q1, q2, q3, q4, q5, q6, q7⟩ := h.more
  have hP1 : P ≤ 265 := by omega
  have p1P : 1 ≤ P := by omega
  have hcd := fun y => kcode_any k P s c y (by omega)
  have hdg := fun y dv d (r : Row .u8 256 y dv d) (td : Tidy dv) (hd : d.length = 32) => kdigs_any h hP d dv y r td hd
  have hds : ∀ d, (digsL k n m s d).length = P := fun d => by rw [hP]; exact digs_len _
  have hdb : ∀ d i, el (digsL k n m s d) i ≤ 255 := fun d i => Nat.le_trans (el_le_of (digs_lt _) i) q3
  have hpl : (preL id q).length = 20 := by rw [len_pre, hl]
  obtain ⟨pre, hpre⟩ : ∃ x, x = preL id q := ⟨_, rfl⟩
  rw [← hpre] at hsec hpl ⊢
  have hdr := fun (i : Nat) (hi' : i < 65536) y av (hTy : Roots y) (ra : Row .u8 256 y av pre) (ta : Tidy av) (rs : Row .u8 256 y (.slice sa 32 sc) seed) => cdrawn_any k P s c i pre seed av _ y hTy ra ta rs ts hi' (by omega)
  have hal : ∀ (i D : Nat) (hi' : i < 65536) (hD : D ≤ 255) (y0 : List Nat) (hy0 : y0.length = 32) y av yv (hTy : Roots y) (ra : Row .u8 256 y av pre) (ta : Tidy av) (ry : Row .u8 256 y yv y0) (ty : Tidy yv), Calls Tryz.prog 96 #[.agg #[.int .i64 (k : Int), .int .i64 (P : Int), .int .i64 (s : Int), .int .u64 (c : Int), av], .int .i64 (i : Int), yv, .int .u32 0, .int .u32 (D : Int)] y fun e w' => ∃ v, e = .returned v ∧ Row .u8 256 w' v (chN shaL pre i 0 D y0) ∧ Tidy v ∧ (New y.heap.size v ∨ v = yv) ∧ Below y.heap.size y w' := fun i D hi' hD y0 hy0 y av yv hTy ra ta ry ty => by
    have := calong_any k P s c i 0 D pre y0 av yv y hTy ra ta ry ty hi' (by omega) hy0 (by omega)
    rw [Nat.zero_add] at this
    exact this
  obtain ⟨Cn, hCn⟩ : ∃ x, x = lmCn shaL pre seed := ⟨_, rfl⟩
  have hCl : Cn.length = 32 := by rw [hCn]; exact shaL_len _
  obtain ⟨Dg, hDg⟩ : ∃ x, x = digH shaL pre Cn text := ⟨_, rfl⟩
  have hDl : Dg.length = 32 := by rw [hDg]; exact shaL_len _
  have hsm : ∀ y av mv, Roots y → Row .u8 256 y av pre → Tidy av → Rows2 y mv [Cn, text] → Calls Tryz.prog 95 #[.agg #[.int .i64 (k : Int), .int .i64 (P : Int), .int .i64 (s : Int), .int .u64 (c : Int), av], .int .u64 33153, mv] y fun e w' => ∃ v, e = .returned v ∧ Own 5 .u8 256 w' y.heap.size v Dg ∧ Below y.heap.size y w' := fun y av mv hTy ra ta rm => by
    have := csum_any k P s c 33153 pre [Cn, text] av mv y hTy ra ta rm (by decide) (by simp only [List.flatten_cons, List.flatten_nil, List.append_nil, List.length_append]; omega) (by simp)
    rw [hDg]
    unfold digH
    simpa using this
  have hdc : ∀ y av, Roots y → Row .u8 256 y av pre → Tidy av → Row .u8 256 y (.slice sa 32 sc) seed → Calls Tryz.prog 109 #[.agg #[.int .i64 (k : Int), .int .i64 (P : Int), .int .i64 (s : Int), .int .u64 (c : Int), av], .int .u64 65533, .slice sa 32 sc] y fun e w' => ∃ v, e = .returned v ∧ Own 5 .u8 256 w' y.heap.size v Cn ∧ Below y.heap.size y w' := fun y av hTy ra ta rs => by
    rw [hCn]; exact hdr 65533 (by decide) y av hTy ra ta rs
  rw [← hCn, ← hDg]
  obtain ⟨ds, hdse⟩ : ∃ x, x = digsL k n m s Dg := ⟨_, rfl⟩
  have hdl : ds.length = P := by rw [hdse]; exact hds _
  have hdb' : ∀ i, el ds i ≤ 255 := fun i => by rw [hdse]; exact hdb _ i
  have hdg' := fun y dv (r : Row .u8 256 y dv Dg) (td : Tidy dv) => hdg y dv Dg r td hDl
  rw [← hdse] at hdg' ⊢
  have hX : ∀ i, (lmX shaL pre i 255 seed).length = 32 := fun i => shaL_len _
  have hC : ∀ i D, (chN shaL pre i 0 D (lmX shaL pre i 255 seed)).length = 32 := fun i D => chN_len shaL_len i 0 _ (hX i) _
  unfold sgnH sgnP
  rw [← hCn, hdl]
  generalize shaL = HH at *
  obtain ⟨f, hf⟩ : ∃ f : Nat → List Nat, f = fun i => chN HH pre i 0 (el ds i) (lmX HH pre i 255 seed) := ⟨_, rfl⟩
  rw [← hf]
  have hfi : ∀ i, chN HH pre i 0 (el ds i) (lmX HH pre i 255 seed) = f i := fun i => by rw [hf]
  have hfC : ∀ i, (f i).length = 32 := fun i => by rw [← hfi]; exact hC i _
  have hfl : ((List.range P).map f).flatten.length ≤ 32 * 265 := by rw [map_flat32 hfC]; omega
  have hj1 := fun y lv (r : Rows2 y lv ((List.range P).map f)) => join_any lv _ y r (by omega)
  obtain ⟨FL, hFL⟩ : ∃ x, x = ((List.range P).map f).flatten := ⟨_, rfl⟩
  rw [← hFL] at hj1 hfl ⊢
  have hj2 : ∀ y lv, Rows2 y lv [be4 c, Cn, FL] → Calls Tryz.prog 20 #[lv] y fun e w' => ∃ v, e = .returned v ∧ Own 5 .u8 256 w' y.heap.size v (be4 c ++ (Cn ++ FL)) ∧ Below y.heap.size y w' := fun y lv r => by
    have := join_any lv _ y r (by simp only [List.flatten_cons, List.flatten_nil, List.append_nil, List.length_append, be4_len]; omega)
    simpa using this
  obtain ⟨i0, hi0, hz0, hz1, hz2⟩ := info_text
  have HX := hide (And.intro hX (And.intro hfi (And.intro hfC (And.intro hP1 (And.intro p1P (And.intro hdb' hdl))))))
  have HS := hide (And.intro hs (And.intro hT (And.intro ht tt)))
  have HL := hide (And.intro hCl hDl)
  have hdrH := hide hdr
  have halH := hide hal
  have hj1H := hide hj1
  have hj2H := hide hj2
  have hsmH := hide hsm
  clear hX hfi hfC hC hs hT hfl hdr hal hpre hP h hf hi p1 q1 q2 q3 q4 q5 p5 hds hdb hdb' hdl hFL hj1 hj2 hsm hDl hCn hDg hdse hdg ht tt htl hP1 p1P
  go_enter Tryz.func80, Tryz.ntmps80
  go_wp2_with (first
    | (go_at_call 108; refine hsec.mono ?_; rintro e w1 ⟨av, rfl, oa, g1⟩; obtain ⟨aa, ac, rfl, _⟩ := oa.row.opens hpl; have bx := BxL.new w1 (.int .i64 (k : Int)) (.int .i64 (P : Int)) (.int .i64 (s : Int)) (.int .u64 (c : Int)) (.slice aa 20 ac); have kx := keep_alloc w1 (.cells #[.int .i64 (k : Int), .int .i64 (P : Int), .int .i64 (s : Int), .int .u64 (c : Int), .slice aa 20 ac] 126); have ta := oa.tidy)
    | (go_at_call 109; refine (hdc _ _ (HS.out.2.1.below (keep_trans g1 kx)) (oa.row.below kx) ta (HS.out.1.below (keep_trans g1 kx))).mono ?_; rintro e w2 ⟨cv, rfl, oc, g2⟩; obtain ⟨ca, cc, rfl, _⟩ := oc.row.opens hCl; have bx2 := bx.below g2; have cP : w2.cell? ⟨w1.heap.size, 1, none⟩ = some (.int .i64 (P : Int)) := bx2.range 1 _ rfl)
    | (at_make; refine wpList_make_full _ rfl _ _ 48 rfl w2.heap.size 23 i0 (.slice none 0 0) 1 Tryz.underlying48 hi0 hz0 hz1 _ _ _ _ P rfl rfl rfl rfl (by rw [hz2]; have := HX.out.2.2.2.1; omega) (by have := HX.out.2.2.2.1; unfold maxLen; omega) (Nat.le_refl _) ?_; intro w3 hown hgrow; have hbg := (Below.refl w2.heap.size w2).grown hgrow (Nat.le_refl _) (fun k h => by cases h))
    | (refine wpList_load_row rfl 126 _ (by rfl) w1.heap.size (by rfl) _ _ _ _ bx.here Tryz.underlying126 rfl (by kernel_rfl) ?_)
    | fail)
  have hb2 := keep_trans (keep_trans g1 kx) g2
  have hb3 := keep_trans hb2 hbg
  have hU := UpS.made f hown
  have bx3 := bx2.below hbg
  have ra2 := (oa.row.below kx).below g2
  have ra3 := ra2.below hbg
  have rc3 := oc.row.below hbg
  have tcc := oc.tidy
  have taa := ta
  have haw : Away w2.heap.size (.slice aa 20 ac) pre := ra2.away (Nat.le_refl _)
  have hawc : Away w2.heap.size (.slice ca 32 cc) Cn := oc.row.away (Nat.le_refl _)
  have hXH : w1.heap.size ≠ w2.heap.size := by have := bx2.lt; omega
  have hwH : w.heap.size ≤ w2.heap.size := hb2.size
  have hT3 := HS.out.2.1.below hb3
  have rt3 := HS.out.2.2.1.below hb3
  have tt := HS.out.2.2.2
  have hDl := HL.out.2
  have hdl := HX.out.2.2.2.2.2.2
  have hP0 := HX.out.2.2.2.2.1
  have hsm := hsmH.out
  have hdg := hdg'
  generalize w1.heap.size = X at *
  generalize w2.heap.size = H at *
  have hbd : Below w3.heap.size w3 w3.drew := (Below.refl _ _).drew
  refine at_begin (ops := opsA (cLA (cLA (cRA (cRA (cRA (cRA (cRA (Tryz.f80.body.getD .skip))))))))) (n := 10) (fun y => Below w3.heap.size w3 y) (by kernel_rfl) (by kernel_rfl) ?_
  refine at_takeD (i := 0) (m' := 1) (d := some 36) (v := .pointer (some ⟨X, 0, none⟩)) sg6reg rfl (by decide) rfl rfl (y_fieldG (wanted_free rfl) rfl rfl (fun w => by simp [go_sem])) hbd ?_
  simp only [Act.put, List.setIfInBounds_toArray, List.set_cons_zero, List.set_cons_succ]
  refine at_takeD (i := 1) (m' := 3) (d := some 37) (v := .agg #[.int .i64 (k : Int), .int .i64 (P : Int), .int .i64 (s : Int), .int .u64 (c : Int)]) sg6reg rfl (by decide) rfl rfl (y_rowG (cs := [.int .i64 (k : Int), .int .i64 (P : Int), .int .i64 (s : Int), .int .u64 (c : Int)]) (wanted_free rfl) rfl rfl Tryz.underlying124 rfl (by kernel_rfl) (fun _ h => (bx3.below h).range4)) hbd ?_
  simp only [Act.put, List.setIfInBounds_toArray, List.set_cons_zero, List.set_cons_succ]
  refine at_takeD (i := 2) (m' := 7) (d := some 38) (v := .agg #[.int .i64 (k : Int), .int .i64 (P : Int), .int .i64 (s : Int), .int .u64 (c : Int), .slice aa 20 ac]) sg6reg rfl (by decide) rfl rfl (y_rowG (cs := [.int .i64 (k : Int), .int .i64 (P : Int), .int .i64 (s : Int), .int .u64 (c : Int), .slice aa 20 ac]) (wanted_free rfl) rfl rfl Tryz.underlying126 rfl (by kernel_rfl) (fun _ h => (bx3.below h).range)) hbd ?_
  simp only [Act.put, List.setIfInBounds_toArray, List.set_cons_zero, List.set_cons_succ]
  refine at_takeD (i := 3) (m' := 15) (d := some 39) (v := .slice ca 32 cc) sg6reg rfl (by decide) rfl rfl (y_moveG (wanted_free rfl) rfl rfl) hbd ?_
  simp only [Act.put, List.setIfInBounds_toArray, List.set_cons_zero, List.set_cons_succ]
  refine at_takeD (i := 4) (m' := 31) (d := some 40) (v := .slice tva text.length tvc) sg6reg rfl (by decide) rfl rfl (y_moveG (wanted_free rfl) rfl rfl) hbd ?_
  simp only [Act.put, List.setIfInBounds_toArray, List.set_cons_zero, List.set_cons_succ]
  refine at_takeD (i := 9) (m' := 543) (d := some 45) (v := .int .i64 0) sg6reg rfl (by decide) rfl rfl (y_moveG (wanted_free rfl) rfl rfl) hbd ?_
  simp only [Act.put, List.setIfInBounds_toArray, List.set_cons_zero, List.set_cons_succ]
  refine at_one (i := 5) (m' := 575) sg6reg (by decide) rfl ?_
  refine p_build2G (d := some 41) rfl (wanted_free rfl) rfl rfl rfl rfl Tryz.underlying48 hi0 hz1 hz0 ?_
  have hb7 := keep_trans hbd (keep_alloc w3.drew (.cells #[.slice ca 32 cc, .slice tva text.length tvc] 23))
  have rr := rows_litL (B := w3.drew.heap.size) (k := 2) (texts_cons (rc3.below hbd) tcc (texts_cons (rt3.below hbd) tt (Texts.nil _))) rfl rfl (by decide)
  refine ⟨hb7, ?_⟩
  simp only [Act.put, List.setIfInBounds_toArray, List.set_cons_zero, List.set_cons_succ]
  refine at_one (i := 6) (m' := 639) sg6reg (by decide) rfl ?_
  refine p_callG (args := #[.agg #[.int .i64 (k : Int), .int .i64 (P : Int), .int .i64 (s : Int), .int .u64 (c : Int), .slice aa 20 ac], .int .u64 33153, .slice (some ⟨w3.drew.heap.size, 0, none⟩) 2 2]) (d := some 42) rfl (wanted_free rfl) rfl (by simp only [List.map_toArray, List.map_cons, List.map_nil]; rfl) rfl Tryz.call95 ((hsm (w3.drew.alloc (.cells #[.slice ca 32 cc, .slice tva text.length tvc] 23)) _ _ (hT3.below hb7) (ra3.below hb7) taa rr).mono ?_)
  rintro e y8 ⟨dv, rfl, od, g8⟩
  obtain ⟨da, dc, rfl, _⟩ := od.row.opens hDl
  have td := od.tidy
  have rd := od.row
  have hb8 := keep_trans hb7 g8
  refine ⟨_, rfl, hb8, ?_⟩
  simp only [Act.put, List.setIfInBounds_toArray, List.set_cons_zero, List.set_cons_succ]
  refine at_one (i := 7) (m' := 767) sg6reg (by decide) rfl ?_
  refine p_callG (args := #[.agg #[.int .i64 (k : Int), .int .i64 (P : Int), .int .i64 (s : Int), .int .u64 (c : Int)], .slice da 32 dc]) (d := some 43) rfl (wanted_free rfl) rfl (by simp only [List.map_toArray, List.map_cons, List.map_nil]; rfl) rfl Tryz.call94 ((hdg y8 _ rd td).mono ?_)
  rintro e y9 ⟨ev, rfl, oe, g9⟩
  have kbe := hb8
  obtain ⟨ea, ec, rfl, _, _, hoe⟩ := oe.row.opens hdl
  have hb9 := keep_trans hb8 g9
  refine ⟨_, rfl, hb9, ?_⟩
  simp only [Act.put, List.setIfInBounds_toArray, List.set_cons_zero, List.set_cons_succ]
  refine at_takeD (i := 8) (m' := 1023) (d := some 44) (v := .int .i64 (P : Int)) sg6reg rfl (by decide) rfl rfl (y_lenP (wanted_free rfl) rfl rfl Tryz.underlying49) hb9 ?_
  simp only [Act.put, List.setIfInBounds_toArray, List.set_cons_zero, List.set_cons_succ]
  refine at_done sg6reg (by decide) ?_
  have hk6 := hb9
  obtain ⟨eb, eo, rfl, hec⟩ := hoe (by omega)
  have hebH : eb ≠ H := by
    have h1 := oe.new eb (by simp [Value.ownBlock])
    have h2 := kbe.size
    have h3 := hU.lt
    omega
  have hU6 := hU.below hk6
  have H0 := hide (PuL.start f hU6)
  have HA := hide (And.intro (ra3.below hk6) (And.intro taa (And.intro (keep_trans hb3 hk6) (And.intro haw (And.intro (bx3.below hk6) (And.intro hXH (And.intro hwH (And.intro (rc3.below hk6) (And.intro tcc (And.intro hawc (And.intro hec hebH)))))))))))
  have hHy := hU6.lt
  clear hoe hk6 hdl hDl hsm hdg rr hbd hb2 hb3 hU bx3 ra2 ra3 rc3 haw hawc hT3 rt3 oe hec hU6 ta tt g1 kx g2 bx bx2 oa oc hown hgrow hbg
  go_wp2
  go_loopw [45] (fun vi wr => PuL y9 H P f vi wr) (fun vi _ => P - (intOf vi).toNat)
  case atStart => exact H0.out
  case round =>
    obtain ⟨i, hi', rfl, hUr, hbr⟩ := hrel
    clear H0
    rename World => wr
    obtain ⟨hX, hfi, hfC, hP1, p1, hdb, hdl⟩ := HX.out
    obtain ⟨oar, ta, hb2, haw, bx2, hXH, hwH, rc6, tcc, hawc, hec, hebH⟩ := HA.out
    obtain ⟨hs, hT, ht, tt⟩ := HS.out
    have bxr := bx2.but hbr hXH
    have hbw := hb2.trans (hbr.below hwH hb2.size)
    have hTr := hT.below hbw
    have har := oar.but haw hbr
    have rcr := rc6.but hawc hbr
    by_cases hlt : i < P
    · have hiP := hlt
      have hii : (i : Int) < (P : Int) := by omega
      have z_i : (0 : Int) ≤ (i : Int) := Int.natCast_nonneg _
      obtain ⟨I, hI⟩ : ∃ I : Nat, I = i + 1 := ⟨_, rfl⟩
      have e_I : (i : Int) + 1 = (I : Int) := by omega
      have s_I : IntKind.i64.wrap (I : Int) = (I : Int) := by rw [IntKind.wrap_i64]; omega
      have ci := But.cell (hec i hlt) hbr hebH
      obtain ⟨D, hD⟩ : ∃ D, D = el ds i := ⟨_, rfl⟩
      have hDb : D ≤ 255 := by rw [hD]; exact hdb i
      rw [← hD] at ci
      have hfi' : chN HH pre i 0 D (lmX HH pre i 255 seed) = f i := by rw [hD]; exact hfi i
      have hsr := hs.below hbw
      have hXi := hX i
      have hCi := hfC i
      have hdr := fun y hTy ra rs => hdrH.out i (by omega) y (.slice aa 20 ac) hTy ra ta rs
      have hal := fun y yv hTy ra ry ty => halH.out i D (by omega) hDb (lmX HH pre i 255 seed) hXi y (.slice aa 20 ac) yv hTy ra ta ry ty
      simp only [hfi'] at hal
      have hbd : But H wr wr.drew := (But.refl _ _).drew
      have kb : Below wr.heap.size wr wr.drew := (Below.refl _ _).drew
      have HK := hide (And.intro hI (And.intro hlt hbr))
      have hi6 : i < 65536 := by omega
      clear hX hfi hfC hs hT hI hlt hb2 hbw hwH hP1 hbr oar hi' haw bx2 ht tt hdb hdl hD hDb hfi' hec rc6 rcr hawc
      go_wp2
      refine at_begin (ops := opsA (cRA (cBA (cLA (cRA (cRA (cLpA (cBA (cRA (cLA (cRA (cRA (cRA (cRA (cRA (Tryz.f80.body.getD .skip)))))))))))))))) (n := 13) (fun y => But H wr y) (by kernel_rfl) (by kernel_rfl) ?_
      refine at_takeD (i := 0) (m' := 1) (d := some 50) (v := .slice (some ⟨H, 0, none⟩) P P) sg9reg rfl (by decide) rfl rfl (y_moveG (wanted_free rfl) rfl rfl) hbd ?_
      simp only [Act.put, List.setIfInBounds_toArray, List.set_cons_zero, List.set_cons_succ]
      refine at_takeD (i := 1) (m' := 3) (d := some 51) (v := .int .i64 (i : Int)) sg9reg rfl (by decide) rfl rfl (y_moveG (wanted_free rfl) rfl rfl) hbd ?_
      simp only [Act.put, List.setIfInBounds_toArray, List.set_cons_zero, List.set_cons_succ]
      refine at_takeD (i := 2) (m' := 7) (d := some 52) (v := .agg #[.int .i64 (k : Int), .int .i64 (P : Int), .int .i64 (s : Int), .int .u64 (c : Int), .slice aa 20 ac]) sg9reg rfl (by decide) rfl rfl (y_rowG (cs := [.int .i64 (k : Int), .int .i64 (P : Int), .int .i64 (s : Int), .int .u64 (c : Int), .slice aa 20 ac]) (wanted_free rfl) rfl rfl Tryz.underlying126 rfl (by kernel_rfl) (fun _ h => (bxr.but h hXH).range)) hbd ?_
      simp only [Act.put, List.setIfInBounds_toArray, List.set_cons_zero, List.set_cons_succ]
      refine at_takeD (i := 3) (m' := 15) (d := some 53) (v := .int .i64 (i : Int)) sg9reg rfl (by decide) rfl rfl (y_moveG (wanted_free rfl) rfl rfl) hbd ?_
      simp only [Act.put, List.setIfInBounds_toArray, List.set_cons_zero, List.set_cons_succ]
      refine at_takeD (i := 4) (m' := 31) (d := some 54) (v := .agg #[.int .i64 (k : Int), .int .i64 (P : Int), .int .i64 (s : Int), .int .u64 (c : Int), .slice aa 20 ac]) sg9reg rfl (by decide) rfl rfl (y_rowG (cs := [.int .i64 (k : Int), .int .i64 (P : Int), .int .i64 (s : Int), .int .u64 (c : Int), .slice aa 20 ac]) (wanted_free rfl) rfl rfl Tryz.underlying126 rfl (by kernel_rfl) (fun _ h => (bxr.but h hXH).range)) hbd ?_
      simp only [Act.put, List.setIfInBounds_toArray, List.set_cons_zero, List.set_cons_succ]
      refine at_takeD (i := 5) (m' := 63) (d := some 55) (v := .int .i64 (i : Int)) sg9reg rfl (by decide) rfl rfl (y_moveG (wanted_free rfl) rfl rfl) hbd ?_
      simp only [Act.put, List.setIfInBounds_toArray, List.set_cons_zero, List.set_cons_succ]
      refine at_takeD (i := 6) (m' := 127) (d := some 56) (v := .int .u64 (i : Int)) sg9reg rfl (by decide) rfl rfl (y_convI (wanted_free rfl) rfl rfl (conv_i64u64 i (by omega))) hbd ?_
      simp only [Act.put, List.setIfInBounds_toArray, List.set_cons_zero, List.set_cons_succ]
      refine at_takeD (i := 7) (m' := 255) (d := some 57) (v := .slice sa 32 sc) sg9reg rfl (by decide) rfl rfl (y_moveG (wanted_free rfl) rfl rfl) hbd ?_
      simp only [Act.put, List.setIfInBounds_toArray, List.set_cons_zero, List.set_cons_succ]
      refine at_takeD (i := 9) (m' := 767) (d := some 59) (v := .int .u32 (D : Int)) sg9reg rfl (by decide) rfl rfl (y_moveG (wanted_free rfl) rfl rfl) hbd ?_
      simp only [Act.put, List.setIfInBounds_toArray, List.set_cons_zero, List.set_cons_succ]
      refine at_one (i := 8) (m' := 1023) sg9reg (by decide) rfl ?_
      refine p_callG (args := #[.agg #[.int .i64 (k : Int), .int .i64 (P : Int), .int .i64 (s : Int), .int .u64 (c : Int), .slice aa 20 ac], .int .u64 (i : Int), .slice sa 32 sc]) (d := some 58) rfl (wanted_free rfl) rfl (by simp only [List.map_toArray, List.map_cons, List.map_nil]; rfl) rfl Tryz.call109 ((hdr wr.drew (hTr.below kb) (har.below kb) (hsr.below kb)).mono ?_)
      rintro e y10 ⟨dv, rfl, od, g10⟩
      obtain ⟨da, dc, rfl, _⟩ := od.row.opens hXi
      have td := od.tidy
      have rd := od.row
      replace kb := keep_trans kb g10
      have hb10 := but_keep hbd g10
      refine ⟨_, rfl, hb10, ?_⟩
      simp only [Act.put, List.setIfInBounds_toArray, List.set_cons_zero, List.set_cons_succ]
      refine at_one (i := 10) (m' := 2047) sg9reg (by decide) rfl ?_
      refine p_callG (args := #[.agg #[.int .i64 (k : Int), .int .i64 (P : Int), .int .i64 (s : Int), .int .u64 (c : Int), .slice aa 20 ac], .int .i64 (i : Int), .slice da 32 dc, .int .u32 0, .int .u32 (D : Int)]) (d := some 60) rfl (wanted_free rfl) rfl (by simp only [List.map_toArray, List.map_cons, List.map_nil]; rfl) rfl Tryz.call96 ((hal y10 _ (hTr.below kb) (har.below kb) rd td).mono ?_)
      rintro e y11 ⟨xv, rfl, rx, tx, nx, g11⟩
      have kc := kb
      replace kb := keep_trans kb g11
      obtain ⟨xa, xc, rfl, _⟩ := rx.opens hCi
      have hb11 := but_keep hb10 g11
      refine ⟨_, rfl, hb11, ?_⟩
      simp only [Act.put, List.setIfInBounds_toArray, List.set_cons_zero, List.set_cons_succ]
      refine at_takeD (i := 11) (m' := 4095) (d := some 61) (v := .pointer (some ⟨H, i, none⟩)) sg9reg rfl (by decide) rfl rfl (y_ix0 (wanted_free rfl) rfl rfl rfl Tryz.underlying48 (by kernel_rfl) hiP) hb11 ?_
      simp only [Act.put, List.setIfInBounds_toArray, List.set_cons_zero, List.set_cons_succ]
      refine at_one (i := 12) (m' := 8191) sg9reg (by decide) rfl ?_
      refine p_store_plain (P := Tryz.prog) rfl rfl rfl rfl rfl rfl Tryz.underlying23 rfl (by kernel_rfl) ((hUr.below kb).any hiP) ((hUr.below kb).frozen i) ?_
      have hb13 := hb11.setCell i (.slice xa 32 xc)
      refine ⟨hb13, ?_⟩
      refine at_done sg9reg (by decide) ?_
      go_wp2
      obtain ⟨hI, hlt, hbr⟩ := HK.out
      have hn : ∀ q, (Value.slice xa 32 xc).ownBlock = some q → q ≠ H := fun q hq => by
        have hl := hUr.lt
        have hz : wr.drew.heap.size = wr.heap.size := rfl
        rcases nx with nx | nx
        · have h1 := nx q hq
          have h2 := kc.size
          omega
        · rw [nx] at hq
          have h1 := od.new q hq
          omega
      have hnext := PuL.next hUr hbr kb hlt rx tx hn
      rw [← hI] at hnext
      exact ⟨hnext, by simp [intOf]; omega⟩
    · obtain rfl : i = P := by omega
      have hge : ¬ ((i : Int) < (i : Int)) := by omega
      have rp := hUr.rows (by omega)
      have hj1 := hj1H.out
      have hj2 := hj2H.out
      have HK := hide hbw
      clear hX hfi hfC hs hT hb2 hbw hP1 hbr oar hi' hlt haw bx2 hwH ht tt hdb hdl hec rc6 hawc
      go_wp2_with (first
        | (refine wpList_load_mid rfl 124 _ (by rfl) X 0 (by rfl) [.int .i64 (k : Int), .int .i64 (i : Int), .int .i64 (s : Int), .int .u64 (c : Int)] _ bxr.range4 Tryz.underlying124 rfl (by kernel_rfl) ?_)
        | (go_at_call 93; refine (hcd _).mono ?_; rintro e w8 ⟨v8, rfl, o8, g8⟩; obtain ⟨a8, c8, rfl, _⟩ := o8.row.opens (be4_len c))
        | (go_at_call 20; have hu := hj1; clear hj1; refine (hu _ _ (rp.below g8)).mono ?_; rintro e w9 ⟨v9, rfl, o9, g9⟩; obtain ⟨a9, c9, rfl, _⟩ := o9.row.opens rfl; have k9 := keep_trans g8 g9; have rL := rows_litL (B := w9.heap.size) (k := 3) (texts_cons (o8.row.below g9) o8.tidy (texts_cons (rcr.below k9) tcc (texts_cons o9.row o9.tidy (Texts.nil _)))) rfl rfl (by decide))
        | (go_at_call 20; refine (hj2 _ _ rL).mono ?_; rintro e wA ⟨vA, rfl, oA, gA⟩)
        | fail)
      go_ret2
      have kA := keep_trans HK.out (keep_trans k9 (keep_alloc w9 (.cells #[.slice a8 4 c8, .slice ca 32 cc, .slice a9 FL.length c9] 23)))
      exact ⟨_, rfl, oA.mono kA.size, keep_trans kA gA⟩
end Go.Proofs.YtogiballdmgcpaaGreatDoor
