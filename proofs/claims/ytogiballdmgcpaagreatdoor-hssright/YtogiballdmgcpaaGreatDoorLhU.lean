/- Trees of trees: IT IS RIGHT. -/
import Derived.Test.YtogiballdmgcpaaGreatDoorLhE
import Derived.Test.YtogiballdmgcpaaGreatDoorLhQ
import Derived.Test.YtogiballdmgcpaaGreatDoorLsK
import Derived.Test.YtogiballdmgcpaaGreatDoorLtY
import Derived.Test.YtogiballdmgcpaaGreatDoorPlan3
import Derived.BigFrame
namespace Go.Proofs.YtogiballdmgcpaaGreatDoor
open Go.RowKit
set_option linter.unusedVariables false
set_option linter.unusedSimpArgs false

theorem few1G (a0 : Option Addr) (n0 c0 : Nat) (w : World) (G : Nat) (hG : w.heap.size = G) :
    Calls Tryz.prog 7 #[.slice (some ⟨G, 0, none⟩) 1 1] (w.alloc (.cells #[.slice a0 n0 c0] 23)) fun e w' => e = .returned (.bool (decide (n0 ≤ 300))) ∧ Below w.heap.size w w' := by
  subst hG
  exact few1H a0 n0 c0 w
/-- a byte behind a text of the call's own, behind a guard that is met -/
theorem wpList_app0H {ops : Array Oper} {rest : List Oper} {o : Oper} {a : Act} {w : World} {Q : Exit → Act → World → Prop} (hw : Region.wanted o (yielded ops a.tmps) = true) (s x : Operand) (ho : o.op = .call { callee := .builtin .append, args := #[s, x], argTypes := #[23, 23] })
    (B : Nat) (v : Value) (n g1 : Nat) (l : List Nat) (hs : a.eval s = v) (hown : w.ownsRow B 5 1 v n (vals .u8 l)) (hx : a.eval x = .slice (some ⟨g1, 0, none⟩) 1 1) (hc : w.cell? ⟨g1, 0, none⟩ = some (.int .u8 0)) (hn : n ≤ 1000000) (hB : B ≤ w.heap.size)
    (h : ∀ v' w', w'.ownsRow B 5 1 v' (n + 1) (vals .u8 (l ++ [0])) → w.grownBy w' v.ownBlock → wpList Tryz.prog ops Q rest (a.put o.dst v') w') : wpList Tryz.prog ops Q (o :: rest) a w := by
  obtain ⟨i0, hi0, hz0, hz1, hz2⟩ := info_byte
  refine BigFrame.wpList_want hw fun _ hK => wp_append_lies w s x 23 ho B 5 i0 (.int .u8 0) 1 1 Tryz.underlying23 hi0 hz0 hz1 hz2 rfl (by decide) v n (vals .u8 l) hs hown ⟨g1, 0, none⟩ 1 1 [.int .u8 0] hx rfl (fun j u hj => ?_) (fun u hu => ?_) (by decide) (by unfold maxLen; omega) (by omega) hB _ rfl ?_
  · have hj0 : j = 0 := by have := (List.getElem?_eq_some_iff.1 hj).1; simp at this; exact this
    subst hj0
    have : u = .int .u8 0 := by simpa using hj.symm
    rw [this]
    exact hc
  · have : u = .int .u8 0 := by simpa using hu
    rw [this]; rfl
  · intro g cap w' how hg hl hlt
    refine hK _ _ (h _ w' ?_ hg)
    rw [show vals .u8 (l ++ [0]) = vals .u8 l ++ [.int .u8 0] by simp [vals]]
    exact how
theorem one_cell0 (w : World) : (w.alloc (.cells #[.int .u8 0] 5)).cell? ⟨w.heap.size, 0, none⟩ = some (.int .u8 0) := by rw [World.cell?_alloc_at _ _ _ _ rfl]; rfl
/-- a signature is no longer than this -/
theorem hsSig_le {ts : List (Int × Int)} {id seed : List Nat} (hK : FitK ts id.length seed.length) (vs text : List Nat) : (hsSig ts vs id seed text).length ≤ 90000 := by
  have h1 := hsO_flat hK.2.2.1 vs hK.2.2.2.2.1 hK.2.2.2.2.2 (ts.length - 1) (by have := hK.1; omega)
  have h2 := sigG_le (hK.2.2.1 _ (trA_mem (ts := ts) (i := ts.length - 1) (by have := hK.1; omega))) (stH vs id seed (ts.length - 1)).1 (stH vs id seed (ts.length - 1)).2 (el vs (ts.length - 1)) text
  have h3 := hK.2.1
  unfold hsSig
  rw [List.flatten_append, List.length_append]
  simp only [List.flatten_cons, List.flatten_nil, List.append_nil]
  omega
set_option maxHeartbeats 8000000 in
set_option maxRecDepth 100000 in
/-- P16.4, behind the key -/
theorem rt_tailH {w z : World} {KB n8 : Nat} {ts : List (Int × Int)} {id seed text : List Nat} {gt go : Nat} {ia sa xa : Option Addr} {gc ic sc xc : Nat} (y0 y1 y2 y3 y6 y7 y8 y9 y10 y11 y14 y15 y16 y17 y18 y19 y20 y21 y22 y23 y24 y25 y26 y27 y28 y29 y30 y31 y32 y33 y34 y35 y36 y37 y38 y39 y40 y41 y42 y43 y44 y45 y46 y47 y48 y49 y50 y51 y52 y53 y54 y55 y56 y57 y58 y59 y60 y61 y62 y63 y64 y65 y66 y67 y68 y69 y70 y71 y72 y73 y74 y75 y76 y77 y78 y79 y80 y81 y82 y83 : Value) (hT : Roots z) (kw : Below w.heap.size w z) (bk : BxK z KB (.slice (some ⟨gt, go, none⟩) ts.length gc) (.slice ia 16 ic) (.slice sa 32 sc)) (ht : TrS z (.slice (some ⟨gt, go, none⟩) ts.length gc) ts)
    (ri : Row .u8 256 z (.slice ia 16 ic) id) (ti : Tidy (.slice ia 16 ic)) (rs : Row .u8 256 z (.slice sa 32 sc) seed) (tis : Tidy (.slice sa 32 sc)) (rx : Row .u8 256 z (.slice xa text.length xc) text) (tx : Tidy (.slice xa text.length xc)) (htl : text.length ≤ 300) (hid : id.length = 16) (hsd : seed.length = 32) (hK : FitK ts id.length seed.length) (hn : n8 < 256) :
    Code.wp Tryz.prog (cRA (cRA (cRA (Tryz.f5.body.getD .skip)))) (bodyPost Tryz.prog Tryz.f5 fun e w' => e = .returned (.bool true) ∧ Below w.heap.size w w') { tmps := #[y0, y1, y2, y3, .int .u8 (n8 : Int), .slice xa text.length xc, y6, y7, y8, y9, y10, y11, .bool false, .pointer (some ⟨KB, 0, none⟩), y14, y15, y16, y17, y18, y19, y20, y21, y22, y23, y24, y25, y26, y27, y28, y29, y30, y31, y32, y33, y34, y35, y36, y37, y38, y39, y40, y41, y42, y43, y44, y45, y46, y47, y48, y49, y50, y51, y52, y53, y54, y55, y56, y57, y58, y59, y60, y61, y62, y63, y64, y65, y66, y67, y68, y69, y70, y71, y72, y73, y74, y75, y76, y77, y78, y79, y80, y81, y82, y83], defers := [] } z := by
  simp only [Tryz.f5, Option.getD_some, cRA]
  have hLp := lvN_pos ts
  have hLl := lvN_lt hK.2.2.2.1
  have hl1 := fun y (k : Below z.heap.size z y) => clvs_any ts (.slice (some ⟨gt, go, none⟩) ts.length gc) ia sa 16 ic 32 sc y (ht.below k)
  rw [if_pos (by rw [hid, hsd] at hK; exact hK)] at hl1
  have hpub := fun y (k : Below z.heap.size z y) => cpubH_ok ts _ _ _ id seed y (ht.below k) (ri.below k) ti (rs.below k) tis (hT.below k) hK
  obtain ⟨q, hq⟩ : ∃ q, q = n8 % lvN ts := ⟨_, rfl⟩
  have hql : q < lvN ts := by rw [hq]; exact Nat.mod_lt _ hLp
  have hsgn := fun y (k : Below z.heap.size z y) => csgnH_ok ts _ _ _ _ id seed text q y (ht.below k) (ri.below k) ti (rs.below k) tis (rx.below k) tx (hT.below k) (by omega) hK hql
  obtain ⟨v1, v2⟩ := vfH_right hK q text
  have v20 := v2 0
  have hSl := hsSig_le hK (vecF ts q) text
  obtain ⟨PK, hPK⟩ : ∃ x, x = be4 ts.length ++ pubG (trA ts 0) id seed := ⟨_, rfl⟩
  obtain ⟨SG, hSG⟩ : ∃ x, x = hsSig ts (vecF ts q) id seed text := ⟨_, rfl⟩
  rw [← hPK] at hpub v1 v20
  rw [← hSG] at hsgn v1 v20 hSl
  have hvf := fun y (kb : Below z.heap.size z y) pv sg sl (rp : Row .u8 256 y pv PK) (rg : Row .u8 256 y sg sl) (hl : sl.length ≤ 100000) => cvfH_any PK text sl pv (.slice xa text.length xc) sg y (hT.below kb) rp (rx.below kb) tx (by omega) rg hl
  have hv1 := fun y kb pv sg rp rg => hvf y kb pv sg SG rp rg (by omega)
  have hv2 := fun y kb pv sg rp rg => hvf y kb pv sg (SG ++ [0]) rp rg (by rw [List.length_append, List.length_singleton]; omega)
  simp only [v1] at hv1
  simp only [v20] at hv2
  have haw := fun y (kb : Below z.heap.size z y) => awakeH_any y (hT.below kb)
  obtain ⟨L, hL⟩ : ∃ L, L = lvN ts := ⟨_, rfl⟩
  rw [← hL] at hl1 hLp hLl hq
  have hL0 : ¬ (L : Int) = 0 := by omega
  have hL0b : ((L : Int) == 0) = false := by simp; omega
  have e_q : (n8 : Int) % (L : Int) = (q : Int) := by rw [hq]; norm_cast
  have e_q2 : (n8 : Int).tmod (L : Int) = (q : Int) := by rw [hq]; norm_cast
  have s_q : IntKind.u64.wrap (q : Int) = (q : Int) := by rw [IntKind.wrap_u64]; omega
  have s_n : IntKind.u64.wrap (n8 : Int) = (n8 : Int) := by rw [IntKind.wrap_u64]; omega
  obtain ⟨SL, hSLn⟩ : ∃ x, SG.length = x := ⟨_, rfl⟩
  obtain ⟨PL, hPLn⟩ : ∃ x, PK.length = x := ⟨_, rfl⟩
  have HL := hide (And.intro hSLn (And.intro hSl hLp))
  have HW := hide kw
  generalize text.length = TL at *
  generalize ts.length = TN at *
  clear hT ht ri ti rs tis rx tx htl hid hsd hK hn hLp hLl hq hql v1 v2 v20 hSl hPK hSG hvf hL hSLn kw
  go_wp2_with (first
    | (go_at_call 8; refine (haw _ k7).mono ?_; rintro e w8 ⟨rfl, g8⟩)
    | (go_at_call 14; refine (hv2 _ k6 _ _ (rp.below kp6) oZ.row).mono ?_; rintro e w7 ⟨rfl, g7⟩; have k7 := keep_trans k6 g7)
    | (at_builtin; refine wpList_app0H (by rfl) _ _ rfl w3.heap.size _ SL (w5.heap.size) SG rfl oY rfl hc5 (by have := HL.out.1; have := HL.out.2.1; omega) mY ?_; intro vY w6 howY hgY; have kp6 := below_append' (keep_trans g4 (keep_trans g5 kA)) mY oY hgY; have k6 := keep_trans k3 kp6; have oZ : Own 5 .u8 256 w6 w3.heap.size vY (SG ++ [0]) := ⟨by rw [List.length_append, HL.out.1]; exact howY, hUs.append (Under.one (by decide))⟩)
    | (go_at_call 14; refine (hv1 _ k4 _ _ (rp.below g4) og.row).mono ?_; rintro e w5 ⟨rfl, g5⟩; have k5 := keep_trans k4 g5; have kA := keep_alloc w5 (.cells #[.int .u8 0] 5); have hc5 := one_cell0 w5; have oY := (((og.lift g5).lift kA).1); rw [HL.out.1] at oY; have hUs := og.2; have mY := (keep_trans g4 (keep_trans g5 kA)).size)
    | (go_at_call 11; refine (hsgn _ k3).mono ?_; rintro e w4 ⟨sg, rfl, og, g4⟩; obtain ⟨ga4, gc4, rfl, _⟩ := og.row.opens HL.out.1; have k4 := keep_trans k3 g4)
    | (refine wpList_load_row rfl 25 _ (by rfl) KB (by rfl) _ _ _ _ b3.here Tryz.underlying25 rfl (by kernel_rfl) ?_; clear b3)
    | (go_at_call 9; refine (hpub _ k2).mono ?_; rintro e w3 ⟨pv, rfl, op, g3⟩; obtain ⟨pa, pc, rfl, _⟩ := op.row.opens hPLn; have rp := op.row; have k3 := keep_trans k2 g3; have b3 := b2.below g3; clear b2)
    | (refine wpList_load_row rfl 25 _ (by rfl) KB (by rfl) _ _ _ _ b2.here Tryz.underlying25 rfl (by kernel_rfl) ?_)
    | (go_at_call 16; refine (hl1 _ (Below.refl _ _)).mono ?_; rintro e w2 ⟨rfl, g2⟩; have k2 := g2; have b2 := bk.below g2; clear bk)
    | (refine wpList_load_row rfl 25 _ (by rfl) KB (by rfl) _ _ _ _ bk.here Tryz.underlying25 rfl (by kernel_rfl) ?_)
    | fail)
  go_ret
  exact ⟨rfl, keep_trans HW.out (keep_trans k7 g8)⟩
def hr3lt : List Lt := [(0, some 25, []), (0, some 26, [0]), (2, some 27, [26]), (4, some 28, [27]), (8, some 29, [28]), (0, some 30, [1]), (32, some 31, [30]), (64, some 32, [31]), (128, some 33, [32]), (272, some 34, [29, 33]), (513, some 35, [25, 34]), (0, some 36, [8]), (0, some 37, [9]), (7168, some 38, [35, 36, 37]), (0, some 13, []), (32767, none, [13, 38])]
theorem hr3reg : Reg (opsA (cLA (cRA (cRA (Tryz.f5.body.getD .skip))))) hr3lt := ⟨by kernel_rfl, by kernel_rfl⟩
theorem y_remU8H {ops : Array Oper} {S : World → Prop} {o : Oper} {a : Act} {x y : Operand} {t t' : TypeId} {i j q : Int} (hw : Region.wanted o (yielded ops a.tmps) = true) (ho : o.op = .binOp .rem t x y t') (hx : a.eval x = .int .u8 i) (hy : a.eval y = .int .u8 j) (hu : Tryz.prog.underlying t = some (.int .u8)) (hj : ¬ j = 0) (hb : i % j = q ∧ i.tmod j = q ∧ IntKind.u8.wrap q = q) : YieldsIf Tryz.prog ops S o (.int .u8 q) a := by
  refine y_ofG hw fun w _ => ?_
  obtain ⟨h1, h2, h3⟩ := hb
  unfold execOp
  simp only [ho, hx, hy]
  simp [go_sem, hu, hj, h1, h2, h3]
set_option maxHeartbeats 8000000 in
set_option maxRecDepth 100000 in
/-- P16.4 -/
theorem rt_rightH (h8 w8 n8 h k : Nat) (id seed text : List Nat) (tv : Value) (w : World) (hT : Roots w) (hh8 : h8 < 256) (hw8 : w8 < 256) (hn8 : n8 < 256) (hh : h = 1 + h8 % 2) (hk : k = 1 + w8 % 2) (hil : id.length = 16) (hsl : seed.length = 32) (ui : Under 256 id) (us : Under 256 seed) (hK : FitK [(1, 1), ((h : Int), (k : Int))] 16 32)
    (rt : Row .u8 256 w tv text) (tt : Tidy tv) (htl : text.length ≤ 300) :
    Calls Tryz.prog 5 #[.int .u8 (h8 : Int), .int .u8 (w8 : Int), .agg (arr .u8 id), .agg (arr .u8 seed), .int .u8 (n8 : Int), tv] w fun e w' => e = .returned (.bool true) ∧ Below w.heap.size w w' := by
  obtain ⟨ta, tc, rfl, _⟩ := rt.opens rfl
  obtain ⟨rI, rS, hW, hWs⟩ := boxM_all w hil hsl ui us
  have tI : Tidy (.slice (some ⟨w.heap.size, 0, none⟩) 16 16) := fun n c e => by cases e
  have tS : Tidy (.slice (some ⟨w.heap.size + 1, 0, none⟩) 32 32) := fun n c e => by cases e
  have hfe := few1G ta text.length tc (boxM w id seed) _ hWs
  rw [decide_eq_true htl] at hfe
  have hTB := hT.below hW
  have rtB := rt.below hW
  obtain ⟨r8, hr8⟩ : ∃ x : Nat, x = h8 % 2 := ⟨_, rfl⟩
  obtain ⟨p8, hp8⟩ : ∃ x : Nat, x = w8 % 2 := ⟨_, rfl⟩
  have e_r : (h8 : Int) % 2 = (r8 : Int) ∧ (h8 : Int).tmod 2 = (r8 : Int) ∧ IntKind.u8.wrap (r8 : Int) = (r8 : Int) := ⟨by omega, by rw [Int.tmod_eq_emod_of_nonneg (by omega)]; omega, by rw [IntKind.wrap_u8]; omega⟩
  have e_p : (w8 : Int) % 2 = (p8 : Int) ∧ (w8 : Int).tmod 2 = (p8 : Int) ∧ IntKind.u8.wrap (p8 : Int) = (p8 : Int) := ⟨by omega, by rw [Int.tmod_eq_emod_of_nonneg (by omega)]; omega, by rw [IntKind.wrap_u8]; omega⟩
  have w_r : IntKind.i64.wrap (r8 : Int) = (r8 : Int) := by rw [IntKind.wrap_i64]; omega
  have w_p : IntKind.i64.wrap (p8 : Int) = (p8 : Int) := by rw [IntKind.wrap_i64]; omega
  have c_r : ∀ w : World, (convert 5 3 (.int .u8 (r8 : Int))).run Tryz.prog w = .ok (.int .i64 (r8 : Int)) w := fun w => by simp [go_sem, convert, Sem.run_bind, run_underlying Tryz.underlying3, run_underlying Tryz.underlying5, w_r]
  have c_p : ∀ w : World, (convert 5 3 (.int .u8 (p8 : Int))).run Tryz.prog w = .ok (.int .i64 (p8 : Int)) w := fun w => by simp [go_sem, convert, Sem.run_bind, run_underlying Tryz.underlying3, run_underlying Tryz.underlying5, w_p]
  have e_h : IntKind.i64.wrap ((1 : Int) + (r8 : Int)) = (h : Int) := by rw [IntKind.wrap_i64]; omega
  have e_k : IntKind.i64.wrap ((1 : Int) + (p8 : Int)) = (k : Int) := by rw [IntKind.wrap_i64]; omega
  have n2 : ¬ (2 : Int) = 0 := by decide
  have hAs : (arr .u8 id).size = 16 := by rw [arr_size, hil]
  have hBs : (arr .u8 seed).size = 32 := by rw [arr_size, hsl]
  have HA := hide (And.intro hTB (And.intro rI (And.intro rS (And.intro rtB (And.intro hW (And.intro tI (And.intro tS (And.intro hil (And.intro hsl (And.intro hK (And.intro htl (And.intro tt hn8))))))))))))
  clear hTB rI rS rtB hW tI tS hil hsl hK htl tt hn8 hr8 hp8 hh hk rt hT ui us hWs hh8 hw8
  go_enter Tryz.func5, Tryz.ntmps5
  go_wp2_with (first
    | (go_at_call 7; refine hfe.mono ?_; rintro e x0 ⟨rfl, g0⟩)
    | fail)
  rename_i K3 hK3
  obtain ⟨hTB, rI, rS, rtB, hW, tI, tS, hil, hsl, hK, htl, tt, hn8⟩ := HA.out
  have hbd : Below x0.heap.size x0 x0.drew := (Below.refl _ _).drew
  refine at_begin (ops := opsA (cLA (cRA (cRA (Tryz.f5.body.getD .skip))))) (n := 16) (fun y => Below x0.heap.size x0 y) (by kernel_rfl) (by kernel_rfl) ?_
  refine at_takeD (i := 0) (m' := 1) (d := some 25) (v := .agg #[.int .i64 1, .int .i64 1]) hr3reg rfl (by decide) rfl rfl (y_buildTrH (wanted_free rfl) rfl rfl rfl) hbd ?_
  simp only [Act.put, List.setIfInBounds_toArray, List.set_cons_zero, List.set_cons_succ]
  refine at_takeD (i := 1) (m' := 3) (d := some 26) (v := .int .u8 (h8 : Int)) hr3reg rfl (by decide) rfl rfl (y_moveG (wanted_free rfl) rfl rfl) hbd ?_
  simp only [Act.put, List.setIfInBounds_toArray, List.set_cons_zero, List.set_cons_succ]
  refine at_takeD (i := 2) (m' := 7) (d := some 27) (v := .int .u8 (r8 : Int)) hr3reg rfl (by decide) rfl rfl (y_remU8H (wanted_free rfl) rfl rfl rfl Tryz.underlying5 n2 e_r) hbd ?_
  simp only [Act.put, List.setIfInBounds_toArray, List.set_cons_zero, List.set_cons_succ]
  refine at_takeD (i := 3) (m' := 15) (d := some 28) (v := .int .i64 (r8 : Int)) hr3reg rfl (by decide) rfl rfl (y_convI (wanted_free rfl) rfl rfl c_r) hbd ?_
  simp only [Act.put, List.setIfInBounds_toArray, List.set_cons_zero, List.set_cons_succ]
  refine at_takeD (i := 4) (m' := 31) (d := some 29) (v := .int .i64 (h : Int)) hr3reg rfl (by decide) rfl rfl (y_addI (wanted_free rfl) rfl rfl rfl Tryz.underlying3 e_h) hbd ?_
  simp only [Act.put, List.setIfInBounds_toArray, List.set_cons_zero, List.set_cons_succ]
  refine at_takeD (i := 5) (m' := 63) (d := some 30) (v := .int .u8 (w8 : Int)) hr3reg rfl (by decide) rfl rfl (y_moveG (wanted_free rfl) rfl rfl) hbd ?_
  simp only [Act.put, List.setIfInBounds_toArray, List.set_cons_zero, List.set_cons_succ]
  refine at_takeD (i := 6) (m' := 127) (d := some 31) (v := .int .u8 (p8 : Int)) hr3reg rfl (by decide) rfl rfl (y_remU8H (wanted_free rfl) rfl rfl rfl Tryz.underlying5 n2 e_p) hbd ?_
  simp only [Act.put, List.setIfInBounds_toArray, List.set_cons_zero, List.set_cons_succ]
  refine at_takeD (i := 7) (m' := 255) (d := some 32) (v := .int .i64 (p8 : Int)) hr3reg rfl (by decide) rfl rfl (y_convI (wanted_free rfl) rfl rfl c_p) hbd ?_
  simp only [Act.put, List.setIfInBounds_toArray, List.set_cons_zero, List.set_cons_succ]
  refine at_takeD (i := 8) (m' := 511) (d := some 33) (v := .int .i64 (k : Int)) hr3reg rfl (by decide) rfl rfl (y_addI (wanted_free rfl) rfl rfl rfl Tryz.underlying3 e_k) hbd ?_
  simp only [Act.put, List.setIfInBounds_toArray, List.set_cons_zero, List.set_cons_succ]
  refine at_takeD (i := 9) (m' := 1023) (d := some 34) (v := .agg #[.int .i64 (h : Int), .int .i64 (k : Int)]) hr3reg rfl (by decide) rfl rfl (y_buildTrH (wanted_free rfl) rfl rfl rfl) hbd ?_
  simp only [Act.put, List.setIfInBounds_toArray, List.set_cons_zero, List.set_cons_succ]
  refine at_takeD (i := 11) (m' := 3071) (d := some 36) (v := .slice (some ⟨w.heap.size, 0, none⟩) 16 16) hr3reg rfl (by decide) rfl rfl (y_arr16 (wanted_free rfl) rfl rfl) hbd ?_
  simp only [Act.put, List.setIfInBounds_toArray, List.set_cons_zero, List.set_cons_succ]
  refine at_takeD (i := 12) (m' := 7167) (d := some 37) (v := .slice (some ⟨w.heap.size + 1, 0, none⟩) 32 32) hr3reg rfl (by decide) rfl rfl (y_arr32 (wanted_free rfl) rfl rfl) hbd ?_
  simp only [Act.put, List.setIfInBounds_toArray, List.set_cons_zero, List.set_cons_succ]
  refine at_two (i := 10) (j := 14) (m1 := 8191) (m2 := 23551) hr3reg (by decide) rfl rfl ?_ ?_
  · refine p_trees2H (d := some 35) rfl (wanted_free rfl) rfl rfl rfl rfl ?_
    have rt := trs_twoH (x0.drew) 1 1 (h : Int) (k : Int)
    have kz13 := keep_alloc (x0.drew) (.cells #[.int .i64 1, .int .i64 1, .int .i64 (h : Int), .int .i64 (k : Int)] 45)
    try replace bk := bk.below kz13
    obtain ⟨GT, hGT⟩ : ∃ q : Nat, (x0.drew).heap.size = q := ⟨_, rfl⟩
    obtain ⟨z13, hz13⟩ : ∃ z : World, z = (x0.drew).alloc (.cells #[.int .i64 1, .int .i64 1, .int .i64 (h : Int), .int .i64 (k : Int)] 45) := ⟨_, rfl⟩
    have hb13 := keep_trans hbd kz13
    try rw [← hz13] at rt
    try rw [← hz13] at bk
    rw [← hz13] at hb13 ⊢
    rw [hGT] at rt ⊢
    clear hGT hz13
    refine ⟨hb13, ?_⟩
    simp only [Act.put, List.setIfInBounds_toArray, List.set_cons_zero, List.set_cons_succ]
    refine at_takeD (i := 13) (m' := 16383) (d := some 38) (v := .agg #[.slice (some ⟨GT, 0, none⟩) 2 2, .slice (some ⟨w.heap.size, 0, none⟩) 16 16, .slice (some ⟨w.heap.size + 1, 0, none⟩) 32 32]) hr3reg rfl (by decide) rfl rfl (y_buildKyH (wanted_free rfl) rfl rfl rfl rfl) hb13 ?_
    simp only [Act.put, List.setIfInBounds_toArray, List.set_cons_zero, List.set_cons_succ]
    refine at_one (i := 14) (m' := 32767) hr3reg (by decide) rfl ?_
    refine p_allocKyH (d := some 13) rfl (wanted_free rfl) rfl rfl ?_
    have hGB0 : x0.heap.size ≤ (z13).heap.size := (hb13).size
    have bk := BxK.new (z13) (.slice none 0 0) (.slice none 0 0) (.slice none 0 0)
    have kz15 := keep_alloc (z13) (.cells #[.slice none 0 0, .slice none 0 0, .slice none 0 0] 25)
    try replace rt := rt.below kz15
    obtain ⟨GB, hGB⟩ : ∃ q : Nat, (z13).heap.size = q := ⟨_, rfl⟩
    obtain ⟨z15, hz15⟩ : ∃ z : World, z = (z13).alloc (.cells #[.slice none 0 0, .slice none 0 0, .slice none 0 0] 25) := ⟨_, rfl⟩
    have hb15 := keep_trans hb13 kz15
    try rw [← hz15] at rt
    try rw [← hz15] at bk
    rw [← hz15] at hb15 ⊢
    rw [hGB] at bk hGB0 ⊢
    clear hGB hz15
    refine ⟨hb15, ?_⟩
    simp only [Act.put, List.setIfInBounds_toArray, List.set_cons_zero, List.set_cons_succ]
    refine at_one (i := 15) (m' := 65535) hr3reg (by decide) rfl ?_
    refine p_rowA (cells := #[.slice (some ⟨GT, 0, none⟩) 2 2, .slice (some ⟨w.heap.size, 0, none⟩) 16 16, .slice (some ⟨w.heap.size + 1, 0, none⟩) 32 32]) rfl rfl rfl rfl rfl rfl bk.here (by kernel_rfl) rfl (by simp [Value.oneCell']) ?_
    have hb16 := below_setRow (vs := #[.slice (some ⟨GT, 0, none⟩) 2 2, .slice (some ⟨w.heap.size, 0, none⟩) 16 16, .slice (some ⟨w.heap.size + 1, 0, none⟩) 32 32]) hb15 hGB0
    have hBk : But GB z15 (World.setRow z15 GB #[.slice (some ⟨GT, 0, none⟩) 2 2, .slice (some ⟨w.heap.size, 0, none⟩) 16 16, .slice (some ⟨w.heap.size + 1, 0, none⟩) 32 32]) := (But.refl _ _).setRow _
    refine ⟨hb16, ?_⟩
    refine at_done hr3reg (by decide) ?_
    refine hK3 _ _ ?_
    have nt := trs_ne rt bk
    have kz9 := keep_trans g0 (hb16)
    exact rt_tailH (ts := [(1, 1), ((h : Int), (k : Int))]) (id := id) (seed := seed) _ _ _ _ _ _ _ _ _ _ _ _ _ _ _ _ _ _ _ _ _ _ _ _ _ _ _ _ _ _ _ _ _ _ _ _ _ _ _ _ _ _ _ _ _ _ _ _ _ _ _ _ _ _ _ _ _ _ _ _ _ _ _ _ _ _ _ _ _ _ _ _ _ _ _ _ _ _ _ _ (hTB.below kz9) (keep_trans hW kz9) bk.rowH (trs_but rt hBk nt) (rI.below kz9) tI (rS.below kz9) tS (rtB.below kz9) tt htl hil hsl (by rw [hil, hsl]; exact hK) hn8
  · refine p_allocKyH (d := some 13) rfl (wanted_free rfl) rfl rfl ?_
    have hGB0 : x0.heap.size ≤ (x0.drew).heap.size := (hbd).size
    have bk := BxK.new (x0.drew) (.slice none 0 0) (.slice none 0 0) (.slice none 0 0)
    have kz13 := keep_alloc (x0.drew) (.cells #[.slice none 0 0, .slice none 0 0, .slice none 0 0] 25)
    try replace rt := rt.below kz13
    obtain ⟨GB, hGB⟩ : ∃ q : Nat, (x0.drew).heap.size = q := ⟨_, rfl⟩
    obtain ⟨z13, hz13⟩ : ∃ z : World, z = (x0.drew).alloc (.cells #[.slice none 0 0, .slice none 0 0, .slice none 0 0] 25) := ⟨_, rfl⟩
    have hb13 := keep_trans hbd kz13
    try rw [← hz13] at rt
    try rw [← hz13] at bk
    rw [← hz13] at hb13 ⊢
    rw [hGB] at bk hGB0 ⊢
    clear hGB hz13
    refine ⟨hb13, ?_⟩
    simp only [Act.put, List.setIfInBounds_toArray, List.set_cons_zero, List.set_cons_succ]
    refine at_one (i := 10) (m' := 24575) hr3reg (by decide) rfl ?_
    refine p_trees2H (d := some 35) rfl (wanted_free rfl) rfl rfl rfl rfl ?_
    have rt := trs_twoH (z13) 1 1 (h : Int) (k : Int)
    have kz14 := keep_alloc (z13) (.cells #[.int .i64 1, .int .i64 1, .int .i64 (h : Int), .int .i64 (k : Int)] 45)
    try replace bk := bk.below kz14
    obtain ⟨GT, hGT⟩ : ∃ q : Nat, (z13).heap.size = q := ⟨_, rfl⟩
    obtain ⟨z14, hz14⟩ : ∃ z : World, z = (z13).alloc (.cells #[.int .i64 1, .int .i64 1, .int .i64 (h : Int), .int .i64 (k : Int)] 45) := ⟨_, rfl⟩
    have hb14 := keep_trans hb13 kz14
    try rw [← hz14] at rt
    try rw [← hz14] at bk
    rw [← hz14] at hb14 ⊢
    rw [hGT] at rt ⊢
    clear hGT hz14
    refine ⟨hb14, ?_⟩
    simp only [Act.put, List.setIfInBounds_toArray, List.set_cons_zero, List.set_cons_succ]
    refine at_takeD (i := 13) (m' := 32767) (d := some 38) (v := .agg #[.slice (some ⟨GT, 0, none⟩) 2 2, .slice (some ⟨w.heap.size, 0, none⟩) 16 16, .slice (some ⟨w.heap.size + 1, 0, none⟩) 32 32]) hr3reg rfl (by decide) rfl rfl (y_buildKyH (wanted_free rfl) rfl rfl rfl rfl) hb14 ?_
    simp only [Act.put, List.setIfInBounds_toArray, List.set_cons_zero, List.set_cons_succ]
    refine at_one (i := 15) (m' := 65535) hr3reg (by decide) rfl ?_
    refine p_rowA (cells := #[.slice (some ⟨GT, 0, none⟩) 2 2, .slice (some ⟨w.heap.size, 0, none⟩) 16 16, .slice (some ⟨w.heap.size + 1, 0, none⟩) 32 32]) rfl rfl rfl rfl rfl rfl bk.here (by kernel_rfl) rfl (by simp [Value.oneCell']) ?_
    have hb16 := below_setRow (vs := #[.slice (some ⟨GT, 0, none⟩) 2 2, .slice (some ⟨w.heap.size, 0, none⟩) 16 16, .slice (some ⟨w.heap.size + 1, 0, none⟩) 32 32]) hb14 hGB0
    have hBk : But GB z14 (World.setRow z14 GB #[.slice (some ⟨GT, 0, none⟩) 2 2, .slice (some ⟨w.heap.size, 0, none⟩) 16 16, .slice (some ⟨w.heap.size + 1, 0, none⟩) 32 32]) := (But.refl _ _).setRow _
    refine ⟨hb16, ?_⟩
    refine at_done hr3reg (by decide) ?_
    refine hK3 _ _ ?_
    have nt := trs_ne rt bk
    have kz9 := keep_trans g0 (hb16)
    exact rt_tailH (ts := [(1, 1), ((h : Int), (k : Int))]) (id := id) (seed := seed) _ _ _ _ _ _ _ _ _ _ _ _ _ _ _ _ _ _ _ _ _ _ _ _ _ _ _ _ _ _ _ _ _ _ _ _ _ _ _ _ _ _ _ _ _ _ _ _ _ _ _ _ _ _ _ _ _ _ _ _ _ _ _ _ _ _ _ _ _ _ _ _ _ _ _ _ _ _ _ _ (hTB.below kz9) (keep_trans hW kz9) bk.rowH (trs_but rt hBk nt) (rI.below kz9) tI (rS.below kz9) tS (rtB.below kz9) tt htl hil hsl (by rw [hil, hsl]; exact hK) hn8
end Go.Proofs.YtogiballdmgcpaaGreatDoor
