/- Trees of leaves that sign once: IT IS RIGHT. -/
import Derived.Test.YtefndnbaifiboaaDoorLsK
import Derived.Test.YtefndnbaifiboaaDoorLsP
import Derived.Test.YtefndnbaifiboaaDoorLsR
import Derived.Test.YtefndnbaifiboaaDoorPgF
namespace Go.Proofs.YtefndnbaifiboaaDoor
open Go.RowKit
set_option linter.unusedVariables false
set_option linter.unusedSimpArgs false

/-- the world with an id and a seed in boxes -/
def boxM (w : World) (a b : List Nat) : World := (w.alloc (.cells (arr .u8 a) 22)).alloc (.cells (arr .u8 b) 23)
theorem boxM_all (w : World) {a b : List Nat} (ha : a.length = 16) (hb : b.length = 32) (ua : Under 256 a) (ub : Under 256 b) :
    Row .u8 256 (boxM w a b) (.slice (some ⟨w.heap.size, 0, none⟩) 16 16) a ∧ Row .u8 256 (boxM w a b) (.slice (some ⟨w.heap.size + 1, 0, none⟩) 32 32) b ∧ Below w.heap.size w (boxM w a b) ∧ (boxM w a b).heap.size = w.heap.size + 1 + 1 := by
  have h1 : (boxM w a b).heap[w.heap.size]? = some (.cells (arr .u8 a) 22 (0, 0)) := by
    unfold boxM
    have h0 := heap_alloc_new w (.cells (arr .u8 a) 22)
    exact ((keep_alloc (w.alloc (.cells (arr .u8 a) 22)) (.cells (arr .u8 b) 23)).block _ (by rw [World.size_alloc]; exact Nat.lt_succ_self _)).trans h0
  have h2 : (boxM w a b).heap[w.heap.size + 1]? = some (.cells (arr .u8 b) 23 (0, 0)) := by
    unfold boxM
    have h0 := heap_alloc_new (w.alloc (.cells (arr .u8 a) 22)) (.cells (arr .u8 b) 23)
    rw [World.size_alloc] at h0
    exact h0
  have r1 := row_boxL h1 ua (by omega)
  have r2 := row_boxL h2 ub (by omega)
  rw [ha] at r1
  rw [hb] at r2
  exact ⟨r1, r2, keep_trans (keep_alloc _ _) (keep_alloc _ _), by unfold boxM; simp⟩
theorem few2G (a0 a1 : Option Addr) (n0 n1 c0 c1 : Nat) (w : World) (G : Nat) (hG : w.heap.size = G) :
    Calls Tryd.prog 4 #[.slice (some ⟨G, 0, none⟩) 2 2] (w.alloc (.cells #[.slice a0 n0 c0, .slice a1 n1 c1] 25)) fun e w' => e = .returned (.bool (decide (n0 ≤ 300 ∧ n1 ≤ 300))) ∧ Below w.heap.size w w' := by
  subst hG
  exact few2M a0 a1 n0 n1 c0 c1 w
theorem own_mtS (w : World) (e : TypeId) : (w.alloc (.cells #[] e)).ownsRow w.heap.size e 1 (.slice (some ⟨w.heap.size, 0, none⟩) 0 0) 0 [] := by
  have := World.ownsRow_lit (base := w.heap.size) (e := e) (size := 1) w #[] 0 (Nat.le_refl _) (by decide) rfl
  exact this
theorem wpList_load_rowW {ops : Array Oper} {rest : List Oper} {o : Oper} {a : Act} {w : World} {Q : Exit → Act → World → Prop} (hw : Region.wanted o (yielded ops a.tmps) = true) (ty : TypeId) (x : Operand) (ho : o.op = .load ty x)
    (g : Nat) (hx : a.eval x = .pointer (some ⟨g, 0, none⟩)) (t : TypeId) (cs : Array Value) (fr : Nat × Nat) (fs : Array Field) (hg : w.heap[g]? = some (.cells cs t fr))
    (hu : Tryd.prog.underlying ty = some (.struct fs)) (hi : (Tryd.prog.info? ty).map (·.size) = some cs.size)
    (h : wpList Tryd.prog ops Q rest (a.put o.dst (.agg cs)) w) : wpList Tryd.prog ops Q (o :: rest) a w :=
  BigFrame.wpList_want hw fun _ hK => wp_load_row ty x ho g hx t cs fr (.struct fs) hg hu rfl hi (hK _ _ h)
theorem set_back (l : List Nat) (h0 : el l 0 = 0) (hl : 0 < l.length) : (l.set 0 1).set 0 0 = l := by
  cases l with
  | nil => simp at hl
  | cons a t =>
    have : a = 0 := h0
    subst this
    rfl
theorem el_set_same (l : List Nat) (hl : 0 < l.length) : el (l.set 0 1) 0 = 1 := by
  cases l with
  | nil => simp at hl
  | cons a t => rfl
/-- P15.5, by a leaf that there is not -/
theorem rt_tailA {w z : World} {q M h : Nat} {pa : Option Addr} {pc : Nat} {T : Nat} (y0 y1 y2 y3 y5 y6 y7 y8 y9 y10 y11 y12 y13 y20 y21 y22 y23 y24 y25 y26 y27 y28 y29 y30 y31 y32 y33 y34 y35 y36 y37 y38 y39 y40 y41 y42 y43 y44 y45 y46 y47 y48 y49 y50 y51 y52 y53 y54 y55 y56 y57 y58 y59 y60 y61 y62 y63 y64 y65 y66 y67 y68 y69 y70 y71 y72 y73 y74 y75 y76 y77 y78 y79 y80 y81 y82 y83 y84 y85 y86 y87 y88 y89 y90 y91 y92 y93 y94 y95 y96 y97 y98 y99 y100 y101 y102 y103 y104 y105 y106 y107 y108 y109 y110 y111 y112 y113 y114 y115 y116 y117 y118 y119 y120 y121 y122 y123 y124 y125 y126 y127 y128 y129 y130 y131 y132 y133 y134 y135 y136 y137 y138 y139 y140 y141 y142 y143 y144 y145 y146 y147 y148 y149 : Value) (kz : Below w.heap.size w z) (bT : z.cell? ⟨T, 0, none⟩ = some (.int .i64 (h : Int))) (hh : h ≤ 2) (hM : Hid (M = 2 ^ h)) (e_M : (2 : Int) ^ h = (M : Int)) (hM4 : M ≤ 4) (hq : M ≤ q) (hq2 : q < 4294967296) :
    Code.wp Tryd.prog (cRA (cRA (cRA (cRA (cRA (Tryd.f3.body.getD .skip)))))) (bodyPost Tryd.prog Tryd.f3 fun e w' => e = .returned (.bool true) ∧ Below w.heap.size w w') { tmps := #[y0, y1, y2, y3, .int .u32 (q : Int), y5, y6, y7, y8, y9, y10, y11, y12, y13, .bool false, .pointer (some ⟨T, 0, none⟩), .slice pa 56 pc, .int .i64 0, .slice none 0 0, .int .i64 13, y20, y21, y22, y23, y24, y25, y26, y27, y28, y29, y30, y31, y32, y33, y34, y35, y36, y37, y38, y39, y40, y41, y42, y43, y44, y45, y46, y47, y48, y49, y50, y51, y52, y53, y54, y55, y56, y57, y58, y59, y60, y61, y62, y63, y64, y65, y66, y67, y68, y69, y70, y71, y72, y73, y74, y75, y76, y77, y78, y79, y80, y81, y82, y83, y84, y85, y86, y87, y88, y89, y90, y91, y92, y93, y94, y95, y96, y97, y98, y99, y100, y101, y102, y103, y104, y105, y106, y107, y108, y109, y110, y111, y112, y113, y114, y115, y116, y117, y118, y119, y120, y121, y122, y123, y124, y125, y126, y127, y128, y129, y130, y131, y132, y133, y134, y135, y136, y137, y138, y139, y140, y141, y142, y143, y144, y145, y146, y147, y148, y149], defers := [] } z := by
  simp only [Tryd.f3, Option.getD_some, cRA]
  have e_S : (2 : Int) ^ (min h 32) % 4294967296 = (M : Int) := by rw [Nat.min_eq_left (by omega), e_M]; omega
  have hge : (q : Int) ≥ (M : Int) := by omega
  have hge2 : ¬ (q : Int) < (M : Int) := by omega
  have u_M : IntKind.u32.wrap (M : Int) = (M : Int) := by rw [IntKind.wrap_u32]; omega
  clear hq hM4 hq2 hh
  go_wp2_with (first
    | (go_at_call 5; refine (awakeM_any _).mono ?_; rintro e x9 ⟨rfl, g9⟩)
    | fail)
  go_ret
  exact ⟨rfl, keep_trans kz g9⟩
set_option maxHeartbeats 8000000 in
set_option maxRecDepth 100000 in
/-- P15.5 -/
theorem rt_tailB {w z0 z : World} {q M h k n m s c GL gb gc : Nat} {pa xa : Option Addr} {pc xc : Nat} {ta : Option Addr} {tc : Nat} {T : Nat} {PB SG SF text more : List Nat} (y0 y1 y2 y3 y7 y8 y9 y10 y11 y12 y13 y20 y21 y22 y23 y24 y25 y26 y27 y28 y29 y30 y31 y32 y33 y34 y35 y36 y37 y38 y39 y40 y41 y42 y43 y44 y45 y46 y47 y48 y49 y50 y51 y52 y53 y54 y55 y56 y57 y58 y59 y60 y61 y62 y63 y64 y65 y66 y67 y68 y69 y70 y71 y72 y73 y74 y75 y76 y77 y78 y79 y80 y81 y82 y83 y84 y85 y86 y87 y88 y89 y90 y91 y92 y93 y94 y95 y96 y97 y98 y99 y100 y101 y102 y103 y104 y105 y106 y107 y108 y109 y110 y111 y112 y113 y114 y115 y116 y117 y118 y119 y120 y121 y122 y123 y124 y125 y126 y127 y128 y129 y130 y131 y132 y133 y134 y135 y136 y137 y138 y139 y140 y141 y142 y143 y144 y145 y146 y147 y148 y149 : Value) (kd : Kd k n m s c) (hT : Roots z0) (kw : Below w.heap.size w z0) (kz : Below z0.heap.size z0 z) (bT : Bx2T z0 T (.int .i64 (h : Int)) (.int .i64 (k : Int)))
    (rp : Row .u8 256 z0 (.slice pa 56 pc) PB) (tp : Tidy (.slice pa 56 pc)) (rt : Row .u8 256 z0 (.slice ta text.length tc) text) (tt : Tidy (.slice ta text.length tc)) (rm : Row .u8 256 z0 (.slice xa more.length xc) more) (tm : Tidy (.slice xa more.length xc)) (og : Own 5 .u8 256 z z0.heap.size (.slice (some ⟨gb, 0, none⟩) GL gc) SG) (hGL : SG.length = GL)
    (htl : text.length ≤ 300) (hml : more.length ≤ 300) (hh : h ≤ 2) (hM : M = 2 ^ h) (e_M : (2 : Int) ^ h = (M : Int)) (hM4 : M ≤ 4) (hq : q < M) (hfit : FitL (h : Int) (k : Int)) (hSF : SF = SG.set 0 1) (h00 : el SG 0 = 0)
    (v1 : vfT PB text SG = 0) (v2 : vfT PB text SF = 13) (v3 : vfT PB text (SG ++ [0]) = 1) (hE : ctE (SG ++ more) = 0) (hN : ctN (SG ++ more) = GL) (hH : ctH (SG ++ more) = h) (hW : ctW (SG ++ more) = k) (hsz : szT (h : Int) (k : Int) = GL) (hG1 : 44 ≤ GL) (hG2 : GL ≤ 10000) :
    Code.wp Tryd.prog (cRA (cRA (cRA (cRA (cRA (Tryd.f3.body.getD .skip)))))) (bodyPost Tryd.prog Tryd.f3 fun e w' => e = .returned (.bool true) ∧ Below w.heap.size w w') { tmps := #[y0, y1, y2, y3, .int .u32 (q : Int), .slice ta text.length tc, .slice xa more.length xc, y7, y8, y9, y10, y11, y12, y13, .bool false, .pointer (some ⟨T, 0, none⟩), .slice pa 56 pc, .int .i64 0, .slice (some ⟨gb, 0, none⟩) GL gc, .int .i64 0, y20, y21, y22, y23, y24, y25, y26, y27, y28, y29, y30, y31, y32, y33, y34, y35, y36, y37, y38, y39, y40, y41, y42, y43, y44, y45, y46, y47, y48, y49, y50, y51, y52, y53, y54, y55, y56, y57, y58, y59, y60, y61, y62, y63, y64, y65, y66, y67, y68, y69, y70, y71, y72, y73, y74, y75, y76, y77, y78, y79, y80, y81, y82, y83, y84, y85, y86, y87, y88, y89, y90, y91, y92, y93, y94, y95, y96, y97, y98, y99, y100, y101, y102, y103, y104, y105, y106, y107, y108, y109, y110, y111, y112, y113, y114, y115, y116, y117, y118, y119, y120, y121, y122, y123, y124, y125, y126, y127, y128, y129, y130, y131, y132, y133, y134, y135, y136, y137, y138, y139, y140, y141, y142, y143, y144, y145, y146, y147, y148, y149], defers := [] } z := by
  simp only [Tryd.f3, Option.getD_some, cRA]
  have e_S : (2 : Int) ^ (min h 32) % 4294967296 = (M : Int) := by rw [Nat.min_eq_left (by omega), e_M]; omega
  have hlt : ¬ (q : Int) ≥ (M : Int) := by omega
  have hlt2 : (q : Int) < (M : Int) := by omega
  have u_M : IntKind.u32.wrap (M : Int) = (M : Int) := by rw [IntKind.wrap_u32]; omega
  have cz0 := (bT.below kz).c0
  have bTy := fun y (kb : Below z0.heap.size z0 y) => bT.below kb
  have hvf := fun y (kb : Below z0.heap.size z0 y) sv sg (rs : Row .u8 256 y sv sg) (hl : sg.length ≤ 100000) => cvfT_any PB text sg _ _ sv y (hT.below kb) (rp.below kb) (rt.below kb) tt (by omega) rs hl
  have hv1 := fun y kb sv rs => hvf y kb sv SG rs (by omega)
  have hv2 := fun y kb sv rs => hvf y kb sv SF rs (by rw [hSF, List.length_set]; omega)
  have hv3 := fun y kb sv rs => hvf y kb sv (SG ++ [0]) rs (by rw [List.length_append, List.length_singleton]; omega)
  simp only [v1] at hv1
  simp only [v2] at hv2
  simp only [v3] at hv3
  have hct := fun y sv (rs : Row .u8 256 y sv (SG ++ more)) => ccut_ok (SG ++ more) sv y rs hE (by rw [List.length_append]; omega)
  rw [hN, hH, hW, List.take_append_of_le_length (by omega), List.take_of_length_le (by omega), List.drop_append_of_le_length (by omega), List.drop_of_length_le (by omega), List.nil_append] at hct
  have hsize := fun y => csizeT_any (h : Int) (k : Int) y
  rw [hsz] at hsize
  have heq := fun w => eqTr (h : Int) (k : Int) (h : Int) (k : Int) w
  simp only [and_self, decide_true] at heq
  have hgb : z0.heap.size ≤ gb := (og.1.lt gb (by simp [Value.ownBlock])).1
  have tg : ∀ n c, Tidy (.slice (some ⟨gb, 0, none⟩) n c) := fun n c => tidy_some ⟨_, _, _, rfl⟩
  have hG0 : (0 : Int) < (GL : Int) := by omega
  have x01 : bits .xor .u8 0 1 = 1 := by decide
  have x11 : bits .xor .u8 1 1 = 0 := by decide
  have sF : ∀ y, Own 5 .u8 256 y z0.heap.size (.slice (some ⟨gb, 0, none⟩) GL gc) SG → y.cell? ⟨gb, 0, none⟩ = some (.int .u8 0) ∧ Own 5 .u8 256 (y.setCell ⟨gb, 0, none⟩ (.int .u8 1)) z0.heap.size (.slice (some ⟨gb, 0, none⟩) GL gc) SF := by
    intro y o
    have h1 := o.1
    rw [hGL] at h1
    have c1 := h1.cellAt 0 (by omega)
    rw [vals_get _ _ _ (by omega), h00] at c1
    have st := (h1.stored 0 (.int .u8 ((1 : Nat) : Int))).1
    rw [vals_set] at st
    refine ⟨c1, ?_⟩
    rw [hSF]
    exact ⟨by rw [List.length_set, hGL]; exact st, o.2.set _ _ (by decide)⟩
  have sB : ∀ y, Own 5 .u8 256 y z0.heap.size (.slice (some ⟨gb, 0, none⟩) GL gc) SF → y.cell? ⟨gb, 0, none⟩ = some (.int .u8 1) ∧ Own 5 .u8 256 (y.setCell ⟨gb, 0, none⟩ (.int .u8 0)) z0.heap.size (.slice (some ⟨gb, 0, none⟩) GL gc) SG := by
    intro y o
    have h1 := o.1
    have lF : SF.length = GL := by rw [hSF, List.length_set]; exact hGL
    rw [lF] at h1
    have c1 := h1.cellAt 0 (by omega)
    rw [vals_get _ _ _ (by omega), hSF, el_set_same _ (by omega)] at c1
    have st := (h1.stored 0 (.int .u8 ((0 : Nat) : Int))).1
    rw [vals_set] at st
    have e0 : SF.set 0 0 = SG := by rw [hSF]; exact set_back SG h00 (by omega)
    refine ⟨c1, ?_⟩
    rw [← e0]
    exact ⟨by rw [List.length_set, lF]; exact st, o.2.set _ _ (by decide)⟩
  have hfz : ∀ y l, l.length = GL → Own 5 .u8 256 y z0.heap.size (.slice (some ⟨gb, 0, none⟩) GL gc) l → y.frozen? ⟨gb, 0, none⟩ = false := fun y l hl o => by
    have h1 := o.1
    rw [hl] at h1
    exact h1.frozenAt 0
  have lF : SF.length = GL := by rw [hSF, List.length_set]; exact hGL
  have um := rm.under
  have HL := hide (And.intro hGL (And.intro hG2 (And.intro htl (And.intro hml lF))))
  have HO := hide og
  have hK0 : ∀ y, Below z0.heap.size z0 y → Below w.heap.size w y := fun y kb => keep_trans kw kb
  clear hM hSF h00 v1 v2 v3 hE hN hH hW hsz hG1 hG2 htl hml hGL lF hq hM4 hh hfit kd hT og bT hvf
  go_wp2_with (first
    | (go_at_call 5; refine (awakeM_any _).mono ?_; rintro e wB ⟨rfl, gB⟩)
    | (go_at_call 10; refine (hv3 _ mZ _ oZ.row).mono ?_; rintro e wA ⟨rfl, gA⟩)
    | (at_builtin; refine wpList_appA rfl _ _ rfl z0.heap.size _ _ GL SG [0] rfl oY rfl rL (fun n c e => by cases e) (by have := HL.out.2.1; omega) (by decide) mY.size ?_; intro vY wY howY hgY; have mZ := below_append' mY mY.size oY hgY; have oZ : Own 5 .u8 256 wY z0.heap.size vY (SG ++ [0]) := ⟨by rw [List.length_append, HL.out.1]; exact howY, HO.out.2.append (Under.one (by decide))⟩; clear hgY howY)
    | (go_at_call 10; refine (hv2 _ m8 _ o8.row).mono ?_; rintro e w9 ⟨rfl, g9⟩; have m9 := keep_trans m8 g9; have o9 := o8.lift g9; have f9 := hfz _ _ HL.out.2.2.2.2 o9; obtain ⟨c9, oX⟩ := sB _ o9; have mX := below_setCell m9 hgb (v := .int .u8 0) (j := 0); have rL := lit_row .u8 256 (w9.setCell ⟨gb, 0, none⟩ (.int .u8 0)) [0] 5 (Under.one (by decide)) (by show 1 ≤ maxLen; decide); have oY := (oX.lift (keep_alloc (w9.setCell ⟨gb, 0, none⟩ (.int .u8 0)) (.cells #[.int .u8 0] 5))).1; rw [HL.out.1] at oY; have mY := keep_trans mX (keep_alloc (w9.setCell ⟨gb, 0, none⟩ (.int .u8 0)) (.cells #[.int .u8 0] 5)); rw [World.size_setCell] at rL)
    | (go_at_call_of 11 (#[vb, .slice xa more.length xc]); refine (rsame_true vb _ more _ (rb.below (keep_trans (keep_trans g4 g5) g6)) (rm.below (keep_trans kz k6))).mono ?_; rintro e w7 ⟨rfl, g7⟩; have k7 := keep_trans k6 g7; have o7 := HO.out.lift k7; have f7 := hfz _ _ HL.out.1 o7; obtain ⟨c7, o8⟩ := sF _ o7; have m8 := below_setCell (keep_trans kz k7) hgb (v := .int .u8 1) (j := 0))
    | (go_at_call_of 11 (#[va, .slice (some ⟨gb, 0, none⟩) GL gc]); refine (rsame_true va _ SG _ (ra.below (keep_trans g4 g5)) (HO.out.row.below k5)).mono ?_; rintro e w6 ⟨rfl, g6⟩; have k6 := keep_trans k5 g6)
    | (refine wpList_load_rowW (by rfl) 29 _ (by rfl) T (by rfl) _ _ _ _ bt5.here Tryd.underlying29 (by kernel_rfl) ?_)
    | (refine wpList_load_rowW (by rfl) 29 _ (by rfl) w3.heap.size (by rfl) _ _ _ _ b5.here Tryd.underlying29 (by kernel_rfl) ?_)
    | (go_at_call 10; refine (hv1 _ (keep_trans kz k4) _ (HO.out.row.below k4)).mono ?_; rintro e w5 ⟨rfl, g5⟩; have k5 := keep_trans k4 g5; have b5 := b3.below (keep_trans g4 g5); have bt5 := bTy _ (keep_trans kz k5))
    | (go_at_call 9; refine (hsize _).mono ?_; rintro e w4 ⟨rfl, g4⟩; have k4 := keep_trans k3 g4)
    | (refine wpList_load_rowW (by rfl) 29 _ (by rfl) T (by rfl) _ _ _ _ bt3.here Tryd.underlying29 (by kernel_rfl) ?_)
    | (go_at_call 8; refine (hct _ v2 o2.row).mono ?_; rintro e w3 ⟨va, vb, rfl, oa, ob, g3⟩; have b3 := Bx2T.new w3 (.int .i64 (h : Int)) (.int .i64 (k : Int)); have k3 := keep_trans (keep_trans k2 g3) (keep_alloc w3 (.cells #[.int .i64 (h : Int), .int .i64 (k : Int)] 29)); have ra := oa.row.below (keep_alloc w3 (.cells #[.int .i64 (h : Int), .int .i64 (k : Int)] 29)); have rb := ob.row.below (keep_alloc w3 (.cells #[.int .i64 (h : Int), .int .i64 (k : Int)] 29)); have bt3 := bTy _ (keep_trans kz k3))
    | (at_builtin; refine wpList_appA rfl _ _ rfl z.heap.size _ _ GL SG more rfl how1 rfl (rm.below (keep_trans kz k1)) tm (by have := HL.out.2.1; omega) (by have := HL.out.2.2.2.1; omega) k1.size ?_; intro v2 w2 how2 hg2; have k2 := below_append' k1 k1.size how1 hg2; have o2 : Own 5 .u8 256 w2 z.heap.size v2 (SG ++ more) := ⟨by rw [List.length_append, HL.out.1]; exact how2, HO.out.2.append um⟩; clear hg2 how2 how1)
    | (at_builtin; refine wpList_appA rfl _ _ rfl z.heap.size _ _ 0 [] SG rfl (own_mtS z 5) rfl (HO.out.row.below (keep_alloc z _)) (tg _ _) (by decide) (by rw [HL.out.1]; have := HL.out.2.1; omega) (by rw [World.size_alloc]; exact Nat.le_succ _) ?_; intro v1 w1 how1 hg1; have k1 := below_append' (keep_alloc z (.cells #[] 5)) (by rw [World.size_alloc]; exact Nat.le_succ _) (own_mtS z 5) hg1; rw [List.nil_append, Nat.zero_add, HL.out.1] at how1; clear hg1)
    | fail)
  go_ret
  exact ⟨rfl, hK0 _ (keep_trans (keep_trans mZ gA) gB)⟩
theorem rt_plain {k n m s c : Nat} (kd : Kd k n m s c) (h q : Nat) (hL : FitL (h : Int) (k : Int)) (hh : h ≤ 2) (id seed text more : List Nat) (hid : id.length = 16) (hq : q < 2 ^ h) {PB SG : List Nat} (hPB : PB = (be4 (lmCode h) ++ be4 c) ++ (id ++ knT k n m h id seed 1)) (hSG : SG = ([be4 q, sgT k n m s c id seed text q, be4 (lmCode h)] ++ pthA (knT k n m h id seed) h (2 ^ h + q)).flatten) :
    vfT PB text SG = 0 ∧ vfT PB text (SG.set 0 1) = 13 ∧ vfT PB text (SG ++ [0]) = 1 ∧ ctE (SG ++ more) = 0 ∧ ctN (SG ++ more) = SG.length ∧ ctH (SG ++ more) = h ∧ ctW (SG ++ more) = k ∧ szT (h : Int) (k : Int) = SG.length ∧ 44 ≤ SG.length ∧ SG.length ≤ 10000 ∧ el SG 0 = 0 := by
  obtain ⟨v1, c1, c2, c3, c4⟩ := vfT_sigS kd h hL (by omega) id seed text q hid hq
  rw [← hPB, ← hSG] at v1
  rw [← hSG] at c1 c2 c3 c4
  obtain ⟨p1, p2, p3, p4⟩ := hL.pos
  have hk0 : k ≠ 0 := by cases kd <;> decide
  have hz := szT_ct (b := SG) (by rw [c4]; exact hk0) (by rw [c3]; omega)
  rw [c3, c4, c2] at hz
  have hz2 : szT (h : Int) (k : Int) = 8 + 32 * (h : Int).toNat + szW k := by unfold szT; rw [if_pos hL]
  have h4 : 2 ^ h ≤ 4 := by
    have : h = 0 ∨ h = 1 ∨ h = 2 := by omega
    rcases this with e | e | e <;> subst e <;> decide
  obtain ⟨R, hR⟩ : ∃ R, SG = 0 :: 0 :: 0 :: q :: R := ⟨_, by rw [hSG, be4_small (by omega)]; simp only [List.cons_append, List.nil_append, List.flatten_cons]; rfl⟩
  obtain ⟨d1, d2, d3, d4⟩ := cut_moreS c1 c2 more
  refine ⟨v1, vfT_flip v1 (by rw [List.length_set]) (by rw [hR]; rfl) ?_ text, vfT_moreS v1 0 text, d1, d2, d3.trans c3, d4.trans c4, hz, by omega, by omega, by rw [hR]; rfl⟩
  rw [c3]
  have e : numL ((SG.set 0 1).take 4) = 16777216 + q := by
    rw [hR]
    show ((((0 * 256 + 1) % 18446744073709551616 * 256 + 0) % 18446744073709551616 * 256 + 0) % 18446744073709551616 * 256 + q) % 18446744073709551616 = _
    omega
  omega
def rm4lt : List Lt := [(0, some 40, [15]), (0, some 41, [9]), (0, some 42, [10]), (7, some 43, [40, 41, 42]), (8, some 39, [43]), (16, some 44, [39]), (16, some 45, [39]), (63, some 16, [44]), (255, some 17, [45])]
theorem rm4reg : Reg (opsA (cLA (cRA (cRA (cRA (Tryd.f3.body.getD .skip)))))) rm4lt := ⟨by kernel_rfl, by kernel_rfl⟩
def rm5lt : List Lt := [(0, some 47, [15]), (0, some 48, [9]), (0, some 49, [10]), (0, some 50, [4]), (0, some 51, [5]), (31, some 52, [47, 48, 49, 50, 51]), (32, some 46, [52]), (64, some 53, [46]), (64, some 54, [46]), (255, some 18, [53]), (1023, some 19, [54])]
theorem rm5reg : Reg (opsA (cLA (cRA (cRA (cRA (cRA (Tryd.f3.body.getD .skip))))))) rm5lt := ⟨by kernel_rfl, by kernel_rfl⟩
set_option maxHeartbeats 8000000 in
set_option maxRecDepth 100000 in
/-- P15.5: it is right -/
theorem rt_right {k n m s c : Nat} (kd : Kd k n m s c) (h8 w8 h q : Nat) (id seed text more : List Nat) (tv mv : Value) (w : World) (hT : Roots w) (hw8 : w8 < 256) (hh8 : h8 < 256) (hq2 : q < 4294967296) (hh : h = 1 + h8 % 2) (hk : k = 1 + w8 % 2) (hL : FitL (h : Int) (k : Int)) (hne : wrgT (h : Int) (k : Int) 16 32 = 0) (hil : id.length = 16) (hsl : seed.length = 32) (ui : Under 256 id) (us : Under 256 seed)
    (rt : Row .u8 256 w tv text) (tt : Tidy tv) (rm : Row .u8 256 w mv more) (tm : Tidy mv) (htl : text.length ≤ 300) (hml : more.length ≤ 300) :
    Calls Tryd.prog 3 #[.int .u8 (h8 : Int), .int .u8 (w8 : Int), .agg (arr .u8 id), .agg (arr .u8 seed), .int .u32 (q : Int), tv, mv] w fun e w' => e = .returned (.bool true) ∧ Below w.heap.size w w' := by
  obtain ⟨ta, tc, rfl, _⟩ := rt.opens rfl
  obtain ⟨xa, xc, rfl, _⟩ := rm.opens rfl
  obtain ⟨rI, rS, hW, hWs⟩ := boxM_all w hil hsl ui us
  have tI : Tidy (.slice (some ⟨w.heap.size, 0, none⟩) 16 16) := fun n c e => by cases e
  have tS : Tidy (.slice (some ⟨w.heap.size + 1, 0, none⟩) 32 32) := fun n c e => by cases e
  have hfe := few2G ta xa text.length more.length tc xc (boxM w id seed) _ hWs
  rw [decide_eq_true ⟨htl, hml⟩] at hfe
  have hTB := hT.below hW
  have rtB := rt.below hW
  have rmB := rm.below hW
  obtain ⟨r8, hr8⟩ : ∃ x : Nat, x = h8 % 2 := ⟨_, rfl⟩
  obtain ⟨p8, hp8⟩ : ∃ x : Nat, x = w8 % 2 := ⟨_, rfl⟩
  have e_r : (h8 : Int).tmod 2 = (r8 : Int) := by rw [Int.tmod_eq_emod_of_nonneg (by omega)]; omega
  have e_p : (w8 : Int).tmod 2 = (p8 : Int) := by rw [Int.tmod_eq_emod_of_nonneg (by omega)]; omega
  have s_r : IntKind.u8.wrap (r8 : Int) = (r8 : Int) := by rw [IntKind.wrap_u8]; omega
  have s_p : IntKind.u8.wrap (p8 : Int) = (p8 : Int) := by rw [IntKind.wrap_u8]; omega
  have c_r : IntKind.i64.wrap (r8 : Int) = (r8 : Int) := by rw [IntKind.wrap_i64]; omega
  have c_p : IntKind.i64.wrap (p8 : Int) = (p8 : Int) := by rw [IntKind.wrap_i64]; omega
  have e_h : (1 : Int) + (r8 : Int) = (h : Int) := by omega
  have e_k : (1 : Int) + (p8 : Int) = (k : Int) := by omega
  have s_h : IntKind.i64.wrap (h : Int) = (h : Int) := by rw [IntKind.wrap_i64]; omega
  have s_k : IntKind.i64.wrap (k : Int) = (k : Int) := by rw [IntKind.wrap_i64]; omega
  have hh2 : h ≤ 2 := by omega
  obtain ⟨M, hM⟩ : ∃ M : Nat, M = 2 ^ h := ⟨_, rfl⟩
  have e_M : (2 : Int) ^ h = (M : Int) := by rw [hM, Int.natCast_pow]; rfl
  have hM4 : M ≤ 4 := by
    have : h = 0 ∨ h = 1 ∨ h = 2 := by omega
    rcases this with e | e | e <;> rw [hM, e] <;> decide
  obtain ⟨PB, hPB⟩ : ∃ x, x = (be4 (lmCode h) ++ be4 c) ++ (id ++ knT k n m h id seed 1) := ⟨_, rfl⟩
  have hPl : PB.length = 56 := by rw [hPB, List.length_append, List.length_append, List.length_append, be4_len, be4_len, hil, knT_len]
  have hpub := fun y (kb : Below (boxM w id seed).heap.size (boxM w id seed) y) => cpubT_ok kd h id seed _ _ y (hTB.below kb) (rI.below kb) tI (rS.below kb) tS hil hsl hne
  rw [← hPB] at hpub
  have hAs : (arr .u8 id).size = 16 := by rw [arr_size, hil]
  have hBs : (arr .u8 seed).size = 32 := by rw [arr_size, hsl]
  have HA := hide (And.intro hTB (And.intro rI (And.intro rS (And.intro rtB (And.intro rmB (And.intro hW (And.intro tI (And.intro tS (And.intro hil hsl)))))))))
  have HB := hide (And.intro hL (And.intro hne (And.intro hh2 (And.intro hM (And.intro hM4 (And.intro e_M hq2))))))
  have HP := hide (And.intro hPB (And.intro hPl hpub))
  have HT := hide (And.intro htl (And.intro hml (And.intro tt tm)))
  clear hpub hPB hPl hTB rI rS rtB rmB hW tI tS hL hne hh2 hM hM4 e_M hr8 hp8 hh hk rt rm hT ui us hWs htl hml tt tm hq2 hh8 hw8 hil hsl
  go_enter Tryd.func3, Tryd.ntmps3
  go_wp2_with (first
    | (go_at_call 4; refine hfe.mono ?_; rintro e x0 ⟨rfl, g0⟩)
    | fail)
  have bX := Bx2T.new x0 (.int .i64 (h : Int)) (.int .i64 (k : Int))
  have kX := keep_trans g0 (keep_alloc x0 (.cells #[.int .i64 (h : Int), .int .i64 (k : Int)] 29))
  generalize x0.alloc (.cells #[.int .i64 (h : Int), .int .i64 (k : Int)] 29) = WX at *
  generalize x0.heap.size = T at *
  have bT := bX
  obtain ⟨hPB, hPl, hpub⟩ := HP.out
  have hbd : Below WX.heap.size WX WX.drew := (Below.refl _ _).drew
  refine at_begin (ops := opsA (cLA (cRA (cRA (cRA (Tryd.f3.body.getD .skip)))))) (n := 9) (fun y => Below WX.heap.size WX y) (by kernel_rfl) (by kernel_rfl) ?_
  refine at_takeD (i := 0) (m' := 1) (d := some 40) (v := .agg #[.int .i64 (h : Int), .int .i64 (k : Int)]) rm4reg rfl (by decide) rfl rfl (y_rowG (cs := [.int .i64 (h : Int), .int .i64 (k : Int)]) (wanted_free rfl) rfl rfl Tryd.underlying29 rfl (by kernel_rfl) (fun _ h => (bT.below h).range)) hbd ?_
  simp only [Act.put, List.setIfInBounds_toArray, List.set_cons_zero, List.set_cons_succ]
  refine at_takeD (i := 1) (m' := 3) (d := some 41) (v := .slice (some ⟨w.heap.size, 0, none⟩) 16 16) rm4reg rfl (by decide) rfl rfl (y_arr16 (wanted_free rfl) rfl rfl) hbd ?_
  simp only [Act.put, List.setIfInBounds_toArray, List.set_cons_zero, List.set_cons_succ]
  refine at_takeD (i := 2) (m' := 7) (d := some 42) (v := .slice (some ⟨w.heap.size + 1, 0, none⟩) 32 32) rm4reg rfl (by decide) rfl rfl (y_arr32 (wanted_free rfl) rfl rfl) hbd ?_
  simp only [Act.put, List.setIfInBounds_toArray, List.set_cons_zero, List.set_cons_succ]
  refine at_one (i := 3) (m' := 15) rm4reg (by decide) rfl ?_
  refine p_callG (args := #[.agg #[.int .i64 (h : Int), .int .i64 (k : Int)], .slice (some ⟨w.heap.size, 0, none⟩) 16 16, .slice (some ⟨w.heap.size + 1, 0, none⟩) 32 32]) (d := some 43) rfl (wanted_free rfl) rfl (by simp only [List.map_toArray, List.map_cons, List.map_nil]; rfl) rfl Tryd.call6 ((hpub WX.drew (keep_trans kX hbd)).mono ?_)
  rintro e y4 ⟨pv, rfl, op, g4⟩
  have rp := op.row
  have tp := op.tidy
  obtain ⟨pa, pc, rfl, _⟩ := op.row.opens hPl
  have hb4 := keep_trans hbd g4
  refine ⟨_, rfl, hb4, ?_⟩
  simp only [Act.put, List.setIfInBounds_toArray, List.set_cons_zero, List.set_cons_succ]
  refine at_takeD (i := 4) (m' := 31) (d := some 39) (v := .tuple #[.slice pa 56 pc, .int .i64 0]) rm4reg rfl (by decide) rfl rfl (y_moveG (wanted_free rfl) rfl rfl) hb4 ?_
  simp only [Act.put, List.setIfInBounds_toArray, List.set_cons_zero, List.set_cons_succ]
  refine at_takeD (i := 5) (m' := 63) (d := some 44) (v := .slice pa 56 pc) rm4reg rfl (by decide) rfl rfl (y_extractG (wanted_free rfl) rfl rfl rfl) hb4 ?_
  simp only [Act.put, List.setIfInBounds_toArray, List.set_cons_zero, List.set_cons_succ]
  refine at_takeD (i := 6) (m' := 127) (d := some 45) (v := .int .i64 0) rm4reg rfl (by decide) rfl rfl (y_extractG (wanted_free rfl) rfl rfl rfl) hb4 ?_
  simp only [Act.put, List.setIfInBounds_toArray, List.set_cons_zero, List.set_cons_succ]
  refine at_takeD (i := 7) (m' := 255) (d := some 16) (v := .slice pa 56 pc) rm4reg rfl (by decide) rfl rfl (y_assignG (wanted_free rfl) rfl rfl) hb4 ?_
  simp only [Act.put, List.setIfInBounds_toArray, List.set_cons_zero, List.set_cons_succ]
  refine at_takeD (i := 8) (m' := 511) (d := some 17) (v := .int .i64 0) rm4reg rfl (by decide) rfl rfl (y_assignG (wanted_free rfl) rfl rfl) hb4 ?_
  simp only [Act.put, List.setIfInBounds_toArray, List.set_cons_zero, List.set_cons_succ]
  refine at_done rm4reg (by decide) ?_
  have k4 := keep_trans kX hb4
  have bT4 := bT.below hb4
  clear hbd
  go_wp2
  rename_i K hK
  obtain ⟨hTB, rI, rS, rtB, rmB, hW, tI, tS, hil, hsl⟩ := HA.out
  obtain ⟨hL, hne, hh2, hM, hM4, e_M, hq2⟩ := HB.out
  obtain ⟨htl, hml, tt, tm⟩ := HT.out
  have hbd : Below y4.heap.size y4 y4.drew := (Below.refl _ _).drew
  by_cases hq : q < 2 ^ h
  · obtain ⟨SG, hSG⟩ : ∃ x, x = ([be4 q, sgT k n m s c id seed text q, be4 (lmCode h)] ++ pthA (knT k n m h id seed) h (2 ^ h + q)).flatten := ⟨_, rfl⟩
    have hsgB := fun y (kb : Below (boxM w id seed).heap.size (boxM w id seed) y) => csignT_ok kd h q id seed text _ _ _ y (hTB.below kb) (rI.below kb) tI (rS.below kb) tS (rtB.below kb) tt hil hsl (by omega) hne hq
    rw [← hSG] at hsgB
    obtain ⟨v1, v2, v3, hE, hN, hH, hWw, hsz, hG1, hG2, h00⟩ := rt_plain kd h q hL hh2 id seed text more hil hq hPB hSG
    have hGp : 0 < SG.length := by omega
    refine at_begin (ops := opsA (cLA (cRA (cRA (cRA (cRA (Tryd.f3.body.getD .skip))))))) (n := 11) (fun y => Below y4.heap.size y4 y) (by kernel_rfl) (by kernel_rfl) ?_
    refine at_takeD (i := 0) (m' := 1) (d := some 47) (v := .agg #[.int .i64 (h : Int), .int .i64 (k : Int)]) rm5reg rfl (by decide) rfl rfl (y_rowG (cs := [.int .i64 (h : Int), .int .i64 (k : Int)]) (wanted_free rfl) rfl rfl Tryd.underlying29 rfl (by kernel_rfl) (fun _ h => (bT4.below h).range)) hbd ?_
    simp only [Act.put, List.setIfInBounds_toArray, List.set_cons_zero, List.set_cons_succ]
    refine at_takeD (i := 1) (m' := 3) (d := some 48) (v := .slice (some ⟨w.heap.size, 0, none⟩) 16 16) rm5reg rfl (by decide) rfl rfl (y_arr16 (wanted_free rfl) rfl rfl) hbd ?_
    simp only [Act.put, List.setIfInBounds_toArray, List.set_cons_zero, List.set_cons_succ]
    refine at_takeD (i := 2) (m' := 7) (d := some 49) (v := .slice (some ⟨w.heap.size + 1, 0, none⟩) 32 32) rm5reg rfl (by decide) rfl rfl (y_arr32 (wanted_free rfl) rfl rfl) hbd ?_
    simp only [Act.put, List.setIfInBounds_toArray, List.set_cons_zero, List.set_cons_succ]
    refine at_takeD (i := 3) (m' := 15) (d := some 50) (v := .int .u32 (q : Int)) rm5reg rfl (by decide) rfl rfl (y_moveG (wanted_free rfl) rfl rfl) hbd ?_
    simp only [Act.put, List.setIfInBounds_toArray, List.set_cons_zero, List.set_cons_succ]
    refine at_takeD (i := 4) (m' := 31) (d := some 51) (v := .slice ta text.length tc) rm5reg rfl (by decide) rfl rfl (y_moveG (wanted_free rfl) rfl rfl) hbd ?_
    simp only [Act.put, List.setIfInBounds_toArray, List.set_cons_zero, List.set_cons_succ]
    refine at_one (i := 5) (m' := 63) rm5reg (by decide) rfl ?_
    refine p_callG (args := #[.agg #[.int .i64 (h : Int), .int .i64 (k : Int)], .slice (some ⟨w.heap.size, 0, none⟩) 16 16, .slice (some ⟨w.heap.size + 1, 0, none⟩) 32 32, .int .u32 (q : Int), .slice ta text.length tc]) (d := some 52) rfl (wanted_free rfl) rfl (by simp only [List.map_toArray, List.map_cons, List.map_nil]; rfl) rfl Tryd.call7 ((hsgB y4.drew (keep_trans k4 hbd)).mono ?_)
    rintro e y6 ⟨gv, rfl, og, g6⟩
    obtain ⟨gb, gc, rfl, _⟩ := own_at og.1 hGp rfl
    replace og := og.mono (hbd).size
    have hb6 := keep_trans hbd g6
    refine ⟨_, rfl, hb6, ?_⟩
    simp only [Act.put, List.setIfInBounds_toArray, List.set_cons_zero, List.set_cons_succ]
    refine at_takeD (i := 6) (m' := 127) (d := some 46) (v := .tuple #[.slice (some ⟨gb, 0, none⟩) SG.length gc, .int .i64 0]) rm5reg rfl (by decide) rfl rfl (y_moveG (wanted_free rfl) rfl rfl) hb6 ?_
    simp only [Act.put, List.setIfInBounds_toArray, List.set_cons_zero, List.set_cons_succ]
    refine at_takeD (i := 7) (m' := 255) (d := some 53) (v := .slice (some ⟨gb, 0, none⟩) SG.length gc) rm5reg rfl (by decide) rfl rfl (y_extractG (wanted_free rfl) rfl rfl rfl) hb6 ?_
    simp only [Act.put, List.setIfInBounds_toArray, List.set_cons_zero, List.set_cons_succ]
    refine at_takeD (i := 8) (m' := 511) (d := some 54) (v := .int .i64 0) rm5reg rfl (by decide) rfl rfl (y_extractG (wanted_free rfl) rfl rfl rfl) hb6 ?_
    simp only [Act.put, List.setIfInBounds_toArray, List.set_cons_zero, List.set_cons_succ]
    refine at_takeD (i := 9) (m' := 1023) (d := some 18) (v := .slice (some ⟨gb, 0, none⟩) SG.length gc) rm5reg rfl (by decide) rfl rfl (y_assignG (wanted_free rfl) rfl rfl) hb6 ?_
    simp only [Act.put, List.setIfInBounds_toArray, List.set_cons_zero, List.set_cons_succ]
    refine at_takeD (i := 10) (m' := 2047) (d := some 19) (v := .int .i64 0) rm5reg rfl (by decide) rfl rfl (y_assignG (wanted_free rfl) rfl rfl) hb6 ?_
    simp only [Act.put, List.setIfInBounds_toArray, List.set_cons_zero, List.set_cons_succ]
    refine at_done rm5reg (by decide) ?_
    refine hK _ _ ?_
    exact rt_tailB _ _ _ _ _ _ _ _ _ _ _ _ _ _ _ _ _ _ _ _ _ _ _ _ _ _ _ _ _ _ _ _ _ _ _ _ _ _ _ _ _ _ _ _ _ _ _ _ _ _ _ _ _ _ _ _ _ _ _ _ _ _ _ _ _ _ _ _ _ _ _ _ _ _ _ _ _ _ _ _ _ _ _ _ _ _ _ _ _ _ _ _ _ _ _ _ _ _ _ _ _ _ _ _ _ _ _ _ _ _ _ _ _ _ _ _ _ _ _ _ _ _ _ _ _ _ _ _ _ _ _ _ _ _ _ _ _ _ _ _ _ kd (hTB.below k4) (keep_trans hW k4) hb6 bT4 rp tp (rtB.below k4) tt (rmB.below k4) tm og rfl htl hml hh2 hM e_M hM4 (by omega) hL rfl h00 v1 v2 v3 hE hN hH hWw hsz hG1 hG2
  · have hsgA := fun y (kb : Below (boxM w id seed).heap.size (boxM w id seed) y) => csignT_spent h q (k : Int) (some ⟨w.heap.size, 0, none⟩) (some ⟨w.heap.size + 1, 0, none⟩) ta 16 32 text.length tc y hne (by omega) hq2
    refine at_begin (ops := opsA (cLA (cRA (cRA (cRA (cRA (Tryd.f3.body.getD .skip))))))) (n := 11) (fun y => Below y4.heap.size y4 y) (by kernel_rfl) (by kernel_rfl) ?_
    refine at_takeD (i := 0) (m' := 1) (d := some 47) (v := .agg #[.int .i64 (h : Int), .int .i64 (k : Int)]) rm5reg rfl (by decide) rfl rfl (y_rowG (cs := [.int .i64 (h : Int), .int .i64 (k : Int)]) (wanted_free rfl) rfl rfl Tryd.underlying29 rfl (by kernel_rfl) (fun _ h => (bT4.below h).range)) hbd ?_
    simp only [Act.put, List.setIfInBounds_toArray, List.set_cons_zero, List.set_cons_succ]
    refine at_takeD (i := 1) (m' := 3) (d := some 48) (v := .slice (some ⟨w.heap.size, 0, none⟩) 16 16) rm5reg rfl (by decide) rfl rfl (y_arr16 (wanted_free rfl) rfl rfl) hbd ?_
    simp only [Act.put, List.setIfInBounds_toArray, List.set_cons_zero, List.set_cons_succ]
    refine at_takeD (i := 2) (m' := 7) (d := some 49) (v := .slice (some ⟨w.heap.size + 1, 0, none⟩) 32 32) rm5reg rfl (by decide) rfl rfl (y_arr32 (wanted_free rfl) rfl rfl) hbd ?_
    simp only [Act.put, List.setIfInBounds_toArray, List.set_cons_zero, List.set_cons_succ]
    refine at_takeD (i := 3) (m' := 15) (d := some 50) (v := .int .u32 (q : Int)) rm5reg rfl (by decide) rfl rfl (y_moveG (wanted_free rfl) rfl rfl) hbd ?_
    simp only [Act.put, List.setIfInBounds_toArray, List.set_cons_zero, List.set_cons_succ]
    refine at_takeD (i := 4) (m' := 31) (d := some 51) (v := .slice ta text.length tc) rm5reg rfl (by decide) rfl rfl (y_moveG (wanted_free rfl) rfl rfl) hbd ?_
    simp only [Act.put, List.setIfInBounds_toArray, List.set_cons_zero, List.set_cons_succ]
    refine at_one (i := 5) (m' := 63) rm5reg (by decide) rfl ?_
    refine p_callG (args := #[.agg #[.int .i64 (h : Int), .int .i64 (k : Int)], .slice (some ⟨w.heap.size, 0, none⟩) 16 16, .slice (some ⟨w.heap.size + 1, 0, none⟩) 32 32, .int .u32 (q : Int), .slice ta text.length tc]) (d := some 52) rfl (wanted_free rfl) rfl (by simp only [List.map_toArray, List.map_cons, List.map_nil]; rfl) rfl Tryd.call7 ((hsgA y4.drew (keep_trans k4 hbd)).mono ?_)
    rintro e y6 ⟨rfl, g6⟩
    have hb6 := keep_trans hbd g6
    refine ⟨_, rfl, hb6, ?_⟩
    simp only [Act.put, List.setIfInBounds_toArray, List.set_cons_zero, List.set_cons_succ]
    refine at_takeD (i := 6) (m' := 127) (d := some 46) (v := .tuple #[.slice none 0 0, .int .i64 13]) rm5reg rfl (by decide) rfl rfl (y_moveG (wanted_free rfl) rfl rfl) hb6 ?_
    simp only [Act.put, List.setIfInBounds_toArray, List.set_cons_zero, List.set_cons_succ]
    refine at_takeD (i := 7) (m' := 255) (d := some 53) (v := .slice none 0 0) rm5reg rfl (by decide) rfl rfl (y_extractG (wanted_free rfl) rfl rfl rfl) hb6 ?_
    simp only [Act.put, List.setIfInBounds_toArray, List.set_cons_zero, List.set_cons_succ]
    refine at_takeD (i := 8) (m' := 511) (d := some 54) (v := .int .i64 13) rm5reg rfl (by decide) rfl rfl (y_extractG (wanted_free rfl) rfl rfl rfl) hb6 ?_
    simp only [Act.put, List.setIfInBounds_toArray, List.set_cons_zero, List.set_cons_succ]
    refine at_takeD (i := 9) (m' := 1023) (d := some 18) (v := .slice none 0 0) rm5reg rfl (by decide) rfl rfl (y_assignG (wanted_free rfl) rfl rfl) hb6 ?_
    simp only [Act.put, List.setIfInBounds_toArray, List.set_cons_zero, List.set_cons_succ]
    refine at_takeD (i := 10) (m' := 2047) (d := some 19) (v := .int .i64 13) rm5reg rfl (by decide) rfl rfl (y_assignG (wanted_free rfl) rfl rfl) hb6 ?_
    simp only [Act.put, List.setIfInBounds_toArray, List.set_cons_zero, List.set_cons_succ]
    refine at_done rm5reg (by decide) ?_
    refine hK _ _ ?_
    exact rt_tailA _ _ _ _ _ _ _ _ _ _ _ _ _ _ _ _ _ _ _ _ _ _ _ _ _ _ _ _ _ _ _ _ _ _ _ _ _ _ _ _ _ _ _ _ _ _ _ _ _ _ _ _ _ _ _ _ _ _ _ _ _ _ _ _ _ _ _ _ _ _ _ _ _ _ _ _ _ _ _ _ _ _ _ _ _ _ _ _ _ _ _ _ _ _ _ _ _ _ _ _ _ _ _ _ _ _ _ _ _ _ _ _ _ _ _ _ _ _ _ _ _ _ _ _ _ _ _ _ _ _ _ _ _ _ _ _ _ _ _ _ _ _ _ (keep_trans (keep_trans hW k4) hb6) (bT4.below hb6).c0 hh2 (hide hM) e_M hM4 (by omega) hq2
end Go.Proofs.YtefndnbaifiboaaDoor
