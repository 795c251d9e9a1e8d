/- Leaves that sign once: IT IS RIGHT, a kind after another. -/
import Derived.Test.YtnjiilnkobhibaaDoorLcU
import Derived.Test.YtnjiilnkobhibaaDoorPgF
namespace Go.Proofs.YtnjiilnkobhibaaDoor
open Go.RowKit
set_option linter.unusedVariables false
set_option linter.unusedSimpArgs false

/-- what is signed leads to the key, over whatever sum -/
theorem rgt_plain (H : List Nat → List Nat) (hH : ∀ x, (H x).length = 32) {k n m s c : Nat} (h : Kd k n m s c) (pre seed text : List Nat) :
    keyH H pre (endsC H pre (2 ^ k - 1) (digsL k n m s (digH H pre (((sgnH H pre c (digsL k n m s (digH H pre (lmCn H pre seed) text)) seed).drop 4).take 32) text)) (sgnH H pre c (digsL k n m s (digH H pre (lmCn H pre seed) text)) seed)) = pubH H pre (2 ^ k - 1) (n + m) seed := by
  rw [sgnH_c hH]
  generalize digH H pre (lmCn H pre seed) text = Dg
  rw [ends_is hH _ _ _ _ (fun i _ => el_le_of (digs_lt Dg) i), digs_len]
  rfl
/-- the world with an id and a seed in boxes -/
def boxR (w : World) (a b : List Nat) : World := (w.alloc (.cells (arr .u8 a) 35)).alloc (.cells (arr .u8 b) 36)
theorem boxR_all (w : World) {a b : List Nat} (ha : a.length = 16) (hb : b.length = 32) (ua : Under 256 a) (ub : Under 256 b) :
    Row .u8 256 (boxR w a b) (.slice (some ⟨w.heap.size, 0, none⟩) 16 16) a ∧ Row .u8 256 (boxR w a b) (.slice (some ⟨w.heap.size + 1, 0, none⟩) 32 32) b ∧ Below w.heap.size w (boxR w a b) ∧ (boxR w a b).heap.size = w.heap.size + 1 + 1 := by
  have h1 : (boxR w a b).heap[w.heap.size]? = some (.cells (arr .u8 a) 35 (0, 0)) := by
    unfold boxR
    have h0 := heap_alloc_new w (.cells (arr .u8 a) 35)
    exact ((keep_alloc (w.alloc (.cells (arr .u8 a) 35)) (.cells (arr .u8 b) 36)).block _ (by rw [World.size_alloc]; exact Nat.lt_succ_self _)).trans h0
  have h2 : (boxR w a b).heap[w.heap.size + 1]? = some (.cells (arr .u8 b) 36 (0, 0)) := by
    unfold boxR
    have h0 := heap_alloc_new (w.alloc (.cells (arr .u8 a) 35)) (.cells (arr .u8 b) 36)
    rw [World.size_alloc] at h0
    exact h0
  have r1 := row_boxL h1 ua (by omega)
  have r2 := row_boxL h2 ub (by omega)
  rw [ha] at r1
  rw [hb] at r2
  exact ⟨r1, r2, keep_trans (keep_alloc _ _) (keep_alloc _ _), by unfold boxR; simp⟩
theorem few1G (a0 : Option Addr) (n0 c0 : Nat) (w : World) (G : Nat) (hG : w.heap.size = G) :
    Calls Tryd.prog 5 #[.slice (some ⟨G, 0, none⟩) 1 1] (w.alloc (.cells #[.slice a0 n0 c0] 22)) fun e w' => e = .returned (.bool (decide (n0 ≤ 300))) ∧ Below w.heap.size w w' := by
  subst hG
  exact few1L a0 n0 c0 w
theorem wpList_arr16 {ops : Array Oper} {rest : List Oper} {o : Oper} {a : Act} {w : World} {Q : Exit → Act → World → Prop} (hg : o.guard = none) (x : Operand) (ho : o.op = .slice 35 x none none none) (g : Nat) (hx : a.eval x = .pointer (some ⟨g, 0, none⟩))
    (h : wpList Tryd.prog ops Q rest (a.put o.dst (.slice (some ⟨g, 0, none⟩) 16 16)) w) : wpList Tryd.prog ops Q (o :: rest) a w := by
  obtain ⟨i0, hi0, hz0, hz1, hz2⟩ := info_byte
  have hr : (execOp a.eval o).run Tryd.prog w = .ok (.value (.slice (some ⟨g, 0, none⟩) 16 16)) w := by
    unfold execOp
    simp only [ho, hx, Option.map_none]
    simp [Instr.sliceAt, Instr.slice, Instr.sliceBounds, Sem.run_bind, run_underlying Tryd.underlying35, run_underlying Tryd.underlying22, sizeOf, typeInfo, hi0, hz1, Addr.add, go_sem]
  refine wpList_plain hg fun K hK => ?_
  unfold Oper.wp
  rw [hr, Oper.upon_value]
  exact hK _ _ h
def rg4lt : List Lt := [(0, some 29, [11]), (0, some 30, [6]), (0, some 31, [2]), (0, some 32, [8]), (15, some 33, [29, 30, 31, 32]), (16, some 28, [33]), (32, some 34, [28]), (32, some 35, [28]), (127, some 12, [34]), (511, some 13, [35])]
theorem rg4reg : Reg (opsA (cLA (cRA (cRA (cRA (Tryd.f4.body.getD .skip)))))) rg4lt := ⟨by kernel_rfl, by kernel_rfl⟩
def rg5lt : List Lt := [(0, some 37, [11]), (0, some 38, [6]), (0, some 39, [2]), (0, some 40, [8]), (0, some 41, [4]), (31, some 42, [37, 38, 39, 40, 41]), (32, some 36, [42]), (64, some 43, [36]), (64, some 44, [36]), (255, some 14, [43]), (1023, some 15, [44])]
theorem rg5reg : Reg (opsA (cLA (cRA (cRA (cRA (cRA (Tryd.f4.body.getD .skip))))))) rg5lt := ⟨by kernel_rfl, by kernel_rfl⟩
set_option maxHeartbeats 8000000 in
set_option maxRecDepth 100000 in
theorem rgt_1 (kd q : Nat) (id seed text : List Nat) (tv : Value) (w : World) (hT : Roots w) (hkd : kd < 256) (hr : kd % 3 = 0) (hq : q < 4294967296) (hil : id.length = 16) (hsl : seed.length = 32) (ui : Under 256 id) (us : Under 256 seed) (rt : Row .u8 256 w tv text) (tt : Tidy tv) (htl : text.length ≤ 300) :
    Calls Tryd.prog 4 #[.int .u8 (kd : Int), .agg (arr .u8 id), .int .u32 (q : Int), .agg (arr .u8 seed), tv] w fun e w' => e = .returned (.bool true) ∧ Below w.heap.size w w' := by
  obtain ⟨ta, tc, rfl, _⟩ := rt.opens rfl
  obtain ⟨rI, rS, hW, hWs⟩ := boxR_all w hil hsl ui us
  have tI : Tidy (.slice (some ⟨w.heap.size, 0, none⟩) 16 16) := fun n c e => by cases e
  have tS : Tidy (.slice (some ⟨w.heap.size + 1, 0, none⟩) 32 32) := fun n c e => by cases e
  have hfe := few1G ta text.length tc (boxR w id seed) _ hWs
  rw [decide_eq_true htl] at hfe
  have e_r : (kd : Int).tmod 3 = 0 := by rw [Int.tmod_eq_emod_of_nonneg (by omega)]; omega
  obtain ⟨PK, hPK⟩ : ∃ x, x = pubH shaL (preL id q) (2 ^ 1 - 1) (256 + 9) seed := ⟨_, rfl⟩
  obtain ⟨SG, hSG⟩ : ∃ x, x = sgnH shaL (preL id q) 1 (digsL 1 256 9 7 (digH shaL (preL id q) (lmCn shaL (preL id q) seed) text)) seed := ⟨_, rfl⟩
  have hGl : SG.length = 8516 := by rw [hSG, sgnH_len shaL_len, digs_len]
  have hGc : SG.take 4 = be4 1 := by rw [hSG, sgnH_code]
  have hPl : PK.length = 32 := by rw [hPK]; unfold pubH keyH; exact shaL_len _
  have hck := rgt_plain shaL shaL_len Kd.k1 (preL id q) seed text
  rw [← hSG, ← hPK] at hck
  have hpub : ∀ y, Roots y → Row .u8 256 y (.slice (some ⟨w.heap.size, 0, none⟩) 16 16) id → Row .u8 256 y (.slice (some ⟨w.heap.size + 1, 0, none⟩) 32 32) seed → Calls Tryd.prog 7 #[.int .i64 1, .slice (some ⟨w.heap.size, 0, none⟩) 16 16, .int .u32 (q : Int), .slice (some ⟨w.heap.size + 1, 0, none⟩) 32 32] y fun e w' => ∃ v, e = .returned (.tuple #[v, .int .i64 0]) ∧ Own 5 .u8 256 w' y.heap.size v PK ∧ Below y.heap.size y w' := fun y h1 h2 h3 => by
    rw [hPK]; exact cpub_ok Kd.k1 rfl q id seed _ _ y h1 h2 tI h3 tS hil hsl hq
  have hsgn : ∀ y, Roots y → Row .u8 256 y (.slice (some ⟨w.heap.size, 0, none⟩) 16 16) id → Row .u8 256 y (.slice (some ⟨w.heap.size + 1, 0, none⟩) 32 32) seed → Row .u8 256 y (.slice ta text.length tc) text → Calls Tryd.prog 9 #[.int .i64 1, .slice (some ⟨w.heap.size, 0, none⟩) 16 16, .int .u32 (q : Int), .slice (some ⟨w.heap.size + 1, 0, none⟩) 32 32, .slice ta text.length tc] y fun e w' => ∃ v, e = .returned (.tuple #[v, .int .i64 0]) ∧ Own 5 .u8 256 w' y.heap.size v SG ∧ Below y.heap.size y w' := fun y h1 h2 h3 h4 => by
    rw [hSG]; exact csgn_ok Kd.k1 rfl q id seed text _ _ _ y h1 h2 tI h3 tS h4 tt hil hsl (by omega) hq
  have hcnd : ∀ y gv, Roots y → Row .u8 256 y (.slice (some ⟨w.heap.size, 0, none⟩) 16 16) id → Row .u8 256 y (.slice ta text.length tc) text → Row .u8 256 y gv SG → Calls Tryd.prog 11 #[.int .i64 1, .slice (some ⟨w.heap.size, 0, none⟩) 16 16, .int .u32 (q : Int), .slice ta text.length tc, gv] y fun e w' => ∃ v, e = .returned (.tuple #[v, .int .i64 0]) ∧ Own 5 .u8 256 w' y.heap.size v PK ∧ Below y.heap.size y w' := fun y gv h1 h2 h3 h4 => by
    have := ccnd_ok Kd.k1 rfl q id text SG _ _ gv y h1 h2 tI h3 tt h4 hil (by omega) hq hGl hGc
    rw [hck] at this
    exact this
  have hz : ∀ y, Calls Tryd.prog 14 #[.int .i64 1] y fun e w' => e = .returned (.int .i64 8516) ∧ Below y.heap.size y w' := fun y => csize_ok Kd.k1 (P := 265) rfl y
  have HL := hide (And.intro hGl hPl)
  have HR := hide (And.intro rI (And.intro rS (And.intro (rt.below hW) (And.intro (hT.below hW) hW))))
  have hAs : (arr .u8 id).size = 16 := by rw [arr_size, hil]
  have hBs : (arr .u8 seed).size = 32 := by rw [arr_size, hsl]
  clear hck hPK hSG hGl hGc hPl hil hsl ui us rI rS rt hT hW htl hr tI tS
  go_enter Tryd.func4, Tryd.ntmps4
  go_wp2_with (first
    | (go_at_call 5; refine hfe.mono ?_; rintro e x0 ⟨rfl, g0⟩; have hcW : (x0.alloc (.cells #[.int .i64 1, .int .i64 2, .int .i64 4] 3)).cell? ⟨x0.heap.size, 0, none⟩ = some (.int .i64 1) := cell_row0 _ _ _ _ _ rfl)
    | fail)
  have gX := keep_trans g0 (keep_alloc x0 (.cells #[.int .i64 1, .int .i64 2, .int .i64 4] 3))
  have riX := HR.out.1.below gX
  have rsX := HR.out.2.1.below gX
  have rtX := HR.out.2.2.1.below gX
  have hTX := HR.out.2.2.2.1.below gX
  have hbX := keep_trans HR.out.2.2.2.2 gX
  have hPl := HL.out.2
  have hGl := HL.out.1
  clear hcW gX g0
  generalize x0.alloc (.cells #[.int .i64 1, .int .i64 2, .int .i64 4] 3) = WX at *
  have hbd : Below WX.heap.size WX WX.drew := (Below.refl _ _).drew
  refine at_begin (ops := opsA (cLA (cRA (cRA (cRA (Tryd.f4.body.getD .skip)))))) (n := 10) (fun y => Below WX.heap.size WX y) (by kernel_rfl) (by kernel_rfl) ?_
  refine at_takeD (i := 0) (m' := 1) (d := some 29) (v := .int .i64 1) rg4reg rfl (by decide) rfl rfl (y_moveG (wanted_free rfl) rfl rfl) hbd ?_
  simp only [Act.put, List.setIfInBounds_toArray, List.set_cons_zero, List.set_cons_succ]
  refine at_takeD (i := 1) (m' := 3) (d := some 30) (v := .slice (some ⟨w.heap.size, 0, none⟩) 16 16) rg4reg rfl (by decide) rfl rfl (y_arr16 (wanted_free rfl) rfl rfl) hbd ?_
  simp only [Act.put, List.setIfInBounds_toArray, List.set_cons_zero, List.set_cons_succ]
  refine at_takeD (i := 2) (m' := 7) (d := some 31) (v := .int .u32 (q : Int)) rg4reg rfl (by decide) rfl rfl (y_moveG (wanted_free rfl) rfl rfl) hbd ?_
  simp only [Act.put, List.setIfInBounds_toArray, List.set_cons_zero, List.set_cons_succ]
  refine at_takeD (i := 3) (m' := 15) (d := some 32) (v := .slice (some ⟨w.heap.size + 1, 0, none⟩) 32 32) rg4reg rfl (by decide) rfl rfl (y_arr32 (wanted_free rfl) rfl rfl) hbd ?_
  simp only [Act.put, List.setIfInBounds_toArray, List.set_cons_zero, List.set_cons_succ]
  refine at_one (i := 4) (m' := 31) rg4reg (by decide) rfl ?_
  refine p_callG (args := #[.int .i64 1, .slice (some ⟨w.heap.size, 0, none⟩) 16 16, .int .u32 (q : Int), .slice (some ⟨w.heap.size + 1, 0, none⟩) 32 32]) (d := some 33) rfl (wanted_free rfl) rfl (by simp only [List.map_toArray, List.map_cons, List.map_nil]; rfl) rfl Tryd.call7 ((hpub WX.drew (hTX.below hbd) (riX.below hbd) (rsX.below hbd)).mono ?_)
  rintro e y5 ⟨pv, rfl, op, g5⟩
  obtain ⟨pa, pc, rfl, _⟩ := op.row.opens hPl
  have hb5 := keep_trans hbd g5
  refine ⟨_, rfl, hb5, ?_⟩
  simp only [Act.put, List.setIfInBounds_toArray, List.set_cons_zero, List.set_cons_succ]
  refine at_takeD (i := 5) (m' := 63) (d := some 28) (v := .tuple #[.slice pa 32 pc, .int .i64 0]) rg4reg rfl (by decide) rfl rfl (y_moveG (wanted_free rfl) rfl rfl) hb5 ?_
  simp only [Act.put, List.setIfInBounds_toArray, List.set_cons_zero, List.set_cons_succ]
  refine at_takeD (i := 6) (m' := 127) (d := some 34) (v := .slice pa 32 pc) rg4reg rfl (by decide) rfl rfl (y_extractG (wanted_free rfl) rfl rfl rfl) hb5 ?_
  simp only [Act.put, List.setIfInBounds_toArray, List.set_cons_zero, List.set_cons_succ]
  refine at_takeD (i := 7) (m' := 255) (d := some 35) (v := .int .i64 0) rg4reg rfl (by decide) rfl rfl (y_extractG (wanted_free rfl) rfl rfl rfl) hb5 ?_
  simp only [Act.put, List.setIfInBounds_toArray, List.set_cons_zero, List.set_cons_succ]
  refine at_takeD (i := 8) (m' := 511) (d := some 12) (v := .slice pa 32 pc) rg4reg rfl (by decide) rfl rfl (y_assignG (wanted_free rfl) rfl rfl) hb5 ?_
  simp only [Act.put, List.setIfInBounds_toArray, List.set_cons_zero, List.set_cons_succ]
  refine at_takeD (i := 9) (m' := 1023) (d := some 13) (v := .int .i64 0) rg4reg rfl (by decide) rfl rfl (y_assignG (wanted_free rfl) rfl rfl) hb5 ?_
  simp only [Act.put, List.setIfInBounds_toArray, List.set_cons_zero, List.set_cons_succ]
  refine at_done rg4reg (by decide) ?_
  have k4 := hb5
  have hb4 := keep_trans hbX k4
  have ri4 := riX.below k4
  have rs4 := rsX.below k4
  have rt4 := rtX.below k4
  have hT4 := hTX.below k4
  have rp4 := op.row
  clear riX rsX rtX hTX hbX k4 hbd op
  go_wp2
  have hbd : Below y5.heap.size y5 y5.drew := (Below.refl _ _).drew
  refine at_begin (ops := opsA (cLA (cRA (cRA (cRA (cRA (Tryd.f4.body.getD .skip))))))) (n := 11) (fun y => Below y5.heap.size y5 y) (by kernel_rfl) (by kernel_rfl) ?_
  refine at_takeD (i := 0) (m' := 1) (d := some 37) (v := .int .i64 1) rg5reg rfl (by decide) rfl rfl (y_moveG (wanted_free rfl) rfl rfl) hbd ?_
  simp only [Act.put, List.setIfInBounds_toArray, List.set_cons_zero, List.set_cons_succ]
  refine at_takeD (i := 1) (m' := 3) (d := some 38) (v := .slice (some ⟨w.heap.size, 0, none⟩) 16 16) rg5reg rfl (by decide) rfl rfl (y_arr16 (wanted_free rfl) rfl rfl) hbd ?_
  simp only [Act.put, List.setIfInBounds_toArray, List.set_cons_zero, List.set_cons_succ]
  refine at_takeD (i := 2) (m' := 7) (d := some 39) (v := .int .u32 (q : Int)) rg5reg rfl (by decide) rfl rfl (y_moveG (wanted_free rfl) rfl rfl) hbd ?_
  simp only [Act.put, List.setIfInBounds_toArray, List.set_cons_zero, List.set_cons_succ]
  refine at_takeD (i := 3) (m' := 15) (d := some 40) (v := .slice (some ⟨w.heap.size + 1, 0, none⟩) 32 32) rg5reg rfl (by decide) rfl rfl (y_arr32 (wanted_free rfl) rfl rfl) hbd ?_
  simp only [Act.put, List.setIfInBounds_toArray, List.set_cons_zero, List.set_cons_succ]
  refine at_takeD (i := 4) (m' := 31) (d := some 41) (v := .slice ta text.length tc) rg5reg rfl (by decide) rfl rfl (y_moveG (wanted_free rfl) rfl rfl) hbd ?_
  simp only [Act.put, List.setIfInBounds_toArray, List.set_cons_zero, List.set_cons_succ]
  refine at_one (i := 5) (m' := 63) rg5reg (by decide) rfl ?_
  refine p_callG (args := #[.int .i64 1, .slice (some ⟨w.heap.size, 0, none⟩) 16 16, .int .u32 (q : Int), .slice (some ⟨w.heap.size + 1, 0, none⟩) 32 32, .slice ta text.length tc]) (d := some 42) rfl (wanted_free rfl) rfl (by simp only [List.map_toArray, List.map_cons, List.map_nil]; rfl) rfl Tryd.call9 ((hsgn y5.drew (hT4.below hbd) (ri4.below hbd) (rs4.below hbd) (rt4.below hbd)).mono ?_)
  rintro e y6 ⟨gv, rfl, og, g6⟩
  obtain ⟨ga, gc, rfl, _⟩ := og.row.opens hGl
  have hb6 := keep_trans hbd g6
  refine ⟨_, rfl, hb6, ?_⟩
  simp only [Act.put, List.setIfInBounds_toArray, List.set_cons_zero, List.set_cons_succ]
  refine at_takeD (i := 6) (m' := 127) (d := some 36) (v := .tuple #[.slice ga 8516 gc, .int .i64 0]) rg5reg rfl (by decide) rfl rfl (y_moveG (wanted_free rfl) rfl rfl) hb6 ?_
  simp only [Act.put, List.setIfInBounds_toArray, List.set_cons_zero, List.set_cons_succ]
  refine at_takeD (i := 7) (m' := 255) (d := some 43) (v := .slice ga 8516 gc) rg5reg rfl (by decide) rfl rfl (y_extractG (wanted_free rfl) rfl rfl rfl) hb6 ?_
  simp only [Act.put, List.setIfInBounds_toArray, List.set_cons_zero, List.set_cons_succ]
  refine at_takeD (i := 8) (m' := 511) (d := some 44) (v := .int .i64 0) rg5reg rfl (by decide) rfl rfl (y_extractG (wanted_free rfl) rfl rfl rfl) hb6 ?_
  simp only [Act.put, List.setIfInBounds_toArray, List.set_cons_zero, List.set_cons_succ]
  refine at_takeD (i := 9) (m' := 1023) (d := some 14) (v := .slice ga 8516 gc) rg5reg rfl (by decide) rfl rfl (y_assignG (wanted_free rfl) rfl rfl) hb6 ?_
  simp only [Act.put, List.setIfInBounds_toArray, List.set_cons_zero, List.set_cons_succ]
  refine at_takeD (i := 10) (m' := 2047) (d := some 15) (v := .int .i64 0) rg5reg rfl (by decide) rfl rfl (y_assignG (wanted_free rfl) rfl rfl) hb6 ?_
  simp only [Act.put, List.setIfInBounds_toArray, List.set_cons_zero, List.set_cons_succ]
  refine at_done rg5reg (by decide) ?_
  have k5 := hb6
  have hb5 := keep_trans hb4 k5
  have hcn := hcnd y6 _ (hT4.below k5) (ri4.below k5) (rt4.below k5) og.row
  have rp5 := rp4.below k5
  have HB := hide hb5
  clear ri4 rs4 rt4 hT4 k5 hbd og hb4 hb5 hcnd hpub hsgn rp4
  go_wp2_with (first
    | (refine wpList_arr16 rfl _ (by rfl) _ (by rfl) ?_)
    | (go_at_call 11; refine hcn.mono ?_; rintro e x6 ⟨cv, rfl, oc, g6⟩; obtain ⟨ca, cc, rfl, _⟩ := oc.row.opens HL.out.2)
    | (go_at_call 13; refine (rsame_true _ _ PK _ oc.row (rp5.below g6)).mono ?_; rintro e x7 ⟨rfl, g7⟩)
    | (go_at_call 14; refine (hz _).mono ?_; rintro e x8 ⟨rfl, g8⟩)
    | (go_at_call 6; refine (awakeL_any _).mono ?_; rintro e x9 ⟨rfl, g9⟩)
    | fail)
  go_ret
  exact ⟨rfl, keep_trans HB.out (keep_trans (keep_trans g6 g7) (keep_trans g8 g9))⟩
set_option maxHeartbeats 8000000 in
set_option maxRecDepth 100000 in
theorem rgt_2 (kd q : Nat) (id seed text : List Nat) (tv : Value) (w : World) (hT : Roots w) (hkd : kd < 256) (hr : kd % 3 = 1) (hq : q < 4294967296) (hil : id.length = 16) (hsl : seed.length = 32) (ui : Under 256 id) (us : Under 256 seed) (rt : Row .u8 256 w tv text) (tt : Tidy tv) (htl : text.length ≤ 300) :
    Calls Tryd.prog 4 #[.int .u8 (kd : Int), .agg (arr .u8 id), .int .u32 (q : Int), .agg (arr .u8 seed), tv] w fun e w' => e = .returned (.bool true) ∧ Below w.heap.size w w' := by
  obtain ⟨ta, tc, rfl, _⟩ := rt.opens rfl
  obtain ⟨rI, rS, hW, hWs⟩ := boxR_all w hil hsl ui us
  have tI : Tidy (.slice (some ⟨w.heap.size, 0, none⟩) 16 16) := fun n c e => by cases e
  have tS : Tidy (.slice (some ⟨w.heap.size + 1, 0, none⟩) 32 32) := fun n c e => by cases e
  have hfe := few1G ta text.length tc (boxR w id seed) _ hWs
  rw [decide_eq_true htl] at hfe
  have e_r : (kd : Int).tmod 3 = 1 := by rw [Int.tmod_eq_emod_of_nonneg (by omega)]; omega
  obtain ⟨PK, hPK⟩ : ∃ x, x = pubH shaL (preL id q) (2 ^ 2 - 1) (128 + 5) seed := ⟨_, rfl⟩
  obtain ⟨SG, hSG⟩ : ∃ x, x = sgnH shaL (preL id q) 2 (digsL 2 128 5 6 (digH shaL (preL id q) (lmCn shaL (preL id q) seed) text)) seed := ⟨_, rfl⟩
  have hGl : SG.length = 4292 := by rw [hSG, sgnH_len shaL_len, digs_len]
  have hGc : SG.take 4 = be4 2 := by rw [hSG, sgnH_code]
  have hPl : PK.length = 32 := by rw [hPK]; unfold pubH keyH; exact shaL_len _
  have hck := rgt_plain shaL shaL_len Kd.k2 (preL id q) seed text
  rw [← hSG, ← hPK] at hck
  have hpub : ∀ y, Roots y → Row .u8 256 y (.slice (some ⟨w.heap.size, 0, none⟩) 16 16) id → Row .u8 256 y (.slice (some ⟨w.heap.size + 1, 0, none⟩) 32 32) seed → Calls Tryd.prog 7 #[.int .i64 2, .slice (some ⟨w.heap.size, 0, none⟩) 16 16, .int .u32 (q : Int), .slice (some ⟨w.heap.size + 1, 0, none⟩) 32 32] y fun e w' => ∃ v, e = .returned (.tuple #[v, .int .i64 0]) ∧ Own 5 .u8 256 w' y.heap.size v PK ∧ Below y.heap.size y w' := fun y h1 h2 h3 => by
    rw [hPK]; exact cpub_ok Kd.k2 rfl q id seed _ _ y h1 h2 tI h3 tS hil hsl hq
  have hsgn : ∀ y, Roots y → Row .u8 256 y (.slice (some ⟨w.heap.size, 0, none⟩) 16 16) id → Row .u8 256 y (.slice (some ⟨w.heap.size + 1, 0, none⟩) 32 32) seed → Row .u8 256 y (.slice ta text.length tc) text → Calls Tryd.prog 9 #[.int .i64 2, .slice (some ⟨w.heap.size, 0, none⟩) 16 16, .int .u32 (q : Int), .slice (some ⟨w.heap.size + 1, 0, none⟩) 32 32, .slice ta text.length tc] y fun e w' => ∃ v, e = .returned (.tuple #[v, .int .i64 0]) ∧ Own 5 .u8 256 w' y.heap.size v SG ∧ Below y.heap.size y w' := fun y h1 h2 h3 h4 => by
    rw [hSG]; exact csgn_ok Kd.k2 rfl q id seed text _ _ _ y h1 h2 tI h3 tS h4 tt hil hsl (by omega) hq
  have hcnd : ∀ y gv, Roots y → Row .u8 256 y (.slice (some ⟨w.heap.size, 0, none⟩) 16 16) id → Row .u8 256 y (.slice ta text.length tc) text → Row .u8 256 y gv SG → Calls Tryd.prog 11 #[.int .i64 2, .slice (some ⟨w.heap.size, 0, none⟩) 16 16, .int .u32 (q : Int), .slice ta text.length tc, gv] y fun e w' => ∃ v, e = .returned (.tuple #[v, .int .i64 0]) ∧ Own 5 .u8 256 w' y.heap.size v PK ∧ Below y.heap.size y w' := fun y gv h1 h2 h3 h4 => by
    have := ccnd_ok Kd.k2 rfl q id text SG _ _ gv y h1 h2 tI h3 tt h4 hil (by omega) hq hGl hGc
    rw [hck] at this
    exact this
  have hz : ∀ y, Calls Tryd.prog 14 #[.int .i64 2] y fun e w' => e = .returned (.int .i64 4292) ∧ Below y.heap.size y w' := fun y => csize_ok Kd.k2 (P := 133) rfl y
  have HL := hide (And.intro hGl hPl)
  have HR := hide (And.intro rI (And.intro rS (And.intro (rt.below hW) (And.intro (hT.below hW) hW))))
  have hAs : (arr .u8 id).size = 16 := by rw [arr_size, hil]
  have hBs : (arr .u8 seed).size = 32 := by rw [arr_size, hsl]
  clear hck hPK hSG hGl hGc hPl hil hsl ui us rI rS rt hT hW htl hr tI tS
  go_enter Tryd.func4, Tryd.ntmps4
  go_wp2_with (first
    | (go_at_call 5; refine hfe.mono ?_; rintro e x0 ⟨rfl, g0⟩; have hcW : (x0.alloc (.cells #[.int .i64 1, .int .i64 2, .int .i64 4] 3)).cell? ⟨x0.heap.size, 1, none⟩ = some (.int .i64 2) := cell_row0 _ _ _ _ _ rfl)
    | fail)
  have gX := keep_trans g0 (keep_alloc x0 (.cells #[.int .i64 1, .int .i64 2, .int .i64 4] 3))
  have riX := HR.out.1.below gX
  have rsX := HR.out.2.1.below gX
  have rtX := HR.out.2.2.1.below gX
  have hTX := HR.out.2.2.2.1.below gX
  have hbX := keep_trans HR.out.2.2.2.2 gX
  have hPl := HL.out.2
  have hGl := HL.out.1
  clear hcW gX g0
  generalize x0.alloc (.cells #[.int .i64 1, .int .i64 2, .int .i64 4] 3) = WX at *
  have hbd : Below WX.heap.size WX WX.drew := (Below.refl _ _).drew
  refine at_begin (ops := opsA (cLA (cRA (cRA (cRA (Tryd.f4.body.getD .skip)))))) (n := 10) (fun y => Below WX.heap.size WX y) (by kernel_rfl) (by kernel_rfl) ?_
  refine at_takeD (i := 0) (m' := 1) (d := some 29) (v := .int .i64 2) rg4reg rfl (by decide) rfl rfl (y_moveG (wanted_free rfl) rfl rfl) hbd ?_
  simp only [Act.put, List.setIfInBounds_toArray, List.set_cons_zero, List.set_cons_succ]
  refine at_takeD (i := 1) (m' := 3) (d := some 30) (v := .slice (some ⟨w.heap.size, 0, none⟩) 16 16) rg4reg rfl (by decide) rfl rfl (y_arr16 (wanted_free rfl) rfl rfl) hbd ?_
  simp only [Act.put, List.setIfInBounds_toArray, List.set_cons_zero, List.set_cons_succ]
  refine at_takeD (i := 2) (m' := 7) (d := some 31) (v := .int .u32 (q : Int)) rg4reg rfl (by decide) rfl rfl (y_moveG (wanted_free rfl) rfl rfl) hbd ?_
  simp only [Act.put, List.setIfInBounds_toArray, List.set_cons_zero, List.set_cons_succ]
  refine at_takeD (i := 3) (m' := 15) (d := some 32) (v := .slice (some ⟨w.heap.size + 1, 0, none⟩) 32 32) rg4reg rfl (by decide) rfl rfl (y_arr32 (wanted_free rfl) rfl rfl) hbd ?_
  simp only [Act.put, List.setIfInBounds_toArray, List.set_cons_zero, List.set_cons_succ]
  refine at_one (i := 4) (m' := 31) rg4reg (by decide) rfl ?_
  refine p_callG (args := #[.int .i64 2, .slice (some ⟨w.heap.size, 0, none⟩) 16 16, .int .u32 (q : Int), .slice (some ⟨w.heap.size + 1, 0, none⟩) 32 32]) (d := some 33) rfl (wanted_free rfl) rfl (by simp only [List.map_toArray, List.map_cons, List.map_nil]; rfl) rfl Tryd.call7 ((hpub WX.drew (hTX.below hbd) (riX.below hbd) (rsX.below hbd)).mono ?_)
  rintro e y5 ⟨pv, rfl, op, g5⟩
  obtain ⟨pa, pc, rfl, _⟩ := op.row.opens hPl
  have hb5 := keep_trans hbd g5
  refine ⟨_, rfl, hb5, ?_⟩
  simp only [Act.put, List.setIfInBounds_toArray, List.set_cons_zero, List.set_cons_succ]
  refine at_takeD (i := 5) (m' := 63) (d := some 28) (v := .tuple #[.slice pa 32 pc, .int .i64 0]) rg4reg rfl (by decide) rfl rfl (y_moveG (wanted_free rfl) rfl rfl) hb5 ?_
  simp only [Act.put, List.setIfInBounds_toArray, List.set_cons_zero, List.set_cons_succ]
  refine at_takeD (i := 6) (m' := 127) (d := some 34) (v := .slice pa 32 pc) rg4reg rfl (by decide) rfl rfl (y_extractG (wanted_free rfl) rfl rfl rfl) hb5 ?_
  simp only [Act.put, List.setIfInBounds_toArray, List.set_cons_zero, List.set_cons_succ]
  refine at_takeD (i := 7) (m' := 255) (d := some 35) (v := .int .i64 0) rg4reg rfl (by decide) rfl rfl (y_extractG (wanted_free rfl) rfl rfl rfl) hb5 ?_
  simp only [Act.put, List.setIfInBounds_toArray, List.set_cons_zero, List.set_cons_succ]
  refine at_takeD (i := 8) (m' := 511) (d := some 12) (v := .slice pa 32 pc) rg4reg rfl (by decide) rfl rfl (y_assignG (wanted_free rfl) rfl rfl) hb5 ?_
  simp only [Act.put, List.setIfInBounds_toArray, List.set_cons_zero, List.set_cons_succ]
  refine at_takeD (i := 9) (m' := 1023) (d := some 13) (v := .int .i64 0) rg4reg rfl (by decide) rfl rfl (y_assignG (wanted_free rfl) rfl rfl) hb5 ?_
  simp only [Act.put, List.setIfInBounds_toArray, List.set_cons_zero, List.set_cons_succ]
  refine at_done rg4reg (by decide) ?_
  have k4 := hb5
  have hb4 := keep_trans hbX k4
  have ri4 := riX.below k4
  have rs4 := rsX.below k4
  have rt4 := rtX.below k4
  have hT4 := hTX.below k4
  have rp4 := op.row
  clear riX rsX rtX hTX hbX k4 hbd op
  go_wp2
  have hbd : Below y5.heap.size y5 y5.drew := (Below.refl _ _).drew
  refine at_begin (ops := opsA (cLA (cRA (cRA (cRA (cRA (Tryd.f4.body.getD .skip))))))) (n := 11) (fun y => Below y5.heap.size y5 y) (by kernel_rfl) (by kernel_rfl) ?_
  refine at_takeD (i := 0) (m' := 1) (d := some 37) (v := .int .i64 2) rg5reg rfl (by decide) rfl rfl (y_moveG (wanted_free rfl) rfl rfl) hbd ?_
  simp only [Act.put, List.setIfInBounds_toArray, List.set_cons_zero, List.set_cons_succ]
  refine at_takeD (i := 1) (m' := 3) (d := some 38) (v := .slice (some ⟨w.heap.size, 0, none⟩) 16 16) rg5reg rfl (by decide) rfl rfl (y_arr16 (wanted_free rfl) rfl rfl) hbd ?_
  simp only [Act.put, List.setIfInBounds_toArray, List.set_cons_zero, List.set_cons_succ]
  refine at_takeD (i := 2) (m' := 7) (d := some 39) (v := .int .u32 (q : Int)) rg5reg rfl (by decide) rfl rfl (y_moveG (wanted_free rfl) rfl rfl) hbd ?_
  simp only [Act.put, List.setIfInBounds_toArray, List.set_cons_zero, List.set_cons_succ]
  refine at_takeD (i := 3) (m' := 15) (d := some 40) (v := .slice (some ⟨w.heap.size + 1, 0, none⟩) 32 32) rg5reg rfl (by decide) rfl rfl (y_arr32 (wanted_free rfl) rfl rfl) hbd ?_
  simp only [Act.put, List.setIfInBounds_toArray, List.set_cons_zero, List.set_cons_succ]
  refine at_takeD (i := 4) (m' := 31) (d := some 41) (v := .slice ta text.length tc) rg5reg rfl (by decide) rfl rfl (y_moveG (wanted_free rfl) rfl rfl) hbd ?_
  simp only [Act.put, List.setIfInBounds_toArray, List.set_cons_zero, List.set_cons_succ]
  refine at_one (i := 5) (m' := 63) rg5reg (by decide) rfl ?_
  refine p_callG (args := #[.int .i64 2, .slice (some ⟨w.heap.size, 0, none⟩) 16 16, .int .u32 (q : Int), .slice (some ⟨w.heap.size + 1, 0, none⟩) 32 32, .slice ta text.length tc]) (d := some 42) rfl (wanted_free rfl) rfl (by simp only [List.map_toArray, List.map_cons, List.map_nil]; rfl) rfl Tryd.call9 ((hsgn y5.drew (hT4.below hbd) (ri4.below hbd) (rs4.below hbd) (rt4.below hbd)).mono ?_)
  rintro e y6 ⟨gv, rfl, og, g6⟩
  obtain ⟨ga, gc, rfl, _⟩ := og.row.opens hGl
  have hb6 := keep_trans hbd g6
  refine ⟨_, rfl, hb6, ?_⟩
  simp only [Act.put, List.setIfInBounds_toArray, List.set_cons_zero, List.set_cons_succ]
  refine at_takeD (i := 6) (m' := 127) (d := some 36) (v := .tuple #[.slice ga 4292 gc, .int .i64 0]) rg5reg rfl (by decide) rfl rfl (y_moveG (wanted_free rfl) rfl rfl) hb6 ?_
  simp only [Act.put, List.setIfInBounds_toArray, List.set_cons_zero, List.set_cons_succ]
  refine at_takeD (i := 7) (m' := 255) (d := some 43) (v := .slice ga 4292 gc) rg5reg rfl (by decide) rfl rfl (y_extractG (wanted_free rfl) rfl rfl rfl) hb6 ?_
  simp only [Act.put, List.setIfInBounds_toArray, List.set_cons_zero, List.set_cons_succ]
  refine at_takeD (i := 8) (m' := 511) (d := some 44) (v := .int .i64 0) rg5reg rfl (by decide) rfl rfl (y_extractG (wanted_free rfl) rfl rfl rfl) hb6 ?_
  simp only [Act.put, List.setIfInBounds_toArray, List.set_cons_zero, List.set_cons_succ]
  refine at_takeD (i := 9) (m' := 1023) (d := some 14) (v := .slice ga 4292 gc) rg5reg rfl (by decide) rfl rfl (y_assignG (wanted_free rfl) rfl rfl) hb6 ?_
  simp only [Act.put, List.setIfInBounds_toArray, List.set_cons_zero, List.set_cons_succ]
  refine at_takeD (i := 10) (m' := 2047) (d := some 15) (v := .int .i64 0) rg5reg rfl (by decide) rfl rfl (y_assignG (wanted_free rfl) rfl rfl) hb6 ?_
  simp only [Act.put, List.setIfInBounds_toArray, List.set_cons_zero, List.set_cons_succ]
  refine at_done rg5reg (by decide) ?_
  have k5 := hb6
  have hb5 := keep_trans hb4 k5
  have hcn := hcnd y6 _ (hT4.below k5) (ri4.below k5) (rt4.below k5) og.row
  have rp5 := rp4.below k5
  have HB := hide hb5
  clear ri4 rs4 rt4 hT4 k5 hbd og hb4 hb5 hcnd hpub hsgn rp4
  go_wp2_with (first
    | (refine wpList_arr16 rfl _ (by rfl) _ (by rfl) ?_)
    | (go_at_call 11; refine hcn.mono ?_; rintro e x6 ⟨cv, rfl, oc, g6⟩; obtain ⟨ca, cc, rfl, _⟩ := oc.row.opens HL.out.2)
    | (go_at_call 13; refine (rsame_true _ _ PK _ oc.row (rp5.below g6)).mono ?_; rintro e x7 ⟨rfl, g7⟩)
    | (go_at_call 14; refine (hz _).mono ?_; rintro e x8 ⟨rfl, g8⟩)
    | (go_at_call 6; refine (awakeL_any _).mono ?_; rintro e x9 ⟨rfl, g9⟩)
    | fail)
  go_ret
  exact ⟨rfl, keep_trans HB.out (keep_trans (keep_trans g6 g7) (keep_trans g8 g9))⟩
set_option maxHeartbeats 8000000 in
set_option maxRecDepth 100000 in
theorem rgt_4 (kd q : Nat) (id seed text : List Nat) (tv : Value) (w : World) (hT : Roots w) (hkd : kd < 256) (hr : kd % 3 = 2) (hq : q < 4294967296) (hil : id.length = 16) (hsl : seed.length = 32) (ui : Under 256 id) (us : Under 256 seed) (rt : Row .u8 256 w tv text) (tt : Tidy tv) (htl : text.length ≤ 300) :
    Calls Tryd.prog 4 #[.int .u8 (kd : Int), .agg (arr .u8 id), .int .u32 (q : Int), .agg (arr .u8 seed), tv] w fun e w' => e = .returned (.bool true) ∧ Below w.heap.size w w' := by
  obtain ⟨ta, tc, rfl, _⟩ := rt.opens rfl
  obtain ⟨rI, rS, hW, hWs⟩ := boxR_all w hil hsl ui us
  have tI : Tidy (.slice (some ⟨w.heap.size, 0, none⟩) 16 16) := fun n c e => by cases e
  have tS : Tidy (.slice (some ⟨w.heap.size + 1, 0, none⟩) 32 32) := fun n c e => by cases e
  have hfe := few1G ta text.length tc (boxR w id seed) _ hWs
  rw [decide_eq_true htl] at hfe
  have e_r : (kd : Int).tmod 3 = 2 := by rw [Int.tmod_eq_emod_of_nonneg (by omega)]; omega
  obtain ⟨PK, hPK⟩ : ∃ x, x = pubH shaL (preL id q) (2 ^ 4 - 1) (64 + 3) seed := ⟨_, rfl⟩
  obtain ⟨SG, hSG⟩ : ∃ x, x = sgnH shaL (preL id q) 3 (digsL 4 64 3 4 (digH shaL (preL id q) (lmCn shaL (preL id q) seed) text)) seed := ⟨_, rfl⟩
  have hGl : SG.length = 2180 := by rw [hSG, sgnH_len shaL_len, digs_len]
  have hGc : SG.take 4 = be4 3 := by rw [hSG, sgnH_code]
  have hPl : PK.length = 32 := by rw [hPK]; unfold pubH keyH; exact shaL_len _
  have hck := rgt_plain shaL shaL_len Kd.k4 (preL id q) seed text
  rw [← hSG, ← hPK] at hck
  have hpub : ∀ y, Roots y → Row .u8 256 y (.slice (some ⟨w.heap.size, 0, none⟩) 16 16) id → Row .u8 256 y (.slice (some ⟨w.heap.size + 1, 0, none⟩) 32 32) seed → Calls Tryd.prog 7 #[.int .i64 4, .slice (some ⟨w.heap.size, 0, none⟩) 16 16, .int .u32 (q : Int), .slice (some ⟨w.heap.size + 1, 0, none⟩) 32 32] y fun e w' => ∃ v, e = .returned (.tuple #[v, .int .i64 0]) ∧ Own 5 .u8 256 w' y.heap.size v PK ∧ Below y.heap.size y w' := fun y h1 h2 h3 => by
    rw [hPK]; exact cpub_ok Kd.k4 rfl q id seed _ _ y h1 h2 tI h3 tS hil hsl hq
  have hsgn : ∀ y, Roots y → Row .u8 256 y (.slice (some ⟨w.heap.size, 0, none⟩) 16 16) id → Row .u8 256 y (.slice (some ⟨w.heap.size + 1, 0, none⟩) 32 32) seed → Row .u8 256 y (.slice ta text.length tc) text → Calls Tryd.prog 9 #[.int .i64 4, .slice (some ⟨w.heap.size, 0, none⟩) 16 16, .int .u32 (q : Int), .slice (some ⟨w.heap.size + 1, 0, none⟩) 32 32, .slice ta text.length tc] y fun e w' => ∃ v, e = .returned (.tuple #[v, .int .i64 0]) ∧ Own 5 .u8 256 w' y.heap.size v SG ∧ Below y.heap.size y w' := fun y h1 h2 h3 h4 => by
    rw [hSG]; exact csgn_ok Kd.k4 rfl q id seed text _ _ _ y h1 h2 tI h3 tS h4 tt hil hsl (by omega) hq
  have hcnd : ∀ y gv, Roots y → Row .u8 256 y (.slice (some ⟨w.heap.size, 0, none⟩) 16 16) id → Row .u8 256 y (.slice ta text.length tc) text → Row .u8 256 y gv SG → Calls Tryd.prog 11 #[.int .i64 4, .slice (some ⟨w.heap.size, 0, none⟩) 16 16, .int .u32 (q : Int), .slice ta text.length tc, gv] y fun e w' => ∃ v, e = .returned (.tuple #[v, .int .i64 0]) ∧ Own 5 .u8 256 w' y.heap.size v PK ∧ Below y.heap.size y w' := fun y gv h1 h2 h3 h4 => by
    have := ccnd_ok Kd.k4 rfl q id text SG _ _ gv y h1 h2 tI h3 tt h4 hil (by omega) hq hGl hGc
    rw [hck] at this
    exact this
  have hz : ∀ y, Calls Tryd.prog 14 #[.int .i64 4] y fun e w' => e = .returned (.int .i64 2180) ∧ Below y.heap.size y w' := fun y => csize_ok Kd.k4 (P := 67) rfl y
  have HL := hide (And.intro hGl hPl)
  have HR := hide (And.intro rI (And.intro rS (And.intro (rt.below hW) (And.intro (hT.below hW) hW))))
  have hAs : (arr .u8 id).size = 16 := by rw [arr_size, hil]
  have hBs : (arr .u8 seed).size = 32 := by rw [arr_size, hsl]
  clear hck hPK hSG hGl hGc hPl hil hsl ui us rI rS rt hT hW htl hr tI tS
  go_enter Tryd.func4, Tryd.ntmps4
  go_wp2_with (first
    | (go_at_call 5; refine hfe.mono ?_; rintro e x0 ⟨rfl, g0⟩; have hcW : (x0.alloc (.cells #[.int .i64 1, .int .i64 2, .int .i64 4] 3)).cell? ⟨x0.heap.size, 2, none⟩ = some (.int .i64 4) := cell_row0 _ _ _ _ _ rfl)
    | fail)
  have gX := keep_trans g0 (keep_alloc x0 (.cells #[.int .i64 1, .int .i64 2, .int .i64 4] 3))
  have riX := HR.out.1.below gX
  have rsX := HR.out.2.1.below gX
  have rtX := HR.out.2.2.1.below gX
  have hTX := HR.out.2.2.2.1.below gX
  have hbX := keep_trans HR.out.2.2.2.2 gX
  have hPl := HL.out.2
  have hGl := HL.out.1
  clear hcW gX g0
  generalize x0.alloc (.cells #[.int .i64 1, .int .i64 2, .int .i64 4] 3) = WX at *
  have hbd : Below WX.heap.size WX WX.drew := (Below.refl _ _).drew
  refine at_begin (ops := opsA (cLA (cRA (cRA (cRA (Tryd.f4.body.getD .skip)))))) (n := 10) (fun y => Below WX.heap.size WX y) (by kernel_rfl) (by kernel_rfl) ?_
  refine at_takeD (i := 0) (m' := 1) (d := some 29) (v := .int .i64 4) rg4reg rfl (by decide) rfl rfl (y_moveG (wanted_free rfl) rfl rfl) hbd ?_
  simp only [Act.put, List.setIfInBounds_toArray, List.set_cons_zero, List.set_cons_succ]
  refine at_takeD (i := 1) (m' := 3) (d := some 30) (v := .slice (some ⟨w.heap.size, 0, none⟩) 16 16) rg4reg rfl (by decide) rfl rfl (y_arr16 (wanted_free rfl) rfl rfl) hbd ?_
  simp only [Act.put, List.setIfInBounds_toArray, List.set_cons_zero, List.set_cons_succ]
  refine at_takeD (i := 2) (m' := 7) (d := some 31) (v := .int .u32 (q : Int)) rg4reg rfl (by decide) rfl rfl (y_moveG (wanted_free rfl) rfl rfl) hbd ?_
  simp only [Act.put, List.setIfInBounds_toArray, List.set_cons_zero, List.set_cons_succ]
  refine at_takeD (i := 3) (m' := 15) (d := some 32) (v := .slice (some ⟨w.heap.size + 1, 0, none⟩) 32 32) rg4reg rfl (by decide) rfl rfl (y_arr32 (wanted_free rfl) rfl rfl) hbd ?_
  simp only [Act.put, List.setIfInBounds_toArray, List.set_cons_zero, List.set_cons_succ]
  refine at_one (i := 4) (m' := 31) rg4reg (by decide) rfl ?_
  refine p_callG (args := #[.int .i64 4, .slice (some ⟨w.heap.size, 0, none⟩) 16 16, .int .u32 (q : Int), .slice (some ⟨w.heap.size + 1, 0, none⟩) 32 32]) (d := some 33) rfl (wanted_free rfl) rfl (by simp only [List.map_toArray, List.map_cons, List.map_nil]; rfl) rfl Tryd.call7 ((hpub WX.drew (hTX.below hbd) (riX.below hbd) (rsX.below hbd)).mono ?_)
  rintro e y5 ⟨pv, rfl, op, g5⟩
  obtain ⟨pa, pc, rfl, _⟩ := op.row.opens hPl
  have hb5 := keep_trans hbd g5
  refine ⟨_, rfl, hb5, ?_⟩
  simp only [Act.put, List.setIfInBounds_toArray, List.set_cons_zero, List.set_cons_succ]
  refine at_takeD (i := 5) (m' := 63) (d := some 28) (v := .tuple #[.slice pa 32 pc, .int .i64 0]) rg4reg rfl (by decide) rfl rfl (y_moveG (wanted_free rfl) rfl rfl) hb5 ?_
  simp only [Act.put, List.setIfInBounds_toArray, List.set_cons_zero, List.set_cons_succ]
  refine at_takeD (i := 6) (m' := 127) (d := some 34) (v := .slice pa 32 pc) rg4reg rfl (by decide) rfl rfl (y_extractG (wanted_free rfl) rfl rfl rfl) hb5 ?_
  simp only [Act.put, List.setIfInBounds_toArray, List.set_cons_zero, List.set_cons_succ]
  refine at_takeD (i := 7) (m' := 255) (d := some 35) (v := .int .i64 0) rg4reg rfl (by decide) rfl rfl (y_extractG (wanted_free rfl) rfl rfl rfl) hb5 ?_
  simp only [Act.put, List.setIfInBounds_toArray, List.set_cons_zero, List.set_cons_succ]
  refine at_takeD (i := 8) (m' := 511) (d := some 12) (v := .slice pa 32 pc) rg4reg rfl (by decide) rfl rfl (y_assignG (wanted_free rfl) rfl rfl) hb5 ?_
  simp only [Act.put, List.setIfInBounds_toArray, List.set_cons_zero, List.set_cons_succ]
  refine at_takeD (i := 9) (m' := 1023) (d := some 13) (v := .int .i64 0) rg4reg rfl (by decide) rfl rfl (y_assignG (wanted_free rfl) rfl rfl) hb5 ?_
  simp only [Act.put, List.setIfInBounds_toArray, List.set_cons_zero, List.set_cons_succ]
  refine at_done rg4reg (by decide) ?_
  have k4 := hb5
  have hb4 := keep_trans hbX k4
  have ri4 := riX.below k4
  have rs4 := rsX.below k4
  have rt4 := rtX.below k4
  have hT4 := hTX.below k4
  have rp4 := op.row
  clear riX rsX rtX hTX hbX k4 hbd op
  go_wp2
  have hbd : Below y5.heap.size y5 y5.drew := (Below.refl _ _).drew
  refine at_begin (ops := opsA (cLA (cRA (cRA (cRA (cRA (Tryd.f4.body.getD .skip))))))) (n := 11) (fun y => Below y5.heap.size y5 y) (by kernel_rfl) (by kernel_rfl) ?_
  refine at_takeD (i := 0) (m' := 1) (d := some 37) (v := .int .i64 4) rg5reg rfl (by decide) rfl rfl (y_moveG (wanted_free rfl) rfl rfl) hbd ?_
  simp only [Act.put, List.setIfInBounds_toArray, List.set_cons_zero, List.set_cons_succ]
  refine at_takeD (i := 1) (m' := 3) (d := some 38) (v := .slice (some ⟨w.heap.size, 0, none⟩) 16 16) rg5reg rfl (by decide) rfl rfl (y_arr16 (wanted_free rfl) rfl rfl) hbd ?_
  simp only [Act.put, List.setIfInBounds_toArray, List.set_cons_zero, List.set_cons_succ]
  refine at_takeD (i := 2) (m' := 7) (d := some 39) (v := .int .u32 (q : Int)) rg5reg rfl (by decide) rfl rfl (y_moveG (wanted_free rfl) rfl rfl) hbd ?_
  simp only [Act.put, List.setIfInBounds_toArray, List.set_cons_zero, List.set_cons_succ]
  refine at_takeD (i := 3) (m' := 15) (d := some 40) (v := .slice (some ⟨w.heap.size + 1, 0, none⟩) 32 32) rg5reg rfl (by decide) rfl rfl (y_arr32 (wanted_free rfl) rfl rfl) hbd ?_
  simp only [Act.put, List.setIfInBounds_toArray, List.set_cons_zero, List.set_cons_succ]
  refine at_takeD (i := 4) (m' := 31) (d := some 41) (v := .slice ta text.length tc) rg5reg rfl (by decide) rfl rfl (y_moveG (wanted_free rfl) rfl rfl) hbd ?_
  simp only [Act.put, List.setIfInBounds_toArray, List.set_cons_zero, List.set_cons_succ]
  refine at_one (i := 5) (m' := 63) rg5reg (by decide) rfl ?_
  refine p_callG (args := #[.int .i64 4, .slice (some ⟨w.heap.size, 0, none⟩) 16 16, .int .u32 (q : Int), .slice (some ⟨w.heap.size + 1, 0, none⟩) 32 32, .slice ta text.length tc]) (d := some 42) rfl (wanted_free rfl) rfl (by simp only [List.map_toArray, List.map_cons, List.map_nil]; rfl) rfl Tryd.call9 ((hsgn y5.drew (hT4.below hbd) (ri4.below hbd) (rs4.below hbd) (rt4.below hbd)).mono ?_)
  rintro e y6 ⟨gv, rfl, og, g6⟩
  obtain ⟨ga, gc, rfl, _⟩ := og.row.opens hGl
  have hb6 := keep_trans hbd g6
  refine ⟨_, rfl, hb6, ?_⟩
  simp only [Act.put, List.setIfInBounds_toArray, List.set_cons_zero, List.set_cons_succ]
  refine at_takeD (i := 6) (m' := 127) (d := some 36) (v := .tuple #[.slice ga 2180 gc, .int .i64 0]) rg5reg rfl (by decide) rfl rfl (y_moveG (wanted_free rfl) rfl rfl) hb6 ?_
  simp only [Act.put, List.setIfInBounds_toArray, List.set_cons_zero, List.set_cons_succ]
  refine at_takeD (i := 7) (m' := 255) (d := some 43) (v := .slice ga 2180 gc) rg5reg rfl (by decide) rfl rfl (y_extractG (wanted_free rfl) rfl rfl rfl) hb6 ?_
  simp only [Act.put, List.setIfInBounds_toArray, List.set_cons_zero, List.set_cons_succ]
  refine at_takeD (i := 8) (m' := 511) (d := some 44) (v := .int .i64 0) rg5reg rfl (by decide) rfl rfl (y_extractG (wanted_free rfl) rfl rfl rfl) hb6 ?_
  simp only [Act.put, List.setIfInBounds_toArray, List.set_cons_zero, List.set_cons_succ]
  refine at_takeD (i := 9) (m' := 1023) (d := some 14) (v := .slice ga 2180 gc) rg5reg rfl (by decide) rfl rfl (y_assignG (wanted_free rfl) rfl rfl) hb6 ?_
  simp only [Act.put, List.setIfInBounds_toArray, List.set_cons_zero, List.set_cons_succ]
  refine at_takeD (i := 10) (m' := 2047) (d := some 15) (v := .int .i64 0) rg5reg rfl (by decide) rfl rfl (y_assignG (wanted_free rfl) rfl rfl) hb6 ?_
  simp only [Act.put, List.setIfInBounds_toArray, List.set_cons_zero, List.set_cons_succ]
  refine at_done rg5reg (by decide) ?_
  have k5 := hb6
  have hb5 := keep_trans hb4 k5
  have hcn := hcnd y6 _ (hT4.below k5) (ri4.below k5) (rt4.below k5) og.row
  have rp5 := rp4.below k5
  have HB := hide hb5
  clear ri4 rs4 rt4 hT4 k5 hbd og hb4 hb5 hcnd hpub hsgn rp4
  go_wp2_with (first
    | (refine wpList_arr16 rfl _ (by rfl) _ (by rfl) ?_)
    | (go_at_call 11; refine hcn.mono ?_; rintro e x6 ⟨cv, rfl, oc, g6⟩; obtain ⟨ca, cc, rfl, _⟩ := oc.row.opens HL.out.2)
    | (go_at_call 13; refine (rsame_true _ _ PK _ oc.row (rp5.below g6)).mono ?_; rintro e x7 ⟨rfl, g7⟩)
    | (go_at_call 14; refine (hz _).mono ?_; rintro e x8 ⟨rfl, g8⟩)
    | (go_at_call 6; refine (awakeL_any _).mono ?_; rintro e x9 ⟨rfl, g9⟩)
    | fail)
  go_ret
  exact ⟨rfl, keep_trans HB.out (keep_trans (keep_trans g6 g7) (keep_trans g8 g9))⟩

end Go.Proofs.YtnjiilnkobhibaaDoor
