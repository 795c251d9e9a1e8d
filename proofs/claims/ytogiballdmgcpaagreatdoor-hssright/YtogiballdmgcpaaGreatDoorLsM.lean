/- Trees of leaves that sign once, the program's own: a leaf's sum, a knot's above two, and all of them. -/
import Derived.Test.YtogiballdmgcpaaGreatDoorLcP
namespace Go.Proofs.YtogiballdmgcpaaGreatDoor
open Go.RowKit Go.Shelf
set_option linter.unusedVariables false
set_option linter.unusedSimpArgs false

def gl1lt : List Lt := [(0, some 8, [2]), (1, some 9, [8]), (2, some 10, [9]), (4, some 11, [10]), (0, some 12, [2]), (16, some 13, [12]), (32, some 14, [13]), (0, some 15, [1]), (0, some 16, [2]), (256, some 17, [16]), (512, some 18, [17]), (1152, some 19, [15, 18]), (2048, some 20, [19]), (0, some 21, [2]), (8192, some 22, [21]), (21576, some 23, [11, 14, 20, 22]), (32768, some 7, [23]), (65536, some 24, [7]), (65536, some 25, [7]), (262143, some 5, [24]), (1048575, some 6, [25])]
theorem gl1reg : Reg (opsA (cLA (cRA (Tryz.f105.body.getD .skip)))) gl1lt := ⟨by kernel_rfl, by kernel_rfl⟩
set_option maxHeartbeats 4000000 in
set_option maxRecDepth 100000 in
theorem cgleaf {k n m s c : Nat} (hk : Kd k n m s c) (h i : Nat) (id seed : List Nat) (idv sv smv : Value) (w : World) (hT : Roots w) (hh : h ≤ 25) (ri : Row .u8 256 w idv id) (ti : Tidy idv) (hil : id.length = 16) (rs : Row .u8 256 w sv seed) (ts : Tidy sv) (hsl : seed.length = 32) (hs : ∃ a n c, smv = .slice a n c) (h1 : 2 ^ h ≤ i) (h2 : i < 2 * 2 ^ h) :
    Calls Tryz.prog 105 #[.agg #[.int .i64 (h : Int), .int .i64 (k : Int), idv, sv, smv], .int .i64 (i : Int)] w fun e w' => ∃ v, e = .returned v ∧ Own 5 .u8 256 w' w.heap.size v (knT k n m h id seed i) ∧ Below w.heap.size w w' := by
  have hf : knT k n m h id seed i = lfS id i (pkT k n m id seed (i - 2 ^ h)) := by unfold knT; rw [knA_leaf h1 (by rw [Nat.pow_succ]; omega)]
  rw [hf]
  obtain ⟨p1, p2⟩ := pow_25 hh
  have hlv := fun y => cleaves h (.int .i64 (k : Int)) idv y hh ⟨_, rfl⟩ (by obtain ⟨a, c, e, _⟩ := ri.opens rfl; exact ⟨_, _, _, e⟩)
  obtain ⟨M, hM⟩ : ∃ M, M = 2 ^ h := ⟨_, rfl⟩
  rw [← hM] at hlv h1 h2 p1 p2 ⊢
  obtain ⟨q, hq⟩ : ∃ q, q = i - M := ⟨_, rfl⟩
  rw [← hq]
  have hpb := fun y (kb : Below w.heap.size w y) => cpub_ok hk rfl q id seed idv sv y (hT.below kb) (ri.below kb) ti (rs.below kb) ts hil hsl (by omega)
  rw [show pubH shaL (preL id q) (2 ^ k - 1) (n + m) seed = pkT k n m id seed q from rfl] at hpb
  have hpl : (pkT k n m id seed q).length = 32 := pkT_len _ _ _ _ _ _
  generalize pkT k n m id seed q = PK at *
  have hls := fun y (kb : Below w.heap.size w y) kv (rk : Row .u8 256 y kv PK) (tk : Tidy kv) => cleafSum (.int .i64 (h : Int)) (.int .i64 (k : Int)) i id PK idv kv y (hT.below kb) ⟨_, rfl⟩ ⟨_, rfl⟩ (ri.below kb) ti rk tk (by omega) (by omega)
  generalize lfS id i PK = LF at *
  obtain ⟨ia, ic, rfl, _⟩ := ri.opens hil
  obtain ⟨sa, sc, rfl, _⟩ := rs.opens hsl
  obtain ⟨ma, mn, mc, rfl⟩ := hs
  have u_q : IntKind.i64.wrap ((i : Int) - (M : Int)) = (q : Int) := by rw [IntKind.wrap_i64]; omega
  have c_q : ∀ w : World, (convert 3 52 (.int .i64 (q : Int))).run Tryz.prog w = .ok (.int .u32 (q : Int)) w := fun w => by
    have : IntKind.u32.wrap (q : Int) = (q : Int) := by rw [IntKind.wrap_u32]; omega
    simp [go_sem, convert, this]
  have bN := BxW.new w (.int .i64 (h : Int)) (.int .i64 (k : Int)) (.slice ia 16 ic) (.slice sa 32 sc) (.slice ma mn mc)
  have k0 := keep_alloc w (.cells #[.int .i64 (h : Int), .int .i64 (k : Int), .slice ia 16 ic, .slice sa 32 sc, .slice ma mn mc] 107)
  clear hM hq hf h1 h2 p1 p2
  go_enter Tryz.func105, Tryz.ntmps105
  go_wp2
  generalize hW0 : w.alloc (.cells #[.int .i64 (h : Int), .int .i64 (k : Int), .slice ia 16 ic, .slice sa 32 sc, .slice ma mn mc] 107) = W0 at *
  have hbd : Below W0.heap.size W0 W0.drew := (Below.refl _ _).drew
  refine at_begin (ops := opsA (cLA (cRA (Tryz.f105.body.getD .skip)))) (n := 21) (fun y => Below W0.heap.size W0 y) (by kernel_rfl) (by kernel_rfl) ?_
  refine at_takeD (i := 0) (m' := 1) (d := some 8) (v := .pointer (some ⟨w.heap.size, 0, none⟩)) gl1reg rfl (by decide) rfl rfl (y_fieldG (wanted_free rfl) rfl rfl (fun w => by simp [go_sem])) hbd ?_
  simp only [Act.put, List.setIfInBounds_toArray, List.set_cons_zero, List.set_cons_succ]
  refine at_takeD (i := 1) (m' := 3) (d := some 9) (v := .pointer (some ⟨w.heap.size, 0, none⟩)) gl1reg rfl (by decide) rfl rfl (y_fieldG (wanted_free rfl) rfl rfl (fun w => by simp [go_sem])) hbd ?_
  simp only [Act.put, List.setIfInBounds_toArray, List.set_cons_zero, List.set_cons_succ]
  refine at_takeD (i := 2) (m' := 7) (d := some 10) (v := .pointer (some ⟨w.heap.size, 1, none⟩)) gl1reg rfl (by decide) rfl rfl (y_fieldG (wanted_free rfl) rfl rfl (fun w => by simp [go_sem])) hbd ?_
  simp only [Act.put, List.setIfInBounds_toArray, List.set_cons_zero, List.set_cons_succ]
  refine at_takeD (i := 3) (m' := 15) (d := some 11) (v := .int .i64 (k : Int)) gl1reg rfl (by decide) rfl rfl (y_plainG (wanted_free rfl) rfl rfl Tryz.underlying3 rfl (fun _ h => (bN.below h).c1)) hbd ?_
  simp only [Act.put, List.setIfInBounds_toArray, List.set_cons_zero, List.set_cons_succ]
  refine at_takeD (i := 4) (m' := 31) (d := some 12) (v := .pointer (some ⟨w.heap.size, 0, none⟩)) gl1reg rfl (by decide) rfl rfl (y_fieldG (wanted_free rfl) rfl rfl (fun w => by simp [go_sem])) hbd ?_
  simp only [Act.put, List.setIfInBounds_toArray, List.set_cons_zero, List.set_cons_succ]
  refine at_takeD (i := 5) (m' := 63) (d := some 13) (v := .pointer (some ⟨w.heap.size, 2, none⟩)) gl1reg rfl (by decide) rfl rfl (y_fieldG (wanted_free rfl) rfl rfl (fun w => by simp [go_sem])) hbd ?_
  simp only [Act.put, List.setIfInBounds_toArray, List.set_cons_zero, List.set_cons_succ]
  refine at_takeD (i := 6) (m' := 127) (d := some 14) (v := .slice ia 16 ic) gl1reg rfl (by decide) rfl rfl (y_plainG (wanted_free rfl) rfl rfl Tryz.underlying23 rfl (fun _ h => (bN.below h).c2)) hbd ?_
  simp only [Act.put, List.setIfInBounds_toArray, List.set_cons_zero, List.set_cons_succ]
  refine at_takeD (i := 7) (m' := 255) (d := some 15) (v := .int .i64 (i : Int)) gl1reg rfl (by decide) rfl rfl (y_moveG (wanted_free rfl) rfl rfl) hbd ?_
  simp only [Act.put, List.setIfInBounds_toArray, List.set_cons_zero, List.set_cons_succ]
  refine at_takeD (i := 8) (m' := 511) (d := some 16) (v := .pointer (some ⟨w.heap.size, 0, none⟩)) gl1reg rfl (by decide) rfl rfl (y_fieldG (wanted_free rfl) rfl rfl (fun w => by simp [go_sem])) hbd ?_
  simp only [Act.put, List.setIfInBounds_toArray, List.set_cons_zero, List.set_cons_succ]
  refine at_takeD (i := 9) (m' := 1023) (d := some 17) (v := .agg #[.int .i64 (h : Int), .int .i64 (k : Int), .slice ia 16 ic]) gl1reg rfl (by decide) rfl rfl (y_rowG (cs := [.int .i64 (h : Int), .int .i64 (k : Int), .slice ia 16 ic]) (wanted_free rfl) rfl rfl Tryz.underlying96 rfl (by kernel_rfl) (fun _ h => (bN.below h).range3)) hbd ?_
  simp only [Act.put, List.setIfInBounds_toArray, List.set_cons_zero, List.set_cons_succ]
  refine at_takeD (i := 13) (m' := 9215) (d := some 21) (v := .pointer (some ⟨w.heap.size, 3, none⟩)) gl1reg rfl (by decide) rfl rfl (y_fieldG (wanted_free rfl) rfl rfl (fun w => by simp [go_sem])) hbd ?_
  simp only [Act.put, List.setIfInBounds_toArray, List.set_cons_zero, List.set_cons_succ]
  refine at_takeD (i := 14) (m' := 25599) (d := some 22) (v := .slice sa 32 sc) gl1reg rfl (by decide) rfl rfl (y_plainG (wanted_free rfl) rfl rfl Tryz.underlying23 rfl (fun _ h => (bN.below h).c3)) hbd ?_
  simp only [Act.put, List.setIfInBounds_toArray, List.set_cons_zero, List.set_cons_succ]
  refine at_one (i := 10) (m' := 26623) gl1reg (by decide) rfl ?_
  refine p_callG (args := #[.agg #[.int .i64 (h : Int), .int .i64 (k : Int), .slice ia 16 ic]]) (d := some 18) rfl (wanted_free rfl) rfl (by simp only [List.map_toArray, List.map_cons, List.map_nil]; rfl) rfl Tryz.call90 ((hlv W0.drew).mono ?_)
  rintro e y13 ⟨rfl, g13⟩
  have hb13 := keep_trans hbd g13
  refine ⟨_, rfl, hb13, ?_⟩
  simp only [Act.put, List.setIfInBounds_toArray, List.set_cons_zero, List.set_cons_succ]
  refine at_takeD (i := 11) (m' := 28671) (d := some 19) (v := .int .i64 (q : Int)) gl1reg rfl (by decide) rfl rfl (y_subI (wanted_free rfl) rfl rfl rfl Tryz.underlying3 u_q) hb13 ?_
  simp only [Act.put, List.setIfInBounds_toArray, List.set_cons_zero, List.set_cons_succ]
  refine at_takeD (i := 12) (m' := 32767) (d := some 20) (v := .int .u32 (q : Int)) gl1reg rfl (by decide) rfl rfl (y_convI (wanted_free rfl) rfl rfl c_q) hb13 ?_
  simp only [Act.put, List.setIfInBounds_toArray, List.set_cons_zero, List.set_cons_succ]
  refine at_one (i := 15) (m' := 65535) gl1reg (by decide) rfl ?_
  refine p_callG (args := #[.int .i64 (k : Int), .slice ia 16 ic, .int .u32 (q : Int), .slice sa 32 sc]) (d := some 23) rfl (wanted_free rfl) rfl (by simp only [List.map_toArray, List.map_cons, List.map_nil]; rfl) rfl Tryz.call119 ((hpb y13 (keep_trans k0 hb13)).mono ?_)
  rintro e y16 ⟨kv, rfl, ok, g16⟩
  obtain ⟨ka, kc, rfl, _⟩ := ok.row.opens hpl
  have hb16 := keep_trans hb13 g16
  refine ⟨_, rfl, hb16, ?_⟩
  simp only [Act.put, List.setIfInBounds_toArray, List.set_cons_zero, List.set_cons_succ]
  refine at_takeD (i := 16) (m' := 131071) (d := some 7) (v := .tuple #[.slice ka 32 kc, .int .i64 0]) gl1reg rfl (by decide) rfl rfl (y_moveG (wanted_free rfl) rfl rfl) hb16 ?_
  simp only [Act.put, List.setIfInBounds_toArray, List.set_cons_zero, List.set_cons_succ]
  refine at_takeD (i := 17) (m' := 262143) (d := some 24) (v := .slice ka 32 kc) gl1reg rfl (by decide) rfl rfl (y_extractG (wanted_free rfl) rfl rfl rfl) hb16 ?_
  simp only [Act.put, List.setIfInBounds_toArray, List.set_cons_zero, List.set_cons_succ]
  refine at_takeD (i := 18) (m' := 524287) (d := some 25) (v := .int .i64 0) gl1reg rfl (by decide) rfl rfl (y_extractG (wanted_free rfl) rfl rfl rfl) hb16 ?_
  simp only [Act.put, List.setIfInBounds_toArray, List.set_cons_zero, List.set_cons_succ]
  refine at_takeD (i := 19) (m' := 1048575) (d := some 5) (v := .slice ka 32 kc) gl1reg rfl (by decide) rfl rfl (y_assignG (wanted_free rfl) rfl rfl) hb16 ?_
  simp only [Act.put, List.setIfInBounds_toArray, List.set_cons_zero, List.set_cons_succ]
  refine at_takeD (i := 20) (m' := 2097151) (d := some 6) (v := .int .i64 0) gl1reg rfl (by decide) rfl rfl (y_assignG (wanted_free rfl) rfl rfl) hb16 ?_
  simp only [Act.put, List.setIfInBounds_toArray, List.set_cons_zero, List.set_cons_succ]
  refine at_done gl1reg (by decide) ?_
  have bx5 := bN.below hb16
  have rk := ok.row
  have tk := ok.tidy
  go_wp2_with (first
    | (refine wpList_load_mid rfl 96 _ (by rfl) w.heap.size 0 (by rfl) [.int .i64 (h : Int), .int .i64 (k : Int), .slice ia 16 ic] _ bx5.range3 Tryz.underlying96 rfl (by kernel_rfl) ?_)
    | (go_at_call 99; refine (hls _ (keep_trans k0 hb16) _ rk tk).mono ?_; rintro e w9 ⟨v9, rfl, o9, g9⟩)
    | fail)
  go_ret
  exact ⟨_, rfl, o9.mono (keep_trans k0 hb16).size, keep_trans (keep_trans k0 hb16) g9⟩
def ga1lt : List Lt := [(0, some 5, [2]), (1, some 6, [5]), (0, some 7, [1]), (0, some 8, [2]), (8, some 9, [8]), (0, some 10, [1]), (32, some 11, [10]), (80, some 12, [9, 11]), (128, some 13, [12]), (0, some 14, [2]), (512, some 15, [14]), (0, some 16, [1]), (2048, some 17, [16]), (4096, some 18, [17]), (9216, some 19, [15, 18]), (16384, some 20, [19]), (33030, some 21, [6, 7, 13, 20]), (131071, some 4, [21])]
theorem ga1reg : Reg (opsA (cLA (cRA (Tryz.f106.body.getD .skip)))) ga1lt := ⟨by kernel_rfl, by kernel_rfl⟩
set_option maxHeartbeats 4000000 in
set_option maxRecDepth 100000 in
theorem cgabove (h H N i : Nat) (x : Int) (f : Nat → List Nat) (id l r : List Nat) (idv sv lv rv : Value) (w : World) (hT : Roots w) (ri : Row .u8 256 w idv id) (ti : Tidy idv) (hil : id.length = 16) (hs : ∃ a n c, sv = .slice a n c) (hN : N ≤ 4096) (hi : 2 * i + 1 < N) (cl : w.cell? ⟨H, 2 * i, none⟩ = some lv) (cr : w.cell? ⟨H, 2 * i + 1, none⟩ = some rv) (rl : Row .u8 256 w lv l) (tl : Tidy lv) (rr : Row .u8 256 w rv r) (tr : Tidy rv) (ll : l.length = 32) (lr : r.length = 32) :
    Calls Tryz.prog 106 #[.agg #[.int .i64 (h : Int), .int .i64 x, idv, sv, .slice (some ⟨H, 0, none⟩) N N], .int .i64 (i : Int)] w fun e w' => ∃ v, e = .returned v ∧ Own 5 .u8 256 w' w.heap.size v (ovL id i l r) ∧ Below w.heap.size w w' := by
  obtain ⟨ia, ic, rfl, _⟩ := ri.opens hil
  obtain ⟨sa, sn, sc, rfl⟩ := hs
  obtain ⟨la, lc, rfl, _⟩ := rl.opens ll
  obtain ⟨ra, rc, rfl, _⟩ := rr.opens lr
  have hab := fun y (kb : Below w.heap.size w y) => caboveSum (.int .i64 (h : Int)) (.int .i64 x) i id l r (.slice ia 16 ic) (.slice la 32 lc) (.slice ra 32 rc) y (hT.below kb) ⟨_, rfl⟩ ⟨_, rfl⟩ (ri.below kb) ti (rl.below kb) tl (rr.below kb) tr (by omega) (by omega)
  have hol : (ovL id i l r).length = 32 := shaL_len _
  generalize ovL id i l r = S2 at *
  obtain ⟨A, hA⟩ : ∃ A, A = 2 * i := ⟨_, rfl⟩
  obtain ⟨B, hB⟩ : ∃ B, B = 2 * i + 1 := ⟨_, rfl⟩
  rw [← hA] at cl
  rw [← hB] at cr
  have u_A : IntKind.i64.wrap ((2 : Int) * (i : Int)) = (A : Int) := by rw [IntKind.wrap_i64]; omega
  have u_B : IntKind.i64.wrap ((A : Int) + 1) = (B : Int) := by rw [IntKind.wrap_i64]; omega
  have hAN : A < N := by omega
  have hBN : B < N := by omega
  have bN := BxW.new w (.int .i64 (h : Int)) (.int .i64 x) (.slice ia 16 ic) (.slice sa sn sc) (.slice (some ⟨H, 0, none⟩) N N)
  have k0 := keep_alloc w (.cells #[.int .i64 (h : Int), .int .i64 x, .slice ia 16 ic, .slice sa sn sc, .slice (some ⟨H, 0, none⟩) N N] 107)
  have cl0 := keep_cell cl k0
  have cr0 := keep_cell cr k0
  clear hA hB hi hN rl rr tl tr ll lr cl cr
  go_enter Tryz.func106, Tryz.ntmps106
  go_wp2
  generalize hW0 : w.alloc (.cells #[.int .i64 (h : Int), .int .i64 x, .slice ia 16 ic, .slice sa sn sc, .slice (some ⟨H, 0, none⟩) N N] 107) = W0 at *
  have hbd : Below W0.heap.size W0 W0.drew := (Below.refl _ _).drew
  refine at_begin (ops := opsA (cLA (cRA (Tryz.f106.body.getD .skip)))) (n := 18) (fun y => Below W0.heap.size W0 y) (by kernel_rfl) (by kernel_rfl) ?_
  refine at_takeD (i := 0) (m' := 1) (d := some 5) (v := .pointer (some ⟨w.heap.size, 0, none⟩)) ga1reg rfl (by decide) rfl rfl (y_fieldG (wanted_free rfl) rfl rfl (fun w => by simp [go_sem])) hbd ?_
  simp only [Act.put, List.setIfInBounds_toArray, List.set_cons_zero, List.set_cons_succ]
  refine at_takeD (i := 1) (m' := 3) (d := some 6) (v := .agg #[.int .i64 (h : Int), .int .i64 x, .slice ia 16 ic]) ga1reg rfl (by decide) rfl rfl (y_rowG (cs := [.int .i64 (h : Int), .int .i64 x, .slice ia 16 ic]) (wanted_free rfl) rfl rfl Tryz.underlying96 rfl (by kernel_rfl) (fun _ h => (bN.below h).range3)) hbd ?_
  simp only [Act.put, List.setIfInBounds_toArray, List.set_cons_zero, List.set_cons_succ]
  refine at_takeD (i := 2) (m' := 7) (d := some 7) (v := .int .i64 (i : Int)) ga1reg rfl (by decide) rfl rfl (y_moveG (wanted_free rfl) rfl rfl) hbd ?_
  simp only [Act.put, List.setIfInBounds_toArray, List.set_cons_zero, List.set_cons_succ]
  refine at_takeD (i := 3) (m' := 15) (d := some 8) (v := .pointer (some ⟨w.heap.size, 4, none⟩)) ga1reg rfl (by decide) rfl rfl (y_fieldG (wanted_free rfl) rfl rfl (fun w => by simp [go_sem])) hbd ?_
  simp only [Act.put, List.setIfInBounds_toArray, List.set_cons_zero, List.set_cons_succ]
  refine at_takeD (i := 4) (m' := 31) (d := some 9) (v := .slice (some ⟨H, 0, none⟩) N N) ga1reg rfl (by decide) rfl rfl (y_plainG (wanted_free rfl) rfl rfl Tryz.underlying48 rfl (fun _ h => (bN.below h).c4)) hbd ?_
  simp only [Act.put, List.setIfInBounds_toArray, List.set_cons_zero, List.set_cons_succ]
  refine at_takeD (i := 5) (m' := 63) (d := some 10) (v := .int .i64 (i : Int)) ga1reg rfl (by decide) rfl rfl (y_moveG (wanted_free rfl) rfl rfl) hbd ?_
  simp only [Act.put, List.setIfInBounds_toArray, List.set_cons_zero, List.set_cons_succ]
  refine at_takeD (i := 6) (m' := 127) (d := some 11) (v := .int .i64 (A : Int)) ga1reg rfl (by decide) rfl rfl (y_mulI (wanted_free rfl) rfl rfl rfl Tryz.underlying3 u_A) hbd ?_
  simp only [Act.put, List.setIfInBounds_toArray, List.set_cons_zero, List.set_cons_succ]
  refine at_takeD (i := 7) (m' := 255) (d := some 12) (v := .pointer (some ⟨H, A, none⟩)) ga1reg rfl (by decide) rfl rfl (y_ix0 (wanted_free rfl) rfl rfl rfl Tryz.underlying48 (by kernel_rfl) hAN) hbd ?_
  simp only [Act.put, List.setIfInBounds_toArray, List.set_cons_zero, List.set_cons_succ]
  refine at_takeD (i := 8) (m' := 511) (d := some 13) (v := .slice la 32 lc) ga1reg rfl (by decide) rfl rfl (y_plainG (wanted_free rfl) rfl rfl Tryz.underlying23 rfl (fun _ h => keep_cell cl0 h)) hbd ?_
  simp only [Act.put, List.setIfInBounds_toArray, List.set_cons_zero, List.set_cons_succ]
  refine at_takeD (i := 9) (m' := 1023) (d := some 14) (v := .pointer (some ⟨w.heap.size, 4, none⟩)) ga1reg rfl (by decide) rfl rfl (y_fieldG (wanted_free rfl) rfl rfl (fun w => by simp [go_sem])) hbd ?_
  simp only [Act.put, List.setIfInBounds_toArray, List.set_cons_zero, List.set_cons_succ]
  refine at_takeD (i := 10) (m' := 2047) (d := some 15) (v := .slice (some ⟨H, 0, none⟩) N N) ga1reg rfl (by decide) rfl rfl (y_plainG (wanted_free rfl) rfl rfl Tryz.underlying48 rfl (fun _ h => (bN.below h).c4)) hbd ?_
  simp only [Act.put, List.setIfInBounds_toArray, List.set_cons_zero, List.set_cons_succ]
  refine at_takeD (i := 11) (m' := 4095) (d := some 16) (v := .int .i64 (i : Int)) ga1reg rfl (by decide) rfl rfl (y_moveG (wanted_free rfl) rfl rfl) hbd ?_
  simp only [Act.put, List.setIfInBounds_toArray, List.set_cons_zero, List.set_cons_succ]
  refine at_takeD (i := 12) (m' := 8191) (d := some 17) (v := .int .i64 (A : Int)) ga1reg rfl (by decide) rfl rfl (y_mulI (wanted_free rfl) rfl rfl rfl Tryz.underlying3 u_A) hbd ?_
  simp only [Act.put, List.setIfInBounds_toArray, List.set_cons_zero, List.set_cons_succ]
  refine at_takeD (i := 13) (m' := 16383) (d := some 18) (v := .int .i64 (B : Int)) ga1reg rfl (by decide) rfl rfl (y_addI (wanted_free rfl) rfl rfl rfl Tryz.underlying3 u_B) hbd ?_
  simp only [Act.put, List.setIfInBounds_toArray, List.set_cons_zero, List.set_cons_succ]
  refine at_takeD (i := 14) (m' := 32767) (d := some 19) (v := .pointer (some ⟨H, B, none⟩)) ga1reg rfl (by decide) rfl rfl (y_ix0 (wanted_free rfl) rfl rfl rfl Tryz.underlying48 (by kernel_rfl) hBN) hbd ?_
  simp only [Act.put, List.setIfInBounds_toArray, List.set_cons_zero, List.set_cons_succ]
  refine at_takeD (i := 15) (m' := 65535) (d := some 20) (v := .slice ra 32 rc) ga1reg rfl (by decide) rfl rfl (y_plainG (wanted_free rfl) rfl rfl Tryz.underlying23 rfl (fun _ h => keep_cell cr0 h)) hbd ?_
  simp only [Act.put, List.setIfInBounds_toArray, List.set_cons_zero, List.set_cons_succ]
  refine at_one (i := 16) (m' := 131071) ga1reg (by decide) rfl ?_
  refine p_callG (args := #[.agg #[.int .i64 (h : Int), .int .i64 x, .slice ia 16 ic], .int .i64 (i : Int), .slice la 32 lc, .slice ra 32 rc]) (d := some 21) rfl (wanted_free rfl) rfl (by simp only [List.map_toArray, List.map_cons, List.map_nil]; rfl) rfl Tryz.call102 ((hab W0.drew (keep_trans k0 hbd)).mono ?_)
  rintro e y17 ⟨sv2, rfl, os, g17⟩
  obtain ⟨sa2, sc2, rfl, _⟩ := os.row.opens hol
  have hb17 := keep_trans hbd g17
  refine ⟨_, rfl, hb17, ?_⟩
  simp only [Act.put, List.setIfInBounds_toArray, List.set_cons_zero, List.set_cons_succ]
  refine at_takeD (i := 17) (m' := 262143) (d := some 4) (v := .slice sa2 32 sc2) ga1reg rfl (by decide) rfl rfl (y_assignG (wanted_free rfl) rfl rfl) hb17 ?_
  simp only [Act.put, List.setIfInBounds_toArray, List.set_cons_zero, List.set_cons_succ]
  refine at_done ga1reg (by decide) ?_
  go_wp2
  go_ret
  exact ⟨_, rfl, os.mono (keep_trans k0 hbd).size, keep_trans k0 hb17⟩
def gr1lt : List Lt := [(0, some 3, [1]), (0, some 4, [1]), (2, some 5, [4]), (4, some 6, [5]), (0, some 7, [1]), (16, some 8, [7]), (41, some 9, [3, 6, 8])]
theorem gr1reg : Reg (opsA (cLA (cRA (Tryz.f75.body.getD .skip)))) gr1lt := ⟨by kernel_rfl, by kernel_rfl⟩
/-- where the growing stands -/
def GwL (W0 : World) (H N h : Nat) (f : Nat → List Nat) (vi : Value) (wr : World) : Prop := ∃ p : Nat, vi = .int .i64 (p : Int) ∧ But H W0 wr ∧ ((p = 0 ∧ KnP wr H N (fun j => 1 ≤ j) f) ∨ ∃ a, a < h ∧ p = 2 ^ a ∧ KnP wr H N (fun j => 2 * p ≤ j) f)
set_option maxHeartbeats 8000000 in
set_option maxRecDepth 100000 in
theorem cgrow_any {k n m s c : Nat} (hk : Kd k n m s c) (h H : Nat) (id seed : List Nat) (idv sv : Value) (v0 w : World) (hT : Roots v0) (hh : h ≤ 10) (h0 : 1 ≤ h) (ri : Row .u8 256 v0 idv id) (ti : Tidy idv) (hil : id.length = 16) (rs : Row .u8 256 v0 sv seed) (ts : Tidy sv) (hsl : seed.length = 32) (kv : Below v0.heap.size v0 w) (hvH : v0.heap.size ≤ H) (hK : KnP w H (2 * 2 ^ h) (fun _ => False) (knT k n m h id seed)) :
    Calls Tryz.prog 75 #[.agg #[.int .i64 (h : Int), .int .i64 (k : Int), idv, sv, .slice (some ⟨H, 0, none⟩) (2 * 2 ^ h) (2 * 2 ^ h)]] w fun e w' => e = .returned (.tuple #[]) ∧ But H w w' ∧ KnP w' H (2 * 2 ^ h) (fun j => 1 ≤ j) (knT k n m h id seed) := by
  obtain ⟨ia, ic, rfl, _⟩ := ri.opens hil
  obtain ⟨sa, sc, rfl, _⟩ := rs.opens hsl
  have hM10 := pow_le_1024 hh
  have hMp := Nat.two_pow_pos h
  have hlv := fun y => cleaves h (.int .i64 (k : Int)) (.slice ia 16 ic) y (by omega) ⟨_, rfl⟩ ⟨_, _, _, rfl⟩
  obtain ⟨f, hf⟩ : ∃ f, f = knT k n m h id seed := ⟨_, rfl⟩
  have hfl : ∀ i, (f i).length = 32 := fun i => by rw [hf]; exact knT_len _ _ _ _ _ _ _
  obtain ⟨N, hN⟩ : ∃ N, N = 2 * 2 ^ h := ⟨_, rfl⟩
  have hvy : ∀ y, But H w y → Below v0.heap.size v0 y := fun y b => kv.trans (b.below hvH kv.size)
  have hLeaf : ∀ (y : World) (i : Nat), But H w y → 2 ^ h ≤ i → i < 2 * 2 ^ h → Calls Tryz.prog 105 #[.agg #[.int .i64 (h : Int), .int .i64 (k : Int), .slice ia 16 ic, .slice sa 32 sc, .slice (some ⟨H, 0, none⟩) N N], .int .i64 (i : Int)] y fun e w' => ∃ v, e = .returned v ∧ Own 5 .u8 256 w' y.heap.size v (f i) ∧ Below y.heap.size y w' := fun y i b q1 q2 => by
    rw [hf]
    exact cgleaf hk h i id seed _ _ _ y (hT.below (hvy y b)) (by omega) (ri.below (hvy y b)) ti hil (rs.below (hvy y b)) ts hsl ⟨_, _, _, rfl⟩ q1 q2
  have hAb : ∀ (y : World) (i first : Nat), But H w y → KnP y H N (upS first i) f → first ≤ i → 1 ≤ i → i < 2 ^ h → Calls Tryz.prog 106 #[.agg #[.int .i64 (h : Int), .int .i64 (k : Int), .slice ia 16 ic, .slice sa 32 sc, .slice (some ⟨H, 0, none⟩) N N], .int .i64 (i : Int)] y fun e w' => ∃ v, e = .returned v ∧ Own 5 .u8 256 w' y.heap.size v (f i) ∧ Below y.heap.size y w' := fun y i first b kp q1 q2 q3 => by
    have e1 : f i = ovL id i (f (2 * i)) (f (2 * i + 1)) := by rw [hf]; exact knA_ov q2 q3
    rw [e1]
    obtain ⟨u1, c1, r1, t1, _⟩ := kp.cell (j := 2 * i) (by unfold upS; omega) (by omega)
    obtain ⟨u2, c2, r2, t2, _⟩ := kp.cell (j := 2 * i + 1) (by unfold upS; omega) (by omega)
    exact cgabove h H N i (k : Int) f id _ _ _ _ u1 u2 y (hT.below (hvy y b)) (ri.below (hvy y b)) ti hil ⟨_, _, _, rfl⟩ (by omega) (by omega) c1 c2 r1 t1 r2 t2 (hfl _) (hfl _)
  rw [← hf, ← hN] at hK ⊢
  have hHw := hK.lt
  have eL : ∀ (args : Array Value) (y : World), (callFunc 105 args).run Tryz.prog y = .ok (.enter 105 args) y := fun args y => by simp [Tryz.call105]
  have eA : ∀ (args : Array Value) (y : World), (callFunc 106 args).run Tryz.prog y = .ok (.enter 106 args) y := fun args y => by simp [Tryz.call106]
  have hR1 : ∀ y, But H w y → KnP y H N (fun _ => False) f → Calls Tryz.prog 104 #[.agg #[.int .i64 (h : Int), .int .i64 (k : Int), .slice ia 16 ic, .slice sa 32 sc, .slice (some ⟨H, 0, none⟩) N N], .int .i64 ((2 ^ h : Nat) : Int), .func (.func 105) #[.agg #[.int .i64 (h : Int), .int .i64 (k : Int), .slice ia 16 ic, .slice sa 32 sc, .slice (some ⟨H, 0, none⟩) N N]] #[]] y fun e w' => e = .returned (.tuple #[]) ∧ But H y w' ∧ KnP w' H N (fun j => 2 ^ h ≤ j) f := fun y b kp =>
    crow_any _ H N (2 ^ h) f _ _ _ _ _ _ _ _ y (by omega) (by omega) (by omega) hfl (kp.mono fun j q1 q2 => by omega) eL fun z i b2 _ q1 q2 => hLeaf z i (b.trans b2) q1 q2
  have hR2 : ∀ y p, But H w y → 1 ≤ p → 2 * p ≤ 2 ^ h → KnP y H N (fun j => 2 * p ≤ j) f → Calls Tryz.prog 104 #[.agg #[.int .i64 (h : Int), .int .i64 (k : Int), .slice ia 16 ic, .slice sa 32 sc, .slice (some ⟨H, 0, none⟩) N N], .int .i64 (p : Int), .func (.func 106) #[.agg #[.int .i64 (h : Int), .int .i64 (k : Int), .slice ia 16 ic, .slice sa 32 sc, .slice (some ⟨H, 0, none⟩) N N]] #[]] y fun e w' => e = .returned (.tuple #[]) ∧ But H y w' ∧ KnP w' H N (fun j => p ≤ j) f := fun y p b q1 q2 kp =>
    crow_any _ H N p f _ _ _ _ _ _ _ _ y (by omega) (by omega) (by omega) hfl kp eA fun z i b2 kz q3 q4 => hAb z i p (b.trans b2) kz q3 (by omega) (by omega)
  obtain ⟨M, hM⟩ : ∃ M, M = 2 ^ h := ⟨_, rfl⟩
  rw [← hM] at hlv hM10 hMp hR1
  obtain ⟨Y, hY⟩ : ∃ Y, Y = 2 ^ (h - 1) := ⟨_, rfl⟩
  have hYM : M = 2 * Y := by rw [hM, hY, ← Nat.pow_succ']; congr 1; omega
  have e_Y : (M : Int).tdiv 2 = (Y : Int) := by rw [Int.tdiv_eq_ediv_of_nonneg (by omega)]; omega
  have e_Y2 : (M : Int) / 2 = (Y : Int) := by omega
  have s_Y : IntKind.i64.wrap (Y : Int) = (Y : Int) := by rw [IntKind.wrap_i64]; omega
  have bN := BxW.new w (.int .i64 (h : Int)) (.int .i64 (k : Int)) (.slice ia 16 ic) (.slice sa 32 sc) (.slice (some ⟨H, 0, none⟩) N N)
  have k0 := keep_alloc w (.cells #[.int .i64 (h : Int), .int .i64 (k : Int), .slice ia 16 ic, .slice sa 32 sc, .slice (some ⟨H, 0, none⟩) N N] 107)
  have hne : w.heap.size ≠ H := by omega
  have hK0 := hK.below k0
  have b0 : But H w (w.alloc (.cells #[.int .i64 (h : Int), .int .i64 (k : Int), .slice ia 16 ic, .slice sa 32 sc, .slice (some ⟨H, 0, none⟩) N N] 107)) := But.of_below k0
  have HX := hide (And.intro hR2 (And.intro hM (And.intro hY (And.intro hYM (And.intro hN (And.intro h0 hM10))))))
  clear hR2 hM hY hYM hN hf hfl hLeaf hAb hvy hT ri rs hK hh h0 hM10 hMp kv hvH hHw eL eA k0
  go_enter Tryz.func75, Tryz.ntmps75
  go_wp2
  generalize hW0 : w.alloc (.cells #[.int .i64 (h : Int), .int .i64 (k : Int), .slice ia 16 ic, .slice sa 32 sc, .slice (some ⟨H, 0, none⟩) N N] 107) = W0 at *
  have hbd : But H W0 W0.drew := (But.refl _ _).drew
  have kb : Below W0.heap.size W0 W0.drew := (Below.refl _ _).drew
  refine at_begin (ops := opsA (cLA (cRA (Tryz.f75.body.getD .skip)))) (n := 7) (fun y => But H W0 y) (by kernel_rfl) (by kernel_rfl) ?_
  refine at_takeD (i := 0) (m' := 1) (d := some 3) (v := .agg #[.int .i64 (h : Int), .int .i64 (k : Int), .slice ia 16 ic, .slice sa 32 sc, .slice (some ⟨H, 0, none⟩) N N]) gr1reg rfl (by decide) rfl rfl (y_rowG (cs := [.int .i64 (h : Int), .int .i64 (k : Int), .slice ia 16 ic, .slice sa 32 sc, .slice (some ⟨H, 0, none⟩) N N]) (wanted_free rfl) rfl rfl Tryz.underlying107 rfl (by kernel_rfl) (fun _ h => (bN.but h hne).range)) hbd ?_
  simp only [Act.put, List.setIfInBounds_toArray, List.set_cons_zero, List.set_cons_succ]
  refine at_takeD (i := 1) (m' := 3) (d := some 4) (v := .pointer (some ⟨w.heap.size, 0, none⟩)) gr1reg rfl (by decide) rfl rfl (y_fieldG (wanted_free rfl) rfl rfl (fun w => by simp [go_sem])) hbd ?_
  simp only [Act.put, List.setIfInBounds_toArray, List.set_cons_zero, List.set_cons_succ]
  refine at_takeD (i := 2) (m' := 7) (d := some 5) (v := .agg #[.int .i64 (h : Int), .int .i64 (k : Int), .slice ia 16 ic]) gr1reg rfl (by decide) rfl rfl (y_rowG (cs := [.int .i64 (h : Int), .int .i64 (k : Int), .slice ia 16 ic]) (wanted_free rfl) rfl rfl Tryz.underlying96 rfl (by kernel_rfl) (fun _ h => (bN.but h hne).range3)) hbd ?_
  simp only [Act.put, List.setIfInBounds_toArray, List.set_cons_zero, List.set_cons_succ]
  refine at_takeD (i := 4) (m' := 23) (d := some 7) (v := .agg #[.int .i64 (h : Int), .int .i64 (k : Int), .slice ia 16 ic, .slice sa 32 sc, .slice (some ⟨H, 0, none⟩) N N]) gr1reg rfl (by decide) rfl rfl (y_rowG (cs := [.int .i64 (h : Int), .int .i64 (k : Int), .slice ia 16 ic, .slice sa 32 sc, .slice (some ⟨H, 0, none⟩) N N]) (wanted_free rfl) rfl rfl Tryz.underlying107 rfl (by kernel_rfl) (fun _ h => (bN.but h hne).range)) hbd ?_
  simp only [Act.put, List.setIfInBounds_toArray, List.set_cons_zero, List.set_cons_succ]
  refine at_takeD (i := 5) (m' := 55) (d := some 8) (v := .func (.func 105) #[.agg #[.int .i64 (h : Int), .int .i64 (k : Int), .slice ia 16 ic, .slice sa 32 sc, .slice (some ⟨H, 0, none⟩) N N]] #[]) gr1reg rfl (by decide) rfl rfl (y_mkF (wanted_free rfl) rfl rfl) hbd ?_
  simp only [Act.put, List.setIfInBounds_toArray, List.set_cons_zero, List.set_cons_succ]
  refine at_one (i := 3) (m' := 63) gr1reg (by decide) rfl ?_
  refine p_callG (args := #[.agg #[.int .i64 (h : Int), .int .i64 (k : Int), .slice ia 16 ic]]) (d := some 6) rfl (wanted_free rfl) rfl (by simp only [List.map_toArray, List.map_cons, List.map_nil]; rfl) rfl Tryz.call90 ((hlv W0.drew).mono ?_)
  rintro e y6 ⟨rfl, g6⟩
  replace kb := keep_trans kb g6
  have hb6 := but_keep hbd g6
  refine ⟨_, rfl, hb6, ?_⟩
  simp only [Act.put, List.setIfInBounds_toArray, List.set_cons_zero, List.set_cons_succ]
  refine at_one (i := 6) (m' := 127) gr1reg (by decide) rfl ?_
  refine p_callG (args := #[.agg #[.int .i64 (h : Int), .int .i64 (k : Int), .slice ia 16 ic, .slice sa 32 sc, .slice (some ⟨H, 0, none⟩) N N], .int .i64 (M : Int), .func (.func 105) #[.agg #[.int .i64 (h : Int), .int .i64 (k : Int), .slice ia 16 ic, .slice sa 32 sc, .slice (some ⟨H, 0, none⟩) N N]] #[]]) (d := some 9) rfl (wanted_free rfl) rfl (by simp only [List.map_toArray, List.map_cons, List.map_nil]; rfl) rfl Tryz.call104 ((hR1 y6 (b0.trans hb6) (hK0.below kb)).mono ?_)
  rintro e y7 ⟨rfl, g7, hKn⟩
  have hb7 := hb6.trans g7
  refine ⟨_, rfl, ?_⟩
  refine ⟨hb7, ?_⟩
  simp only [Act.put, List.setIfInBounds_toArray, List.set_cons_zero, List.set_cons_succ]
  refine at_done gr1reg (by decide) ?_
  have bx1 := bN.but hb7 hne
  have bw1 := b0.trans hb7
  generalize y7 = W1 at *
  clear hbd kb hR1 hK0
  go_wp2_with (first
    | (refine wpList_load_mid rfl 96 _ (by rfl) w.heap.size 0 (by rfl) [.int .i64 (h : Int), .int .i64 (k : Int), .slice ia 16 ic] _ bx1.range3 Tryz.underlying96 rfl (by kernel_rfl) ?_)
    | (go_at_call 90; refine (hlv _).mono ?_; rintro e w2 ⟨rfl, g2⟩)
    | fail)
  have H0 : Hid (GwL W1 H N h f (.int .i64 (Y : Int)) w2) := hide ⟨Y, rfl, But.of_below g2, .inr ⟨h - 1, by have := HX.out.2.2.2.2.2.1; omega, HX.out.2.2.1, (hKn.below g2).mono fun j _ hj => by have := HX.out.2.2.2.1; omega⟩⟩
  have bw2 := bw1.trans (But.of_below g2)
  clear hKn g2 hlv e_Y e_Y2 s_Y
  go_loopw [2] (fun vi wr => GwL W1 H N h f vi wr) (fun vi _ => (intOf vi).toNat)
  case atStart => exact H0.out
  case round =>
    obtain ⟨p, rfl, hbr, hcase⟩ := hrel
    clear H0
    rename World => wr
    have bxr := bx1.but hbr hne
    have hmf : ∀ (fn : Fn) (first cap : Array Value) (w : World), (Instr.makeFunc fn first cap).run Tryz.prog w = .ok (.func fn first cap) w := fun _ _ _ _ => rfl
    rcases hcase with ⟨rfl, kp⟩ | ⟨a, ha, hpa, kp⟩
    · go_wp2
      go_end0
      exact ⟨rfl, bw1.trans hbr, kp⟩
    · obtain ⟨hR2, hM, hY, hYM, hN, h0, hM10⟩ := HX.out
      have hp1 : 1 ≤ p := by rw [hpa]; exact Nat.two_pow_pos a
      have hpM : 2 * p ≤ 2 ^ h := by rw [hpa, ← Nat.pow_succ']; exact Nat.pow_le_pow_right (by decide) ha
      have hpi : (0 : Int) < (p : Int) := by omega
      have hrw := hR2 wr p (bw1.trans hbr) hp1 hpM kp
      obtain ⟨Q, hQ⟩ : ∃ Q, Q = p / 2 := ⟨_, rfl⟩
      have e_Q : (p : Int).tdiv 2 = (Q : Int) := by rw [Int.tdiv_eq_ediv_of_nonneg (by omega)]; omega
      have e_Q2 : (p : Int) / 2 = (Q : Int) := by omega
      have s_Q : IntKind.i64.wrap (Q : Int) = (Q : Int) := by rw [IntKind.wrap_i64]; omega
      have HQ := hide (And.intro hQ (And.intro hpa (And.intro ha (And.intro hp1 (And.intro hpM hbr)))))
      clear hR2 hM hY hYM hN h0 hM10 hp1 hpM hQ hpa ha kp hbr
      go_wp2_with (first
        | (refine wpList_load_row rfl 107 _ (by rfl) w.heap.size (by rfl) _ _ _ _ bxr.here Tryz.underlying107 rfl (by kernel_rfl) ?_)
        | (go_at_call 104; refine hrw.mono ?_; rintro e w5 ⟨rfl, b5, kp5⟩)
        | fail)
      obtain ⟨hQ, hpa, ha, hp1, hpM, hbr⟩ := HQ.out
      go_roundw
      case rel =>
        refine ⟨Q, rfl, hbr.trans b5, ?_⟩
        rcases a with _ | a
        · exact .inl ⟨by rw [hQ, hpa], kp5.mono fun j _ hj => by rw [hpa]; exact hj⟩
        · have hQa : Q = 2 ^ a := by rw [hQ, hpa, Nat.pow_succ]; omega
          exact .inr ⟨a, by omega, hQa, kp5.mono fun j _ hj => by rw [hpa, Nat.pow_succ]; omega⟩
      case measure => simp [intOf]; omega
end Go.Proofs.YtogiballdmgcpaaGreatDoor
