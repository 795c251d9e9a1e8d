/- Trees of leaves that sign once, the program's own: Cut. -/
import Derived.Test.YtogiballdmgcpaaGreatDoorLsB
import Derived.Test.YtogiballdmgcpaaGreatDoorLtV
import Derived.Test.YtogiballdmgcpaaGreatDoorLcC
import Derived.Test.YtogiballdmgcpaaGreatDoorPlan3
import Derived.Test.YtogiballdmgcpaaGreatDoorLhA
namespace Go.Proofs.YtogiballdmgcpaaGreatDoor
open Go.RowKit
set_option linter.unusedVariables false
set_option linter.unusedSimpArgs false

theorem szT_ct {b : List Nat} (h1 : ctW b ≠ 0) (h2 : ctH b ≠ 0) : szT (ctH b : Nat) (ctW b : Nat) = ctN b := by
  unfold szT
  rw [if_pos (fit_ct h1 h2)]
  unfold ctN ctA
  show 8 + 32 * ctH b + szW (ctW b) = _
  omega
set_option maxHeartbeats 4000000 in
set_option maxRecDepth 100000 in
theorem ccut_no (b : List Nat) (bv : Value) (w : World) (hb : Row .u8 256 w bv b) (h : ctE b ≠ 0) :
    Calls Tryz.prog 34 #[bv] w fun e w' => e = .returned (.tuple #[.slice none 0 0, .agg #[.int .i64 0, .int .i64 0], .slice none 0 0, .int .i64 (ctE b : Nat)]) ∧ Below w.heap.size w w' := by
  have hk := fun y (k : Below w.heap.size w y) => ckindb_any b bv y (hb.below k)
  obtain ⟨ba, bc, rfl, lc1, lc2, ho⟩ := hb.opens rfl
  have z0 := Bx2T.new w (.int .i64 0) (.int .i64 0)
  have hbw := keep_alloc w (.cells #[.int .i64 0, .int .i64 0] 45)
  have hE := ctE_kk b
  by_cases hk0 : kkE b = 0
  · simp only [if_pos hk0] at hk
    have hLN : b.length < ctN b := by
      rw [hE, hk0] at h
      by_cases hl : b.length < ctN b
      · exact hl
      · simp [hl] at h
    rw [hE, hk0, if_neg (by simp), if_pos hLN]
    obtain ⟨_, h1, _, h2⟩ := kkE_zero hk0
    have hs := fun y => csizeT_any (ctH b : Nat) (ctW b : Nat) y
    rw [szT_ct h1 h2] at hs
    have hLi : (b.length : Int) < (ctN b : Int) := by omega
    clear hE hk0 h1 h2 h hLN hb ho lc1 lc2
    generalize ctH b = H at *
    generalize ctW b = W at *
    generalize ctN b = N at *
    generalize b.length = L at *
    go_enter Tryz.func34, Tryz.ntmps34
    go_wp2_with (first
      | (go_at_call 57; refine (hk _ hbw).mono ?_; rintro e w1 ⟨rfl, g1⟩)
      | (go_at_call 58; refine (hs _).mono ?_; rintro e w2 ⟨rfl, g2⟩; have z2 := ((z0.below g1).below (keep_alloc _ _)).below g2; have k2 := keep_trans (keep_trans (keep_trans hbw g1) (keep_alloc _ _)) g2)
      | (refine wpList_store_row rfl 45 _ _ (by rfl) w.heap.size #[.int .i64 0, .int .i64 0] (by rfl) (by rfl) _ _ z2.here (by kernel_rfl) rfl (by simp [Value.oneCell']) ?_)
      | fail)
    refine bodyPost_ret (z2.row.load4 rfl rfl _ rfl) rfl ⟨rfl, below_setRow k2 (Nat.le_refl _)⟩
  · simp only [if_neg hk0] at hk
    rw [hE, if_pos hk0]
    have hKi : ¬ ((kkE b : Nat) : Int) = 0 := by omega
    have hKb : (((kkE b : Nat) : Int) != 0) = true := by simp [hk0]
    clear hE hk0 h hb ho lc1 lc2
    generalize kkE b = E at *
    generalize b.length = L at *
    go_enter Tryz.func34, Tryz.ntmps34
    go_wp2_with (first
      | (go_at_call 57; refine (hk _ hbw).mono ?_; rintro e w1 ⟨rfl, g1⟩; have z1 := (z0.below g1).below (keep_alloc w1 (.cells #[.int .i64 0, .int .i64 0] 45)); have k1 := keep_trans (keep_trans hbw g1) (keep_alloc w1 (.cells #[.int .i64 0, .int .i64 0] 45)))
      | (refine wpList_store_row rfl 45 _ _ (by rfl) w.heap.size #[.int .i64 0, .int .i64 0] (by rfl) (by rfl) _ _ z1.here (by kernel_rfl) rfl (by simp [Value.oneCell']) ?_)
      | fail)
    refine bodyPost_ret (z1.row.load4 rfl rfl _ rfl) rfl ⟨rfl, below_setRow k1 (Nat.le_refl _)⟩
def cu7lt : List Lt := [(0, some 25, [0]), (0, some 26, [8]), (3, some 27, [25, 26]), (4, some 28, [27]), (8, some 29, [28]), (0, some 30, [6]), (0, some 31, [0]), (0, some 32, [8]), (192, some 33, [31, 32]), (256, some 34, [33]), (528, some 35, [34]), (1055, some 2, [29]), (2111, none, [3, 30]), (8191, some 4, [35]), (16383, some 5, [])]
theorem cu7reg : Reg (opsA (cLA (cRA (cRA (cRA (cRA (cRA (Tryz.f34.body.getD .skip)))))))) cu7lt := ⟨by kernel_rfl, by kernel_rfl⟩
set_option maxHeartbeats 8000000 in
set_option maxRecDepth 100000 in
theorem ccut_ok (b : List Nat) (bv : Value) (w : World) (hb : Row .u8 256 w bv b) (h : ctE b = 0) (hll : b.length ≤ 100000) :
    Calls Tryz.prog 34 #[bv] w fun e w' => ∃ v1 v2, e = .returned (.tuple #[v1, .agg #[.int .i64 (ctH b : Nat), .int .i64 (ctW b : Nat)], v2, .int .i64 0]) ∧ Own 5 .u8 256 w' w.heap.size v1 (b.take (ctN b)) ∧ Own 5 .u8 256 w' w.heap.size v2 (b.drop (ctN b)) ∧ Below w.heap.size w w' := by
  have hrow := hb
  have hk := fun y (k : Below w.heap.size w y) => ckindb_any b bv y (hb.below k)
  obtain ⟨ba, bc, rfl, lc1, lc2, ho⟩ := hb.opens rfl
  have hE := ctE_kk b
  have hk0 : kkE b = 0 := by
    by_cases hh : kkE b = 0
    · exact hh
    · rw [hE, if_pos hh] at h; exact absurd h hh
  simp only [if_pos hk0] at hk
  have hL2 : ctN b ≤ b.length := by
    rw [hE, hk0] at h
    by_cases hl : b.length < ctN b
    · simp [hl] at h
    · omega
  obtain ⟨h8, h1, _, h2⟩ := kkE_zero hk0
  have hs := fun y => csizeT_any (ctH b : Nat) (ctW b : Nat) y
  rw [szT_ct h1 h2] at hs
  have hLi : ¬ (b.length : Int) < (ctN b : Int) := by omega
  obtain ⟨bb, bo, rfl, _⟩ := ho (by omega)
  have rT := hrow.cut (M := ctN b) hL2
  obtain ⟨A2, hA2, hAd2⟩ := slice_from (some ⟨bb, bo, none⟩) b.length bc (ctN b) hL2 lc1
  have rD := hrow.behind hL2 hAd2
  have tT : Tidy (.slice (some ⟨bb, bo, none⟩) (ctN b) bc) := tidy_some ⟨_, _, _, rfl⟩
  have hAs : ∃ x, A2 = some x := by rcases hAd2 with ⟨e, _⟩ | e <;> exact ⟨_, e⟩
  have tD : Tidy (.slice A2 (b.length - ctN b) (bc - ctN b)) := tidy_some (by obtain ⟨x, rfl⟩ := hAs; exact ⟨_, _, _, rfl⟩)
  have hlN : (b.take (ctN b)).length = ctN b := by rw [List.length_take]; omega
  have hlD : (b.drop (ctN b)).length = b.length - ctN b := List.length_drop
  have hNc : ctN b ≤ bc := by omega
  have hj1 := fun y v (r : Rows2 y v [b.take (ctN b)]) => join_any v _ y r (by simp only [List.flatten_cons, List.flatten_nil, List.append_nil]; omega)
  have hj2 := fun y v (r : Rows2 y v [b.drop (ctN b)]) => join_any v _ y r (by simp only [List.flatten_cons, List.flatten_nil, List.append_nil]; omega)
  simp only [List.flatten_cons, List.flatten_nil, List.append_nil] at hj1 hj2
  generalize b.take (ctN b) = bt at *
  generalize b.drop (ctN b) = bd at *
  clear hE hk0 h1 h2 h hb ho h8 hAs hrow hAd2
  generalize ctH b = H at *
  generalize ctW b = W at *
  generalize ctN b = N at *
  generalize b.length = L at *
  obtain ⟨i0, hi0, hz0, hz1, hz2⟩ := info_text
  have z0 := Bx2T.new w (.int .i64 0) (.int .i64 0)
  have hbw := keep_alloc w (.cells #[.int .i64 0, .int .i64 0] 45)
  go_enter Tryz.func34, Tryz.ntmps34
  go_wp2_with (first
    | (go_at_call 57; refine (hk _ hbw).mono ?_; rintro e w1 ⟨rfl, g1⟩)
    | (go_at_call 58; refine (hs _).mono ?_; rintro e w2 ⟨rfl, g2⟩; have z2 := ((z0.below g1).below (keep_alloc _ _)).below g2; have zb := (Bx2T.new w1 _ _).below g2; have k2 := keep_trans (keep_trans (keep_trans hbw g1) (keep_alloc _ _)) g2; have hne : w1.heap.size ≠ w.heap.size := (by have := g1.size; rw [World.size_alloc] at this; omega); have hw2 := z2.lt; clear g1 g2)
    | fail)
  generalize hZ : w.heap.size = Z at *
  generalize w1.heap.size = Y at *
  have rT2 := rT.below (by rw [hZ]; exact k2)
  have rD2 := rD.below (by rw [hZ]; exact k2)
  have hbd : But Z w2 w2.drew := (But.refl _ _).drew
  have kb : Below w2.heap.size w2 w2.drew := (Below.refl _ _).drew
  refine at_begin (ops := opsA (cLA (cRA (cRA (cRA (cRA (cRA (Tryz.f34.body.getD .skip)))))))) (n := 15) (fun y => But Z w2 y) (by kernel_rfl) (by kernel_rfl) ?_
  refine at_takeD (i := 0) (m' := 1) (d := some 25) (v := .slice (some ⟨bb, bo, none⟩) L bc) cu7reg rfl (by decide) rfl rfl (y_moveG (wanted_free rfl) rfl rfl) hbd ?_
  simp only [Act.put, List.setIfInBounds_toArray, List.set_cons_zero, List.set_cons_succ]
  refine at_takeD (i := 1) (m' := 3) (d := some 26) (v := .int .i64 (N : Int)) cu7reg rfl (by decide) rfl rfl (y_moveG (wanted_free rfl) rfl rfl) hbd ?_
  simp only [Act.put, List.setIfInBounds_toArray, List.set_cons_zero, List.set_cons_succ]
  refine at_takeD (i := 2) (m' := 7) (d := some 27) (v := .slice (some ⟨bb, bo, none⟩) N bc) cu7reg rfl (by decide) rfl rfl (y_toC (wanted_free rfl) rfl rfl rfl hNc) hbd ?_
  simp only [Act.put, List.setIfInBounds_toArray, List.set_cons_zero, List.set_cons_succ]
  refine at_takeD (i := 5) (m' := 39) (d := some 30) (v := .agg #[.int .i64 (H : Int), .int .i64 (W : Int)]) cu7reg rfl (by decide) rfl rfl (y_rowG (cs := [.int .i64 (H : Int), .int .i64 (W : Int)]) (wanted_free rfl) rfl rfl Tryz.underlying45 rfl (by kernel_rfl) (fun _ h => (zb.but h hne).range)) hbd ?_
  simp only [Act.put, List.setIfInBounds_toArray, List.set_cons_zero, List.set_cons_succ]
  refine at_takeD (i := 6) (m' := 103) (d := some 31) (v := .slice (some ⟨bb, bo, none⟩) L bc) cu7reg rfl (by decide) rfl rfl (y_moveG (wanted_free rfl) rfl rfl) hbd ?_
  simp only [Act.put, List.setIfInBounds_toArray, List.set_cons_zero, List.set_cons_succ]
  refine at_takeD (i := 7) (m' := 231) (d := some 32) (v := .int .i64 (N : Int)) cu7reg rfl (by decide) rfl rfl (y_moveG (wanted_free rfl) rfl rfl) hbd ?_
  simp only [Act.put, List.setIfInBounds_toArray, List.set_cons_zero, List.set_cons_succ]
  refine at_takeD (i := 8) (m' := 487) (d := some 33) (v := .slice A2 (L - N) (bc - N)) cu7reg rfl (by decide) rfl rfl (y_fromC (wanted_free rfl) rfl rfl rfl hA2 ⟨_, _, _, rfl⟩) hbd ?_
  simp only [Act.put, List.setIfInBounds_toArray, List.set_cons_zero, List.set_cons_succ]
  refine at_two (i := 3) (j := 9) (m1 := 495) (m2 := 999) cu7reg (by decide) rfl rfl ?_ ?_
  · refine p_b1 (d := some 28) rfl (wanted_free rfl) rfl rfl rfl Tryz.underlying48 hi0 hz1 hz0 ?_
    have rr1 := fun hB => rows_litL (B := (w2.drew).heap.size) (k := 1) (texts_cons (rT2.below kb) tT (Texts.nil _)) hB rfl (by decide)
    replace rr1 := rr1 rfl
    obtain ⟨Gq8, hGq8⟩ : ∃ q : Nat, (w2.drew).heap.size = q := ⟨_, rfl⟩
    obtain ⟨z8, hz8⟩ : ∃ z : World, z = (w2.drew).alloc (.cells #[.slice (some ⟨bb, bo, none⟩) N bc] 23) := ⟨_, rfl⟩
    have kz8 : Below (w2.drew).heap.size w2.drew z8 := by rw [hz8]; exact keep_alloc _ _
    have hb8 := but_keep hbd kz8
    replace kb := keep_trans kb kz8
    rw [← hz8] at rr1 ⊢
    rw [hGq8] at rr1 ⊢
    clear hz8 hGq8
    try replace rr2 := rr2.below kz8
    refine ⟨hb8, ?_⟩
    simp only [Act.put, List.setIfInBounds_toArray, List.set_cons_zero, List.set_cons_succ]
    refine at_two (i := 4) (j := 9) (m1 := 511) (m2 := 1007) cu7reg (by decide) rfl rfl ?_ ?_
    · refine p_callG (args := #[.slice (some ⟨Gq8, 0, none⟩) 1 1]) (d := some 29) rfl (wanted_free rfl) rfl (by simp only [List.map_toArray, List.map_cons, List.map_nil]; rfl) rfl Tryz.call20 ((hj1 z8 _ rr1).mono ?_)
      rintro e y9 ⟨v1, rfl, o1, g9⟩
      replace o1 := o1.mono kb.size
      replace kb := keep_trans kb g9
      try replace rr2 := rr2.below g9
      obtain ⟨a1, c1, rfl, _⟩ := o1.row.opens hlN
      have hb9 := but_keep hb8 g9
      refine ⟨_, rfl, hb9, ?_⟩
      simp only [Act.put, List.setIfInBounds_toArray, List.set_cons_zero, List.set_cons_succ]
      refine at_one (i := 9) (m' := 1023) cu7reg (by decide) rfl ?_
      refine p_b1 (d := some 34) rfl (wanted_free rfl) rfl rfl rfl Tryz.underlying48 hi0 hz1 hz0 ?_
      have rr2 := fun hB => rows_litL (B := (y9).heap.size) (k := 1) (texts_cons (rD2.below kb) tD (Texts.nil _)) hB rfl (by decide)
      replace rr2 := rr2 rfl
      obtain ⟨Gq10, hGq10⟩ : ∃ q : Nat, (y9).heap.size = q := ⟨_, rfl⟩
      obtain ⟨z10, hz10⟩ : ∃ z : World, z = (y9).alloc (.cells #[.slice A2 (L - N) (bc - N)] 23) := ⟨_, rfl⟩
      have kz10 : Below (y9).heap.size y9 z10 := by rw [hz10]; exact keep_alloc _ _
      have hb10 := but_keep hb9 kz10
      replace kb := keep_trans kb kz10
      rw [← hz10] at rr2 ⊢
      rw [hGq10] at rr2 ⊢
      clear hz10 hGq10
      try replace rr1 := rr1.below kz10
      try replace o1 := o1.lift kz10
      refine ⟨hb10, ?_⟩
      simp only [Act.put, List.setIfInBounds_toArray, List.set_cons_zero, List.set_cons_succ]
      refine at_one (i := 10) (m' := 2047) cu7reg (by decide) rfl ?_
      refine p_callG (args := #[.slice (some ⟨Gq10, 0, none⟩) 1 1]) (d := some 35) rfl (wanted_free rfl) rfl (by simp only [List.map_toArray, List.map_cons, List.map_nil]; rfl) rfl Tryz.call20 ((hj2 z10 _ rr2).mono ?_)
      rintro e y11 ⟨v2, rfl, o2, g11⟩
      replace o2 := o2.mono kb.size
      replace kb := keep_trans kb g11
      replace o1 := o1.lift g11
      obtain ⟨a2, c2, rfl, _⟩ := o2.row.opens hlD
      have hb11 := but_keep hb10 g11
      refine ⟨_, rfl, hb11, ?_⟩
      simp only [Act.put, List.setIfInBounds_toArray, List.set_cons_zero, List.set_cons_succ]
      refine at_takeD (i := 11) (m' := 4095) (d := some 2) (v := .slice a1 N c1) cu7reg rfl (by decide) rfl rfl (y_assignG (wanted_free rfl) rfl rfl) hb11 ?_
      simp only [Act.put, List.setIfInBounds_toArray, List.set_cons_zero, List.set_cons_succ]
      refine at_one (i := 12) (m' := 8191) cu7reg (by decide) rfl ?_
      refine p_rowA (cells := #[.int .i64 (H : Int), .int .i64 (W : Int)]) rfl rfl rfl rfl rfl rfl ((z2.below kb).here) (by kernel_rfl) rfl (by simp [Value.oneCell']) ?_
      have hb13 := (hb11).setRow #[.int .i64 (H : Int), .int .i64 (W : Int)]
      refine ⟨hb13, ?_⟩
      refine at_takeD (i := 13) (m' := 16383) (d := some 4) (v := .slice a2 (L - N) c2) cu7reg rfl (by decide) rfl rfl (y_assignG (wanted_free rfl) rfl rfl) hb13 ?_
      simp only [Act.put, List.setIfInBounds_toArray, List.set_cons_zero, List.set_cons_succ]
      refine at_takeD (i := 14) (m' := 32767) (d := some 5) (v := .int .i64 0) cu7reg rfl (by decide) rfl rfl (y_assignG (wanted_free rfl) rfl rfl) hb13 ?_
      simp only [Act.put, List.setIfInBounds_toArray, List.set_cons_zero, List.set_cons_succ]
      refine at_done cu7reg (by decide) ?_
      go_wp2
      refine bodyPost_ret ((z2.below kb).row.load4 rfl rfl _ rfl) rfl ⟨_, _, rfl, ?_, ?_, ?_⟩
      · exact (show Own _ _ _ _ _ _ _ from ⟨own_butL o1.1 ((But.refl _ _).setRow _) hw2, o1.2⟩).mono (by rw [hZ]; exact Nat.le_of_lt hw2)
      · exact (show Own _ _ _ _ _ _ _ from ⟨own_butL o2.1 ((But.refl _ _).setRow _) hw2, o2.2⟩).mono (by rw [hZ]; exact Nat.le_of_lt hw2)
      · have := below_setRow (B := Z) (vs := #[.int .i64 (H : Int), .int .i64 (W : Int)]) (keep_trans (by rw [hZ]; exact k2) kb) (by rw [hZ]; exact Nat.le_refl _)
        exact this
    · refine p_b1 (d := some 34) rfl (wanted_free rfl) rfl rfl rfl Tryz.underlying48 hi0 hz1 hz0 ?_
      have rr2 := fun hB => rows_litL (B := (z8).heap.size) (k := 1) (texts_cons (rD2.below kb) tD (Texts.nil _)) hB rfl (by decide)
      replace rr2 := rr2 rfl
      obtain ⟨Gq9, hGq9⟩ : ∃ q : Nat, (z8).heap.size = q := ⟨_, rfl⟩
      obtain ⟨z9, hz9⟩ : ∃ z : World, z = (z8).alloc (.cells #[.slice A2 (L - N) (bc - N)] 23) := ⟨_, rfl⟩
      have kz9 : Below (z8).heap.size z8 z9 := by rw [hz9]; exact keep_alloc _ _
      have hb9 := but_keep hb8 kz9
      replace kb := keep_trans kb kz9
      rw [← hz9] at rr2 ⊢
      rw [hGq9] at rr2 ⊢
      clear hz9 hGq9
      try replace rr1 := rr1.below kz9
      try replace o1 := o1.lift kz9
      refine ⟨hb9, ?_⟩
      simp only [Act.put, List.setIfInBounds_toArray, List.set_cons_zero, List.set_cons_succ]
      refine at_one (i := 4) (m' := 1023) cu7reg (by decide) rfl ?_
      refine p_callG (args := #[.slice (some ⟨Gq8, 0, none⟩) 1 1]) (d := some 29) rfl (wanted_free rfl) rfl (by simp only [List.map_toArray, List.map_cons, List.map_nil]; rfl) rfl Tryz.call20 ((hj1 z9 _ rr1).mono ?_)
      rintro e y10 ⟨v1, rfl, o1, g10⟩
      replace o1 := o1.mono kb.size
      replace kb := keep_trans kb g10
      try replace rr2 := rr2.below g10
      obtain ⟨a1, c1, rfl, _⟩ := o1.row.opens hlN
      have hb10 := but_keep hb9 g10
      refine ⟨_, rfl, hb10, ?_⟩
      simp only [Act.put, List.setIfInBounds_toArray, List.set_cons_zero, List.set_cons_succ]
      refine at_one (i := 10) (m' := 2047) cu7reg (by decide) rfl ?_
      refine p_callG (args := #[.slice (some ⟨Gq9, 0, none⟩) 1 1]) (d := some 35) rfl (wanted_free rfl) rfl (by simp only [List.map_toArray, List.map_cons, List.map_nil]; rfl) rfl Tryz.call20 ((hj2 y10 _ rr2).mono ?_)
      rintro e y11 ⟨v2, rfl, o2, g11⟩
      replace o2 := o2.mono kb.size
      replace kb := keep_trans kb g11
      replace o1 := o1.lift g11
      obtain ⟨a2, c2, rfl, _⟩ := o2.row.opens hlD
      have hb11 := but_keep hb10 g11
      refine ⟨_, rfl, hb11, ?_⟩
      simp only [Act.put, List.setIfInBounds_toArray, List.set_cons_zero, List.set_cons_succ]
      refine at_takeD (i := 11) (m' := 4095) (d := some 2) (v := .slice a1 N c1) cu7reg rfl (by decide) rfl rfl (y_assignG (wanted_free rfl) rfl rfl) hb11 ?_
      simp only [Act.put, List.setIfInBounds_toArray, List.set_cons_zero, List.set_cons_succ]
      refine at_one (i := 12) (m' := 8191) cu7reg (by decide) rfl ?_
      refine p_rowA (cells := #[.int .i64 (H : Int), .int .i64 (W : Int)]) rfl rfl rfl rfl rfl rfl ((z2.below kb).here) (by kernel_rfl) rfl (by simp [Value.oneCell']) ?_
      have hb13 := (hb11).setRow #[.int .i64 (H : Int), .int .i64 (W : Int)]
      refine ⟨hb13, ?_⟩
      refine at_takeD (i := 13) (m' := 16383) (d := some 4) (v := .slice a2 (L - N) c2) cu7reg rfl (by decide) rfl rfl (y_assignG (wanted_free rfl) rfl rfl) hb13 ?_
      simp only [Act.put, List.setIfInBounds_toArray, List.set_cons_zero, List.set_cons_succ]
      refine at_takeD (i := 14) (m' := 32767) (d := some 5) (v := .int .i64 0) cu7reg rfl (by decide) rfl rfl (y_assignG (wanted_free rfl) rfl rfl) hb13 ?_
      simp only [Act.put, List.setIfInBounds_toArray, List.set_cons_zero, List.set_cons_succ]
      refine at_done cu7reg (by decide) ?_
      go_wp2
      refine bodyPost_ret ((z2.below kb).row.load4 rfl rfl _ rfl) rfl ⟨_, _, rfl, ?_, ?_, ?_⟩
      · exact (show Own _ _ _ _ _ _ _ from ⟨own_butL o1.1 ((But.refl _ _).setRow _) hw2, o1.2⟩).mono (by rw [hZ]; exact Nat.le_of_lt hw2)
      · exact (show Own _ _ _ _ _ _ _ from ⟨own_butL o2.1 ((But.refl _ _).setRow _) hw2, o2.2⟩).mono (by rw [hZ]; exact Nat.le_of_lt hw2)
      · have := below_setRow (B := Z) (vs := #[.int .i64 (H : Int), .int .i64 (W : Int)]) (keep_trans (by rw [hZ]; exact k2) kb) (by rw [hZ]; exact Nat.le_refl _)
        exact this
  · refine p_b1 (d := some 34) rfl (wanted_free rfl) rfl rfl rfl Tryz.underlying48 hi0 hz1 hz0 ?_
    have rr2 := fun hB => rows_litL (B := (w2.drew).heap.size) (k := 1) (texts_cons (rD2.below kb) tD (Texts.nil _)) hB rfl (by decide)
    replace rr2 := rr2 rfl
    obtain ⟨Gq8, hGq8⟩ : ∃ q : Nat, (w2.drew).heap.size = q := ⟨_, rfl⟩
    obtain ⟨z8, hz8⟩ : ∃ z : World, z = (w2.drew).alloc (.cells #[.slice A2 (L - N) (bc - N)] 23) := ⟨_, rfl⟩
    have kz8 : Below (w2.drew).heap.size w2.drew z8 := by rw [hz8]; exact keep_alloc _ _
    have hb8 := but_keep hbd kz8
    replace kb := keep_trans kb kz8
    rw [← hz8] at rr2 ⊢
    rw [hGq8] at rr2 ⊢
    clear hz8 hGq8
    try replace rr1 := rr1.below kz8
    try replace o1 := o1.lift kz8
    refine ⟨hb8, ?_⟩
    simp only [Act.put, List.setIfInBounds_toArray, List.set_cons_zero, List.set_cons_succ]
    refine at_one (i := 3) (m' := 1007) cu7reg (by decide) rfl ?_
    refine p_b1 (d := some 28) rfl (wanted_free rfl) rfl rfl rfl Tryz.underlying48 hi0 hz1 hz0 ?_
    have rr1 := fun hB => rows_litL (B := (z8).heap.size) (k := 1) (texts_cons (rT2.below kb) tT (Texts.nil _)) hB rfl (by decide)
    replace rr1 := rr1 rfl
    obtain ⟨Gq9, hGq9⟩ : ∃ q : Nat, (z8).heap.size = q := ⟨_, rfl⟩
    obtain ⟨z9, hz9⟩ : ∃ z : World, z = (z8).alloc (.cells #[.slice (some ⟨bb, bo, none⟩) N bc] 23) := ⟨_, rfl⟩
    have kz9 : Below (z8).heap.size z8 z9 := by rw [hz9]; exact keep_alloc _ _
    have hb9 := but_keep hb8 kz9
    replace kb := keep_trans kb kz9
    rw [← hz9] at rr1 ⊢
    rw [hGq9] at rr1 ⊢
    clear hz9 hGq9
    try replace rr2 := rr2.below kz9
    refine ⟨hb9, ?_⟩
    simp only [Act.put, List.setIfInBounds_toArray, List.set_cons_zero, List.set_cons_succ]
    refine at_one (i := 4) (m' := 1023) cu7reg (by decide) rfl ?_
    refine p_callG (args := #[.slice (some ⟨Gq9, 0, none⟩) 1 1]) (d := some 29) rfl (wanted_free rfl) rfl (by simp only [List.map_toArray, List.map_cons, List.map_nil]; rfl) rfl Tryz.call20 ((hj1 z9 _ rr1).mono ?_)
    rintro e y10 ⟨v1, rfl, o1, g10⟩
    replace o1 := o1.mono kb.size
    replace kb := keep_trans kb g10
    try replace rr2 := rr2.below g10
    obtain ⟨a1, c1, rfl, _⟩ := o1.row.opens hlN
    have hb10 := but_keep hb9 g10
    refine ⟨_, rfl, hb10, ?_⟩
    simp only [Act.put, List.setIfInBounds_toArray, List.set_cons_zero, List.set_cons_succ]
    refine at_one (i := 10) (m' := 2047) cu7reg (by decide) rfl ?_
    refine p_callG (args := #[.slice (some ⟨Gq8, 0, none⟩) 1 1]) (d := some 35) rfl (wanted_free rfl) rfl (by simp only [List.map_toArray, List.map_cons, List.map_nil]; rfl) rfl Tryz.call20 ((hj2 y10 _ rr2).mono ?_)
    rintro e y11 ⟨v2, rfl, o2, g11⟩
    replace o2 := o2.mono kb.size
    replace kb := keep_trans kb g11
    replace o1 := o1.lift g11
    obtain ⟨a2, c2, rfl, _⟩ := o2.row.opens hlD
    have hb11 := but_keep hb10 g11
    refine ⟨_, rfl, hb11, ?_⟩
    simp only [Act.put, List.setIfInBounds_toArray, List.set_cons_zero, List.set_cons_succ]
    refine at_takeD (i := 11) (m' := 4095) (d := some 2) (v := .slice a1 N c1) cu7reg rfl (by decide) rfl rfl (y_assignG (wanted_free rfl) rfl rfl) hb11 ?_
    simp only [Act.put, List.setIfInBounds_toArray, List.set_cons_zero, List.set_cons_succ]
    refine at_one (i := 12) (m' := 8191) cu7reg (by decide) rfl ?_
    refine p_rowA (cells := #[.int .i64 (H : Int), .int .i64 (W : Int)]) rfl rfl rfl rfl rfl rfl ((z2.below kb).here) (by kernel_rfl) rfl (by simp [Value.oneCell']) ?_
    have hb13 := (hb11).setRow #[.int .i64 (H : Int), .int .i64 (W : Int)]
    refine ⟨hb13, ?_⟩
    refine at_takeD (i := 13) (m' := 16383) (d := some 4) (v := .slice a2 (L - N) c2) cu7reg rfl (by decide) rfl rfl (y_assignG (wanted_free rfl) rfl rfl) hb13 ?_
    simp only [Act.put, List.setIfInBounds_toArray, List.set_cons_zero, List.set_cons_succ]
    refine at_takeD (i := 14) (m' := 32767) (d := some 5) (v := .int .i64 0) cu7reg rfl (by decide) rfl rfl (y_assignG (wanted_free rfl) rfl rfl) hb13 ?_
    simp only [Act.put, List.setIfInBounds_toArray, List.set_cons_zero, List.set_cons_succ]
    refine at_done cu7reg (by decide) ?_
    go_wp2
    refine bodyPost_ret ((z2.below kb).row.load4 rfl rfl _ rfl) rfl ⟨_, _, rfl, ?_, ?_, ?_⟩
    · exact (show Own _ _ _ _ _ _ _ from ⟨own_butL o1.1 ((But.refl _ _).setRow _) hw2, o1.2⟩).mono (by rw [hZ]; exact Nat.le_of_lt hw2)
    · exact (show Own _ _ _ _ _ _ _ from ⟨own_butL o2.1 ((But.refl _ _).setRow _) hw2, o2.2⟩).mono (by rw [hZ]; exact Nat.le_of_lt hw2)
    · have := below_setRow (B := Z) (vs := #[.int .i64 (H : Int), .int .i64 (W : Int)]) (keep_trans (by rw [hZ]; exact k2) kb) (by rw [hZ]; exact Nat.le_refl _)
      exact this
end Go.Proofs.YtogiballdmgcpaaGreatDoor
