/- Trees of leaves that sign once, the program's own: the tree that a key is of. -/
import Derived.Test.YtefndnbaifiboaaGreatDoorLsG
import Derived.Test.YtefndnbaifiboaaGreatDoorLsF
import Derived.Test.YtefndnbaifiboaaGreatDoorLmK8
namespace Go.Proofs.YtefndnbaifiboaaGreatDoor
open Go.RowKit Go.Shelf
set_option linter.unusedVariables false
set_option linter.unusedSimpArgs false

/-- a kind of tree laid anew -/
theorem p_allocTr {ops : Array Oper} {Q : Exit → Act → World → Prop} {K : Act → World → Prop} {i : Nat} {o : Oper} {a : Act} {x : World} {d : Option Nat} (hi : ops[i]? = some o) (hw : Region.wanted o (yielded ops a.tmps) = true) (ho : o.op = .alloc 23) (hd : o.dst = d)
    (h : K (a.put d (.pointer (some ⟨x.heap.size, 0, none⟩))) (x.alloc (.cells #[.int .i64 0, .int .i64 0] 23))) : wpOp Tryz.prog ops Q i K a x := by
  have hz := zeroTr
  have hr : (execOp a.eval o).run Tryz.prog x = .ok (.value (.pointer (some ⟨x.heap.size, 0, none⟩))) (x.alloc (.cells #[.int .i64 0, .int .i64 0] 23)) := by
    unfold execOp
    simp only [ho]
    simp [go_sem, hz]
  unfold wpOp
  simp only [hi]
  rw [if_pos hw]
  left
  unfold Oper.wp
  rw [hr]
  show K (a.put o.dst _) _
  rw [hd]
  exact h
theorem y_buildTr {ops : Array Oper} {S : World → Prop} {o : Oper} {a : Act} {x y : Operand} {u v : Int} (hw : Region.wanted o (yielded ops a.tmps) = true) (ho : o.op = .build 23 #[(0, x), (1, y)]) (hx : a.eval x = .int .i64 u) (hy : a.eval y = .int .i64 v) : YieldsIf Tryz.prog ops S o (.agg #[.int .i64 u, .int .i64 v]) a := by
  refine y_ofG hw fun w _ => ?_
  unfold execOp
  simp only [ho, List.map_toArray, List.map_cons, List.map_nil, hx, hy]
  simp [go_sem]
theorem y_buildTd {ops : Array Oper} {S : World → Prop} {o : Oper} {a : Act} {x y : Operand} {z0 z1 : Value} {ja : Option Addr} {jn jc : Nat} (hw : Region.wanted o (yielded ops a.tmps) = true) (ho : o.op = .build 48 #[(0, x), (1, y)]) (hx : a.eval x = .agg #[z0, z1]) (hy : a.eval y = .slice ja jn jc) : YieldsIf Tryz.prog ops S o (.agg #[z0, z1, .slice ja jn jc]) a := by
  refine y_ofG hw fun w _ => ?_
  unfold execOp
  simp only [ho, List.map_toArray, List.map_cons, List.map_nil, hx, hy]
  simp [go_sem]
theorem fit_hd (c d : Nat) : FitL (hgtL c : Nat) (dgtL d : Nat) ↔ hgtL c ≠ 0 ∧ dgtL d ≠ 0 := by
  constructor
  · rintro ⟨h1, h2⟩
    refine ⟨fun e => h1 (by rw [e]; rfl), fun e => h2 (by rw [e]; rfl)⟩
  · rintro ⟨h1, h2⟩
    constructor
    · rcases hgtL_or c with h | ⟨h, h3, _⟩
      · exact absurd h h1
      · rw [h]; exact h3
    · rcases dgtL_or d with h | ⟨n, m, s, h⟩
      · exact absurd h h2
      · have e0 : ∀ {k n m s c : Nat}, Kd k n m s c → szW (k : Int) ≠ 0 := fun hk => by cases hk <;> decide
        exact e0 h
def tr3lt : List Lt := [(0, some 9, [0]), (1, some 10, [9]), (2, some 11, [10]), (0, some 12, [0]), (8, some 13, [12]), (20, some 14, [13]), (36, some 15, [11, 14]), (0, some 4, []), (255, none, [4, 15])]
theorem tr3reg : Reg (opsA (cLA (cRA (cRA (Tryz.f44.body.getD .skip))))) tr3lt := ⟨by kernel_rfl, by kernel_rfl⟩
def tr6lt : List Lt := [(0, some 20, [4]), (0, some 21, [0]), (2, some 22, [21]), (5, some 23, [20, 22]), (15, none, [2, 23]), (31, some 3, [])]
theorem tr6reg : Reg (opsA (cLA (cRA (cRA (cRA (cRA (Tryz.f44.body.getD .skip))))))) tr6lt := ⟨by kernel_rfl, by kernel_rfl⟩
def TrOf (H D : Nat) (pb po pc : Nat) : Value := if FitL (H : Int) (D : Int) then .tuple #[.agg #[.int .i64 (H : Int), .int .i64 (D : Int), .slice (some ⟨pb, po + 8, none⟩) 16 (pc - 8)], .int .i64 0] else .tuple #[.agg #[.int .i64 0, .int .i64 0, .slice none 0 0], .int .i64 10]
set_option maxHeartbeats 4000000 in
set_option maxRecDepth 100000 in
theorem ctree_tail (H D T G pb po pc : Nat) (y1 y5 y6 y7 y8 y9 y10 y11 y12 y13 y14 y15 y16 y17 y18 y19 y20 y21 y22 y23 : Value) (w z : World) (hT : w.heap.size = T) (hTG : T < G) (hpc : 56 ≤ pc) (bt : BxD z T (.int .i64 0) (.int .i64 0) (.slice none 0 0)) (bg : Bx2T z G (.int .i64 (H : Int)) (.int .i64 (D : Int))) (kz : Below w.heap.size w z) :
    Code.wp Tryz.prog (cRA (cRA (cRA (Tryz.f44.body.getD .skip)))) (bodyPost Tryz.prog Tryz.f44 fun e w' => e = .returned (TrOf H D pb po pc) ∧ Below w.heap.size w w') { tmps := #[.slice (some ⟨pb, po, none⟩) 56 pc, y1, .pointer (some ⟨T, 0, none⟩), .int .i64 0, .pointer (some ⟨G, 0, none⟩), y5, y6, y7, y8, y9, y10, y11, y12, y13, y14, y15, y16, y17, y18, y19, y20, y21, y22, y23], defers := [] } z := by
  simp only [Tryz.f44, Option.getD_some, cRA]
  have hf := fun y => cfitT_any (H : Int) (D : Int) y
  have HT := hide (And.intro hT hTG)
  unfold TrOf
  by_cases hfit : FitL (H : Int) (D : Int)
  · rw [if_pos hfit]
    rw [decide_eq_true hfit] at hf
    clear hT hTG hfit
    go_wp2_with (first
      | (refine wpList_load_row rfl 23 _ (by rfl) G (by rfl) _ _ _ _ bg.here Tryz.underlying23 rfl (by kernel_rfl) ?_)
      | (go_at_call 12; refine (hf _).mono ?_; rintro e w1 ⟨rfl, g1⟩)
      | fail)
    have bt1 := bt.below g1
    have bg1 := bg.below g1
    have k1 := keep_trans kz g1
    obtain ⟨hT, hTG⟩ := HT.out
    have hne : G ≠ T := by omega
    have hm8 := fun w => mid_run (b := pb) (o := po) (n := 56) (c := pc) (F := 8) (G := 24) (L := 16) (by omega) (by omega) (by decide) w
    have hbd : But T w1 w1.drew := (But.refl _ _).drew
    have kb : Below w1.heap.size w1 w1.drew := (Below.refl _ _).drew
    clear hT hTG
    refine at_begin (ops := opsA (cLA (cRA (cRA (cRA (cRA (Tryz.f44.body.getD .skip))))))) (n := 6) (fun y => But T w1 y) (by kernel_rfl) (by kernel_rfl) ?_
    refine at_takeD (i := 0) (m' := 1) (d := some 20) (v := .agg #[.int .i64 (H : Int), .int .i64 (D : Int)]) tr6reg rfl (by decide) rfl rfl (y_rowG (cs := [.int .i64 (H : Int), .int .i64 (D : Int)]) (wanted_free rfl) rfl rfl Tryz.underlying23 rfl (by kernel_rfl) (fun _ h => (bg1.but h hne).range)) hbd ?_
    simp only [Act.put, List.setIfInBounds_toArray, List.set_cons_zero, List.set_cons_succ]
    refine at_takeD (i := 1) (m' := 3) (d := some 21) (v := .slice (some ⟨pb, po, none⟩) 56 pc) tr6reg rfl (by decide) rfl rfl (y_moveG (wanted_free rfl) rfl rfl) hbd ?_
    simp only [Act.put, List.setIfInBounds_toArray, List.set_cons_zero, List.set_cons_succ]
    refine at_takeD (i := 2) (m' := 7) (d := some 22) (v := .slice (some ⟨pb, po + 8, none⟩) 16 (pc - 8)) tr6reg rfl (by decide) rfl rfl (y_midC (wanted_free rfl) rfl rfl rfl rfl hm8) hbd ?_
    simp only [Act.put, List.setIfInBounds_toArray, List.set_cons_zero, List.set_cons_succ]
    refine at_takeD (i := 3) (m' := 15) (d := some 23) (v := .agg #[.int .i64 (H : Int), .int .i64 (D : Int), .slice (some ⟨pb, po + 8, none⟩) 16 (pc - 8)]) tr6reg rfl (by decide) rfl rfl (y_buildTd (wanted_free rfl) rfl rfl rfl) hbd ?_
    simp only [Act.put, List.setIfInBounds_toArray, List.set_cons_zero, List.set_cons_succ]
    refine at_one (i := 4) (m' := 31) tr6reg (by decide) rfl ?_
    refine p_rowA (cells := #[.int .i64 (H : Int), .int .i64 (D : Int), .slice (some ⟨pb, po + 8, none⟩) 16 (pc - 8)]) rfl rfl rfl rfl rfl rfl ((bt1.below kb).here) (by kernel_rfl) rfl (by simp [Value.oneCell']) ?_
    have hb5 := (hbd).setRow #[.int .i64 (H : Int), .int .i64 (D : Int), .slice (some ⟨pb, po + 8, none⟩) 16 (pc - 8)]
    refine ⟨hb5, ?_⟩
    refine at_takeD (i := 5) (m' := 63) (d := some 3) (v := .int .i64 0) tr6reg rfl (by decide) rfl rfl (y_assignG (wanted_free rfl) rfl rfl) hb5 ?_
    simp only [Act.put, List.setIfInBounds_toArray, List.set_cons_zero, List.set_cons_succ]
    refine at_done tr6reg (by decide) ?_
    go_wp2
    refine bodyPost_ret ((bt1.below kb).row.ret rfl _ rfl rfl) rfl ⟨rfl, below_setRow (keep_trans k1 kb) (by rw [HT.out.1]; exact Nat.le_refl _)⟩
  · rw [if_neg hfit]
    rw [decide_eq_false hfit] at hf
    clear hT hTG hfit
    go_wp2_with (first
      | (refine wpList_load_row rfl 23 _ (by rfl) G (by rfl) _ _ _ _ bg.here Tryz.underlying23 rfl (by kernel_rfl) ?_)
      | (go_at_call 12; refine (hf _).mono ?_; rintro e w1 ⟨rfl, g1⟩; have bt1 := bt.below g1)
      | (refine wpList_store_row rfl 48 _ _ (by rfl) T #[.int .i64 0, .int .i64 0, .slice none 0 0] (by rfl) (by rfl) _ _ bt1.here (by kernel_rfl) rfl (by simp [Value.oneCell']) ?_)
      | fail)
    refine bodyPost_ret (bt1.row.ret rfl _ rfl rfl) rfl ⟨rfl, below_setRow (keep_trans kz g1) (by rw [HT.out.1]; exact Nat.le_refl _)⟩
set_option maxHeartbeats 4000000 in
set_option maxRecDepth 100000 in
theorem ctree_short (pa : Option Addr) (L pc : Nat) (w : World) (h56 : ¬ L = 56) :
    Calls Tryz.prog 44 #[.slice pa L pc] w fun e w' => e = .returned (.tuple #[.agg #[.int .i64 0, .int .i64 0, .slice none 0 0], .int .i64 10]) ∧ Below w.heap.size w w' := by
  have hi : ¬ (L : Int) = 56 := by omega
  have hib : ((L : Int) != 56) = true := by simp; omega
  have z0 := BxD.new w (.int .i64 0) (.int .i64 0) (.slice none 0 0)
  have hbw := keep_alloc w (.cells #[.int .i64 0, .int .i64 0, .slice none 0 0] 48)
  clear h56
  go_enter Tryz.func44, Tryz.ntmps44
  go_wp2_with (first
    | (refine wpList_store_row rfl 48 _ _ (by rfl) w.heap.size #[.int .i64 0, .int .i64 0, .slice none 0 0] (by rfl) (by rfl) _ _ z0.here (by kernel_rfl) rfl (by simp [Value.oneCell']) ?_)
    | fail)
  refine bodyPost_ret (z0.row.ret rfl _ rfl rfl) rfl ⟨rfl, below_setRow hbw (Nat.le_refl _)⟩
set_option maxHeartbeats 4000000 in
set_option maxRecDepth 100000 in
theorem ctree_56 (pub : List Nat) (pb po pc : Nat) (w : World) (hp : Row .u8 256 w (.slice (some ⟨pb, po, none⟩) 56 pc) pub) (h56 : pub.length = 56) (hpc : 56 ≤ pc) :
    Calls Tryz.prog 44 #[.slice (some ⟨pb, po, none⟩) 56 pc] w fun e w' => e = .returned (TrOf (hgtL (numL (pub.take 4))) (dgtL (numL ((pub.drop 4).take 4))) pb po pc) ∧ Below w.heap.size w w' := by
  have z0 := BxD.new w (.int .i64 0) (.int .i64 0) (.slice none 0 0)
  have hbw := keep_alloc w (.cells #[.int .i64 0, .int .i64 0, .slice none 0 0] 48)
  have r4 : Row .u8 256 w (.slice (some ⟨pb, po, none⟩) 4 pc) (pub.take 4) := hp.cut (by omega)
  have r8 : Row .u8 256 w (.slice (some ⟨pb, po + 4, none⟩) 4 (pc - 4)) ((pub.drop 4).take 4) := hp.mid (i := 4) (j := 8) (by decide) (by omega)
  have hH := fun y (k : Below w.heap.size w y) => (cheightOf _ _ y (r4.below k)).mono fun e w' (q : _ ∧ _) => (⟨q.1, by rw [q.2]; exact Below.refl _ _⟩ : _ ∧ Below y.heap.size y w')
  have hD := fun y (k : Below w.heap.size w y) => (cwidthOf _ _ y (r8.below k)).mono fun e w' (q : _ ∧ _) => (⟨q.1, by rw [q.2]; exact Below.refl _ _⟩ : _ ∧ Below y.heap.size y w')
  generalize hgtL (numL (pub.take 4)) = H at *
  generalize dgtL (numL ((pub.drop 4).take 4)) = D at *
  have h4c : 4 ≤ pc := by omega
  have hm4 := fun w => mid_run (b := pb) (o := po) (n := 56) (c := pc) (F := 4) (G := 8) (L := 4) (by omega) (by omega) (by decide) w
  clear r4 r8 hp h56
  go_enter Tryz.func44, Tryz.ntmps44
  go_wp2
  rename_i K hK
  generalize hW0 : w.alloc (.cells #[.int .i64 0, .int .i64 0, .slice none 0 0] 48) = W0 at *
  have hzl := z0.lt
  have hbd : Below W0.heap.size W0 W0.drew := (Below.refl _ _).drew
  refine at_begin (ops := opsA (cLA (cRA (cRA (Tryz.f44.body.getD .skip))))) (n := 9) (fun y => Below W0.heap.size W0 y) (by kernel_rfl) (by kernel_rfl) ?_
  refine at_takeD (i := 0) (m' := 1) (d := some 9) (v := .slice (some ⟨pb, po, none⟩) 56 pc) tr3reg rfl (by decide) rfl rfl (y_moveG (wanted_free rfl) rfl rfl) hbd ?_
  simp only [Act.put, List.setIfInBounds_toArray, List.set_cons_zero, List.set_cons_succ]
  refine at_takeD (i := 1) (m' := 3) (d := some 10) (v := .slice (some ⟨pb, po, none⟩) 4 pc) tr3reg rfl (by decide) rfl rfl (y_toC (wanted_free rfl) rfl rfl rfl h4c) hbd ?_
  simp only [Act.put, List.setIfInBounds_toArray, List.set_cons_zero, List.set_cons_succ]
  refine at_takeD (i := 3) (m' := 11) (d := some 12) (v := .slice (some ⟨pb, po, none⟩) 56 pc) tr3reg rfl (by decide) rfl rfl (y_moveG (wanted_free rfl) rfl rfl) hbd ?_
  simp only [Act.put, List.setIfInBounds_toArray, List.set_cons_zero, List.set_cons_succ]
  refine at_takeD (i := 4) (m' := 27) (d := some 13) (v := .slice (some ⟨pb, po + 4, none⟩) 4 (pc - 4)) tr3reg rfl (by decide) rfl rfl (y_midC (wanted_free rfl) rfl rfl rfl rfl hm4) hbd ?_
  simp only [Act.put, List.setIfInBounds_toArray, List.set_cons_zero, List.set_cons_succ]
  refine at_two (i := 2) (j := 7) (m1 := 31) (m2 := 155) tr3reg (by decide) rfl rfl ?_ ?_
  · refine p_callG (args := #[.slice (some ⟨pb, po, none⟩) 4 pc]) (d := some 11) rfl (wanted_free rfl) rfl (by simp only [List.map_toArray, List.map_cons, List.map_nil]; rfl) rfl Tryz.call75 ((hH W0.drew (keep_trans hbw hbd)).mono ?_)
    rintro e y5 ⟨rfl, g5⟩
    try replace bG := bG.below g5
    have hb5 := keep_trans hbd g5
    refine ⟨_, rfl, hb5, ?_⟩
    simp only [Act.put, List.setIfInBounds_toArray, List.set_cons_zero, List.set_cons_succ]
    refine at_two (i := 5) (j := 7) (m1 := 63) (m2 := 159) tr3reg (by decide) rfl rfl ?_ ?_
    · refine p_callG (args := #[.slice (some ⟨pb, po + 4, none⟩) 4 (pc - 4)]) (d := some 14) rfl (wanted_free rfl) rfl (by simp only [List.map_toArray, List.map_cons, List.map_nil]; rfl) rfl Tryz.call74 ((hD y5 (keep_trans hbw hb5)).mono ?_)
      rintro e y6 ⟨rfl, g6⟩
      try replace bG := bG.below g6
      have hb6 := keep_trans hb5 g6
      refine ⟨_, rfl, hb6, ?_⟩
      simp only [Act.put, List.setIfInBounds_toArray, List.set_cons_zero, List.set_cons_succ]
      refine at_takeD (i := 6) (m' := 127) (d := some 15) (v := .agg #[.int .i64 (H : Int), .int .i64 (D : Int)]) tr3reg rfl (by decide) rfl rfl (y_buildTr (wanted_free rfl) rfl rfl rfl) hb6 ?_
      simp only [Act.put, List.setIfInBounds_toArray, List.set_cons_zero, List.set_cons_succ]
      refine at_one (i := 7) (m' := 255) tr3reg (by decide) rfl ?_
      refine p_allocTr rfl (wanted_free rfl) rfl rfl ?_
      have bG := Bx2T.new (y6) (.int .i64 0) (.int .i64 0)
      have hGl : W0.heap.size ≤ (y6).heap.size := (hb6).size
      obtain ⟨G, hG⟩ : ∃ q : Nat, (y6).heap.size = q := ⟨_, rfl⟩
      obtain ⟨z8, hz8⟩ : ∃ z : World, z = (y6).alloc (.cells #[.int .i64 0, .int .i64 0] 23) := ⟨_, rfl⟩
      have g8 : Below (y6).heap.size y6 z8 := by rw [hz8]; exact keep_alloc _ _
      have hb8 := keep_trans hb6 g8
      rw [← hz8] at bG ⊢
      rw [hG] at bG hGl ⊢
      clear hz8 hG
      refine ⟨hb8, ?_⟩
      simp only [Act.put, List.setIfInBounds_toArray, List.set_cons_zero, List.set_cons_succ]
      refine at_one (i := 8) (m' := 511) tr3reg (by decide) rfl ?_
      refine p_rowA (cells := #[.int .i64 (H : Int), .int .i64 (D : Int)]) rfl rfl rfl rfl rfl rfl bG.here (by kernel_rfl) rfl (by simp [Value.oneCell']) ?_
      have kf := hb8
      have hb9 := below_setRow (vs := #[.int .i64 (H : Int), .int .i64 (D : Int)]) hb8 hGl
      have hbt := (But.refl G z8).setRow #[.int .i64 (H : Int), .int .i64 (D : Int)]
      refine ⟨hb9, ?_⟩
      refine at_done tr3reg (by decide) ?_
      refine hK _ _ ?_
      exact ctree_tail H D w.heap.size G pb po pc _ _ _ _ _ _ _ _ _ _ _ _ _ _ _ _ _ _ _ _ w _ rfl (by omega) hpc ((z0.below kf).but hbt (by omega)) bG.row (keep_trans hbw hb9)
    · refine p_allocTr rfl (wanted_free rfl) rfl rfl ?_
      have bG := Bx2T.new (y5) (.int .i64 0) (.int .i64 0)
      have hGl : W0.heap.size ≤ (y5).heap.size := (hb5).size
      obtain ⟨G, hG⟩ : ∃ q : Nat, (y5).heap.size = q := ⟨_, rfl⟩
      obtain ⟨z6, hz6⟩ : ∃ z : World, z = (y5).alloc (.cells #[.int .i64 0, .int .i64 0] 23) := ⟨_, rfl⟩
      have g6 : Below (y5).heap.size y5 z6 := by rw [hz6]; exact keep_alloc _ _
      have hb6 := keep_trans hb5 g6
      rw [← hz6] at bG ⊢
      rw [hG] at bG hGl ⊢
      clear hz6 hG
      refine ⟨hb6, ?_⟩
      simp only [Act.put, List.setIfInBounds_toArray, List.set_cons_zero, List.set_cons_succ]
      refine at_one (i := 5) (m' := 191) tr3reg (by decide) rfl ?_
      refine p_callG (args := #[.slice (some ⟨pb, po + 4, none⟩) 4 (pc - 4)]) (d := some 14) rfl (wanted_free rfl) rfl (by simp only [List.map_toArray, List.map_cons, List.map_nil]; rfl) rfl Tryz.call74 ((hD z6 (keep_trans hbw hb6)).mono ?_)
      rintro e y7 ⟨rfl, g7⟩
      try replace bG := bG.below g7
      have hb7 := keep_trans hb6 g7
      refine ⟨_, rfl, hb7, ?_⟩
      simp only [Act.put, List.setIfInBounds_toArray, List.set_cons_zero, List.set_cons_succ]
      refine at_takeD (i := 6) (m' := 255) (d := some 15) (v := .agg #[.int .i64 (H : Int), .int .i64 (D : Int)]) tr3reg rfl (by decide) rfl rfl (y_buildTr (wanted_free rfl) rfl rfl rfl) hb7 ?_
      simp only [Act.put, List.setIfInBounds_toArray, List.set_cons_zero, List.set_cons_succ]
      refine at_one (i := 8) (m' := 511) tr3reg (by decide) rfl ?_
      refine p_rowA (cells := #[.int .i64 (H : Int), .int .i64 (D : Int)]) rfl rfl rfl rfl rfl rfl bG.here (by kernel_rfl) rfl (by simp [Value.oneCell']) ?_
      have kf := hb7
      have hb9 := below_setRow (vs := #[.int .i64 (H : Int), .int .i64 (D : Int)]) hb7 hGl
      have hbt := (But.refl G y7).setRow #[.int .i64 (H : Int), .int .i64 (D : Int)]
      refine ⟨hb9, ?_⟩
      refine at_done tr3reg (by decide) ?_
      refine hK _ _ ?_
      exact ctree_tail H D w.heap.size G pb po pc _ _ _ _ _ _ _ _ _ _ _ _ _ _ _ _ _ _ _ _ w _ rfl (by omega) hpc ((z0.below kf).but hbt (by omega)) bG.row (keep_trans hbw hb9)
  · refine p_allocTr rfl (wanted_free rfl) rfl rfl ?_
    have bG := Bx2T.new (W0.drew) (.int .i64 0) (.int .i64 0)
    have hGl : W0.heap.size ≤ (W0.drew).heap.size := (hbd).size
    obtain ⟨G, hG⟩ : ∃ q : Nat, (W0.drew).heap.size = q := ⟨_, rfl⟩
    obtain ⟨z5, hz5⟩ : ∃ z : World, z = (W0.drew).alloc (.cells #[.int .i64 0, .int .i64 0] 23) := ⟨_, rfl⟩
    have g5 : Below (W0.drew).heap.size W0.drew z5 := by rw [hz5]; exact keep_alloc _ _
    have hb5 := keep_trans hbd g5
    rw [← hz5] at bG ⊢
    rw [hG] at bG hGl ⊢
    clear hz5 hG
    refine ⟨hb5, ?_⟩
    simp only [Act.put, List.setIfInBounds_toArray, List.set_cons_zero, List.set_cons_succ]
    refine at_one (i := 2) (m' := 159) tr3reg (by decide) rfl ?_
    refine p_callG (args := #[.slice (some ⟨pb, po, none⟩) 4 pc]) (d := some 11) rfl (wanted_free rfl) rfl (by simp only [List.map_toArray, List.map_cons, List.map_nil]; rfl) rfl Tryz.call75 ((hH z5 (keep_trans hbw hb5)).mono ?_)
    rintro e y6 ⟨rfl, g6⟩
    try replace bG := bG.below g6
    have hb6 := keep_trans hb5 g6
    refine ⟨_, rfl, hb6, ?_⟩
    simp only [Act.put, List.setIfInBounds_toArray, List.set_cons_zero, List.set_cons_succ]
    refine at_one (i := 5) (m' := 191) tr3reg (by decide) rfl ?_
    refine p_callG (args := #[.slice (some ⟨pb, po + 4, none⟩) 4 (pc - 4)]) (d := some 14) rfl (wanted_free rfl) rfl (by simp only [List.map_toArray, List.map_cons, List.map_nil]; rfl) rfl Tryz.call74 ((hD y6 (keep_trans hbw hb6)).mono ?_)
    rintro e y7 ⟨rfl, g7⟩
    try replace bG := bG.below g7
    have hb7 := keep_trans hb6 g7
    refine ⟨_, rfl, hb7, ?_⟩
    simp only [Act.put, List.setIfInBounds_toArray, List.set_cons_zero, List.set_cons_succ]
    refine at_takeD (i := 6) (m' := 255) (d := some 15) (v := .agg #[.int .i64 (H : Int), .int .i64 (D : Int)]) tr3reg rfl (by decide) rfl rfl (y_buildTr (wanted_free rfl) rfl rfl rfl) hb7 ?_
    simp only [Act.put, List.setIfInBounds_toArray, List.set_cons_zero, List.set_cons_succ]
    refine at_one (i := 8) (m' := 511) tr3reg (by decide) rfl ?_
    refine p_rowA (cells := #[.int .i64 (H : Int), .int .i64 (D : Int)]) rfl rfl rfl rfl rfl rfl bG.here (by kernel_rfl) rfl (by simp [Value.oneCell']) ?_
    have kf := hb7
    have hb9 := below_setRow (vs := #[.int .i64 (H : Int), .int .i64 (D : Int)]) hb7 hGl
    have hbt := (But.refl G y7).setRow #[.int .i64 (H : Int), .int .i64 (D : Int)]
    refine ⟨hb9, ?_⟩
    refine at_done tr3reg (by decide) ?_
    refine hK _ _ ?_
    exact ctree_tail H D w.heap.size G pb po pc _ _ _ _ _ _ _ _ _ _ _ _ _ _ _ _ _ _ _ _ w _ rfl (by omega) hpc ((z0.below kf).but hbt (by omega)) bG.row (keep_trans hbw hb9)
theorem ctree_any (pub : List Nat) (pv : Value) (w : World) (hp : Row .u8 256 w pv pub) :
    Calls Tryz.prog 44 #[pv] w fun e w' => ((∃ pb po pc, vKey pub ∧ pv = .slice (some ⟨pb, po, none⟩) 56 pc ∧ 56 ≤ pc ∧ e = .returned (.tuple #[.agg #[.int .i64 (hgtL (numL (pub.take 4)) : Nat), .int .i64 (dgtL (numL ((pub.drop 4).take 4)) : Nat), .slice (some ⟨pb, po + 8, none⟩) 16 (pc - 8)], .int .i64 0])) ∨ ¬ vKey pub ∧ e = .returned (.tuple #[.agg #[.int .i64 0, .int .i64 0, .slice none 0 0], .int .i64 10])) ∧ Below w.heap.size w w' := by
  have hp0 := hp
  obtain ⟨pa, pc, rfl, lc1, lc2, ho⟩ := hp.opens rfl
  by_cases h56 : pub.length = 56
  · obtain ⟨pb, po, rfl, _⟩ := ho (by omega)
    rw [h56] at hp0 lc1 ⊢
    refine (ctree_56 pub pb po pc w hp0 h56 lc1).mono ?_
    rintro e w' ⟨he, hb⟩
    refine ⟨?_, hb⟩
    unfold TrOf at he
    by_cases hf : hgtL (numL (pub.take 4)) ≠ 0 ∧ dgtL (numL ((pub.drop 4).take 4)) ≠ 0
    · rw [if_pos ((fit_hd _ _).2 hf)] at he
      exact .inl ⟨pb, po, pc, ⟨h56, hf.1, hf.2⟩, rfl, lc1, he⟩
    · rw [if_neg (fun q => hf ((fit_hd _ _).1 q))] at he
      exact .inr ⟨fun q => hf ⟨q.2.1, q.2.2⟩, he⟩
  · refine (ctree_short pa _ pc w h56).mono ?_
    rintro e w' ⟨he, hb⟩
    exact ⟨.inr ⟨fun q => h56 q.1, he⟩, hb⟩
end Go.Proofs.YtefndnbaifiboaaGreatDoor

/- Trees of leaves that sign once: the document's Verify, from the leaf's sum up. -/
namespace Go.Proofs.YtefndnbaifiboaaGreatDoor
open Go.RowKit
set_option linter.unusedVariables false
set_option linter.unusedSimpArgs false

set_option maxHeartbeats 8000000 in
set_option maxRecDepth 100000 in
theorem v_tail {w z : World} {bb bo pc sb so L sc BT q Z kc H W M : Nat} {ka : Option Addr} {pub sig CN TOP : List Nat} {R : Int} (hR : Hid (R = if TOP = pub.drop 24 then 0 else 11)) (y1 y3 y4 y5 y6 y7 y9 y10 y15 y16 y17 y18 y19 y20 y21 y22 y23 y24 y25 y26 y27 y28 y29 y30 y31 y32 y33 y34 y35 y36 y37 y38 y39 y40 y41 y42 y43 y44 y45 y46 y47 y48 y49 y50 y51 y52 y53 y54 y55 y56 y57 y58 y59 y60 y61 y62 y63 y64 y65 y66 y67 y68 y69 y70 y71 y72 y73 y74 y75 y76 y77 y78 y79 y80 y81 y82 y83 y84 y85 y86 y87 y88 y89 y90 y91 y92 y93 y94 y95 y96 y97 y98 y99 y100 y101 y102 y103 y104 y105 y106 y107 y108 y109 y110 y111 y112 y113 y114 y115 y116 y117 y118 y119 y120 y121 y122 y123 y124 : Value)
    (hrow : Row .u8 256 z (.slice (some ⟨bb, bo, none⟩) 56 pc) pub) (h56 : pub.length = 56) (hs : Row .u8 256 z (.slice (some ⟨sb, so, none⟩) L sc) sig) (hL : sig.length = L) (hLn : L = 8 + Z + 32 * H) (hZ0 : Z ≤ 10000) (bt : Bx2T z BT (.int .i64 (H : Int)) (.int .i64 (W : Int))) (rk : Row .u8 256 z (.slice ka 32 kc) CN)
    (hM : M = 2 ^ H) (hMb : M ≤ 33554432) (hH : H ≤ 25) (hq : q < M) (hkw : Below w.heap.size w z) (hpc : pc ≤ 9223372036854775807)
    (hTOP : climb (ovL ((pub.drop 8).take 16)) (vChk (sig.drop (8 + Z)) H) (2 ^ H + q) (lfS ((pub.drop 8).take 16) (2 ^ H + q) CN) = TOP) :
    Code.wp Tryz.prog ((cRA (cRA (cRA (cRA (cRA (cRA (cRA (cRA (cRA (cRA (Tryz.f20.body.getD .skip)))))))))))) (bodyPost Tryz.prog Tryz.f20 fun e w' => e = .returned (.int .i64 R) ∧ Below w.heap.size w w') { tmps := #[.slice (some ⟨bb, bo, none⟩) 56 pc, y1, .slice (some ⟨sb, so, none⟩) L sc, y3, y4, y5, y6, y7, .pointer (some ⟨BT, 0, none⟩), y9, y10, .int .u64 (q : Int), .slice (some ⟨bb, bo + 8, none⟩) 16 (pc - 8), .int .i64 (Z : Int), .slice ka 32 kc, y15, y16, y17, y18, y19, y20, y21, y22, y23, y24, y25, y26, y27, y28, y29, y30, y31, y32, y33, y34, y35, y36, y37, y38, y39, y40, y41, y42, y43, y44, y45, y46, y47, y48, y49, y50, y51, y52, y53, y54, y55, y56, y57, y58, y59, y60, y61, y62, y63, y64, y65, y66, y67, y68, y69, y70, y71, y72, y73, y74, y75, y76, y77, y78, y79, y80, y81, y82, y83, y84, y85, y86, y87, y88, y89, y90, y91, y92, y93, y94, y95, y96, y97, y98, y99, y100, y101, y102, y103, y104, y105, y106, y107, y108, y109, y110, y111, y112, y113, y114, y115, y116, y117, y118, y119, y120, y121, y122, y123, y124], defers := [] } z := by
  simp only [Tryz.f20, Option.getD_some, cRA]
  have cH := bt.c0
  have e_M : (2 : Int) ^ H = (M : Int) := by rw [hM]; norm_cast
  have s_M : IntKind.u64.wrap (M : Int) = (M : Int) := by rw [IntKind.wrap_u64]; omega
  obtain ⟨n, hn⟩ : ∃ n, M + q = n := ⟨_, rfl⟩
  have e_n : (M : Int) + (q : Int) = (n : Int) := by omega
  have s_n : IntKind.u64.wrap (n : Int) = (n : Int) := by rw [IntKind.wrap_u64]; omega
  obtain ⟨E, hE⟩ : ∃ E, 8 + Z = E := ⟨_, rfl⟩
  have e_E : (8 : Int) + (Z : Int) = (E : Int) := by omega
  have s_E : IntKind.i64.wrap (E : Int) = (E : Int) := by rw [IntKind.wrap_i64]; omega
  have hls : L ≤ sc := by
    obtain ⟨_, _, he, h1, _⟩ := id hs
    simp at he
    omega
  obtain ⟨AP, hsl, hAP⟩ := slice_from (some ⟨sb, so, none⟩) L sc E (by omega) hls
  have rp := hs.behind (F := E) (by omega) hAP
  have rid : Row .u8 256 z (.slice (some ⟨bb, bo + 8, none⟩) 16 (pc - 8)) ((pub.drop 8).take 16) := hrow.mid (i := 8) (j := 24) (by decide) (by omega)
  rw [hE, ← hM, hn] at hTOP
  have hid : ((pub.drop 8).take 16).length = 16 := by rw [List.length_take, List.length_drop, h56]; decide
  have r24 := hrow
  generalize (pub.drop 8).take 16 = id at *
  have cn32 : CN.length = 32 := by
    obtain ⟨_, _, he, _⟩ := _root_.id rk
    simp only [Value.slice.injEq] at he
    exact he.2.1.symm
  have hlf := rleaf_any id CN n (.slice (some ⟨bb, bo + 8, none⟩) 16 (pc - 8)) (.slice ka 32 kc) z rid (tidy_atA _ _ _) rk (row_tidyA rk (by omega)) (by omega) (by omega)
  have hlf32 : (lfS id n CN).length = 32 := shaL_len _
  generalize lfS id n CN = LF at *
  have HF := hide (And.intro hrow (And.intro hs (And.intro rp (And.intro rid (And.intro hTOP (And.intro hlf32 (And.intro hn (And.intro hM (And.intro hE (And.intro hLn (And.intro h56 hid)))))))))))
  clear hrow hs rp rid hTOP hlf32 hn hM hE hLn bt rk h56 hid r24
  go_wp2_with (first
    | (go_at_call 51; refine hlf.mono ?_; rintro e w1 ⟨v1, rfl, r1, n1, g1⟩; obtain ⟨a1, c1, rfl, _⟩ := r1.opens HF.out.2.2.2.2.2.1)
    | fail)
  obtain ⟨hrow, hs, rp, rid, hTOP, hlf32, hn, hM, hE, hLn, h56, hid⟩ := HF.out
  have hpl : (sig.drop E).length = 32 * H := by rw [List.length_drop]; omega
  have h0 : VcI id TOP w (.int .u64 (n : Int)) (.slice a1 32 c1) (.slice AP (L - E) (sc - E)) w1 := by
    refine ⟨vChk (sig.drop E) H, n, LF, rfl, r1, hlf32, ?_, vChk_32 H _ hpl, ?_, by omega, hTOP, keep_trans hkw g1⟩
    · rw [vChk_flat H _ hpl]; exact rp.below g1
    · rw [vChk_len, ← hn, hM]; exact lev_leaf (by rw [← hM]; exact hq)
  have HG := hide (And.intro h0 (And.intro (rid.below g1) (And.intro (hrow.below g1) (And.intro h56 (And.intro hid g1)))))
  have h24 : (24 : Int) ≤ (pc : Int) := by
    obtain ⟨_, _, he, h1, _⟩ := _root_.id hrow
    simp only [Value.slice.injEq] at he
    omega
  clear h0 hrow hs rp rid hTOP hlf32 hn hM hE hLn h56 hid HF hsl hAP hlf r1 n1 g1 hpl cH e_M s_M e_n s_n e_E s_E
  have hpc56 : 56 ≤ pc := by
    obtain ⟨_, _, he, h1, _⟩ := _root_.id HG.out.2.2.1
    simp only [Value.slice.injEq] at he
    omega
  obtain ⟨A24, hsl24, hA24⟩ := slice_from (some ⟨bb, bo, none⟩) 56 pc 24 (by decide) hpc56
  go_loopw [16, 17, 18] (fun vn vs vp wr => Below w1.heap.size w1 wr ∧ VcI id TOP w vn vs vp wr) (fun vn _ _ _ => (intOf vn).toNat)
  case atStart => exact ⟨Below.refl _ _, HG.out.1⟩
  case round =>
    obtain ⟨hb1, ps, k, s, rfl, rs, hs32, rp, hp32, hlev, hk26, hcl, hbr⟩ := hrel
    obtain ⟨_, rid1, hrow1, h56, hid, _⟩ := HG.out
    have rid := rid1.below hb1
    have hrow := hrow1.below hb1
    obtain ⟨sa, sc', rfl, _⟩ := rs.opens hs32
    by_cases h1 : 1 < k
    · have h1' : (1 : Int) < (k : Int) := by omega
      match ps, hp32, hlev, hcl, rp with
      | [], _, hlev, _, _ => exact absurd hlev.2 (by simp; omega)
      | p :: ps, hp32, hlev, hcl, rp =>
        have hp0 : p.length = 32 := hp32 p (by simp)
        obtain ⟨Lp, hLp⟩ : ∃ x, (p :: ps).flatten.length = x := ⟨_, rfl⟩
        have hLp32 : 32 ≤ Lp := by rw [← hLp, List.flatten_cons, List.length_append]; omega
        have rp' := rp
        obtain ⟨qa, qc, rfl, hq1, hq2, hqo⟩ := rp'.opens hLp
        obtain ⟨qb, qo, rfl, _⟩ := hqo (by omega)
        clear hqo
        have rp32 : Row .u8 256 wr (.slice (some ⟨qb, qo, none⟩) 32 qc) p := by
          have := rp.cut (M := 32) (by omega)
          rwa [List.flatten_cons, List.take_append_of_le_length (by omega), List.take_of_length_le (by omega)] at this
        have rpn : Row .u8 256 wr (.slice (if qc = 32 then some ⟨qb, qo, none⟩ else some ⟨qb, qo + 32, none⟩) (Lp - 32) (qc - 32)) ps.flatten := by
          have := fun A hA => rp.behind (F := 32) (A := A) hLp32 hA
          rw [List.flatten_cons, List.drop_append_of_le_length (by omega), List.drop_of_length_le (by omega), List.nil_append] at this
          split
          · rename_i e; exact this _ (.inl ⟨rfl, e⟩)
          · exact this _ (.inr rfl)
        have h32q : (32 : Int) ≤ (qc : Int) := by omega
        obtain ⟨m, hm⟩ : ∃ m, k / 2 = m := ⟨_, rfl⟩
        have e_m : (k : Int) / 2 = (m : Int) := by omega
        have s_m : IntKind.u64.wrap (m : Int) = (m : Int) := by rw [IntKind.wrap_u64]; omega
        have lev' : Lev ps.length m := by rw [← hm]; exact Lev.up hlev
        have ts : Tidy (.slice sa 32 sc') := row_tidyA rs (by omega)
        have tp : Tidy (.slice (some ⟨qb, qo, none⟩) 32 qc) := row_tidyA rp32 (by omega)
        by_cases h2 : k % 2 = 0
        · have e_r : (k : Int) % 2 = 0 := by omega
          have hov := rover_any id s p m (.slice (some ⟨bb, bo + 8, none⟩) 16 (pc - 8)) (.slice sa 32 sc') (.slice (some ⟨qb, qo, none⟩) 32 qc) wr rid (tidy_atA _ _ _) rs ts rp32 tp (by omega) (by omega)
          have ho32 : (ovL id m s p).length = 32 := shaL_len _
          have hcl' : climb (ovL id) ps m (ovL id m s p) = TOP := by rw [← hcl, ← hm]; show _ = climb (ovL id) ps (k / 2) (if k % 2 = 0 then _ else _); rw [if_pos h2]
          have HR := hide (And.intro rpn (And.intro lev' (And.intro hcl' (And.intro ho32 (And.intro hbr (And.intro hb1 (And.intro hp32 (And.intro hm hk26))))))))
          generalize ovL id m s p = OV at *
          clear rs hs32 rp hp32 hlev hcl hbr rid hrow rid1 hrow1 rp' rp32 rpn lev' ts tp ho32 hcl' hb1 hLp hp0
          go_wp2_with (first
            | (go_at_call 52; refine hov.mono ?_; rintro e w2 ⟨v2, rfl, r2, n2, g2⟩; obtain ⟨a2, c2, rfl, _⟩ := r2.opens HR.out.2.2.2.1)
            | fail)
          obtain ⟨rpn, lev', hcl', ho32, hbr, hb1, hp32, hm, hk26⟩ := HR.out
          refine ⟨⟨keep_trans hb1 g2, ps, m, OV, rfl, r2, ho32, rpn.below g2, fun p' hp' => hp32 p' (List.mem_cons_of_mem _ hp'), lev', by omega, hcl', keep_trans hbr g2⟩, ?_⟩
          simp [intOf]
          omega
        · have e_r : (k : Int) % 2 = 1 := by omega
          have hov := rover_any id p s m (.slice (some ⟨bb, bo + 8, none⟩) 16 (pc - 8)) (.slice (some ⟨qb, qo, none⟩) 32 qc) (.slice sa 32 sc') wr rid (tidy_atA _ _ _) rp32 tp rs ts (by omega) (by omega)
          have ho32 : (ovL id m p s).length = 32 := shaL_len _
          have hcl' : climb (ovL id) ps m (ovL id m p s) = TOP := by rw [← hcl, ← hm]; show _ = climb (ovL id) ps (k / 2) (if k % 2 = 0 then _ else _); rw [if_neg h2]
          have HR := hide (And.intro rpn (And.intro lev' (And.intro hcl' (And.intro ho32 (And.intro hbr (And.intro hb1 (And.intro hp32 (And.intro hm hk26))))))))
          generalize ovL id m p s = OV at *
          clear rs hs32 rp hp32 hlev hcl hbr rid hrow rid1 hrow1 rp' rp32 rpn lev' ts tp ho32 hcl' hb1 hLp hp0
          go_wp2_with (first
            | (go_at_call 52; refine hov.mono ?_; rintro e w2 ⟨v2, rfl, r2, n2, g2⟩; obtain ⟨a2, c2, rfl, _⟩ := r2.opens HR.out.2.2.2.1)
            | fail)
          obtain ⟨rpn, lev', hcl', ho32, hbr, hb1, hp32, hm, hk26⟩ := HR.out
          refine ⟨⟨keep_trans hb1 g2, ps, m, OV, rfl, r2, ho32, rpn.below g2, fun p' hp' => hp32 p' (List.mem_cons_of_mem _ hp'), lev', by omega, hcl', keep_trans hbr g2⟩, ?_⟩
          simp [intOf]
          omega
    · have h1' : ¬ ((1 : Int) < (k : Int)) := by omega
      have hps : ps = [] := by
        cases ps with
        | nil => rfl
        | cons p ps =>
          have := hlev.1
          rw [List.length_cons, Nat.pow_succ] at this
          have := Nat.pow_pos (n := ps.length) (show 0 < 2 by decide)
          omega
      subst hps
      have hTs : s = TOP := hcl
      subst hTs
      have hne24 : ¬ pc = 24 := by omega
      have r24 : Row .u8 256 wr (.slice (some ⟨bb, bo + 24, none⟩) 32 (pc - 24)) (pub.drop 24) := hrow.behind (F := 24) (by decide) (.inr rfl)
      have hsm := rsame_b (.slice sa 32 sc') (.slice (some ⟨bb, bo + 24, none⟩) 32 (pc - 24)) s (pub.drop 24) wr rs r24
      have HR := hide hbr
      clear rs hs32 rp hp32 hlev hcl hbr rid hrow rid1 hrow1 hb1 r24
      by_cases hd : s = pub.drop 24
      · rw [decide_eq_true hd] at hsm
        have HD := hide hd
        clear hd
        go_wp2_with (first
          | (go_at_call 16; refine hsm.mono ?_; rintro e w2 ⟨rfl, g2⟩)
          | fail)
        go_ret
        exact ⟨by rw [hR.out, if_pos HD.out]; rfl, keep_trans HR.out g2⟩
      · rw [decide_eq_false hd] at hsm
        have HD := hide hd
        clear hd
        go_wp2_with (first
          | (go_at_call 16; refine hsm.mono ?_; rintro e w2 ⟨rfl, g2⟩)
          | fail)
        go_ret
        exact ⟨by rw [hR.out, if_neg HD.out]; rfl, keep_trans HR.out g2⟩
end Go.Proofs.YtefndnbaifiboaaGreatDoor
