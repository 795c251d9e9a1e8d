/- Trees of leaves that sign once, the program's own: the tree that a key is of. -/
import Derived.Test.YtogiballdmgcpaaGreatDoorLsG
import Derived.Test.YtogiballdmgcpaaGreatDoorLhV
import Derived.Test.YtogiballdmgcpaaGreatDoorLtV
namespace Go.Proofs.YtogiballdmgcpaaGreatDoor
open Go.RowKit Go.Shelf
set_option linter.unusedVariables false
set_option linter.unusedSimpArgs false

/-- a kind of tree laid anew -/
theorem p_allocTr {ops : Array Oper} {Q : Exit → Act → World → Prop} {K : Act → World → Prop} {i : Nat} {o : Oper} {a : Act} {x : World} {d : Option Nat} (hi : ops[i]? = some o) (hw : Region.wanted o (yielded ops a.tmps) = true) (ho : o.op = .alloc 45) (hd : o.dst = d)
    (h : K (a.put d (.pointer (some ⟨x.heap.size, 0, none⟩))) (x.alloc (.cells #[.int .i64 0, .int .i64 0] 45))) : wpOp Tryz.prog ops Q i K a x := by
  have hz := zeroTr
  have hr : (execOp a.eval o).run Tryz.prog x = .ok (.value (.pointer (some ⟨x.heap.size, 0, none⟩))) (x.alloc (.cells #[.int .i64 0, .int .i64 0] 45)) := by
    unfold execOp
    simp only [ho]
    simp [go_sem, hz]
  unfold wpOp
  simp only [hi]
  rw [if_pos hw]
  left
  unfold Oper.wp
  rw [hr]
  show K (a.put o.dst _) _
  rw [hd]
  exact h
theorem y_buildTr {ops : Array Oper} {S : World → Prop} {o : Oper} {a : Act} {x y : Operand} {u v : Int} (hw : Region.wanted o (yielded ops a.tmps) = true) (ho : o.op = .build 45 #[(0, x), (1, y)]) (hx : a.eval x = .int .i64 u) (hy : a.eval y = .int .i64 v) : YieldsIf Tryz.prog ops S o (.agg #[.int .i64 u, .int .i64 v]) a := by
  refine y_ofG hw fun w _ => ?_
  unfold execOp
  simp only [ho, List.map_toArray, List.map_cons, List.map_nil, hx, hy]
  simp [go_sem]
theorem y_buildTd {ops : Array Oper} {S : World → Prop} {o : Oper} {a : Act} {x y : Operand} {z0 z1 : Value} {ja : Option Addr} {jn jc : Nat} (hw : Region.wanted o (yielded ops a.tmps) = true) (ho : o.op = .build 96 #[(0, x), (1, y)]) (hx : a.eval x = .agg #[z0, z1]) (hy : a.eval y = .slice ja jn jc) : YieldsIf Tryz.prog ops S o (.agg #[z0, z1, .slice ja jn jc]) a := by
  refine y_ofG hw fun w _ => ?_
  unfold execOp
  simp only [ho, List.map_toArray, List.map_cons, List.map_nil, hx, hy]
  simp [go_sem]
theorem fit_hd (c d : Nat) : FitL (hgtL c : Nat) (dgtL d : Nat) ↔ hgtL c ≠ 0 ∧ dgtL d ≠ 0 := by
  constructor
  · rintro ⟨h1, h2⟩
    refine ⟨fun e => h1 (by rw [e]; rfl), fun e => h2 (by rw [e]; rfl)⟩
  · rintro ⟨h1, h2⟩
    constructor
    · rcases hgtL_or c with h | ⟨h, h3, _⟩
      · exact absurd h h1
      · rw [h]; exact h3
    · rcases dgtL_or d with h | ⟨n, m, s, h⟩
      · exact absurd h h2
      · have e0 : ∀ {k n m s c : Nat}, Kd k n m s c → szW (k : Int) ≠ 0 := fun hk => by cases hk <;> decide
        exact e0 h
def tr3lt : List Lt := [(0, some 9, [0]), (1, some 10, [9]), (2, some 11, [10]), (0, some 12, [0]), (8, some 13, [12]), (20, some 14, [13]), (36, some 15, [11, 14]), (0, some 4, []), (255, none, [4, 15])]
theorem tr3reg : Reg (opsA (cLA (cRA (cRA (Tryz.f59.body.getD .skip))))) tr3lt := ⟨by kernel_rfl, by kernel_rfl⟩
def tr6lt : List Lt := [(0, some 20, [4]), (0, some 21, [0]), (2, some 22, [21]), (5, some 23, [20, 22]), (15, none, [2, 23]), (31, some 3, [])]
theorem tr6reg : Reg (opsA (cLA (cRA (cRA (cRA (cRA (Tryz.f59.body.getD .skip))))))) tr6lt := ⟨by kernel_rfl, by kernel_rfl⟩
def TrOf (H D : Nat) (pb po pc : Nat) : Value := if FitL (H : Int) (D : Int) then .tuple #[.agg #[.int .i64 (H : Int), .int .i64 (D : Int), .slice (some ⟨pb, po + 8, none⟩) 16 (pc - 8)], .int .i64 0] else .tuple #[.agg #[.int .i64 0, .int .i64 0, .slice none 0 0], .int .i64 10]
set_option maxHeartbeats 4000000 in
set_option maxRecDepth 100000 in
theorem ctree_tail (H D T G pb po pc : Nat) (y1 y5 y6 y7 y8 y9 y10 y11 y12 y13 y14 y15 y16 y17 y18 y19 y20 y21 y22 y23 : Value) (w z : World) (hT : w.heap.size = T) (hTG : T < G) (hpc : 56 ≤ pc) (bt : BxD z T (.int .i64 0) (.int .i64 0) (.slice none 0 0)) (bg : Bx2T z G (.int .i64 (H : Int)) (.int .i64 (D : Int))) (kz : Below w.heap.size w z) :
    Code.wp Tryz.prog (cRA (cRA (cRA (Tryz.f59.body.getD .skip)))) (bodyPost Tryz.prog Tryz.f59 fun e w' => e = .returned (TrOf H D pb po pc) ∧ Below w.heap.size w w') { tmps := #[.slice (some ⟨pb, po, none⟩) 56 pc, y1, .pointer (some ⟨T, 0, none⟩), .int .i64 0, .pointer (some ⟨G, 0, none⟩), y5, y6, y7, y8, y9, y10, y11, y12, y13, y14, y15, y16, y17, y18, y19, y20, y21, y22, y23], defers := [] } z := by
  simp only [Tryz.f59, Option.getD_some, cRA]
  have hf := fun y => cfitT_any (H : Int) (D : Int) y
  have HT := hide (And.intro hT hTG)
  unfold TrOf
  by_cases hfit : FitL (H : Int) (D : Int)
  · rw [if_pos hfit]
    rw [decide_eq_true hfit] at hf
    clear hT hTG hfit
    go_wp2_with (first
      | (refine wpList_load_row rfl 45 _ (by rfl) G (by rfl) _ _ _ _ bg.here Tryz.underlying45 rfl (by kernel_rfl) ?_)
      | (go_at_call 41; refine (hf _).mono ?_; rintro e w1 ⟨rfl, g1⟩)
      | fail)
    have bt1 := bt.below g1
    have bg1 := bg.below g1
    have k1 := keep_trans kz g1
    obtain ⟨hT, hTG⟩ := HT.out
    have hne : G ≠ T := by omega
    have hm8 := fun w => mid_run (b := pb) (o := po) (n := 56) (c := pc) (F := 8) (G := 24) (L := 16) (by omega) (by omega) (by decide) w
    have hbd : But T w1 w1.drew := (But.refl _ _).drew
    have kb : Below w1.heap.size w1 w1.drew := (Below.refl _ _).drew
    clear hT hTG
    refine at_begin (ops := opsA (cLA (cRA (cRA (cRA (cRA (Tryz.f59.body.getD .skip))))))) (n := 6) (fun y => But T w1 y) (by kernel_rfl) (by kernel_rfl) ?_
    refine at_takeD (i := 0) (m' := 1) (d := some 20) (v := .agg #[.int .i64 (H : Int), .int .i64 (D : Int)]) tr6reg rfl (by decide) rfl rfl (y_rowG (cs := [.int .i64 (H : Int), .int .i64 (D : Int)]) (wanted_free rfl) rfl rfl Tryz.underlying45 rfl (by kernel_rfl) (fun _ h => (bg1.but h hne).range)) hbd ?_
    simp only [Act.put, List.setIfInBounds_toArray, List.set_cons_zero, List.set_cons_succ]
    refine at_takeD (i := 1) (m' := 3) (d := some 21) (v := .slice (some ⟨pb, po, none⟩) 56 pc) tr6reg rfl (by decide) rfl rfl (y_moveG (wanted_free rfl) rfl rfl) hbd ?_
    simp only [Act.put, List.setIfInBounds_toArray, List.set_cons_zero, List.set_cons_succ]
    refine at_takeD (i := 2) (m' := 7) (d := some 22) (v := .slice (some ⟨pb, po + 8, none⟩) 16 (pc - 8)) tr6reg rfl (by decide) rfl rfl (y_midC (wanted_free rfl) rfl rfl rfl rfl hm8) hbd ?_
    simp only [Act.put, List.setIfInBounds_toArray, List.set_cons_zero, List.set_cons_succ]
    refine at_takeD (i := 3) (m' := 15) (d := some 23) (v := .agg #[.int .i64 (H : Int), .int .i64 (D : Int), .slice (some ⟨pb, po + 8, none⟩) 16 (pc - 8)]) tr6reg rfl (by decide) rfl rfl (y_buildTd (wanted_free rfl) rfl rfl rfl) hbd ?_
    simp only [Act.put, List.setIfInBounds_toArray, List.set_cons_zero, List.set_cons_succ]
    refine at_one (i := 4) (m' := 31) tr6reg (by decide) rfl ?_
    refine p_rowA (cells := #[.int .i64 (H : Int), .int .i64 (D : Int), .slice (some ⟨pb, po + 8, none⟩) 16 (pc - 8)]) rfl rfl rfl rfl rfl rfl ((bt1.below kb).here) (by kernel_rfl) rfl (by simp [Value.oneCell']) ?_
    have hb5 := (hbd).setRow #[.int .i64 (H : Int), .int .i64 (D : Int), .slice (some ⟨pb, po + 8, none⟩) 16 (pc - 8)]
    refine ⟨hb5, ?_⟩
    refine at_takeD (i := 5) (m' := 63) (d := some 3) (v := .int .i64 0) tr6reg rfl (by decide) rfl rfl (y_assignG (wanted_free rfl) rfl rfl) hb5 ?_
    simp only [Act.put, List.setIfInBounds_toArray, List.set_cons_zero, List.set_cons_succ]
    refine at_done tr6reg (by decide) ?_
    go_wp2
    refine bodyPost_ret ((bt1.below kb).row.ret rfl _ rfl rfl) rfl ⟨rfl, below_setRow (keep_trans k1 kb) (by rw [HT.out.1]; exact Nat.le_refl _)⟩
  · rw [if_neg hfit]
    rw [decide_eq_false hfit] at hf
    clear hT hTG hfit
    go_wp2_with (first
      | (refine wpList_load_row rfl 45 _ (by rfl) G (by rfl) _ _ _ _ bg.here Tryz.underlying45 rfl (by kernel_rfl) ?_)
      | (go_at_call 41; refine (hf _).mono ?_; rintro e w1 ⟨rfl, g1⟩; have bt1 := bt.below g1)
      | (refine wpList_store_row rfl 96 _ _ (by rfl) T #[.int .i64 0, .int .i64 0, .slice none 0 0] (by rfl) (by rfl) _ _ bt1.here (by kernel_rfl) rfl (by simp [Value.oneCell']) ?_)
      | fail)
    refine bodyPost_ret (bt1.row.ret rfl _ rfl rfl) rfl ⟨rfl, below_setRow (keep_trans kz g1) (by rw [HT.out.1]; exact Nat.le_refl _)⟩
set_option maxHeartbeats 4000000 in
set_option maxRecDepth 100000 in
theorem ctree_56 (pub : List Nat) (pb po pc : Nat) (w : World) (hp : Row .u8 256 w (.slice (some ⟨pb, po, none⟩) 56 pc) pub) (h56 : pub.length = 56) (hpc : 56 ≤ pc) :
    Calls Tryz.prog 59 #[.slice (some ⟨pb, po, none⟩) 56 pc] w fun e w' => e = .returned (TrOf (hgtL (numL (pub.take 4))) (dgtL (numL ((pub.drop 4).take 4))) pb po pc) ∧ Below w.heap.size w w' := by
  have z0 := BxD.new w (.int .i64 0) (.int .i64 0) (.slice none 0 0)
  have hbw := keep_alloc w (.cells #[.int .i64 0, .int .i64 0, .slice none 0 0] 96)
  have r4 : Row .u8 256 w (.slice (some ⟨pb, po, none⟩) 4 pc) (pub.take 4) := hp.cut (by omega)
  have r8 : Row .u8 256 w (.slice (some ⟨pb, po + 4, none⟩) 4 (pc - 4)) ((pub.drop 4).take 4) := hp.mid (i := 4) (j := 8) (by decide) (by omega)
  have hH := fun y (k : Below w.heap.size w y) => (cheightOf _ _ y (r4.below k)).mono fun e w' (q : _ ∧ _) => (⟨q.1, by rw [q.2]; exact Below.refl _ _⟩ : _ ∧ Below y.heap.size y w')
  have hD := fun y (k : Below w.heap.size w y) => (cwidthOf _ _ y (r8.below k)).mono fun e w' (q : _ ∧ _) => (⟨q.1, by rw [q.2]; exact Below.refl _ _⟩ : _ ∧ Below y.heap.size y w')
  generalize hgtL (numL (pub.take 4)) = H at *
  generalize dgtL (numL ((pub.drop 4).take 4)) = D at *
  have h4c : 4 ≤ pc := by omega
  have hm4 := fun w => mid_run (b := pb) (o := po) (n := 56) (c := pc) (F := 4) (G := 8) (L := 4) (by omega) (by omega) (by decide) w
  clear r4 r8 hp h56
  go_enter Tryz.func59, Tryz.ntmps59
  go_wp2
  rename_i K hK
  generalize hW0 : w.alloc (.cells #[.int .i64 0, .int .i64 0, .slice none 0 0] 96) = W0 at *
  have hzl := z0.lt
  have hbd : Below W0.heap.size W0 W0.drew := (Below.refl _ _).drew
  refine at_begin (ops := opsA (cLA (cRA (cRA (Tryz.f59.body.getD .skip))))) (n := 9) (fun y => Below W0.heap.size W0 y) (by kernel_rfl) (by kernel_rfl) ?_
  refine at_takeD (i := 0) (m' := 1) (d := some 9) (v := .slice (some ⟨pb, po, none⟩) 56 pc) tr3reg rfl (by decide) rfl rfl (y_moveG (wanted_free rfl) rfl rfl) hbd ?_
  simp only [Act.put, List.setIfInBounds_toArray, List.set_cons_zero, List.set_cons_succ]
  refine at_takeD (i := 1) (m' := 3) (d := some 10) (v := .slice (some ⟨pb, po, none⟩) 4 pc) tr3reg rfl (by decide) rfl rfl (y_toC (wanted_free rfl) rfl rfl rfl h4c) hbd ?_
  simp only [Act.put, List.setIfInBounds_toArray, List.set_cons_zero, List.set_cons_succ]
  refine at_takeD (i := 3) (m' := 11) (d := some 12) (v := .slice (some ⟨pb, po, none⟩) 56 pc) tr3reg rfl (by decide) rfl rfl (y_moveG (wanted_free rfl) rfl rfl) hbd ?_
  simp only [Act.put, List.setIfInBounds_toArray, List.set_cons_zero, List.set_cons_succ]
  refine at_takeD (i := 4) (m' := 27) (d := some 13) (v := .slice (some ⟨pb, po + 4, none⟩) 4 (pc - 4)) tr3reg rfl (by decide) rfl rfl (y_midC (wanted_free rfl) rfl rfl rfl rfl hm4) hbd ?_
  simp only [Act.put, List.setIfInBounds_toArray, List.set_cons_zero, List.set_cons_succ]
  refine at_two (i := 2) (j := 7) (m1 := 31) (m2 := 155) tr3reg (by decide) rfl rfl ?_ ?_
  · refine p_callG (args := #[.slice (some ⟨pb, po, none⟩) 4 pc]) (d := some 11) rfl (wanted_free rfl) rfl (by simp only [List.map_toArray, List.map_cons, List.map_nil]; rfl) rfl Tryz.call89 ((hH W0.drew (keep_trans hbw hbd)).mono ?_)
    rintro e y5 ⟨rfl, g5⟩
    try replace bG := bG.below g5
    have hb5 := keep_trans hbd g5
    refine ⟨_, rfl, hb5, ?_⟩
    simp only [Act.put, List.setIfInBounds_toArray, List.set_cons_zero, List.set_cons_succ]
    refine at_two (i := 5) (j := 7) (m1 := 63) (m2 := 159) tr3reg (by decide) rfl rfl ?_ ?_
    · refine p_callG (args := #[.slice (some ⟨pb, po + 4, none⟩) 4 (pc - 4)]) (d := some 14) rfl (wanted_free rfl) rfl (by simp only [List.map_toArray, List.map_cons, List.map_nil]; rfl) rfl Tryz.call88 ((hD y5 (keep_trans hbw hb5)).mono ?_)
      rintro e y6 ⟨rfl, g6⟩
      try replace bG := bG.below g6
      have hb6 := keep_trans hb5 g6
      refine ⟨_, rfl, hb6, ?_⟩
      simp only [Act.put, List.setIfInBounds_toArray, List.set_cons_zero, List.set_cons_succ]
      refine at_takeD (i := 6) (m' := 127) (d := some 15) (v := .agg #[.int .i64 (H : Int), .int .i64 (D : Int)]) tr3reg rfl (by decide) rfl rfl (y_buildTr (wanted_free rfl) rfl rfl rfl) hb6 ?_
      simp only [Act.put, List.setIfInBounds_toArray, List.set_cons_zero, List.set_cons_succ]
      refine at_one (i := 7) (m' := 255) tr3reg (by decide) rfl ?_
      refine p_allocTr rfl (wanted_free rfl) rfl rfl ?_
      have bG := Bx2T.new (y6) (.int .i64 0) (.int .i64 0)
      have hGl : W0.heap.size ≤ (y6).heap.size := (hb6).size
      obtain ⟨G, hG⟩ : ∃ q : Nat, (y6).heap.size = q := ⟨_, rfl⟩
      obtain ⟨z8, hz8⟩ : ∃ z : World, z = (y6).alloc (.cells #[.int .i64 0, .int .i64 0] 45) := ⟨_, rfl⟩
      have g8 : Below (y6).heap.size y6 z8 := by rw [hz8]; exact keep_alloc _ _
      have hb8 := keep_trans hb6 g8
      rw [← hz8] at bG ⊢
      rw [hG] at bG hGl ⊢
      clear hz8 hG
      refine ⟨hb8, ?_⟩
      simp only [Act.put, List.setIfInBounds_toArray, List.set_cons_zero, List.set_cons_succ]
      refine at_one (i := 8) (m' := 511) tr3reg (by decide) rfl ?_
      refine p_rowA (cells := #[.int .i64 (H : Int), .int .i64 (D : Int)]) rfl rfl rfl rfl rfl rfl bG.here (by kernel_rfl) rfl (by simp [Value.oneCell']) ?_
      have kf := hb8
      have hb9 := below_setRow (vs := #[.int .i64 (H : Int), .int .i64 (D : Int)]) hb8 hGl
      have hbt := (But.refl G z8).setRow #[.int .i64 (H : Int), .int .i64 (D : Int)]
      refine ⟨hb9, ?_⟩
      refine at_done tr3reg (by decide) ?_
      refine hK _ _ ?_
      exact ctree_tail H D w.heap.size G pb po pc _ _ _ _ _ _ _ _ _ _ _ _ _ _ _ _ _ _ _ _ w _ rfl (by omega) hpc ((z0.below kf).but hbt (by omega)) bG.row (keep_trans hbw hb9)
    · refine p_allocTr rfl (wanted_free rfl) rfl rfl ?_
      have bG := Bx2T.new (y5) (.int .i64 0) (.int .i64 0)
      have hGl : W0.heap.size ≤ (y5).heap.size := (hb5).size
      obtain ⟨G, hG⟩ : ∃ q : Nat, (y5).heap.size = q := ⟨_, rfl⟩
      obtain ⟨z6, hz6⟩ : ∃ z : World, z = (y5).alloc (.cells #[.int .i64 0, .int .i64 0] 45) := ⟨_, rfl⟩
      have g6 : Below (y5).heap.size y5 z6 := by rw [hz6]; exact keep_alloc _ _
      have hb6 := keep_trans hb5 g6
      rw [← hz6] at bG ⊢
      rw [hG] at bG hGl ⊢
      clear hz6 hG
      refine ⟨hb6, ?_⟩
      simp only [Act.put, List.setIfInBounds_toArray, List.set_cons_zero, List.set_cons_succ]
      refine at_one (i := 5) (m' := 191) tr3reg (by decide) rfl ?_
      refine p_callG (args := #[.slice (some ⟨pb, po + 4, none⟩) 4 (pc - 4)]) (d := some 14) rfl (wanted_free rfl) rfl (by simp only [List.map_toArray, List.map_cons, List.map_nil]; rfl) rfl Tryz.call88 ((hD z6 (keep_trans hbw hb6)).mono ?_)
      rintro e y7 ⟨rfl, g7⟩
      try replace bG := bG.below g7
      have hb7 := keep_trans hb6 g7
      refine ⟨_, rfl, hb7, ?_⟩
      simp only [Act.put, List.setIfInBounds_toArray, List.set_cons_zero, List.set_cons_succ]
      refine at_takeD (i := 6) (m' := 255) (d := some 15) (v := .agg #[.int .i64 (H : Int), .int .i64 (D : Int)]) tr3reg rfl (by decide) rfl rfl (y_buildTr (wanted_free rfl) rfl rfl rfl) hb7 ?_
      simp only [Act.put, List.setIfInBounds_toArray, List.set_cons_zero, List.set_cons_succ]
      refine at_one (i := 8) (m' := 511) tr3reg (by decide) rfl ?_
      refine p_rowA (cells := #[.int .i64 (H : Int), .int .i64 (D : Int)]) rfl rfl rfl rfl rfl rfl bG.here (by kernel_rfl) rfl (by simp [Value.oneCell']) ?_
      have kf := hb7
      have hb9 := below_setRow (vs := #[.int .i64 (H : Int), .int .i64 (D : Int)]) hb7 hGl
      have hbt := (But.refl G y7).setRow #[.int .i64 (H : Int), .int .i64 (D : Int)]
      refine ⟨hb9, ?_⟩
      refine at_done tr3reg (by decide) ?_
      refine hK _ _ ?_
      exact ctree_tail H D w.heap.size G pb po pc _ _ _ _ _ _ _ _ _ _ _ _ _ _ _ _ _ _ _ _ w _ rfl (by omega) hpc ((z0.below kf).but hbt (by omega)) bG.row (keep_trans hbw hb9)
  · refine p_allocTr rfl (wanted_free rfl) rfl rfl ?_
    have bG := Bx2T.new (W0.drew) (.int .i64 0) (.int .i64 0)
    have hGl : W0.heap.size ≤ (W0.drew).heap.size := (hbd).size
    obtain ⟨G, hG⟩ : ∃ q : Nat, (W0.drew).heap.size = q := ⟨_, rfl⟩
    obtain ⟨z5, hz5⟩ : ∃ z : World, z = (W0.drew).alloc (.cells #[.int .i64 0, .int .i64 0] 45) := ⟨_, rfl⟩
    have g5 : Below (W0.drew).heap.size W0.drew z5 := by rw [hz5]; exact keep_alloc _ _
    have hb5 := keep_trans hbd g5
    rw [← hz5] at bG ⊢
    rw [hG] at bG hGl ⊢
    clear hz5 hG
    refine ⟨hb5, ?_⟩
    simp only [Act.put, List.setIfInBounds_toArray, List.set_cons_zero, List.set_cons_succ]
    refine at_one (i := 2) (m' := 159) tr3reg (by decide) rfl ?_
    refine p_callG (args := #[.slice (some ⟨pb, po, none⟩) 4 pc]) (d := some 11) rfl (wanted_free rfl) rfl (by simp only [List.map_toArray, List.map_cons, List.map_nil]; rfl) rfl Tryz.call89 ((hH z5 (keep_trans hbw hb5)).mono ?_)
    rintro e y6 ⟨rfl, g6⟩
    try replace bG := bG.below g6
    have hb6 := keep_trans hb5 g6
    refine ⟨_, rfl, hb6, ?_⟩
    simp only [Act.put, List.setIfInBounds_toArray, List.set_cons_zero, List.set_cons_succ]
    refine at_one (i := 5) (m' := 191) tr3reg (by decide) rfl ?_
    refine p_callG (args := #[.slice (some ⟨pb, po + 4, none⟩) 4 (pc - 4)]) (d := some 14) rfl (wanted_free rfl) rfl (by simp only [List.map_toArray, List.map_cons, List.map_nil]; rfl) rfl Tryz.call88 ((hD y6 (keep_trans hbw hb6)).mono ?_)
    rintro e y7 ⟨rfl, g7⟩
    try replace bG := bG.below g7
    have hb7 := keep_trans hb6 g7
    refine ⟨_, rfl, hb7, ?_⟩
    simp only [Act.put, List.setIfInBounds_toArray, List.set_cons_zero, List.set_cons_succ]
    refine at_takeD (i := 6) (m' := 255) (d := some 15) (v := .agg #[.int .i64 (H : Int), .int .i64 (D : Int)]) tr3reg rfl (by decide) rfl rfl (y_buildTr (wanted_free rfl) rfl rfl rfl) hb7 ?_
    simp only [Act.put, List.setIfInBounds_toArray, List.set_cons_zero, List.set_cons_succ]
    refine at_one (i := 8) (m' := 511) tr3reg (by decide) rfl ?_
    refine p_rowA (cells := #[.int .i64 (H : Int), .int .i64 (D : Int)]) rfl rfl rfl rfl rfl rfl bG.here (by kernel_rfl) rfl (by simp [Value.oneCell']) ?_
    have kf := hb7
    have hb9 := below_setRow (vs := #[.int .i64 (H : Int), .int .i64 (D : Int)]) hb7 hGl
    have hbt := (But.refl G y7).setRow #[.int .i64 (H : Int), .int .i64 (D : Int)]
    refine ⟨hb9, ?_⟩
    refine at_done tr3reg (by decide) ?_
    refine hK _ _ ?_
    exact ctree_tail H D w.heap.size G pb po pc _ _ _ _ _ _ _ _ _ _ _ _ _ _ _ _ _ _ _ _ w _ rfl (by omega) hpc ((z0.below kf).but hbt (by omega)) bG.row (keep_trans hbw hb9)
theorem ctree_any (pub : List Nat) (pv : Value) (w : World) (hp : Row .u8 256 w pv pub) :
    Calls Tryz.prog 59 #[pv] w fun e w' => ((∃ pb po pc, vKey pub ∧ pv = .slice (some ⟨pb, po, none⟩) 56 pc ∧ 56 ≤ pc ∧ e = .returned (.tuple #[.agg #[.int .i64 (hgtL (numL (pub.take 4)) : Nat), .int .i64 (dgtL (numL ((pub.drop 4).take 4)) : Nat), .slice (some ⟨pb, po + 8, none⟩) 16 (pc - 8)], .int .i64 0])) ∨ ¬ vKey pub ∧ e = .returned (.tuple #[.agg #[.int .i64 0, .int .i64 0, .slice none 0 0], .int .i64 10])) ∧ Below w.heap.size w w' := by
  have hp0 := hp
  obtain ⟨pa, pc, rfl, lc1, lc2, ho⟩ := hp.opens rfl
  by_cases h56 : pub.length = 56
  · obtain ⟨pb, po, rfl, _⟩ := ho (by omega)
    rw [h56] at hp0 lc1 ⊢
    refine (ctree_56 pub pb po pc w hp0 h56 lc1).mono ?_
    rintro e w' ⟨he, hb⟩
    refine ⟨?_, hb⟩
    unfold TrOf at he
    by_cases hf : hgtL (numL (pub.take 4)) ≠ 0 ∧ dgtL (numL ((pub.drop 4).take 4)) ≠ 0
    · rw [if_pos ((fit_hd _ _).2 hf)] at he
      exact .inl ⟨pb, po, pc, ⟨h56, hf.1, hf.2⟩, rfl, lc1, he⟩
    · rw [if_neg (fun q => hf ((fit_hd _ _).1 q))] at he
      exact .inr ⟨fun q => hf ⟨q.2.1, q.2.2⟩, he⟩
  · refine (ctree_short pa _ pc w h56).mono ?_
    rintro e w' ⟨he, hb⟩
    exact ⟨.inr ⟨fun q => h56 q.1, he⟩, hb⟩
end Go.Proofs.YtogiballdmgcpaaGreatDoor
