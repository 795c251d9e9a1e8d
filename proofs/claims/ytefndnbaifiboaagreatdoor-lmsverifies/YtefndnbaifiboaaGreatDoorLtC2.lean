/- Trees of leaves that sign once: the document's Cut where it answers. -/
import Derived.Test.YtefndnbaifiboaaGreatDoorLsF
import Derived.Test.YtefndnbaifiboaaGreatDoorPlan3
import Derived.Test.YtefndnbaifiboaaGreatDoorHSl
import Derived.Test.YtefndnbaifiboaaGreatDoorPgF
import Derived.Test.YtefndnbaifiboaaGreatDoorLtN
namespace Go.Proofs.YtefndnbaifiboaaGreatDoor
open Go.RowKit
set_option linter.unusedVariables false
set_option linter.unusedSimpArgs false

section
variable {ops : Array Oper} {S : World → Prop}
theorem built_tree (u v : Int) : Tryz.prog.built 23 [(0, .int .i64 u), (1, .int .i64 v)] = some #[.int .i64 u, .int .i64 v] := by kernel_rfl
theorem y_tree {o : Oper} {a : Act} {x y : Operand} {u v : Int} (hg : o.guard = none) (ho : o.op = .build 23 #[(0, x), (1, y)]) (hx : a.eval x = .int .i64 u) (hy : a.eval y = .int .i64 v) : YieldsIf Tryz.prog ops S o (.agg #[.int .i64 u, .int .i64 v]) a := by
  refine y_of hg fun w _ => ?_
  have hb := run_build (P := Tryz.prog) w 23 #[(0, .int .i64 u), (1, .int .i64 v)] _ (built_tree u v)
  unfold execOp
  simp only [ho, List.map_toArray, List.map_cons, List.map_nil, hx, hy]
  simp [Sem.run_bind, hb]
theorem y_fromT {o : Oper} {a : Act} {x y : Operand} {v u : Value} {F : Nat} (hg : o.guard = none) (ho : o.op = .slice 24 x (some y) none none) (hx : a.eval x = v) (hy : a.eval y = .int .i64 (F : Int)) (hr : ∀ w : World, (Instr.slice 24 v (some (.int .i64 (F : Int))) none none).run Tryz.prog w = .ok u w) (hv : ∃ aa n c, v = .slice aa n c) : YieldsIf Tryz.prog ops S o u a := by
  obtain ⟨aa, n, c, rfl⟩ := hv
  refine y_of hg fun w _ => ?_
  have h := hr w
  unfold execOp
  simp only [ho, hx, Option.map_none, Option.map_some, hy]
  simp [Instr.sliceAt, Sem.run_bind, h, run_underlying Tryz.underlying24, go_sem]
theorem y_toT {o : Oper} {a : Act} {x y : Operand} {aa : Option Addr} {n c F : Nat} (hg : o.guard = none) (ho : o.op = .slice 24 x none (some y) none) (hx : a.eval x = .slice aa n c) (hy : a.eval y = .int .i64 (F : Int)) (hF : F ≤ c) : YieldsIf Tryz.prog ops S o (.slice aa F c) a := by
  refine y_of hg fun w _ => ?_
  have h := slice_to aa n c F hF w
  unfold execOp
  simp only [ho, hx, Option.map_none, Option.map_some, hy]
  simp [Instr.sliceAt, Sem.run_bind, h, run_underlying Tryz.underlying24, go_sem]
end
theorem one2T (a b : Int) : (#[.int .i64 a, .int .i64 b] : Array Value).all (·.oneCell') = true := by simp [Value.oneCell']
def ctlt : List Lt := [(0, some 50, [0]), (0, some 51, [9]), (3, some 52, [50, 51]), (0, some 53, [8]), (0, some 54, [6]), (24, some 55, [53, 54]), (0, some 56, [0]), (0, some 57, [9]), (192, some 58, [56, 57]), (7, some 2, [52]), (575, none, [3, 55]), (2047, some 4, [58]), (4095, some 5, [])]
theorem ctreg : Reg (opsA (cLA (cRA (cRA (cRA (cRA (cRA (cRA (cRA (cRA (cRA (cRA (Tryz.f18.body.getD .skip))))))))))))) ctlt := ⟨by kernel_rfl, by kernel_rfl⟩
theorem ctE_zero {b : List Nat} (h : ctE b = 0) : 8 ≤ b.length ∧ ctW b ≠ 0 ∧ ctA b + 4 ≤ b.length ∧ ctH b ≠ 0 ∧ ctN b ≤ b.length := by
  unfold ctE at h
  by_cases h1 : b.length < 8
  · rw [if_pos h1] at h; exact absurd h (by decide)
  rw [if_neg h1] at h
  by_cases h2 : ctW b = 0
  · rw [if_pos h2] at h; exact absurd h (by decide)
  rw [if_neg h2] at h
  by_cases h3 : b.length < ctA b + 4
  · rw [if_pos h3] at h; exact absurd h (by decide)
  rw [if_neg h3] at h
  by_cases h4 : ctH b = 0
  · rw [if_pos h4] at h; exact absurd h (by decide)
  rw [if_neg h4] at h
  by_cases h5 : b.length < ctN b
  · rw [if_pos h5] at h; exact absurd h (by decide)
  exact ⟨by omega, h2, by omega, h4, by omega⟩
set_option maxHeartbeats 4000000 in
set_option maxRecDepth 100000 in
theorem rcut_ok (b : List Nat) (bv : Value) (w : World) (hb : Row .u8 256 w bv b) (h : ctE b = 0) :
    Calls Tryz.prog 18 #[bv] w fun e w' => ∃ v1 v2, e = .returned (.tuple #[v1, .agg #[.int .i64 (ctH b : Nat), .int .i64 (ctW b : Nat)], v2, .int .i64 0]) ∧ Row .u8 256 w' v1 (b.take (ctN b)) ∧ Row .u8 256 w' v2 (b.drop (ctN b)) ∧ Below w.heap.size w w' := by
  obtain ⟨h8, hw0, hL1, hH0, hL2⟩ := ctE_zero h
  clear h
  have hrow := hb
  obtain ⟨ba, bc, rfl, lc1, lc2, ho⟩ := hb.opens rfl
  have z0 := Bx2T.new w (.int .i64 0) (.int .i64 0)
  have hbw := keep_alloc w (.cells #[.int .i64 0, .int .i64 0] 23)
  have c0 := z0.c0
  have c1 := z0.c1
  obtain ⟨bb, bo, rfl, _⟩ := ho (by omega)
  clear ho
  have r4 : Row .u8 256 w (.slice (some ⟨bb, bo + 4, none⟩) 4 (bc - 4)) ((b.drop 4).take 4) := hrow.mid (i := 4) (j := 8) (by decide) (by omega)
  have hn4 := rnum_any _ _ _ (r4.below hbw)
  have hdg := fun y => rdigit_any (numL ((b.drop 4).take 4)) y (numL_lt _)
  rw [show dgtL (numL ((b.drop 4).take 4)) = ctW b from rfl] at hdg
  have hsz := fun y => rsizeW (ctW b : Nat) y
  have hi8 : ¬ (b.length : Int) < 8 := by omega
  have h8c : (8 : Int) ≤ (bc : Int) := by omega
  obtain ⟨X, hX⟩ : ∃ X, X = numL ((b.drop 4).take 4) := ⟨_, rfl⟩
  rw [← hX] at hn4 hdg
  have hWi : ((ctW b : Nat) : Int) ≠ 0 := by omega
  have hWb : (((ctW b : Nat) : Int) == 0) = false := by simp; exact hw0
  have hAl := ctA_le b
  have hAd : ctA b = 4 + szW (ctW b : Nat) := rfl
  obtain ⟨Z, hZ⟩ : ∃ Z, Z = szW (ctW b : Nat) := ⟨_, rfl⟩
  rw [← hZ] at hsz hAd
  have rA : Row .u8 256 w (.slice (some ⟨bb, bo + ctA b, none⟩) 4 (bc - ctA b)) ((b.drop (ctA b)).take 4) := by
    have := hrow.mid (i := ctA b) (j := ctA b + 4) (by omega) (by omega)
    rwa [Nat.add_sub_cancel_left] at this
  have hnA := rnum_any _ _ _ (rA.below hbw)
  have hht := fun y => rheight_any (numL ((b.drop (ctA b)).take 4)) y (numL_lt _)
  rw [show hgtL (numL ((b.drop (ctA b)).take 4)) = ctH b from rfl] at hht
  obtain ⟨Y, hY⟩ : ∃ Y, Y = numL ((b.drop (ctA b)).take 4) := ⟨_, rfl⟩
  rw [← hY] at hnA hht
  have hHl := ctH_le b
  have hNd : ctN b = ctA b + 4 + 32 * ctH b := rfl
  have rT := hrow.cut (M := ctN b) hL2
  obtain ⟨A2, hA2, hAd2⟩ := slice_from (some ⟨bb, bo, none⟩) b.length bc (ctN b) hL2 lc1
  have rD := hrow.behind hL2 hAd2
  generalize hbt : b.take (ctN b) = bt at *
  generalize hbd : b.drop (ctN b) = bd at *
  clear hw0 hZ hrow hb r4 rA hX hY hbt hbd hAd2
  generalize ctW b = W at *
  generalize ctA b = A at *
  generalize ctH b = H at *
  generalize ctN b = N at *
  generalize b.length = L at *
  have e_A : (4 : Int) + (Z : Int) = (A : Int) := by omega
  have s_A : IntKind.i64.wrap (A : Int) = (A : Int) := by rw [IntKind.wrap_i64]; omega
  obtain ⟨E, hE⟩ : ∃ E : Nat, E = A + 4 := ⟨_, rfl⟩
  have e_E : (A : Int) + 4 = (E : Int) := by omega
  have s_E : IntKind.i64.wrap (E : Int) = (E : Int) := by rw [IntKind.wrap_i64]; omega
  have hLi : ¬ (L : Int) < (E : Int) := by omega
  have hAE : (A : Int) ≤ (E : Int) := by omega
  have hEc : (E : Int) ≤ (bc : Int) := by omega
  have hEA : E - A = 4 := by omega
  have hEAi : (E : Int) - (A : Int) = 4 := by omega
  have z_A : (0 : Int) ≤ (A : Int) := Int.natCast_nonneg _
  have hLNi : ¬ (L : Int) < (N : Int) := by omega
  have hHb : ((H : Int) == 0) = false := by simp; exact hH0
  have hHi : (H : Int) ≠ 0 := by omega
  obtain ⟨T, hT⟩ : ∃ T : Nat, T = 32 * H := ⟨_, rfl⟩
  have e_T : (32 : Int) * (H : Int) = (T : Int) := by omega
  have s_T : IntKind.i64.wrap (T : Int) = (T : Int) := by rw [IntKind.wrap_i64]; omega
  have e_N : (E : Int) + (T : Int) = (N : Int) := by omega
  have s_N : IntKind.i64.wrap (N : Int) = (N : Int) := by rw [IntKind.wrap_i64]; omega
  have hNc : N ≤ bc := by omega
  have HH := hide (And.intro rT (And.intro rD (And.intro hbw z0.here)))
  clear hHl hNd hE hAd hAl hH0 hT h8 hL1 hL2 rT rD hbw lc1 lc2
  go_enter Tryz.func18, Tryz.ntmps18
  go_wp2_with (first
    | (go_at_call 42; have hn4u := hn4; clear hn4; refine hn4u.mono ?_; rintro e yy ⟨rfl, hy⟩; obtain rfl := hy.symm; clear hn4u)
    | (go_at_call 42; refine hnA.mono ?_; rintro e yy ⟨rfl, hy⟩; obtain rfl := hy.symm)
    | (go_at_call 41; refine (hdg _).mono ?_; rintro e yy ⟨rfl, hy⟩; obtain rfl := hy.symm)
    | (go_at_call 38; refine (hsz _).mono ?_; rintro e yy ⟨rfl, hy⟩; obtain rfl := hy.symm)
    | (go_at_call 43; refine (hht _).mono ?_; rintro e yy ⟨rfl, hy⟩; obtain rfl := hy.symm)
    | fail)
  refine at_begin (ops := (opsA (cLA (cRA (cRA (cRA (cRA (cRA (cRA (cRA (cRA (cRA (cRA (Tryz.f18.body.getD .skip)))))))))))))) (n := 13) (fun _ => True) (by kernel_rfl) (by kernel_rfl) ?_
  refine at_takeD (i := 0) (m' := 1) (d := some 50) (v := .slice (some ⟨bb, bo, none⟩) L bc) ctreg rfl (by decide) rfl rfl (y_move rfl rfl rfl) trivial ?_
  simp only [Act.put, List.setIfInBounds_toArray, List.set_cons_zero, List.set_cons_succ]
  refine at_takeD (i := 1) (m' := 3) (d := some 51) (v := .int .i64 (N : Int)) ctreg rfl (by decide) rfl rfl (y_move rfl rfl rfl) trivial ?_
  simp only [Act.put, List.setIfInBounds_toArray, List.set_cons_zero, List.set_cons_succ]
  refine at_takeD (i := 2) (m' := 7) (d := some 52) (v := .slice (some ⟨bb, bo, none⟩) N bc) ctreg rfl (by decide) rfl rfl (y_toT rfl rfl rfl rfl hNc) trivial ?_
  simp only [Act.put, List.setIfInBounds_toArray, List.set_cons_zero, List.set_cons_succ]
  refine at_takeD (i := 3) (m' := 15) (d := some 53) (v := .int .i64 (H : Int)) ctreg rfl (by decide) rfl rfl (y_move rfl rfl rfl) trivial ?_
  simp only [Act.put, List.setIfInBounds_toArray, List.set_cons_zero, List.set_cons_succ]
  refine at_takeD (i := 4) (m' := 31) (d := some 54) (v := .int .i64 (W : Int)) ctreg rfl (by decide) rfl rfl (y_move rfl rfl rfl) trivial ?_
  simp only [Act.put, List.setIfInBounds_toArray, List.set_cons_zero, List.set_cons_succ]
  refine at_takeD (i := 5) (m' := 63) (d := some 55) (v := .agg #[.int .i64 (H : Int), .int .i64 (W : Int)]) ctreg rfl (by decide) rfl rfl (y_tree rfl rfl rfl rfl) trivial ?_
  simp only [Act.put, List.setIfInBounds_toArray, List.set_cons_zero, List.set_cons_succ]
  refine at_takeD (i := 6) (m' := 127) (d := some 56) (v := .slice (some ⟨bb, bo, none⟩) L bc) ctreg rfl (by decide) rfl rfl (y_move rfl rfl rfl) trivial ?_
  simp only [Act.put, List.setIfInBounds_toArray, List.set_cons_zero, List.set_cons_succ]
  refine at_takeD (i := 7) (m' := 255) (d := some 57) (v := .int .i64 (N : Int)) ctreg rfl (by decide) rfl rfl (y_move rfl rfl rfl) trivial ?_
  simp only [Act.put, List.setIfInBounds_toArray, List.set_cons_zero, List.set_cons_succ]
  refine at_takeD (i := 8) (m' := 511) (d := some 58) (v := .slice A2 (L - N) (bc - N)) ctreg rfl (by decide) rfl rfl (y_fromT rfl rfl rfl rfl hA2 ⟨_, _, _, rfl⟩) trivial ?_
  simp only [Act.put, List.setIfInBounds_toArray, List.set_cons_zero, List.set_cons_succ]
  refine at_takeD (i := 9) (m' := 1023) (d := some 2) (v := .slice (some ⟨bb, bo, none⟩) N bc) ctreg rfl (by decide) rfl rfl (y_assignA rfl rfl rfl) trivial ?_
  simp only [Act.put, List.setIfInBounds_toArray, List.set_cons_zero, List.set_cons_succ]
  obtain ⟨rT, rD, hbw, hhere⟩ := HH.out
  have hbd := keep_trans hbw ((Below.refl _ _).drew)
  have h0d : (w.alloc (.cells #[.int .i64 0, .int .i64 0] 23)).drew.heap[w.heap.size]? = some (.cells #[.int .i64 0, .int .i64 0] 23 (0, 0)) := hhere
  refine at_one (i := 10) (m' := 2047) ctreg (by decide) rfl ?_
  refine p_rowA (g := w.heap.size) (cells := #[.int .i64 (H : Int), .int .i64 (W : Int)]) rfl rfl rfl rfl rfl rfl h0d (by kernel_rfl) rfl (one2T _ _) ⟨trivial, ?_⟩
  have hBt : But w.heap.size (w.alloc (.cells #[.int .i64 0, .int .i64 0] 23)).drew ((w.alloc (.cells #[.int .i64 0, .int .i64 0] 23)).drew.setRow w.heap.size #[.int .i64 (H : Int), .int .i64 (W : Int)]) := (But.refl _ _).setRow _
  have hT2 : Bx2T ((w.alloc (.cells #[.int .i64 0, .int .i64 0] 23)).drew.setRow w.heap.size #[.int .i64 (H : Int), .int .i64 (W : Int)]) w.heap.size (.int .i64 (H : Int)) (.int .i64 (W : Int)) := ⟨setRow_heap _ _ _ _ _ _ h0d⟩
  have hbF := hbd.trans (hBt.below (Nat.le_refl _) hbd.size)
  generalize (w.alloc (.cells #[.int .i64 0, .int .i64 0] 23)).drew.setRow w.heap.size #[.int .i64 (H : Int), .int .i64 (W : Int)] = WF at *
  refine at_takeD (i := 11) (m' := 4095) (d := some 4) (v := .slice A2 (L - N) (bc - N)) ctreg rfl (by decide) rfl rfl (y_assignA rfl rfl rfl) trivial ?_
  simp only [Act.put, List.setIfInBounds_toArray, List.set_cons_zero, List.set_cons_succ]
  refine at_takeD (i := 12) (m' := 8191) (d := some 5) (v := .int .i64 0) ctreg rfl (by decide) rfl rfl (y_assignA rfl rfl rfl) trivial ?_
  simp only [Act.put, List.setIfInBounds_toArray, List.set_cons_zero, List.set_cons_succ]
  refine at_done ctreg (by decide) ?_
  go_wp2
  refine bodyPost_ret (hT2.load4 rfl rfl _ rfl) rfl ?_
  exact ⟨_, _, rfl, rT.below hbF, rD.below hbF, hbF⟩
end Go.Proofs.YtefndnbaifiboaaGreatDoor

/- Trees of leaves that sign once: the document's Verify, where it refuses at first. -/
namespace Go.Proofs.YtefndnbaifiboaaGreatDoor
open Go.RowKit
set_option linter.unusedVariables false
set_option linter.unusedSimpArgs false

/-- a key that can be one -/
def vKey (pub : List Nat) : Prop := pub.length = 56 ∧ hgtL (numL (pub.take 4)) ≠ 0 ∧ dgtL (numL ((pub.drop 4).take 4)) ≠ 0
set_option maxHeartbeats 4000000 in
set_option maxRecDepth 100000 in
theorem rver_key (pub : List Nat) (pv tv sv : Value) (w : World) (hp : Row .u8 256 w pv pub) (h : ¬ vKey pub) :
    Calls Tryz.prog 20 #[pv, tv, sv] w fun e w' => e = .returned (.int .i64 10) ∧ w' = w := by
  have hrow := hp
  obtain ⟨pa, pc, rfl, lc1, lc2, ho⟩ := hp.opens rfl
  by_cases h56 : pub.length = 56
  · obtain ⟨bb, bo, rfl, _⟩ := ho (by omega)
    have r4 : Row .u8 256 w (.slice (some ⟨bb, bo, none⟩) 4 pc) (pub.take 4) := hrow.cut (by omega)
    have r8 : Row .u8 256 w (.slice (some ⟨bb, bo + 4, none⟩) 4 (pc - 4)) ((pub.drop 4).take 4) := hrow.mid (i := 4) (j := 8) (by decide) (by omega)
    have hn4 := rnum_any _ _ _ r4
    have hn8 := rnum_any _ _ _ r8
    have hht := fun y => rheight_any (numL (pub.take 4)) y (numL_lt _)
    have hdg := fun y => rdigit_any (numL ((pub.drop 4).take 4)) y (numL_lt _)
    have hd : hgtL (numL (pub.take 4)) = 0 ∨ hgtL (numL (pub.take 4)) ≠ 0 ∧ dgtL (numL ((pub.drop 4).take 4)) = 0 := by
      by_cases h1 : hgtL (numL (pub.take 4)) = 0
      · exact .inl h1
      · refine .inr ⟨h1, Decidable.byContradiction fun h2 => h ⟨h56, h1, h2⟩⟩
    generalize hgtL (numL (pub.take 4)) = HH at *
    generalize dgtL (numL ((pub.drop 4).take 4)) = DD at *
    generalize numL (pub.take 4) = X at *
    generalize numL ((pub.drop 4).take 4) = Y at *
    rw [h56] at lc1 ⊢
    have h4c : (4 : Int) ≤ (pc : Int) := by omega
    have h8c : (8 : Int) ≤ (pc : Int) := by omega
    clear hp hrow r4 r8 ho h
    rcases hd with h0 | ⟨h0, h1⟩
    · rw [h0] at hht
      clear h0 hdg hn8
      go_enter Tryz.func20, Tryz.ntmps20
      go_wp2_with (first
        | (go_at_call 42; refine hn4.mono ?_; rintro e yy ⟨rfl, hy⟩; obtain rfl := hy.symm)
        | (go_at_call 43; refine (hht _).mono ?_; rintro e yy ⟨rfl, hy⟩; obtain rfl := hy.symm)
        | fail)
      go_ret
      exact ⟨rfl, rfl⟩
    · rw [h1] at hdg
      have hHb : ((HH : Int) == 0) = false := by simp; exact h0
      have hHi : ¬ (HH : Int) = 0 := by omega
      clear h0 h1
      go_enter Tryz.func20, Tryz.ntmps20
      go_wp2_with (first
        | (go_at_call 42; have hu := hn4; clear hn4; refine hu.mono ?_; rintro e yy ⟨rfl, hy⟩; obtain rfl := hy.symm; clear hu)
        | (go_at_call 42; refine hn8.mono ?_; rintro e yy ⟨rfl, hy⟩; obtain rfl := hy.symm)
        | (go_at_call 43; refine (hht _).mono ?_; rintro e yy ⟨rfl, hy⟩; obtain rfl := hy.symm)
        | (go_at_call 41; refine (hdg _).mono ?_; rintro e yy ⟨rfl, hy⟩; obtain rfl := hy.symm)
        | fail)
      go_ret
      exact ⟨rfl, rfl⟩
  · generalize pub.length = L at *
    have hi : ¬ (L : Int) = 56 := by omega
    have hb : ((L : Int) == 56) = false := beq_eq_false_iff_ne.2 hi
    have hn : ((L : Int) != 56) = true := by simp [bne, hb]
    clear hp hrow ho h h56
    go_enter Tryz.func20, Tryz.ntmps20
    go_wp2
    go_ret
    exact ⟨rfl, rfl⟩
theorem zeroTr : ∀ w, (zeroValue 23).run Tryz.prog w = .ok (.agg #[.int .i64 0, .int .i64 0]) w := fun w => by kernel_rfl
set_option maxHeartbeats 4000000 in
set_option maxRecDepth 100000 in
theorem rver_cut (pub sig : List Nat) (pv tv sv : Value) (w : World) (hp : Row .u8 256 w pv pub) (hs : Row .u8 256 w sv sig) (h : vKey pub) (hc : ctE sig ≠ 0) :
    Calls Tryz.prog 20 #[pv, tv, sv] w fun e w' => e = .returned (.int .i64 (ctE sig : Nat)) ∧ Below w.heap.size w w' := by
  obtain ⟨h56, h0, h1⟩ := h
  have hrow := hp
  have hct := rcut_no sig sv w hs hc
  obtain ⟨pa, pc, rfl, lc1, lc2, ho⟩ := hp.opens h56
  obtain ⟨bb, bo, rfl, _⟩ := ho (by decide)
  have r4 : Row .u8 256 w (.slice (some ⟨bb, bo, none⟩) 4 pc) (pub.take 4) := hrow.cut (by omega)
  have r8 : Row .u8 256 w (.slice (some ⟨bb, bo + 4, none⟩) 4 (pc - 4)) ((pub.drop 4).take 4) := hrow.mid (i := 4) (j := 8) (by decide) (by omega)
  have hn4 := rnum_any _ _ _ r4
  have hn8 := rnum_any _ _ _ r8
  have hht := fun y => rheight_any (numL (pub.take 4)) y (numL_lt _)
  have hdg := fun y => rdigit_any (numL ((pub.drop 4).take 4)) y (numL_lt _)
  generalize hgtL (numL (pub.take 4)) = HH at *
  generalize dgtL (numL ((pub.drop 4).take 4)) = DD at *
  generalize numL (pub.take 4) = X at *
  generalize numL ((pub.drop 4).take 4) = Y at *
  generalize ctE sig = E at *
  have h4c : (4 : Int) ≤ (pc : Int) := by omega
  have h8c : (8 : Int) ≤ (pc : Int) := by omega
  have hHb : ((HH : Int) == 0) = false := by simp; exact h0
  have hHi : ¬ (HH : Int) = 0 := by omega
  have hDb : ((DD : Int) == 0) = false := by simp; exact h1
  have hDi : ¬ (DD : Int) = 0 := by omega
  have hEi : ¬ (E : Int) = 0 := by omega
  have hEb : ((E : Int) == 0) = false := by simp; exact hc
  have hEn : ((E : Int) != 0) = true := by simp [bne, hEb]
  have hz := zeroTr
  clear hp hrow r4 r8 ho h0 h1 hc hs
  go_enter Tryz.func20, Tryz.ntmps20
  go_wp2_with (first
    | (go_at_call 42; have hu := hn4; clear hn4; refine hu.mono ?_; rintro e yy ⟨rfl, hy⟩; obtain rfl := hy.symm; clear hu)
    | (go_at_call 42; refine hn8.mono ?_; rintro e yy ⟨rfl, hy⟩; obtain rfl := hy.symm)
    | (go_at_call 43; refine (hht _).mono ?_; rintro e yy ⟨rfl, hy⟩; obtain rfl := hy.symm)
    | (go_at_call 41; refine (hdg _).mono ?_; rintro e yy ⟨rfl, hy⟩; obtain rfl := hy.symm)
    | (go_at_call 18; refine hct.mono ?_; rintro e w1 ⟨rfl, hb1⟩)
    | fail)
  go_ret
  exact ⟨rfl, keep_trans hb1 (keep_alloc _ _)⟩
end Go.Proofs.YtefndnbaifiboaaGreatDoor

/- Steps of a plan behind a guard, apart from keccak's. -/
namespace Go.Proofs.YtefndnbaifiboaaGreatDoor
open Go.RowKit
set_option linter.unusedVariables false
set_option linter.unusedSimpArgs false
section
variable {ops : Array Oper} {Q : Exit → Act → World → Prop} {S : World → Prop} {K : Act → World → Prop}
theorem y_toG {o : Oper} {a : Act} {x y : Operand} {aa : Option Addr} {n c F : Nat} (hw : Region.wanted o (yielded ops a.tmps) = true) (ho : o.op = .slice 24 x none (some y) none) (hx : a.eval x = .slice aa n c) (hy : a.eval y = .int .i64 (F : Int)) (hF : F ≤ c) : YieldsIf Tryz.prog ops S o (.slice aa F c) a := by
  refine y_ofG hw fun w _ => ?_
  have h := slice_to aa n c F hF w
  unfold execOp
  simp only [ho, hx, Option.map_none, Option.map_some, hy]
  simp [Instr.sliceAt, Sem.run_bind, h, run_underlying Tryz.underlying24, go_sem]
theorem y_gtrG {o : Oper} {a : Act} {x : Operand} {n : Nat} {b : Bool} (hg : o.guard = none) (ho : o.op = .binOp .gtr 3 x (.const (.int .i64 0)) 3) (hx : a.eval x = .int .i64 (n : Int)) (hb : b = decide (0 < n)) : YieldsIf Tryz.prog ops S o (.bool b) a := by
  have h : decide ((0 : Int) < (n : Int)) = b := by rw [hb]; exact decide_eq_decide.2 (by omega)
  refine y_of hg fun w _ => ?_
  unfold execOp
  simp only [ho, hx, ev_const]
  simp [go_sem, ← h]
theorem y_lenG {o : Oper} {a : Act} {x : Operand} {aa : Option Addr} {n cc : Nat} (hg : o.guard = none) (ho : o.op = .call { callee := .builtin .len, args := #[x], argTypes := #[24] }) (hx : a.eval x = .slice aa n cc) : YieldsIf Tryz.prog ops S o (.int .i64 (n : Int)) a :=
  y_of hg fun w _ => by
    unfold execOp
    have ha : (#[x] : Array Operand).map a.eval = #[.slice aa n cc] := by simp only [List.map_toArray, List.map_cons, List.map_nil, hx]
    generalize (#[x] : Array Operand) = xs at ho ha
    simp only [ho]
    simp [resolve, ha, go_sem]
end
end Go.Proofs.YtefndnbaifiboaaGreatDoor

/- Trees of leaves that sign once: the document's Verify, where the form is another. -/
namespace Go.Proofs.YtefndnbaifiboaaGreatDoor
open Go.RowKit
set_option linter.unusedVariables false
set_option linter.unusedSimpArgs false

def v6lt : List Lt := [(0, some 46, [9]), (1, some 47, [46]), (2, some 48, [47]), (4, some 49, [48]), (8, some 50, [8, 49]), (24, some 51, [50, 49]), (8, some 52, [0, 49]), (72, some 53, [52, 49]), (168, some 54, [51, 53, 49]), (264, some 55, [54, 49]), (520, some 56, [49, 55])]
theorem v6reg : Reg (opsA (cLA (cLA (cRA (cRA (cRA (cRA (Tryz.f20.body.getD .skip)))))))) v6lt := ⟨by kernel_rfl, by kernel_rfl⟩
set_option maxHeartbeats 4000000 in
set_option maxRecDepth 100000 in
theorem rver_more (pub sig : List Nat) (pv tv sv : Value) (w : World) (hp : Row .u8 256 w pv pub) (hs : Row .u8 256 w sv sig) (h : vKey pub) (hc : ctE sig = 0) (hm : ctN sig < sig.length) :
    Calls Tryz.prog 20 #[pv, tv, sv] w fun e w' => e = .returned (.int .i64 1) ∧ Below w.heap.size w w' := by
  obtain ⟨h56, h0, h1⟩ := h
  have hrow := hp
  have hct := rcut_ok sig sv w hs hc
  obtain ⟨g8, gw0, gL1, gH0, gL2⟩ := ctE_zero hc
  have hbz : ∀ (w1 : World) (u v : Value), Bx2T (w1.alloc (.cells #[u, v] 23)) w1.heap.size u v := fun w1 u v => Bx2T.new w1 u v
  obtain ⟨pa, pc, rfl, lc1, lc2, ho⟩ := hp.opens h56
  obtain ⟨bb, bo, rfl, _⟩ := ho (by decide)
  have r4 : Row .u8 256 w (.slice (some ⟨bb, bo, none⟩) 4 pc) (pub.take 4) := hrow.cut (by omega)
  have r8 : Row .u8 256 w (.slice (some ⟨bb, bo + 4, none⟩) 4 (pc - 4)) ((pub.drop 4).take 4) := hrow.mid (i := 4) (j := 8) (by decide) (by omega)
  have rp8 : Row .u8 256 w (.slice (some ⟨bb, bo, none⟩) 8 pc) (pub.take 8) := hrow.cut (by omega)
  have hn4 := rnum_any _ _ _ r4
  have hn8 := rnum_any _ _ _ r8
  have hht := fun y => rheight_any (numL (pub.take 4)) y (numL_lt _)
  have hdg := fun y => rdigit_any (numL ((pub.drop 4).take 4)) y (numL_lt _)
  have hHb : ((hgtL (numL (pub.take 4)) : Int) == 0) = false := by simp; exact h0
  have hHi : ¬ (hgtL (numL (pub.take 4)) : Int) = 0 := by omega
  have hDb : ((dgtL (numL ((pub.drop 4).take 4)) : Int) == 0) = false := by simp; exact h1
  have hDi : ¬ (dgtL (numL ((pub.drop 4).take 4)) : Int) = 0 := by omega
  generalize hgtL (numL (pub.take 4)) = HH at *
  generalize dgtL (numL ((pub.drop 4).take 4)) = DD at *
  generalize numL (pub.take 4) = X at *
  generalize numL ((pub.drop 4).take 4) = Y at *
  have h4c : (4 : Int) ≤ (pc : Int) := by omega
  have h8c : (8 : Int) ≤ (pc : Int) := by omega
  have hz := zeroTr
  obtain ⟨R, hRl⟩ : ∃ R, (sig.drop (ctN sig)).length = R := ⟨_, rfl⟩
  have hR0 : Hid (true = decide (0 < R)) := by rw [List.length_drop] at hRl; exact hide (decide_eq_true (by omega)).symm
  clear hp hrow r4 r8 rp8 ho h0 h1 hc hs hm lc1 lc2 g8 gw0 gL1 gH0 gL2
  go_enter Tryz.func20, Tryz.ntmps20
  go_wp2_with (first
    | (go_at_call 42; have hu := hn4; clear hn4; refine hu.mono ?_; rintro e yy ⟨rfl, hy⟩; obtain rfl := hy.symm; clear hu)
    | (go_at_call 42; have hu := hn8; clear hn8; refine hu.mono ?_; rintro e yy ⟨rfl, hy⟩; obtain rfl := hy.symm; clear hu)
    | (go_at_call 43; refine (hht _).mono ?_; rintro e yy ⟨rfl, hy⟩; obtain rfl := hy.symm)
    | (go_at_call 41; refine (hdg _).mono ?_; rintro e yy ⟨rfl, hy⟩; obtain rfl := hy.symm)
    | (go_at_call 18; refine hct.mono ?_; rintro e w1 ⟨v1, v2, rfl, r1, r2, hb1⟩; obtain ⟨a2, c2, rfl, _⟩ := r2.opens hRl)
    | fail)
  have HB := hide (keep_trans hb1 (keep_alloc w1 (.cells #[.int .i64 (ctH sig : Nat), .int .i64 (ctW sig : Nat)] 23)))
  clear hbz hct r1 r2 hht hdg
  refine at_begin (ops := (opsA (cLA (cLA (cRA (cRA (cRA (cRA (Tryz.f20.body.getD .skip))))))))) (n := 11) (fun _ => True) (by kernel_rfl) (by kernel_rfl) ?_
  refine at_takeD (i := 0) (m' := 1) (d := some 46) (v := .slice a2 R c2) v6reg rfl (by decide) rfl rfl (y_move rfl rfl rfl) trivial ?_
  simp only [Act.put, List.setIfInBounds_toArray, List.set_cons_zero, List.set_cons_succ]
  refine at_takeD (i := 1) (m' := 3) (d := some 47) (v := .int .i64 (R : Int)) v6reg rfl (by decide) rfl rfl (y_lenG rfl rfl rfl) trivial ?_
  simp only [Act.put, List.setIfInBounds_toArray, List.set_cons_zero, List.set_cons_succ]
  refine at_takeD (i := 2) (m' := 7) (d := some 48) (v := .bool true) v6reg rfl (by decide) rfl rfl (y_gtrG rfl rfl rfl hR0.out) trivial ?_
  simp only [Act.put, List.setIfInBounds_toArray, List.set_cons_zero, List.set_cons_succ]
  refine at_takeD (i := 3) (m' := 15) (d := some 49) (v := .bool true) v6reg rfl (by decide) rfl rfl (y_move rfl rfl rfl) trivial ?_
  simp only [Act.put, List.setIfInBounds_toArray, List.set_cons_zero, List.set_cons_succ]
  refine at_takeD (i := 4) (m' := 31) (d := some 50) (v := undef) v6reg rfl (by decide) rfl rfl (y_unG (wanted_nG (j := 3) (d := 49) (b := false) rfl rfl rfl rfl)) trivial ?_
  simp only [Act.put, List.setIfInBounds_toArray, List.set_cons_zero, List.set_cons_succ]
  refine at_takeD (i := 5) (m' := 63) (d := some 51) (v := undef) v6reg rfl (by decide) rfl rfl (y_unG (wanted_nG (j := 3) (d := 49) (b := false) rfl rfl rfl rfl)) trivial ?_
  simp only [Act.put, List.setIfInBounds_toArray, List.set_cons_zero, List.set_cons_succ]
  refine at_takeD (i := 6) (m' := 127) (d := some 52) (v := undef) v6reg rfl (by decide) rfl rfl (y_unG (wanted_nG (j := 3) (d := 49) (b := false) rfl rfl rfl rfl)) trivial ?_
  simp only [Act.put, List.setIfInBounds_toArray, List.set_cons_zero, List.set_cons_succ]
  refine at_takeD (i := 7) (m' := 255) (d := some 53) (v := undef) v6reg rfl (by decide) rfl rfl (y_unG (wanted_nG (j := 3) (d := 49) (b := false) rfl rfl rfl rfl)) trivial ?_
  simp only [Act.put, List.setIfInBounds_toArray, List.set_cons_zero, List.set_cons_succ]
  refine at_takeD (i := 8) (m' := 511) (d := some 54) (v := undef) v6reg rfl (by decide) rfl rfl (y_unG (wanted_nG (j := 3) (d := 49) (b := false) rfl rfl rfl rfl)) trivial ?_
  simp only [Act.put, List.setIfInBounds_toArray, List.set_cons_zero, List.set_cons_succ]
  refine at_takeD (i := 9) (m' := 1023) (d := some 55) (v := undef) v6reg rfl (by decide) rfl rfl (y_unG (wanted_nG (j := 3) (d := 49) (b := false) rfl rfl rfl rfl)) trivial ?_
  simp only [Act.put, List.setIfInBounds_toArray, List.set_cons_zero, List.set_cons_succ]
  refine at_takeD (i := 10) (m' := 2047) (d := some 56) (v := .bool true) v6reg rfl (by decide) rfl rfl (y_pickT rfl rfl rfl rfl) trivial ?_
  simp only [Act.put, List.setIfInBounds_toArray, List.set_cons_zero, List.set_cons_succ]
  refine at_done v6reg (by decide) ?_
  go_wp2
  go_ret
  exact ⟨rfl, HB.out.drew⟩
end Go.Proofs.YtefndnbaifiboaaGreatDoor
