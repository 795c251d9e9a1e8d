/- Trees of trees, the program's own: Public. -/
import Derived.Test.YtogiballdmgcpaaGreatDoorLhI
import Derived.Test.YtogiballdmgcpaaGreatDoorLsH
import Derived.Test.YtogiballdmgcpaaGreatDoorLhV
namespace Go.Proofs.YtogiballdmgcpaaGreatDoor
open Go.RowKit Go.Shelf
set_option linter.unusedVariables false
set_option linter.unusedSimpArgs false

theorem zeroLv : ∀ w, (zeroValue 54).run Tryz.prog w = .ok (.agg #[.int .i64 0, .int .i64 0, .slice none 0 0, .slice none 0 0, .int .u32 0]) w := fun w => by kernel_rfl
/-- a level laid anew -/
theorem p_allocLv {ops : Array Oper} {Q : Exit → Act → World → Prop} {K : Act → World → Prop} {i : Nat} {o : Oper} {a : Act} {x : World} {d : Option Nat} (hi : ops[i]? = some o) (hw : Region.wanted o (yielded ops a.tmps) = true) (ho : o.op = .alloc 54) (hd : o.dst = d)
    (h : K (a.put d (.pointer (some ⟨x.heap.size, 0, none⟩))) (x.alloc (.cells #[.int .i64 0, .int .i64 0, .slice none 0 0, .slice none 0 0, .int .u32 0] 54))) : wpOp Tryz.prog ops Q i K a x := by
  have hz := zeroLv
  have hr : (execOp a.eval o).run Tryz.prog x = .ok (.value (.pointer (some ⟨x.heap.size, 0, none⟩))) (x.alloc (.cells #[.int .i64 0, .int .i64 0, .slice none 0 0, .slice none 0 0, .int .u32 0] 54)) := by
    unfold execOp
    simp only [ho]
    simp [go_sem, hz]
  unfold wpOp
  simp only [hi]
  rw [if_pos hw]
  left
  unfold Oper.wp
  rw [hr]
  show K (a.put o.dst _) _
  rw [hd]
  exact h
theorem y_buildLv {ops : Array Oper} {S : World → Prop} {o : Oper} {a : Act} {x y z : Operand} {z0 z1 : Value} {ja ka : Option Addr} {jn jc kn kc : Nat} (hw : Region.wanted o (yielded ops a.tmps) = true) (ho : o.op = .build 54 #[(0, x), (1, y), (2, z)]) (hx : a.eval x = .agg #[z0, z1]) (hy : a.eval y = .slice ja jn jc) (hz : a.eval z = .slice ka kn kc) : YieldsIf Tryz.prog ops S o (.agg #[z0, z1, .slice ja jn jc, .slice ka kn kc, .int .u32 0]) a := by
  refine y_ofG hw fun w _ => ?_
  unfold execOp
  simp only [ho, List.map_toArray, List.map_cons, List.map_nil, hx, hy, hz]
  simp [go_sem]
def hp3lt : List Lt := [(0, some 8, [1]), (1, some 9, [8]), (2, some 10, [9]), (4, some 11, [10]), (0, some 12, [1]), (16, some 13, [12]), (0, some 14, [1]), (64, some 15, [14]), (168, some 16, [11, 13, 15]), (0, some 4, []), (1023, none, [4, 16])]
theorem hp3reg : Reg (opsA (cLA (cRA (cRA (Tryz.f9.body.getD .skip))))) hp3lt := ⟨by kernel_rfl, by kernel_rfl⟩
def hp4lt : List Lt := [(0, some 17, [1]), (1, some 18, [17]), (2, some 19, [18]), (4, some 20, [19]), (8, some 21, [20]), (0, some 22, [4]), (48, some 23, [22]), (80, some 24, [21, 23]), (192, some 25, [24]), (511, some 2, [25]), (1023, some 3, [])]
theorem hp4reg : Reg (opsA (cLA (cRA (cRA (cRA (Tryz.f9.body.getD .skip)))))) hp4lt := ⟨by kernel_rfl, by kernel_rfl⟩
set_option maxHeartbeats 8000000 in
set_option maxRecDepth 100000 in
theorem cpubH_ok (ts : List (Int × Int)) (tv iv sv : Value) (id seed : List Nat) (w : World) (ht : TrS w tv ts) (hi : Row .u8 256 w iv id) (ti : Tidy iv) (hs : Row .u8 256 w sv seed) (tis : Tidy sv) (hT : Roots w) (hK : FitK ts id.length seed.length) :
    Calls Tryz.prog 9 #[.agg #[tv, iv, sv]] w fun e w' => ∃ v, e = .returned (.tuple #[v, .int .i64 0]) ∧ Own 5 .u8 256 w' w.heap.size v (be4 ts.length ++ pubG (trA ts 0) id seed) ∧ Below w.heap.size w w' := by
  have hid := hK.2.2.2.2.1
  have hsd := hK.2.2.2.2.2
  have hg := hK.2.2.1 _ (trA_mem (ts := ts) (i := 0) (by have := hK.1; omega))
  have hpb0 := fun y (h : Below w.heap.size w y) => chkey hg id seed iv sv 0 y (hT.below h) (hi.below h) ti (hs.below h) tis hid hsd
  have hp56 := pubG_len (trA ts 0) id seed hid
  obtain ⟨ia, ic, rfl, _⟩ := hi.opens hid
  obtain ⟨sa, sc, rfl, _⟩ := hs.opens hsd
  have hfk := fun y (h : Below w.heap.size w y) => cfitK_any ts tv ia sa 16 ic 32 sc y (ht.below h)
  rw [decide_eq_true (by rw [hid, hsd] at hK; exact hK)] at hfk
  obtain ⟨ta, tc, rfl, t1, t2, tcell⟩ := ht
  obtain ⟨tb, to, rfl, tcc⟩ := tcell hK.1
  obtain ⟨x1, x2⟩ := tcc 0 hK.1
  obtain ⟨N, hN⟩ : ∃ N, ts.length = N := ⟨_, rfl⟩
  have hN8 : 1 ≤ N ∧ N ≤ 8 := ⟨by have := hK.1; omega, by have := hK.2.1; omega⟩
  rw [hN] at hfk ⊢
  have hN0 : 0 < N := by omega
  have b0 := BxK.new w (.slice (some ⟨tb, to, none⟩) N tc) (.slice ia 16 ic) (.slice sa 32 sc)
  have hb0 := keep_alloc w (.cells #[.slice (some ⟨tb, to, none⟩) N tc, .slice ia 16 ic, .slice sa 32 sc] 25)
  have h4 := fun y => cbe4 N y (by omega)
  have u_N : IntKind.u64.wrap (N : Int) = (N : Int) := by rw [IntKind.wrap_u64]; omega
  have c_N : ∀ w : World, (convert 3 26 (.int .i64 (N : Int))).run Tryz.prog w = .ok (.int .u64 (N : Int)) w := fun w => by simp [go_sem, convert, Sem.run_bind, run_underlying Tryz.underlying3, run_underlying Tryz.underlying26, u_N]
  obtain ⟨PK, hPK⟩ : ∃ P, pubG (trA ts 0) id seed = P := ⟨_, rfl⟩
  rw [hPK] at hpb0 hp56 ⊢
  have hj := fun y v (r : Rows2 y v [be4 N, PK]) => join_any v _ y r (by simp only [List.flatten_cons, List.flatten_nil, List.length_append, List.append_nil, be4_len]; omega)
  have hfl : [be4 N, PK].flatten = be4 N ++ PK := by simp
  rw [hfl] at hj
  obtain ⟨th, hth⟩ : ∃ t, (trA ts 0).1 = t := ⟨_, rfl⟩
  obtain ⟨tw, htw⟩ : ∃ t, (trA ts 0).2 = t := ⟨_, rfl⟩
  rw [hth] at x1 hpb0
  rw [htw] at x2 hpb0
  obtain ⟨i0, hi0, hz0, hz1, hz2⟩ := info_text
  clear hK hg hi hs ti tis hT hid hsd t1 t2 tcell tcc hN hfl hPK hth htw
  go_enter Tryz.func9, Tryz.ntmps9
  go_wp2_with (first
    | (refine wpList_load_row rfl 25 _ (by rfl) w.heap.size (by rfl) _ _ _ _ b0.here Tryz.underlying25 rfl (by kernel_rfl) ?_)
    | (go_at_call 19; refine (hfk _ hb0).mono ?_; rintro e w1 ⟨rfl, g1⟩; have b1 := b0.below g1; have k1 := keep_trans hb0 g1; clear b0)
    | fail)
  rename_i K3 hK3
  have y1 := keep_cell x1 k1
  have y2 := keep_cell x2 k1
  have hbd : Below w1.heap.size w1 w1.drew := (Below.refl _ _).drew
  refine at_begin (ops := opsA (cLA (cRA (cRA (Tryz.f9.body.getD .skip))))) (n := 11) (fun y => Below w1.heap.size w1 y) (by kernel_rfl) (by kernel_rfl) ?_
  refine at_takeD (i := 0) (m' := 1) (d := some 8) (v := .pointer (some ⟨w.heap.size, 0, none⟩)) hp3reg rfl (by decide) rfl rfl (y_fieldG (wanted_free rfl) rfl rfl (fun w => by simp [go_sem])) hbd ?_
  simp only [Act.put, List.setIfInBounds_toArray, List.set_cons_zero, List.set_cons_succ]
  refine at_takeD (i := 1) (m' := 3) (d := some 9) (v := .slice (some ⟨tb, to, none⟩) N tc) hp3reg rfl (by decide) rfl rfl (y_plainG (wanted_free rfl) rfl rfl Tryz.underlying22 rfl (fun _ h => (b1.below h).c0)) hbd ?_
  simp only [Act.put, List.setIfInBounds_toArray, List.set_cons_zero, List.set_cons_succ]
  refine at_takeD (i := 2) (m' := 7) (d := some 10) (v := .pointer (some ⟨tb, to + 0 * 2, none⟩)) hp3reg rfl (by decide) rfl rfl (y_indexG (m := 2) (i := 0) (wanted_free rfl) rfl rfl rfl Tryz.underlying22 (by kernel_rfl) hN0) hbd ?_
  simp only [Act.put, List.setIfInBounds_toArray, List.set_cons_zero, List.set_cons_succ]
  refine at_takeD (i := 3) (m' := 15) (d := some 11) (v := .agg #[.int .i64 th, .int .i64 tw]) hp3reg rfl (by decide) rfl rfl (y_rowG (cs := [.int .i64 th, .int .i64 tw]) (wanted_free rfl) rfl rfl Tryz.underlying45 rfl (by kernel_rfl) (fun y h => tr_range (keep_cell y1 h) (keep_cell y2 h))) hbd ?_
  simp only [Act.put, List.setIfInBounds_toArray, List.set_cons_zero, List.set_cons_succ]
  refine at_takeD (i := 4) (m' := 31) (d := some 12) (v := .pointer (some ⟨w.heap.size, 1, none⟩)) hp3reg rfl (by decide) rfl rfl (y_fieldG (wanted_free rfl) rfl rfl (fun w => by simp [go_sem])) hbd ?_
  simp only [Act.put, List.setIfInBounds_toArray, List.set_cons_zero, List.set_cons_succ]
  refine at_takeD (i := 5) (m' := 63) (d := some 13) (v := .slice ia 16 ic) hp3reg rfl (by decide) rfl rfl (y_plainG (wanted_free rfl) rfl rfl Tryz.underlying23 rfl (fun _ h => (b1.below h).c1)) hbd ?_
  simp only [Act.put, List.setIfInBounds_toArray, List.set_cons_zero, List.set_cons_succ]
  refine at_takeD (i := 6) (m' := 127) (d := some 14) (v := .pointer (some ⟨w.heap.size, 2, none⟩)) hp3reg rfl (by decide) rfl rfl (y_fieldG (wanted_free rfl) rfl rfl (fun w => by simp [go_sem])) hbd ?_
  simp only [Act.put, List.setIfInBounds_toArray, List.set_cons_zero, List.set_cons_succ]
  refine at_takeD (i := 7) (m' := 255) (d := some 15) (v := .slice sa 32 sc) hp3reg rfl (by decide) rfl rfl (y_plainG (wanted_free rfl) rfl rfl Tryz.underlying23 rfl (fun _ h => (b1.below h).c2)) hbd ?_
  simp only [Act.put, List.setIfInBounds_toArray, List.set_cons_zero, List.set_cons_succ]
  refine at_takeD (i := 8) (m' := 511) (d := some 16) (v := .agg #[.int .i64 th, .int .i64 tw, .slice ia 16 ic, .slice sa 32 sc, .int .u32 0]) hp3reg rfl (by decide) rfl rfl (y_buildLv (wanted_free rfl) rfl rfl rfl rfl) hbd ?_
  simp only [Act.put, List.setIfInBounds_toArray, List.set_cons_zero, List.set_cons_succ]
  refine at_one (i := 9) (m' := 1023) hp3reg (by decide) rfl ?_
  refine p_allocLv (d := some 4) rfl (wanted_free rfl) rfl rfl ?_
  have bG := BxH.new (w1.drew) (.int .i64 0) (.int .i64 0) (.slice none 0 0) (.slice none 0 0) (.int .u32 0)
  have hGl : w1.heap.size ≤ (w1.drew).heap.size := (hbd).size
  have kz10 := keep_alloc (w1.drew) (.cells #[.int .i64 0, .int .i64 0, .slice none 0 0, .slice none 0 0, .int .u32 0] 54)
  obtain ⟨G, hG⟩ : ∃ q : Nat, (w1.drew).heap.size = q := ⟨_, rfl⟩
  obtain ⟨z10, hz10⟩ : ∃ z : World, z = (w1.drew).alloc (.cells #[.int .i64 0, .int .i64 0, .slice none 0 0, .slice none 0 0, .int .u32 0] 54) := ⟨_, rfl⟩
  have hb10 := keep_trans hbd (by rw [hz10]; exact kz10 : Below (w1.drew).heap.size w1.drew z10)
  rw [← hz10, hG] at bG
  rw [hG] at hGl
  rw [← hz10, hG]
  clear hz10 hG kz10
  refine ⟨hb10, ?_⟩
  simp only [Act.put, List.setIfInBounds_toArray, List.set_cons_zero, List.set_cons_succ]
  refine at_one (i := 10) (m' := 2047) hp3reg (by decide) rfl ?_
  refine p_rowA (cells := #[.int .i64 th, .int .i64 tw, .slice ia 16 ic, .slice sa 32 sc, .int .u32 0]) rfl rfl rfl rfl rfl rfl bG.here (by kernel_rfl) rfl (by simp [Value.oneCell']) ?_
  have hb11 := below_setRow (vs := #[.int .i64 th, .int .i64 tw, .slice ia 16 ic, .slice sa 32 sc, .int .u32 0]) hb10 hGl
  refine ⟨hb11, ?_⟩
  refine at_done hp3reg (by decide) ?_
  refine hK3 _ _ ?_
  have bL := bG.row (a' := .int .i64 th) (b' := .int .i64 tw) (c' := .slice ia 16 ic) (d' := .slice sa 32 sc) (e' := .int .u32 0)
  have kL := keep_trans k1 hb11
  have bK := b1.below hb11
  have hGw : w1.heap.size ≤ G := hGl
  generalize (World.setRow z10 G #[.int .i64 th, .int .i64 tw, .slice ia 16 ic, .slice sa 32 sc, .int .u32 0]) = W2 at *
  clear hb11 hbd y1 y2 bG
  go_wp2
  have hpb := fun y (h : Below W2.heap.size W2 y) => hpb0 y (keep_trans kL h)
  have hbd : Below W2.heap.size W2 W2.drew := (Below.refl _ _).drew
  refine at_begin (ops := opsA (cLA (cRA (cRA (cRA (Tryz.f9.body.getD .skip)))))) (n := 11) (fun y => Below W2.heap.size W2 y) (by kernel_rfl) (by kernel_rfl) ?_
  refine at_takeD (i := 0) (m' := 1) (d := some 17) (v := .pointer (some ⟨w.heap.size, 0, none⟩)) hp4reg rfl (by decide) rfl rfl (y_fieldG (wanted_free rfl) rfl rfl (fun w => by simp [go_sem])) hbd ?_
  simp only [Act.put, List.setIfInBounds_toArray, List.set_cons_zero, List.set_cons_succ]
  refine at_takeD (i := 1) (m' := 3) (d := some 18) (v := .slice (some ⟨tb, to, none⟩) N tc) hp4reg rfl (by decide) rfl rfl (y_plainG (wanted_free rfl) rfl rfl Tryz.underlying22 rfl (fun _ h => (bK.below h).c0)) hbd ?_
  simp only [Act.put, List.setIfInBounds_toArray, List.set_cons_zero, List.set_cons_succ]
  refine at_takeD (i := 2) (m' := 7) (d := some 19) (v := .int .i64 (N : Int)) hp4reg rfl (by decide) rfl rfl (y_lenP (wanted_free rfl) rfl rfl Tryz.underlying22) hbd ?_
  simp only [Act.put, List.setIfInBounds_toArray, List.set_cons_zero, List.set_cons_succ]
  refine at_takeD (i := 3) (m' := 15) (d := some 20) (v := .int .u64 (N : Int)) hp4reg rfl (by decide) rfl rfl (y_convI (wanted_free rfl) rfl rfl c_N) hbd ?_
  simp only [Act.put, List.setIfInBounds_toArray, List.set_cons_zero, List.set_cons_succ]
  refine at_takeD (i := 5) (m' := 47) (d := some 22) (v := .agg #[.int .i64 th, .int .i64 tw, .slice ia 16 ic, .slice sa 32 sc, .int .u32 0]) hp4reg rfl (by decide) rfl rfl (y_rowG (cs := [.int .i64 th, .int .i64 tw, .slice ia 16 ic, .slice sa 32 sc, .int .u32 0]) (wanted_free rfl) rfl rfl Tryz.underlying54 rfl (by kernel_rfl) (fun _ h => (bL.below h).range)) hbd ?_
  simp only [Act.put, List.setIfInBounds_toArray, List.set_cons_zero, List.set_cons_succ]
  refine at_one (i := 4) (m' := 63) hp4reg (by decide) rfl ?_
  refine p_callG (args := #[.int .u64 (N : Int), .int .i64 4]) (d := some 21) rfl (wanted_free rfl) rfl (by simp only [List.map_toArray, List.map_cons, List.map_nil]; rfl) rfl Tryz.call21 ((h4 W2.drew).mono ?_)
  rintro e y6 ⟨nv, rfl, on, g6⟩
  have rn := on.row
  have tn := on.tidy
  obtain ⟨na, nc, rfl, _⟩ := on.row.opens (be4_len N)
  have hb6 := keep_trans hbd g6
  refine ⟨_, rfl, hb6, ?_⟩
  simp only [Act.put, List.setIfInBounds_toArray, List.set_cons_zero, List.set_cons_succ]
  refine at_one (i := 6) (m' := 127) hp4reg (by decide) rfl ?_
  refine p_callG (args := #[.agg #[.int .i64 th, .int .i64 tw, .slice ia 16 ic, .slice sa 32 sc, .int .u32 0]]) (d := some 23) rfl (wanted_free rfl) rfl (by simp only [List.map_toArray, List.map_cons, List.map_nil]; rfl) rfl Tryz.call22 ((hpb y6 hb6).mono ?_)
  rintro e y7 ⟨kv, rfl, ok, g7⟩
  replace rn := rn.below g7
  have rk := ok.row
  have tk := ok.tidy
  obtain ⟨qa, qc, rfl, _⟩ := ok.row.opens hp56
  have hb7 := keep_trans hb6 g7
  refine ⟨_, rfl, hb7, ?_⟩
  simp only [Act.put, List.setIfInBounds_toArray, List.set_cons_zero, List.set_cons_succ]
  refine at_one (i := 7) (m' := 255) hp4reg (by decide) rfl ?_
  refine p_build2G (d := some 24) rfl (wanted_free rfl) rfl rfl rfl rfl Tryz.underlying48 hi0 hz1 hz0 ?_
  have rr := fun hB => rows_litL (B := (y7).heap.size) (k := 2) (texts_cons rn tn (texts_cons rk tk (Texts.nil _))) hB rfl (by decide)
  replace rr := rr rfl
  obtain ⟨Gq8, hGq8⟩ : ∃ q : Nat, (y7).heap.size = q := ⟨_, rfl⟩
  obtain ⟨z8, hz8⟩ : ∃ z : World, z = (y7).alloc (.cells #[.slice na 4 nc, .slice qa 56 qc] 23) := ⟨_, rfl⟩
  have kz8 : Below (y7).heap.size y7 z8 := by rw [hz8]; exact keep_alloc _ _
  have hb8 := keep_trans hb7 kz8
  rw [← hz8] at rr ⊢
  rw [hGq8] at rr ⊢
  clear hz8 hGq8
  refine ⟨hb8, ?_⟩
  simp only [Act.put, List.setIfInBounds_toArray, List.set_cons_zero, List.set_cons_succ]
  refine at_one (i := 8) (m' := 511) hp4reg (by decide) rfl ?_
  refine p_callG (args := #[.slice (some ⟨Gq8, 0, none⟩) 2 2]) (d := some 25) rfl (wanted_free rfl) rfl (by simp only [List.map_toArray, List.map_cons, List.map_nil]; rfl) rfl Tryz.call20 ((hj z8 _ rr).mono ?_)
  rintro e y9 ⟨jv, rfl, oj, g9⟩
  have kpre := hb8
  obtain ⟨ja, jc, rfl, _⟩ := oj.row.opens rfl
  have hb9 := keep_trans hb8 g9
  refine ⟨_, rfl, hb9, ?_⟩
  simp only [Act.put, List.setIfInBounds_toArray, List.set_cons_zero, List.set_cons_succ]
  refine at_takeD (i := 9) (m' := 1023) (d := some 2) (v := .slice ja (be4 N ++ PK).length jc) hp4reg rfl (by decide) rfl rfl (y_assignG (wanted_free rfl) rfl rfl) hb9 ?_
  simp only [Act.put, List.setIfInBounds_toArray, List.set_cons_zero, List.set_cons_succ]
  refine at_takeD (i := 10) (m' := 2047) (d := some 3) (v := .int .i64 0) hp4reg rfl (by decide) rfl rfl (y_assignG (wanted_free rfl) rfl rfl) hb9 ?_
  simp only [Act.put, List.setIfInBounds_toArray, List.set_cons_zero, List.set_cons_succ]
  refine at_done hp4reg (by decide) ?_
  go_wp2
  go_ret2
  exact ⟨_, rfl, oj.mono (keep_trans kL kpre).size, keep_trans kL hb9⟩
end Go.Proofs.YtogiballdmgcpaaGreatDoor

/- Trees of trees, the program's own: what Sign's rounds hold: texts in a slice of the call's own that avoid some blocks. -/
namespace Go.Proofs.YtogiballdmgcpaaGreatDoor
open Go.RowKit Go.Shelf
set_option linter.unusedVariables false
set_option linter.unusedSimpArgs false

/-- vo is a slice of the call's own; it and the texts in it lie in blocks that meet Off -/
structure GrH (W : World) (B : Nat) (Off : Nat → Prop) (vo : Value) (ls : List (List Nat)) : Prop where
  ex : ∃ us, W.ownsRow B 23 1 vo ls.length us ∧ Texts W us ls ∧ (∀ u ∈ us, Apart1 W vo u) ∧ ∀ u ∈ us, ∀ q, u.ownBlock = some q → Off q
  off : ∀ q, vo.ownBlock = some q → Off q
theorem GrH.gr {W : World} {B : Nat} {Off : Nat → Prop} {vo : Value} {ls : List (List Nat)} (h : GrH W B Off vo ls) : GrT W B vo ls := by
  obtain ⟨us, h1, h2, h3, _⟩ := h.ex
  exact ⟨⟨us, h1, h2, h3⟩⟩
theorem texts_ownH {A B : World} {row : Option Nat} {us : List Value} {ls : List (List Nat)} (h : Texts A us ls) (hg : A.grownBy B row) (hr : ∀ r, row = some r → ∃ o : Obj, A.heap[r]? = some o ∧ o.isCells = false) : Texts B us ls :=
  ⟨h.1, fun i hi => by
    obtain ⟨v, k1, k2, k3⟩ := h.2 i hi
    exact ⟨v, k1, row_ownL k2 hg hr, k3⟩⟩
theorem GrH.own {A W : World} {B : Nat} {Off : Nat → Prop} {vo : Value} {ls : List (List Nat)} (h : GrH A B Off vo ls) {row : Option Nat} (hg : A.grownBy W row) (hr : ∀ r, row = some r → ∃ o : Obj, A.heap[r]? = some o ∧ o.isCells = false) : GrH W B Off vo ls := by
  obtain ⟨us, h1, h2, h3, h4⟩ := h.ex
  exact ⟨⟨us, owns_keptH h1 hg hr, texts_ownH h2 hg hr, fun u hu => (h3 u hu).below hg.size, h4⟩, h.off⟩
theorem GrH.but {A W : World} {B k : Nat} {Off : Nat → Prop} {vo : Value} {ls : List (List Nat)} (h : GrH A B Off vo ls) (hb : But k A W) (hk : ¬ Off k) : GrH W B Off vo ls := by
  obtain ⟨us, h1, h2, h3, h4⟩ := h.ex
  exact ⟨⟨us, owns_butH h1 hb (fun q hq (e : q = k) => hk (by rw [← e]; exact h.off q hq)), ⟨h2.1, fun i hi => by
    obtain ⟨v, k1, k2, k3⟩ := h2.2 i hi
    exact ⟨v, k1, row_butH k2 (fun q _ hq (e : q = k) => hk (by rw [← e]; exact h4 v (List.mem_of_getElem? k1) q hq)) hb, k3⟩⟩, fun u hu => (h3 u hu).below hb.size, h4⟩, h.off⟩
theorem GrH.below {A W : World} {B : Nat} {Off : Nat → Prop} {vo : Value} {ls : List (List Nat)} (h : GrH A B Off vo ls) (hb : Below A.heap.size A W) : GrH W B Off vo ls := h.own (grown_belowH hb) (fun r e => by cases e)
/-- a block of another kind is no part of a slice of the call's own -/
theorem own_neH {W : World} {B k n : Nat} {e t : TypeId} {v : Value} {xs : List Value} {cs : Array Value} {fz : Nat × Nat} (h : W.ownsRow B e 1 v n xs) (hk : W.heap[k]? = some (.cells cs t fz)) (ht : t ≠ e) : ∀ q, v.ownBlock = some q → q ≠ k := by
  intro q hq he
  subst he
  rcases h.2 with ⟨rfl, _⟩ | ⟨g, cap, cur, rfl, _, h5, _⟩
  · cases hq
  · have : g = q := by simpa [Value.ownBlock] using hq
    subst this
    rw [h5] at hk
    simp only [Option.some.injEq, Obj.cells.injEq] at hk
    exact ht hk.2.1.symm
/-- a value in a box loaded, as a step of its own -/
theorem p_loadBoxH {ops : Array Oper} {Q : Exit → Act → World → Prop} {K : Act → World → Prop} {i : Nat} {o : Oper} {a : Act} {w : World} {d : Option Nat} {t : TypeId} {x : Operand} {p : Addr} {v : Value} {dd : TypeDesc} (hi : ops[i]? = some o) (hw : Region.wanted o (yielded ops a.tmps) = true) (ho : o.op = .load t x) (hd : o.dst = d) (hx : a.eval x = .pointer (some p)) (hc : w.cell? p = some v)
    (hu : Tryz.prog.underlying t = some dd) (hr : (match dd with | .struct _ | .array _ _ => true | _ => false) = false) (h : K (a.put d v) w) : wpOp Tryz.prog ops Q i K a w := by
  have hag : (isAgg t).run Tryz.prog w = .ok false w := by
    unfold isAgg
    rw [Sem.run_bind, run_underlying hu w]
    cases dd <;> first | rfl | cases hr
  have hr2 : (execOp a.eval o).run Tryz.prog w = .ok (.value v) w := by
    unfold execOp
    simp only [ho, hx]
    simp [Instr.loadAt, Instr.sureAddr, Sem.run_bind, run_underlying hu w, hag, hc, go_sem]
  unfold wpOp
  simp only [hi]
  rw [if_pos hw]
  left
  unfold Oper.wp
  rw [hr2]
  show K (a.put o.dst _) _
  rw [hd]
  exact h
theorem cell_row1H (w : World) (u : Value) (t : TypeId) : ∀ j x, [u][j]? = some x → (w.alloc (.cells #[u] t)).cell? ((⟨w.heap.size, 0, none⟩ : Addr).add j) = some x := fun j x h => by
  have hj : j = 0 := by have := (List.getElem?_eq_some_iff.1 h).1; simp at this; exact this
  subst hj
  have h0 : (w.alloc (.cells #[u] t)).cell? ⟨w.heap.size, 0, none⟩ = some u := by rw [World.cell?_alloc_at _ _ _ _ rfl]; rfl
  have : u = x := by simpa using h
  rw [← this]
  exact h0
/-- two texts more in a slice of the call's own -/
theorem p_push2H {ops : Array Oper} {Q : Exit → Act → World → Prop} {K : Act → World → Prop} {i_ : Nat} {o : Oper} {a : Act} {w : World} {d : Option Nat} {B g1 : Nat} {Off : Nat → Prop} {vo u1 u2 : Value} {ls : List (List Nat)} {x1 x2 : List Nat} {s y : Operand} (hi : ops[i_]? = some o) (hw : Region.wanted o (yielded ops a.tmps) = true)
    (ho : o.op = .call { callee := .builtin .append, args := #[s, y], argTypes := #[48, 48] }) (hd : o.dst = d) (hs : a.eval s = vo) (hG : GrH w B Off vo ls) (hx : a.eval y = .slice (some ⟨g1, 0, none⟩) 2 2) (hc : ∀ j z, [u1, u2][j]? = some z → w.cell? ((⟨g1, 0, none⟩ : Addr).add j) = some z)
    (r1 : Row .u8 256 w u1 x1) (t1 : Tidy u1) (a1 : Apart1 w vo u1) (o1 : ∀ q, u1.ownBlock = some q → Off q) (r2 : Row .u8 256 w u2 x2) (t2 : Tidy u2) (a2 : Apart1 w vo u2) (o2 : ∀ q, u2.ownBlock = some q → Off q) (hof : Off w.heap.size) (hB : B ≤ w.heap.size) (hn : ls.length ≤ 100000)
    (h : ∀ g cap w', GrH w' B Off (.slice (some ⟨g, 0, none⟩) (ls.length + 2) cap) (ls ++ [x1, x2]) → w.grownBy w' vo.ownBlock → K (a.put d (.slice (some ⟨g, 0, none⟩) (ls.length + 2) cap)) w') : wpOp Tryz.prog ops Q i_ K a w := by
  obtain ⟨us, hown, htx, hap, hoff⟩ := hG.ex
  obtain ⟨i0, hi0, hz0, hz1, hz2⟩ := info_text
  unfold wpOp
  simp only [hi]
  rw [if_pos hw]
  left
  refine wp_append_lies w s y 48 ho B 23 i0 (.slice none 0 0) 1 24 Tryz.underlying48 hi0 hz0 hz1 hz2 rfl (by decide) vo ls.length us hs hown ⟨g1, 0, none⟩ 2 2 [u1, u2] hx rfl hc (fun z hz => by
    rcases List.mem_cons.1 hz with h | h
    · rw [h]; exact r1.one
    · have : z = u2 := by simpa using h
      rw [this]; exact r2.one) (by decide) (by unfold maxLen; omega) (by omega) hB _ rfl ?_
  intro g7 cap7 w7 how7 hg7 hl7 hs7
  rw [hd]
  refine h g7 cap7 w7 ?_ hg7
  have hgr := GrT.pushL htx hap ((Texts.one r1 t1).append (Texts.one r2 t2)) (fun u hu => by
    rcases List.mem_append.1 hu with h | h
    · have : u = u1 := by simpa using h
      rw [this]; exact a1
    · have : u = u2 := by simpa using h
      rw [this]; exact a2) how7 hg7 hl7
  have hlen : (ls ++ ([x1] ++ [x2])).length = ls.length + 2 := by simp
  obtain ⟨us2, e1, e2, e3⟩ := hgr.ex
  have hus : us2 = us ++ ([u1] ++ [u2]) := by
    rw [hlen] at e1
    have q1 := e1.2
    have q2 := how7.2
    rcases q1 with ⟨q, _⟩ | ⟨g, cap, cur, q, _, q3, _, _, _, q5⟩
    · cases q
    · rcases q2 with ⟨p, _⟩ | ⟨g', cap', cur', p, _, p3, _, _, _, p5⟩
      · cases p
      · simp only [Value.slice.injEq, Option.some.injEq, Addr.mk.injEq] at q p
        obtain ⟨⟨rfl, _⟩, _⟩ := q
        obtain ⟨⟨rfl, _⟩, _⟩ := p
        rw [q3] at p3
        simp only [Option.some.injEq, Obj.cells.injEq] at p3
        obtain ⟨rfl, _⟩ := p3
        rw [← q5]
        exact p5
  refine ⟨⟨us2, e1, e2, e3, fun u hu q hq => ?_⟩, fun q hq => ?_⟩
  · rw [hus] at hu
    rcases List.mem_append.1 hu with h | h
    · exact hoff u h q hq
    · rcases List.mem_append.1 h with h | h
      · have : u = u1 := by simpa using h
        rw [this] at hq; exact o1 q hq
      · have : u = u2 := by simpa using h
        rw [this] at hq; exact o2 q hq
  · have e : g7 = q := by simpa [Value.ownBlock] using hq
    subst e
    rcases hl7 with h | h
    · exact hG.off _ h
    · rw [h]; exact hof
/-- a text more at the end, for the rows alone -/
theorem p_push1H {ops : Array Oper} {Q : Exit → Act → World → Prop} {K : Act → World → Prop} {i_ : Nat} {o : Oper} {a : Act} {w : World} {d : Option Nat} {B g1 : Nat} {vo u : Value} {ls : List (List Nat)} {x : List Nat} {s y : Operand} (hi : ops[i_]? = some o) (hw : Region.wanted o (yielded ops a.tmps) = true)
    (ho : o.op = .call { callee := .builtin .append, args := #[s, y], argTypes := #[48, 48] }) (hd : o.dst = d) (hs : a.eval s = vo) (hG : GrT w B vo ls) (hx : a.eval y = .slice (some ⟨g1, 0, none⟩) 1 1) (hc : ∀ j z, [u][j]? = some z → w.cell? ((⟨g1, 0, none⟩ : Addr).add j) = some z) (ru : Row .u8 256 w u x) (tu : Tidy u) (au : Apart1 w vo u) (hB : B ≤ w.heap.size) (hn : ls.length ≤ 100000)
    (h : ∀ g cap w', GrT w' B (.slice (some ⟨g, 0, none⟩) (ls.length + 1) cap) (ls ++ [x]) → w.grownBy w' vo.ownBlock → K (a.put d (.slice (some ⟨g, 0, none⟩) (ls.length + 1) cap)) w') : wpOp Tryz.prog ops Q i_ K a w := by
  obtain ⟨us, hown, htx, hap⟩ := hG.ex
  obtain ⟨i0, hi0, hz0, hz1, hz2⟩ := info_text
  unfold wpOp
  simp only [hi]
  rw [if_pos hw]
  left
  refine wp_append_lies w s y 48 ho B 23 i0 (.slice none 0 0) 1 24 Tryz.underlying48 hi0 hz0 hz1 hz2 rfl (by decide) vo ls.length us hs hown ⟨g1, 0, none⟩ 1 1 [u] hx rfl hc (fun z hz => by have hzu : z = u := (by simpa using hz); rw [hzu]; exact ru.one) (by decide) (by unfold maxLen; omega) (by omega) hB _ rfl ?_
  intro g7 cap7 w7 how7 hg7 hl7 hs7
  rw [hd]
  exact h g7 cap7 w7 (GrT.push htx hap ru tu au how7 hg7 hl7) hg7
/-- a struct stored whole, inside a fence -/
theorem wpListIn_storeH {F : Fence} {n : Nat} {ops : Array Oper} {Q : Exit → Act → World → Prop} {rest : List Oper} {o : Oper} {a : Act} {w : World} (hF : ∀ f, F.fn f) (hg : o.guard = none) (ty : TypeId) (x y : Operand) (ho : o.op = .store ty x y) (g : Nat) (cells : Array Value) (hx : a.eval x = .pointer (some ⟨g, 0, none⟩)) (hy : a.eval y = .agg cells)
    (t : TypeId) (old : Array Value) (hb : w.heap[g]? = some (.cells old t (0, 0))) (hi : (Tryz.prog.info? ty).map (·.size) = some cells.size) (hold : old.size = cells.size) (h1 : cells.all (·.oneCell') = true)
    (h : wpListIn F n Tryz.prog ops Q rest (a.put o.dst undef) (w.setRow g cells)) : wpListIn F n Tryz.prog ops Q (o :: rest) a w := by
  have hr : (execOp a.eval o).run Tryz.prog w = .ok .skip (w.setRow g cells) := by
    unfold execOp
    simp only [ho, hx, hy, Instr.storeAt, Instr.sureAddr, Sem.run_bind, Sem.run_pure, Result.andThen_ok, run_storeVar_row w g t ty old cells hb hi hold h1]
  refine wpListIn_plain hg fun K hK => ?_
  unfold Oper.wpIn
  refine ⟨fun f _ => hF f, ?_⟩
  rw [Oper.semAt_eq _ _ _ (fun c hc => by rw [ho] at hc; cases hc), hr]
  exact hK _ _ h
end Go.Proofs.YtogiballdmgcpaaGreatDoor
