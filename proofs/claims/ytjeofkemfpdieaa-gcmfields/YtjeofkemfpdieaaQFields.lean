/- For every three blocks of 16 bytes and every two texts: apostillelaw12.GcmFields returns true, and each argument reads afterwards as it read before. No condition. -/
import Derived.Test.YtjeofkemfpdieaaBase
import Derived.Test.YtjeofkemfpdieaaQcH
import Derived.WalkKit
import Derived.ProofKit
import Derived.OpenShut
import Derived.ShutString
import Derived.ChangeOld
import Derived.Below
namespace Go.Proofs.Ytjeofkemfpdieaa.gcmFields
open Go.ChangeShapes Go.WideShapes Go.ChangeAt Go.RowKit
open Go.ChangeMaps (open_string shut_string)
set_option linter.unusedVariables false

set_option maxRecDepth 100000 in
set_option maxHeartbeats 4000000 in
theorem walk (cs0 : Array Value) (bk0 : List Nat) (cs1 : Array Value) (bk1 : List Nat) (cs2 : Array Value) (bk2 : List Nat) (a3 : Option Addr) (len3 cap3 : Nat) (z3 : List Int) (a4 : Option Addr) (len4 cap4 : Nat) (z4 : List Int) (w : World) (w0 : BIs cs0 bk0) (w1 : BIs cs1 bk1) (w2 : BIs cs2 bk2) (w3 : IsRow .u8 w a3 len3 cap3 z3) (w4 : IsRow .u8 w a4 len4 cap4 z4) :
    Calls Try.prog 6 #[.agg cs0, .agg cs1, .agg cs2, .slice a3 len3 cap3, .slice a4 len4 cap4] w fun e w' => e = .returned (.bool true) ∧ Below w.heap.size w w' := by
  have tp : Tidy (.slice a3 len3 cap3) := w3.tidy
  have tq : Tidy (.slice a4 len4 cap4) := w4.tidy
  obtain ⟨p, rfl, rp⟩ := w3.row wf_u8
  obtain ⟨q, rfl, rq⟩ := w4.row wf_u8
  obtain ⟨rfl, hb0⟩ := w0
  obtain ⟨rfl, hb1⟩ := w1
  obtain ⟨rfl, hb2⟩ := w2
  clear w3 w4
  obtain ⟨rA, rB, rC, hW⟩ := box3_rows w hb0 hb1 hb2
  have HW := hide hW
  by_cases hf : ¬ (p.length ≤ 100 ∧ q.length ≤ 100)
  · have hfe := few2_fG a3 a4 p.length q.length cap3 cap4 (box3 w bk0 bk1 bk2) _ (box3_size w bk0 bk1 bk2) hf
    clear hW rA rB rC
    go_enter Try.func6, Try.ntmps6
    go_wp2_with (first
      | (go_at_call 7; refine hfe.mono ?_; rintro e x1 ⟨rfl, g1⟩)
      | (go_at_call 8; refine (awakeQ_any _).mono ?_; rintro e x2 ⟨rfl, g2⟩)
      | fail)
    go_ret
    exact ⟨rfl, keep_trans (keep_trans HW.out g1) g2⟩
  have hf' := Decidable.not_not.1 hf
  have hfe := few2_tG a3 a4 p.length q.length cap3 cap4 (box3 w bk0 bk1 bk2) _ (box3_size w bk0 bk1 bk2) hf'
  have rp0 := rp.below hW
  have rq0 := rq.below hW
  have HP := hide (And.intro hf' (And.intro tp tq))
  clear hf hf' hW rp rq tp tq
  go_enter Try.func6, Try.ntmps6
  go_wp2_with (first
    | (go_at_call 7; refine hfe.mono ?_; rintro e x0 ⟨rfl, g0⟩)
    | fail)
  refine at_begin (ops := (opsA (cLA (cRA (cRA (Try.f6.body.getD .skip)))))) (n := 6) (fun _ => True) (by kernel_rfl) (by kernel_rfl) ?_
  refine at_takeD (i := 0) (m' := 1) (d := some 22) (v := .slice (some ⟨w.heap.size, 0, none⟩) 16 16) fi3reg rfl (by decide) rfl rfl (y_arrQ rfl rfl rfl) trivial ?_
  simp only [Act.put, List.setIfInBounds_toArray, List.set_cons_zero, List.set_cons_succ]
  refine at_takeD (i := 1) (m' := 3) (d := some 23) (v := .slice (some ⟨w.heap.size + 1, 0, none⟩) 16 16) fi3reg rfl (by decide) rfl rfl (y_arrQ rfl rfl rfl) trivial ?_
  simp only [Act.put, List.setIfInBounds_toArray, List.set_cons_zero, List.set_cons_succ]
  refine at_takeD (i := 2) (m' := 7) (d := some 24) (v := .slice (some ⟨w.heap.size + 1 + 1, 0, none⟩) 16 16) fi3reg rfl (by decide) rfl rfl (y_arrQ rfl rfl rfl) trivial ?_
  simp only [Act.put, List.setIfInBounds_toArray, List.set_cons_zero, List.set_cons_succ]
  refine at_takeD (i := 3) (m' := 15) (d := some 11) (v := .slice (some ⟨w.heap.size, 0, none⟩) 16 16) fi3reg rfl (by decide) rfl rfl (y_assignA rfl rfl rfl) trivial ?_
  simp only [Act.put, List.setIfInBounds_toArray, List.set_cons_zero, List.set_cons_succ]
  refine at_takeD (i := 4) (m' := 31) (d := some 12) (v := .slice (some ⟨w.heap.size + 1, 0, none⟩) 16 16) fi3reg rfl (by decide) rfl rfl (y_assignA rfl rfl rfl) trivial ?_
  simp only [Act.put, List.setIfInBounds_toArray, List.set_cons_zero, List.set_cons_succ]
  refine at_takeD (i := 5) (m' := 63) (d := some 13) (v := .slice (some ⟨w.heap.size + 1 + 1, 0, none⟩) 16 16) fi3reg rfl (by decide) rfl rfl (y_assignA rfl rfl rfl) trivial ?_
  simp only [Act.put, List.setIfInBounds_toArray, List.set_cons_zero, List.set_cons_succ]
  refine at_done fi3reg (by decide) ?_
  have g0d : Below (box3 w bk0 bk1 bk2).heap.size (box3 w bk0 bk1 bk2) x0.drew := keep_trans g0 ((Below.refl _ _).drew)
  have kW := hide (keep_trans HW.out g0d)
  have qA := rA.below g0d
  have qB := rB.below g0d
  have qC := rC.below g0d
  have qP := rp0.below g0d
  have qQ := rq0.below g0d
  generalize x0.drew = x0' at *
  have HB := hide (And.intro hb0 (And.intro hb1 hb2))
  clear rA rB rC rp0 rq0 g0 g0d hfe HW hb0 hb1 hb2
  have tk1 : True := trivial
  have tk2 : True := trivial
  have tk3 : True := trivial
  have tk4 : True := trivial
  have tk5 : True := trivial
  have tk6 : True := trivial
  have tk7 : True := trivial
  have tk8 : True := trivial
  have tk9 : True := trivial
  have tk10 : True := trivial
  have tk11 : True := trivial
  have tk12 : True := trivial
  have tk13 : True := trivial
  have tk14 : True := trivial
  go_wp2_with (first
    | (go_at_call 10; have tk := tk1; clear tk1; refine (mulQ_t (qA) (qB)).mono ?_; rintro e x1 ⟨v1, rfl, r1, _, _, g1⟩)
    | (go_at_call 10; have tk := tk2; clear tk2; refine (mulQ_t ((qB).below g1) ((qA).below g1)).mono ?_; rintro e x2 ⟨v2, rfl, r2, _, _, g2⟩; rw [mT_comm HB.out.1 HB.out.2.1] at r2)
    | (go_at_call 9; have tk := tk3; clear tk3; refine (rsame_true _ _ _ _ ((r1).below g2) (r2)).mono ?_; rintro e x3 ⟨rfl, g3⟩)
    | (go_at_call 10; have tk := tk4; clear tk4; refine (mulQ_t ((((qB).below g1).below g2).below g3) ((((qC).below g1).below g2).below g3)).mono ?_; rintro e x4 ⟨v4, rfl, r4, _, _, g4⟩)
    | (go_at_call 10; have tk := tk5; clear tk5; refine (mulQ_t (((((qA).below g1).below g2).below g3).below g4) (r4)).mono ?_; rintro e x5 ⟨v5, rfl, r5, _, _, g5⟩)
    | (go_at_call 10; have tk := tk6; clear tk6; refine (mulQ_t ((((((qA).below g1).below g2).below g3).below g4).below g5) ((((((qB).below g1).below g2).below g3).below g4).below g5)).mono ?_; rintro e x6 ⟨v6, rfl, r6, _, _, g6⟩)
    | (go_at_call 10; have tk := tk7; clear tk7; refine (mulQ_t (r6) (((((((qC).below g1).below g2).below g3).below g4).below g5).below g6)).mono ?_; rintro e x7 ⟨v7, rfl, r7, _, _, g7⟩; rw [mT_assoc HB.out.1 HB.out.2.1 HB.out.2.2] at r7)
    | (go_at_call 9; have tk := tk8; clear tk8; refine (rsame_true _ _ _ _ (((r5).below g6).below g7) (r7)).mono ?_; rintro e x8 ⟨rfl, g8⟩)
    | (go_at_call 18; have tk := tk9; clear tk9; refine (rxr_any _ _ _ _ _ (((((((((qB).below g1).below g2).below g3).below g4).below g5).below g6).below g7).below g8) (((((((((qC).below g1).below g2).below g3).below g4).below g5).below g6).below g7).below g8) (by rw [HB.out.2.1.1]; decide)).mono ?_; rintro e x9 ⟨v9, rfl, o9, g9⟩; have r9 := o9.row)
    | (go_at_call 10; have tk := tk10; clear tk10; refine (mulQ_t ((((((((((qA).below g1).below g2).below g3).below g4).below g5).below g6).below g7).below g8).below g9) (r9)).mono ?_; rintro e x10 ⟨v10, rfl, r10, _, _, g10⟩)
    | (go_at_call 10; have tk := tk11; clear tk11; refine (mulQ_t (((((((((((qA).below g1).below g2).below g3).below g4).below g5).below g6).below g7).below g8).below g9).below g10) (((((((((((qB).below g1).below g2).below g3).below g4).below g5).below g6).below g7).below g8).below g9).below g10)).mono ?_; rintro e x11 ⟨v11, rfl, r11, _, _, g11⟩)
    | (go_at_call 10; have tk := tk12; clear tk12; refine (mulQ_t ((((((((((((qA).below g1).below g2).below g3).below g4).below g5).below g6).below g7).below g8).below g9).below g10).below g11) ((((((((((((qC).below g1).below g2).below g3).below g4).below g5).below g6).below g7).below g8).below g9).below g10).below g11)).mono ?_; rintro e x12 ⟨v12, rfl, r12, _, _, g12⟩)
    | (go_at_call 18; have tk := tk13; clear tk13; refine (rxr_any _ _ _ _ _ ((r11).below g12) (r12) (by rw [(mT_b HB.out.1 HB.out.2.1).1]; decide)).mono ?_; rintro e x13 ⟨v13, rfl, o13, g13⟩; have r13 := o13.row; rw [mT_xor HB.out.1 HB.out.2.1 HB.out.2.2] at r13)
    | (go_at_call 9; have tk := tk14; clear tk14; refine (rsame_true _ _ _ _ ((((r10).below g11).below g12).below g13) (r13)).mono ?_; rintro e x14 ⟨rfl, g14⟩)
    | fail)
  have gall : Below x0'.heap.size x0' x14.drew := keep_trans (keep_trans (keep_trans (keep_trans (keep_trans (keep_trans (keep_trans (keep_trans (keep_trans (keep_trans (keep_trans (keep_trans (keep_trans (keep_trans g1 g2) g3) g4) g5) g6) g7) g8) g9) g10) g11) g12) g13) g14) ((Below.refl _ _).drew)
  have kX := hide (keep_trans kW.out gall)
  obtain ⟨⟨hp100, hq100⟩, tp, tq⟩ := HP.out
  obtain ⟨NP, hNP⟩ : ∃ n, n = p.length / 16 := ⟨_, rfl⟩
  obtain ⟨NQ, hNQ⟩ : ∃ n, n = q.length / 16 := ⟨_, rfl⟩
  obtain ⟨PP, hPP⟩ : ∃ n, n = NP * 16 := ⟨_, rfl⟩
  obtain ⟨QQ, hQQ⟩ : ∃ n, n = NQ * 16 := ⟨_, rfl⟩
  obtain ⟨_, _, he3, lc3, _⟩ := qP.opens (N := p.length) rfl
  obtain ⟨_, _, he4, lc4, _⟩ := qQ.opens (N := q.length) rfl
  simp only [Value.slice.injEq] at he3 he4
  have hc3 : PP ≤ cap3 := by omega
  have hc4 : QQ ≤ cap4 := by omega
  clear he3 he4 lc3 lc4
  refine at_begin (ops := (opsA (cLA (cRA (cRA (cRA (cRA (Try.f6.body.getD .skip)))))))) (n := 14) (fun _ => True) (by kernel_rfl) (by kernel_rfl) ?_
  refine at_takeD (i := 0) (m' := 1) (d := some 63) (v := .slice a3 p.length cap3) fi6reg rfl (by decide) rfl rfl (y_move rfl rfl rfl) trivial ?_
  simp only [Act.put, List.setIfInBounds_toArray, List.set_cons_zero, List.set_cons_succ]
  refine at_takeD (i := 1) (m' := 3) (d := some 64) (v := .slice a3 p.length cap3) fi6reg rfl (by decide) rfl rfl (y_move rfl rfl rfl) trivial ?_
  simp only [Act.put, List.setIfInBounds_toArray, List.set_cons_zero, List.set_cons_succ]
  refine at_takeD (i := 2) (m' := 7) (d := some 65) (v := .int .i64 (p.length : Int)) fi6reg rfl (by decide) rfl rfl (y_lenQ rfl rfl rfl) trivial ?_
  simp only [Act.put, List.setIfInBounds_toArray, List.set_cons_zero, List.set_cons_succ]
  refine at_takeD (i := 3) (m' := 15) (d := some 66) (v := .int .i64 (NP : Int)) fi6reg rfl (by decide) rfl rfl (y_quoQ rfl rfl rfl hNP (by omega)) trivial ?_
  simp only [Act.put, List.setIfInBounds_toArray, List.set_cons_zero, List.set_cons_succ]
  refine at_takeD (i := 4) (m' := 31) (d := some 67) (v := .int .i64 (PP : Int)) fi6reg rfl (by decide) rfl rfl (y_mulQ rfl rfl rfl hPP (by omega)) trivial ?_
  simp only [Act.put, List.setIfInBounds_toArray, List.set_cons_zero, List.set_cons_succ]
  refine at_takeD (i := 5) (m' := 63) (d := some 68) (v := .slice a3 PP cap3) fi6reg rfl (by decide) rfl rfl (y_sliceTo rfl rfl rfl rfl hc3) trivial ?_
  simp only [Act.put, List.setIfInBounds_toArray, List.set_cons_zero, List.set_cons_succ]
  refine at_takeD (i := 6) (m' := 127) (d := some 69) (v := .slice a4 q.length cap4) fi6reg rfl (by decide) rfl rfl (y_move rfl rfl rfl) trivial ?_
  simp only [Act.put, List.setIfInBounds_toArray, List.set_cons_zero, List.set_cons_succ]
  refine at_takeD (i := 7) (m' := 255) (d := some 70) (v := .slice a4 q.length cap4) fi6reg rfl (by decide) rfl rfl (y_move rfl rfl rfl) trivial ?_
  simp only [Act.put, List.setIfInBounds_toArray, List.set_cons_zero, List.set_cons_succ]
  refine at_takeD (i := 8) (m' := 511) (d := some 71) (v := .int .i64 (q.length : Int)) fi6reg rfl (by decide) rfl rfl (y_lenQ rfl rfl rfl) trivial ?_
  simp only [Act.put, List.setIfInBounds_toArray, List.set_cons_zero, List.set_cons_succ]
  refine at_takeD (i := 9) (m' := 1023) (d := some 72) (v := .int .i64 (NQ : Int)) fi6reg rfl (by decide) rfl rfl (y_quoQ rfl rfl rfl hNQ (by omega)) trivial ?_
  simp only [Act.put, List.setIfInBounds_toArray, List.set_cons_zero, List.set_cons_succ]
  refine at_takeD (i := 10) (m' := 2047) (d := some 73) (v := .int .i64 (QQ : Int)) fi6reg rfl (by decide) rfl rfl (y_mulQ rfl rfl rfl hQQ (by omega)) trivial ?_
  simp only [Act.put, List.setIfInBounds_toArray, List.set_cons_zero, List.set_cons_succ]
  refine at_takeD (i := 11) (m' := 4095) (d := some 74) (v := .slice a4 QQ cap4) fi6reg rfl (by decide) rfl rfl (y_sliceTo rfl rfl rfl rfl hc4) trivial ?_
  simp only [Act.put, List.setIfInBounds_toArray, List.set_cons_zero, List.set_cons_succ]
  refine at_takeD (i := 12) (m' := 8191) (d := some 3) (v := .slice a3 PP cap3) fi6reg rfl (by decide) rfl rfl (y_assignA rfl rfl rfl) trivial ?_
  simp only [Act.put, List.setIfInBounds_toArray, List.set_cons_zero, List.set_cons_succ]
  refine at_takeD (i := 13) (m' := 16383) (d := some 4) (v := .slice a4 QQ cap4) fi6reg rfl (by decide) rfl rfl (y_assignA rfl rfl rfl) trivial ?_
  simp only [Act.put, List.setIfInBounds_toArray, List.set_cons_zero, List.set_cons_succ]
  refine at_done fi6reg (by decide) ?_
  have sA := qA.below gall
  have sP := (qP.below gall).cut (M := PP) (by omega)
  have sQ := (qQ.below gall).cut (M := QQ) (by omega)
  have tP := tidy_cut tp (M := PP) (by omega)
  have tQ := tidy_cut tq (M := QQ) (by omega)
  have lP : (p.take PP).length = 16 * NP := by rw [List.length_take]; omega
  have lQ : (q.take QQ).length = 16 * NQ := by rw [List.length_take]; omega
  have hPQ : (p.take PP).length = PP ∧ (q.take QQ).length = QQ := by omega
  have l100 : (p.take PP).length ≤ 100 ∧ (q.take QQ).length ≤ 100 := by omega
  generalize p.take PP = pp at *
  generalize q.take QQ = qq at *
  generalize x14.drew = z0 at *
  have hNQ2 : QQ = 16 * NQ := by omega
  clear gall qA qB qC qP qQ kW HP tp tq hNP hNQ hPP hQQ hp100 hq100 hc3 g1 g2 g3 g4 g5 g6 g7 g8 g9 g10 g11 g12 g13 g14
  by_cases hz : NQ = 0
  · have hQ0 : (QQ : Int) = 0 := by omega
    clear hz
    go_wp2_with (first
      | (go_at_call 8; refine (awakeQ_any _).mono ?_; rintro e z1 ⟨rfl, f1⟩)
      | fail)
    go_ret
    exact ⟨rfl, keep_trans kX.out f1⟩
  obtain ⟨m, hm⟩ : ∃ m, NQ = m + 1 := ⟨NQ - 1, by omega⟩
  have hQ0 : ¬ (QQ : Int) = 0 := by omega
  have hrow := gh_rows (h := bk0) HB.out.1 (m := m) lP (by omega : qq.length = 16 * (m + 1)) sQ.under
  have hFB := gh_first_len (h := bk0) HB.out.1 lP
  obtain ⟨hcQ, qb, qo, hqa⟩ : QQ ≤ cap4 ∧ ∃ qb qo, a4 = some ⟨qb, qo, none⟩ := by
    obtain ⟨qa4, qc4, he4, lc4, _, hq4⟩ := sQ.opens hPQ.2
    simp only [Value.slice.injEq] at he4
    obtain ⟨qb, qo, hqa, _⟩ := hq4 (by omega)
    exact ⟨by omega, qb, qo, by rw [he4.1]; exact hqa⟩
  have hgh1 := ghQ_t sA sP (by omega)
  have HH := hide (And.intro hrow (And.intro hFB (And.intro hPQ (And.intro l100 (And.intro hqa (And.intro lP (And.intro lQ (And.intro hm (And.intro hNQ2 hcQ)))))))))
  clear hrow hFB hPQ l100 hqa lP lQ hz hm hNQ2 hcQ hc4
  go_wp2_with (first
    | (go_at_call 12; refine hgh1.mono ?_; rintro e z1 ⟨vF, rfl, rF, _, _, f1⟩)
    | fail)
  have f1d : Below z0.heap.size z0 z1.drew := keep_trans f1 ((Below.refl _ _).drew)
  have uA := sA.below f1d
  have uP := sP.below f1d
  have uQ := sQ.below f1d
  have uF := rF.below ((Below.refl z1.heap.size z1).drew)
  have kY := hide (keep_trans kX.out f1d)
  refine at_begin (ops := (opsA (cLA (cRA (cRA (cRA (cRA (cRA (cRA (cRA (Try.f6.body.getD .skip))))))))))) (n := 8) (fun _ => True) (by kernel_rfl) (by kernel_rfl) ?_
  generalize z1.drew = y0 at *
  have hQ16 : 16 ≤ QQ := by have := HH.out.2.2.2.2.2.2.2; omega
  obtain ⟨TA, hTA, hTd⟩ := slice_from a4 QQ cap4 16 hQ16 HH.out.2.2.2.2.2.2.2.2.2
  have uT := uQ.behind hQ16 hTd
  have uH := uQ.cut (M := 16) (by have := HH.out.2.2.1.2; omega)
  have tT : Tidy (.slice TA (QQ - 16) (cap4 - 16)) := tidy_behind HH.out.2.2.2.2.1 hTd
  refine at_takeD (i := 0) (m' := 1) (d := some 82) (v := .slice a4 QQ cap4) fi10reg rfl (by decide) rfl rfl (y_move rfl rfl rfl) trivial ?_
  simp only [Act.put, List.setIfInBounds_toArray, List.set_cons_zero, List.set_cons_succ]
  refine at_takeD (i := 1) (m' := 3) (d := some 83) (v := .slice a4 16 cap4) fi10reg rfl (by decide) rfl rfl (y_sliceTo (F := 16) rfl rfl rfl rfl (by have := HH.out.2.2.2.2.2.2.2.2.2; omega)) trivial ?_
  simp only [Act.put, List.setIfInBounds_toArray, List.set_cons_zero, List.set_cons_succ]
  refine at_takeD (i := 2) (m' := 7) (d := some 84) (v := vF) fi10reg rfl (by decide) rfl rfl (y_move rfl rfl rfl) trivial ?_
  simp only [Act.put, List.setIfInBounds_toArray, List.set_cons_zero, List.set_cons_succ]
  refine at_takeD (i := 4) (m' := 23) (d := some 86) (v := .slice a4 QQ cap4) fi10reg rfl (by decide) rfl rfl (y_move rfl rfl rfl) trivial ?_
  simp only [Act.put, List.setIfInBounds_toArray, List.set_cons_zero, List.set_cons_succ]
  refine at_takeD (i := 5) (m' := 55) (d := some 87) (v := .slice TA (QQ - 16) (cap4 - 16)) fi10reg rfl (by decide) rfl rfl (y_sliceQ (F := 16) rfl rfl rfl rfl hTA ⟨_, _, _, rfl⟩) trivial ?_
  simp only [Act.put, List.setIfInBounds_toArray, List.set_cons_zero, List.set_cons_succ]
  refine at_one (i := 3) (m' := 63) fi10reg (by decide) rfl ?_
  refine p_call2 (u := .slice a4 16 cap4) (v := vF) (d := some 85) rfl rfl rfl rfl rfl rfl Try.call18 ((rxr_any _ _ _ _ _ uH uF (by rw [List.length_take]; omega)).mono ?_)
  rintro e y1 ⟨vX, rfl, oX, e1⟩
  refine ⟨_, rfl, trivial, ?_⟩
  simp only [Act.put, List.setIfInBounds_toArray, List.set_cons_zero, List.set_cons_succ]
  have hxl : (xrL (qq.take 16) (ghT bk0 pp)).length ≤ 1000 := by unfold xrL; rw [List.length_map, List.length_range, List.length_take]; omega
  refine at_one (i := 6) (m' := 127) fi10reg (by decide) rfl ?_
  refine p_appQ (d := some 88) rfl rfl rfl rfl y0.heap.size vX (.slice TA (QQ - 16) (cap4 - 16)) _ (qq.drop 16) rfl oX rfl (uT.below e1) tT (by omega) (by rw [List.length_drop]; have := HH.out.2.2.2.1; omega) e1.size ?_
  intro vR y2 oR gr
  have e2 : Below y0.heap.size y0 y2 := (e1).grown gr e1.size (fun j ej => (oX.1.lt j ej).1)
  refine ⟨trivial, ?_⟩
  simp only [Act.put, List.setIfInBounds_toArray, List.set_cons_zero, List.set_cons_succ]
  refine at_takeD (i := 7) (m' := 255) (d := some 15) (v := vR) fi10reg rfl (by decide) rfl rfl (y_assignA rfl rfl rfl) trivial ?_
  simp only [Act.put, List.setIfInBounds_toArray, List.set_cons_zero, List.set_cons_succ]
  refine at_done fi10reg (by decide) ?_
  have hR1 := oR.row
  have kZ := hide (keep_trans kY.out e2)
  have xA := uA.below e2
  have xP := uP.below e2
  have xQ := uQ.below e2
  obtain ⟨rest, hrest⟩ : ∃ r, r = xrL (qq.take 16) (ghT bk0 pp) ++ qq.drop 16 := ⟨_, rfl⟩
  have hrl : rest.length ≤ 1000 := by rw [hrest, List.length_append, List.length_drop]; unfold xrL; rw [List.length_map, List.length_range, List.length_take]; have := HH.out.2.2.2.1; omega
  rw [← hrest] at hR1
  have hgr : ghT bk0 rest = ghT bk0 (pp ++ qq) := by rw [hrest]; exact HH.out.1
  have xP' := xP.below (keep_alloc y2 (.cells #[.slice a3 PP cap3, .slice a4 QQ cap4] 22))
  have hlit := rows_lit2G xP tP xQ tQ
  have hfe : [pp, qq].flatten = pp ++ qq := by simp
  have hj := rjoin_any _ _ _ hlit (by rw [hfe, List.length_append]; have := HH.out.2.2.2.1; omega)
  rw [hfe] at hj
  have hl2 : (pp ++ qq).length ≤ 1000 := by rw [List.length_append]; have := HH.out.2.2.2.1; omega
  have HZ := hide (And.intro hgr (And.intro hrl hl2))
  have tk1 : True := trivial
  clear hgr hrl hl2 hrest hfe hxl oR gr uT uH uF uA uP uQ hlit hTd hQ16
  go_wp2_with (first
    | (go_at_call 19; refine hj.mono ?_; rintro e y3 ⟨vJ, rfl, oJ, e3⟩; have e3' := keep_trans (keep_alloc y2 (.cells #[.slice a3 PP cap3, .slice a4 QQ cap4] 22)) e3)
    | (go_at_call 12; have tk := tk1; clear tk1; refine (ghQ_t (xA.below e3') oJ.row HZ.out.2.2).mono ?_; rintro e y4 ⟨v4, rfl, r4, _, _, e4⟩)
    | (go_at_call 12; refine (ghQ_t ((xA.below e3').below e4) ((hR1.below e3').below e4) HZ.out.2.1).mono ?_; rintro e y5 ⟨v5, rfl, r5, _, _, e5⟩; rw [HZ.out.1] at r5)
    | (go_at_call 9; refine (rsame_true _ _ _ _ (r4.below e5) r5).mono ?_; rintro e y6 ⟨rfl, e6⟩)
    | (go_at_call 8; refine (awakeQ_any _).mono ?_; rintro e y7 ⟨rfl, e7⟩)
    | fail)
  go_ret
  exact ⟨rfl, keep_trans (keep_trans (keep_trans (keep_trans (keep_trans kZ.out e3') e4) e5) e6) e7⟩

set_option maxRecDepth 100000 in
theorem lifted (os : Os) (started : os.Started) (H : Type) (enc : TypeId × Value → H) :
    ReturnsInHanded {} Try.checked os 6 .any (Rows.gcmFieldsSpec.pre6 enc Try.prog Try.f6 Rows.gcmFieldsRow.domain false) (Rows.gcmFieldsSpec.post enc Try.prog Try.f6 false true false false) := by
  refine returnsInHanded_of_change (C := Try.checked) own started (by kernel_rfl) Try.func6
    (ChangeSpec.witness6 (enc := enc) (C := Try.checked) false ⟨#[], #[.agg #[.int .u8 0, .int .u8 0, .int .u8 0, .int .u8 0, .int .u8 0, .int .u8 0, .int .u8 0, .int .u8 0, .int .u8 0, .int .u8 0, .int .u8 0, .int .u8 0, .int .u8 0, .int .u8 0, .int .u8 0, .int .u8 0], .agg #[.int .u8 0, .int .u8 0, .int .u8 0, .int .u8 0, .int .u8 0, .int .u8 0, .int .u8 0, .int .u8 0, .int .u8 0, .int .u8 0, .int .u8 0, .int .u8 0, .int .u8 0, .int .u8 0, .int .u8 0, .int .u8 0], .agg #[.int .u8 0, .int .u8 0, .int .u8 0, .int .u8 0, .int .u8 0, .int .u8 0, .int .u8 0, .int .u8 0, .int .u8 0, .int .u8 0, .int .u8 0, .int .u8 0, .int .u8 0, .int .u8 0, .int .u8 0, .int .u8 0], .slice none 0 0, .slice none 0 0], []⟩ 8 (by kernel_rfl) (by kernel_rfl) (by kernel_rfl) (by kernel_rfl)) ?_
  intro W base args ds gs before hval0 hW hcnd _
  have hval : ∀ (j : Nat) t v, Try.f6.params[j]? = some t → args[j]? = some v → Value.okWide Try.prog W .any base t v := hval0
  have hW' := hW
  obtain ⟨p, q, hA0, hV, rfl, hfz, hnd⟩ := hW
  have hA : DataW.TrodAll enc Try.prog W 0 (fun _ => true) true Try.f6.params.toList args.toList ds p := hA0
  rw [Try.params6] at hA hval
  obtain ⟨v0, vs0, d0, ds0, p0, q0, hargs, rfl, rfl, h0, r0⟩ := trodAll_cons hA
  obtain ⟨v1, vs1, d1, ds1, p1, q1, rfl, rfl, rfl, h1, r1⟩ := trodAll_cons r0
  obtain ⟨v2, vs2, d2, ds2, p2, q2, rfl, rfl, rfl, h2, r2⟩ := trodAll_cons r1
  obtain ⟨v3, vs3, d3, ds3, p3, q3, rfl, rfl, rfl, h3, r3⟩ := trodAll_cons r2
  obtain ⟨v4, vs4, d4, ds4, p4, q4, rfl, rfl, rfl, h4, r4⟩ := trodAll_cons r3
  obtain ⟨rfl, rfl, rfl⟩ := trodAll_nil r4
  obtain rfl : args = #[v0, v1, v2, v3, v4] := by cases args; simp_all
  obtain ⟨rfl, rfl⟩ := trodVars_none hV
  obtain ⟨cs0, rfl, hcz0⟩ := okWide_array Try.underlying35 (hval 0 35 v0 rfl rfl)
  have k0 := h0
  have lt0 : ∀ x ∈ p0, x.block < W.heap.size := by obtain ⟨m, hm⟩ := k0; exact DataW.trod_lt m _ _ _ hm
  obtain ⟨bk0, w0⟩ : ∃ bk, BIs cs0 bk := by
    obtain ⟨fuel, hf⟩ := h0
    exact read_blocks (by simpa [Value.cells] using hf)
  obtain ⟨cs1, rfl, hcz1⟩ := okWide_array Try.underlying35 (hval 1 35 v1 rfl rfl)
  have k1 := h1
  have lt1 : ∀ x ∈ p1, x.block < W.heap.size := by obtain ⟨m, hm⟩ := k1; exact DataW.trod_lt m _ _ _ hm
  obtain ⟨bk1, w1⟩ : ∃ bk, BIs cs1 bk := by
    obtain ⟨fuel, hf⟩ := h1
    exact read_blocks (by simpa [Value.cells] using hf)
  obtain ⟨cs2, rfl, hcz2⟩ := okWide_array Try.underlying35 (hval 2 35 v2 rfl rfl)
  have k2 := h2
  have lt2 : ∀ x ∈ p2, x.block < W.heap.size := by obtain ⟨m, hm⟩ := k2; exact DataW.trod_lt m _ _ _ hm
  obtain ⟨bk2, w2⟩ : ∃ bk, BIs cs2 bk := by
    obtain ⟨fuel, hf⟩ := h2
    exact read_blocks (by simpa [Value.cells] using hf)
  obtain ⟨a3, len3, cap3, rfl⟩ := okWide_slice Try.underlying22 (hval 3 22 v3 rfl rfl)
  have k3 := h3
  have lt3 : ∀ x ∈ p3, x.block < W.heap.size := by obtain ⟨m, hm⟩ := k3; exact DataW.trod_lt m _ _ _ hm
  obtain ⟨z3, w3⟩ : ∃ zs, IsRow .u8 W a3 len3 cap3 zs := by
    obtain ⟨fuel, hf⟩ := h3
    rcases open_ints Try.underlying22 Try.underlying5 (by kernel_rfl) hf with ⟨hcs, _⟩ | ⟨x, l, c, zs, hcs, _, hl, hm, hz, _, hcell, hwz⟩
    · simp [Value.cells] at hcs
      obtain ⟨rfl, rfl, rfl⟩ := hcs
      exact ⟨[], .inl ⟨rfl, rfl, rfl, rfl⟩⟩
    · simp [Value.cells] at hcs
      obtain ⟨rfl, rfl, rfl⟩ := hcs
      exact ⟨zs, .inr ⟨_, rfl, hl, hm, by simpa using hz, hcell, hwz⟩⟩
  obtain ⟨a4, len4, cap4, rfl⟩ := okWide_slice Try.underlying22 (hval 4 22 v4 rfl rfl)
  have k4 := h4
  have lt4 : ∀ x ∈ p4, x.block < W.heap.size := by obtain ⟨m, hm⟩ := k4; exact DataW.trod_lt m _ _ _ hm
  obtain ⟨z4, w4⟩ : ∃ zs, IsRow .u8 W a4 len4 cap4 zs := by
    obtain ⟨fuel, hf⟩ := h4
    rcases open_ints Try.underlying22 Try.underlying5 (by kernel_rfl) hf with ⟨hcs, _⟩ | ⟨x, l, c, zs, hcs, _, hl, hm, hz, _, hcell, hwz⟩
    · simp [Value.cells] at hcs
      obtain ⟨rfl, rfl, rfl⟩ := hcs
      exact ⟨[], .inl ⟨rfl, rfl, rfl, rfl⟩⟩
    · simp [Value.cells] at hcs
      obtain ⟨rfl, rfl, rfl⟩ := hcs
      exact ⟨zs, .inr ⟨_, rfl, hl, hm, by simpa using hz, hcell, hwz⟩⟩
  clear hA0 hval0
  refine (walk cs0 bk0 cs1 bk1 cs2 bk2 a3 len3 cap3 z3 a4 len4 cap4 z4 W w0 w1 w2 w3 w4).mono fun e W' ⟨he, bel⟩ => ?_
  subst he
  exact ⟨_, rfl, _, _, _, [], _, [], hW', trodAll_mk1 (shut_bool Try.underlying4 _), (trodAll_cons_mk (Below.trod laidOut (by kernel_rfl) (of_decide_eq_true (by kernel_rfl)) k0 bel lt0) (trodAll_cons_mk (Below.trod laidOut (by kernel_rfl) (of_decide_eq_true (by kernel_rfl)) k1 bel lt1) (trodAll_cons_mk (Below.trod laidOut (by kernel_rfl) (of_decide_eq_true (by kernel_rfl)) k2 bel lt2) (trodAll_cons_mk (Below.trod laidOut (by kernel_rfl) (of_decide_eq_true (by kernel_rfl)) k3 bel lt3) (trodAll_cons_mk (Below.trod laidOut (by kernel_rfl) (of_decide_eq_true (by kernel_rfl)) k4 bel lt4) trodAll_mk0))))), rfl, bel.frame _, fun h => by cases h⟩

theorem over : Rows.gcmFieldsRow.holds Try.pinned (OpenSpec.ofChange Rows.gcmFieldsSpec) :=
  OpenClaim.holds_of_wide 6 Try.f6 rfl rfl rfl rfl rfl rfl rfl ⟨rfl, rfl, rfl, rfl, rfl⟩ rfl rfl rfl rfl rfl (by kernel_rfl) Try.func6 (by kernel_rfl)
    (of_decide_eq_true (by kernel_rfl)) (by unfold Func.isWrapper; first | (rw [if_pos (by decide +kernel)]; kernel_rfl) | (rw [if_neg (by decide +kernel)]; exact ⟨rfl, rfl⟩))
    (fun os started H enc _ => lifted os started H enc)

end Go.Proofs.Ytjeofkemfpdieaa.gcmFields
namespace Go.Proofs.Ytjeofkemfpdieaa
theorem gcmFields_holds : Rows.GcmFieldsSaid := gcmFields.over
end Go.Proofs.Ytjeofkemfpdieaa
