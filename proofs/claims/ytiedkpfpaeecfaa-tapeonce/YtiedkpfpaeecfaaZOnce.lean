/- For every tape and every two bytes: apostillelaw13.TapeOnce returns true, and each argument reads afterwards as it read before. No condition. -/
import Derived.Test.YtiedkpfpaeecfaaTFrm
import Derived.Test.YtiedkpfpaeecfaaTcR
import Derived.WalkKit
import Derived.ProofKit
import Derived.OpenShut
import Derived.ShutString
import Derived.ChangeOld
import Derived.Below
namespace Go.Proofs.Ytiedkpfpaeecfaa.tapeOnce
open Go.ChangeShapes Go.WideShapes Go.ChangeAt Go.RowKit
open Go.ChangeMaps (open_string shut_string)
set_option linter.unusedVariables false

set_option maxRecDepth 100000 in
set_option maxHeartbeats 4000000 in
theorem walk (cs0 : Array Value) (tv0 : Value) (tl0 : List Nat) (tx0 : Int) (a1 : Int) (a2 : Int) (w : World) (w0 : TIs w cs0 tv0 tl0 tx0) (w1 : (Lit.int .u8 a1).wf = true) (w2 : (Lit.int .u8 a2).wf = true) :
    Calls Try.prog 4 #[.agg cs0, .int .u8 a1, .int .u8 a2] w fun e w' => e = .returned (.bool true) ∧ Below w.heap.size w w' := by
  obtain ⟨rfl, _, _, r0, td0⟩ := w0
  have hw1 := wf_u8 _ w1
  have hw2 := wf_u8 _ w2
  clear w1 w2
  obtain ⟨N, rfl⟩ : ∃ N : Nat, a1 = (N : Int) := ⟨a1.toNat, by omega⟩
  obtain ⟨M, rfl⟩ : ∃ M : Nat, a2 = (M : Int) := ⟨a2.toNat, by omega⟩
  have hNl : N < 256 := by omega
  have hMl : M < 256 := by omega
  clear hw1 hw2
  have r0' := r0
  obtain ⟨ta, tc, rfl, _⟩ := r0'.opens rfl
  clear r0'
  obtain ⟨n0, hn0⟩ : ∃ n, tl0.length = n := ⟨_, rfl⟩
  rw [hn0] at r0 td0 ⊢
  have b3 := Bx2.new w (.slice ta n0 tc) (.int .i64 tx0)
  have hbw := keep_alloc w (.cells #[.slice ta n0 tc, .int .i64 tx0] 24)
  by_cases g0 : 2000 < n0
  · have g0' : (2000 : Int) < (n0 : Int) := by omega
    clear hn0
    go_enter Try.func4, Try.ntmps4
    go_wp2_with (first
      | (go_at_call 5; refine (tawake_any _).mono ?_; rintro e x2 ⟨rfl, g2⟩)
      | fail)
    go_ret
    exact ⟨rfl, keep_trans hbw g2⟩
  have g0' : ¬ ((2000 : Int) < (n0 : Int)) := by omega
  have hNb : (0 : Int) ≤ (N : Int) ∧ (N : Int) ≤ 1000 := by omega
  have hMb : (0 : Int) ≤ (M : Int) ∧ (M : Int) ≤ 1000 := by omega
  have sN : IntKind.i64.wrap (N : Int) = (N : Int) := by rw [IntKind.wrap_i64]; omega
  have sM : IntKind.i64.wrap (M : Int) = (M : Int) := by rw [IntKind.wrap_i64]; omega
  obtain ⟨K, hK⟩ : ∃ K : Int, (N : Int) + (M : Int) = K := ⟨_, rfl⟩
  have sK : IntKind.i64.wrap K = K := by rw [IntKind.wrap_i64]; omega
  have hT1 := tTake_any tl0 (.slice ta n0 tc) tx0 (N : Int) _ (r0.below hbw) td0 (by omega)
  have hT := fun y (h : Below w.heap.size w y) => tTake_any tl0 (.slice ta n0 tc) tx0 K y (r0.below h) td0 (by omega)
  have hA := fun u y (r : Row .u8 256 y u tl0) (t : Tidy u) => tTake_any tl0 u (tkY n0 tx0 (N : Int)) (M : Int) y r t (by omega)
  have hP := fun y kv (h : Below w.heap.size w y) (rI : RowI y kv [(N : Int), (M : Int)]) => tParts_any tl0 (.slice ta n0 tc) kv tx0 [(N : Int), (M : Int)] y (r0.below h) td0 (by omega) rI (by simp)
  rw [hn0] at hT1 hT hA hP
  by_cases hOK : tkC n0 tx0 (N : Int) = 0 ∧ tkC n0 (tx0 + (N : Int)) (M : Int) = 0
  · obtain ⟨p1, p2, p3, p4, p5, p6, p7, p8, p9, p10⟩ := once_ok (l := tl0) (x := tx0) (by rw [hn0]; exact hOK.1) (by rw [hn0]; exact hOK.2) hNb.1 hMb.1
    rw [hn0] at p1 p2 p3 p4 p5 p6
    rw [hK] at p3 p4 p9
    rw [p1, p2, p8, hOK.2] at hA
    rw [p1, hOK.1, p7] at hT1
    rw [p3, p4, p9] at hT
    rw [p5, p6, p10] at hP
    obtain ⟨hF, hk0, hk1⟩ := tk_ok hOK.1
    obtain ⟨hF2, hk2, hk3⟩ := tk_ok hOK.2
    have hF3 := tk_next hOK.2
    have l1 : leftT n0 tx0 = (n0 : Int) - tx0 := if_pos hF
    have l2 : leftT n0 (tx0 + (N : Int) + (M : Int)) = (n0 : Int) - (tx0 + (N : Int) + (M : Int)) := if_pos hF3
    have hl9 : ([tkL tl0 tx0 (N : Int), tkL tl0 (tx0 + (N : Int)) (M : Int)].flatten).length ≤ 2000000 := by
      have q1 := tkL_len (l := tl0) (x := tx0) (k := (N : Int)) (by rw [hn0]; exact hOK.1)
      have q2 := tkL_len (l := tl0) (x := tx0 + (N : Int)) (k := (M : Int)) (by rw [hn0]; exact hOK.2)
      simp only [List.flatten_cons, List.flatten_nil, List.append_nil, List.length_append, q1, q2]
      omega
    have hw1 : IntKind.i64.wrap (leftT n0 (tx0 + (N : Int) + (M : Int)) + (N : Int)) = leftT n0 (tx0 + (N : Int) + (M : Int)) + (N : Int) := by rw [IntKind.wrap_i64]; unfold FitT at hF hF3; omega
    have hw2 : IntKind.i64.wrap (leftT n0 (tx0 + (N : Int) + (M : Int)) + (N : Int) + (M : Int)) = leftT n0 tx0 := by rw [IntKind.wrap_i64]; unfold FitT at hF hF3; omega
    have HG := hide (And.intro hl9 (And.intro hw1 (And.intro hw2 r0)))
    clear p1 p2 p3 p4 p5 p6 p7 p8 p9 p10 hOK hF hk0 hk1 hF2 hk2 hk3 hF3 l1 l2 hl9 hw1 hw2 r0
    generalize hC : tx0 + (N : Int) + (M : Int) = C at *
    clear hC
    generalize tx0 + (N : Int) = A at *
    generalize tkL tl0 tx0 (N : Int) = Bl at *
    generalize tkL tl0 A (M : Int) = Dl at *
    go_enter Try.func4, Try.ntmps4
    go_wp2_with (first
      | (go_at_call 6; have hu := hT1; clear hT1; refine hu.mono ?_; rintro e y1 ⟨av, bv, rfl, oa, ob, g1⟩; obtain ⟨aa, ac, rfl⟩ := own_sliceA oa.1; rw [hn0] at oa; obtain ⟨ba, bc, rfl⟩ := own_sliceA ob.1; have hT2 := hA (.slice aa n0 ac) (y1.alloc (.cells #[.slice aa n0 ac, .int .i64 A] 24)) (oa.row.below (keep_alloc y1 _)) (own_tidyG oa); have e1 := (b3.below g1).below (keep_alloc y1 (.cells #[.slice aa n0 ac, .int .i64 A] 24)); have h1 := keep_trans (keep_trans hbw g1) (keep_alloc y1 (.cells #[.slice aa n0 ac, .int .i64 A] 24)))
      | (go_at_call 6; have hu := hT2; clear hT2; refine hu.mono ?_; rintro e y2 ⟨cv, dv, rfl, oc, od, g2⟩; obtain ⟨ca, cc, rfl⟩ := own_sliceA oc.1; rw [hn0] at oc; obtain ⟨da, dc, rfl⟩ := own_sliceA od.1; have e2 := (e1.below g2).below (keep_alloc y2 (.cells #[.slice ca n0 cc, .int .i64 C] 24)); have f2 := e2.c0; have f2' := e2.c1; have h2 := keep_trans (keep_trans h1 g2) (keep_alloc y2 (.cells #[.slice ca n0 cc, .int .i64 C] 24)); have hT3 := hT _ h2)
      | (go_at_call 6; have hu := hT3; clear hT3; refine hu.mono ?_; rintro e y3 ⟨xv, yv, rfl, ox, oy, g3⟩; obtain ⟨xa, xc, rfl⟩ := own_sliceA ox.1; rw [hn0] at ox; have e3 := (e2.below g3).below (keep_alloc y3 (.cells #[.slice xa n0 xc, .int .i64 C] 24)); have f3 := e3.c0; have f3' := e3.c1; have h3 := keep_trans (keep_trans h2 g3) (keep_alloc y3 (.cells #[.slice xa n0 xc, .int .i64 C] 24)); have hk3 := keep_trans h3 (keep_alloc (y3.alloc (.cells #[.slice xa n0 xc, .int .i64 C] 24)) (.cells #[.int .i64 (N : Int), .int .i64 (M : Int)] 3)); have hP4 := hP _ (.slice (some ⟨y3.heap.size + 1, 0, none⟩) 2 2) hk3 (rowI_two _ _ _ _ (World.size_alloc _ _) hNb hMb))
      | (go_at_call 8; have hu := hP4; clear hP4; refine hu.mono ?_; rintro e y4 ⟨zv, lv, rfl, oz, rl4, g4⟩; obtain ⟨za, zc, rfl⟩ := own_sliceA oz.1; rw [hn0] at oz; obtain ⟨la, lc, hle, _⟩ := id rl4; subst hle)
      | fail)
    have k4 := keep_alloc y4 (.cells #[.slice za n0 zc, .int .i64 C] 24)
    have k34 := keep_trans g4 k4
    have k3b := keep_trans (keep_alloc (y3.alloc (.cells #[.slice xa n0 xc, .int .i64 C] 24)) (.cells #[.int .i64 (N : Int), .int .i64 (M : Int)] 3)) k34
    have k3 := keep_trans (keep_alloc y3 (.cells #[.slice xa n0 xc, .int .i64 C] 24)) k3b
    have k23 := keep_trans g3 k3
    have k2 := keep_trans (keep_alloc y2 (.cells #[.slice ca n0 cc, .int .i64 C] 24)) k23
    have k12 := keep_trans g2 k2
    have k1 := keep_trans (keep_alloc y1 (.cells #[.slice aa n0 ac, .int .i64 A] 24)) k12
    have k0 := keep_trans g1 k1
    have kw := keep_trans hbw k0
    obtain ⟨hl9, hw1, hw2, r0⟩ := HG.out
    refine once_reg ⟨rfl, rfl⟩ rfl rfl rfl rfl rfl rfl rfl rfl rfl rfl rfl rfl (b3.below k0) ((Bx2.new y2 _ _).below k23) ((Bx2.new y3 _ _).below k3b) (Bx2.new y4 _ _) (oc.row.below k2) (ox.row.below k3) (oz.row.below k4) (ob.row.below k1) (own_tidyG ob) (od.row.below k2) (own_tidyG od) (oy.row.below k3) (rl4.below k4) (Y := Bl ++ Dl) (by simp) hl9 hNl hMl hw1 hw2 ?_
    intro a' y F' s6 hb
    go_wp2
    exact F'.ret1 rfl s6 ⟨rfl, keep_trans kw hb⟩
  · obtain ⟨p3, p4, p9, p5, p6, p10⟩ := once_no (l := tl0) (x := tx0) hNb.1 hMb.1 (by rw [hn0]; intro h1 h2; exact hOK ⟨h1, h2⟩)
    rw [hn0] at p3 p4 p5 p6
    rw [hK] at p3 p4 p9
    rw [p4, p9] at hT
    rw [p6, p10] at hP
    have hEF : tkC n0 tx0 (N : Int) = 0 → tkC n0 (tkY n0 tx0 (N : Int)) (M : Int) ≠ 0 := fun h1 h2 => hOK ⟨h1, by rw [show tkY n0 tx0 (N : Int) = tx0 + (N : Int) from if_pos h1] at h2; exact h2⟩
    have hGb : (tkC n0 tx0 K != 0) = true := by simp [p3]
    have hHb : (ptC n0 tx0 [(N : Int), (M : Int)] != 0) = true := by simp [p5]
    have HR := hide r0
    clear hOK p3 p4 p9 p5 p6 p10 r0
    generalize tkY n0 (tkY n0 tx0 (N : Int)) (M : Int) = CC at *
    generalize tkC n0 (tkY n0 tx0 (N : Int)) (M : Int) = FF at *
    generalize tkB tl0 (tkY n0 tx0 (N : Int)) (M : Int) = Dl at *
    generalize tkY n0 tx0 (N : Int) = A at *
    generalize tkC n0 tx0 (N : Int) = EE at *
    generalize tkB tl0 tx0 (N : Int) = Bl at *
    generalize tkC n0 tx0 K = GG at *
    generalize ptC n0 tx0 [(N : Int), (M : Int)] = HH at *
    by_cases hE : EE = 0
    · have hFb : (FF != 0) = true := by simp [hEF hE]
      subst hE
      clear hEF
      go_enter Try.func4, Try.ntmps4
      go_wp2_with (first
        | (go_at_call 6; have hu := hT1; clear hT1; refine hu.mono ?_; rintro e y1 ⟨av, bv, rfl, oa, ob, g1⟩; obtain ⟨aa, ac, rfl⟩ := own_sliceA oa.1; rw [hn0] at oa; obtain ⟨ba, bc, rfl⟩ := own_sliceA ob.1; have hT2 := hA (.slice aa n0 ac) (y1.alloc (.cells #[.slice aa n0 ac, .int .i64 A] 24)) (oa.row.below (keep_alloc y1 _)) (own_tidyG oa); have e1 := (b3.below g1).below (keep_alloc y1 (.cells #[.slice aa n0 ac, .int .i64 A] 24)); have h1 := keep_trans (keep_trans hbw g1) (keep_alloc y1 (.cells #[.slice aa n0 ac, .int .i64 A] 24)))
        | (go_at_call 6; have hu := hT2; clear hT2; refine hu.mono ?_; rintro e y2 ⟨cv, dv, rfl, oc, od, g2⟩; obtain ⟨ca, cc, rfl⟩ := own_sliceA oc.1; rw [hn0] at oc; obtain ⟨da, dc, rfl⟩ := own_sliceA od.1; have e2 := (e1.below g2).below (keep_alloc y2 (.cells #[.slice ca n0 cc, .int .i64 CC] 24)); have f2 := e2.c0; have f2' := e2.c1; have h2 := keep_trans (keep_trans h1 g2) (keep_alloc y2 (.cells #[.slice ca n0 cc, .int .i64 CC] 24)); have hT3 := hT _ h2)
        | (go_at_call 6; have hu := hT3; clear hT3; refine hu.mono ?_; rintro e y3 ⟨xv, yv, rfl, ox, oy, g3⟩; obtain ⟨xa, xc, rfl⟩ := own_sliceA ox.1; rw [hn0] at ox; obtain ⟨ya, yc, rfl⟩ := own_sliceA oy.1; have e3 := (e2.below g3).below (keep_alloc y3 (.cells #[.slice xa n0 xc, .int .i64 tx0] 24)); have f3 := e3.c0; have f3' := e3.c1; have h3 := keep_trans (keep_trans h2 g3) (keep_alloc y3 (.cells #[.slice xa n0 xc, .int .i64 tx0] 24)); have hk3 := keep_trans h3 (keep_alloc (y3.alloc (.cells #[.slice xa n0 xc, .int .i64 tx0] 24)) (.cells #[.int .i64 (N : Int), .int .i64 (M : Int)] 3)); have hP4 := hP _ (.slice (some ⟨y3.heap.size + 1, 0, none⟩) 2 2) hk3 (rowI_two _ _ _ _ (World.size_alloc _ _) hNb hMb))
        | (go_at_call 8; have hu := hP4; clear hP4; refine hu.mono ?_; rintro e y4 ⟨zv, lv, rfl, oz, rl4, g4⟩; obtain ⟨za, zc, rfl⟩ := own_sliceA oz.1; rw [hn0] at oz; obtain ⟨la, lc, hle, _⟩ := id rl4; subst hle; have e4 := ((e3.below (keep_alloc _ _)).below g4).below (keep_alloc y4 (.cells #[.slice za n0 zc, .int .i64 tx0] 24)); have f4 := e4.c0; have f4' := e4.c1; have x3 := (((Bx2.new y3 (.slice xa n0 xc) (.int .i64 tx0)).below (keep_alloc _ _)).below g4).below (keep_alloc y4 (.cells #[.slice za n0 zc, .int .i64 tx0] 24)); have f5 := x3.c0; have f5' := x3.c1; have kz := keep_trans (keep_trans hk3 g4) (keep_alloc y4 (.cells #[.slice za n0 zc, .int .i64 tx0] 24)); have ox4 := ((ox.row.below (keep_alloc _ _)).below (keep_alloc _ _)).below (keep_trans g4 (keep_alloc y4 (.cells #[.slice za n0 zc, .int .i64 tx0] 24))))
        | (go_at_call_of 14 (#[Value.agg #[Value.slice za n0 zc, Value.int IntKind.i64 tx0], Value.agg #[Value.slice ta n0 tc, Value.int IntKind.i64 tx0]]); refine (rtsame_true (.slice za n0 zc) (.slice ta n0 tc) tl0 tx0 (y4.alloc (.cells #[.slice za n0 zc, .int .i64 tx0] 24)) (oz.row.below (keep_alloc _ _)) (HR.out.below kz)).mono ?_; rintro e y5 ⟨rfl, g5⟩; have e5 := e4.below g5; have x5 := x3.below g5; have q1 := e5.c0; have q2 := e5.c1; have q3 := x5.c0; have q4 := x5.c1)
        | (go_at_call_of 14 (#[Value.agg #[Value.slice xa n0 xc, Value.int IntKind.i64 tx0], Value.agg #[Value.slice ta n0 tc, Value.int IntKind.i64 tx0]]); refine (rtsame_true (.slice xa n0 xc) (.slice ta n0 tc) tl0 tx0 y5 (ox4.below g5) (HR.out.below (keep_trans kz g5))).mono ?_; rintro e y6 ⟨rfl, g6⟩)
        | (go_at_call 5; refine (tawake_any _).mono ?_; rintro e y7 ⟨rfl, g7⟩)
        | fail)
      go_ret
      exact ⟨rfl, keep_trans (keep_trans (keep_trans kz g5) g6) g7⟩
    · have hEb : (EE != 0) = true := by simp [hE]
      clear hEF hE
      go_enter Try.func4, Try.ntmps4
      go_wp2_with (first
        | (go_at_call 6; have hu := hT1; clear hT1; refine hu.mono ?_; rintro e y1 ⟨av, bv, rfl, oa, ob, g1⟩; obtain ⟨aa, ac, rfl⟩ := own_sliceA oa.1; rw [hn0] at oa; obtain ⟨ba, bc, rfl⟩ := own_sliceA ob.1; have hT2 := hA (.slice aa n0 ac) (y1.alloc (.cells #[.slice aa n0 ac, .int .i64 A] 24)) (oa.row.below (keep_alloc y1 _)) (own_tidyG oa); have e1 := (b3.below g1).below (keep_alloc y1 (.cells #[.slice aa n0 ac, .int .i64 A] 24)); have h1 := keep_trans (keep_trans hbw g1) (keep_alloc y1 (.cells #[.slice aa n0 ac, .int .i64 A] 24)))
        | (go_at_call 6; have hu := hT2; clear hT2; refine hu.mono ?_; rintro e y2 ⟨cv, dv, rfl, oc, od, g2⟩; obtain ⟨ca, cc, rfl⟩ := own_sliceA oc.1; rw [hn0] at oc; obtain ⟨da, dc, rfl⟩ := own_sliceA od.1; have e2 := (e1.below g2).below (keep_alloc y2 (.cells #[.slice ca n0 cc, .int .i64 CC] 24)); have f2 := e2.c0; have f2' := e2.c1; have h2 := keep_trans (keep_trans h1 g2) (keep_alloc y2 (.cells #[.slice ca n0 cc, .int .i64 CC] 24)); have hT3 := hT _ h2)
        | (go_at_call 6; have hu := hT3; clear hT3; refine hu.mono ?_; rintro e y3 ⟨xv, yv, rfl, ox, oy, g3⟩; obtain ⟨xa, xc, rfl⟩ := own_sliceA ox.1; rw [hn0] at ox; obtain ⟨ya, yc, rfl⟩ := own_sliceA oy.1; have e3 := (e2.below g3).below (keep_alloc y3 (.cells #[.slice xa n0 xc, .int .i64 tx0] 24)); have f3 := e3.c0; have f3' := e3.c1; have h3 := keep_trans (keep_trans h2 g3) (keep_alloc y3 (.cells #[.slice xa n0 xc, .int .i64 tx0] 24)); have hk3 := keep_trans h3 (keep_alloc (y3.alloc (.cells #[.slice xa n0 xc, .int .i64 tx0] 24)) (.cells #[.int .i64 (N : Int), .int .i64 (M : Int)] 3)); have hP4 := hP _ (.slice (some ⟨y3.heap.size + 1, 0, none⟩) 2 2) hk3 (rowI_two _ _ _ _ (World.size_alloc _ _) hNb hMb))
        | (go_at_call 8; have hu := hP4; clear hP4; refine hu.mono ?_; rintro e y4 ⟨zv, lv, rfl, oz, rl4, g4⟩; obtain ⟨za, zc, rfl⟩ := own_sliceA oz.1; rw [hn0] at oz; obtain ⟨la, lc, hle, _⟩ := id rl4; subst hle; have e4 := ((e3.below (keep_alloc _ _)).below g4).below (keep_alloc y4 (.cells #[.slice za n0 zc, .int .i64 tx0] 24)); have f4 := e4.c0; have f4' := e4.c1; have x3 := (((Bx2.new y3 (.slice xa n0 xc) (.int .i64 tx0)).below (keep_alloc _ _)).below g4).below (keep_alloc y4 (.cells #[.slice za n0 zc, .int .i64 tx0] 24)); have f5 := x3.c0; have f5' := x3.c1; have kz := keep_trans (keep_trans hk3 g4) (keep_alloc y4 (.cells #[.slice za n0 zc, .int .i64 tx0] 24)); have ox4 := ((ox.row.below (keep_alloc _ _)).below (keep_alloc _ _)).below (keep_trans g4 (keep_alloc y4 (.cells #[.slice za n0 zc, .int .i64 tx0] 24))))
        | (go_at_call_of 14 (#[Value.agg #[Value.slice za n0 zc, Value.int IntKind.i64 tx0], Value.agg #[Value.slice ta n0 tc, Value.int IntKind.i64 tx0]]); refine (rtsame_true (.slice za n0 zc) (.slice ta n0 tc) tl0 tx0 (y4.alloc (.cells #[.slice za n0 zc, .int .i64 tx0] 24)) (oz.row.below (keep_alloc _ _)) (HR.out.below kz)).mono ?_; rintro e y5 ⟨rfl, g5⟩; have e5 := e4.below g5; have x5 := x3.below g5; have q1 := e5.c0; have q2 := e5.c1; have q3 := x5.c0; have q4 := x5.c1)
        | (go_at_call_of 14 (#[Value.agg #[Value.slice xa n0 xc, Value.int IntKind.i64 tx0], Value.agg #[Value.slice ta n0 tc, Value.int IntKind.i64 tx0]]); refine (rtsame_true (.slice xa n0 xc) (.slice ta n0 tc) tl0 tx0 y5 (ox4.below g5) (HR.out.below (keep_trans kz g5))).mono ?_; rintro e y6 ⟨rfl, g6⟩)
        | (go_at_call 5; refine (tawake_any _).mono ?_; rintro e y7 ⟨rfl, g7⟩)
        | fail)
      go_ret
      exact ⟨rfl, keep_trans (keep_trans (keep_trans kz g5) g6) g7⟩

set_option maxRecDepth 100000 in
theorem lifted (os : Os) (started : os.Started) (H : Type) (enc : TypeId × Value → H) :
    ReturnsInHanded {} Try.checked os 4 .any (Rows.tapeOnceSpec.pre6 enc Try.prog Try.f4 Rows.tapeOnceRow.domain false) (Rows.tapeOnceSpec.post enc Try.prog Try.f4 false true false false) := by
  refine returnsInHanded_of_change (C := Try.checked) own started (by kernel_rfl) Try.func4
    (ChangeSpec.witness6 (enc := enc) (C := Try.checked) false ⟨#[], #[.agg #[.slice none 0 0, .int .i64 0], .int .u8 0, .int .u8 0], []⟩ 8 (by kernel_rfl) (by kernel_rfl) (by kernel_rfl) (by kernel_rfl)) ?_
  intro W base args ds gs before hval0 hW hcnd _
  have hval : ∀ (j : Nat) t v, Try.f4.params[j]? = some t → args[j]? = some v → Value.okWide Try.prog W .any base t v := hval0
  have hW' := hW
  obtain ⟨p, q, hA0, hV, rfl, hfz, hnd⟩ := hW
  have hA : DataW.TrodAll enc Try.prog W 0 (fun _ => true) true Try.f4.params.toList args.toList ds p := hA0
  rw [Try.params4] at hA hval
  obtain ⟨v0, vs0, d0, ds0, p0, q0, hargs, rfl, rfl, h0, r0⟩ := trodAll_cons hA
  obtain ⟨v1, vs1, d1, ds1, p1, q1, rfl, rfl, rfl, h1, r1⟩ := trodAll_cons r0
  obtain ⟨v2, vs2, d2, ds2, p2, q2, rfl, rfl, rfl, h2, r2⟩ := trodAll_cons r1
  obtain ⟨rfl, rfl, rfl⟩ := trodAll_nil r2
  obtain rfl : args = #[v0, v1, v2] := by cases args; simp_all
  obtain ⟨rfl, rfl⟩ := trodVars_none hV
  obtain ⟨cs0, rfl, hcz0⟩ := okWide_struct Try.underlying24 (hval 0 24 v0 rfl rfl)
  have k0 := h0
  have lt0 : ∀ x ∈ p0, x.block < W.heap.size := by obtain ⟨m, hm⟩ := k0; exact DataW.trod_lt m _ _ _ hm
  obtain ⟨tv0, tl0, tx0, w0⟩ : ∃ tv tl tx, TIs W cs0 tv tl tx := by
    obtain ⟨fuel, hf⟩ := h0
    exact read_tape (by simpa [Value.cells] using hf)
  obtain ⟨a1, rfl, rfl, rfl, w1⟩ := open_int Try.underlying5 (hval 1 5 v1 rfl rfl) h1
  obtain ⟨a2, rfl, rfl, rfl, w2⟩ := open_int Try.underlying5 (hval 2 5 v2 rfl rfl) h2
  clear hA0 hval0
  refine (walk cs0 tv0 tl0 tx0 a1 a2 W w0 w1 w2).mono fun e W' ⟨he, bel⟩ => ?_
  subst he
  exact ⟨_, rfl, _, _, _, [], _, [], hW', trodAll_mk1 (shut_bool Try.underlying4 _), (trodAll_cons_mk (Below.trod laidOut (by kernel_rfl) (of_decide_eq_true (by kernel_rfl)) k0 bel lt0) (trodAll_cons_mk (shut_int Try.underlying5 w1) (trodAll_cons_mk (shut_int Try.underlying5 w2) trodAll_mk0))), rfl, bel.frame _, fun h => by cases h⟩

theorem over : Rows.tapeOnceRow.holds Try.pinned (OpenSpec.ofChange Rows.tapeOnceSpec) :=
  OpenClaim.holds_of_wide 4 Try.f4 rfl rfl rfl rfl rfl rfl rfl ⟨rfl, rfl, rfl, rfl, rfl⟩ rfl rfl rfl rfl rfl (by kernel_rfl) Try.func4 (by kernel_rfl)
    (of_decide_eq_true (by kernel_rfl)) (by unfold Func.isWrapper; first | (rw [if_pos (by decide +kernel)]; kernel_rfl) | (rw [if_neg (by decide +kernel)]; exact ⟨rfl, rfl⟩))
    (fun os started H enc _ => lifted os started H enc)

end Go.Proofs.Ytiedkpfpaeecfaa.tapeOnce
namespace Go.Proofs.Ytiedkpfpaeecfaa
theorem tapeOnce_holds : Rows.TapeOnceSaid := tapeOnce.over
end Go.Proofs.Ytiedkpfpaeecfaa
