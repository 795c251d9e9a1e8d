/- For every number, every text and every two sums that go on: apostillelaw07.ShaSums returns true, and each argument reads afterwards as it read before; sha's two tables of roots are as the program's text lays them. No other condition. -/
import Derived.Test.YtgdcpdbmacmheaaDoorHPlF
import Derived.Test.YtgdcpdbmacmheaaDoorHTop
import Derived.Test.YtgdcpdbmacmheaaDoorFrameT
import Derived.Test.YtgdcpdbmacmheaaDoorHF3
import Derived.Test.YtgdcpdbmacmheaaDoorHLa3
import Derived.WalkKit
import Derived.ProofKit
import Derived.OpenShut
import Derived.ShutString
import Derived.ChangeOld
import Derived.Below
namespace Go.Proofs.YtgdcpdbmacmheaaDoor.shaSums
open Go.ChangeShapes Go.WideShapes Go.ChangeAt Go.RowKit
open Go.ChangeMaps (open_string shut_string)
set_option linter.unusedVariables false

set_option maxRecDepth 100000 in
set_option maxHeartbeats 4000000 in
theorem walk (a0 : Int) (a1 : Option Addr) (len1 cap1 : Nat) (z1 : List Int) (cs2 : Array Value) (hk2 : Int) (ws2 : List Nat) (tv2 : Value) (tl2 : List Nat) (sz2 : Nat) (cs3 : Array Value) (hk3 : Int) (ws3 : List Nat) (tv3 : Value) (tl3 : List Nat) (sz3 : Nat) (w : World) (w0 : (Lit.int .i64 a0).wf = true) (w1 : IsRow .u8 w a1 len1 cap1 z1) (w2 : HIs w cs2 hk2 ws2 tv2 tl2 sz2) (w3 : HIs w cs3 hk3 ws3 tv3 tl3 sz3) (hV : Vars w) :
    Calls Tryd.prog 3 #[.int .i64 a0, .slice a1 len1 cap1, .agg cs2, .agg cs3] w fun e w' => e = .returned (.bool true) ∧ Below w.heap.size w w' := by
  have htd := isRow_tidy w1
  obtain ⟨l, rfl, hr⟩ := w1.row wf_u8
  clear w1
  have hT : Roots w := hV
  obtain ⟨hcs2, ka1, ka2, ha8, hau, hRa, tTa, hsa⟩ := w2
  subst hcs2
  obtain ⟨hcs3, kb1, kb2, hb8, hbu, hRb, tTb, hsb⟩ := w3
  subst hcs3
  obtain ⟨ta, tac, rfl⟩ := hRa.form
  obtain ⟨tb, tbc, rfl⟩ := hRb.form
  obtain ⟨ka, hkaQ⟩ : ∃ x, x = hk2 := ⟨_, rfl⟩
  subst hkaQ
  obtain ⟨wa, hwaQ⟩ : ∃ x, x = ws2 := ⟨_, rfl⟩
  subst hwaQ
  obtain ⟨la, hlaQ⟩ : ∃ x, x = tl2 := ⟨_, rfl⟩
  subst hlaQ
  obtain ⟨sa, hsaQ⟩ : ∃ x, x = sz2 := ⟨_, rfl⟩
  subst hsaQ
  obtain ⟨kb, hkbQ⟩ : ∃ x, x = hk3 := ⟨_, rfl⟩
  subst hkbQ
  obtain ⟨wb, hwbQ⟩ : ∃ x, x = ws3 := ⟨_, rfl⟩
  subst hwbQ
  obtain ⟨lb, hlbQ⟩ : ∃ x, x = tl3 := ⟨_, rfl⟩
  subst hlbQ
  obtain ⟨sb, hsbQ⟩ : ∃ x, x = sz3 := ⟨_, rfl⟩
  subst hsbQ
  have hua : hv ka wa (.slice ta la.length tac) sa = #[.int .i64 ka, .int .u64 (el wa 0), .int .u64 (el wa 1), .int .u64 (el wa 2), .int .u64 (el wa 3), .int .u64 (el wa 4), .int .u64 (el wa 5), .int .u64 (el wa 6), .int .u64 (el wa 7), .slice ta la.length tac, .int .u64 sa] := rfl
  have hub : hv kb wb (.slice tb lb.length tbc) sb = #[.int .i64 kb, .int .u64 (el wb 0), .int .u64 (el wb 1), .int .u64 (el wb 2), .int .u64 (el wb 3), .int .u64 (el wb 4), .int .u64 (el wb 5), .int .u64 (el wb 6), .int .u64 (el wb 7), .slice tb lb.length tbc, .int .u64 sb] := rfl
  have hb0 := keep_trans (keep_alloc w (.cells #[.int .i64 ka, .int .u64 (el wa 0), .int .u64 (el wa 1), .int .u64 (el wa 2), .int .u64 (el wa 3), .int .u64 (el wa 4), .int .u64 (el wa 5), .int .u64 (el wa 6), .int .u64 (el wa 7), .slice ta la.length tac, .int .u64 sa] 26)) (keep_alloc _ (.cells #[.int .i64 kb, .int .u64 (el wb 0), .int .u64 (el wb 1), .int .u64 (el wb 2), .int .u64 (el wb 3), .int .u64 (el wb 4), .int .u64 (el wb 5), .int .u64 (el wb 6), .int .u64 (el wb 7), .slice tb lb.length tbc, .int .u64 sb] 26))
  have hA0 := (Hb.new w ka wa (.slice ta la.length tac) sa).below (keep_alloc _ (.cells #[.int .i64 kb, .int .u64 (el wb 0), .int .u64 (el wb 1), .int .u64 (el wb 2), .int .u64 (el wb 3), .int .u64 (el wb 4), .int .u64 (el wb 5), .int .u64 (el wb 6), .int .u64 (el wb 7), .slice tb lb.length tbc, .int .u64 sb] 26))
  have hB0 : Hb ((w.alloc (.cells #[.int .i64 ka, .int .u64 (el wa 0), .int .u64 (el wa 1), .int .u64 (el wa 2), .int .u64 (el wa 3), .int .u64 (el wa 4), .int .u64 (el wa 5), .int .u64 (el wa 6), .int .u64 (el wa 7), .slice ta la.length tac, .int .u64 sa] 26)).alloc (.cells #[.int .i64 kb, .int .u64 (el wb 0), .int .u64 (el wb 1), .int .u64 (el wb 2), .int .u64 (el wb 3), .int .u64 (el wb 4), .int .u64 (el wb 5), .int .u64 (el wb 6), .int .u64 (el wb 7), .slice tb lb.length tbc, .int .u64 sb] 26)) (w.heap.size + 1) kb wb (.slice tb lb.length tbc) sb := by
    have := Hb.new (w.alloc (.cells #[.int .i64 ka, .int .u64 (el wa 0), .int .u64 (el wa 1), .int .u64 (el wa 2), .int .u64 (el wa 3), .int .u64 (el wa 4), .int .u64 (el wa 5), .int .u64 (el wa 6), .int .u64 (el wa 7), .slice ta la.length tac, .int .u64 sa] 26)) kb wb (.slice tb lb.length tbc) sb
    rw [World.size_alloc] at this
    exact this
  by_cases h1 : 600 < l.length
  · have h1i : (600 : Int) < (l.length : Int) := by omega
    rw [hua, hub]
    go_enter Tryd.func3, Tryd.ntmps3
    go_wp2_with fail
    refine (awake_any _ (hT.below hb0)).mono ?_
    rintro e w1 ⟨rfl, hb⟩
    go_wp2_with fail
    go_ret
    exact ⟨rfl, keep_trans hb0 hb⟩
  by_cases h2 : 300 < la.length
  · have h1i : ¬ (600 : Int) < (l.length : Int) := by omega
    have h2i : (300 : Int) < (la.length : Int) := by omega
    rw [hua, hub]
    go_enter Tryd.func3, Tryd.ntmps3
    go_wp2_with fail
    refine (awake_any _ (hT.below hb0)).mono ?_
    rintro e w1 ⟨rfl, hb⟩
    go_wp2_with fail
    go_ret
    exact ⟨rfl, keep_trans hb0 hb⟩
  by_cases h3 : 300 < lb.length
  · have h1i : ¬ (600 : Int) < (l.length : Int) := by omega
    have h2i : ¬ (300 : Int) < (la.length : Int) := by omega
    have h3i : (300 : Int) < (lb.length : Int) := by omega
    rw [hua, hub]
    go_enter Tryd.func3, Tryd.ntmps3
    go_wp2_with fail
    refine (awake_any _ (hT.below hb0)).mono ?_
    rintro e w1 ⟨rfl, hb⟩
    go_wp2_with fail
    go_ret
    exact ⟨rfl, keep_trans hb0 hb⟩
  have h1i : ¬ (600 : Int) < (l.length : Int) := by omega
  have h2i : ¬ (300 : Int) < (la.length : Int) := by omega
  have h3i : ¬ (300 : Int) < (lb.length : Int) := by omega
  obtain ⟨k, E, c, s, hE8, hEu, hN1, hN2, hS1, hS2⟩ := both_all a0 l (by omega)
  have hF1 := fun w1 (hb1 : Below w.heap.size w w1) => fit_any ka wa _ la sa w1 ha8 hau (hRa.below hb1) hsa
  have hF2 := fun w1 (hb1 : Below w.heap.size w w1) => rFit_any ka wa _ la sa w1 ha8 hau (hRa.below hb1) hsa
  have hM1 := fun w1 (hb1 : Below w.heap.size w w1) => ssame_any ka wa _ la sa kb wb _ lb sb w1 ha8 hb8 hau hbu (hRa.below hb1) (hRb.below hb1)
  have hM2 := fun w1 (hb1 : Below w.heap.size w w1) => rsameH_any ka wa _ la sa kb wb _ lb sb w1 ha8 hb8 hau hbu (hRa.below hb1) (hRb.below hb1)
  have hM3 := fun w1 (hb1 : Below w.heap.size w w1) => ssame_any ka wa _ la sa ka wa _ la sa w1 ha8 ha8 hau hau (hRa.below hb1) (hRa.below hb1)
  have hM4 := fun w1 => rsameH_any k E (.slice none 0 0) [] 0 k E (.slice none 0 0) [] 0 w1 hE8 hE8 hEu hEu (Row.nil _ _ _) (Row.nil _ _ _)
  rw [hsame_refl] at hM3 hM4
  generalize hfit ka wa la.length sa = bf at *
  generalize hsame ka wa la sa kb wb lb sb = bs at *
  have HS1 := hide hS1
  have HS2 := hide hS2
  have HN1 := hide hN1
  have HN2 := hide hN2
  have HA := hide hA0
  have HB := hide hB0
  have HZ := hide hb0
  rw [hua, hub]
  unfold hv at hF1 hF2 hM1 hM2 hM3 hM4
  clear hS1 hS2 hN1 hN2 hA0 hB0 hua hub h1 h2 h3 hE8 hEu ha8 hb8 hau hbu hsa hsb ka1 ka2 kb1 kb2 hV hb0
  have za := HA.out.tail
  have zb := HB.out.tail
  go_enter Tryd.func3, Tryd.ntmps3
  go_wp2_with fail
  refine (HS1.out _ _ (hT.below HZ.out) (hr.below HZ.out) htd).mono ?_
  rintro e x1 ⟨y1, rfl, hr1, g1⟩
  have HG1 := hide (keep_trans HZ.out g1)
  clear za zb
  go_wp2_with fail
  refine (HS2.out _ _ (hr.below HG1.out) htd).mono ?_
  rintro e x2 ⟨y2, rfl, hr2, g2⟩
  have HG2 := hide (keep_trans HG1.out g2)
  have hnw := HN1.out x2 (hT.below HG2.out)
  unfold NewE hv at hnw
  go_wp2_with fail
  refine hnw.mono ?_
  rintro e x3 ⟨rfl, g3⟩
  have HG3 := hide (keep_trans HG2.out g3)
  clear hnw
  have hnw := HN2.out (x3.alloc (.cells #[.int .i64 k, .int .u64 (el E 0), .int .u64 (el E 1), .int .u64 (el E 2), .int .u64 (el E 3), .int .u64 (el E 4), .int .u64 (el E 5), .int .u64 (el E 6), .int .u64 (el E 7), .slice none 0 0, .int .u64 0] 26))
  unfold NewE hv at hnw
  go_wp2_with fail
  refine hnw.mono ?_
  rintro e x5 ⟨rfl, g5⟩
  clear hnw
  have hH : HqT w w.heap.size (w.heap.size + 1) x3.heap.size x5.heap.size ka wa (.slice ta la.length tac) sa kb wb (.slice tb lb.length tbc) sb k E (x5.alloc (.cells #[.int .i64 k, .int .u64 (el E 0), .int .u64 (el E 1), .int .u64 (el E 2), .int .u64 (el E 3), .int .u64 (el E 4), .int .u64 (el E 5), .int .u64 (el E 6), .int .u64 (el E 7), .slice none 0 0, .int .u64 0] 26)) := by
    have i1 := HA.out
    have i2 := HB.out
    have e0 := keep_trans (keep_trans g1 g2) g3
    have e1 := keep_trans (keep_alloc x3 (.cells #[.int .i64 k, .int .u64 (el E 0), .int .u64 (el E 1), .int .u64 (el E 2), .int .u64 (el E 3), .int .u64 (el E 4), .int .u64 (el E 5), .int .u64 (el E 6), .int .u64 (el E 7), .slice none 0 0, .int .u64 0] 26)) g5
    have e2 := keep_alloc x5 (.cells #[.int .i64 k, .int .u64 (el E 0), .int .u64 (el E 1), .int .u64 (el E 2), .int .u64 (el E 3), .int .u64 (el E 4), .int .u64 (el E 5), .int .u64 (el E 6), .int .u64 (el E 7), .slice none 0 0, .int .u64 0] 26)
    exact ⟨((i1.below e0).below e1).below e2, ((i2.below e0).below e1).below e2, ((Hb.new x3 k E (.slice none 0 0) 0).below g5).below e2, Hb.new x5 k E (.slice none 0 0) 0, keep_trans (keep_trans HG3.out e1) e2⟩
  have HR1 := hide (((hr1.below g2).below g3).below (keep_trans (keep_trans (keep_alloc x3 (.cells #[.int .i64 k, .int .u64 (el E 0), .int .u64 (el E 1), .int .u64 (el E 2), .int .u64 (el E 3), .int .u64 (el E 4), .int .u64 (el E 5), .int .u64 (el E 6), .int .u64 (el E 7), .slice none 0 0, .int .u64 0] 26)) g5) (keep_alloc x5 (.cells #[.int .i64 k, .int .u64 (el E 0), .int .u64 (el E 1), .int .u64 (el E 2), .int .u64 (el E 3), .int .u64 (el E 4), .int .u64 (el E 5), .int .u64 (el E 6), .int .u64 (el E 7), .slice none 0 0, .int .u64 0] 26))))
  have HR2 := hide ((hr2.below g3).below (keep_trans (keep_trans (keep_alloc x3 (.cells #[.int .i64 k, .int .u64 (el E 0), .int .u64 (el E 1), .int .u64 (el E 2), .int .u64 (el E 3), .int .u64 (el E 4), .int .u64 (el E 5), .int .u64 (el E 6), .int .u64 (el E 7), .slice none 0 0, .int .u64 0] 26)) g5) (keep_alloc x5 (.cells #[.int .i64 k, .int .u64 (el E 0), .int .u64 (el E 1), .int .u64 (el E 2), .int .u64 (el E 3), .int .u64 (el E 4), .int .u64 (el E 5), .int .u64 (el E 6), .int .u64 (el E 7), .slice none 0 0, .int .u64 0] 26))))
  obtain ⟨ya, yc, rfl⟩ := hr1.form
  obtain ⟨yb, yd, rfl⟩ := hr2.form
  clear g1 g2 g3 g5 hr1 hr2 HA HB HZ HG1 HG2 HG3 HS1 HS2 HN1 HN2
  go_wp2
  generalize x5.alloc (.cells #[.int .i64 k, .int .u64 (el E 0), .int .u64 (el E 1), .int .u64 (el E 2), .int .u64 (el E 3), .int .u64 (el E 4), .int .u64 (el E 5), .int .u64 (el E 6), .int .u64 (el E 7), .slice none 0 0, .int .u64 0] 26) = w3 at *
  generalize x5.heap.size = r at *
  generalize x3.heap.size = p at *
  go_region_held3 (fun w' => w'.cell? ⟨w.heap.size, 0, none⟩ = some (.int .i64 ka) ∧ w'.cell? ⟨w.heap.size, 1, none⟩ = some (.int .u64 (el wa 0)) ∧ w'.cell? ⟨w.heap.size, 2, none⟩ = some (.int .u64 (el wa 1)) ∧ w'.cell? ⟨w.heap.size, 3, none⟩ = some (.int .u64 (el wa 2)) ∧ w'.cell? ⟨w.heap.size, 4, none⟩ = some (.int .u64 (el wa 3)) ∧ w'.cell? ⟨w.heap.size, 5, none⟩ = some (.int .u64 (el wa 4)) ∧ w'.cell? ⟨w.heap.size, 6, none⟩ = some (.int .u64 (el wa 5)) ∧ w'.cell? ⟨w.heap.size, 7, none⟩ = some (.int .u64 (el wa 6)) ∧ w'.cell? ⟨w.heap.size, 8, none⟩ = some (.int .u64 (el wa 7)) ∧ w'.cell? ⟨w.heap.size, 9, none⟩ = some (.slice ta la.length tac) ∧ w'.cell? ⟨w.heap.size, 10, none⟩ = some (.int .u64 sa) ∧ w'.cell? ⟨(w.heap.size + 1), 0, none⟩ = some (.int .i64 kb) ∧ w'.cell? ⟨(w.heap.size + 1), 1, none⟩ = some (.int .u64 (el wb 0)) ∧ w'.cell? ⟨(w.heap.size + 1), 2, none⟩ = some (.int .u64 (el wb 1)) ∧ w'.cell? ⟨(w.heap.size + 1), 3, none⟩ = some (.int .u64 (el wb 2)) ∧ w'.cell? ⟨(w.heap.size + 1), 4, none⟩ = some (.int .u64 (el wb 3)) ∧ w'.cell? ⟨(w.heap.size + 1), 5, none⟩ = some (.int .u64 (el wb 4)) ∧ w'.cell? ⟨(w.heap.size + 1), 6, none⟩ = some (.int .u64 (el wb 5)) ∧ w'.cell? ⟨(w.heap.size + 1), 7, none⟩ = some (.int .u64 (el wb 6)) ∧ w'.cell? ⟨(w.heap.size + 1), 8, none⟩ = some (.int .u64 (el wb 7)) ∧ w'.cell? ⟨(w.heap.size + 1), 9, none⟩ = some (.slice tb lb.length tbc) ∧ w'.cell? ⟨(w.heap.size + 1), 10, none⟩ = some (.int .u64 sb) ∧ w'.cell? ⟨p, 0, none⟩ = some (.int .i64 k) ∧ w'.cell? ⟨p, 1, none⟩ = some (.int .u64 (el E 0)) ∧ w'.cell? ⟨p, 2, none⟩ = some (.int .u64 (el E 1)) ∧ w'.cell? ⟨p, 3, none⟩ = some (.int .u64 (el E 2)) ∧ w'.cell? ⟨p, 4, none⟩ = some (.int .u64 (el E 3)) ∧ w'.cell? ⟨p, 5, none⟩ = some (.int .u64 (el E 4)) ∧ w'.cell? ⟨p, 6, none⟩ = some (.int .u64 (el E 5)) ∧ w'.cell? ⟨p, 7, none⟩ = some (.int .u64 (el E 6)) ∧ w'.cell? ⟨p, 8, none⟩ = some (.int .u64 (el E 7)) ∧ w'.cell? ⟨p, 9, none⟩ = some (.slice none 0 0) ∧ w'.cell? ⟨p, 10, none⟩ = some (.int .u64 0) ∧ w'.cell? ⟨r, 0, none⟩ = some (.int .i64 k) ∧ w'.cell? ⟨r, 1, none⟩ = some (.int .u64 (el E 0)) ∧ w'.cell? ⟨r, 2, none⟩ = some (.int .u64 (el E 1)) ∧ w'.cell? ⟨r, 3, none⟩ = some (.int .u64 (el E 2)) ∧ w'.cell? ⟨r, 4, none⟩ = some (.int .u64 (el E 3)) ∧ w'.cell? ⟨r, 5, none⟩ = some (.int .u64 (el E 4)) ∧ w'.cell? ⟨r, 6, none⟩ = some (.int .u64 (el E 5)) ∧ w'.cell? ⟨r, 7, none⟩ = some (.int .u64 (el E 6)) ∧ w'.cell? ⟨r, 8, none⟩ = some (.int .u64 (el E 7)) ∧ w'.cell? ⟨r, 9, none⟩ = some (.slice none 0 0) ∧ w'.cell? ⟨r, 10, none⟩ = some (.int .u64 0) ∧ HqT w w.heap.size (w.heap.size + 1) p r ka wa (.slice ta la.length tac) sa kb wb (.slice tb lb.length tbc) sb k E w')
    (first | exact HqT.all (HqT.keep (HqT.out (by assumption)) g8) | exact HqT.all (HqT.keep (by assumption) g8) | exact HqT.all (HqT.keep (HqT.out (by assumption)) g7) | exact HqT.all (HqT.keep (by assumption) g7) | exact HqT.all (HqT.keep (HqT.out (by assumption)) g6) | exact HqT.all (HqT.keep (by assumption) g6) | exact HqT.all (HqT.keep (HqT.out (by assumption)) g5) | exact HqT.all (HqT.keep (by assumption) g5) | exact HqT.all (HqT.keep (HqT.out (by assumption)) g4) | exact HqT.all (HqT.keep (by assumption) g4) | exact HqT.all (HqT.keep (HqT.out (by assumption)) g3) | exact HqT.all (HqT.keep (by assumption) g3) | exact HqT.all (HqT.keep (HqT.out (by assumption)) g2) | exact HqT.all (HqT.keep (by assumption) g2) | exact HqT.all (HqT.keep (HqT.out (by assumption)) g1) | exact HqT.all (HqT.keep (by assumption) g1) | exact HqT.all (by assumption) | exact HqT.all (HqT.out (by assumption)) | exact HqT.all (HqT.drew hH) | exact HqT.all (HqT.drew (HqT.out (by assumption))) | exact HqT.all (HqT.drew (by assumption)))
    (first
      | (go_at_call 12; refine (rsame_true _ _ s _ (by first | exact HR1.out | exact HR1.out.below (Below.refl _ _).drew) (by first | exact HR2.out | exact HR2.out.below (Below.refl _ _).drew)).mono ?_; rintro e v1 ⟨rfl, g1⟩)
      | (go_at_call 13; refine (hM4 _).mono ?_; rintro e v2 ⟨rfl, g2⟩; clear hM4)
      | (go_at_call 14; refine (hF1 _ (by exact (HqT.out (w := w) (by assumption)).bel)).mono ?_; rintro e v3 ⟨rfl, g3⟩)
      | (go_at_call 15; refine (hF2 _ (by exact (HqT.out (w := w) (by assumption)).bel)).mono ?_; rintro e v4 ⟨rfl, g4⟩)
      | (go_at_call 16; refine (hM1 _ (by exact (HqT.out (w := w) (by assumption)).bel)).mono ?_; rintro e v5 ⟨rfl, g5⟩; clear hM1)
      | (go_at_call 13; refine (hM2 _ (by exact (HqT.out (w := w) (by assumption)).bel)).mono ?_; rintro e v6 ⟨rfl, g6⟩)
      | (go_at_call 16; refine (hM3 _ (by exact (HqT.out (w := w) (by assumption)).bel)).mono ?_; rintro e v7 ⟨rfl, g7⟩)
      | (go_at_call 7; refine (awake_any _ (hT.below (by exact (HqT.out (w := w) (by assumption)).bel))).mono ?_; rintro e v8 ⟨rfl, g8⟩))
  all_goals (go_wp2_with fail; go_ret; exact ⟨rfl, (HqT.out (w := w) (by assumption)).bel⟩)

set_option maxRecDepth 100000 in
theorem lifted (os : Os) (started : os.Started) (H : Type) (enc : TypeId × Value → H) :
    ReturnsInHanded {} Tryd.checked os 3 .any (fun w args => (Rows.shaSumsSpec.pre enc Tryd.prog Tryd.f3 Rows.shaSumsRow.domain false w args ∧ laidMetH Tryd.prog Rows.shaSumsRow.laid w) ∧ sizedMet enc Tryd.prog Tryd.f3 (OpenSpec.ofChange Rows.shaSumsSpec) false w args) (Rows.shaSumsSpec.post enc Tryd.prog Tryd.f3 false true false false) := by
  refine change_laid_shaped (C := Tryd.checked) (X := fun w _ => laidMetH Tryd.prog Rows.shaSumsRow.laid w) (fun _ _ _ hh h => h.of_heap hh) own started (by kernel_rfl) Tryd.func3
    (ChangeSpec.witness_shaped (enc := enc) (C := Tryd.checked) (os := os) (X := fun w _ => laidMetH Tryd.prog Rows.shaSumsRow.laid w) false (World.laidAll Tryd.prog os Rows.shaSumsRow.laid) #[.int .i64 0, .slice none 0 0, .agg #[.int .i64 0, .int .u64 0, .int .u64 0, .int .u64 0, .int .u64 0, .int .u64 0, .int .u64 0, .int .u64 0, .int .u64 0, .slice none 0 0, .int .u64 0], .agg #[.int .i64 0, .int .u64 0, .int .u64 0, .int .u64 0, .int .u64 0, .int .u64 0, .int .u64 0, .int .u64 0, .int .u64 0, .slice none 0 0, .int .u64 0]] 8 (World.laidAll_os _ _ _)
      (World.shaped_of_ZipB (by kernel_rfl) (by kernel_rfl)) (by kernel_rfl) (by kernel_rfl) (by kernel_rfl)
      (by rw [MakeChecks.laidMetH_plain _ _ _ (by kernel_rfl)]; exact laidMet_laidAll _ (by kernel_rfl) (by kernel_rfl))) ?_
  intro W base args ds gs before hval0 hW hsz0 hL hsh
  have hVars : Vars W := vars_of_laid hL hsh
  have hval : ∀ (j : Nat) t v, Tryd.f3.params[j]? = some t → args[j]? = some v → Value.okWide Tryd.prog W .any base t v := hval0
  have hW' := hW
  obtain ⟨p, q, hA0, hV, rfl, hfz, hnd⟩ := hW
  have hA : DataW.TrodAll enc Tryd.prog W 0 (fun _ => true) true Tryd.f3.params.toList args.toList ds p := hA0
  rw [Tryd.params3] at hA hval
  obtain ⟨v0, vs0, d0, ds0, p0, q0, hargs, rfl, rfl, h0, r0⟩ := trodAll_cons hA
  obtain ⟨v1, vs1, d1, ds1, p1, q1, rfl, rfl, rfl, h1, r1⟩ := trodAll_cons r0
  obtain ⟨v2, vs2, d2, ds2, p2, q2, rfl, rfl, rfl, h2, r2⟩ := trodAll_cons r1
  obtain ⟨v3, vs3, d3, ds3, p3, q3, rfl, rfl, rfl, h3, r3⟩ := trodAll_cons r2
  obtain ⟨rfl, rfl, rfl⟩ := trodAll_nil r3
  obtain rfl : args = #[v0, v1, v2, v3] := by cases args; simp_all
  obtain ⟨rfl, rfl⟩ := trodVars_none hV
  obtain ⟨a0, rfl, rfl, rfl, w0⟩ := open_int Tryd.underlying3 (hval 0 3 v0 rfl rfl) h0
  obtain ⟨a1, len1, cap1, rfl⟩ := okWide_slice Tryd.underlying22 (hval 1 22 v1 rfl rfl)
  have k1 := h1
  have lt1 : ∀ x ∈ p1, x.block < W.heap.size := by obtain ⟨m, hm⟩ := k1; exact DataW.trod_lt m _ _ _ hm
  obtain ⟨z1, w1⟩ : ∃ zs, IsRow .u8 W a1 len1 cap1 zs := by
    obtain ⟨fuel, hf⟩ := h1
    rcases open_ints Tryd.underlying22 Tryd.underlying5 (by kernel_rfl) hf with ⟨hcs, _⟩ | ⟨x, l, c, zs, hcs, _, hl, hm, hz, _, hcell, hwz⟩
    · simp [Value.cells] at hcs
      obtain ⟨rfl, rfl, rfl⟩ := hcs
      exact ⟨[], .inl ⟨rfl, rfl, rfl, rfl⟩⟩
    · simp [Value.cells] at hcs
      obtain ⟨rfl, rfl, rfl⟩ := hcs
      exact ⟨zs, .inr ⟨_, rfl, hl, hm, by simpa using hz, hcell, hwz⟩⟩
  obtain ⟨cs2, rfl, hcz2⟩ := okWide_struct Tryd.underlying26 (hval 2 26 v2 rfl rfl)
  have k2 := h2
  have lt2 : ∀ x ∈ p2, x.block < W.heap.size := by obtain ⟨m, hm⟩ := k2; exact DataW.trod_lt m _ _ _ hm
  obtain ⟨hk2, ws2, tv2, tl2, sz2, w2⟩ : ∃ k ws tv tl sz, HIs W cs2 k ws tv tl sz := by
    obtain ⟨fuel, hf⟩ := h2
    exact read_hash (by simpa [Value.cells] using hf)
  obtain ⟨cs3, rfl, hcz3⟩ := okWide_struct Tryd.underlying26 (hval 3 26 v3 rfl rfl)
  have k3 := h3
  have lt3 : ∀ x ∈ p3, x.block < W.heap.size := by obtain ⟨m, hm⟩ := k3; exact DataW.trod_lt m _ _ _ hm
  obtain ⟨hk3, ws3, tv3, tl3, sz3, w3⟩ : ∃ k ws tv tl sz, HIs W cs3 k ws tv tl sz := by
    obtain ⟨fuel, hf⟩ := h3
    exact read_hash (by simpa [Value.cells] using hf)
  clear hA0 hval0
  refine (walk a0 a1 len1 cap1 z1 cs2 hk2 ws2 tv2 tl2 sz2 cs3 hk3 ws3 tv3 tl3 sz3 W w0 w1 w2 w3 hVars).mono fun e W' ⟨he, bel⟩ => ?_
  subst he
  exact ⟨_, rfl, _, _, _, [], _, [], hW', trodAll_mk1 (shut_bool Tryd.underlying4 _), (trodAll_cons_mk (shut_int Tryd.underlying3 w0) (trodAll_cons_mk (Below.trod laidOut (by kernel_rfl) (of_decide_eq_true (by kernel_rfl)) k1 bel lt1) (trodAll_cons_mk (Below.trod laidOut (by kernel_rfl) (of_decide_eq_true (by kernel_rfl)) k2 bel lt2) (trodAll_cons_mk (Below.trod laidOut (by kernel_rfl) (of_decide_eq_true (by kernel_rfl)) k3 bel lt3) trodAll_mk0)))), rfl, bel.frame _, fun h => by cases h⟩

theorem over : Rows.shaSumsRow.holds Tryd.pinned (OpenSpec.ofChange Rows.shaSumsSpec) :=
  OpenClaim.holds_of_wide 3 Tryd.f3 rfl rfl rfl rfl rfl rfl rfl ⟨rfl, rfl, rfl, rfl, rfl⟩ rfl rfl rfl rfl rfl (by kernel_rfl) Tryd.func3 (by kernel_rfl)
    (of_decide_eq_true (by kernel_rfl)) (by unfold Func.isWrapper; first | (rw [if_pos (by decide +kernel)]; kernel_rfl) | (rw [if_neg (by decide +kernel)]; exact ⟨rfl, rfl⟩))
    (fun os started H enc _ => lifted os started H enc)

end Go.Proofs.YtgdcpdbmacmheaaDoor.shaSums
namespace Go.Proofs.YtgdcpdbmacmheaaDoor
theorem shaSums_card : Rows.ShaSumsCardSaid :=
  Claim7.holds_tied_plain_at .later [] [.data, .data] true (true, "1487c1c3618a2a5037795e47a5f00cdcf09bae054f8b661714c98c731cbd074a") false
    shaSums.over (fun _ h => by cases h) (by kernel_rfl) (fun _ h => by cases h) shaSums_row_tie rfl ⟨rfl, rfl⟩ (by kernel_rfl) rfl
    (fun f fn hf hfn => by
      obtain rfl : f = 3 := Option.some.inj ((show Tryd.prog.funcNamed Tryd.f3.name = some 3 by kernel_rfl).symm.trans hf) |>.symm
      obtain rfl : fn = Tryd.f3 := (Option.some.inj (Tryd.func3.symm.trans hfn)).symm
      exact ⟨by kernel_rfl, fun j t ht => by
        rw [Tryd.params3] at ht
        have hm : t ∈ [3, 22, 26, 26] := by simpa using Array.mem_of_getElem? ht
        have hall : ([3, 22, 26, 26].all fun u => !Tryd.prog.wantsStandIn u) = true := by kernel_rfl
        exact (show Tryd.prog.wantsStandIn t = false by simpa using List.all_eq_true.1 hall t hm)⟩)
    (by kernel_rfl)
end Go.Proofs.YtgdcpdbmacmheaaDoor
