/- For every number, every text, every list of numbers, every time and every list of values: apostillelaw06.ValueBack returns true, and each argument reads afterwards as it read before; the library's two tables of characters are as the program's text lays them. No other condition. -/
import Derived.Test.YtlddpjcacnahmaaGreatDoorEPar
import Derived.Test.YtlddpjcacnahmaaGreatDoorVAwk
import Derived.Test.YtlddpjcacnahmaaGreatDoorVFin
import Derived.WalkKit
import Derived.ProofKit
import Derived.OpenShut
import Derived.ShutString
import Derived.ChangeOld
import Derived.Below
namespace Go.Proofs.YtlddpjcacnahmaaGreatDoor.valueBack
open Go.ChangeShapes Go.WideShapes Go.ChangeAt Go.RowKit
open Go.ChangeMaps (open_string shut_string)
set_option linter.unusedVariables false

set_option maxRecDepth 100000 in
set_option maxHeartbeats 4000000 in
theorem walk (a0 : Int) (a1 : Option Addr) (len1 cap1 : Nat) (z1 : List Int) (a2 : Option Addr) (len2 cap2 : Nat) (z2 : List Int) (a3 : Int) (a4 : Option Addr) (len4 cap4 : Nat) (dd4 : Nat) (ks4 : List Nd) (w : World) (w0 : (Lit.int .i64 a0).wf = true) (w1 : IsRow .u8 w a1 len1 cap1 z1) (w2 : IsRow .u32 w a2 len2 cap2 z2) (w3 : (Lit.int .i64 a3).wf = true) (w4 : KidsAt (NdAt w dd4) w (.slice a4 len4 cap4) ks4 ∧ Tidy (.slice a4 len4 cap4)) (hV : Vars w) :
    Calls Tryz.prog 6 #[.int .i64 a0, .slice a1 len1 cap1, .slice a2 len2 cap2, .int .i64 a3, .slice a4 len4 cap4] w fun e w' => e = .returned (.bool true) ∧ Below w.heap.size w w' := by
  have HTD1 := hide (isRow_tidy w1)
  obtain ⟨b, rfl, hr1⟩ := w1.row wf_u8
  obtain ⟨o, rfl, hr2⟩ := w2.row wf_u32
  have hn := wf_i64' w0
  have huo := hr2.under
  have hT : UTabs w := hV
  obtain ⟨FB, hFB⟩ := exists_FB
  obtain ⟨hk4, htd4⟩ := w4
  obtain ⟨lt, htx⟩ := text_ex a3
  obtain ⟨li, hli, hll⟩ := int_ex a0 hn
  have hcv := fun w' (hb : Below w.heap.size w w') => conv_row (hr1.below hb)
  have HK4 := hide hk4
  have HTD4 := hide htd4
  have HT := hide hT
  have HF := hide hFB
  have HR1 := hide hr1
  have HR2 := hide hr2
  have HHN := hide hn
  have HUO := hide huo
  have HTX := hide htx
  have HLI := hide hli
  have HLL := hide hll
  have HCV := hide hcv
  clear hk4 htd4 hT hFB hr1 hr2 hn huo htx hli hll hcv w0 w1 w2 w3 hV
  by_cases h1 : (1000 : Int) < (b.length : Int)
  · skip
    go_enter Tryz.func6, Tryz.ntmps6
    go_wp2_with fail
    refine (vawake_any _ (HT.out.below (Below.refl _ w))).mono ?_
    rintro e v1 ⟨rfl, hb1⟩
    have HB1 := hide hb1
    clear hb1
    go_wp2_with fail
    go_ret
    exact ⟨rfl, HB1.out⟩
  by_cases h2 : (50 : Int) < (o.length : Int)
  · skip
    go_enter Tryz.func6, Tryz.ntmps6
    go_wp2_with fail
    refine (vawake_any _ (HT.out.below (Below.refl _ w))).mono ?_
    rintro e v1 ⟨rfl, hb1⟩
    have HB1 := hide hb1
    clear hb1
    go_wp2_with fail
    go_ret
    exact ⟨rfl, HB1.out⟩
  have hbl : (bts b).length ≤ 5000 := by rw [bts_len]; omega
  have hbm : b.length ≤ 5000 := by omega
  have HBL := hide hbl
  have HBM := hide hbm
  clear hbl hbm
  go_enter Tryz.func6, Tryz.ntmps6
  go_wp2_with fail
  refine (vfew_any dd4 _ ks4 _ (kids_below HK4.out (Below.refl _ w))).mono ?_
  rintro e v1 ⟨⟨r, rfl, hr⟩, hb1⟩
  have HB1 := hide hb1
  clear hb1
  cases r
  · clear hr
    go_wp2_with fail
    refine (vawake_any _ (HT.out.below HB1.out)).mono ?_
    rintro e v2 ⟨rfl, hb2⟩
    have HB2 := hide hb2
    clear hb2
    go_wp2_with fail
    go_ret
    exact ⟨rfl, (keep_trans HB1.out HB2.out)⟩
  have HFW := hide (hr rfl)
  clear hr
  have HSU := hide (show (ks4.map (szF dd4)).sum ≤ 50000 from Nat.le_trans (sum_all (szF dd4) 2000 HFW.out.2) (by have := HFW.out.1; omega))
  go_wp2_with fail
  refine ((int_is HLI.out _ HHN.out).mono (fun _ _ h => h.at)).mono ?_
  rintro e v2 ⟨d2, t2, a2, n2, p2, b2, m2, q2, rfl, hn2, hb2⟩
  have HB2 := hide hb2
  clear hb2
  have HN2 := hide hn2
  clear hn2
  go_wp2_with fail
  refine (intOf_back HF.out HLI.out HLL.out (NdAt.below (Below.refl _ v2) _ _ _ _ _ (NdIn.at _ _ _ _ _ HN2.out)) (HT.out.below (keep_trans HB1.out HB2.out))).mono ?_
  rintro e v3 ⟨rfl, hb3⟩
  have HB3 := hide hb3
  clear hb3
  go_wp2_with fail
  refine ((vbytes_any _ b _ (HR1.out.below (keep_trans HB1.out (keep_trans HB2.out HB3.out))) (Nat.le_trans HBM.out (by omega))).mono (fun _ _ h => h.at)).mono ?_
  rintro e v4 ⟨d4, t4, a4, n4, p4, b4, m4, q4, rfl, hn4, hb4⟩
  have HB4 := hide hb4
  clear hb4
  have HN4 := hide hn4
  clear hn4
  go_wp2_with fail
  refine (bytesOf_back HF.out HBM.out (NdAt.below (Below.refl _ v4) _ _ _ _ _ (NdIn.at _ _ _ _ _ HN4.out)) (HT.out.below (keep_trans HB1.out (keep_trans HB2.out (keep_trans HB3.out HB4.out))))).mono ?_
  rintro e v5 ⟨⟨ca, cn, cc, rfl, hrc⟩, hb5⟩
  have HB5 := hide hb5
  clear hb5
  have HRC := hide hrc
  clear hrc
  go_wp2_with fail
  refine ((seq_any dd4 _ ks4 _ (kids_below HK4.out (keep_trans HB1.out (keep_trans HB2.out (keep_trans HB3.out (keep_trans HB4.out HB5.out))))) (Nat.le_trans HSU.out (by omega))).mono (fun _ _ h => h.at)).mono ?_
  rintro e v6 ⟨d6, t6, a6, n6, p6, b6, m6, q6, rfl, hn6, hb6⟩
  have HB6 := hide hb6
  clear hb6
  have HN6 := hide hn6
  clear hn6
  go_wp2_with fail
  refine (kids_back (NdAt.below (Below.refl _ v6) _ _ _ _ _ (NdIn.at _ _ _ _ _ HN6.out)) (Nat.le_trans (sz_box HK4.out _ 48) (by have := HSU.out; omega))).mono ?_
  rintro e v7 ⟨⟨dk, ka, kn, kc, rfl, hk5, htd5⟩, hb7⟩
  have HB7 := hide hb7
  clear hb7
  have HK5 := hide hk5
  have HTD5 := hide htd5
  clear hk5 htd5
  go_wp2_with fail
  refine (rsame_true _ _ b _ (HRC.out.below (keep_trans HB6.out HB7.out)) (HR1.out.below (keep_trans HB1.out (keep_trans HB2.out (keep_trans HB3.out (keep_trans HB4.out (keep_trans HB5.out (keep_trans HB6.out HB7.out)))))))).mono ?_
  rintro e v8 ⟨rfl, hb8⟩
  have HB8 := hide hb8
  clear hb8
  go_wp2_with fail
  refine (rseq_any _ _ _ _).mono ?_
  rintro e v9 ⟨rfl, hb9⟩
  have HB9 := hide hb9
  clear hb9
  go_wp2_with fail
  refine (rseq_any _ _ _ _).mono ?_
  rintro e v10 ⟨rfl, hb10⟩
  have HB10 := hide hb10
  clear hb10
  go_wp2_with fail
  refine ((rsame_der (at_box (I64.mk (by omega) (by omega)) HTD5.out (kids_below HK5.out (keep_trans HB8.out (keep_trans HB9.out HB10.out)))) (at_box (I64.mk (by omega) (by omega)) HTD4.out (kids_below HK4.out (keep_trans HB1.out (keep_trans HB2.out (keep_trans HB3.out (keep_trans HB4.out (keep_trans HB5.out (keep_trans HB6.out (keep_trans HB7.out (keep_trans HB8.out (keep_trans HB9.out HB10.out)))))))))))).mono (fun _ _ h => SameE.true h rfl)).mono ?_
  rintro e v11 ⟨rfl, hb11⟩
  have HB11 := hide hb11
  clear hb11
  cases hfu : FB 12 (nb (bts b))
  · skip
    have hut := fun w' (h : UTabs w') => utf8_any FB HF.out (bts b) w' HBL.out h
    rw [hfu] at hut
    rw [madeN_f, madeR_f] at hut
    have HUT := hide hut
    have HFU := hide hfu
    clear hut hfu
    have hc := HCV.out _ (keep_trans HB1.out (keep_trans HB2.out (keep_trans HB3.out (keep_trans HB4.out (keep_trans HB5.out (keep_trans HB6.out (keep_trans HB7.out (keep_trans HB8.out (keep_trans HB9.out (keep_trans HB10.out HB11.out))))))))))
    go_wp2_with fail
    clear hc
    refine ((HUT.out _ (HT.out.below (keep_trans HB1.out (keep_trans HB2.out (keep_trans HB3.out (keep_trans HB4.out (keep_trans HB5.out (keep_trans HB6.out (keep_trans HB7.out (keep_trans HB8.out (keep_trans HB9.out (keep_trans HB10.out HB11.out)))))))))))).mono (fun _ _ h => h.at)).mono ?_
    rintro e v12 ⟨d12, t12, a12, n12, p12, b12, m12, q12, rfl, hn12, hb12⟩
    have HB12 := hide hb12
    clear hb12
    have HN12 := hide hn12
    clear hn12
    go_wp2_with fail
    have hC13 := box_cell v12 (.int .i64 t12) (.slice a12 n12 p12) (.slice b12 m12 q12) 28
    have hb13 := keep_alloc v12 (.cells #[.int .i64 t12, .slice a12 n12 p12, .slice b12 m12 q12] 28)
    generalize v12.alloc (.cells #[.int .i64 t12, .slice a12 n12 p12, .slice b12 m12 q12] 28) = v13 at *
    have HC13 := hide hC13
    clear hC13
    have HB13 := hide hb13
    clear hb13
    cases hfo : fitB o
    · skip
      have hid := fun w' v' (h : Row .u32 4294967296 w' v' o) => id_any v' o w' h
      rw [hfo] at hid
      rw [madeN_f, madeR_f] at hid
      have HID := hide hid
      have HFO := hide hfo
      clear hid hfo
      refine ((HID.out _ _ (HR2.out.below (keep_trans HB1.out (keep_trans HB2.out (keep_trans HB3.out (keep_trans HB4.out (keep_trans HB5.out (keep_trans HB6.out (keep_trans HB7.out (keep_trans HB8.out (keep_trans HB9.out (keep_trans HB10.out (keep_trans HB11.out (keep_trans HB12.out HB13.out)))))))))))))).mono (fun _ _ h => h.at)).mono ?_
      rintro e v14 ⟨d14, t14, a14, n14, p14, b14, m14, q14, rfl, hn14, hb14⟩
      have HB14 := hide hb14
      clear hb14
      have HN14 := hide hn14
      clear hn14
      go_wp2_with fail
      have hC15 := box_cell v14 (.int .i64 t14) (.slice a14 n14 p14) (.slice b14 m14 q14) 28
      have hb15 := keep_alloc v14 (.cells #[.int .i64 t14, .slice a14 n14 p14, .slice b14 m14 q14] 28)
      generalize v14.alloc (.cells #[.int .i64 t14, .slice a14 n14 p14, .slice b14 m14 q14] 28) = v15 at *
      have HC15 := hide hC15
      clear hC15
      have HB15 := hide hb15
      clear hb15
      by_cases hlt : lt = []
      · skip
        have hct := fun w' => time_any a3 lt w' HTX.out
        rw [decide_eq_false (not_not_intro hlt), madeN_f, madeR_f] at hct
        have HCT := hide hct
        clear hct
        refine ((HCT.out _).mono (fun _ _ h => h.at)).mono ?_
        rintro e v16 ⟨d16, t16, a16, n16, p16, b16, m16, q16, rfl, hn16, hb16⟩
        have HB16 := hide hb16
        clear hb16
        have HN16 := hide hn16
        clear hn16
        go_wp2_with fail
        have hC17 := box_cell v16 (.int .i64 t16) (.slice a16 n16 p16) (.slice b16 m16 q16) 28
        have hb17 := keep_alloc v16 (.cells #[.int .i64 t16, .slice a16 n16 p16, .slice b16 m16 q16] 28)
        generalize v16.alloc (.cells #[.int .i64 t16, .slice a16 n16 p16, .slice b16 m16 q16] 28) = v17 at *
        have HC17 := hide hC17
        clear hC17
        have HB17 := hide hb17
        clear hb17
        refine (vawake_any _ (HT.out.below (keep_trans HB1.out (keep_trans HB2.out (keep_trans HB3.out (keep_trans HB4.out (keep_trans HB5.out (keep_trans HB6.out (keep_trans HB7.out (keep_trans HB8.out (keep_trans HB9.out (keep_trans HB10.out (keep_trans HB11.out (keep_trans HB12.out (keep_trans HB13.out (keep_trans HB14.out (keep_trans HB15.out (keep_trans HB16.out HB17.out)))))))))))))))))).mono ?_
        rintro e v18 ⟨rfl, hb18⟩
        have HB18 := hide hb18
        clear hb18
        go_wp2_with fail
        go_ret
        exact ⟨rfl, (keep_trans HB1.out (keep_trans HB2.out (keep_trans HB3.out (keep_trans HB4.out (keep_trans HB5.out (keep_trans HB6.out (keep_trans HB7.out (keep_trans HB8.out (keep_trans HB9.out (keep_trans HB10.out (keep_trans HB11.out (keep_trans HB12.out (keep_trans HB13.out (keep_trans HB14.out (keep_trans HB15.out (keep_trans HB16.out (keep_trans HB17.out HB18.out)))))))))))))))))⟩
      have hct := fun w' => time_any a3 lt w' HTX.out
      rw [decide_eq_true hlt, madeN_t, madeR_t] at hct
      have HNE := hide hlt
      clear hlt
      have HCT := hide hct
      clear hct
      refine ((HCT.out _).mono (fun _ _ h => h.at)).mono ?_
      rintro e v16 ⟨d16, t16, a16, n16, p16, b16, m16, q16, rfl, hn16, hb16⟩
      have HB16 := hide hb16
      clear hb16
      have HN16 := hide hn16
      clear hn16
      have hA := keep_alloc v16 (.cells #[.int .i64 t16, .slice a16 n16 p16, .slice b16 m16 q16] 28)
      obtain ⟨x98, y98, z98⟩ := box_cell v16 (.int .i64 t16) (.slice a16 n16 p16) (.slice b16 m16 q16) 28
      clear hA
      go_wp2_with fail
      clear x98 y98 z98
      have hC17 := box_cell v16 (.int .i64 t16) (.slice a16 n16 p16) (.slice b16 m16 q16) 28
      have hb17 := keep_alloc v16 (.cells #[.int .i64 t16, .slice a16 n16 p16, .slice b16 m16 q16] 28)
      generalize v16.alloc (.cells #[.int .i64 t16, .slice a16 n16 p16, .slice b16 m16 q16] 28) = v17 at *
      have HC17 := hide hC17
      clear hC17
      have HB17 := hide hb17
      clear hb17
      refine (timeOf_back HF.out HTX.out HNE.out (NdAt.below HB17.out _ _ _ _ _ (NdIn.at _ _ _ _ _ HN16.out)) (HT.out.below (keep_trans HB1.out (keep_trans HB2.out (keep_trans HB3.out (keep_trans HB4.out (keep_trans HB5.out (keep_trans HB6.out (keep_trans HB7.out (keep_trans HB8.out (keep_trans HB9.out (keep_trans HB10.out (keep_trans HB11.out (keep_trans HB12.out (keep_trans HB13.out (keep_trans HB14.out (keep_trans HB15.out (keep_trans HB16.out HB17.out)))))))))))))))))).mono ?_
      rintro e v18 ⟨rfl, hb18⟩
      have HB18 := hide hb18
      clear hb18
      go_wp2_with fail
      refine (vawake_any _ (HT.out.below (keep_trans HB1.out (keep_trans HB2.out (keep_trans HB3.out (keep_trans HB4.out (keep_trans HB5.out (keep_trans HB6.out (keep_trans HB7.out (keep_trans HB8.out (keep_trans HB9.out (keep_trans HB10.out (keep_trans HB11.out (keep_trans HB12.out (keep_trans HB13.out (keep_trans HB14.out (keep_trans HB15.out (keep_trans HB16.out (keep_trans HB17.out HB18.out))))))))))))))))))).mono ?_
      rintro e v19 ⟨rfl, hb19⟩
      have HB19 := hide hb19
      clear hb19
      go_wp2_with fail
      go_ret
      exact ⟨rfl, (keep_trans HB1.out (keep_trans HB2.out (keep_trans HB3.out (keep_trans HB4.out (keep_trans HB5.out (keep_trans HB6.out (keep_trans HB7.out (keep_trans HB8.out (keep_trans HB9.out (keep_trans HB10.out (keep_trans HB11.out (keep_trans HB12.out (keep_trans HB13.out (keep_trans HB14.out (keep_trans HB15.out (keep_trans HB16.out (keep_trans HB17.out (keep_trans HB18.out HB19.out))))))))))))))))))⟩
    have hid := fun w' v' (h : Row .u32 4294967296 w' v' o) => id_any v' o w' h
    rw [hfo] at hid
    rw [madeN_t, madeR_t] at hid
    have HID := hide hid
    have HFO := hide hfo
    clear hid hfo
    refine ((HID.out _ _ (HR2.out.below (keep_trans HB1.out (keep_trans HB2.out (keep_trans HB3.out (keep_trans HB4.out (keep_trans HB5.out (keep_trans HB6.out (keep_trans HB7.out (keep_trans HB8.out (keep_trans HB9.out (keep_trans HB10.out (keep_trans HB11.out (keep_trans HB12.out HB13.out)))))))))))))).mono (fun _ _ h => h.at)).mono ?_
    rintro e v14 ⟨d14, t14, a14, n14, p14, b14, m14, q14, rfl, hn14, hb14⟩
    have HB14 := hide hb14
    clear hb14
    have HN14 := hide hn14
    clear hn14
    obtain ⟨x97, y97, z97⟩ := box_cell v14 (.int .i64 t14) (.slice a14 n14 p14) (.slice b14 m14 q14) 28
    go_wp2_with fail
    clear x97 y97 z97
    have hC15 := box_cell v14 (.int .i64 t14) (.slice a14 n14 p14) (.slice b14 m14 q14) 28
    have hb15 := keep_alloc v14 (.cells #[.int .i64 t14, .slice a14 n14 p14, .slice b14 m14 q14] 28)
    generalize v14.alloc (.cells #[.int .i64 t14, .slice a14 n14 p14, .slice b14 m14 q14] 28) = v15 at *
    have HC15 := hide hC15
    clear hC15
    have HB15 := hide hb15
    clear hb15
    refine (idOf_back HF.out HUO.out HFO.out (NdAt.below HB15.out _ _ _ _ _ (NdIn.at _ _ _ _ _ HN14.out)) (HT.out.below (keep_trans HB1.out (keep_trans HB2.out (keep_trans HB3.out (keep_trans HB4.out (keep_trans HB5.out (keep_trans HB6.out (keep_trans HB7.out (keep_trans HB8.out (keep_trans HB9.out (keep_trans HB10.out (keep_trans HB11.out (keep_trans HB12.out (keep_trans HB13.out (keep_trans HB14.out HB15.out)))))))))))))))).mono ?_
    rintro e v16 ⟨⟨oa, on, oc, rfl, hro⟩, hb16⟩
    have HB16 := hide hb16
    clear hb16
    have HRO := hide hro
    clear hro
    go_wp2_with fail
    refine ((rosame_b _ _ o o _ (HRO.out.below (Below.refl _ v16)) (HR2.out.below (keep_trans HB1.out (keep_trans HB2.out (keep_trans HB3.out (keep_trans HB4.out (keep_trans HB5.out (keep_trans HB6.out (keep_trans HB7.out (keep_trans HB8.out (keep_trans HB9.out (keep_trans HB10.out (keep_trans HB11.out (keep_trans HB12.out (keep_trans HB13.out (keep_trans HB14.out (keep_trans HB15.out HB16.out))))))))))))))))).mono (fun _ _ h => by rw [decide_eq_true (rfl : o = o)] at h; exact h)).mono ?_
    rintro e v17 ⟨rfl, hb17⟩
    have HB17 := hide hb17
    clear hb17
    go_wp2_with fail
    by_cases hlt : lt = []
    · skip
      have hct := fun w' => time_any a3 lt w' HTX.out
      rw [decide_eq_false (not_not_intro hlt), madeN_f, madeR_f] at hct
      have HCT := hide hct
      clear hct
      refine ((HCT.out _).mono (fun _ _ h => h.at)).mono ?_
      rintro e v18 ⟨d18, t18, a18, n18, p18, b18, m18, q18, rfl, hn18, hb18⟩
      have HB18 := hide hb18
      clear hb18
      have HN18 := hide hn18
      clear hn18
      go_wp2_with fail
      have hC19 := box_cell v18 (.int .i64 t18) (.slice a18 n18 p18) (.slice b18 m18 q18) 28
      have hb19 := keep_alloc v18 (.cells #[.int .i64 t18, .slice a18 n18 p18, .slice b18 m18 q18] 28)
      generalize v18.alloc (.cells #[.int .i64 t18, .slice a18 n18 p18, .slice b18 m18 q18] 28) = v19 at *
      have HC19 := hide hC19
      clear hC19
      have HB19 := hide hb19
      clear hb19
      refine (vawake_any _ (HT.out.below (keep_trans HB1.out (keep_trans HB2.out (keep_trans HB3.out (keep_trans HB4.out (keep_trans HB5.out (keep_trans HB6.out (keep_trans HB7.out (keep_trans HB8.out (keep_trans HB9.out (keep_trans HB10.out (keep_trans HB11.out (keep_trans HB12.out (keep_trans HB13.out (keep_trans HB14.out (keep_trans HB15.out (keep_trans HB16.out (keep_trans HB17.out (keep_trans HB18.out HB19.out)))))))))))))))))))).mono ?_
      rintro e v20 ⟨rfl, hb20⟩
      have HB20 := hide hb20
      clear hb20
      go_wp2_with fail
      go_ret
      exact ⟨rfl, (keep_trans HB1.out (keep_trans HB2.out (keep_trans HB3.out (keep_trans HB4.out (keep_trans HB5.out (keep_trans HB6.out (keep_trans HB7.out (keep_trans HB8.out (keep_trans HB9.out (keep_trans HB10.out (keep_trans HB11.out (keep_trans HB12.out (keep_trans HB13.out (keep_trans HB14.out (keep_trans HB15.out (keep_trans HB16.out (keep_trans HB17.out (keep_trans HB18.out (keep_trans HB19.out HB20.out)))))))))))))))))))⟩
    have hct := fun w' => time_any a3 lt w' HTX.out
    rw [decide_eq_true hlt, madeN_t, madeR_t] at hct
    have HNE := hide hlt
    clear hlt
    have HCT := hide hct
    clear hct
    refine ((HCT.out _).mono (fun _ _ h => h.at)).mono ?_
    rintro e v18 ⟨d18, t18, a18, n18, p18, b18, m18, q18, rfl, hn18, hb18⟩
    have HB18 := hide hb18
    clear hb18
    have HN18 := hide hn18
    clear hn18
    have hA := keep_alloc v18 (.cells #[.int .i64 t18, .slice a18 n18 p18, .slice b18 m18 q18] 28)
    obtain ⟨x98, y98, z98⟩ := box_cell v18 (.int .i64 t18) (.slice a18 n18 p18) (.slice b18 m18 q18) 28
    clear hA
    go_wp2_with fail
    clear x98 y98 z98
    have hC19 := box_cell v18 (.int .i64 t18) (.slice a18 n18 p18) (.slice b18 m18 q18) 28
    have hb19 := keep_alloc v18 (.cells #[.int .i64 t18, .slice a18 n18 p18, .slice b18 m18 q18] 28)
    generalize v18.alloc (.cells #[.int .i64 t18, .slice a18 n18 p18, .slice b18 m18 q18] 28) = v19 at *
    have HC19 := hide hC19
    clear hC19
    have HB19 := hide hb19
    clear hb19
    refine (timeOf_back HF.out HTX.out HNE.out (NdAt.below HB19.out _ _ _ _ _ (NdIn.at _ _ _ _ _ HN18.out)) (HT.out.below (keep_trans HB1.out (keep_trans HB2.out (keep_trans HB3.out (keep_trans HB4.out (keep_trans HB5.out (keep_trans HB6.out (keep_trans HB7.out (keep_trans HB8.out (keep_trans HB9.out (keep_trans HB10.out (keep_trans HB11.out (keep_trans HB12.out (keep_trans HB13.out (keep_trans HB14.out (keep_trans HB15.out (keep_trans HB16.out (keep_trans HB17.out (keep_trans HB18.out HB19.out)))))))))))))))))))).mono ?_
    rintro e v20 ⟨rfl, hb20⟩
    have HB20 := hide hb20
    clear hb20
    go_wp2_with fail
    refine (vawake_any _ (HT.out.below (keep_trans HB1.out (keep_trans HB2.out (keep_trans HB3.out (keep_trans HB4.out (keep_trans HB5.out (keep_trans HB6.out (keep_trans HB7.out (keep_trans HB8.out (keep_trans HB9.out (keep_trans HB10.out (keep_trans HB11.out (keep_trans HB12.out (keep_trans HB13.out (keep_trans HB14.out (keep_trans HB15.out (keep_trans HB16.out (keep_trans HB17.out (keep_trans HB18.out (keep_trans HB19.out HB20.out))))))))))))))))))))).mono ?_
    rintro e v21 ⟨rfl, hb21⟩
    have HB21 := hide hb21
    clear hb21
    go_wp2_with fail
    go_ret
    exact ⟨rfl, (keep_trans HB1.out (keep_trans HB2.out (keep_trans HB3.out (keep_trans HB4.out (keep_trans HB5.out (keep_trans HB6.out (keep_trans HB7.out (keep_trans HB8.out (keep_trans HB9.out (keep_trans HB10.out (keep_trans HB11.out (keep_trans HB12.out (keep_trans HB13.out (keep_trans HB14.out (keep_trans HB15.out (keep_trans HB16.out (keep_trans HB17.out (keep_trans HB18.out (keep_trans HB19.out (keep_trans HB20.out HB21.out))))))))))))))))))))⟩
  have hut := fun w' (h : UTabs w') => utf8_any FB HF.out (bts b) w' HBL.out h
  rw [hfu] at hut
  rw [madeN_t, madeR_t] at hut
  have HUT := hide hut
  have HFU := hide hfu
  clear hut hfu
  have hc := HCV.out _ (keep_trans HB1.out (keep_trans HB2.out (keep_trans HB3.out (keep_trans HB4.out (keep_trans HB5.out (keep_trans HB6.out (keep_trans HB7.out (keep_trans HB8.out (keep_trans HB9.out (keep_trans HB10.out HB11.out))))))))))
  go_wp2_with fail
  clear hc
  refine ((HUT.out _ (HT.out.below (keep_trans HB1.out (keep_trans HB2.out (keep_trans HB3.out (keep_trans HB4.out (keep_trans HB5.out (keep_trans HB6.out (keep_trans HB7.out (keep_trans HB8.out (keep_trans HB9.out (keep_trans HB10.out HB11.out)))))))))))).mono (fun _ _ h => h.at)).mono ?_
  rintro e v12 ⟨d12, t12, a12, n12, p12, b12, m12, q12, rfl, hn12, hb12⟩
  have HB12 := hide hb12
  clear hb12
  have HN12 := hide hn12
  clear hn12
  obtain ⟨x96, y96, z96⟩ := box_cell v12 (.int .i64 t12) (.slice a12 n12 p12) (.slice b12 m12 q12) 28
  go_wp2_with fail
  clear x96 y96 z96
  have hC13 := box_cell v12 (.int .i64 t12) (.slice a12 n12 p12) (.slice b12 m12 q12) 28
  have hb13 := keep_alloc v12 (.cells #[.int .i64 t12, .slice a12 n12 p12, .slice b12 m12 q12] 28)
  generalize v12.alloc (.cells #[.int .i64 t12, .slice a12 n12 p12, .slice b12 m12 q12] 28) = v13 at *
  have HC13 := hide hC13
  clear hC13
  have HB13 := hide hb13
  clear hb13
  refine (utf8Of_back HF.out HFU.out HBL.out (NdAt.below HB13.out _ _ _ _ _ (NdIn.at _ _ _ _ _ HN12.out)) (HT.out.below (keep_trans HB1.out (keep_trans HB2.out (keep_trans HB3.out (keep_trans HB4.out (keep_trans HB5.out (keep_trans HB6.out (keep_trans HB7.out (keep_trans HB8.out (keep_trans HB9.out (keep_trans HB10.out (keep_trans HB11.out (keep_trans HB12.out HB13.out)))))))))))))).mono ?_
  rintro e v14 ⟨rfl, hb14⟩
  have HB14 := hide hb14
  clear hb14
  have hc := HCV.out _ (keep_trans HB1.out (keep_trans HB2.out (keep_trans HB3.out (keep_trans HB4.out (keep_trans HB5.out (keep_trans HB6.out (keep_trans HB7.out (keep_trans HB8.out (keep_trans HB9.out (keep_trans HB10.out (keep_trans HB11.out (keep_trans HB12.out (keep_trans HB13.out HB14.out)))))))))))))
  go_wp2_with fail
  clear hc
  cases hfo : fitB o
  · skip
    have hid := fun w' v' (h : Row .u32 4294967296 w' v' o) => id_any v' o w' h
    rw [hfo] at hid
    rw [madeN_f, madeR_f] at hid
    have HID := hide hid
    have HFO := hide hfo
    clear hid hfo
    refine ((HID.out _ _ (HR2.out.below (keep_trans HB1.out (keep_trans HB2.out (keep_trans HB3.out (keep_trans HB4.out (keep_trans HB5.out (keep_trans HB6.out (keep_trans HB7.out (keep_trans HB8.out (keep_trans HB9.out (keep_trans HB10.out (keep_trans HB11.out (keep_trans HB12.out (keep_trans HB13.out HB14.out))))))))))))))).mono (fun _ _ h => h.at)).mono ?_
    rintro e v15 ⟨d15, t15, a15, n15, p15, b15, m15, q15, rfl, hn15, hb15⟩
    have HB15 := hide hb15
    clear hb15
    have HN15 := hide hn15
    clear hn15
    go_wp2_with fail
    have hC16 := box_cell v15 (.int .i64 t15) (.slice a15 n15 p15) (.slice b15 m15 q15) 28
    have hb16 := keep_alloc v15 (.cells #[.int .i64 t15, .slice a15 n15 p15, .slice b15 m15 q15] 28)
    generalize v15.alloc (.cells #[.int .i64 t15, .slice a15 n15 p15, .slice b15 m15 q15] 28) = v16 at *
    have HC16 := hide hC16
    clear hC16
    have HB16 := hide hb16
    clear hb16
    by_cases hlt : lt = []
    · skip
      have hct := fun w' => time_any a3 lt w' HTX.out
      rw [decide_eq_false (not_not_intro hlt), madeN_f, madeR_f] at hct
      have HCT := hide hct
      clear hct
      refine ((HCT.out _).mono (fun _ _ h => h.at)).mono ?_
      rintro e v17 ⟨d17, t17, a17, n17, p17, b17, m17, q17, rfl, hn17, hb17⟩
      have HB17 := hide hb17
      clear hb17
      have HN17 := hide hn17
      clear hn17
      go_wp2_with fail
      have hC18 := box_cell v17 (.int .i64 t17) (.slice a17 n17 p17) (.slice b17 m17 q17) 28
      have hb18 := keep_alloc v17 (.cells #[.int .i64 t17, .slice a17 n17 p17, .slice b17 m17 q17] 28)
      generalize v17.alloc (.cells #[.int .i64 t17, .slice a17 n17 p17, .slice b17 m17 q17] 28) = v18 at *
      have HC18 := hide hC18
      clear hC18
      have HB18 := hide hb18
      clear hb18
      refine (vawake_any _ (HT.out.below (keep_trans HB1.out (keep_trans HB2.out (keep_trans HB3.out (keep_trans HB4.out (keep_trans HB5.out (keep_trans HB6.out (keep_trans HB7.out (keep_trans HB8.out (keep_trans HB9.out (keep_trans HB10.out (keep_trans HB11.out (keep_trans HB12.out (keep_trans HB13.out (keep_trans HB14.out (keep_trans HB15.out (keep_trans HB16.out (keep_trans HB17.out HB18.out))))))))))))))))))).mono ?_
      rintro e v19 ⟨rfl, hb19⟩
      have HB19 := hide hb19
      clear hb19
      go_wp2_with fail
      go_ret
      exact ⟨rfl, (keep_trans HB1.out (keep_trans HB2.out (keep_trans HB3.out (keep_trans HB4.out (keep_trans HB5.out (keep_trans HB6.out (keep_trans HB7.out (keep_trans HB8.out (keep_trans HB9.out (keep_trans HB10.out (keep_trans HB11.out (keep_trans HB12.out (keep_trans HB13.out (keep_trans HB14.out (keep_trans HB15.out (keep_trans HB16.out (keep_trans HB17.out (keep_trans HB18.out HB19.out))))))))))))))))))⟩
    have hct := fun w' => time_any a3 lt w' HTX.out
    rw [decide_eq_true hlt, madeN_t, madeR_t] at hct
    have HNE := hide hlt
    clear hlt
    have HCT := hide hct
    clear hct
    refine ((HCT.out _).mono (fun _ _ h => h.at)).mono ?_
    rintro e v17 ⟨d17, t17, a17, n17, p17, b17, m17, q17, rfl, hn17, hb17⟩
    have HB17 := hide hb17
    clear hb17
    have HN17 := hide hn17
    clear hn17
    have hA := keep_alloc v17 (.cells #[.int .i64 t17, .slice a17 n17 p17, .slice b17 m17 q17] 28)
    obtain ⟨x98, y98, z98⟩ := box_cell v17 (.int .i64 t17) (.slice a17 n17 p17) (.slice b17 m17 q17) 28
    clear hA
    go_wp2_with fail
    clear x98 y98 z98
    have hC18 := box_cell v17 (.int .i64 t17) (.slice a17 n17 p17) (.slice b17 m17 q17) 28
    have hb18 := keep_alloc v17 (.cells #[.int .i64 t17, .slice a17 n17 p17, .slice b17 m17 q17] 28)
    generalize v17.alloc (.cells #[.int .i64 t17, .slice a17 n17 p17, .slice b17 m17 q17] 28) = v18 at *
    have HC18 := hide hC18
    clear hC18
    have HB18 := hide hb18
    clear hb18
    refine (timeOf_back HF.out HTX.out HNE.out (NdAt.below HB18.out _ _ _ _ _ (NdIn.at _ _ _ _ _ HN17.out)) (HT.out.below (keep_trans HB1.out (keep_trans HB2.out (keep_trans HB3.out (keep_trans HB4.out (keep_trans HB5.out (keep_trans HB6.out (keep_trans HB7.out (keep_trans HB8.out (keep_trans HB9.out (keep_trans HB10.out (keep_trans HB11.out (keep_trans HB12.out (keep_trans HB13.out (keep_trans HB14.out (keep_trans HB15.out (keep_trans HB16.out (keep_trans HB17.out HB18.out))))))))))))))))))).mono ?_
    rintro e v19 ⟨rfl, hb19⟩
    have HB19 := hide hb19
    clear hb19
    go_wp2_with fail
    refine (vawake_any _ (HT.out.below (keep_trans HB1.out (keep_trans HB2.out (keep_trans HB3.out (keep_trans HB4.out (keep_trans HB5.out (keep_trans HB6.out (keep_trans HB7.out (keep_trans HB8.out (keep_trans HB9.out (keep_trans HB10.out (keep_trans HB11.out (keep_trans HB12.out (keep_trans HB13.out (keep_trans HB14.out (keep_trans HB15.out (keep_trans HB16.out (keep_trans HB17.out (keep_trans HB18.out HB19.out)))))))))))))))))))).mono ?_
    rintro e v20 ⟨rfl, hb20⟩
    have HB20 := hide hb20
    clear hb20
    go_wp2_with fail
    go_ret
    exact ⟨rfl, (keep_trans HB1.out (keep_trans HB2.out (keep_trans HB3.out (keep_trans HB4.out (keep_trans HB5.out (keep_trans HB6.out (keep_trans HB7.out (keep_trans HB8.out (keep_trans HB9.out (keep_trans HB10.out (keep_trans HB11.out (keep_trans HB12.out (keep_trans HB13.out (keep_trans HB14.out (keep_trans HB15.out (keep_trans HB16.out (keep_trans HB17.out (keep_trans HB18.out (keep_trans HB19.out HB20.out)))))))))))))))))))⟩
  have hid := fun w' v' (h : Row .u32 4294967296 w' v' o) => id_any v' o w' h
  rw [hfo] at hid
  rw [madeN_t, madeR_t] at hid
  have HID := hide hid
  have HFO := hide hfo
  clear hid hfo
  refine ((HID.out _ _ (HR2.out.below (keep_trans HB1.out (keep_trans HB2.out (keep_trans HB3.out (keep_trans HB4.out (keep_trans HB5.out (keep_trans HB6.out (keep_trans HB7.out (keep_trans HB8.out (keep_trans HB9.out (keep_trans HB10.out (keep_trans HB11.out (keep_trans HB12.out (keep_trans HB13.out HB14.out))))))))))))))).mono (fun _ _ h => h.at)).mono ?_
  rintro e v15 ⟨d15, t15, a15, n15, p15, b15, m15, q15, rfl, hn15, hb15⟩
  have HB15 := hide hb15
  clear hb15
  have HN15 := hide hn15
  clear hn15
  obtain ⟨x97, y97, z97⟩ := box_cell v15 (.int .i64 t15) (.slice a15 n15 p15) (.slice b15 m15 q15) 28
  go_wp2_with fail
  clear x97 y97 z97
  have hC16 := box_cell v15 (.int .i64 t15) (.slice a15 n15 p15) (.slice b15 m15 q15) 28
  have hb16 := keep_alloc v15 (.cells #[.int .i64 t15, .slice a15 n15 p15, .slice b15 m15 q15] 28)
  generalize v15.alloc (.cells #[.int .i64 t15, .slice a15 n15 p15, .slice b15 m15 q15] 28) = v16 at *
  have HC16 := hide hC16
  clear hC16
  have HB16 := hide hb16
  clear hb16
  refine (idOf_back HF.out HUO.out HFO.out (NdAt.below HB16.out _ _ _ _ _ (NdIn.at _ _ _ _ _ HN15.out)) (HT.out.below (keep_trans HB1.out (keep_trans HB2.out (keep_trans HB3.out (keep_trans HB4.out (keep_trans HB5.out (keep_trans HB6.out (keep_trans HB7.out (keep_trans HB8.out (keep_trans HB9.out (keep_trans HB10.out (keep_trans HB11.out (keep_trans HB12.out (keep_trans HB13.out (keep_trans HB14.out (keep_trans HB15.out HB16.out))))))))))))))))).mono ?_
  rintro e v17 ⟨⟨oa, on, oc, rfl, hro⟩, hb17⟩
  have HB17 := hide hb17
  clear hb17
  have HRO := hide hro
  clear hro
  go_wp2_with fail
  refine ((rosame_b _ _ o o _ (HRO.out.below (Below.refl _ v17)) (HR2.out.below (keep_trans HB1.out (keep_trans HB2.out (keep_trans HB3.out (keep_trans HB4.out (keep_trans HB5.out (keep_trans HB6.out (keep_trans HB7.out (keep_trans HB8.out (keep_trans HB9.out (keep_trans HB10.out (keep_trans HB11.out (keep_trans HB12.out (keep_trans HB13.out (keep_trans HB14.out (keep_trans HB15.out (keep_trans HB16.out HB17.out)))))))))))))))))).mono (fun _ _ h => by rw [decide_eq_true (rfl : o = o)] at h; exact h)).mono ?_
  rintro e v18 ⟨rfl, hb18⟩
  have HB18 := hide hb18
  clear hb18
  go_wp2_with fail
  by_cases hlt : lt = []
  · skip
    have hct := fun w' => time_any a3 lt w' HTX.out
    rw [decide_eq_false (not_not_intro hlt), madeN_f, madeR_f] at hct
    have HCT := hide hct
    clear hct
    refine ((HCT.out _).mono (fun _ _ h => h.at)).mono ?_
    rintro e v19 ⟨d19, t19, a19, n19, p19, b19, m19, q19, rfl, hn19, hb19⟩
    have HB19 := hide hb19
    clear hb19
    have HN19 := hide hn19
    clear hn19
    go_wp2_with fail
    have hC20 := box_cell v19 (.int .i64 t19) (.slice a19 n19 p19) (.slice b19 m19 q19) 28
    have hb20 := keep_alloc v19 (.cells #[.int .i64 t19, .slice a19 n19 p19, .slice b19 m19 q19] 28)
    generalize v19.alloc (.cells #[.int .i64 t19, .slice a19 n19 p19, .slice b19 m19 q19] 28) = v20 at *
    have HC20 := hide hC20
    clear hC20
    have HB20 := hide hb20
    clear hb20
    refine (vawake_any _ (HT.out.below (keep_trans HB1.out (keep_trans HB2.out (keep_trans HB3.out (keep_trans HB4.out (keep_trans HB5.out (keep_trans HB6.out (keep_trans HB7.out (keep_trans HB8.out (keep_trans HB9.out (keep_trans HB10.out (keep_trans HB11.out (keep_trans HB12.out (keep_trans HB13.out (keep_trans HB14.out (keep_trans HB15.out (keep_trans HB16.out (keep_trans HB17.out (keep_trans HB18.out (keep_trans HB19.out HB20.out))))))))))))))))))))).mono ?_
    rintro e v21 ⟨rfl, hb21⟩
    have HB21 := hide hb21
    clear hb21
    go_wp2_with fail
    go_ret
    exact ⟨rfl, (keep_trans HB1.out (keep_trans HB2.out (keep_trans HB3.out (keep_trans HB4.out (keep_trans HB5.out (keep_trans HB6.out (keep_trans HB7.out (keep_trans HB8.out (keep_trans HB9.out (keep_trans HB10.out (keep_trans HB11.out (keep_trans HB12.out (keep_trans HB13.out (keep_trans HB14.out (keep_trans HB15.out (keep_trans HB16.out (keep_trans HB17.out (keep_trans HB18.out (keep_trans HB19.out (keep_trans HB20.out HB21.out))))))))))))))))))))⟩
  have hct := fun w' => time_any a3 lt w' HTX.out
  rw [decide_eq_true hlt, madeN_t, madeR_t] at hct
  have HNE := hide hlt
  clear hlt
  have HCT := hide hct
  clear hct
  refine ((HCT.out _).mono (fun _ _ h => h.at)).mono ?_
  rintro e v19 ⟨d19, t19, a19, n19, p19, b19, m19, q19, rfl, hn19, hb19⟩
  have HB19 := hide hb19
  clear hb19
  have HN19 := hide hn19
  clear hn19
  have hA := keep_alloc v19 (.cells #[.int .i64 t19, .slice a19 n19 p19, .slice b19 m19 q19] 28)
  obtain ⟨x98, y98, z98⟩ := box_cell v19 (.int .i64 t19) (.slice a19 n19 p19) (.slice b19 m19 q19) 28
  clear hA
  go_wp2_with fail
  clear x98 y98 z98
  have hC20 := box_cell v19 (.int .i64 t19) (.slice a19 n19 p19) (.slice b19 m19 q19) 28
  have hb20 := keep_alloc v19 (.cells #[.int .i64 t19, .slice a19 n19 p19, .slice b19 m19 q19] 28)
  generalize v19.alloc (.cells #[.int .i64 t19, .slice a19 n19 p19, .slice b19 m19 q19] 28) = v20 at *
  have HC20 := hide hC20
  clear hC20
  have HB20 := hide hb20
  clear hb20
  refine (timeOf_back HF.out HTX.out HNE.out (NdAt.below HB20.out _ _ _ _ _ (NdIn.at _ _ _ _ _ HN19.out)) (HT.out.below (keep_trans HB1.out (keep_trans HB2.out (keep_trans HB3.out (keep_trans HB4.out (keep_trans HB5.out (keep_trans HB6.out (keep_trans HB7.out (keep_trans HB8.out (keep_trans HB9.out (keep_trans HB10.out (keep_trans HB11.out (keep_trans HB12.out (keep_trans HB13.out (keep_trans HB14.out (keep_trans HB15.out (keep_trans HB16.out (keep_trans HB17.out (keep_trans HB18.out (keep_trans HB19.out HB20.out))))))))))))))))))))).mono ?_
  rintro e v21 ⟨rfl, hb21⟩
  have HB21 := hide hb21
  clear hb21
  go_wp2_with fail
  refine (vawake_any _ (HT.out.below (keep_trans HB1.out (keep_trans HB2.out (keep_trans HB3.out (keep_trans HB4.out (keep_trans HB5.out (keep_trans HB6.out (keep_trans HB7.out (keep_trans HB8.out (keep_trans HB9.out (keep_trans HB10.out (keep_trans HB11.out (keep_trans HB12.out (keep_trans HB13.out (keep_trans HB14.out (keep_trans HB15.out (keep_trans HB16.out (keep_trans HB17.out (keep_trans HB18.out (keep_trans HB19.out (keep_trans HB20.out HB21.out)))))))))))))))))))))).mono ?_
  rintro e v22 ⟨rfl, hb22⟩
  have HB22 := hide hb22
  clear hb22
  go_wp2_with fail
  go_ret
  exact ⟨rfl, (keep_trans HB1.out (keep_trans HB2.out (keep_trans HB3.out (keep_trans HB4.out (keep_trans HB5.out (keep_trans HB6.out (keep_trans HB7.out (keep_trans HB8.out (keep_trans HB9.out (keep_trans HB10.out (keep_trans HB11.out (keep_trans HB12.out (keep_trans HB13.out (keep_trans HB14.out (keep_trans HB15.out (keep_trans HB16.out (keep_trans HB17.out (keep_trans HB18.out (keep_trans HB19.out (keep_trans HB20.out (keep_trans HB21.out HB22.out)))))))))))))))))))))⟩

set_option maxRecDepth 100000 in
theorem lifted (os : Os) (started : os.Started) (H : Type) (enc : TypeId × Value → H) :
    ReturnsInHanded {} Tryz.checked os 6 .any (fun w args => (Rows.valueBackSpec.pre enc Tryz.prog Tryz.f6 Rows.valueBackRow.domain false w args ∧ laidMetH Tryz.prog Rows.valueBackRow.laid w) ∧ sizedMet enc Tryz.prog Tryz.f6 (OpenSpec.ofChange Rows.valueBackSpec) false w args) (Rows.valueBackSpec.post enc Tryz.prog Tryz.f6 false true false false) := by
  refine change_laid_shaped (C := Tryz.checked) (X := fun w _ => laidMetH Tryz.prog Rows.valueBackRow.laid w) (fun _ _ _ hh h => h.of_heap hh) own started (by kernel_rfl) Tryz.func6
    (ChangeSpec.witness_shaped (enc := enc) (C := Tryz.checked) (os := os) (X := fun w _ => laidMetH Tryz.prog Rows.valueBackRow.laid w) false (World.laidAll Tryz.prog os Rows.valueBackRow.laid) #[.int .i64 0, .slice none 0 0, .slice none 0 0, .int .i64 0, .slice none 0 0] 8 (World.laidAll_os _ _ _)
      (World.shaped_of_ZipB (by kernel_rfl) (by kernel_rfl)) (by kernel_rfl) (by kernel_rfl) (by kernel_rfl)
      (by rw [MakeChecks.laidMetH_plain _ _ _ (by kernel_rfl)]; exact laidMet_laidAll _ (by kernel_rfl) (by kernel_rfl))) ?_
  intro W base args ds gs before hval0 hW hsz0 hL hsh
  have hVars : Vars W := vars_of_laid hL hsh
  have hval : ∀ (j : Nat) t v, Tryz.f6.params[j]? = some t → args[j]? = some v → Value.okWide Tryz.prog W .any base t v := hval0
  have hW' := hW
  obtain ⟨p, q, hA0, hV, rfl, hfz, hnd⟩ := hW
  have hA : DataW.TrodAll enc Tryz.prog W 0 (fun _ => true) true Tryz.f6.params.toList args.toList ds p := hA0
  rw [Tryz.params6] at hA hval
  obtain ⟨v0, vs0, d0, ds0, p0, q0, hargs, rfl, rfl, h0, r0⟩ := trodAll_cons hA
  obtain ⟨v1, vs1, d1, ds1, p1, q1, rfl, rfl, rfl, h1, r1⟩ := trodAll_cons r0
  obtain ⟨v2, vs2, d2, ds2, p2, q2, rfl, rfl, rfl, h2, r2⟩ := trodAll_cons r1
  obtain ⟨v3, vs3, d3, ds3, p3, q3, rfl, rfl, rfl, h3, r3⟩ := trodAll_cons r2
  obtain ⟨v4, vs4, d4, ds4, p4, q4, rfl, rfl, rfl, h4, r4⟩ := trodAll_cons r3
  obtain ⟨rfl, rfl, rfl⟩ := trodAll_nil r4
  obtain rfl : args = #[v0, v1, v2, v3, v4] := by cases args; simp_all
  obtain ⟨rfl, rfl⟩ := trodVars_none hV
  obtain ⟨a0, rfl, rfl, rfl, w0⟩ := open_int Tryz.underlying2 (hval 0 2 v0 rfl rfl) h0
  obtain ⟨a1, len1, cap1, rfl⟩ := okWide_slice Tryz.underlying22 (hval 1 22 v1 rfl rfl)
  have k1 := h1
  have lt1 : ∀ x ∈ p1, x.block < W.heap.size := by obtain ⟨m, hm⟩ := k1; exact DataW.trod_lt m _ _ _ hm
  obtain ⟨z1, w1⟩ : ∃ zs, IsRow .u8 W a1 len1 cap1 zs := by
    obtain ⟨fuel, hf⟩ := h1
    rcases open_ints Tryz.underlying22 Tryz.underlying5 (by kernel_rfl) hf with ⟨hcs, _⟩ | ⟨x, l, c, zs, hcs, _, hl, hm, hz, _, hcell, hwz⟩
    · simp [Value.cells] at hcs
      obtain ⟨rfl, rfl, rfl⟩ := hcs
      exact ⟨[], .inl ⟨rfl, rfl, rfl, rfl⟩⟩
    · simp [Value.cells] at hcs
      obtain ⟨rfl, rfl, rfl⟩ := hcs
      exact ⟨zs, .inr ⟨_, rfl, hl, hm, by simpa using hz, hcell, hwz⟩⟩
  obtain ⟨a2, len2, cap2, rfl⟩ := okWide_slice Tryz.underlying24 (hval 2 24 v2 rfl rfl)
  have k2 := h2
  have lt2 : ∀ x ∈ p2, x.block < W.heap.size := by obtain ⟨m, hm⟩ := k2; exact DataW.trod_lt m _ _ _ hm
  obtain ⟨z2, w2⟩ : ∃ zs, IsRow .u32 W a2 len2 cap2 zs := by
    obtain ⟨fuel, hf⟩ := h2
    rcases open_ints Tryz.underlying24 Tryz.underlying102 (by kernel_rfl) hf with ⟨hcs, _⟩ | ⟨x, l, c, zs, hcs, _, hl, hm, hz, _, hcell, hwz⟩
    · simp [Value.cells] at hcs
      obtain ⟨rfl, rfl, rfl⟩ := hcs
      exact ⟨[], .inl ⟨rfl, rfl, rfl, rfl⟩⟩
    · simp [Value.cells] at hcs
      obtain ⟨rfl, rfl, rfl⟩ := hcs
      exact ⟨zs, .inr ⟨_, rfl, hl, hm, by simpa using hz, hcell, hwz⟩⟩
  obtain ⟨a3, rfl, rfl, rfl, w3⟩ := open_int Tryz.underlying2 (hval 3 2 v3 rfl rfl) h3
  obtain ⟨a4, len4, cap4, rfl⟩ := okWide_slice Tryz.underlying26 (hval 4 26 v4 rfl rfl)
  have k4 := h4
  have lt4 : ∀ x ∈ p4, x.block < W.heap.size := by obtain ⟨m, hm⟩ := k4; exact DataW.trod_lt m _ _ _ hm
  obtain ⟨dd4, ks4, w4⟩ : ∃ d ks, KidsAt (NdAt W d) W (.slice a4 len4 cap4) ks ∧ Tidy (.slice a4 len4 cap4) := by
    obtain ⟨fuel, hf⟩ := h4
    exact read_kids (by simpa [Value.cells] using hf)
  clear hA0 hval0
  refine (walk a0 a1 len1 cap1 z1 a2 len2 cap2 z2 a3 a4 len4 cap4 dd4 ks4 W w0 w1 w2 w3 w4 hVars).mono fun e W' ⟨he, bel⟩ => ?_
  subst he
  exact ⟨_, rfl, _, _, _, [], _, [], hW', trodAll_mk1 (shut_bool Tryz.underlying4 _), (trodAll_cons_mk (shut_int Tryz.underlying2 w0) (trodAll_cons_mk (Below.trod laidOut (by kernel_rfl) (of_decide_eq_true (by kernel_rfl)) k1 bel lt1) (trodAll_cons_mk (Below.trod laidOut (by kernel_rfl) (of_decide_eq_true (by kernel_rfl)) k2 bel lt2) (trodAll_cons_mk (shut_int Tryz.underlying2 w3) (trodAll_cons_mk (Below.trod laidOut (by kernel_rfl) (of_decide_eq_true (by kernel_rfl)) k4 bel lt4) trodAll_mk0))))), rfl, bel.frame _, fun h => by cases h⟩

theorem over : Rows.valueBackRow.holds Tryz.pinned (OpenSpec.ofChange Rows.valueBackSpec) :=
  OpenClaim.holds_of_wide 6 Tryz.f6 rfl rfl rfl rfl rfl rfl rfl ⟨rfl, rfl, rfl, rfl, rfl⟩ rfl rfl rfl rfl rfl (by kernel_rfl) Tryz.func6 (by kernel_rfl)
    (of_decide_eq_true (by kernel_rfl)) (by unfold Func.isWrapper; first | (rw [if_pos (by decide +kernel)]; kernel_rfl) | (rw [if_neg (by decide +kernel)]; exact ⟨rfl, rfl⟩))
    (fun os started H enc _ => lifted os started H enc)

end Go.Proofs.YtlddpjcacnahmaaGreatDoor.valueBack
namespace Go.Proofs.YtlddpjcacnahmaaGreatDoor
theorem valueBack_card : Rows.ValueBackCardSaid :=
  Claim7.holds_tied_plain_at .later [] [.data, .pinned] true (true, "c0e721392a7b2804a856d21c0cd6dc3450823c10bf520f062ab1d682ea16459c") false
    valueBack.over (fun _ h => by cases h) (by kernel_rfl) (fun _ h => by cases h) valueBack_row_tie rfl ⟨rfl, rfl⟩ (by kernel_rfl) rfl
    (fun f fn hf hfn => by
      obtain rfl : f = 6 := Option.some.inj ((show Tryz.prog.funcNamed Tryz.f6.name = some 6 by kernel_rfl).symm.trans hf) |>.symm
      obtain rfl : fn = Tryz.f6 := (Option.some.inj (Tryz.func6.symm.trans hfn)).symm
      exact ⟨by kernel_rfl, fun j t ht => by
        rw [Tryz.params6] at ht
        have hm : t ∈ [2, 22, 24, 2, 26] := by simpa using Array.mem_of_getElem? ht
        have hall : ([2, 22, 24, 2, 26].all fun u => !Tryz.prog.wantsStandIn u) = true := by kernel_rfl
        exact (show Tryz.prog.wantsStandIn t = false by simpa using List.all_eq_true.1 hall t hm)⟩)
    (by kernel_rfl)
end Go.Proofs.YtlddpjcacnahmaaGreatDoor
