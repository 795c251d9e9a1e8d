/- For every number, every text, every list of numbers and every time: apostillelaw06.ValueMakes returns true, and each argument reads afterwards as it read before; the library's two tables of characters are as the program's text lays them. No other condition. -/
import Derived.Test.YtlddpjcacnahmaaGreatDoorEPar
import Derived.Test.YtlddpjcacnahmaaGreatDoorVAwk
import Derived.WalkKit
import Derived.ProofKit
import Derived.OpenShut
import Derived.ShutString
import Derived.ChangeOld
import Derived.Below
namespace Go.Proofs.YtlddpjcacnahmaaGreatDoor.valueMakes
open Go.ChangeShapes Go.WideShapes Go.ChangeAt Go.RowKit
open Go.ChangeMaps (open_string shut_string)
set_option linter.unusedVariables false

set_option maxRecDepth 100000 in
set_option maxHeartbeats 4000000 in
theorem walk (a0 : Int) (a1 : Option Addr) (len1 cap1 : Nat) (z1 : List Int) (a2 : Option Addr) (len2 cap2 : Nat) (z2 : List Int) (a3 : Int) (w : World) (w0 : (Lit.int .i64 a0).wf = true) (w1 : IsRow .u8 w a1 len1 cap1 z1) (w2 : IsRow .u32 w a2 len2 cap2 z2) (w3 : (Lit.int .i64 a3).wf = true) (hV : Vars w) :
    Calls Tryz.prog 3 #[.int .i64 a0, .slice a1 len1 cap1, .slice a2 len2 cap2, .int .i64 a3] w fun e w' => e = .returned (.bool true) ∧ Below w.heap.size w w' := by
  have HTD1 := hide (isRow_tidy w1)
  obtain ⟨b, rfl, hr1⟩ := w1.row wf_u8
  obtain ⟨o, rfl, hr2⟩ := w2.row wf_u32
  have hn := wf_i64' w0
  have hub := hr1.under
  have hT : UTabs w := hV
  obtain ⟨FB, hFB⟩ := exists_FB
  clear w0 w1 w2 w3
  by_cases h1 : (1000 : Int) < (b.length : Int)
  · go_enter Tryz.func3, Tryz.ntmps3
    go_wp2_with fail
    refine (vawake_any _ hT).mono ?_
    rintro e wz ⟨rfl, hbz⟩
    go_wp2_with fail
    go_ret
    exact ⟨rfl, hbz⟩
  by_cases h2 : (50 : Int) < (o.length : Int)
  · go_enter Tryz.func3, Tryz.ntmps3
    go_wp2_with fail
    refine (vawake_any _ hT).mono ?_
    rintro e wz ⟨rfl, hbz⟩
    go_wp2_with fail
    go_ret
    exact ⟨rfl, hbz⟩
  obtain ⟨lt, htx⟩ := text_ex a3
  obtain ⟨li, hli, hll⟩ := int_ex a0 hn
  have hbl : (bts b).length ≤ 5000 := by rw [bts_len]; omega
  have hbm : b.length ≤ 1000000 := by omega
  have hcv := fun w' (hb : Below w.heap.size w w') => conv_row (hr1.below hb)
  have cU := fun w' (h : UTabs w') => utf8_any FB hFB (bts b) w' hbl h
  have cRU := fun w' => rutf8_any FB hFB (bts b) w' hbl
  have cI := fun w' v' (h : Row .u32 4294967296 w' v' o) => id_any v' o w' h
  have cRI := fun w' v' (h : Row .u32 4294967296 w' v' o) => rid_any FB hFB v' o w' h
  have cT := fun w' => time_any a3 lt w' htx
  have cRT := fun w' => rtime_any FB hFB a3 lt w' htx
  generalize madeN (FB 12 (nb (bts b))) (.mk 12 (nb (bts b)) []) = xU at *
  generalize madeR (FB 12 (nb (bts b))) = kU at *
  generalize madeN (fitB o) (.mk 6 (bytesS o) []) = xI at *
  generalize madeR (fitB o) = kI at *
  generalize madeN (decide (lt ≠ [])) (.mk 24 (nb lt) []) = xT at *
  generalize madeR (decide (lt ≠ [])) = kT at *
  have HU := hide cU
  have HRU := hide cRU
  have HI := hide cI
  have HRI := hide cRI
  have HTm := hide cT
  have HRT := hide cRT
  have HF := hide hFB
  have HL := hide hli
  have HT := hide hT
  have HR1 := hide hr1
  have HR2 := hide hr2
  have HCV := hide hcv
  have HTX := hide htx
  have HHN := hide hn
  clear cU cRU cI cRI cT cRT hFB hli hT hr1 hr2 hcv htx hub hll hbl hn
  have hc := HCV.out w (Below.refl _ w)
  go_enter Tryz.func3, Tryz.ntmps3
  go_wp2_with fail
  clear hc
  refine ((HU.out _ HT.out).mono (fun _ _ h => h.at)).mono ?_
  rintro e v1 ⟨d1, t1, a1, n1, p1, b1, m1, q1, rfl, hn1, hb1⟩
  have HB1 := hide hb1
  clear hb1
  have HN1 := hide hn1
  clear hn1
  have hA := keep_alloc v1 (.cells #[.int .i64 t1, .slice a1 n1 p1, .slice b1 m1 q1] 28)
  have hc := HCV.out _ (keep_trans HB1.out hA)
  clear hA
  go_wp2_with fail
  clear hc
  have hC2 := box_cell v1 (.int .i64 t1) (.slice a1 n1 p1) (.slice b1 m1 q1) 28
  have hb2 := keep_alloc v1 (.cells #[.int .i64 t1, .slice a1 n1 p1, .slice b1 m1 q1] 28)
  generalize v1.alloc (.cells #[.int .i64 t1, .slice a1 n1 p1, .slice b1 m1 q1] 28) = v2 at *
  have HC2 := hide hC2
  clear hC2
  have HB2 := hide hb2
  clear hb2
  refine ((HRU.out _).mono (fun _ _ h => h.at)).mono ?_
  rintro e v3 ⟨d3, t3, a3, n3, p3, b3, m3, q3, rfl, hn3, hb3⟩
  have HB3 := hide hb3
  clear hb3
  have HN3 := hide hn3
  clear hn3
  go_wp2_with fail
  have hC4 := box_cell v3 (.int .i64 t3) (.slice a3 n3 p3) (.slice b3 m3 q3) 28
  have hb4 := keep_alloc v3 (.cells #[.int .i64 t3, .slice a3 n3 p3, .slice b3 m3 q3] 28)
  generalize v3.alloc (.cells #[.int .i64 t3, .slice a3 n3 p3, .slice b3 m3 q3] 28) = v4 at *
  have HC4 := hide hC4
  clear hC4
  have HB4 := hide hb4
  clear hb4
  refine ((HI.out _ _ (HR2.out.below (keep_trans HB1.out (keep_trans HB2.out (keep_trans HB3.out HB4.out))))).mono (fun _ _ h => h.at)).mono ?_
  rintro e v5 ⟨d5, t5, a5, n5, p5, b5, m5, q5, rfl, hn5, hb5⟩
  have HB5 := hide hb5
  clear hb5
  have HN5 := hide hn5
  clear hn5
  go_wp2_with fail
  have hC6 := box_cell v5 (.int .i64 t5) (.slice a5 n5 p5) (.slice b5 m5 q5) 28
  have hb6 := keep_alloc v5 (.cells #[.int .i64 t5, .slice a5 n5 p5, .slice b5 m5 q5] 28)
  generalize v5.alloc (.cells #[.int .i64 t5, .slice a5 n5 p5, .slice b5 m5 q5] 28) = v6 at *
  have HC6 := hide hC6
  clear hC6
  have HB6 := hide hb6
  clear hb6
  refine ((HRI.out _ _ (HR2.out.below (keep_trans HB1.out (keep_trans HB2.out (keep_trans HB3.out (keep_trans HB4.out (keep_trans HB5.out HB6.out))))))).mono (fun _ _ h => h.at)).mono ?_
  rintro e v7 ⟨d7, t7, a7, n7, p7, b7, m7, q7, rfl, hn7, hb7⟩
  have HB7 := hide hb7
  clear hb7
  have HN7 := hide hn7
  clear hn7
  go_wp2_with fail
  have hC8 := box_cell v7 (.int .i64 t7) (.slice a7 n7 p7) (.slice b7 m7 q7) 28
  have hb8 := keep_alloc v7 (.cells #[.int .i64 t7, .slice a7 n7 p7, .slice b7 m7 q7] 28)
  generalize v7.alloc (.cells #[.int .i64 t7, .slice a7 n7 p7, .slice b7 m7 q7] 28) = v8 at *
  have HC8 := hide hC8
  clear hC8
  have HB8 := hide hb8
  clear hb8
  refine ((HTm.out _).mono (fun _ _ h => h.at)).mono ?_
  rintro e v9 ⟨d9, t9, a9, n9, p9, b9, m9, q9, rfl, hn9, hb9⟩
  have HB9 := hide hb9
  clear hb9
  have HN9 := hide hn9
  clear hn9
  go_wp2_with fail
  have hC10 := box_cell v9 (.int .i64 t9) (.slice a9 n9 p9) (.slice b9 m9 q9) 28
  have hb10 := keep_alloc v9 (.cells #[.int .i64 t9, .slice a9 n9 p9, .slice b9 m9 q9] 28)
  generalize v9.alloc (.cells #[.int .i64 t9, .slice a9 n9 p9, .slice b9 m9 q9] 28) = v10 at *
  have HC10 := hide hC10
  clear hC10
  have HB10 := hide hb10
  clear hb10
  refine ((HRT.out _).mono (fun _ _ h => h.at)).mono ?_
  rintro e v11 ⟨d11, t11, a11, n11, p11, b11, m11, q11, rfl, hn11, hb11⟩
  have HB11 := hide hb11
  clear hb11
  have HN11 := hide hn11
  clear hn11
  go_wp2_with fail
  have hC12 := box_cell v11 (.int .i64 t11) (.slice a11 n11 p11) (.slice b11 m11 q11) 28
  have hb12 := keep_alloc v11 (.cells #[.int .i64 t11, .slice a11 n11 p11, .slice b11 m11 q11] 28)
  generalize v11.alloc (.cells #[.int .i64 t11, .slice a11 n11 p11, .slice b11 m11 q11] 28) = v12 at *
  have HC12 := hide hC12
  clear hC12
  have HB12 := hide hb12
  clear hb12
  refine ((int_is HL.out _ HHN.out).mono (fun _ _ h => h.at)).mono ?_
  rintro e v13 ⟨d13, t13, a13, n13, p13, b13, m13, q13, rfl, hn13, hb13⟩
  have HB13 := hide hb13
  clear hb13
  have HN13 := hide hn13
  clear hn13
  go_wp2_with fail
  refine ((rint_is HF.out HL.out _ HHN.out).mono (fun _ _ h => h.at)).mono ?_
  rintro e v14 ⟨d14, t14, a14, n14, p14, b14, m14, q14, rfl, hn14, hb14⟩
  have HB14 := hide hb14
  clear hb14
  have HN14 := hide hn14
  clear hn14
  go_wp2_with fail
  refine ((rsame_der (NdAt.below HB14.out _ _ _ _ _ (NdIn.at _ _ _ _ _ HN13.out)) (NdAt.below (Below.refl _ v14) _ _ _ _ _ (NdIn.at _ _ _ _ _ HN14.out))).mono (fun _ _ h => SameE.true h rfl)).mono ?_
  rintro e v15 ⟨rfl, hb15⟩
  have HB15 := hide hb15
  clear hb15
  go_wp2_with fail
  refine ((vbytes_any _ b _ (HR1.out.below (keep_trans HB1.out (keep_trans HB2.out (keep_trans HB3.out (keep_trans HB4.out (keep_trans HB5.out (keep_trans HB6.out (keep_trans HB7.out (keep_trans HB8.out (keep_trans HB9.out (keep_trans HB10.out (keep_trans HB11.out (keep_trans HB12.out (keep_trans HB13.out (keep_trans HB14.out HB15.out))))))))))))))) hbm).mono (fun _ _ h => h.at)).mono ?_
  rintro e v16 ⟨d16, t16, a16, n16, p16, b16, m16, q16, rfl, hn16, hb16⟩
  have HB16 := hide hb16
  clear hb16
  have HN16 := hide hn16
  clear hn16
  go_wp2_with fail
  refine (rvbytes_any _ b _ (HR1.out.below (keep_trans HB1.out (keep_trans HB2.out (keep_trans HB3.out (keep_trans HB4.out (keep_trans HB5.out (keep_trans HB6.out (keep_trans HB7.out (keep_trans HB8.out (keep_trans HB9.out (keep_trans HB10.out (keep_trans HB11.out (keep_trans HB12.out (keep_trans HB13.out (keep_trans HB14.out (keep_trans HB15.out HB16.out))))))))))))))))).mono ?_
  rintro e v17 ⟨rfl, hb17⟩
  have HB17 := hide hb17
  clear hb17
  go_wp2_with fail
  refine ((rsame_der (NdAt.below HB17.out _ _ _ _ _ (NdIn.at _ _ _ _ _ HN16.out)) (at_leaf (I64.mk (by omega) (by omega)) (HR1.out.below (keep_trans HB1.out (keep_trans HB2.out (keep_trans HB3.out (keep_trans HB4.out (keep_trans HB5.out (keep_trans HB6.out (keep_trans HB7.out (keep_trans HB8.out (keep_trans HB9.out (keep_trans HB10.out (keep_trans HB11.out (keep_trans HB12.out (keep_trans HB13.out (keep_trans HB14.out (keep_trans HB15.out (keep_trans HB16.out HB17.out))))))))))))))))) HTD1.out)).mono (fun _ _ h => SameE.true h rfl)).mono ?_
  rintro e v18 ⟨rfl, hb18⟩
  have HB18 := hide hb18
  clear hb18
  obtain ⟨x0, y0, z0⟩ := HC2.out
  have x0 := Below.cells (keep_trans HB3.out (keep_trans HB4.out (keep_trans HB5.out (keep_trans HB6.out (keep_trans HB7.out (keep_trans HB8.out (keep_trans HB9.out (keep_trans HB10.out (keep_trans HB11.out (keep_trans HB12.out (keep_trans HB13.out (keep_trans HB14.out (keep_trans HB15.out (keep_trans HB16.out (keep_trans HB17.out HB18.out))))))))))))))) x0
  have y0 := Below.cells (keep_trans HB3.out (keep_trans HB4.out (keep_trans HB5.out (keep_trans HB6.out (keep_trans HB7.out (keep_trans HB8.out (keep_trans HB9.out (keep_trans HB10.out (keep_trans HB11.out (keep_trans HB12.out (keep_trans HB13.out (keep_trans HB14.out (keep_trans HB15.out (keep_trans HB16.out (keep_trans HB17.out HB18.out))))))))))))))) y0
  have z0 := Below.cells (keep_trans HB3.out (keep_trans HB4.out (keep_trans HB5.out (keep_trans HB6.out (keep_trans HB7.out (keep_trans HB8.out (keep_trans HB9.out (keep_trans HB10.out (keep_trans HB11.out (keep_trans HB12.out (keep_trans HB13.out (keep_trans HB14.out (keep_trans HB15.out (keep_trans HB16.out (keep_trans HB17.out HB18.out))))))))))))))) z0
  obtain ⟨x1, y1, z1⟩ := HC4.out
  have x1 := Below.cells (keep_trans HB5.out (keep_trans HB6.out (keep_trans HB7.out (keep_trans HB8.out (keep_trans HB9.out (keep_trans HB10.out (keep_trans HB11.out (keep_trans HB12.out (keep_trans HB13.out (keep_trans HB14.out (keep_trans HB15.out (keep_trans HB16.out (keep_trans HB17.out HB18.out))))))))))))) x1
  have y1 := Below.cells (keep_trans HB5.out (keep_trans HB6.out (keep_trans HB7.out (keep_trans HB8.out (keep_trans HB9.out (keep_trans HB10.out (keep_trans HB11.out (keep_trans HB12.out (keep_trans HB13.out (keep_trans HB14.out (keep_trans HB15.out (keep_trans HB16.out (keep_trans HB17.out HB18.out))))))))))))) y1
  have z1 := Below.cells (keep_trans HB5.out (keep_trans HB6.out (keep_trans HB7.out (keep_trans HB8.out (keep_trans HB9.out (keep_trans HB10.out (keep_trans HB11.out (keep_trans HB12.out (keep_trans HB13.out (keep_trans HB14.out (keep_trans HB15.out (keep_trans HB16.out (keep_trans HB17.out HB18.out))))))))))))) z1
  go_wp2_with fail
  clear x0 y0 z0 x1 y1 z1
  refine ((rsame_der (NdAt.below (keep_trans HB2.out (keep_trans HB3.out (keep_trans HB4.out (keep_trans HB5.out (keep_trans HB6.out (keep_trans HB7.out (keep_trans HB8.out (keep_trans HB9.out (keep_trans HB10.out (keep_trans HB11.out (keep_trans HB12.out (keep_trans HB13.out (keep_trans HB14.out (keep_trans HB15.out (keep_trans HB16.out (keep_trans HB17.out HB18.out)))))))))))))))) _ _ _ _ _ (NdIn.at _ _ _ _ _ HN1.out)) (NdAt.below (keep_trans HB4.out (keep_trans HB5.out (keep_trans HB6.out (keep_trans HB7.out (keep_trans HB8.out (keep_trans HB9.out (keep_trans HB10.out (keep_trans HB11.out (keep_trans HB12.out (keep_trans HB13.out (keep_trans HB14.out (keep_trans HB15.out (keep_trans HB16.out (keep_trans HB17.out HB18.out)))))))))))))) _ _ _ _ _ (NdIn.at _ _ _ _ _ HN3.out))).mono (fun _ _ h => SameE.true h rfl)).mono ?_
  rintro e v19 ⟨rfl, hb19⟩
  have HB19 := hide hb19
  clear hb19
  obtain ⟨x2, y2, z2⟩ := HC6.out
  have x2 := Below.cells (keep_trans HB7.out (keep_trans HB8.out (keep_trans HB9.out (keep_trans HB10.out (keep_trans HB11.out (keep_trans HB12.out (keep_trans HB13.out (keep_trans HB14.out (keep_trans HB15.out (keep_trans HB16.out (keep_trans HB17.out (keep_trans HB18.out HB19.out)))))))))))) x2
  have y2 := Below.cells (keep_trans HB7.out (keep_trans HB8.out (keep_trans HB9.out (keep_trans HB10.out (keep_trans HB11.out (keep_trans HB12.out (keep_trans HB13.out (keep_trans HB14.out (keep_trans HB15.out (keep_trans HB16.out (keep_trans HB17.out (keep_trans HB18.out HB19.out)))))))))))) y2
  have z2 := Below.cells (keep_trans HB7.out (keep_trans HB8.out (keep_trans HB9.out (keep_trans HB10.out (keep_trans HB11.out (keep_trans HB12.out (keep_trans HB13.out (keep_trans HB14.out (keep_trans HB15.out (keep_trans HB16.out (keep_trans HB17.out (keep_trans HB18.out HB19.out)))))))))))) z2
  obtain ⟨x3, y3, z3⟩ := HC8.out
  have x3 := Below.cells (keep_trans HB9.out (keep_trans HB10.out (keep_trans HB11.out (keep_trans HB12.out (keep_trans HB13.out (keep_trans HB14.out (keep_trans HB15.out (keep_trans HB16.out (keep_trans HB17.out (keep_trans HB18.out HB19.out)))))))))) x3
  have y3 := Below.cells (keep_trans HB9.out (keep_trans HB10.out (keep_trans HB11.out (keep_trans HB12.out (keep_trans HB13.out (keep_trans HB14.out (keep_trans HB15.out (keep_trans HB16.out (keep_trans HB17.out (keep_trans HB18.out HB19.out)))))))))) y3
  have z3 := Below.cells (keep_trans HB9.out (keep_trans HB10.out (keep_trans HB11.out (keep_trans HB12.out (keep_trans HB13.out (keep_trans HB14.out (keep_trans HB15.out (keep_trans HB16.out (keep_trans HB17.out (keep_trans HB18.out HB19.out)))))))))) z3
  go_wp2_with fail
  clear x2 y2 z2 x3 y3 z3
  refine ((rsame_der (NdAt.below (keep_trans HB6.out (keep_trans HB7.out (keep_trans HB8.out (keep_trans HB9.out (keep_trans HB10.out (keep_trans HB11.out (keep_trans HB12.out (keep_trans HB13.out (keep_trans HB14.out (keep_trans HB15.out (keep_trans HB16.out (keep_trans HB17.out (keep_trans HB18.out HB19.out))))))))))))) _ _ _ _ _ (NdIn.at _ _ _ _ _ HN5.out)) (NdAt.below (keep_trans HB8.out (keep_trans HB9.out (keep_trans HB10.out (keep_trans HB11.out (keep_trans HB12.out (keep_trans HB13.out (keep_trans HB14.out (keep_trans HB15.out (keep_trans HB16.out (keep_trans HB17.out (keep_trans HB18.out HB19.out))))))))))) _ _ _ _ _ (NdIn.at _ _ _ _ _ HN7.out))).mono (fun _ _ h => SameE.true h rfl)).mono ?_
  rintro e v20 ⟨rfl, hb20⟩
  have HB20 := hide hb20
  clear hb20
  obtain ⟨x4, y4, z4⟩ := HC10.out
  have x4 := Below.cells (keep_trans HB11.out (keep_trans HB12.out (keep_trans HB13.out (keep_trans HB14.out (keep_trans HB15.out (keep_trans HB16.out (keep_trans HB17.out (keep_trans HB18.out (keep_trans HB19.out HB20.out))))))))) x4
  have y4 := Below.cells (keep_trans HB11.out (keep_trans HB12.out (keep_trans HB13.out (keep_trans HB14.out (keep_trans HB15.out (keep_trans HB16.out (keep_trans HB17.out (keep_trans HB18.out (keep_trans HB19.out HB20.out))))))))) y4
  have z4 := Below.cells (keep_trans HB11.out (keep_trans HB12.out (keep_trans HB13.out (keep_trans HB14.out (keep_trans HB15.out (keep_trans HB16.out (keep_trans HB17.out (keep_trans HB18.out (keep_trans HB19.out HB20.out))))))))) z4
  obtain ⟨x5, y5, z5⟩ := HC12.out
  have x5 := Below.cells (keep_trans HB13.out (keep_trans HB14.out (keep_trans HB15.out (keep_trans HB16.out (keep_trans HB17.out (keep_trans HB18.out (keep_trans HB19.out HB20.out))))))) x5
  have y5 := Below.cells (keep_trans HB13.out (keep_trans HB14.out (keep_trans HB15.out (keep_trans HB16.out (keep_trans HB17.out (keep_trans HB18.out (keep_trans HB19.out HB20.out))))))) y5
  have z5 := Below.cells (keep_trans HB13.out (keep_trans HB14.out (keep_trans HB15.out (keep_trans HB16.out (keep_trans HB17.out (keep_trans HB18.out (keep_trans HB19.out HB20.out))))))) z5
  go_wp2_with fail
  clear x4 y4 z4 x5 y5 z5
  refine ((rsame_der (NdAt.below (keep_trans HB10.out (keep_trans HB11.out (keep_trans HB12.out (keep_trans HB13.out (keep_trans HB14.out (keep_trans HB15.out (keep_trans HB16.out (keep_trans HB17.out (keep_trans HB18.out (keep_trans HB19.out HB20.out)))))))))) _ _ _ _ _ (NdIn.at _ _ _ _ _ HN9.out)) (NdAt.below (keep_trans HB12.out (keep_trans HB13.out (keep_trans HB14.out (keep_trans HB15.out (keep_trans HB16.out (keep_trans HB17.out (keep_trans HB18.out (keep_trans HB19.out HB20.out)))))))) _ _ _ _ _ (NdIn.at _ _ _ _ _ HN11.out))).mono (fun _ _ h => SameE.true h rfl)).mono ?_
  rintro e v21 ⟨rfl, hb21⟩
  have HB21 := hide hb21
  clear hb21
  go_wp2_with fail
  refine ((null_any _).mono (fun _ _ h => h.at)).mono ?_
  rintro e v22 ⟨d22, t22, a22, n22, p22, b22, m22, q22, rfl, hn22, hb22⟩
  have HB22 := hide hb22
  clear hb22
  have HN22 := hide hn22
  clear hn22
  go_wp2_with fail
  refine ((rsame_der (NdAt.below (Below.refl _ v22) _ _ _ _ _ (NdIn.at _ _ _ _ _ HN22.out)) (at_leaf (I64.mk (by omega) (by omega)) (nil_row _) nil_tidy)).mono (fun _ _ h => SameE.true h rfl)).mono ?_
  rintro e v23 ⟨rfl, hb23⟩
  have HB23 := hide hb23
  clear hb23
  go_wp2_with fail
  refine (vawake_any _ (HT.out.below (keep_trans HB1.out (keep_trans HB2.out (keep_trans HB3.out (keep_trans HB4.out (keep_trans HB5.out (keep_trans HB6.out (keep_trans HB7.out (keep_trans HB8.out (keep_trans HB9.out (keep_trans HB10.out (keep_trans HB11.out (keep_trans HB12.out (keep_trans HB13.out (keep_trans HB14.out (keep_trans HB15.out (keep_trans HB16.out (keep_trans HB17.out (keep_trans HB18.out (keep_trans HB19.out (keep_trans HB20.out (keep_trans HB21.out (keep_trans HB22.out HB23.out)))))))))))))))))))))))).mono ?_
  rintro e v24 ⟨rfl, hb24⟩
  have HB24 := hide hb24
  clear hb24
  go_wp2_with fail
  go_ret
  exact ⟨rfl, (keep_trans HB1.out (keep_trans HB2.out (keep_trans HB3.out (keep_trans HB4.out (keep_trans HB5.out (keep_trans HB6.out (keep_trans HB7.out (keep_trans HB8.out (keep_trans HB9.out (keep_trans HB10.out (keep_trans HB11.out (keep_trans HB12.out (keep_trans HB13.out (keep_trans HB14.out (keep_trans HB15.out (keep_trans HB16.out (keep_trans HB17.out (keep_trans HB18.out (keep_trans HB19.out (keep_trans HB20.out (keep_trans HB21.out (keep_trans HB22.out (keep_trans HB23.out HB24.out)))))))))))))))))))))))⟩

set_option maxRecDepth 100000 in
theorem lifted (os : Os) (started : os.Started) (H : Type) (enc : TypeId × Value → H) :
    ReturnsInHanded {} Tryz.checked os 3 .any (fun w args => (Rows.valueMakesSpec.pre enc Tryz.prog Tryz.f3 Rows.valueMakesRow.domain false w args ∧ laidMetH Tryz.prog Rows.valueMakesRow.laid w) ∧ sizedMet enc Tryz.prog Tryz.f3 (OpenSpec.ofChange Rows.valueMakesSpec) false w args) (Rows.valueMakesSpec.post enc Tryz.prog Tryz.f3 false true false false) := by
  refine change_laid_shaped (C := Tryz.checked) (X := fun w _ => laidMetH Tryz.prog Rows.valueMakesRow.laid w) (fun _ _ _ hh h => h.of_heap hh) own started (by kernel_rfl) Tryz.func3
    (ChangeSpec.witness_shaped (enc := enc) (C := Tryz.checked) (os := os) (X := fun w _ => laidMetH Tryz.prog Rows.valueMakesRow.laid w) false (World.laidAll Tryz.prog os Rows.valueMakesRow.laid) #[.int .i64 0, .slice none 0 0, .slice none 0 0, .int .i64 0] 8 (World.laidAll_os _ _ _)
      (World.shaped_of_ZipB (by kernel_rfl) (by kernel_rfl)) (by kernel_rfl) (by kernel_rfl) (by kernel_rfl)
      (by rw [MakeChecks.laidMetH_plain _ _ _ (by kernel_rfl)]; exact laidMet_laidAll _ (by kernel_rfl) (by kernel_rfl))) ?_
  intro W base args ds gs before hval0 hW hsz0 hL hsh
  have hVars : Vars W := vars_of_laid hL hsh
  have hval : ∀ (j : Nat) t v, Tryz.f3.params[j]? = some t → args[j]? = some v → Value.okWide Tryz.prog W .any base t v := hval0
  have hW' := hW
  obtain ⟨p, q, hA0, hV, rfl, hfz, hnd⟩ := hW
  have hA : DataW.TrodAll enc Tryz.prog W 0 (fun _ => true) true Tryz.f3.params.toList args.toList ds p := hA0
  rw [Tryz.params3] at hA hval
  obtain ⟨v0, vs0, d0, ds0, p0, q0, hargs, rfl, rfl, h0, r0⟩ := trodAll_cons hA
  obtain ⟨v1, vs1, d1, ds1, p1, q1, rfl, rfl, rfl, h1, r1⟩ := trodAll_cons r0
  obtain ⟨v2, vs2, d2, ds2, p2, q2, rfl, rfl, rfl, h2, r2⟩ := trodAll_cons r1
  obtain ⟨v3, vs3, d3, ds3, p3, q3, rfl, rfl, rfl, h3, r3⟩ := trodAll_cons r2
  obtain ⟨rfl, rfl, rfl⟩ := trodAll_nil r3
  obtain rfl : args = #[v0, v1, v2, v3] := by cases args; simp_all
  obtain ⟨rfl, rfl⟩ := trodVars_none hV
  obtain ⟨a0, rfl, rfl, rfl, w0⟩ := open_int Tryz.underlying2 (hval 0 2 v0 rfl rfl) h0
  obtain ⟨a1, len1, cap1, rfl⟩ := okWide_slice Tryz.underlying22 (hval 1 22 v1 rfl rfl)
  have k1 := h1
  have lt1 : ∀ x ∈ p1, x.block < W.heap.size := by obtain ⟨m, hm⟩ := k1; exact DataW.trod_lt m _ _ _ hm
  obtain ⟨z1, w1⟩ : ∃ zs, IsRow .u8 W a1 len1 cap1 zs := by
    obtain ⟨fuel, hf⟩ := h1
    rcases open_ints Tryz.underlying22 Tryz.underlying5 (by kernel_rfl) hf with ⟨hcs, _⟩ | ⟨x, l, c, zs, hcs, _, hl, hm, hz, _, hcell, hwz⟩
    · simp [Value.cells] at hcs
      obtain ⟨rfl, rfl, rfl⟩ := hcs
      exact ⟨[], .inl ⟨rfl, rfl, rfl, rfl⟩⟩
    · simp [Value.cells] at hcs
      obtain ⟨rfl, rfl, rfl⟩ := hcs
      exact ⟨zs, .inr ⟨_, rfl, hl, hm, by simpa using hz, hcell, hwz⟩⟩
  obtain ⟨a2, len2, cap2, rfl⟩ := okWide_slice Tryz.underlying24 (hval 2 24 v2 rfl rfl)
  have k2 := h2
  have lt2 : ∀ x ∈ p2, x.block < W.heap.size := by obtain ⟨m, hm⟩ := k2; exact DataW.trod_lt m _ _ _ hm
  obtain ⟨z2, w2⟩ : ∃ zs, IsRow .u32 W a2 len2 cap2 zs := by
    obtain ⟨fuel, hf⟩ := h2
    rcases open_ints Tryz.underlying24 Tryz.underlying102 (by kernel_rfl) hf with ⟨hcs, _⟩ | ⟨x, l, c, zs, hcs, _, hl, hm, hz, _, hcell, hwz⟩
    · simp [Value.cells] at hcs
      obtain ⟨rfl, rfl, rfl⟩ := hcs
      exact ⟨[], .inl ⟨rfl, rfl, rfl, rfl⟩⟩
    · simp [Value.cells] at hcs
      obtain ⟨rfl, rfl, rfl⟩ := hcs
      exact ⟨zs, .inr ⟨_, rfl, hl, hm, by simpa using hz, hcell, hwz⟩⟩
  obtain ⟨a3, rfl, rfl, rfl, w3⟩ := open_int Tryz.underlying2 (hval 3 2 v3 rfl rfl) h3
  clear hA0 hval0
  refine (walk a0 a1 len1 cap1 z1 a2 len2 cap2 z2 a3 W w0 w1 w2 w3 hVars).mono fun e W' ⟨he, bel⟩ => ?_
  subst he
  exact ⟨_, rfl, _, _, _, [], _, [], hW', trodAll_mk1 (shut_bool Tryz.underlying4 _), (trodAll_cons_mk (shut_int Tryz.underlying2 w0) (trodAll_cons_mk (Below.trod laidOut (by kernel_rfl) (of_decide_eq_true (by kernel_rfl)) k1 bel lt1) (trodAll_cons_mk (Below.trod laidOut (by kernel_rfl) (of_decide_eq_true (by kernel_rfl)) k2 bel lt2) (trodAll_cons_mk (shut_int Tryz.underlying2 w3) trodAll_mk0)))), rfl, bel.frame _, fun h => by cases h⟩

theorem over : Rows.valueMakesRow.holds Tryz.pinned (OpenSpec.ofChange Rows.valueMakesSpec) :=
  OpenClaim.holds_of_wide 3 Tryz.f3 rfl rfl rfl rfl rfl rfl rfl ⟨rfl, rfl, rfl, rfl, rfl⟩ rfl rfl rfl rfl rfl (by kernel_rfl) Tryz.func3 (by kernel_rfl)
    (of_decide_eq_true (by kernel_rfl)) (by unfold Func.isWrapper; first | (rw [if_pos (by decide +kernel)]; kernel_rfl) | (rw [if_neg (by decide +kernel)]; exact ⟨rfl, rfl⟩))
    (fun os started H enc _ => lifted os started H enc)

end Go.Proofs.YtlddpjcacnahmaaGreatDoor.valueMakes
namespace Go.Proofs.YtlddpjcacnahmaaGreatDoor
theorem valueMakes_card : Rows.ValueMakesCardSaid :=
  Claim7.holds_tied_plain_at .later [] [.data, .pinned] true (true, "c0e721392a7b2804a856d21c0cd6dc3450823c10bf520f062ab1d682ea16459c") false
    valueMakes.over (fun _ h => by cases h) (by kernel_rfl) (fun _ h => by cases h) valueMakes_row_tie rfl ⟨rfl, rfl⟩ (by kernel_rfl) rfl
    (fun f fn hf hfn => by
      obtain rfl : f = 3 := Option.some.inj ((show Tryz.prog.funcNamed Tryz.f3.name = some 3 by kernel_rfl).symm.trans hf) |>.symm
      obtain rfl : fn = Tryz.f3 := (Option.some.inj (Tryz.func3.symm.trans hfn)).symm
      exact ⟨by kernel_rfl, fun j t ht => by
        rw [Tryz.params3] at ht
        have hm : t ∈ [2, 22, 24, 2] := by simpa using Array.mem_of_getElem? ht
        have hall : ([2, 22, 24, 2].all fun u => !Tryz.prog.wantsStandIn u) = true := by kernel_rfl
        exact (show Tryz.prog.wantsStandIn t = false by simpa using List.all_eq_true.1 hall t hm)⟩)
    (by kernel_rfl)
end Go.Proofs.YtlddpjcacnahmaaGreatDoor
