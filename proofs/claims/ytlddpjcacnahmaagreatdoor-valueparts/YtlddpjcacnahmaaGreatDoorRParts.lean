/- For every list of values, every value, every two numbers and every text: apostillelaw06.ValueParts returns true, and each argument reads afterwards as it read before; the library's two tables of characters are as the program's text lays them. No other condition. -/
import Derived.Test.YtlddpjcacnahmaaGreatDoorEPar
import Derived.Test.YtlddpjcacnahmaaGreatDoorVAwk
import Derived.Test.YtlddpjcacnahmaaGreatDoorVFin
import Derived.WalkKit
import Derived.ProofKit
import Derived.OpenShut
import Derived.ShutString
import Derived.ChangeOld
import Derived.Below
namespace Go.Proofs.YtlddpjcacnahmaaGreatDoor.valueParts
open Go.ChangeShapes Go.WideShapes Go.ChangeAt Go.RowKit
open Go.ChangeMaps (open_string shut_string)
set_option linter.unusedVariables false

set_option maxRecDepth 100000 in
set_option maxHeartbeats 4000000 in
theorem walk (a0 : Option Addr) (len0 cap0 : Nat) (dd0 : Nat) (ks0 : List Nd) (ct1 cb1 ck1 : Value) (dd1 : Nat) (xx1 : Nd) (a2 : Int) (a3 : Option Addr) (len3 cap3 : Nat) (z3 : List Int) (a4 : Int) (w : World) (w0 : KidsAt (NdAt w dd0) w (.slice a0 len0 cap0) ks0 ∧ Tidy (.slice a0 len0 cap0)) (w1 : NdAt w dd1 ct1 cb1 ck1 xx1) (w2 : (Lit.int .i64 a2).wf = true) (w3 : IsRow .u8 w a3 len3 cap3 z3) (w4 : (Lit.int .i64 a4).wf = true) (hV : Vars w) :
    Calls Tryz.prog 5 #[.slice a0 len0 cap0, .agg #[ct1, cb1, ck1], .int .i64 a2, .slice a3 len3 cap3, .int .i64 a4] w fun e w' => e = .returned (.bool true) ∧ Below w.heap.size w w' := by
  have HTD3 := hide (isRow_tidy w3)
  obtain ⟨b, rfl, hr3⟩ := w3.row wf_u8
  have hI := wf_i64' w2
  have hT : UTabs w := hV
  obtain ⟨FB, hFB⟩ := exists_FB
  obtain ⟨hk0, htd0⟩ := w0
  obtain ⟨t100, a100, n100, p100, b100, m100, q100, rfl, rfl, rfl⟩ := w1.forms
  have HN100 := hide w1
  have HK0 := hide hk0
  have HTD0 := hide htd0
  have HT := hide hT
  have HF := hide hFB
  have HR3 := hide hr3
  have HI := hide hI
  clear w1 hk0 htd0 hT hFB hr3 hI w2 w3 w4 hV
  go_enter Tryz.func5, Tryz.ntmps5
  go_wp2_with fail
  have hC1 := box_cell w (.int .i64 t100) (.slice a100 n100 p100) (.slice b100 m100 q100) 28
  have hb1 := keep_alloc w (.cells #[.int .i64 t100, .slice a100 n100 p100, .slice b100 m100 q100] 28)
  generalize w.alloc (.cells #[.int .i64 t100, .slice a100 n100 p100, .slice b100 m100 q100] 28) = v1 at *
  have HC1 := hide hC1
  clear hC1
  have HB1 := hide hb1
  clear hb1
  refine (vfew_any dd0 _ ks0 _ (kids_below HK0.out HB1.out)).mono ?_
  rintro e v2 ⟨⟨r, rfl, hr⟩, hb2⟩
  have HB2 := hide hb2
  clear hb2
  cases r
  · clear hr
    go_wp2_with fail
    refine (vawake_any _ (HT.out.below (keep_trans HB1.out HB2.out))).mono ?_
    rintro e v3 ⟨rfl, hb3⟩
    have HB3 := hide hb3
    clear hb3
    go_wp2_with fail
    go_ret
    exact ⟨rfl, (keep_trans HB1.out (keep_trans HB2.out HB3.out))⟩
  have HFW := hide (hr rfl)
  clear hr
  obtain ⟨x0, y0, z0⟩ := HC1.out
  have x0 := Below.cells HB2.out x0
  have y0 := Below.cells HB2.out y0
  have z0 := Below.cells HB2.out z0
  go_wp2_with fail
  clear x0 y0 z0
  refine (vsmall_any dd1 _ _ _ xx1 _ (NdAt.below (keep_trans HB1.out HB2.out) _ _ _ _ _ HN100.out)).mono ?_
  rintro e v3 ⟨⟨r, rfl, hr⟩, hb3⟩
  have HB3 := hide hb3
  clear hb3
  cases r
  · clear hr
    go_wp2_with fail
    refine (vawake_any _ (HT.out.below (keep_trans HB1.out (keep_trans HB2.out HB3.out)))).mono ?_
    rintro e v4 ⟨rfl, hb4⟩
    have HB4 := hide hb4
    clear hb4
    go_wp2_with fail
    go_ret
    exact ⟨rfl, (keep_trans HB1.out (keep_trans HB2.out (keep_trans HB3.out HB4.out)))⟩
  have HSM := hide (hr rfl)
  clear hr
  by_cases hbl : (1000 : Int) < (b.length : Int)
  · skip
    go_wp2_with fail
    refine (vawake_any _ (HT.out.below (keep_trans HB1.out (keep_trans HB2.out HB3.out)))).mono ?_
    rintro e v4 ⟨rfl, hb4⟩
    have HB4 := hide hb4
    clear hb4
    go_wp2_with fail
    go_ret
    exact ⟨rfl, (keep_trans HB1.out (keep_trans HB2.out (keep_trans HB3.out HB4.out)))⟩
  obtain ⟨xS, kS, -, hS1, hS2⟩ := set_one FB ks0
  have HS1 := hide hS1
  have HS2 := hide hS2
  clear hS1 hS2
  have hbm : b.length ≤ 1000000 := by omega
  have hsum : (ks0.map (szF dd0)).sum ≤ 100000 := Nat.le_trans (sum_all (szF dd0) 2000 HFW.out.2) (by have := HFW.out.1; omega)
  have hel : ∀ i, i < ks0.length → szF dd0 (kx ks0 i) ≤ 10000 := fun i hi => Nat.le_trans (HFW.out.2 i hi) (by omega)
  have hln : ks0.length ≤ 12 := Nat.le_trans HFW.out.1 (by omega)
  have hss : szF dd1 xx1 ≤ 10000 := Nat.le_trans HSM.out (by omega)
  have HSU := hide hsum
  have HEL := hide hel
  have HLN := hide hln
  have HSS := hide hss
  clear hsum hel hln hss
  have cP := fun w' (hr : Row .u8 256 w' (.slice a3 b.length cap3) b) => (part_any a2 _ b w' HI.out hr hbm).mono (fun _ _ h => NodT.nda h)
  have cRP := fun w' (hr : Row .u8 256 w' (.slice a3 b.length cap3) b) => (rpart_any a2 a3 b.length cap3 w').mono (fun _ _ h => numC_nda h (fun k1 k2 => at_leaf (I64.mk (by omega) (by omega)) (hr.below h.2) HTD3.out))
  have cB := fun w' (hk : KidsAt (NdAt w' dd0) w' (.slice a0 len0 cap0) ks0) => (vbox_any a2 dd0 _ ks0 w' HI.out hk HSU.out).mono (fun _ _ h => NodT.nda h)
  have cRB := fun w' (hk : KidsAt (NdAt w' dd0) w' (.slice a0 len0 cap0) ks0) => (rbox_any a2 a0 len0 cap0 w').mono (fun _ _ h => numC_nda h (fun k1 k2 => at_box (I64.mk (by omega) (by omega)) HTD0.out (kids_below hk h.2)))
  have cK := fun w' c0 c1 c2 (hn : NdAt w' dd1 c0 c1 c2 xx1) => vkids_any a4 dd1 c0 c1 c2 xx1 w' hn (Nat.le_trans HSS.out (by omega))
  have cRK := fun w' c0 c1 c2 (hn : NdAt w' dd1 c0 c1 c2 xx1) => rkids_any a4 dd1 c0 c1 c2 xx1 w' hn
  unfold KofE at cK cRK
  generalize numN a2 (.mk (128 + a2) b []) = xP at *
  generalize numN a2 (.mk (160 + a2) [] ks0) = xB at *
  generalize numR a2 = kP at *
  generalize kdO a4 xx1 = kk at *
  generalize kdR a4 xx1 = kR at *
  have CP := hide cP
  have CRP := hide cRP
  have CB := hide cB
  have CRB := hide cRB
  have CK := hide cK
  have CRK := hide cRK
  clear cP cRP cB cRB cK cRK
  go_wp2_with fail
  refine ((set_any FB HF.out dd0 _ ks0 _ (kids_below HK0.out (keep_trans HB1.out (keep_trans HB2.out HB3.out))) HEL.out HSU.out HLN.out (HT.out.below (keep_trans HB1.out (keep_trans HB2.out HB3.out)))).mono (fun _ _ h => HS1.out _ _ _ h)).mono ?_
  rintro e v4 ⟨d4, t4, a4, n4, p4, b4, m4, q4, rfl, hn4, hb4⟩
  have HB4 := hide hb4
  clear hb4
  have HN4 := hide hn4
  clear hn4
  go_wp2_with fail
  have hC5 := box_cell v4 (.int .i64 t4) (.slice a4 n4 p4) (.slice b4 m4 q4) 28
  have hb5 := keep_alloc v4 (.cells #[.int .i64 t4, .slice a4 n4 p4, .slice b4 m4 q4] 28)
  generalize v4.alloc (.cells #[.int .i64 t4, .slice a4 n4 p4, .slice b4 m4 q4] 28) = v5 at *
  have HC5 := hide hC5
  clear hC5
  have HB5 := hide hb5
  clear hb5
  refine ((rset_any FB HF.out dd0 _ ks0 _ (kids_below HK0.out (keep_trans HB1.out (keep_trans HB2.out (keep_trans HB3.out (keep_trans HB4.out HB5.out))))) HEL.out HLN.out).mono (fun _ _ h => HS2.out _ _ _ h)).mono ?_
  rintro e v6 ⟨d6, t6, a6, n6, p6, b6, m6, q6, rfl, hn6, hb6⟩
  have HB6 := hide hb6
  clear hb6
  have HN6 := hide hn6
  clear hn6
  go_wp2_with fail
  have hC7 := box_cell v6 (.int .i64 t6) (.slice a6 n6 p6) (.slice b6 m6 q6) 28
  have hb7 := keep_alloc v6 (.cells #[.int .i64 t6, .slice a6 n6 p6, .slice b6 m6 q6] 28)
  generalize v6.alloc (.cells #[.int .i64 t6, .slice a6 n6 p6, .slice b6 m6 q6] 28) = v7 at *
  have HC7 := hide hC7
  clear hC7
  have HB7 := hide hb7
  clear hb7
  refine (CP.out _ (HR3.out.below (keep_trans HB1.out (keep_trans HB2.out (keep_trans HB3.out (keep_trans HB4.out (keep_trans HB5.out (keep_trans HB6.out HB7.out)))))))).mono ?_
  rintro e v8 ⟨d8, t8, a8, n8, p8, b8, m8, q8, rfl, hn8, hb8⟩
  have HB8 := hide hb8
  clear hb8
  have HN8 := hide hn8
  clear hn8
  go_wp2_with fail
  have hC9 := box_cell v8 (.int .i64 t8) (.slice a8 n8 p8) (.slice b8 m8 q8) 28
  have hb9 := keep_alloc v8 (.cells #[.int .i64 t8, .slice a8 n8 p8, .slice b8 m8 q8] 28)
  generalize v8.alloc (.cells #[.int .i64 t8, .slice a8 n8 p8, .slice b8 m8 q8] 28) = v9 at *
  have HC9 := hide hC9
  clear hC9
  have HB9 := hide hb9
  clear hb9
  refine (CRP.out _ (HR3.out.below (keep_trans HB1.out (keep_trans HB2.out (keep_trans HB3.out (keep_trans HB4.out (keep_trans HB5.out (keep_trans HB6.out (keep_trans HB7.out (keep_trans HB8.out HB9.out)))))))))).mono ?_
  rintro e v10 ⟨d10, t10, a10, n10, p10, b10, m10, q10, rfl, hn10, hb10⟩
  have HB10 := hide hb10
  clear hb10
  have HN10 := hide hn10
  clear hn10
  go_wp2_with fail
  have hC11 := box_cell v10 (.int .i64 t10) (.slice a10 n10 p10) (.slice b10 m10 q10) 28
  have hb11 := keep_alloc v10 (.cells #[.int .i64 t10, .slice a10 n10 p10, .slice b10 m10 q10] 28)
  generalize v10.alloc (.cells #[.int .i64 t10, .slice a10 n10 p10, .slice b10 m10 q10] 28) = v11 at *
  have HC11 := hide hC11
  clear hC11
  have HB11 := hide hb11
  clear hb11
  refine (CB.out _ (kids_below HK0.out (keep_trans HB1.out (keep_trans HB2.out (keep_trans HB3.out (keep_trans HB4.out (keep_trans HB5.out (keep_trans HB6.out (keep_trans HB7.out (keep_trans HB8.out (keep_trans HB9.out (keep_trans HB10.out HB11.out)))))))))))).mono ?_
  rintro e v12 ⟨d12, t12, a12, n12, p12, b12, m12, q12, rfl, hn12, hb12⟩
  have HB12 := hide hb12
  clear hb12
  have HN12 := hide hn12
  clear hn12
  go_wp2_with fail
  have hC13 := box_cell v12 (.int .i64 t12) (.slice a12 n12 p12) (.slice b12 m12 q12) 28
  have hb13 := keep_alloc v12 (.cells #[.int .i64 t12, .slice a12 n12 p12, .slice b12 m12 q12] 28)
  generalize v12.alloc (.cells #[.int .i64 t12, .slice a12 n12 p12, .slice b12 m12 q12] 28) = v13 at *
  have HC13 := hide hC13
  clear hC13
  have HB13 := hide hb13
  clear hb13
  refine (CRB.out _ (kids_below HK0.out (keep_trans HB1.out (keep_trans HB2.out (keep_trans HB3.out (keep_trans HB4.out (keep_trans HB5.out (keep_trans HB6.out (keep_trans HB7.out (keep_trans HB8.out (keep_trans HB9.out (keep_trans HB10.out (keep_trans HB11.out (keep_trans HB12.out HB13.out)))))))))))))).mono ?_
  rintro e v14 ⟨d14, t14, a14, n14, p14, b14, m14, q14, rfl, hn14, hb14⟩
  have HB14 := hide hb14
  clear hb14
  have HN14 := hide hn14
  clear hn14
  have hA := keep_alloc v14 (.cells #[.int .i64 t14, .slice a14 n14 p14, .slice b14 m14 q14] 28)
  obtain ⟨x99, y99, z99⟩ := HC1.out
  have x99 := Below.cells (keep_trans (keep_trans HB2.out (keep_trans HB3.out (keep_trans HB4.out (keep_trans HB5.out (keep_trans HB6.out (keep_trans HB7.out (keep_trans HB8.out (keep_trans HB9.out (keep_trans HB10.out (keep_trans HB11.out (keep_trans HB12.out (keep_trans HB13.out HB14.out)))))))))))) hA) x99
  have y99 := Below.cells (keep_trans (keep_trans HB2.out (keep_trans HB3.out (keep_trans HB4.out (keep_trans HB5.out (keep_trans HB6.out (keep_trans HB7.out (keep_trans HB8.out (keep_trans HB9.out (keep_trans HB10.out (keep_trans HB11.out (keep_trans HB12.out (keep_trans HB13.out HB14.out)))))))))))) hA) y99
  have z99 := Below.cells (keep_trans (keep_trans HB2.out (keep_trans HB3.out (keep_trans HB4.out (keep_trans HB5.out (keep_trans HB6.out (keep_trans HB7.out (keep_trans HB8.out (keep_trans HB9.out (keep_trans HB10.out (keep_trans HB11.out (keep_trans HB12.out (keep_trans HB13.out HB14.out)))))))))))) hA) z99
  clear hA
  go_wp2_with fail
  clear x99 y99 z99
  have hC15 := box_cell v14 (.int .i64 t14) (.slice a14 n14 p14) (.slice b14 m14 q14) 28
  have hb15 := keep_alloc v14 (.cells #[.int .i64 t14, .slice a14 n14 p14, .slice b14 m14 q14] 28)
  generalize v14.alloc (.cells #[.int .i64 t14, .slice a14 n14 p14, .slice b14 m14 q14] 28) = v15 at *
  have HC15 := hide hC15
  clear hC15
  have HB15 := hide hb15
  clear hb15
  refine (CK.out _ _ _ _ (NdAt.below (keep_trans HB1.out (keep_trans HB2.out (keep_trans HB3.out (keep_trans HB4.out (keep_trans HB5.out (keep_trans HB6.out (keep_trans HB7.out (keep_trans HB8.out (keep_trans HB9.out (keep_trans HB10.out (keep_trans HB11.out (keep_trans HB12.out (keep_trans HB13.out (keep_trans HB14.out HB15.out)))))))))))))) _ _ _ _ _ HN100.out)).mono ?_
  rintro e v16 ⟨⟨dk16, ka16, kn16, kc16, rfl, hk16, htd16⟩, hb16⟩
  have HB16 := hide hb16
  clear hb16
  have HK16 := hide hk16
  have HTD16 := hide htd16
  clear hk16 htd16
  obtain ⟨x1, y1, z1⟩ := HC1.out
  have x1 := Below.cells (keep_trans HB2.out (keep_trans HB3.out (keep_trans HB4.out (keep_trans HB5.out (keep_trans HB6.out (keep_trans HB7.out (keep_trans HB8.out (keep_trans HB9.out (keep_trans HB10.out (keep_trans HB11.out (keep_trans HB12.out (keep_trans HB13.out (keep_trans HB14.out (keep_trans HB15.out HB16.out)))))))))))))) x1
  have y1 := Below.cells (keep_trans HB2.out (keep_trans HB3.out (keep_trans HB4.out (keep_trans HB5.out (keep_trans HB6.out (keep_trans HB7.out (keep_trans HB8.out (keep_trans HB9.out (keep_trans HB10.out (keep_trans HB11.out (keep_trans HB12.out (keep_trans HB13.out (keep_trans HB14.out (keep_trans HB15.out HB16.out)))))))))))))) y1
  have z1 := Below.cells (keep_trans HB2.out (keep_trans HB3.out (keep_trans HB4.out (keep_trans HB5.out (keep_trans HB6.out (keep_trans HB7.out (keep_trans HB8.out (keep_trans HB9.out (keep_trans HB10.out (keep_trans HB11.out (keep_trans HB12.out (keep_trans HB13.out (keep_trans HB14.out (keep_trans HB15.out HB16.out)))))))))))))) z1
  go_wp2_with fail
  clear x1 y1 z1
  refine (CRK.out _ _ _ _ (NdAt.below (keep_trans HB1.out (keep_trans HB2.out (keep_trans HB3.out (keep_trans HB4.out (keep_trans HB5.out (keep_trans HB6.out (keep_trans HB7.out (keep_trans HB8.out (keep_trans HB9.out (keep_trans HB10.out (keep_trans HB11.out (keep_trans HB12.out (keep_trans HB13.out (keep_trans HB14.out (keep_trans HB15.out HB16.out))))))))))))))) _ _ _ _ _ HN100.out)).mono ?_
  rintro e v17 ⟨⟨dk17, ka17, kn17, kc17, rfl, hk17, htd17⟩, hb17⟩
  have HB17 := hide hb17
  clear hb17
  have HK17 := hide hk17
  have HTD17 := hide htd17
  clear hk17 htd17
  go_wp2_with fail
  refine ((seq_any dd0 _ ks0 _ (kids_below HK0.out (keep_trans HB1.out (keep_trans HB2.out (keep_trans HB3.out (keep_trans HB4.out (keep_trans HB5.out (keep_trans HB6.out (keep_trans HB7.out (keep_trans HB8.out (keep_trans HB9.out (keep_trans HB10.out (keep_trans HB11.out (keep_trans HB12.out (keep_trans HB13.out (keep_trans HB14.out (keep_trans HB15.out (keep_trans HB16.out HB17.out))))))))))))))))) HSU.out).mono (fun _ _ h => h.at)).mono ?_
  rintro e v18 ⟨d18, t18, a18, n18, p18, b18, m18, q18, rfl, hn18, hb18⟩
  have HB18 := hide hb18
  clear hb18
  have HN18 := hide hn18
  clear hn18
  go_wp2_with fail
  refine (rseq_any _ _ _ _).mono ?_
  rintro e v19 ⟨rfl, hb19⟩
  have HB19 := hide hb19
  clear hb19
  go_wp2_with fail
  refine ((rsame_der (NdAt.below HB19.out _ _ _ _ _ (NdIn.at _ _ _ _ _ HN18.out)) (at_box (I64.mk (by omega) (by omega)) HTD0.out (kids_below HK0.out (keep_trans HB1.out (keep_trans HB2.out (keep_trans HB3.out (keep_trans HB4.out (keep_trans HB5.out (keep_trans HB6.out (keep_trans HB7.out (keep_trans HB8.out (keep_trans HB9.out (keep_trans HB10.out (keep_trans HB11.out (keep_trans HB12.out (keep_trans HB13.out (keep_trans HB14.out (keep_trans HB15.out (keep_trans HB16.out (keep_trans HB17.out (keep_trans HB18.out HB19.out))))))))))))))))))))).mono (fun _ _ h => SameE.true h rfl)).mono ?_
  rintro e v20 ⟨rfl, hb20⟩
  have HB20 := hide hb20
  clear hb20
  obtain ⟨x2, y2, z2⟩ := HC5.out
  have x2 := Below.cells (keep_trans HB6.out (keep_trans HB7.out (keep_trans HB8.out (keep_trans HB9.out (keep_trans HB10.out (keep_trans HB11.out (keep_trans HB12.out (keep_trans HB13.out (keep_trans HB14.out (keep_trans HB15.out (keep_trans HB16.out (keep_trans HB17.out (keep_trans HB18.out (keep_trans HB19.out HB20.out)))))))))))))) x2
  have y2 := Below.cells (keep_trans HB6.out (keep_trans HB7.out (keep_trans HB8.out (keep_trans HB9.out (keep_trans HB10.out (keep_trans HB11.out (keep_trans HB12.out (keep_trans HB13.out (keep_trans HB14.out (keep_trans HB15.out (keep_trans HB16.out (keep_trans HB17.out (keep_trans HB18.out (keep_trans HB19.out HB20.out)))))))))))))) y2
  have z2 := Below.cells (keep_trans HB6.out (keep_trans HB7.out (keep_trans HB8.out (keep_trans HB9.out (keep_trans HB10.out (keep_trans HB11.out (keep_trans HB12.out (keep_trans HB13.out (keep_trans HB14.out (keep_trans HB15.out (keep_trans HB16.out (keep_trans HB17.out (keep_trans HB18.out (keep_trans HB19.out HB20.out)))))))))))))) z2
  obtain ⟨x3, y3, z3⟩ := HC7.out
  have x3 := Below.cells (keep_trans HB8.out (keep_trans HB9.out (keep_trans HB10.out (keep_trans HB11.out (keep_trans HB12.out (keep_trans HB13.out (keep_trans HB14.out (keep_trans HB15.out (keep_trans HB16.out (keep_trans HB17.out (keep_trans HB18.out (keep_trans HB19.out HB20.out)))))))))))) x3
  have y3 := Below.cells (keep_trans HB8.out (keep_trans HB9.out (keep_trans HB10.out (keep_trans HB11.out (keep_trans HB12.out (keep_trans HB13.out (keep_trans HB14.out (keep_trans HB15.out (keep_trans HB16.out (keep_trans HB17.out (keep_trans HB18.out (keep_trans HB19.out HB20.out)))))))))))) y3
  have z3 := Below.cells (keep_trans HB8.out (keep_trans HB9.out (keep_trans HB10.out (keep_trans HB11.out (keep_trans HB12.out (keep_trans HB13.out (keep_trans HB14.out (keep_trans HB15.out (keep_trans HB16.out (keep_trans HB17.out (keep_trans HB18.out (keep_trans HB19.out HB20.out)))))))))))) z3
  go_wp2_with fail
  clear x2 y2 z2 x3 y3 z3
  refine ((rsame_der (NdAt.below (keep_trans HB5.out (keep_trans HB6.out (keep_trans HB7.out (keep_trans HB8.out (keep_trans HB9.out (keep_trans HB10.out (keep_trans HB11.out (keep_trans HB12.out (keep_trans HB13.out (keep_trans HB14.out (keep_trans HB15.out (keep_trans HB16.out (keep_trans HB17.out (keep_trans HB18.out (keep_trans HB19.out HB20.out))))))))))))))) _ _ _ _ _ HN4.out) (NdAt.below (keep_trans HB7.out (keep_trans HB8.out (keep_trans HB9.out (keep_trans HB10.out (keep_trans HB11.out (keep_trans HB12.out (keep_trans HB13.out (keep_trans HB14.out (keep_trans HB15.out (keep_trans HB16.out (keep_trans HB17.out (keep_trans HB18.out (keep_trans HB19.out HB20.out))))))))))))) _ _ _ _ _ HN6.out)).mono (fun _ _ h => SameE.true h rfl)).mono ?_
  rintro e v21 ⟨rfl, hb21⟩
  have HB21 := hide hb21
  clear hb21
  obtain ⟨x4, y4, z4⟩ := HC9.out
  have x4 := Below.cells (keep_trans HB10.out (keep_trans HB11.out (keep_trans HB12.out (keep_trans HB13.out (keep_trans HB14.out (keep_trans HB15.out (keep_trans HB16.out (keep_trans HB17.out (keep_trans HB18.out (keep_trans HB19.out (keep_trans HB20.out HB21.out))))))))))) x4
  have y4 := Below.cells (keep_trans HB10.out (keep_trans HB11.out (keep_trans HB12.out (keep_trans HB13.out (keep_trans HB14.out (keep_trans HB15.out (keep_trans HB16.out (keep_trans HB17.out (keep_trans HB18.out (keep_trans HB19.out (keep_trans HB20.out HB21.out))))))))))) y4
  have z4 := Below.cells (keep_trans HB10.out (keep_trans HB11.out (keep_trans HB12.out (keep_trans HB13.out (keep_trans HB14.out (keep_trans HB15.out (keep_trans HB16.out (keep_trans HB17.out (keep_trans HB18.out (keep_trans HB19.out (keep_trans HB20.out HB21.out))))))))))) z4
  obtain ⟨x5, y5, z5⟩ := HC11.out
  have x5 := Below.cells (keep_trans HB12.out (keep_trans HB13.out (keep_trans HB14.out (keep_trans HB15.out (keep_trans HB16.out (keep_trans HB17.out (keep_trans HB18.out (keep_trans HB19.out (keep_trans HB20.out HB21.out))))))))) x5
  have y5 := Below.cells (keep_trans HB12.out (keep_trans HB13.out (keep_trans HB14.out (keep_trans HB15.out (keep_trans HB16.out (keep_trans HB17.out (keep_trans HB18.out (keep_trans HB19.out (keep_trans HB20.out HB21.out))))))))) y5
  have z5 := Below.cells (keep_trans HB12.out (keep_trans HB13.out (keep_trans HB14.out (keep_trans HB15.out (keep_trans HB16.out (keep_trans HB17.out (keep_trans HB18.out (keep_trans HB19.out (keep_trans HB20.out HB21.out))))))))) z5
  go_wp2_with fail
  clear x4 y4 z4 x5 y5 z5
  refine ((rsame_der (NdAt.below (keep_trans HB9.out (keep_trans HB10.out (keep_trans HB11.out (keep_trans HB12.out (keep_trans HB13.out (keep_trans HB14.out (keep_trans HB15.out (keep_trans HB16.out (keep_trans HB17.out (keep_trans HB18.out (keep_trans HB19.out (keep_trans HB20.out HB21.out)))))))))))) _ _ _ _ _ HN8.out) (NdAt.below (keep_trans HB11.out (keep_trans HB12.out (keep_trans HB13.out (keep_trans HB14.out (keep_trans HB15.out (keep_trans HB16.out (keep_trans HB17.out (keep_trans HB18.out (keep_trans HB19.out (keep_trans HB20.out HB21.out)))))))))) _ _ _ _ _ HN10.out)).mono (fun _ _ h => SameE.true h rfl)).mono ?_
  rintro e v22 ⟨rfl, hb22⟩
  have HB22 := hide hb22
  clear hb22
  obtain ⟨x6, y6, z6⟩ := HC13.out
  have x6 := Below.cells (keep_trans HB14.out (keep_trans HB15.out (keep_trans HB16.out (keep_trans HB17.out (keep_trans HB18.out (keep_trans HB19.out (keep_trans HB20.out (keep_trans HB21.out HB22.out)))))))) x6
  have y6 := Below.cells (keep_trans HB14.out (keep_trans HB15.out (keep_trans HB16.out (keep_trans HB17.out (keep_trans HB18.out (keep_trans HB19.out (keep_trans HB20.out (keep_trans HB21.out HB22.out)))))))) y6
  have z6 := Below.cells (keep_trans HB14.out (keep_trans HB15.out (keep_trans HB16.out (keep_trans HB17.out (keep_trans HB18.out (keep_trans HB19.out (keep_trans HB20.out (keep_trans HB21.out HB22.out)))))))) z6
  obtain ⟨x7, y7, z7⟩ := HC15.out
  have x7 := Below.cells (keep_trans HB16.out (keep_trans HB17.out (keep_trans HB18.out (keep_trans HB19.out (keep_trans HB20.out (keep_trans HB21.out HB22.out)))))) x7
  have y7 := Below.cells (keep_trans HB16.out (keep_trans HB17.out (keep_trans HB18.out (keep_trans HB19.out (keep_trans HB20.out (keep_trans HB21.out HB22.out)))))) y7
  have z7 := Below.cells (keep_trans HB16.out (keep_trans HB17.out (keep_trans HB18.out (keep_trans HB19.out (keep_trans HB20.out (keep_trans HB21.out HB22.out)))))) z7
  go_wp2_with fail
  clear x6 y6 z6 x7 y7 z7
  refine ((rsame_der (NdAt.below (keep_trans HB13.out (keep_trans HB14.out (keep_trans HB15.out (keep_trans HB16.out (keep_trans HB17.out (keep_trans HB18.out (keep_trans HB19.out (keep_trans HB20.out (keep_trans HB21.out HB22.out))))))))) _ _ _ _ _ HN12.out) (NdAt.below (keep_trans HB15.out (keep_trans HB16.out (keep_trans HB17.out (keep_trans HB18.out (keep_trans HB19.out (keep_trans HB20.out (keep_trans HB21.out HB22.out))))))) _ _ _ _ _ HN14.out)).mono (fun _ _ h => SameE.true h rfl)).mono ?_
  rintro e v23 ⟨rfl, hb23⟩
  have HB23 := hide hb23
  clear hb23
  go_wp2_with fail
  refine (rseq_any _ _ _ _).mono ?_
  rintro e v24 ⟨rfl, hb24⟩
  have HB24 := hide hb24
  clear hb24
  go_wp2_with fail
  refine (rseq_any _ _ _ _).mono ?_
  rintro e v25 ⟨rfl, hb25⟩
  have HB25 := hide hb25
  clear hb25
  go_wp2_with fail
  refine ((rsame_der (at_box (I64.mk (by omega) (by omega)) HTD16.out (kids_below HK16.out (keep_trans HB17.out (keep_trans HB18.out (keep_trans HB19.out (keep_trans HB20.out (keep_trans HB21.out (keep_trans HB22.out (keep_trans HB23.out (keep_trans HB24.out HB25.out)))))))))) (at_box (I64.mk (by omega) (by omega)) HTD17.out (kids_below HK17.out (keep_trans HB18.out (keep_trans HB19.out (keep_trans HB20.out (keep_trans HB21.out (keep_trans HB22.out (keep_trans HB23.out (keep_trans HB24.out HB25.out)))))))))).mono (fun _ _ h => SameE.true h rfl)).mono ?_
  rintro e v26 ⟨rfl, hb26⟩
  have HB26 := hide hb26
  clear hb26
  go_wp2_with fail
  refine (vawake_any _ (HT.out.below (keep_trans HB1.out (keep_trans HB2.out (keep_trans HB3.out (keep_trans HB4.out (keep_trans HB5.out (keep_trans HB6.out (keep_trans HB7.out (keep_trans HB8.out (keep_trans HB9.out (keep_trans HB10.out (keep_trans HB11.out (keep_trans HB12.out (keep_trans HB13.out (keep_trans HB14.out (keep_trans HB15.out (keep_trans HB16.out (keep_trans HB17.out (keep_trans HB18.out (keep_trans HB19.out (keep_trans HB20.out (keep_trans HB21.out (keep_trans HB22.out (keep_trans HB23.out (keep_trans HB24.out (keep_trans HB25.out HB26.out))))))))))))))))))))))))))).mono ?_
  rintro e v27 ⟨rfl, hb27⟩
  have HB27 := hide hb27
  clear hb27
  go_wp2_with fail
  go_ret
  exact ⟨rfl, (keep_trans HB1.out (keep_trans HB2.out (keep_trans HB3.out (keep_trans HB4.out (keep_trans HB5.out (keep_trans HB6.out (keep_trans HB7.out (keep_trans HB8.out (keep_trans HB9.out (keep_trans HB10.out (keep_trans HB11.out (keep_trans HB12.out (keep_trans HB13.out (keep_trans HB14.out (keep_trans HB15.out (keep_trans HB16.out (keep_trans HB17.out (keep_trans HB18.out (keep_trans HB19.out (keep_trans HB20.out (keep_trans HB21.out (keep_trans HB22.out (keep_trans HB23.out (keep_trans HB24.out (keep_trans HB25.out (keep_trans HB26.out HB27.out))))))))))))))))))))))))))⟩

set_option maxRecDepth 100000 in
theorem lifted (os : Os) (started : os.Started) (H : Type) (enc : TypeId × Value → H) :
    ReturnsInHanded {} Tryz.checked os 5 .any (fun w args => (Rows.valuePartsSpec.pre enc Tryz.prog Tryz.f5 Rows.valuePartsRow.domain false w args ∧ laidMetH Tryz.prog Rows.valuePartsRow.laid w) ∧ sizedMet enc Tryz.prog Tryz.f5 (OpenSpec.ofChange Rows.valuePartsSpec) false w args) (Rows.valuePartsSpec.post enc Tryz.prog Tryz.f5 false true false false) := by
  refine change_laid_shaped (C := Tryz.checked) (X := fun w _ => laidMetH Tryz.prog Rows.valuePartsRow.laid w) (fun _ _ _ hh h => h.of_heap hh) own started (by kernel_rfl) Tryz.func5
    (ChangeSpec.witness_shaped (enc := enc) (C := Tryz.checked) (os := os) (X := fun w _ => laidMetH Tryz.prog Rows.valuePartsRow.laid w) false (World.laidAll Tryz.prog os Rows.valuePartsRow.laid) #[.slice none 0 0, .agg #[.int .i64 0, .slice none 0 0, .slice none 0 0], .int .i64 0, .slice none 0 0, .int .i64 0] 8 (World.laidAll_os _ _ _)
      (World.shaped_of_ZipB (by kernel_rfl) (by kernel_rfl)) (by kernel_rfl) (by kernel_rfl) (by kernel_rfl)
      (by rw [MakeChecks.laidMetH_plain _ _ _ (by kernel_rfl)]; exact laidMet_laidAll _ (by kernel_rfl) (by kernel_rfl))) ?_
  intro W base args ds gs before hval0 hW hsz0 hL hsh
  have hVars : Vars W := vars_of_laid hL hsh
  have hval : ∀ (j : Nat) t v, Tryz.f5.params[j]? = some t → args[j]? = some v → Value.okWide Tryz.prog W .any base t v := hval0
  have hW' := hW
  obtain ⟨p, q, hA0, hV, rfl, hfz, hnd⟩ := hW
  have hA : DataW.TrodAll enc Tryz.prog W 0 (fun _ => true) true Tryz.f5.params.toList args.toList ds p := hA0
  rw [Tryz.params5] at hA hval
  obtain ⟨v0, vs0, d0, ds0, p0, q0, hargs, rfl, rfl, h0, r0⟩ := trodAll_cons hA
  obtain ⟨v1, vs1, d1, ds1, p1, q1, rfl, rfl, rfl, h1, r1⟩ := trodAll_cons r0
  obtain ⟨v2, vs2, d2, ds2, p2, q2, rfl, rfl, rfl, h2, r2⟩ := trodAll_cons r1
  obtain ⟨v3, vs3, d3, ds3, p3, q3, rfl, rfl, rfl, h3, r3⟩ := trodAll_cons r2
  obtain ⟨v4, vs4, d4, ds4, p4, q4, rfl, rfl, rfl, h4, r4⟩ := trodAll_cons r3
  obtain ⟨rfl, rfl, rfl⟩ := trodAll_nil r4
  obtain rfl : args = #[v0, v1, v2, v3, v4] := by cases args; simp_all
  obtain ⟨rfl, rfl⟩ := trodVars_none hV
  obtain ⟨a0, len0, cap0, rfl⟩ := okWide_slice Tryz.underlying26 (hval 0 26 v0 rfl rfl)
  have k0 := h0
  have lt0 : ∀ x ∈ p0, x.block < W.heap.size := by obtain ⟨m, hm⟩ := k0; exact DataW.trod_lt m _ _ _ hm
  obtain ⟨dd0, ks0, w0⟩ : ∃ d ks, KidsAt (NdAt W d) W (.slice a0 len0 cap0) ks ∧ Tidy (.slice a0 len0 cap0) := by
    obtain ⟨fuel, hf⟩ := h0
    exact read_kids (by simpa [Value.cells] using hf)
  obtain ⟨cs1, rfl, hcz1⟩ := okWide_struct Tryz.underlying28 (hval 1 28 v1 rfl rfl)
  obtain ⟨ct1, cb1, ck1, rfl⟩ := arr3 (hcz1.trans Tryz.cellsN)
  have k1 := h1
  have lt1 : ∀ x ∈ p1, x.block < W.heap.size := by obtain ⟨m, hm⟩ := k1; exact DataW.trod_lt m _ _ _ hm
  obtain ⟨dd1, xx1, w1⟩ : ∃ d n, NdAt W d ct1 cb1 ck1 n := by
    obtain ⟨fuel, hf⟩ := h1
    exact read_cells fuel _ _ _ _ (by simpa [Value.cells] using hf)
  obtain ⟨a2, rfl, rfl, rfl, w2⟩ := open_int Tryz.underlying3 (hval 2 3 v2 rfl rfl) h2
  obtain ⟨a3, len3, cap3, rfl⟩ := okWide_slice Tryz.underlying22 (hval 3 22 v3 rfl rfl)
  have k3 := h3
  have lt3 : ∀ x ∈ p3, x.block < W.heap.size := by obtain ⟨m, hm⟩ := k3; exact DataW.trod_lt m _ _ _ hm
  obtain ⟨z3, w3⟩ : ∃ zs, IsRow .u8 W a3 len3 cap3 zs := by
    obtain ⟨fuel, hf⟩ := h3
    rcases open_ints Tryz.underlying22 Tryz.underlying5 (by kernel_rfl) hf with ⟨hcs, _⟩ | ⟨x, l, c, zs, hcs, _, hl, hm, hz, _, hcell, hwz⟩
    · simp [Value.cells] at hcs
      obtain ⟨rfl, rfl, rfl⟩ := hcs
      exact ⟨[], .inl ⟨rfl, rfl, rfl, rfl⟩⟩
    · simp [Value.cells] at hcs
      obtain ⟨rfl, rfl, rfl⟩ := hcs
      exact ⟨zs, .inr ⟨_, rfl, hl, hm, by simpa using hz, hcell, hwz⟩⟩
  obtain ⟨a4, rfl, rfl, rfl, w4⟩ := open_int Tryz.underlying3 (hval 4 3 v4 rfl rfl) h4
  clear hA0 hval0
  refine (walk a0 len0 cap0 dd0 ks0 ct1 cb1 ck1 dd1 xx1 a2 a3 len3 cap3 z3 a4 W w0 w1 w2 w3 w4 hVars).mono fun e W' ⟨he, bel⟩ => ?_
  subst he
  exact ⟨_, rfl, _, _, _, [], _, [], hW', trodAll_mk1 (shut_bool Tryz.underlying4 _), (trodAll_cons_mk (Below.trod laidOut (by kernel_rfl) (of_decide_eq_true (by kernel_rfl)) k0 bel lt0) (trodAll_cons_mk (Below.trod laidOut (by kernel_rfl) (of_decide_eq_true (by kernel_rfl)) k1 bel lt1) (trodAll_cons_mk (shut_int Tryz.underlying3 w2) (trodAll_cons_mk (Below.trod laidOut (by kernel_rfl) (of_decide_eq_true (by kernel_rfl)) k3 bel lt3) (trodAll_cons_mk (shut_int Tryz.underlying3 w4) trodAll_mk0))))), rfl, bel.frame _, fun h => by cases h⟩

theorem over : Rows.valuePartsRow.holds Tryz.pinned (OpenSpec.ofChange Rows.valuePartsSpec) :=
  OpenClaim.holds_of_wide 5 Tryz.f5 rfl rfl rfl rfl rfl rfl rfl ⟨rfl, rfl, rfl, rfl, rfl⟩ rfl rfl rfl rfl rfl (by kernel_rfl) Tryz.func5 (by kernel_rfl)
    (of_decide_eq_true (by kernel_rfl)) (by unfold Func.isWrapper; first | (rw [if_pos (by decide +kernel)]; kernel_rfl) | (rw [if_neg (by decide +kernel)]; exact ⟨rfl, rfl⟩))
    (fun os started H enc _ => lifted os started H enc)

end Go.Proofs.YtlddpjcacnahmaaGreatDoor.valueParts
namespace Go.Proofs.YtlddpjcacnahmaaGreatDoor
theorem valueParts_card : Rows.ValuePartsCardSaid :=
  Claim7.holds_tied_plain_at .later [] [.data, .pinned] true (true, "c0e721392a7b2804a856d21c0cd6dc3450823c10bf520f062ab1d682ea16459c") false
    valueParts.over (fun _ h => by cases h) (by kernel_rfl) (fun _ h => by cases h) valueParts_row_tie rfl ⟨rfl, rfl⟩ (by kernel_rfl) rfl
    (fun f fn hf hfn => by
      obtain rfl : f = 5 := Option.some.inj ((show Tryz.prog.funcNamed Tryz.f5.name = some 5 by kernel_rfl).symm.trans hf) |>.symm
      obtain rfl : fn = Tryz.f5 := (Option.some.inj (Tryz.func5.symm.trans hfn)).symm
      exact ⟨by kernel_rfl, fun j t ht => by
        rw [Tryz.params5] at ht
        have hm : t ∈ [26, 28, 3, 22, 3] := by simpa using Array.mem_of_getElem? ht
        have hall : ([26, 28, 3, 22, 3].all fun u => !Tryz.prog.wantsStandIn u) = true := by kernel_rfl
        exact (show Tryz.prog.wantsStandIn t = false by simpa using List.all_eq_true.1 hall t hm)⟩)
    (by kernel_rfl)
end Go.Proofs.YtlddpjcacnahmaaGreatDoor
