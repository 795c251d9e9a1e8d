/- For every number, every list of values and every two places: apostillelaw06.ValueFit returns true, and each argument reads afterwards as it read before; the library's two tables of characters are as the program's text lays them. No other condition. -/
import Derived.Test.YtlddpjcacnahmaaGreatDoorEPar
import Derived.Test.YtlddpjcacnahmaaGreatDoorVAwk
import Derived.Test.YtlddpjcacnahmaaGreatDoorVFit
import Derived.WalkKit
import Derived.ProofKit
import Derived.OpenShut
import Derived.ShutString
import Derived.ChangeOld
import Derived.Below
namespace Go.Proofs.YtlddpjcacnahmaaGreatDoor.valueFit
open Go.ChangeShapes Go.WideShapes Go.ChangeAt Go.RowKit
open Go.ChangeMaps (open_string shut_string)
set_option linter.unusedVariables false

set_option maxRecDepth 100000 in
set_option maxHeartbeats 4000000 in
theorem walk (a0 : Int) (a1 : Option Addr) (len1 cap1 : Nat) (dd1 : Nat) (ks1 : List Nd) (a2 : Int) (a3 : Int) (w : World) (w0 : (Lit.int .i64 a0).wf = true) (w1 : KidsAt (NdAt w dd1) w (.slice a1 len1 cap1) ks1 ∧ Tidy (.slice a1 len1 cap1)) (w2 : (Lit.int .u8 a2).wf = true) (w3 : (Lit.int .u8 a3).wf = true) (hV : Vars w) :
    Calls Tryz.prog 7 #[.int .i64 a0, .slice a1 len1 cap1, .int .u8 a2, .int .u8 a3] w fun e w' => e = .returned (.bool true) ∧ Below w.heap.size w w' := by
  have hn := wf_i64' w0
  have hT : UTabs w := hV
  obtain ⟨FB, hFB⟩ := exists_FB
  obtain ⟨hk1, htd1⟩ := w1
  have HK1 := hide hk1
  obtain ⟨a1', cap1', he, g1, g2, g3⟩ := hk1
  obtain ⟨rfl, rfl, rfl⟩ := Value.slice.inj he
  unfold maxLen at g2
  obtain ⟨li, hli, hll⟩ := int_ex a0 hn
  obtain ⟨xa, rfl⟩ := Int.eq_ofNat_of_zero_le (wf_u8 _ w2).1
  have hxa : xa < 256 := by have := (wf_u8 _ w2).2; omega
  obtain ⟨xt, rfl⟩ := Int.eq_ofNat_of_zero_le (wf_u8 _ w3).1
  have hxt : xt < 256 := by have := (wf_u8 _ w3).2; omega
  have HTD1 := hide htd1
  have HT := hide hT
  have HF := hide hFB
  have HHN := hide hn
  have HLI := hide hli
  have HLL := hide hll
  have HG3 := hide g3
  clear htd1 hT hFB hn hli hll g3 he w0 w2 w3 hV
  go_enter Tryz.func7, Tryz.ntmps7
  go_wp2_with fail
  refine (vfew_any dd1 _ ks1 _ (kids_below HK1.out (Below.refl _ w))).mono ?_
  rintro e v1 ⟨⟨r, rfl, hr⟩, hb1⟩
  have HB1 := hide hb1
  clear hb1
  cases r
  · clear hr
    go_wp2_with fail
    refine (vawake_any _ (HT.out.below HB1.out)).mono ?_
    rintro e v2 ⟨rfl, hb2⟩
    have HB2 := hide hb2
    clear hb2
    go_wp2_with fail
    go_ret
    exact ⟨rfl, (keep_trans HB1.out HB2.out)⟩
  have HFW := hide (hr rfl)
  clear hr
  have HSU := hide (show (ks1.map (szF dd1)).sum ≤ 50000 from Nat.le_trans (sum_all (szF dd1) 2000 HFW.out.2) (by have := HFW.out.1; omega))
  go_wp2_with fail
  go_loopw [9, 28] (fun r i wr => ∃ (k : Nat) (z : Bool), k ≤ ks1.length ∧ i = .int .i64 k ∧ r = .bool z ∧ Hid (z = (allS (bytesD FB) (ks1.take k)).isSome) ∧ Below v1.heap.size v1 wr) (fun _ i _ => ks1.length - (intOf i).toNat)
  case atStart => exact ⟨0, true, Nat.zero_le _, rfl, rfl, hide (by simp [allS]), Below.refl _ _⟩
  case round =>
    obtain ⟨k, z, hk, rfl, rfl, HZ, hbr⟩ := hrel
    by_cases hlt : k < ks1.length
    · obtain ⟨bk, ok, rfl, hck⟩ := HG3.out (by omega)
      obtain ⟨x0, x1, x2, xc, xn⟩ := hck k hlt
      obtain ⟨xc0, xc1, xc2⟩ := xc.below (keep_trans HB1.out hbr)
      obtain ⟨t, e1, n1, p1, e2, n2, p2, rfl, rfl, rfl⟩ := xn.forms
      have hW := keep_alloc wr (.cells #[.int .i64 t, .slice e1 n1 p1, .slice e2 n2 p2] 28)
      have hbW := keep_trans hbr hW
      obtain ⟨y0, y1, y2⟩ := box_cell wr (.int .i64 t) (.slice e1 n1 p1) (.slice e2 n2 p2) 28
      have hft := rfitN_any FB HF.out dd1 _ _ _ (kx ks1 k) _ (NdAt.below (keep_trans HB1.out hbW) _ _ _ _ _ xn) (Nat.le_trans (HFW.out.2 k hlt) (by omega))
      generalize hgf : (bytesD FB (kx ks1 k)).isSome = gf at hft
      have HGF := hide hgf
      clear hck xc xn hgf
      cases z
      · have HZ2 : Hid (false = (allS (bytesD FB) (ks1.take (k + 1))).isSome) := hide (by rw [allS_next hlt, ← HZ.out]; rfl)
        clear hft
        go_wp2_with fail
        first
          | exact ⟨⟨k + 1, false, by omega, by go_num, rfl, HZ2, hbW⟩, by simp [intOf]; omega⟩
          | (go_roundw
             case rel => exact ⟨k + 1, false, by omega, by go_num, rfl, HZ2, hbW⟩
             case measure => simp [intOf]; omega)
      · go_wp2_with fail
        refine hft.mono ?_
        rintro e w2 ⟨rfl, hb2⟩
        have HZ2 : Hid (gf = (allS (bytesD FB) (ks1.take (k + 1))).isSome) := hide (by rw [allS_next hlt, ← HZ.out, HGF.out]; rfl)
        clear hft
        go_wp2_with fail
        first
          | exact ⟨⟨k + 1, gf, by omega, by go_num, rfl, HZ2, keep_trans hbW hb2⟩, by simp [intOf]; omega⟩
          | (go_roundw
             case rel => exact ⟨k + 1, gf, by omega, by go_num, rfl, HZ2, keep_trans hbW hb2⟩
             case measure => simp [intOf]; omega)
    · have HA : Hid (z = (allS (bytesD FB) ks1).isSome) := hide (by rw [HZ.out, List.take_of_length_le (by omega)])
      clear HZ
      have HB2 := hide hbr
      clear hbr
      obtain ⟨xS, kS, hS0, hS1, hS2⟩ := set_one FB ks1
      have HS1 := hide hS1
      have HS0 := hide hS0
      clear hS1 hS2 hS0
      have HEL := hide (show ∀ i, i < ks1.length → szF dd1 (kx ks1 i) ≤ 10000 from fun i hi => Nat.le_trans (HFW.out.2 i hi) (by omega))
      have HLN := hide (show ks1.length ≤ 12 from Nat.le_trans HFW.out.1 (by omega))
      have HS9 := hide (show (ks1.map (szF dd1)).sum ≤ 100000 from Nat.le_trans HSU.out (by omega))
      have HFI := hide (show (bytesD FB (.mk 2 li [])).isSome = true by rw [leaf_fit FB rfl (by have := HLL.out; omega)]; exact (fb_int HF.out li).2 HLI.out.2.1)
      have cB := fun w' (hk : KidsAt (NdAt w' dd1) w' (.slice a1 ks1.length cap1) ks1) => (vbox_any 3 dd1 _ ks1 w' (I64.mk (by omega) (by omega)) hk HS9.out).mono (fun _ _ h => NodT.nda h)
      rw [show numN 3 (.mk (160 + 3) [] ks1) = .mk 163 [] ks1 from rfl, show numR 3 = 0 from rfl] at cB
      have CB := hide cB
      clear cB
      cases z
      · skip
        obtain rfl : kS = 1 := by
          rcases HS0.out with ⟨_, out, ⟨_, us, _, _, h3, _⟩, _⟩ | ⟨h, _⟩
          · have := HA.out; rw [h3] at this; cases this
          · exact h
        go_wp2_with fail
        refine ((set_any FB HF.out dd1 _ ks1 _ (kids_below HK1.out (keep_trans HB1.out HB2.out)) HEL.out HS9.out HLN.out (HT.out.below (keep_trans HB1.out HB2.out))).mono (fun _ _ h => HS1.out _ _ _ h)).mono ?_
        rintro e v3 ⟨d3, t3, a3, n3, p3, b3, m3, q3, rfl, hn3, hb3⟩
        have HB3 := hide hb3
        clear hb3
        have HN3 := hide hn3
        clear hn3
        go_wp2_with fail
        have hC4 := box_cell v3 (.int .i64 t3) (.slice a3 n3 p3) (.slice b3 m3 q3) 28
        have hb4 := keep_alloc v3 (.cells #[.int .i64 t3, .slice a3 n3 p3, .slice b3 m3 q3] 28)
        generalize v3.alloc (.cells #[.int .i64 t3, .slice a3 n3 p3, .slice b3 m3 q3] 28) = v4 at *
        have HC4 := hide hC4
        clear hC4
        have HB4 := hide hb4
        clear hb4
        refine (CB.out _ (kids_below HK1.out (keep_trans HB1.out (keep_trans HB2.out (keep_trans HB3.out HB4.out))))).mono ?_
        rintro e v5 ⟨d5, t5, a5, n5, p5, b5, m5, q5, rfl, hn5, hb5⟩
        have HB5 := hide hb5
        clear hb5
        have HN5 := hide hn5
        clear hn5
        go_wp2_with fail
        have hC6 := box_cell v5 (.int .i64 t5) (.slice a5 n5 p5) (.slice b5 m5 q5) 28
        have hb6 := keep_alloc v5 (.cells #[.int .i64 t5, .slice a5 n5 p5, .slice b5 m5 q5] 28)
        generalize v5.alloc (.cells #[.int .i64 t5, .slice a5 n5 p5, .slice b5 m5 q5] 28) = v6 at *
        have HC6 := hide hC6
        clear hC6
        have HB6 := hide hb6
        clear hb6
        refine ((int_is HLI.out _ HHN.out).mono (fun _ _ h => h.at)).mono ?_
        rintro e v7 ⟨d7, t7, a7, n7, p7, b7, m7, q7, rfl, hn7, hb7⟩
        have HB7 := hide hb7
        clear hb7
        have HN7 := hide hn7
        clear hn7
        go_wp2_with fail
        refine ((rfitN_any FB HF.out _ _ _ _ _ _ (NdAt.below (Below.refl _ v7) _ _ _ _ _ (NdIn.at _ _ _ _ _ HN7.out)) (Nat.le_trans (szF_leaf _ 2 li) (by have := HLL.out; omega))).mono (fun _ _ h => by rw [HFI.out] at h; exact h)).mono ?_
        rintro e v8 ⟨rfl, hb8⟩
        have HB8 := hide hb8
        clear hb8
        go_wp2_with fail
        refine (vawake_any _ (HT.out.below (keep_trans HB1.out (keep_trans HB2.out (keep_trans HB3.out (keep_trans HB4.out (keep_trans HB5.out (keep_trans HB6.out (keep_trans HB7.out HB8.out))))))))).mono ?_
        rintro e v9 ⟨rfl, hb9⟩
        have HB9 := hide hb9
        clear hb9
        go_wp2_with fail
        go_ret
        exact ⟨rfl, (keep_trans HB1.out (keep_trans HB2.out (keep_trans HB3.out (keep_trans HB4.out (keep_trans HB5.out (keep_trans HB6.out (keep_trans HB7.out (keep_trans HB8.out HB9.out))))))))⟩
      obtain ⟨rfl, out, hRS, rfl⟩ : kS = 0 ∧ ∃ out, SetR FB ks1 out ∧ xS = .mk 49 [] out := by
        rcases HS0.out with h | ⟨_, hno⟩
        · exact h
        · have := HA.out; rw [hno] at this; cases this
      have HRS := hide hRS
      clear hRS
      generalize hdp : (bytesD FB (.mk 48 [] ks1)).isSome = dp
      have HDP := hide hdp
      clear hdp HS0 HA
      go_wp2_with fail
      refine ((set_any FB HF.out dd1 _ ks1 _ (kids_below HK1.out (keep_trans HB1.out HB2.out)) HEL.out HS9.out HLN.out (HT.out.below (keep_trans HB1.out HB2.out))).mono (fun _ _ h => HS1.out _ _ _ h)).mono ?_
      rintro e v3 ⟨d3, t3, a3, n3, p3, b3, m3, q3, rfl, hn3, hb3⟩
      have HB3 := hide hb3
      clear hb3
      have HN3 := hide hn3
      clear hn3
      go_wp2_with fail
      have hC4 := box_cell v3 (.int .i64 t3) (.slice a3 n3 p3) (.slice b3 m3 q3) 28
      have hb4 := keep_alloc v3 (.cells #[.int .i64 t3, .slice a3 n3 p3, .slice b3 m3 q3] 28)
      generalize v3.alloc (.cells #[.int .i64 t3, .slice a3 n3 p3, .slice b3 m3 q3] 28) = v4 at *
      have HC4 := hide hC4
      clear hC4
      have HB4 := hide hb4
      clear hb4
      refine (CB.out _ (kids_below HK1.out (keep_trans HB1.out (keep_trans HB2.out (keep_trans HB3.out HB4.out))))).mono ?_
      rintro e v5 ⟨d5, t5, a5, n5, p5, b5, m5, q5, rfl, hn5, hb5⟩
      have HB5 := hide hb5
      clear hb5
      have HN5 := hide hn5
      clear hn5
      go_wp2_with fail
      have hC6 := box_cell v5 (.int .i64 t5) (.slice a5 n5 p5) (.slice b5 m5 q5) 28
      have hb6 := keep_alloc v5 (.cells #[.int .i64 t5, .slice a5 n5 p5, .slice b5 m5 q5] 28)
      generalize v5.alloc (.cells #[.int .i64 t5, .slice a5 n5 p5, .slice b5 m5 q5] 28) = v6 at *
      have HC6 := hide hC6
      clear hC6
      have HB6 := hide hb6
      clear hb6
      refine ((int_is HLI.out _ HHN.out).mono (fun _ _ h => h.at)).mono ?_
      rintro e v7 ⟨d7, t7, a7, n7, p7, b7, m7, q7, rfl, hn7, hb7⟩
      have HB7 := hide hb7
      clear hb7
      have HN7 := hide hn7
      clear hn7
      go_wp2_with fail
      refine ((rfitN_any FB HF.out _ _ _ _ _ _ (NdAt.below (Below.refl _ v7) _ _ _ _ _ (NdIn.at _ _ _ _ _ HN7.out)) (Nat.le_trans (szF_leaf _ 2 li) (by have := HLL.out; omega))).mono (fun _ _ h => by rw [HFI.out] at h; exact h)).mono ?_
      rintro e v8 ⟨rfl, hb8⟩
      have HB8 := hide hb8
      clear hb8
      go_wp2_with fail
      refine (rseq_any _ _ _ _).mono ?_
      rintro e v9 ⟨rfl, hb9⟩
      have HB9 := hide hb9
      clear hb9
      go_wp2_with fail
      refine ((rfitN_any FB HF.out _ _ _ _ _ _ (at_box (I64.mk (by omega) (by omega)) HTD1.out (kids_below HK1.out (keep_trans HB1.out (keep_trans HB2.out (keep_trans HB3.out (keep_trans HB4.out (keep_trans HB5.out (keep_trans HB6.out (keep_trans HB7.out (keep_trans HB8.out HB9.out)))))))))) (Nat.le_trans (sz_box HK1.out _ 48) (by have := HS9.out; omega))).mono (fun _ _ h => by rw [HDP.out] at h; exact h)).mono ?_
      rintro e v10 ⟨rfl, hb10⟩
      have HB10 := hide hb10
      clear hb10
      obtain ⟨x0, y0, z0⟩ := HC4.out
      have x0 := Below.cells (keep_trans HB5.out (keep_trans HB6.out (keep_trans HB7.out (keep_trans HB8.out (keep_trans HB9.out HB10.out))))) x0
      have y0 := Below.cells (keep_trans HB5.out (keep_trans HB6.out (keep_trans HB7.out (keep_trans HB8.out (keep_trans HB9.out HB10.out))))) y0
      have z0 := Below.cells (keep_trans HB5.out (keep_trans HB6.out (keep_trans HB7.out (keep_trans HB8.out (keep_trans HB9.out HB10.out))))) z0
      go_wp2_with fail
      clear x0 y0 z0
      refine ((rfitN_any FB HF.out _ _ _ _ _ _ (NdAt.below (keep_trans HB4.out (keep_trans HB5.out (keep_trans HB6.out (keep_trans HB7.out (keep_trans HB8.out (keep_trans HB9.out HB10.out)))))) _ _ _ _ _ HN3.out) (Nat.le_trans (sz_set HK1.out HRS.out.perm _ 49) (by have := HS9.out; omega))).mono (fun _ _ h => by rw [(deep_same HRS.out).1, HDP.out] at h; exact h)).mono ?_
      rintro e v11 ⟨rfl, hb11⟩
      have HB11 := hide hb11
      clear hb11
      obtain ⟨x1, y1, z1⟩ := HC6.out
      have x1 := Below.cells (keep_trans HB7.out (keep_trans HB8.out (keep_trans HB9.out (keep_trans HB10.out HB11.out)))) x1
      have y1 := Below.cells (keep_trans HB7.out (keep_trans HB8.out (keep_trans HB9.out (keep_trans HB10.out HB11.out)))) y1
      have z1 := Below.cells (keep_trans HB7.out (keep_trans HB8.out (keep_trans HB9.out (keep_trans HB10.out HB11.out)))) z1
      go_wp2_with fail
      clear x1 y1 z1
      refine ((rfitN_any FB HF.out _ _ _ _ _ _ (NdAt.below (keep_trans HB6.out (keep_trans HB7.out (keep_trans HB8.out (keep_trans HB9.out (keep_trans HB10.out HB11.out))))) _ _ _ _ _ HN5.out) (Nat.le_trans (sz_box HK1.out _ 163) (by have := HS9.out; omega))).mono (fun _ _ h => by rw [(deep_same HRS.out).2, HDP.out] at h; exact h)).mono ?_
      rintro e v12 ⟨rfl, hb12⟩
      have HB12 := hide hb12
      clear hb12
      by_cases h0 : ks1.length = 0
      · skip
        have h0i : ((ks1.length : Nat) : Int) = 0 := by omega
        go_wp2_with fail
        refine (vawake_any _ (HT.out.below (keep_trans HB1.out (keep_trans HB2.out (keep_trans HB3.out (keep_trans HB4.out (keep_trans HB5.out (keep_trans HB6.out (keep_trans HB7.out (keep_trans HB8.out (keep_trans HB9.out (keep_trans HB10.out (keep_trans HB11.out HB12.out))))))))))))).mono ?_
        rintro e v13 ⟨rfl, hb13⟩
        have HB13 := hide hb13
        clear hb13
        go_wp2_with fail
        go_ret
        exact ⟨rfl, (keep_trans HB1.out (keep_trans HB2.out (keep_trans HB3.out (keep_trans HB4.out (keep_trans HB5.out (keep_trans HB6.out (keep_trans HB7.out (keep_trans HB8.out (keep_trans HB9.out (keep_trans HB10.out (keep_trans HB11.out (keep_trans HB12.out HB13.out))))))))))))⟩
      have h0i : (0 : Int) < (ks1.length : Int) := by omega
      have h0p : 0 < ks1.length := by omega
      have h0n : ¬ ((ks1.length : Nat) : Int) = 0 := by omega
      obtain ⟨i, HI⟩ : ∃ i, Hid (xa % ks1.length = i) := ⟨_, hide rfl⟩
      obtain ⟨j, HJ⟩ : ∃ j, Hid (xt % ks1.length = j) := ⟨_, hide rfl⟩
      have hi : i < ks1.length := by rw [← HI.out]; exact Nat.mod_lt _ h0p
      have hj : j < ks1.length := by rw [← HJ.out]; exact Nat.mod_lt _ h0p
      have ei : (xa : Int) % (ks1.length : Int) = (i : Int) := by rw [← HI.out]; simp
      have ej : (xt : Int) % (ks1.length : Int) = (j : Int) := by rw [← HJ.out]; simp
      obtain ⟨iN, hiN, hN0, hN1, hN2⟩ := info_node
      obtain ⟨cs, ac, cc, hce, -, -, htr, hnews⟩ := kids_trip (kids_old HK1.out)
      obtain ⟨rfl, -, rfl⟩ := Value.slice.inj hce
      have HTR := hide htr
      have HCL : Hid (cs.length = ks1.length * 3) := hide htr.1
      have HON := hide htr.cells
      have HLN2 := HLN.out
      have HNW := hide (show 0 < ks1.length → ∃ b off, a1 = some ⟨b, off, none⟩ ∧ ∀ j u, cs[j]? = some u → (v12.alloc (.cells #[] 28)).cell? ⟨b, off + j, none⟩ = some u from fun h => by
        obtain ⟨b, off, h1, h2⟩ := hnews h
        exact ⟨b, off, h1, fun j u hj => Below.cells (keep_trans (keep_trans HB1.out (keep_trans HB2.out (keep_trans HB3.out (keep_trans HB4.out (keep_trans HB5.out (keep_trans HB6.out (keep_trans HB7.out (keep_trans HB8.out (keep_trans HB9.out (keep_trans HB10.out (keep_trans HB11.out HB12.out))))))))))) (keep_alloc v12 _)) (h2 j u hj)⟩)
      have hsV := (keep_trans HB1.out (keep_trans HB2.out (keep_trans HB3.out (keep_trans HB4.out (keep_trans HB5.out (keep_trans HB6.out (keep_trans HB7.out (keep_trans HB8.out (keep_trans HB9.out (keep_trans HB10.out (keep_trans HB11.out HB12.out))))))))))).size
      clear hnews htr hce
      go_wp2_with (first
        | (at_builtin; refine wpList_append_rowsK _ rfl _ _ 26 rfl v12.heap.size 28 iN (.agg #[.int .i64 0, .slice none 0 0, .slice none 0 0]) 3 56 Tryz.underlying26 hiN hN0 hN1 hN2 rfl (by decide) _ _ _ rfl (own_mt3 v12) a1 ks1.length cap1 cs rfl HCL.out HNW.out HON.out (by unfold maxLen; omega) (by omega) (by simp) ?_; intro vm wm how hgm; have hbm : Below v12.heap.size v12 wm := below_rows (keep_alloc v12 _) (by simp) (own_mt3 v12) hgm; obtain ⟨g, cp, rfl, hc1, hc2, hgB, hK3⟩ := made_k3 HTR.out (keep_trans (keep_trans HB1.out (keep_trans HB2.out (keep_trans HB3.out (keep_trans HB4.out (keep_trans HB5.out (keep_trans HB6.out (keep_trans HB7.out (keep_trans HB8.out (keep_trans HB9.out (keep_trans HB10.out (keep_trans HB11.out HB12.out))))))))))) hbm) hsV how h0; have HK3 := hide hK3; clear how hgm hK3)
        | fail)
      clear hiN hN0 hN1 hN2 HNW HON HCL HTR
      go_quiet (fail)
      obtain ⟨x2, hx2⟩ : ∃ x2, x2 = wm.drewN nq := ⟨_, rfl⟩
      rw [← hx2]
      have hd2 : Below wm.heap.size wm x2 := by rw [hx2]; exact below_drewNs (Below.refl _ _) nq
      clear hx2
      replace HK3 := hide (HK3.out.below hd2)
      have hb2 : Below v12.heap.size v12 x2 := keep_trans hbm hd2
      clear hbm hd2
      obtain ⟨c0, c1, c2, q0, q1, q2, hni⟩ := HK3.out.at hi
      obtain ⟨e0, e1, e2, r0, r1, r2, hnj⟩ := HK3.out.at hj
      have HK4 := hide (HK3.out.swap hi hj hni hnj)
      obtain ⟨ti, ai, ni, pi, bi, mi, qi, rfl, rfl, rfl⟩ := hni.forms
      obtain ⟨tj, aj, nj, pj, bj, mj, qj, rfl, rfl, rfl⟩ := hnj.forms
      have f0 : x2.frozen? ⟨g, i * 3, none⟩ = false := HK3.out.frozen _
      have f1 : x2.frozen? ⟨g, i * 3 + 1, none⟩ = false := HK3.out.frozen _
      have f2 : x2.frozen? ⟨g, i * 3 + 2, none⟩ = false := HK3.out.frozen _
      have g0 : x2.frozen? ⟨g, j * 3, none⟩ = false := HK3.out.frozen _
      have g1' : x2.frozen? ⟨g, j * 3 + 1, none⟩ = false := HK3.out.frozen _
      have g2' : x2.frozen? ⟨g, j * 3 + 2, none⟩ = false := HK3.out.frozen _
      have HBX := hide (below_put3 (below_put3 hb2 hgB (i * 3) (.int .i64 tj) (.slice aj nj pj) (.slice bj mj qj)) hgB (j * 3) (.int .i64 ti) (.slice ai ni pi) (.slice bi mi qi))
      unfold put3 at HK4 HBX
      have hi2 : (i : Int) < (ks1.length : Int) := by omega
      have hj2 : (j : Int) < (ks1.length : Int) := by omega
      clear hni hnj hb2
      by_cases hij : i = j
      · skip
        subst hij
        simp only [q0, q1, q2, Option.some.injEq, Value.int.injEq, Value.slice.injEq, true_and] at r0 r1 r2
        obtain rfl := r0
        obtain ⟨rfl, rfl, rfl⟩ := r1
        obtain ⟨rfl, rfl, rfl⟩ := r2
        go_wp2
        go_region
        go_wp2_with fail
        have HK5 := hide (HK4.out.below (Below.refl _ _).drew)
        have hbx := HBX.out.drew
        clear HK4 HBX
        generalize (((((((x2.setCell ⟨g, i * 3, none⟩ (.int .i64 ti)).setCell ⟨g, i * 3 + 1, none⟩ (.slice ai ni pi)).setCell ⟨g, i * 3 + 2, none⟩ (.slice bi mi qi)).setCell ⟨g, i * 3, none⟩ (.int .i64 ti)).setCell ⟨g, i * 3 + 1, none⟩ (.slice ai ni pi)).setCell ⟨g, i * 3 + 2, none⟩ (.slice bi mi qi)).drew) = y1 at *
        have HB13 := hide hbx
        clear hbx
        have hkm := K3.kids (cap := cp) HK5.out (by rw [swapK_len]; exact hc1) (by unfold maxLen; omega)
        rw [swapK_len] at hkm
        refine ((set_any FB HF.out dd1 _ (swapK ks1 i i) _ hkm (sz_swap HEL.out (swapK_perm hi hi)) (by rw [perm_sum (szF dd1) (swapK_perm hi hi)]; exact HS9.out) (by rw [swapK_len]; exact HLN.out) (HT.out.below (keep_trans HB1.out (keep_trans HB2.out (keep_trans HB3.out (keep_trans HB4.out (keep_trans HB5.out (keep_trans HB6.out (keep_trans HB7.out (keep_trans HB8.out (keep_trans HB9.out (keep_trans HB10.out (keep_trans HB11.out (keep_trans HB12.out HB13.out)))))))))))))).mono (fun _ _ h => set_turn HRS.out (swapK_perm hi hi) h)).mono ?_
        rintro e v14 ⟨d14, t14, a14, n14, p14, b14, m14, q14, rfl, hn14, hb14⟩
        have HB14 := hide hb14
        clear hb14
        have HN14 := hide hn14
        clear hn14
        clear hkm
        have hA := keep_alloc v14 (.cells #[.int .i64 t14, .slice a14 n14 p14, .slice b14 m14 q14] 28)
        obtain ⟨x98, y98, z98⟩ := box_cell v14 (.int .i64 t14) (.slice a14 n14 p14) (.slice b14 m14 q14) 28
        obtain ⟨x99, y99, z99⟩ := HC4.out
        have x99 := Below.cells (keep_trans (keep_trans HB5.out (keep_trans HB6.out (keep_trans HB7.out (keep_trans HB8.out (keep_trans HB9.out (keep_trans HB10.out (keep_trans HB11.out (keep_trans HB12.out (keep_trans HB13.out HB14.out))))))))) hA) x99
        have y99 := Below.cells (keep_trans (keep_trans HB5.out (keep_trans HB6.out (keep_trans HB7.out (keep_trans HB8.out (keep_trans HB9.out (keep_trans HB10.out (keep_trans HB11.out (keep_trans HB12.out (keep_trans HB13.out HB14.out))))))))) hA) y99
        have z99 := Below.cells (keep_trans (keep_trans HB5.out (keep_trans HB6.out (keep_trans HB7.out (keep_trans HB8.out (keep_trans HB9.out (keep_trans HB10.out (keep_trans HB11.out (keep_trans HB12.out (keep_trans HB13.out HB14.out))))))))) hA) z99
        clear hA
        go_wp2_with fail
        clear x98 y98 z98 x99 y99 z99
        have hC15 := box_cell v14 (.int .i64 t14) (.slice a14 n14 p14) (.slice b14 m14 q14) 28
        have hb15 := keep_alloc v14 (.cells #[.int .i64 t14, .slice a14 n14 p14, .slice b14 m14 q14] 28)
        generalize v14.alloc (.cells #[.int .i64 t14, .slice a14 n14 p14, .slice b14 m14 q14] 28) = v15 at *
        have HC15 := hide hC15
        clear hC15
        have HB15 := hide hb15
        clear hb15
        refine ((rsame_der (NdAt.below HB15.out _ _ _ _ _ HN14.out) (NdAt.below (keep_trans HB4.out (keep_trans HB5.out (keep_trans HB6.out (keep_trans HB7.out (keep_trans HB8.out (keep_trans HB9.out (keep_trans HB10.out (keep_trans HB11.out (keep_trans HB12.out (keep_trans HB13.out (keep_trans HB14.out HB15.out))))))))))) _ _ _ _ _ HN3.out)).mono (fun _ _ h => SameE.true h rfl)).mono ?_
        rintro e v16 ⟨rfl, hb16⟩
        have HB16 := hide hb16
        clear hb16
        go_wp2_with fail
        refine (vawake_any _ (HT.out.below (keep_trans HB1.out (keep_trans HB2.out (keep_trans HB3.out (keep_trans HB4.out (keep_trans HB5.out (keep_trans HB6.out (keep_trans HB7.out (keep_trans HB8.out (keep_trans HB9.out (keep_trans HB10.out (keep_trans HB11.out (keep_trans HB12.out (keep_trans HB13.out (keep_trans HB14.out (keep_trans HB15.out HB16.out))))))))))))))))).mono ?_
        rintro e v17 ⟨rfl, hb17⟩
        have HB17 := hide hb17
        clear hb17
        go_wp2_with fail
        go_ret
        exact ⟨rfl, (keep_trans HB1.out (keep_trans HB2.out (keep_trans HB3.out (keep_trans HB4.out (keep_trans HB5.out (keep_trans HB6.out (keep_trans HB7.out (keep_trans HB8.out (keep_trans HB9.out (keep_trans HB10.out (keep_trans HB11.out (keep_trans HB12.out (keep_trans HB13.out (keep_trans HB14.out (keep_trans HB15.out (keep_trans HB16.out HB17.out))))))))))))))))⟩
      have n00' : ¬ i * 3 = j * 3 := by omega
      have m00' : ¬ j * 3 = i * 3 := by omega
      have n01' : ¬ i * 3 = j * 3 + 1 := by omega
      have m01' : ¬ j * 3 + 1 = i * 3 := by omega
      have n02' : ¬ i * 3 = j * 3 + 2 := by omega
      have m02' : ¬ j * 3 + 2 = i * 3 := by omega
      have n10' : ¬ i * 3 + 1 = j * 3 := by omega
      have m10' : ¬ j * 3 = i * 3 + 1 := by omega
      have n11' : ¬ i * 3 + 1 = j * 3 + 1 := by omega
      have m11' : ¬ j * 3 + 1 = i * 3 + 1 := by omega
      have n12' : ¬ i * 3 + 1 = j * 3 + 2 := by omega
      have m12' : ¬ j * 3 + 2 = i * 3 + 1 := by omega
      have n20' : ¬ i * 3 + 2 = j * 3 := by omega
      have m20' : ¬ j * 3 = i * 3 + 2 := by omega
      have n21' : ¬ i * 3 + 2 = j * 3 + 1 := by omega
      have m21' : ¬ j * 3 + 1 = i * 3 + 2 := by omega
      have n22' : ¬ i * 3 + 2 = j * 3 + 2 := by omega
      have m22' : ¬ j * 3 + 2 = i * 3 + 2 := by omega
      go_wp2
      go_region
      go_wp2_with fail
      have HK5 := hide (HK4.out.below (Below.refl _ _).drew)
      have hbx := HBX.out.drew
      clear HK4 HBX
      generalize (((((((x2.setCell ⟨g, i * 3, none⟩ (.int .i64 tj)).setCell ⟨g, i * 3 + 1, none⟩ (.slice aj nj pj)).setCell ⟨g, i * 3 + 2, none⟩ (.slice bj mj qj)).setCell ⟨g, j * 3, none⟩ (.int .i64 ti)).setCell ⟨g, j * 3 + 1, none⟩ (.slice ai ni pi)).setCell ⟨g, j * 3 + 2, none⟩ (.slice bi mi qi)).drew) = y1 at *
      have HB13 := hide hbx
      clear hbx
      have hkm := K3.kids (cap := cp) HK5.out (by rw [swapK_len]; exact hc1) (by unfold maxLen; omega)
      rw [swapK_len] at hkm
      refine ((set_any FB HF.out dd1 _ (swapK ks1 i j) _ hkm (sz_swap HEL.out (swapK_perm hi hj)) (by rw [perm_sum (szF dd1) (swapK_perm hi hj)]; exact HS9.out) (by rw [swapK_len]; exact HLN.out) (HT.out.below (keep_trans HB1.out (keep_trans HB2.out (keep_trans HB3.out (keep_trans HB4.out (keep_trans HB5.out (keep_trans HB6.out (keep_trans HB7.out (keep_trans HB8.out (keep_trans HB9.out (keep_trans HB10.out (keep_trans HB11.out (keep_trans HB12.out HB13.out)))))))))))))).mono (fun _ _ h => set_turn HRS.out (swapK_perm hi hj) h)).mono ?_
      rintro e v14 ⟨d14, t14, a14, n14, p14, b14, m14, q14, rfl, hn14, hb14⟩
      have HB14 := hide hb14
      clear hb14
      have HN14 := hide hn14
      clear hn14
      clear hkm
      have hA := keep_alloc v14 (.cells #[.int .i64 t14, .slice a14 n14 p14, .slice b14 m14 q14] 28)
      obtain ⟨x98, y98, z98⟩ := box_cell v14 (.int .i64 t14) (.slice a14 n14 p14) (.slice b14 m14 q14) 28
      obtain ⟨x99, y99, z99⟩ := HC4.out
      have x99 := Below.cells (keep_trans (keep_trans HB5.out (keep_trans HB6.out (keep_trans HB7.out (keep_trans HB8.out (keep_trans HB9.out (keep_trans HB10.out (keep_trans HB11.out (keep_trans HB12.out (keep_trans HB13.out HB14.out))))))))) hA) x99
      have y99 := Below.cells (keep_trans (keep_trans HB5.out (keep_trans HB6.out (keep_trans HB7.out (keep_trans HB8.out (keep_trans HB9.out (keep_trans HB10.out (keep_trans HB11.out (keep_trans HB12.out (keep_trans HB13.out HB14.out))))))))) hA) y99
      have z99 := Below.cells (keep_trans (keep_trans HB5.out (keep_trans HB6.out (keep_trans HB7.out (keep_trans HB8.out (keep_trans HB9.out (keep_trans HB10.out (keep_trans HB11.out (keep_trans HB12.out (keep_trans HB13.out HB14.out))))))))) hA) z99
      clear hA
      go_wp2_with fail
      clear x98 y98 z98 x99 y99 z99
      have hC15 := box_cell v14 (.int .i64 t14) (.slice a14 n14 p14) (.slice b14 m14 q14) 28
      have hb15 := keep_alloc v14 (.cells #[.int .i64 t14, .slice a14 n14 p14, .slice b14 m14 q14] 28)
      generalize v14.alloc (.cells #[.int .i64 t14, .slice a14 n14 p14, .slice b14 m14 q14] 28) = v15 at *
      have HC15 := hide hC15
      clear hC15
      have HB15 := hide hb15
      clear hb15
      refine ((rsame_der (NdAt.below HB15.out _ _ _ _ _ HN14.out) (NdAt.below (keep_trans HB4.out (keep_trans HB5.out (keep_trans HB6.out (keep_trans HB7.out (keep_trans HB8.out (keep_trans HB9.out (keep_trans HB10.out (keep_trans HB11.out (keep_trans HB12.out (keep_trans HB13.out (keep_trans HB14.out HB15.out))))))))))) _ _ _ _ _ HN3.out)).mono (fun _ _ h => SameE.true h rfl)).mono ?_
      rintro e v16 ⟨rfl, hb16⟩
      have HB16 := hide hb16
      clear hb16
      go_wp2_with fail
      refine (vawake_any _ (HT.out.below (keep_trans HB1.out (keep_trans HB2.out (keep_trans HB3.out (keep_trans HB4.out (keep_trans HB5.out (keep_trans HB6.out (keep_trans HB7.out (keep_trans HB8.out (keep_trans HB9.out (keep_trans HB10.out (keep_trans HB11.out (keep_trans HB12.out (keep_trans HB13.out (keep_trans HB14.out (keep_trans HB15.out HB16.out))))))))))))))))).mono ?_
      rintro e v17 ⟨rfl, hb17⟩
      have HB17 := hide hb17
      clear hb17
      go_wp2_with fail
      go_ret
      exact ⟨rfl, (keep_trans HB1.out (keep_trans HB2.out (keep_trans HB3.out (keep_trans HB4.out (keep_trans HB5.out (keep_trans HB6.out (keep_trans HB7.out (keep_trans HB8.out (keep_trans HB9.out (keep_trans HB10.out (keep_trans HB11.out (keep_trans HB12.out (keep_trans HB13.out (keep_trans HB14.out (keep_trans HB15.out (keep_trans HB16.out HB17.out))))))))))))))))⟩

set_option maxRecDepth 100000 in
theorem lifted (os : Os) (started : os.Started) (H : Type) (enc : TypeId × Value → H) :
    ReturnsInHanded {} Tryz.checked os 7 .any (fun w args => (Rows.valueFitSpec.pre enc Tryz.prog Tryz.f7 Rows.valueFitRow.domain false w args ∧ laidMetH Tryz.prog Rows.valueFitRow.laid w) ∧ sizedMet enc Tryz.prog Tryz.f7 (OpenSpec.ofChange Rows.valueFitSpec) false w args) (Rows.valueFitSpec.post enc Tryz.prog Tryz.f7 false true false false) := by
  refine change_laid_shaped (C := Tryz.checked) (X := fun w _ => laidMetH Tryz.prog Rows.valueFitRow.laid w) (fun _ _ _ hh h => h.of_heap hh) own started (by kernel_rfl) Tryz.func7
    (ChangeSpec.witness_shaped (enc := enc) (C := Tryz.checked) (os := os) (X := fun w _ => laidMetH Tryz.prog Rows.valueFitRow.laid w) false (World.laidAll Tryz.prog os Rows.valueFitRow.laid) #[.int .i64 0, .slice none 0 0, .int .u8 0, .int .u8 0] 8 (World.laidAll_os _ _ _)
      (World.shaped_of_ZipB (by kernel_rfl) (by kernel_rfl)) (by kernel_rfl) (by kernel_rfl) (by kernel_rfl)
      (by rw [MakeChecks.laidMetH_plain _ _ _ (by kernel_rfl)]; exact laidMet_laidAll _ (by kernel_rfl) (by kernel_rfl))) ?_
  intro W base args ds gs before hval0 hW hsz0 hL hsh
  have hVars : Vars W := vars_of_laid hL hsh
  have hval : ∀ (j : Nat) t v, Tryz.f7.params[j]? = some t → args[j]? = some v → Value.okWide Tryz.prog W .any base t v := hval0
  have hW' := hW
  obtain ⟨p, q, hA0, hV, rfl, hfz, hnd⟩ := hW
  have hA : DataW.TrodAll enc Tryz.prog W 0 (fun _ => true) true Tryz.f7.params.toList args.toList ds p := hA0
  rw [Tryz.params7] at hA hval
  obtain ⟨v0, vs0, d0, ds0, p0, q0, hargs, rfl, rfl, h0, r0⟩ := trodAll_cons hA
  obtain ⟨v1, vs1, d1, ds1, p1, q1, rfl, rfl, rfl, h1, r1⟩ := trodAll_cons r0
  obtain ⟨v2, vs2, d2, ds2, p2, q2, rfl, rfl, rfl, h2, r2⟩ := trodAll_cons r1
  obtain ⟨v3, vs3, d3, ds3, p3, q3, rfl, rfl, rfl, h3, r3⟩ := trodAll_cons r2
  obtain ⟨rfl, rfl, rfl⟩ := trodAll_nil r3
  obtain rfl : args = #[v0, v1, v2, v3] := by cases args; simp_all
  obtain ⟨rfl, rfl⟩ := trodVars_none hV
  obtain ⟨a0, rfl, rfl, rfl, w0⟩ := open_int Tryz.underlying2 (hval 0 2 v0 rfl rfl) h0
  obtain ⟨a1, len1, cap1, rfl⟩ := okWide_slice Tryz.underlying26 (hval 1 26 v1 rfl rfl)
  have k1 := h1
  have lt1 : ∀ x ∈ p1, x.block < W.heap.size := by obtain ⟨m, hm⟩ := k1; exact DataW.trod_lt m _ _ _ hm
  obtain ⟨dd1, ks1, w1⟩ : ∃ d ks, KidsAt (NdAt W d) W (.slice a1 len1 cap1) ks ∧ Tidy (.slice a1 len1 cap1) := by
    obtain ⟨fuel, hf⟩ := h1
    exact read_kids (by simpa [Value.cells] using hf)
  obtain ⟨a2, rfl, rfl, rfl, w2⟩ := open_int Tryz.underlying5 (hval 2 5 v2 rfl rfl) h2
  obtain ⟨a3, rfl, rfl, rfl, w3⟩ := open_int Tryz.underlying5 (hval 3 5 v3 rfl rfl) h3
  clear hA0 hval0
  refine (walk a0 a1 len1 cap1 dd1 ks1 a2 a3 W w0 w1 w2 w3 hVars).mono fun e W' ⟨he, bel⟩ => ?_
  subst he
  exact ⟨_, rfl, _, _, _, [], _, [], hW', trodAll_mk1 (shut_bool Tryz.underlying4 _), (trodAll_cons_mk (shut_int Tryz.underlying2 w0) (trodAll_cons_mk (Below.trod laidOut (by kernel_rfl) (of_decide_eq_true (by kernel_rfl)) k1 bel lt1) (trodAll_cons_mk (shut_int Tryz.underlying5 w2) (trodAll_cons_mk (shut_int Tryz.underlying5 w3) trodAll_mk0)))), rfl, bel.frame _, fun h => by cases h⟩

theorem over : Rows.valueFitRow.holds Tryz.pinned (OpenSpec.ofChange Rows.valueFitSpec) :=
  OpenClaim.holds_of_wide 7 Tryz.f7 rfl rfl rfl rfl rfl rfl rfl ⟨rfl, rfl, rfl, rfl, rfl⟩ rfl rfl rfl rfl rfl (by kernel_rfl) Tryz.func7 (by kernel_rfl)
    (of_decide_eq_true (by kernel_rfl)) (by unfold Func.isWrapper; first | (rw [if_pos (by decide +kernel)]; kernel_rfl) | (rw [if_neg (by decide +kernel)]; exact ⟨rfl, rfl⟩))
    (fun os started H enc _ => lifted os started H enc)

end Go.Proofs.YtlddpjcacnahmaaGreatDoor.valueFit
namespace Go.Proofs.YtlddpjcacnahmaaGreatDoor
theorem valueFit_card : Rows.ValueFitCardSaid :=
  Claim7.holds_tied_plain_at .later [] [.data, .pinned] true (true, "c0e721392a7b2804a856d21c0cd6dc3450823c10bf520f062ab1d682ea16459c") false
    valueFit.over (fun _ h => by cases h) (by kernel_rfl) (fun _ h => by cases h) valueFit_row_tie rfl ⟨rfl, rfl⟩ (by kernel_rfl) rfl
    (fun f fn hf hfn => by
      obtain rfl : f = 7 := Option.some.inj ((show Tryz.prog.funcNamed Tryz.f7.name = some 7 by kernel_rfl).symm.trans hf) |>.symm
      obtain rfl : fn = Tryz.f7 := (Option.some.inj (Tryz.func7.symm.trans hfn)).symm
      exact ⟨by kernel_rfl, fun j t ht => by
        rw [Tryz.params7] at ht
        have hm : t ∈ [2, 26, 5, 5] := by simpa using Array.mem_of_getElem? ht
        have hall : ([2, 26, 5, 5].all fun u => !Tryz.prog.wantsStandIn u) = true := by kernel_rfl
        exact (show Tryz.prog.wantsStandIn t = false by simpa using List.all_eq_true.1 hall t hm)⟩)
    (by kernel_rfl)
end Go.Proofs.YtlddpjcacnahmaaGreatDoor
