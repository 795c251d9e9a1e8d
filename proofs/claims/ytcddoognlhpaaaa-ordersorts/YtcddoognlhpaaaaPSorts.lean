/- For every two lists of texts and every two places: apostillelaw04.OrderSorts returns true, and each argument reads afterwards as it read before. No condition. -/
import Derived.Test.YtcddoognlhpaaaaFrameT
import Derived.Test.YtcddoognlhpaaaaPLaw
import Derived.WalkKit
import Derived.ProofKit
import Derived.OpenShut
import Derived.ShutString
import Derived.ChangeOld
import Derived.Below
namespace Go.Proofs.Ytcddoognlhpaaaa.orderSorts
open Go.ChangeShapes Go.WideShapes Go.ChangeAt Go.RowKit
open Go.ChangeMaps (open_string shut_string)
set_option linter.unusedVariables false

set_option maxHeartbeats 2000000 in
theorem walk (a0 : Option Addr) (len0 cap0 : Nat) (ls0 : List (List Nat)) (a1 : Option Addr) (len1 cap1 : Nat) (ls1 : List (List Nat)) (a2 : Int) (a3 : Int) (w : World) (w0 : Rows2 w (.slice a0 len0 cap0) ls0) (w1 : Rows2 w (.slice a1 len1 cap1) ls1) (w2 : (Lit.int .u8 a2).wf = true) (w3 : (Lit.int .u8 a3).wf = true) :
    Calls Try.prog 4 #[.slice a0 len0 cap0, .slice a1 len1 cap1, .int .u8 a2, .int .u8 a3] w fun e w' => e = .returned (.bool true) ∧ Below w.heap.size w w' := by
  obtain rfl := w0.len
  obtain rfl := w1.len
  obtain ⟨_, _, he0, h01, h02, _⟩ := w0.opens
  obtain ⟨_, _, he1, h11, h12, _⟩ := w1.opens
  clear he0 he1
  obtain ⟨xa, rfl⟩ := Int.eq_ofNat_of_zero_le (wf_u8 _ w2).1
  have hxa : xa < 256 := by have := (wf_u8 _ w2).2; omega
  obtain ⟨xt, rfl⟩ := Int.eq_ofNat_of_zero_le (wf_u8 _ w3).1
  have hxt : xt < 256 := by have := (wf_u8 _ w3).2; omega
  clear w2 w3
  have hf0 := few_any _ ls0 w w0
  go_enter Try.func4, Try.ntmps4
  go_wp2_with fail
  refine hf0.mono ?_
  rintro e wx ⟨b0, rfl, hfew0, rfl⟩
  cases b0 with
  | false =>
    go_wp2_with fail
    refine (awake_any _).mono ?_
    rintro e w2 ⟨rfl, hb2⟩
    go_wp2
    go_ret
    exact ⟨rfl, hb2⟩
  | true =>
    obtain ⟨hn0, hs0⟩ := hfew0 rfl
    go_wp2_with fail
    refine (few_any _ ls1 _ w1).mono ?_
    rintro e wx2 ⟨b1, rfl, hfew1, rfl⟩
    cases b1 with
    | false =>
      go_wp2_with fail
      refine (awake_any _).mono ?_
      rintro e w2 ⟨rfl, hb2⟩
      go_wp2
      go_ret
      exact ⟨rfl, hb2⟩
    | true =>
      obtain ⟨hn1, hs1⟩ := hfew1 rfl
      clear hfew0 hfew1 hf0
      have hS0 : Hid (∀ t ∈ ls0, t.length ≤ 1000000) := hide (fun t ht => by have := short_of hs0 t ht; omega)
      have hS1 : Hid (∀ t ∈ ls1, t.length ≤ 1000000) := hide (fun t ht => by have := short_of hs1 t ht; omega)
      clear hs0 hs1
      go_wp2_with fail
      refine (sort_any _ ls0 _ w0 (by omega) hS0.out).mono ?_
      rintro e w2 ⟨o2, rfl, q2, b2⟩
      go_wp2_with fail
      refine (sort_any _ ls1 _ (w1.below b2) (by omega) hS1.out).mono ?_
      rintro e w3 ⟨o3, rfl, q3, b3⟩
      obtain ⟨aa, ca, ha, _⟩ := q2.opens
      rw [sort_len] at ha
      subst ha
      have HS : Hid (SoS wx2 (.slice a0 ls0.length cap0) (.slice a1 ls1.length cap1) (.slice aa ls0.length ca) o3 ls0 ls1 w3) := hide ⟨keep_trans b2 b3, (w0.below b2).below b3, (w1.below b2).below b3, q2.below b3, q3⟩
      clear w0 w1 q2 q3 b2 b3
      go_wp2_with fail
      refine (rsorted_any _ (sortL ls0) _ HS.out.2.2.2.1).mono ?_
      rw [sorted_true (sort_sorted ls0)]
      rintro e w4 ⟨rfl, d4⟩
      replace HS := hide (HS.out.below d4.below)
      clear d4
      go_wp2_with fail
      refine (sorted_any _ (sortL ls0) _ HS.out.2.2.2.1).mono ?_
      rw [sorted_true (sort_sorted ls0)]
      rintro e w5 ⟨rfl, d5⟩
      replace HS := hide (HS.out.below d5.below)
      clear d5
      go_wp2_with fail
      refine (sort_any _ (sortL ls0) _ HS.out.2.2.2.1 (by rw [sort_len]; omega) (fun t ht => hS0.out t ((sort_perm ls0).subset ht))).mono ?_
      rintro e w6 ⟨o6, rfl, q6, b6⟩
      replace HS := hide (HS.out.below b6)
      clear b6
      go_wp2_with fail
      refine (rsame2_true _ _ _ _ _ q6 HS.out.2.2.2.1 (sort_id (sort_sorted ls0))).mono ?_
      rintro e w7 ⟨rfl, b7⟩
      replace HS := hide (HS.out.below b7)
      clear b7 q6
      go_wp2
      go_loopw [53] (fun i wr => ∃ k : Nat, k ≤ ls0.length ∧ i = .int .i64 k ∧ Hid (Drew w7 wr)) (fun i _ => ls0.length - (intOf i).toNat)
      case atStart => exact ⟨0, Nat.zero_le _, rfl, hide (Drew.refl _)⟩
      case round =>
        obtain ⟨k, hk, rfl, HQ⟩ := hrel
        by_cases hlt : k < ls0.length
        · have HR := hide (HS.out.below HQ.out.below)
          obtain ⟨ba, oa, rfl, hca⟩ := HR.out.2.1.all (by omega)
          obtain ⟨u1, c1, r1, _⟩ := hca k hlt
          have R1 := hide r1
          clear hca r1
          have hc := count_any _ u1 ls0 (tx ls0 k) wr HR.out.2.1 R1.out
          have hcb : Hid (cnt (sortL ls0) (tx ls0 k) = cnt ls0 (tx ls0 k)) := hide (cnt_perm (sort_perm ls0) _)
          go_wp2_with fail
          refine hc.mono ?_
          rintro e w8 ⟨rfl, d8⟩
          have hc2 := count_any _ u1 (sortL ls0) (tx ls0 k) w8 (HR.out.below d8.below).2.2.2.1 (R1.out.below d8.below)
          rw [hcb.out] at hc2
          clear hc
          go_wp2_with fail
          refine hc2.mono ?_
          rintro e w9 ⟨rfl, d9⟩
          clear hc2
          go_wp2
          go_roundw
          case rel => exact ⟨k + 1, by omega, by go_num, hide (by obtain ⟨n, rfl⟩ := d8; obtain ⟨n2, rfl⟩ := d9; exact (HQ.out.more n).more n2)⟩
          case measure => simp [intOf]; omega
        · replace HS := hide (HS.out.below HQ.out.below)
          clear HQ
          by_cases h0 : 0 < ls0.length
          · have h0i : (0 : Int) < (ls0.length : Int) := by omega
            have h0n : ¬ ((ls0.length : Nat) : Int) = 0 := by omega
            obtain ⟨i1, hj, hy0, hy1, hy2⟩ := info_text
            obtain ⟨us, p0, cq0, hv0, _, _, hT0, hN0⟩ := HS.out.2.1.texts
            simp at hv0
            obtain ⟨rfl, rfl⟩ := hv0
            obtain ⟨i, HI⟩ : ∃ i, Hid (xa % ls0.length = i) := ⟨_, hide rfl⟩
            obtain ⟨j, HJ⟩ : ∃ j, Hid (xt % ls0.length = j) := ⟨_, hide rfl⟩
            have hi : i < ls0.length := by rw [← HI.out]; exact Nat.mod_lt _ h0
            have hjl : j < ls0.length := by rw [← HJ.out]; exact Nat.mod_lt _ h0
            have ei : (xa : Int) % (ls0.length : Int) = (i : Int) := by rw [← HI.out]; simp
            have ej : (xt : Int) % (ls0.length : Int) = (j : Int) := by rw [← HJ.out]; simp
            go_wp2_with (first
              | (at_builtin; refine wpList_append_rows _ rfl _ _ 22 22 25 rfl Try.underlying22 wr.heap.size 25 i1 (.slice none 0 0) 24 Try.underlying22 hj hy0 hy1 hy2 rfl _ _ _ rfl (own_empty wr 25) a0 ls0.length cap0 us rfl hT0.1 (news_below hN0 (keep_alloc _ _)) hT0.cells (by unfold maxLen; omega) (by omega) (by simp) ?_; intro t1 x1 how1 hg1; rw [Nat.zero_add, List.nil_append] at how1; have bel1 := below_empty hg1; have hx1 := bel1.size)
              | fail)
            obtain ⟨g, capg, rfl, hgb, hgc, hgm⟩ := row_form how1 h0
            unfold maxLen at hgm
            clear hg1
            go_quiet (fail)
            obtain ⟨x2, hx2⟩ : ∃ x2, x2 = x1.drewN nq := ⟨_, rfl⟩
            rw [← hx2]
            have hd2 : Drew x1 x2 := ⟨nq, hx2⟩
            clear hx2
            have how2 := own_kept how1 hd2.below
            have bel2 := keep_trans bel1 hd2.below
            clear how1 bel1 hd2
            obtain ⟨_, eui, ⟨a1', k1', rfl, _⟩, _⟩ := hT0.2 i hi
            obtain ⟨_, euj, ⟨a2', k2', rfl, _⟩, _⟩ := hT0.2 j hjl
            generalize (tx ls0 i).length = n1' at *
            generalize (tx ls0 j).length = n2' at *
            have c1 : x2.cell? ⟨g, i, none⟩ = some (.slice a1' n1' k1') := by rw [how2.cellAt i (by omega)]; exact eui
            have c2 : x2.cell? ⟨g, j, none⟩ = some (.slice a2' n2' k2') := by rw [how2.cellAt j (by omega)]; exact euj
            have f1 := how2.frozenAt i
            have f2 := how2.frozenAt j
            have s1 := (how2.stored i (.slice a2' n2' k2')).1
            have c3 : (x2.setCell ⟨g, i, none⟩ (.slice a2' n2' k2')).cell? ⟨g, j, none⟩ = some (.slice a2' n2' k2') := by
              rw [s1.cellAt j (by omega), List.getElem?_set]
              split
              · rw [if_pos (by rw [hT0.1]; exact hi)]
              · exact euj
            have s2 := (s1.stored j (.slice a1' n1' k1')).1
            have bel3 : Below wr.heap.size wr ((x2.setCell ⟨g, i, none⟩ (.slice a2' n2' k2')).setCell ⟨g, j, none⟩ (.slice a1' n1' k1')) := (bel2.setCell (by simpa using hgb) _).setCell (by simpa using hgb) _
            have hT3 : Texts _ _ (swp ls0 i j) := (hT0.swp hi hjl eui euj).below bel3
            have hr3 := hT3.rows2 (by rw [swp_len]; exact s2)
            clear s1 s2 hT3 eui euj hN0
            go_wp2
            go_region
            go_wp2_with fail
            have hdw : Drew ((x2.setCell ⟨g, i, none⟩ (.slice a2' n2' k2')).setCell ⟨g, j, none⟩ (.slice a1' n1' k1')) ((x2.setCell ⟨g, i, none⟩ (.slice a2' n2' k2')).setCell ⟨g, j, none⟩ (.slice a1' n1' k1')).drew := ⟨1, rfl⟩
            replace HS := hide (HS.out.below (keep_trans bel3 hdw.below))
            refine (sort_any _ (swp ls0 i j) _ (hdw.rows hr3) (by rw [swp_len]; omega) (fun t ht => hS0.out t ((swp_perm hi hjl).subset ht))).mono ?_
            rintro e y1 ⟨oy, rfl, qy, by1⟩
            rw [sort_swp hi hjl] at qy
            replace HS := hide (HS.out.below by1)
            clear hr3 hdw bel3 bel2 c1 c2 c3 f1 f2 how2 by1 ei ej hj hy0 hy1 hy2 hT0
            go_wp2_with fail
            refine (rsame2_true _ _ _ _ _ qy HS.out.2.2.2.1 rfl).mono ?_
            rintro e y2 ⟨rfl, by2⟩
            replace HS := hide (HS.out.below by2)
            clear qy by2
            go_wp2_with fail
            refine (merge_any _ _ (sortL ls0) (sortL ls1) _ HS.out.2.2.2.1 HS.out.2.2.2.2 (by rw [sort_len, sort_len]; omega) (fun t ht => hS0.out t ((sort_perm ls0).subset ht)) (fun t ht => hS1.out t ((sort_perm ls1).subset ht))).mono ?_
            rintro e m1 ⟨om, rfl, qm, bm⟩
            rw [merge_sorts] at qm
            replace HS := hide (HS.out.below bm)
            clear bm
            obtain ⟨i1, hj, hy0, hy1, hy2⟩ := info_text
            obtain ⟨us, p0, cq0, hv0, _, _, hT0, hN0⟩ := HS.out.2.1.texts
            obtain ⟨vs, p1, cq1, hv1, _, _, hT1, hN1⟩ := HS.out.2.2.1.texts
            simp at hv0 hv1
            obtain ⟨rfl, rfl⟩ := hv0
            obtain ⟨rfl, rfl⟩ := hv1
            go_wp2_with (first
              | (at_builtin; refine wpList_append_rows _ rfl _ _ 22 22 25 rfl Try.underlying22 m1.heap.size 25 i1 (.slice none 0 0) 24 Try.underlying22 hj hy0 hy1 hy2 rfl _ _ _ rfl (own_empty m1 25) a0 ls0.length cap0 us rfl hT0.1 (news_below hN0 (keep_alloc _ _)) hT0.cells (by unfold maxLen; omega) (by omega) (by simp) ?_; intro t1 x1 how1 hg1; rw [Nat.zero_add, List.nil_append] at how1; have bel1 := below_empty hg1; have hx1 := bel1.size)
              | (at_builtin; refine wpList_append_rows _ rfl _ _ 22 22 25 rfl Try.underlying22 m1.heap.size 25 i1 (.slice none 0 0) 24 Try.underlying22 hj hy0 hy1 hy2 rfl _ _ _ rfl how1 a1 ls1.length cap1 vs rfl hT1.1 (news_below hN1 bel1) hT1.cells (by unfold maxLen; omega) (by omega) hx1 ?_; intro t2 x2 how2 hg2; have bel2 := below_append' bel1 hx1 how1 hg2)
              | fail)
            have hr2 : Rows2 x2 t2 (ls0 ++ ls1) := ((hT0.append hT1).below bel2).rows2 (by rw [List.length_append]; exact how2)
            refine (sort_any _ (ls0 ++ ls1) x2 hr2 (by rw [List.length_append]; omega) (fun t ht => by
              rcases List.mem_append.1 ht with h | h
              · exact hS0.out t h
              · exact hS1.out t h)).mono ?_
            rintro e x3 ⟨oz, rfl, qz, bz⟩
            clear how1 how2 hg1 hg2 hN0 hN1 hT0 hT1
            go_wp2_with fail
            refine (rsame2_true _ _ _ _ _ ((qm.below bel2).below bz) qz rfl).mono ?_
            rintro e x4 ⟨rfl, b4⟩
            go_wp2_with fail
            refine (awake_any _).mono ?_
            rintro e x5 ⟨rfl, b5⟩
            go_wp2
            go_ret
            exact ⟨rfl, keep_trans (keep_trans (keep_trans (keep_trans HS.out.1 bel2) bz) b4) b5⟩
          · have h0i : ¬ (0 : Int) < (ls0.length : Int) := by omega
            go_wp2_with fail
            refine (merge_any _ _ (sortL ls0) (sortL ls1) _ HS.out.2.2.2.1 HS.out.2.2.2.2 (by rw [sort_len, sort_len]; omega) (fun t ht => hS0.out t ((sort_perm ls0).subset ht)) (fun t ht => hS1.out t ((sort_perm ls1).subset ht))).mono ?_
            rintro e m1 ⟨om, rfl, qm, bm⟩
            rw [merge_sorts] at qm
            replace HS := hide (HS.out.below bm)
            clear bm
            obtain ⟨i1, hj, hy0, hy1, hy2⟩ := info_text
            obtain ⟨us, p0, cq0, hv0, _, _, hT0, hN0⟩ := HS.out.2.1.texts
            obtain ⟨vs, p1, cq1, hv1, _, _, hT1, hN1⟩ := HS.out.2.2.1.texts
            simp at hv0 hv1
            obtain ⟨rfl, rfl⟩ := hv0
            obtain ⟨rfl, rfl⟩ := hv1
            go_wp2_with (first
              | (at_builtin; refine wpList_append_rows _ rfl _ _ 22 22 25 rfl Try.underlying22 m1.heap.size 25 i1 (.slice none 0 0) 24 Try.underlying22 hj hy0 hy1 hy2 rfl _ _ _ rfl (own_empty m1 25) a0 ls0.length cap0 us rfl hT0.1 (news_below hN0 (keep_alloc _ _)) hT0.cells (by unfold maxLen; omega) (by omega) (by simp) ?_; intro t1 x1 how1 hg1; rw [Nat.zero_add, List.nil_append] at how1; have bel1 := below_empty hg1; have hx1 := bel1.size)
              | (at_builtin; refine wpList_append_rows _ rfl _ _ 22 22 25 rfl Try.underlying22 m1.heap.size 25 i1 (.slice none 0 0) 24 Try.underlying22 hj hy0 hy1 hy2 rfl _ _ _ rfl how1 a1 ls1.length cap1 vs rfl hT1.1 (news_below hN1 bel1) hT1.cells (by unfold maxLen; omega) (by omega) hx1 ?_; intro t2 x2 how2 hg2; have bel2 := below_append' bel1 hx1 how1 hg2)
              | fail)
            have hr2 : Rows2 x2 t2 (ls0 ++ ls1) := ((hT0.append hT1).below bel2).rows2 (by rw [List.length_append]; exact how2)
            refine (sort_any _ (ls0 ++ ls1) x2 hr2 (by rw [List.length_append]; omega) (fun t ht => by
              rcases List.mem_append.1 ht with h | h
              · exact hS0.out t h
              · exact hS1.out t h)).mono ?_
            rintro e x3 ⟨oz, rfl, qz, bz⟩
            clear how1 how2 hg1 hg2 hN0 hN1 hT0 hT1
            go_wp2_with fail
            refine (rsame2_true _ _ _ _ _ ((qm.below bel2).below bz) qz rfl).mono ?_
            rintro e x4 ⟨rfl, b4⟩
            go_wp2_with fail
            refine (awake_any _).mono ?_
            rintro e x5 ⟨rfl, b5⟩
            go_wp2
            go_ret
            exact ⟨rfl, keep_trans (keep_trans (keep_trans (keep_trans HS.out.1 bel2) bz) b4) b5⟩

set_option maxRecDepth 100000 in
theorem lifted (os : Os) (started : os.Started) (H : Type) (enc : TypeId × Value → H) :
    ReturnsInHanded {} Try.checked os 4 .any (Rows.orderSortsSpec.pre6 enc Try.prog Try.f4 Rows.orderSortsRow.domain false) (Rows.orderSortsSpec.post enc Try.prog Try.f4 false true false false) := by
  refine returnsInHanded_of_change (C := Try.checked) own started (by kernel_rfl) Try.func4
    (ChangeSpec.witness6 (enc := enc) (C := Try.checked) false ⟨#[], #[.slice none 0 0, .slice none 0 0, .int .u8 0, .int .u8 0], []⟩ 8 (by kernel_rfl) (by kernel_rfl) (by kernel_rfl) (by kernel_rfl)) ?_
  intro W base args ds gs before hval0 hW hcnd _
  have hval : ∀ (j : Nat) t v, Try.f4.params[j]? = some t → args[j]? = some v → Value.okWide Try.prog W .any base t v := hval0
  have hW' := hW
  obtain ⟨p, q, hA0, hV, rfl, hfz, hnd⟩ := hW
  have hA : DataW.TrodAll enc Try.prog W 0 (fun _ => true) true Try.f4.params.toList args.toList ds p := hA0
  rw [Try.params4] at hA hval
  obtain ⟨v0, vs0, d0, ds0, p0, q0, hargs, rfl, rfl, h0, r0⟩ := trodAll_cons hA
  obtain ⟨v1, vs1, d1, ds1, p1, q1, rfl, rfl, rfl, h1, r1⟩ := trodAll_cons r0
  obtain ⟨v2, vs2, d2, ds2, p2, q2, rfl, rfl, rfl, h2, r2⟩ := trodAll_cons r1
  obtain ⟨v3, vs3, d3, ds3, p3, q3, rfl, rfl, rfl, h3, r3⟩ := trodAll_cons r2
  obtain ⟨rfl, rfl, rfl⟩ := trodAll_nil r3
  obtain rfl : args = #[v0, v1, v2, v3] := by cases args; simp_all
  obtain ⟨rfl, rfl⟩ := trodVars_none hV
  obtain ⟨a0, len0, cap0, rfl⟩ := okWide_slice Try.underlying22 (hval 0 22 v0 rfl rfl)
  have k0 := h0
  have lt0 : ∀ x ∈ p0, x.block < W.heap.size := by obtain ⟨m, hm⟩ := k0; exact DataW.trod_lt m _ _ _ hm
  obtain ⟨ls0, w0⟩ : ∃ ls, Rows2 W (.slice a0 len0 cap0) ls := by
    obtain ⟨fuel, hf⟩ := h0
    exact read_texts (by simpa [Value.cells] using hf)
  obtain ⟨a1, len1, cap1, rfl⟩ := okWide_slice Try.underlying22 (hval 1 22 v1 rfl rfl)
  have k1 := h1
  have lt1 : ∀ x ∈ p1, x.block < W.heap.size := by obtain ⟨m, hm⟩ := k1; exact DataW.trod_lt m _ _ _ hm
  obtain ⟨ls1, w1⟩ : ∃ ls, Rows2 W (.slice a1 len1 cap1) ls := by
    obtain ⟨fuel, hf⟩ := h1
    exact read_texts (by simpa [Value.cells] using hf)
  obtain ⟨a2, rfl, rfl, rfl, w2⟩ := open_int Try.underlying5 (hval 2 5 v2 rfl rfl) h2
  obtain ⟨a3, rfl, rfl, rfl, w3⟩ := open_int Try.underlying5 (hval 3 5 v3 rfl rfl) h3
  clear hA0 hval0
  refine (walk a0 len0 cap0 ls0 a1 len1 cap1 ls1 a2 a3 W w0 w1 w2 w3).mono fun e W' ⟨he, bel⟩ => ?_
  subst he
  exact ⟨_, rfl, _, _, _, [], _, [], hW', trodAll_mk1 (shut_bool Try.underlying4 _), (trodAll_cons_mk (Below.trod laidOut (by kernel_rfl) (of_decide_eq_true (by kernel_rfl)) k0 bel lt0) (trodAll_cons_mk (Below.trod laidOut (by kernel_rfl) (of_decide_eq_true (by kernel_rfl)) k1 bel lt1) (trodAll_cons_mk (shut_int Try.underlying5 w2) (trodAll_cons_mk (shut_int Try.underlying5 w3) trodAll_mk0)))), rfl, bel.frame _, fun h => by cases h⟩

theorem over : Rows.orderSortsRow.holds Try.pinned (OpenSpec.ofChange Rows.orderSortsSpec) :=
  OpenClaim.holds_of_wide 4 Try.f4 rfl rfl rfl rfl rfl rfl rfl ⟨rfl, rfl, rfl, rfl, rfl⟩ rfl rfl rfl rfl rfl (by kernel_rfl) Try.func4 (by kernel_rfl)
    (of_decide_eq_true (by kernel_rfl)) (by unfold Func.isWrapper; first | (rw [if_pos (by decide +kernel)]; kernel_rfl) | (rw [if_neg (by decide +kernel)]; exact ⟨rfl, rfl⟩))
    (fun os started H enc _ => lifted os started H enc)

end Go.Proofs.Ytcddoognlhpaaaa.orderSorts
namespace Go.Proofs.Ytcddoognlhpaaaa
theorem orderSorts_holds : Rows.OrderSortsSaid := orderSorts.over
end Go.Proofs.Ytcddoognlhpaaaa
