/- For every text: apostillelaw07.ShaFills returns true, and each argument reads afterwards as it read before; sha's two tables of roots are as the program's text lays them. No other condition. -/
import Derived.Test.YtgdcpdbmacmheaaDoorHPlF
import Derived.Test.YtgdcpdbmacmheaaDoorHTop
import Derived.WalkKit
import Derived.ProofKit
import Derived.OpenShut
import Derived.ShutString
import Derived.ChangeOld
import Derived.Below
namespace Go.Proofs.YtgdcpdbmacmheaaDoor.shaFills
open Go.ChangeShapes Go.WideShapes Go.ChangeAt Go.RowKit
open Go.ChangeMaps (open_string shut_string)
set_option linter.unusedVariables false

set_option maxRecDepth 100000 in
set_option maxHeartbeats 4000000 in
theorem walk (a0 : Option Addr) (len0 cap0 : Nat) (z0 : List Int) (w : World) (w0 : IsRow .u8 w a0 len0 cap0 z0) (hV : Vars w) :
    Calls Tryd.prog 6 #[.slice a0 len0 cap0] w fun e w' => e = .returned (.bool true) ∧ Below w.heap.size w w' := by
  have htd := isRow_tidy w0
  obtain ⟨l, rfl, hr⟩ := w0.row wf_u8
  clear w0
  have hT : Roots w := hV
  have hcap : l.length ≤ cap0 := by obtain ⟨_, _, he, h1, _⟩ := hr; simp at he; omega
  by_cases h1 : 600 < l.length
  · have h1i : (600 : Int) < (l.length : Int) := by omega
    go_enter Tryd.func6, Tryd.ntmps6
    go_wp2_with fail
    refine (awake_any _ hT).mono ?_
    rintro e w1 ⟨rfl, hb⟩
    go_wp2_with fail
    go_ret
    exact ⟨rfl, hb⟩
  · have h1i : ¬ (600 : Int) < (l.length : Int) := by omega
    have hnew := new_1 w hT
    unfold hv at hnew
    go_enter Tryd.func6, Tryd.ntmps6
    go_wp2_with fail
    refine hnew.mono ?_
    rintro e w1 ⟨rfl, hb1⟩
    clear hnew
    have hE8 : (ini 1).length = 8 := by decide
    have hEu : Under 4294967296 (ini 1) := dec_under (by decide)
    generalize hE : ini 1 = E at *
    have HE := hide hE
    clear hE
    obtain ⟨i0, hi, hz0, hz1, hz2⟩ := info_parts Tryd.info5
    have hH0 : Hb (w1.alloc (.cells #[.int .i64 1, .int .u64 (el E 0), .int .u64 (el E 1), .int .u64 (el E 2), .int .u64 (el E 3), .int .u64 (el E 4), .int .u64 (el E 5), .int .u64 (el E 6), .int .u64 (el E 7), .slice none 0 0, .int .u64 0] 26)) w1.heap.size 1 E (.slice none 0 0) 0 := Hb.new w1 1 E (.slice none 0 0) 0
    have hH1 := hH0.below (keep_alloc _ (.cells #[.int .u8 128] 5))
    have hw1 : Below w.heap.size w ((w1.alloc (.cells #[.int .i64 1, .int .u64 (el E 0), .int .u64 (el E 1), .int .u64 (el E 2), .int .u64 (el E 3), .int .u64 (el E 4), .int .u64 (el E 5), .int .u64 (el E 6), .int .u64 (el E 7), .slice none 0 0, .int .u64 0] 26)).alloc (.cells #[.int .u8 128] 5)) := keep_trans hb1 (keep_trans (keep_alloc _ _) (keep_alloc _ _))
    have hO1 : ((w1.alloc (.cells #[.int .i64 1, .int .u64 (el E 0), .int .u64 (el E 1), .int .u64 (el E 2), .int .u64 (el E 3), .int .u64 (el E 4), .int .u64 (el E 5), .int .u64 (el E 6), .int .u64 (el E 7), .slice none 0 0, .int .u64 0] 26)).alloc (.cells #[.int .u8 128] 5)).ownsRow (w1.heap.size + 1) 5 1 (.slice (some ⟨w1.heap.size + 1, 0, none⟩) 1 1) 1 (vals .u8 ([128] ++ List.replicate 0 0)) := by
      have := one_own 5 .u8 256 128 (w1.alloc (.cells #[.int .i64 1, .int .u64 (el E 0), .int .u64 (el E 1), .int .u64 (el E 2), .int .u64 (el E 3), .int .u64 (el E 4), .int .u64 (el E 5), .int .u64 (el E 6), .int .u64 (el E 7), .slice none 0 0, .int .u64 0] 26)) (w1.heap.size + 1) (by simp)
      rw [World.size_alloc] at this
      exact this
    go_wp2_with fail
    generalize (w1.alloc (.cells #[.int .i64 1, .int .u64 (el E 0), .int .u64 (el E 1), .int .u64 (el E 2), .int .u64 (el E 3), .int .u64 (el E 4), .int .u64 (el E 5), .int .u64 (el E 6), .int .u64 (el E 7), .slice none 0 0, .int .u64 0] 26)).alloc (.cells #[.int .u8 128] 5) = x1 at *
    have hHb : ∀ wr, Below (w1.heap.size + 1) x1 wr → Hb wr w1.heap.size 1 E (.slice none 0 0) 0 := fun wr hb => (hb.block _ (by omega)).trans hH1
    have hx1 : w1.heap.size + 1 ≤ x1.heap.size := hH1.lt
    have hrm : room false l.length - 8 < 64 ∧ (l.length + 1 + (room false l.length - 8)) % 64 = 56 := by
      have h64 : bz false = 64 := rfl
      unfold room
      rw [h64]
      split <;> omega
    obtain ⟨Z, hZ⟩ : ∃ Z, Z = room false l.length - 8 := ⟨_, rfl⟩
    rw [← hZ] at hrm
    go_loopw [5] (fun v wr => ∃ j : Nat, j ≤ Z ∧ slen v = 1 + j ∧ wr.ownsRow (w1.heap.size + 1) 5 1 v (1 + j) (vals .u8 ([128] ++ List.replicate j 0)) ∧ Below (w1.heap.size + 1) x1 wr) (fun v _ => 300 - slen v)
    case atStart => exact ⟨0, Nat.zero_le _, rfl, hO1, Below.refl _ _⟩
    case round =>
      obtain ⟨j, hj, hsl, how, hbr⟩ := hrel
      have hsz1 : w1.heap.size + 1 ≤ wr.heap.size := Nat.le_trans hx1 hbr.size
      obtain ⟨g, cg, rfl, hgB, hgc, hgm⟩ := row_form how (by omega)
      by_cases hjz : j = Z
      · have hcd : (((l.length : Int) + (1 + (j : Int))) % 64 != 56) = false := by rw [bne_eq_false_iff_eq]; omega
        have HJ := hide hjz
        clear hjz
        have hwl : IntKind.u64.wrap (l.length : Int) = (l.length : Int) := by rw [IntKind.wrap_u64]; omega
        obtain ⟨bs, hbs⟩ : ∃ bs, bs = 8 * l.length := ⟨_, rfl⟩
        have hm8 : (l.length : Int) * 8 = (bs : Int) := by omega
        have hbw8 : IntKind.u64.wrap (bs : Int) = (bs : Int) := by rw [IntKind.wrap_u64]; omega
        have hbe := fun w' => rbe_any bs 8 w' (by omega) (by decide) (by decide)
        have HBS := hide hbs
        clear hbs
        have hl8 : (leL bs 8).length = 8 := leL_len bs 8
        rw [leS_8] at hbe
        generalize hB8 : (leL bs 8).reverse = B8 at *
        have hB8l : B8.length = 8 := by rw [← hB8, List.length_reverse, hl8]
        have HB8 := hide hB8
        clear hB8 hl8
        go_wp2_with (first
          | (go_at_call 22; refine (hbe _).mono ?_; rintro e w2 ⟨v2, rfl, hO2, hb2⟩; obtain ⟨g2, c2, rfl, hg2, hn2⟩ := own_news hO2 8 hB8l (by decide); have how2 := own_below how hb2)
          | (at_builtin; refine wpList_append_own _ rfl _ _ 22 rfl (w1.heap.size + 1) 5 i0 (.int .u8 0) 1 1 Tryd.underlying22 hi hz0 hz1 hz2 rfl (by decide) _ _ _ rfl how2 ⟨g2, 0, none⟩ 8 c2 (vals .u8 B8) rfl (by rw [vals_length, hB8l]) hn2 (vals_one _ _) (by unfold maxLen; omega) (by omega) (by have := hb2.size; omega) ?_; intro v3 w3 how3 hgrow3 _; have hb3 := below_append' (hbr.trans (hb2.mono hsz1)) (by have := hb2.size; omega) how2 hgrow3; obtain ⟨z0, z1, z2, z3, z4, z5, z6, z7, z8, z9, z10⟩ := (hHb w3 hb3).all)
          | fail)
        clear z0 z1 z2 z3 z4 z5 z6 z7 z8 z9 z10
        have hbw3 : Below w.heap.size w w3 := hw1.trans (hb3.mono (by have := hb1.size; omega))
        have hP : [128] ++ List.replicate j 0 ++ B8 = fill false l.length l.length := by
          rw [← HB8.out, HBS.out]
          exact fill_law l.length j (by omega) (by rw [HJ.out]; exact hrm.2) (by rw [HJ.out]; exact hrm.1)
        have hO3 : Own 5 .u8 256 w3 (w1.heap.size + 1) v3 ([128] ++ List.replicate j 0 ++ B8) := by
          refine ⟨?_, (Under.append (dec_under (by decide)) (Under.replicate _ _ (by decide))).append hO2.2⟩
          rw [vals_append, List.length_append, hB8l, List.length_append, List.length_replicate]
          exact how3
        rw [hP] at hO3
        have hFl : (fill false l.length l.length).length ≤ 100 := by
          rw [← hP, List.length_append, hB8l, List.length_append, List.length_replicate]
          show 1 + j + 8 ≤ 100
          omega
        have hlf := left_fill l l.length
        have HS : Hid (endS (wide 1) (ini 1) l l.length (outn 1) = bytesW false (eat false E (l ++ fill false l.length l.length))) := by
          apply hide
          have e1 : wide 1 = false := rfl
          have e2 : outn 1 = 32 := rfl
          rw [e1, e2, HE.out]
          unfold endS
          exact List.take_of_length_le (by rw [bytesW_len, eat_len _ hE8]; decide)
        generalize fill false l.length l.length = F at *
        have e1 := eat_parts false E l F
        have e2 := left_parts false l F
        rw [hlf] at e2
        have hX8 : (eat false E (l ++ F)).length = 8 := eat_len _ hE8
        have hXu : Under 4294967296 (eat false E (l ++ F)) := eat_under (b := false) _ hEu
        have hH8 : (eat false E l).length = 8 := eat_len _ hE8
        have hHu : Under 4294967296 (eat false E l) := eat_under (b := false) _ hEu
        have hTl : (left false l).length = l.length % bz (wide 1) := left_length false l
        have hadd1 := sAdd_any 1 E (.slice none 0 0) _ [] l 0 w3 (hT.below hbw3) hE8 (Row.mono_u64 (m := 0) hEu) (Row.nil _ _ _) tidy_nil (hr.below hbw3) htd (by omega) (hfit_mk hE8 (.inl rfl) (by decide) rfl hEu) (by decide)
        have hw1f : wide 1 = false := rfl
        rw [List.nil_append, Nat.zero_add, hw1f] at hadd1
        unfold hv at hadd1
        generalize eat false E (l ++ F) = X at *
        generalize eat false E l = H1 at *
        generalize left false l = T1 at *
        have HX := hide e1
        have HL := hide e2
        have HTl := hide hTl
        have HP := hide hP
        clear e1 e2 hTl hP hlf how3 hgrow3 hn2 hO2 how2 how
        refine hadd1.mono ?_
        rintro e w4 ⟨v4, rfl, hR4, hT4, hb4⟩
        clear hadd1
        have hbw4 := keep_trans hbw3 hb4
        have hadd2 := sAdd_any 1 H1 v4 v3 T1 F l.length w4 (hT.below hbw4) hH8 (Row.mono_u64 (m := 0) hHu) hR4 hT4 (hO3.row.below hb4) hO3.tidy (by omega) (hfit_mk hH8 (.inl rfl) (by omega) HTl.out hHu) (by omega)
        rw [hw1f, ← HX.out, ← HL.out] at hadd2
        unfold hv at hadd2
        go_wp2_with fail
        refine hadd2.mono ?_
        rintro e w5 ⟨v5, rfl, hR5, hT5, hb5⟩
        clear hadd2
        obtain ⟨a5, c5, hv5⟩ := hR5.form
        have hv5' : v5 = .slice a5 0 c5 := hv5
        subst hv5'
        clear hv5
        generalize l.length + F.length = N at *
        have hbw5 := keep_trans hbw4 hb5
        have hH6 := Hb.new w5 1 X (.slice a5 0 c5) N
        have hb6 := keep_trans hbw5 (keep_alloc w5 (.cells #[.int .i64 1, .int .u64 (el X 0), .int .u64 (el X 1), .int .u64 (el X 2), .int .u64 (el X 3), .int .u64 (el X 4), .int .u64 (el X 5), .int .u64 (el X 6), .int .u64 (el X 7), .slice a5 0 c5, .int .u64 N] 26))
        have hsum := sum_1 _ l _ (hT.below hb6) (hr.below hb6) htd (by omega)
        rw [HS.out] at hsum
        go_wp2_with fail
        refine hsum.mono ?_
        rintro e w7 ⟨v7, rfl, hO7, hb7⟩
        clear hsum
        have hS32 : (bytesW false X).length = 32 := by rw [bytesW_len, hX8]
        obtain ⟨g7, c7, rfl, hB7, hn7⟩ := own_news hO7 32 hS32 (by decide)
        have hH7 := hH6.below hb7
        have hb8 := keep_trans hb6 hb7
        have c7b : 32 ≤ c7 := by
          obtain ⟨_, _, he, h1, _⟩ := hO7.row
          simp at he
          rw [hS32] at h1
          omega
        have z9 := hH7.tail
        clear hn7 hb7 hB7 hH6 hb6 hb5 hb4
        have hR7 := hO7.row
        generalize w5.heap.size = q at *
        go_wp2
        go_loopw [63] (fun i wr => ∃ (k n : Nat), k ≤ 8 ∧ i = .int .i64 k ∧ wr = w7.drewN n) (fun i _ => 8 - (intOf i).toNat)
        case atStart => exact ⟨0, 0, Nat.zero_le _, rfl, rfl⟩
        case round =>
          obtain ⟨k, n, hk, rfl, rfl⟩ := hrel
          by_cases hlt : k < 8
          · have hm := fun (wz : World) (hz : Row .u8 256 wz (.slice (some ⟨g7, 0, none⟩) 32 c7) (bytesW false X)) => hz.mid (i := 4 * k) (j := 4 * k + 4) (by omega) (by rw [hS32]; omega)
            have hwn := word_num X k (by omega) hXu
            obtain ⟨K, hK⟩ : ∃ K, K = 4 * k := ⟨_, rfl⟩
            obtain ⟨K4, hK4⟩ : ∃ K4, K4 = K + 4 := ⟨_, rfl⟩
            have hnum : ∀ n, Calls Tryd.prog 23 #[.slice (some ⟨g7, K, none⟩) 4 (c7 - K)] (w7.drewN n) fun e w' => e = .returned (.int .u64 (el X k)) ∧ w' = w7.drewN n := fun n => by
              have h := hm _ (hR7.drewN n)
              rw [show 4 * k + 4 - 4 * k = 4 by omega, Nat.zero_add] at h
              have h2 := rnum_any _ _ _ h
              rw [hwn] at h2
              rw [hK]
              exact h2
            have ck : w7.cell? ⟨q, 1 + k, none⟩ = some (.int .u64 (el X k)) := Hb.word hH7 hlt
            have ik0 : (0 : Int) ≤ (k : Int) := Int.natCast_nonneg _
            have ik1 : (k : Int) < 8 := by omega
            have x1 : 4 * (k : Int) = (K : Int) := by omega
            have x2 : (K : Int) + 4 = (K4 : Int) := by omega
            have x3 : IntKind.i64.wrap (K : Int) = (K : Int) := by rw [IntKind.wrap_i64]; omega
            have x4 : IntKind.i64.wrap (K4 : Int) = (K4 : Int) := by rw [IntKind.wrap_i64]; omega
            have x5 : (K4 : Int) ≤ (c7 : Int) := by omega
            have x5n : K4 ≤ c7 := by omega
            have x6 : (K : Int) ≤ (K4 : Int) := by omega
            have x6n : K ≤ K4 := by omega
            have x7 : max (K4 : Int) 0 = (K4 : Int) := by omega
            have x8 : K4 - K = 4 := by omega
            have x9 : ¬ c7 = K := by omega
            have HK := hide hK
            have HK4 := hide hK4
            clear hwn hm hK hK4
            go_wp2
            go_quiet (exact (hnum _).mono (by rintro e w' ⟨rfl, rfl⟩; exact ⟨rfl, _, rfl⟩))
            go_wp2
            exact ⟨⟨k + 1, _, by omega, by go_num, rfl⟩, by simp [intOf]; omega⟩
          · go_wp2_with fail
            refine (awake_any _ (hT.below (bel_drewN hb8 n))).mono ?_
            rintro e w9 ⟨rfl, hb9⟩
            go_wp2_with fail
            go_ret
            exact ⟨rfl, keep_trans (bel_drewN hb8 n) hb9⟩
      · have hcd : (((l.length : Int) + (1 + (j : Int))) % 64 != 56) = true := by
          rw [bne_iff_ne]
          intro h
          omega
        go_wp2_with (first
          | (at_builtin; refine wpList_append_own _ rfl _ _ 22 rfl (w1.heap.size + 1) 5 i0 (.int .u8 0) 1 1 Tryd.underlying22 hi hz0 hz1 hz2 rfl (by decide) _ _ _ rfl (how.alloc _) ⟨wr.heap.size, 0, none⟩ 1 1 (vals .u8 [0]) rfl rfl (app_cells wr .u8 0 _ _ rfl) (vals_one _ _) (by unfold maxLen; omega) (by omega) (by simp; omega) ?_; intro v4 w4 how4 hgrow4 _; have hb4 := below_append hbr hsz1 how _ hgrow4)
          | fail)
        have he4 : [128] ++ List.replicate (j + 1) 0 = ([128] ++ List.replicate j 0) ++ [0] := by rw [List.replicate_succ', List.append_assoc]
        have hs4 : slen v4 = 1 + (j + 1) := by
          obtain ⟨g4, c4, rfl, _⟩ := row_form how4 (by omega)
          show 1 + j + 1 = 1 + (j + 1); omega
        have hr4 : ∃ j : Nat, j ≤ Z ∧ slen v4 = 1 + j ∧ w4.ownsRow (w1.heap.size + 1) 5 1 v4 (1 + j) (vals .u8 ([128] ++ List.replicate j 0)) ∧ Below (w1.heap.size + 1) x1 w4 :=
          ⟨j + 1, by omega, hs4, by rw [he4, vals_append, show 1 + (j + 1) = 1 + j + 1 by omega]; exact how4, hb4⟩
        first
          | exact ⟨hr4, by rw [hs4]; simp [slen]; omega⟩
          | (go_roundw
             case rel => exact hr4
             case measure => rw [hs4]; simp [slen]; omega)

set_option maxRecDepth 100000 in
theorem lifted (os : Os) (started : os.Started) (H : Type) (enc : TypeId × Value → H) :
    ReturnsInHanded {} Tryd.checked os 6 .any (fun w args => (Rows.shaFillsSpec.pre enc Tryd.prog Tryd.f6 Rows.shaFillsRow.domain false w args ∧ laidMetH Tryd.prog Rows.shaFillsRow.laid w) ∧ sizedMet enc Tryd.prog Tryd.f6 (OpenSpec.ofChange Rows.shaFillsSpec) false w args) (Rows.shaFillsSpec.post enc Tryd.prog Tryd.f6 false true false false) := by
  refine change_laid_shaped (C := Tryd.checked) (X := fun w _ => laidMetH Tryd.prog Rows.shaFillsRow.laid w) (fun _ _ _ hh h => h.of_heap hh) own started (by kernel_rfl) Tryd.func6
    (ChangeSpec.witness_shaped (enc := enc) (C := Tryd.checked) (os := os) (X := fun w _ => laidMetH Tryd.prog Rows.shaFillsRow.laid w) false (World.laidAll Tryd.prog os Rows.shaFillsRow.laid) #[.slice none 0 0] 8 (World.laidAll_os _ _ _)
      (World.shaped_of_ZipB (by kernel_rfl) (by kernel_rfl)) (by kernel_rfl) (by kernel_rfl) (by kernel_rfl)
      (by rw [MakeChecks.laidMetH_plain _ _ _ (by kernel_rfl)]; exact laidMet_laidAll _ (by kernel_rfl) (by kernel_rfl))) ?_
  intro W base args ds gs before hval0 hW hsz0 hL hsh
  have hVars : Vars W := vars_of_laid hL hsh
  have hval : ∀ (j : Nat) t v, Tryd.f6.params[j]? = some t → args[j]? = some v → Value.okWide Tryd.prog W .any base t v := hval0
  have hW' := hW
  obtain ⟨p, q, hA0, hV, rfl, hfz, hnd⟩ := hW
  have hA : DataW.TrodAll enc Tryd.prog W 0 (fun _ => true) true Tryd.f6.params.toList args.toList ds p := hA0
  rw [Tryd.params6] at hA hval
  obtain ⟨v0, vs0, d0, ds0, p0, q0, hargs, rfl, rfl, h0, r0⟩ := trodAll_cons hA
  obtain ⟨rfl, rfl, rfl⟩ := trodAll_nil r0
  obtain rfl : args = #[v0] := by cases args; simp_all
  obtain ⟨rfl, rfl⟩ := trodVars_none hV
  obtain ⟨a0, len0, cap0, rfl⟩ := okWide_slice Tryd.underlying22 (hval 0 22 v0 rfl rfl)
  have k0 := h0
  have lt0 : ∀ x ∈ p0, x.block < W.heap.size := by obtain ⟨m, hm⟩ := k0; exact DataW.trod_lt m _ _ _ hm
  obtain ⟨z0, w0⟩ : ∃ zs, IsRow .u8 W a0 len0 cap0 zs := by
    obtain ⟨fuel, hf⟩ := h0
    rcases open_ints Tryd.underlying22 Tryd.underlying5 (by kernel_rfl) hf with ⟨hcs, _⟩ | ⟨x, l, c, zs, hcs, _, hl, hm, hz, _, hcell, hwz⟩
    · simp [Value.cells] at hcs
      obtain ⟨rfl, rfl, rfl⟩ := hcs
      exact ⟨[], .inl ⟨rfl, rfl, rfl, rfl⟩⟩
    · simp [Value.cells] at hcs
      obtain ⟨rfl, rfl, rfl⟩ := hcs
      exact ⟨zs, .inr ⟨_, rfl, hl, hm, by simpa using hz, hcell, hwz⟩⟩
  clear hA0 hval0
  refine (walk a0 len0 cap0 z0 W w0 hVars).mono fun e W' ⟨he, bel⟩ => ?_
  subst he
  exact ⟨_, rfl, _, _, _, [], _, [], hW', trodAll_mk1 (shut_bool Tryd.underlying4 _), (trodAll_cons_mk (Below.trod laidOut (by kernel_rfl) (of_decide_eq_true (by kernel_rfl)) k0 bel lt0) trodAll_mk0), rfl, bel.frame _, fun h => by cases h⟩

theorem over : Rows.shaFillsRow.holds Tryd.pinned (OpenSpec.ofChange Rows.shaFillsSpec) :=
  OpenClaim.holds_of_wide 6 Tryd.f6 rfl rfl rfl rfl rfl rfl rfl ⟨rfl, rfl, rfl, rfl, rfl⟩ rfl rfl rfl rfl rfl (by kernel_rfl) Tryd.func6 (by kernel_rfl)
    (of_decide_eq_true (by kernel_rfl)) (by unfold Func.isWrapper; first | (rw [if_pos (by decide +kernel)]; kernel_rfl) | (rw [if_neg (by decide +kernel)]; exact ⟨rfl, rfl⟩))
    (fun os started H enc _ => lifted os started H enc)

end Go.Proofs.YtgdcpdbmacmheaaDoor.shaFills
namespace Go.Proofs.YtgdcpdbmacmheaaDoor
theorem shaFills_card : Rows.ShaFillsCardSaid :=
  Claim7.holds_tied_plain_at .later [] [.data, .data] true (true, "1487c1c3618a2a5037795e47a5f00cdcf09bae054f8b661714c98c731cbd074a") false
    shaFills.over (fun _ h => by cases h) (by kernel_rfl) (fun _ h => by cases h) shaFills_row_tie rfl ⟨rfl, rfl⟩ (by kernel_rfl) rfl
    (fun f fn hf hfn => by
      obtain rfl : f = 6 := Option.some.inj ((show Tryd.prog.funcNamed Tryd.f6.name = some 6 by kernel_rfl).symm.trans hf) |>.symm
      obtain rfl : fn = Tryd.f6 := (Option.some.inj (Tryd.func6.symm.trans hfn)).symm
      exact ⟨by kernel_rfl, fun j t ht => by
        rw [Tryd.params6] at ht
        have hm : t ∈ [22] := by simpa using Array.mem_of_getElem? ht
        have hall : ([22].all fun u => !Tryd.prog.wantsStandIn u) = true := by kernel_rfl
        exact (show Tryd.prog.wantsStandIn t = false by simpa using List.all_eq_true.1 hall t hm)⟩)
    (by kernel_rfl)
end Go.Proofs.YtgdcpdbmacmheaaDoor
