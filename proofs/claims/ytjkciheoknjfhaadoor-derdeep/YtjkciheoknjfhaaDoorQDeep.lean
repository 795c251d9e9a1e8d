/- For every number: apostillelaw05.DerDeep returns true, and each argument reads afterwards as it read before; the library's two tables of characters are as the program's text lays them. No other condition. -/
import Derived.Test.YtjkciheoknjfhaaDoorEDep
import Derived.WalkKit
import Derived.ProofKit
import Derived.OpenShut
import Derived.ShutString
namespace Go.Proofs.YtjkciheoknjfhaaDoor.derDeep
open Go.ChangeShapes Go.WideShapes Go.ChangeAt Go.RowKit
open Go.ChangeMaps (open_string shut_string)
set_option linter.unusedVariables false      -- a walk need not use every 'w<i>' (that an integer argument fits its kind)

set_option maxRecDepth 100000 in
set_option maxHeartbeats 4000000 in
theorem walk (a0 : Int) (w0 : (Lit.int .u8 a0).wf = true) (w : World) (hV : Vars w) :
    Calls Tryd.prog 7 #[.int .u8 a0] w fun e w' => e = .returned (.bool true) ∧ Below w.heap.size w w' := by
  obtain ⟨hz0, hz1⟩ := wf_u8 a0 w0
  obtain ⟨n, rfl⟩ : ∃ n : Nat, a0 = (n : Int) := ⟨a0.toNat, by omega⟩
  have hn : n < 256 := by omega
  have hT : UTabs w := hV
  obtain ⟨FB, hFB⟩ := exists_FB
  obtain ⟨K, hK⟩ : ∃ K, n % 60 = K := ⟨_, rfl⟩
  have hK59 : K ≤ 59 := by omega
  have hKi : (n : Int) % 60 = (K : Int) := by omega
  clear w0 hz0 hz1 hK
  go_enter Tryd.func7, Tryd.ntmps7
  go_wp2_with fail
  have hst : Row .u8 256 (w.alloc (.cells #[.int .u8 5, .int .u8 0] 5)) (.slice (some ⟨w.heap.size, 0, none⟩) 2 2) (nst 0) := lit_row .u8 256 w [5, 0] 5 (dec_under (by decide)) (by decide)
  have hbs : Below w.heap.size w (w.alloc (.cells #[.int .u8 5, .int .u8 0] 5)) := keep_alloc _ _
  generalize w.alloc (.cells #[.int .u8 5, .int .u8 0] 5) = ws at *
  obtain ⟨i0, hi, hz0, hz1, hz2⟩ := info_byte
  clear hKi
  generalize (n : Int) % 60 = n60 at *
  go_loopw [4, 14] (fun bv iv wr => ∃ (j : Nat) (a : Option Addr) (c : Nat), j ≤ K ∧ iv = .int .i64 j ∧ bv = .slice a (2 + 2 * j) c ∧ Row .u8 256 wr bv (nst j) ∧ Tidy bv ∧ Below w.heap.size w wr) (fun _ iv _ => K - (intOf iv).toNat)
  case atStart => exact ⟨0, _, 2, Nat.zero_le _, rfl, rfl, hst, tidy_some _ _ _, hbs⟩
  case round =>
    obtain ⟨j, a, c, hj, rfl, rfl, hrow, htd, hbr⟩ := hrel
    have hju := nst_under (j := j) (by omega)
    by_cases hlt : j < K
    · have hlti : (j : Int) < (K : Int) := by omega
      have hlti2 : (j : Int) < 1 + (K : Int) - 1 := by omega
      have hLi : (2 + 2 * (j : Int)) % 256 = 2 + 2 * (j : Int) := by omega
      have hown : (wr.alloc (.cells #[.int .u8 48, .int .u8 (2 + 2 * (j : Int))] 5)).ownsRow wr.heap.size 5 1 (.slice (some ⟨wr.heap.size, 0, none⟩) 2 2) 2 (vals .u8 [48, 2 + 2 * j]) := by
        have h1 := two_own 5 .u8 48 (2 + 2 * j) wr wr.heap.size (Nat.le_refl _)
        have e : ((2 + 2 * j : Nat) : Int) = 2 + 2 * (j : Int) := by omega
        rw [e] at h1
        exact h1
      have hn4 := (row_news (hrow.below (keep_alloc wr (.cells #[.int .u8 48, .int .u8 (2 + 2 * (j : Int))] 5)))).2
      have hln : (nst j).length = 2 + 2 * j := nst_len j
      have HLN := hide hln
      clear hln
      go_wp2_with (first
        | (at_builtin; refine wpList_append_rows _ rfl _ _ 22 22 5 (by rfl) Tryd.underlying22 wr.heap.size 5 i0 (.int .u8 0) 1 Tryd.underlying22 hi hz0 hz1 hz2 rfl _ _ _ (by rfl) hown a (2 + 2 * j) c (vals .u8 (nst j)) (by rfl) (by rw [vals_length]; exact HLN.out) hn4 (vals_one _ _) (by unfold maxLen; omega) (by omega) (by simp) ?_; intro v6 w6 ho6 hg6; obtain ⟨va, vc, rfl⟩ := own_slice ho6)
        | fail)
      have e2 : 2 + (2 + 2 * j) = 2 + 2 * (j + 1) := by omega
      rw [e2] at ho6 ⊢
      have ho7 : Own 5 .u8 256 w6 wr.heap.size (.slice va (2 + 2 * (j + 1)) vc) (nst (j + 1)) := ⟨by rw [nst_len]; rw [← vals_append] at ho6; exact ho6, nst_under (by omega)⟩
      have hb6 : Below wr.heap.size wr w6 := ((Below.refl wr.heap.size wr).alloc (Nat.le_refl _) _).grown hg6 (by simp) (fun k hk => by simp [Value.ownBlock] at hk; omega)
      have htd7 := own_tidy ho6
      clear ho6 hg6 hown hn4 hju
      exact ⟨⟨j + 1, _, _, by omega, by simp, rfl, ho7.row, htd7, keep_trans hbr hb6⟩, by simp [intOf]; omega⟩
    · have hjK : j = K := by omega
      subst hjK
      have hlti : ¬ (j : Int) < (j : Int) := by omega
      have hlti2 : ¬ (j : Int) < 1 + (j : Int) - 1 := by omega
      have h127 : ¬ (127 : Int) < 2 + 2 * (j : Int) := by omega
      have hpd := parse_der FB hFB _ (nst j) wr hrow htd (hT.below hbr) (by rw [nst_len]; omega)
      have hpn := parse_nst hFB (j := j) (by omega)
      by_cases h32 : j < 32
      · rw [if_pos h32] at hpn
        have hpd := hpd.mono (fun _ _ h => h.good hpn)
        have hle : (1 : Int) + (j : Int) ≤ 32 := by omega
        clear hpn
        go_wp2_with fail
        refine hpd.mono ?_
        rintro e w2 ⟨d2, e0, e1, e2, rfl, hnd2, hb2⟩
        obtain ⟨tt, a1, n1, p1, a2, n2, p2, rfl, rfl, rfl⟩ := hnd2.forms
        have hbf := keep_trans (keep_trans hbr hb2) (keep_alloc w2 (.cells #[.int .i64 tt, .slice a1 n1 p1, .slice a2 n2 p2] 26))
        clear hpd
        go_wp2_with fail
        refine (dawake_any _ (hT.below hbf)).mono ?_
        rintro e w4 ⟨rfl, hb4⟩
        go_wp2_with fail
        go_ret
        exact ⟨rfl, keep_trans hbf hb4⟩
      · rw [if_neg h32] at hpn
        have hpd := hpd.mono (fun _ _ h => h.bad hpn)
        have hle : ¬ (1 : Int) + (j : Int) ≤ 32 := by omega
        have hled : decide ((1 : Int) + (j : Int) ≤ 32) = false := decide_eq_false hle
        clear hpn
        unfold nod0 at hpd
        go_wp2_with fail
        refine hpd.mono ?_
        rintro e w2 ⟨rfl, hb2⟩
        have hbf := keep_trans (keep_trans hbr hb2) (keep_alloc w2 (.cells #[.int .i64 0, .slice none 0 0, .slice none 0 0] 26))
        clear hpd
        go_wp2_with fail
        refine (dawake_any _ (hT.below hbf)).mono ?_
        rintro e w4 ⟨rfl, hb4⟩
        go_wp2_with fail
        go_ret
        exact ⟨rfl, keep_trans hbf hb4⟩

set_option maxRecDepth 100000 in
theorem lifted (os : Os) (started : os.Started) (H : Type) (enc : TypeId × Value → H) :
    ReturnsInHanded {} Tryd.checked os 7 .any (fun w args => (Rows.derDeepSpec.pre enc Tryd.prog Tryd.f7 Rows.derDeepRow.domain false w args ∧ laidMetH Tryd.prog Rows.derDeepRow.laid w) ∧ sizedMet enc Tryd.prog Tryd.f7 (OpenSpec.ofChange Rows.derDeepSpec) false w args) (Rows.derDeepSpec.post enc Tryd.prog Tryd.f7 false true false false) := by
  refine change_laid_shaped (C := Tryd.checked) (X := fun w _ => laidMetH Tryd.prog Rows.derDeepRow.laid w) (fun _ _ _ hh h => h.of_heap hh) own started (by kernel_rfl) Tryd.func7
    (ChangeSpec.witness_shaped (enc := enc) (C := Tryd.checked) (os := os) (X := fun w _ => laidMetH Tryd.prog Rows.derDeepRow.laid w) false (World.laidAll Tryd.prog os Rows.derDeepRow.laid) #[.int .u8 0] 8 (World.laidAll_os _ _ _)
      (World.shaped_of_ZipB (by kernel_rfl) (by kernel_rfl)) (by kernel_rfl) (by kernel_rfl) (by kernel_rfl)
      (by rw [MakeChecks.laidMetH_plain _ _ _ (by kernel_rfl)]; exact laidMet_laidAll _ (by kernel_rfl) (by kernel_rfl))) ?_
  intro W base args ds gs before hval0 hW hsz0 hL hsh
  have hVars : Vars W := vars_of_laid hL hsh
  have hval : ∀ (j : Nat) t v, Tryd.f7.params[j]? = some t → args[j]? = some v → Value.okWide Tryd.prog W .any base t v := hval0
  have hW' := hW
  obtain ⟨p, q, hA0, hV, rfl, hfz, hnd⟩ := hW
  have hA : DataW.TrodAll enc Tryd.prog W 0 (fun _ => true) true Tryd.f7.params.toList args.toList ds p := hA0
  rw [Tryd.params7] at hA hval
  obtain ⟨v0, vs0, d0, ds0, p0, q0, hargs, rfl, rfl, h0, r0⟩ := trodAll_cons hA
  obtain ⟨rfl, rfl, rfl⟩ := trodAll_nil r0
  obtain rfl : args = #[v0] := by cases args; simp_all
  obtain ⟨rfl, rfl⟩ := trodVars_none hV
  obtain ⟨a0, rfl, rfl, rfl, w0⟩ := open_int Tryd.underlying5 (hval 0 5 v0 rfl rfl) h0
  clear hA0 hval0
  simp only [List.append_nil] at hW'
  refine (walk a0 w0 W hVars).mono fun e W' ⟨he, hg⟩ => ?_
  subst he
  exact ⟨_, rfl, _, _, _, [], _, [], hW', trodAll_mk1 (shut_bool Tryd.underlying4 _), (trodAll_cons_mk (shut_int Tryd.underlying5 w0) trodAll_mk0), rfl, hg.frame _, fun h => by cases h⟩

theorem over : Rows.derDeepRow.holds Tryd.pinned (OpenSpec.ofChange Rows.derDeepSpec) :=
  OpenClaim.holds_of_wide 7 Tryd.f7 rfl rfl rfl rfl rfl rfl rfl ⟨rfl, rfl, rfl, rfl, rfl⟩ rfl rfl rfl rfl rfl (by kernel_rfl) Tryd.func7 (by kernel_rfl)
    (of_decide_eq_true (by kernel_rfl)) (by unfold Func.isWrapper; first | (rw [if_pos (by decide +kernel)]; kernel_rfl) | (rw [if_neg (by decide +kernel)]; exact ⟨rfl, rfl⟩))
    (fun os started H enc _ => lifted os started H enc)

end Go.Proofs.YtjkciheoknjfhaaDoor.derDeep
namespace Go.Proofs.YtjkciheoknjfhaaDoor
theorem derDeep_card : Rows.DerDeepCardSaid :=
  Claim7.holds_tied_plain_at .later [] [.data, .pinned] true (true, "7973f1f7aa88e92370905565be3a04acdac114a7f89cd62829bb056a977e33c6") true
    derDeep.over (fun _ h => by cases h) (by kernel_rfl) (fun _ h => by cases h) derDeep_row_tie rfl ⟨rfl, rfl⟩ (by kernel_rfl) rfl
    (fun f fn hf hfn => by
      obtain rfl : f = 7 := Option.some.inj ((show Tryd.prog.funcNamed Tryd.f7.name = some 7 by kernel_rfl).symm.trans hf) |>.symm
      obtain rfl : fn = Tryd.f7 := (Option.some.inj (Tryd.func7.symm.trans hfn)).symm
      exact ⟨by kernel_rfl, fun j t ht => by
        rw [Tryd.params7] at ht
        have hm : t ∈ [5] := by simpa using Array.mem_of_getElem? ht
        have hall : ([5].all fun u => !Tryd.prog.wantsStandIn u) = true := by kernel_rfl
        exact (show Tryd.prog.wantsStandIn t = false by simpa using List.all_eq_true.1 hall t hm)⟩)
    (by kernel_rfl)
end Go.Proofs.YtjkciheoknjfhaaDoor
