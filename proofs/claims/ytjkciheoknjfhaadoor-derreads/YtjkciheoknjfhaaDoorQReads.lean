/- For every text: apostillelaw05.DerReads returns true, and each argument reads afterwards as it read before; the library's two tables of characters are as the program's text lays them. No other condition. -/
import Derived.Test.YtjkciheoknjfhaaDoorEFrm
import Derived.WalkKit
import Derived.ProofKit
import Derived.OpenShut
import Derived.ShutString
import Derived.ChangeOld
import Derived.Below
namespace Go.Proofs.YtjkciheoknjfhaaDoor.derReads
open Go.ChangeShapes Go.WideShapes Go.ChangeAt Go.RowKit
open Go.ChangeMaps (open_string shut_string)
set_option linter.unusedVariables false

set_option maxRecDepth 100000 in
set_option maxHeartbeats 4000000 in
theorem walk (a0 : Option Addr) (len0 cap0 : Nat) (z0 : List Int) (w : World) (w0 : IsRow .u8 w a0 len0 cap0 z0) (hV : Vars w) :
    Calls Tryd.prog 3 #[.slice a0 len0 cap0] w fun e w' => e = .returned (.bool true) ∧ Below w.heap.size w w' := by
  have htd := isRow_tidy w0
  obtain ⟨l, rfl, hr⟩ := w0.row wf_u8
  clear w0
  have hT : UTabs w := hV
  obtain ⟨FB, hFB⟩ := exists_FB
  have hcap : l.length ≤ cap0 := by obtain ⟨_, _, he, h1, _⟩ := hr; simp at he; omega
  by_cases h1 : 3000 < l.length
  · have h1i : (3000 : Int) < (l.length : Int) := by omega
    go_enter Tryd.func3, Tryd.ntmps3
    go_wp2_with fail
    refine (dawake_any _ hT).mono ?_
    rintro e w1 ⟨rfl, hb⟩
    go_wp2_with fail
    go_ret
    exact ⟨rfl, hb⟩
  · have h1i : ¬ (3000 : Int) < (l.length : Int) := by omega
    go_enter Tryd.func3, Tryd.ntmps3
    go_wp2_with fail
    refine (parse_der FB hFB _ l w hr htd hT (by omega)).mono ?_
    rintro e w1 ⟨⟨er, her, hpos, rfl⟩ | ⟨x, d, c0, c1, c2, hok, rfl, hnd⟩, hb1⟩
    · have hbx := keep_trans hb1 (keep_alloc w1 (.cells #[.int .i64 0, .slice none 0 0, .slice none 0 0] 26))
      obtain ⟨x0, x1, x2⟩ := box_cell w1 (.int .i64 0) (.slice none 0 0) (.slice none 0 0) 26
      have hrp := rparse_der FB hFB _ l _ (hr.below hbx) (by omega)
      have hrp := hrp.mono (fun _ _ h => h.bad her)
      have HER := hide her
      clear her
      unfold nod0 at *
      go_wp2_with fail
      generalize w1.alloc (.cells #[.int .i64 0, .slice none 0 0, .slice none 0 0] 26) = W1 at *
      refine hrp.mono ?_
      rintro e w2 ⟨rfl, hb2⟩
      have hk2 := keep_trans hb2 (keep_alloc w2 (.cells #[.int .i64 0, .slice none 0 0, .slice none 0 0] 26))
      have x0 := Below.cells hk2 x0
      have x1 := Below.cells hk2 x1
      have x2 := Below.cells hk2 x2
      obtain ⟨y0, y1, y2⟩ := box_cell w2 (.int .i64 0) (.slice none 0 0) (.slice none 0 0) 26
      have hbw := keep_trans hbx hk2
      clear hrp hk2 hb2 hbx
      go_wp2_with fail
      generalize w2.alloc (.cells #[.int .i64 0, .slice none 0 0, .slice none 0 0] 26) = W2 at *
      refine (dsame_true (nod0_at _) (nod0_at _)).mono ?_
      rintro e w3 ⟨rfl, hb3⟩
      have hbf := keep_trans hbw hb3
      clear hbw hb3 x0 x1 x2 y0 y1 y2
      go_wp2_with fail
      refine (dawake_any _ (hT.below hbf)).mono ?_
      rintro e w4 ⟨rfl, hb4⟩
      go_wp2_with fail
      go_ret
      exact ⟨rfl, keep_trans hbf hb4⟩
    · obtain ⟨tt, a1, n1, p1, a2, n2, p2, rfl, rfl, rfl⟩ := hnd.forms
      have hbx := keep_trans hb1 (keep_alloc w1 (.cells #[.int .i64 tt, .slice a1 n1 p1, .slice a2 n2 p2] 26))
      obtain ⟨x0, x1, x2⟩ := box_cell w1 (.int .i64 tt) (.slice a1 n1 p1) (.slice a2 n2 p2) 26
      have hnd1 := NdAt.below (keep_alloc w1 (.cells #[.int .i64 tt, .slice a1 n1 p1, .slice a2 n2 p2] 26)) _ _ _ _ _ hnd
      have hrp := (rparse_der FB hFB _ l _ (hr.below hbx) (by omega)).mono (fun _ _ h => h.good hok)
      clear hok hnd
      go_wp2_with fail
      generalize w1.alloc (.cells #[.int .i64 tt, .slice a1 n1 p1, .slice a2 n2 p2] 26) = W1 at *
      refine hrp.mono ?_
      rintro e w2 ⟨d2, e0, e1, e2, rfl, hnd2, hb2⟩
      obtain ⟨uu, b1, m1, q1, b2, m2, q2, rfl, rfl, rfl⟩ := hnd2.forms
      have hk2 := keep_trans hb2 (keep_alloc w2 (.cells #[.int .i64 uu, .slice b1 m1 q1, .slice b2 m2 q2] 26))
      have x0 := Below.cells hk2 x0
      have x1 := Below.cells hk2 x1
      have x2 := Below.cells hk2 x2
      obtain ⟨y0, y1, y2⟩ := box_cell w2 (.int .i64 uu) (.slice b1 m1 q1) (.slice b2 m2 q2) 26
      have hn1 := NdAt.below hk2 _ _ _ _ _ hnd1
      have hn2 := NdAt.below (keep_alloc w2 (.cells #[.int .i64 uu, .slice b1 m1 q1, .slice b2 m2 q2] 26)) _ _ _ _ _ hnd2
      have hbw := keep_trans hbx hk2
      clear hrp hk2 hb2 hbx hnd1 hnd2
      go_wp2_with fail
      generalize w2.alloc (.cells #[.int .i64 uu, .slice b1 m1 q1, .slice b2 m2 q2] 26) = W2 at *
      refine (dsame_true hn1 hn2).mono ?_
      rintro e w3 ⟨rfl, hb3⟩
      have hbf := keep_trans hbw hb3
      clear hbw hb3 x0 x1 x2 y0 y1 y2 hn1 hn2
      go_wp2_with fail
      refine (dawake_any _ (hT.below hbf)).mono ?_
      rintro e w4 ⟨rfl, hb4⟩
      go_wp2_with fail
      go_ret
      exact ⟨rfl, keep_trans hbf hb4⟩

set_option maxRecDepth 100000 in
theorem lifted (os : Os) (started : os.Started) (H : Type) (enc : TypeId × Value → H) :
    ReturnsInHanded {} Tryd.checked os 3 .any (fun w args => (Rows.derReadsSpec.pre enc Tryd.prog Tryd.f3 Rows.derReadsRow.domain false w args ∧ laidMetH Tryd.prog Rows.derReadsRow.laid w) ∧ sizedMet enc Tryd.prog Tryd.f3 (OpenSpec.ofChange Rows.derReadsSpec) false w args) (Rows.derReadsSpec.post enc Tryd.prog Tryd.f3 false true false false) := by
  refine change_laid_shaped (C := Tryd.checked) (X := fun w _ => laidMetH Tryd.prog Rows.derReadsRow.laid w) (fun _ _ _ hh h => h.of_heap hh) own started (by kernel_rfl) Tryd.func3
    (ChangeSpec.witness_shaped (enc := enc) (C := Tryd.checked) (os := os) (X := fun w _ => laidMetH Tryd.prog Rows.derReadsRow.laid w) false (World.laidAll Tryd.prog os Rows.derReadsRow.laid) #[.slice none 0 0] 8 (World.laidAll_os _ _ _)
      (World.shaped_of_ZipB (by kernel_rfl) (by kernel_rfl)) (by kernel_rfl) (by kernel_rfl) (by kernel_rfl)
      (by rw [MakeChecks.laidMetH_plain _ _ _ (by kernel_rfl)]; exact laidMet_laidAll _ (by kernel_rfl) (by kernel_rfl))) ?_
  intro W base args ds gs before hval0 hW hsz0 hL hsh
  have hVars : Vars W := vars_of_laid hL hsh
  have hval : ∀ (j : Nat) t v, Tryd.f3.params[j]? = some t → args[j]? = some v → Value.okWide Tryd.prog W .any base t v := hval0
  have hW' := hW
  obtain ⟨p, q, hA0, hV, rfl, hfz, hnd⟩ := hW
  have hA : DataW.TrodAll enc Tryd.prog W 0 (fun _ => true) true Tryd.f3.params.toList args.toList ds p := hA0
  rw [Tryd.params3] at hA hval
  obtain ⟨v0, vs0, d0, ds0, p0, q0, hargs, rfl, rfl, h0, r0⟩ := trodAll_cons hA
  obtain ⟨rfl, rfl, rfl⟩ := trodAll_nil r0
  obtain rfl : args = #[v0] := by cases args; simp_all
  obtain ⟨rfl, rfl⟩ := trodVars_none hV
  obtain ⟨a0, len0, cap0, rfl⟩ := okWide_slice Tryd.underlying22 (hval 0 22 v0 rfl rfl)
  have k0 := h0
  have lt0 : ∀ x ∈ p0, x.block < W.heap.size := by obtain ⟨m, hm⟩ := k0; exact DataW.trod_lt m _ _ _ hm
  obtain ⟨z0, w0⟩ : ∃ zs, IsRow .u8 W a0 len0 cap0 zs := by
    obtain ⟨fuel, hf⟩ := h0
    rcases open_ints Tryd.underlying22 Tryd.underlying5 (by kernel_rfl) hf with ⟨hcs, _⟩ | ⟨x, l, c, zs, hcs, _, hl, hm, hz, _, hcell, hwz⟩
    · simp [Value.cells] at hcs
      obtain ⟨rfl, rfl, rfl⟩ := hcs
      exact ⟨[], .inl ⟨rfl, rfl, rfl, rfl⟩⟩
    · simp [Value.cells] at hcs
      obtain ⟨rfl, rfl, rfl⟩ := hcs
      exact ⟨zs, .inr ⟨_, rfl, hl, hm, by simpa using hz, hcell, hwz⟩⟩
  clear hA0 hval0
  refine (walk a0 len0 cap0 z0 W w0 hVars).mono fun e W' ⟨he, bel⟩ => ?_
  subst he
  exact ⟨_, rfl, _, _, _, [], _, [], hW', trodAll_mk1 (shut_bool Tryd.underlying4 _), (trodAll_cons_mk (Below.trod laidOut (by kernel_rfl) (of_decide_eq_true (by kernel_rfl)) k0 bel lt0) trodAll_mk0), rfl, bel.frame _, fun h => by cases h⟩

theorem over : Rows.derReadsRow.holds Tryd.pinned (OpenSpec.ofChange Rows.derReadsSpec) :=
  OpenClaim.holds_of_wide 3 Tryd.f3 rfl rfl rfl rfl rfl rfl rfl ⟨rfl, rfl, rfl, rfl, rfl⟩ rfl rfl rfl rfl rfl (by kernel_rfl) Tryd.func3 (by kernel_rfl)
    (of_decide_eq_true (by kernel_rfl)) (by unfold Func.isWrapper; first | (rw [if_pos (by decide +kernel)]; kernel_rfl) | (rw [if_neg (by decide +kernel)]; exact ⟨rfl, rfl⟩))
    (fun os started H enc _ => lifted os started H enc)

end Go.Proofs.YtjkciheoknjfhaaDoor.derReads
namespace Go.Proofs.YtjkciheoknjfhaaDoor
theorem derReads_card : Rows.DerReadsCardSaid :=
  Claim7.holds_tied_plain_at .later [] [.data, .pinned] true (true, "7973f1f7aa88e92370905565be3a04acdac114a7f89cd62829bb056a977e33c6") true
    derReads.over (fun _ h => by cases h) (by kernel_rfl) (fun _ h => by cases h) derReads_row_tie rfl ⟨rfl, rfl⟩ (by kernel_rfl) rfl
    (fun f fn hf hfn => by
      obtain rfl : f = 3 := Option.some.inj ((show Tryd.prog.funcNamed Tryd.f3.name = some 3 by kernel_rfl).symm.trans hf) |>.symm
      obtain rfl : fn = Tryd.f3 := (Option.some.inj (Tryd.func3.symm.trans hfn)).symm
      exact ⟨by kernel_rfl, fun j t ht => by
        rw [Tryd.params3] at ht
        have hm : t ∈ [22] := by simpa using Array.mem_of_getElem? ht
        have hall : ([22].all fun u => !Tryd.prog.wantsStandIn u) = true := by kernel_rfl
        exact (show Tryd.prog.wantsStandIn t = false by simpa using List.all_eq_true.1 hall t hm)⟩)
    (by kernel_rfl)
end Go.Proofs.YtjkciheoknjfhaaDoor
