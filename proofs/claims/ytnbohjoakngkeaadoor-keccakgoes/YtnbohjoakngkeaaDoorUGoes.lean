/- For every sponge, every text and every number: apostillelaw08.KeccakGoes returns true, and each argument reads afterwards as it read before; keccak's table of constants is as the program's text lays it. No other condition. -/
import Derived.Test.YtnbohjoakngkeaaDoorKVar
import Derived.Test.YtnbohjoakngkeaaDoorKLaw
import Derived.Test.YtnbohjoakngkeaaDoorKGoe
import Derived.WalkKit
import Derived.ProofKit
import Derived.OpenShut
import Derived.ShutString
import Derived.ChangeOld
import Derived.Below
namespace Go.Proofs.YtnbohjoakngkeaaDoor.keccakGoes
open Go.ChangeShapes Go.WideShapes Go.ChangeAt Go.RowKit
open Go.ChangeMaps (open_string shut_string)
set_option linter.unusedVariables false

set_option maxRecDepth 100000 in
set_option maxHeartbeats 4000000 in
theorem walk (cs0 : Array Value) (kd0 : Int) (ws0 : List Nat) (pt0 : Int) (ot0 : Bool) (a1 : Option Addr) (len1 cap1 : Nat) (z1 : List Int) (a2 : Int) (w : World) (w0 : SIs cs0 kd0 ws0 pt0 ot0) (w1 : IsRow .u8 w a1 len1 cap1 z1) (w2 : (Lit.int .i64 a2).wf = true) (hV : Vars w) :
    Calls Tryd.prog 4 #[.agg cs0, .slice a1 len1 cap1, .int .i64 a2] w fun e w' => e = .returned (.bool true) ∧ Below w.heap.size w w' := by
  have hT : Csts w := hV
  obtain ⟨l, rfl, hr⟩ := w1.row wf_u8
  obtain ⟨rfl, k1, k2, hw, q1, q2⟩ := w0
  clear w1 hV
  have hl := hw.1
  have hS : Sg (w.alloc (.cells (sl kd0 ws0 pt0 ot0).toArray 26)) w.heap.size kd0 ws0 pt0 ot0 := Sg.new w 26 kd0 ws0 pt0 ot0 hl
  have hb := keep_alloc w (.cells (sl kd0 ws0 pt0 ot0).toArray 26)
  have hll := hS.all
  have hsl := sl_len (kind := kd0) (p := pt0) (o := ot0) hl
  have hft := fun x => kfit_any kd0 ws0 pt0 ot0 x hl
  by_cases hff : fitK kd0 pt0 ot0 = false
  · rw [hff] at hft
    clear hff
    go_enter Tryd.func4, Tryd.ntmps4
    go_wp2_with (first
      | (refine wpList_load_mid rfl 26 _ (by rfl) w.heap.size 0 (by rfl) (sl kd0 ws0 pt0 ot0) _ hll Tryd.underlying26 rfl (by rw [hsl]; kernel_rfl) ?_)
      | (go_at_call 16; refine (hft _).mono ?_; rintro e x1 ⟨rfl, hb1⟩)
      | (go_at_call 7; refine (awake_any _ (hT.below (keep_trans hb hb1))).mono ?_; rintro e x2 ⟨rfl, hb2⟩)
      | fail)
    go_ret
    exact ⟨rfl, keep_trans (keep_trans hb hb1) hb2⟩
  have hf : fitK kd0 pt0 ot0 = true := by simpa using hff
  rw [hf] at hft
  by_cases h1 : 500 < l.length
  · have h1i : (500 : Int) < (l.length : Int) := by omega
    go_enter Tryd.func4, Tryd.ntmps4
    go_wp2_with (first
      | (refine wpList_load_mid rfl 26 _ (by rfl) w.heap.size 0 (by rfl) (sl kd0 ws0 pt0 ot0) _ hll Tryd.underlying26 rfl (by rw [hsl]; kernel_rfl) ?_)
      | (go_at_call 16; refine (hft _).mono ?_; rintro e x1 ⟨rfl, hb1⟩)
      | (go_at_call 7; refine (awake_any _ (hT.below (keep_trans hb hb1))).mono ?_; rintro e x2 ⟨rfl, hb2⟩)
      | fail)
    go_ret
    exact ⟨rfl, keep_trans (keep_trans hb hb1) hb2⟩
  have h1i : ¬ (500 : Int) < (l.length : Int) := by omega
  by_cases h2 : 500 < a2
  · go_enter Tryd.func4, Tryd.ntmps4
    go_wp2_with (first
      | (refine wpList_load_mid rfl 26 _ (by rfl) w.heap.size 0 (by rfl) (sl kd0 ws0 pt0 ot0) _ hll Tryd.underlying26 rfl (by rw [hsl]; kernel_rfl) ?_)
      | (go_at_call 16; refine (hft _).mono ?_; rintro e x1 ⟨rfl, hb1⟩)
      | (go_at_call 7; refine (awake_any _ (hT.below (keep_trans hb hb1))).mono ?_; rintro e x2 ⟨rfl, hb2⟩)
      | fail)
    go_ret
    exact ⟨rfl, keep_trans (keep_trans hb hb1) hb2⟩
  obtain ⟨M, P, O, hM, hfM, hA, hB⟩ := both_abs kd0 ws0 pt0 ot0 (.slice a1 l.length cap1) l w hT hw hf hr (by omega)
  obtain ⟨U, PU, OU, B, hU, hfU, hC, hD⟩ := both_sqz kd0 ws0 pt0 ot0 a2 w hT hw hf (by omega)
  have hsM : (sl kd0 M P O).toArray.size = 28 := by simp [sl_len hM.1]
  have hsU : (sl kd0 U PU OU).toArray.size = 28 := by simp [sl_len hU.1]
  have hs0 : (sl 0 (zs 25) 0 false).toArray.size = 28 := by simp [sl_len (zs_len 25)]
  have hq1 := fun x => eq_sponge kd0 M P O hM.1 x
  have hq2 := fun x => eq_sponge kd0 U PU OU hU.1 x
  have hfM2 := fun x => kfit_any kd0 M P O x hM.1
  rw [hfM] at hfM2
  have hfU2 := fun x => kfit_any kd0 U PU OU x hU.1
  rw [hfU] at hfU2
  have hz := zero28
  have HHT := hide hT
  clear hf hff hfM hfU h1 hr
  go_enter Tryd.func4, Tryd.ntmps4
  go_wp2_with (first
    | (refine wpList_load_mid rfl 26 _ (by rfl) w.heap.size 0 (by rfl) (sl kd0 ws0 pt0 ot0) _ hll Tryd.underlying26 rfl (by rw [hsl]; kernel_rfl) ?_)
    | (go_at_call 16; refine (hft _).mono ?_; rintro e x1 ⟨rfl, hb1⟩; have hS1 := hS.below hb1; have hB1 := keep_trans hb hb1)
    | fail)
  refine goe_3 (w := w) (kind := kd0) (ws := ws0) (p := pt0) (ot := ot0) (bv := .slice a1 l.length cap1) (nv := .int .i64 a2) (M := M) (P := P) (O := O) hl hM.1 ?_ hA hB ⟨⟨rfl, rfl⟩, rfl, rfl, rfl, hS1, hB1⟩
  rename_i Q' K hK
  intro a x g h E t7 t8 hg hh k7 k8
  obtain ⟨tm, df⟩ := a
  obtain ⟨⟨hsz, hdf⟩, t1, t2, t3, hSx, hBx⟩ := E
  dsimp only at hsz hdf
  subst hdf
  obtain ⟨ll⟩ := tm
  obtain ⟨u0, u1, u2, u3, u4, u5, u6, u7, u8, u9, u10, u11, u12, u13, u14, u15, u16, u17, u18, u19, u20, u21, u22, u23, u24, u25, u26, u27, u28, u29, u30, u31, u32, u33, u34, u35, u36, u37, u38, u39, u40, u41, u42, u43, u44, u45, u46, u47, u48, u49, u50, u51, u52, u53, u54, u55, u56, u57, u58, u59, u60, u61, u62, u63, u64, u65, u66, u67, rfl⟩ := list68 ll (by simpa using hsz)
  have e1 : u1 = .slice a1 l.length cap1 := t1
  have e2 : u2 = .int .i64 a2 := t2
  have e3 : u3 = .pointer (some ⟨w.heap.size, 0, none⟩) := t3
  have e7 : u7 = .pointer (some ⟨g, 0, none⟩) := t7
  have e8 : u8 = .pointer (some ⟨h, 0, none⟩) := t8
  subst e1 e2 e3 e7 e8
  clear t1 t2 t3 t7 t8 hsz hS1 hB1 hS hb hb1 hll hft hA hB
  refine hK _ _ ?_
  clear hK
  have hlx := hSx.all
  go_wp2_with (first
    | (refine wpList_load_mid rfl 26 _ (by rfl) w.heap.size 0 (by rfl) (sl kd0 ws0 pt0 ot0) _ hlx Tryd.underlying26 rfl (by rw [hsl]; kernel_rfl) ?_)
    | (go_at_call 19; refine (hC _ hBx).mono ?_; rintro e x4 ⟨v4, rfl, r4, hb4⟩; have hR4 : (x4.alloc (.cells (sl 0 (zs 25) 0 false).toArray 26)).heap[x4.heap.size]? = some (.cells (sl 0 (zs 25) 0 false).toArray 26 (0, 0)) := heap_alloc_last x4 _; obtain ⟨ya, yc, rfl⟩ := r4.form)
    | (refine wpList_store_row rfl 26 _ _ (by rfl) x4.heap.size (sl kd0 U PU OU).toArray (by rfl) (by rfl) _ _ hR4 (by rw [hsU]; kernel_rfl) (by rw [hsU, hs0]) (all_oneCell_toArray (sl_one _ _ _ _)) ?_; have k9 := setRow_heap (x4.alloc (.cells (sl 0 (zs 25) 0 false).toArray 26)) x4.heap.size _ (sl kd0 U PU OU).toArray 26 _ hR4; have hb5 : Below x4.heap.size x4 ((x4.alloc (.cells (sl 0 (zs 25) 0 false).toArray 26)).setRow x4.heap.size (sl kd0 U PU OU).toArray) := (keep_alloc x4 _).trans ((But.setRow (But.refl x4.heap.size _) _).below (Nat.le_refl _) (by simp)); have hb6 := keep_trans hb4 hb5; have hB6 := keep_trans hBx hb6; have hl6 := (hSx.below hb6).all; have k76 := (hb6.block _ (heap_lt k7)).trans k7; have k86 := (hb6.block _ (heap_lt k8)).trans k8; have r6 := r4.below hb5; clear hlx hR4; generalize (x4.alloc (.cells (sl 0 (zs 25) 0 false).toArray 26)).setRow x4.heap.size (sl kd0 U PU OU).toArray = x6 at *)
    | (refine wpList_load_mid rfl 26 _ (by rfl) w.heap.size 0 (by rfl) (sl kd0 ws0 pt0 ot0) _ hl6 Tryd.underlying26 rfl (by rw [hsl]; kernel_rfl) ?_)
    | (go_at_call 20; refine (hD _ hB6).mono ?_; rintro e x7 ⟨v7, rfl, r7, hb7⟩; have hR7 : (x7.alloc (.cells (sl 0 (zs 25) 0 false).toArray 26)).heap[x7.heap.size]? = some (.cells (sl 0 (zs 25) 0 false).toArray 26 (0, 0)) := heap_alloc_last x7 _; obtain ⟨yb, yd, rfl⟩ := r7.form)
    | (refine wpList_store_row rfl 26 _ _ (by rfl) x7.heap.size (sl kd0 U PU OU).toArray (by rfl) (by rfl) _ _ hR7 (by rw [hsU]; kernel_rfl) (by rw [hsU, hs0]) (all_oneCell_toArray (sl_one _ _ _ _)) ?_; have k11 := setRow_heap (x7.alloc (.cells (sl 0 (zs 25) 0 false).toArray 26)) x7.heap.size _ (sl kd0 U PU OU).toArray 26 _ hR7; have hb8 : Below x7.heap.size x7 ((x7.alloc (.cells (sl 0 (zs 25) 0 false).toArray 26)).setRow x7.heap.size (sl kd0 U PU OU).toArray) := (keep_alloc x7 _).trans ((But.setRow (But.refl x7.heap.size _) _).below (Nat.le_refl _) (by simp)); have hb9 := keep_trans hb7 hb8; have hB9 := keep_trans hB6 hb9; have j7 := (hb9.block _ (heap_lt k76)).trans k76; have j8 := (hb9.block _ (heap_lt k86)).trans k86; have j9 := (hb9.block _ (heap_lt k9)).trans k9; have r9 := r6.below hb9; have s9 := r7.below hb8; clear hl6 hR7 k76 k86 k9; generalize (x7.alloc (.cells (sl 0 (zs 25) 0 false).toArray 26)).setRow x7.heap.size (sl kd0 U PU OU).toArray = x9 at *)
    | (refine wpList_load_row rfl 26 _ (by rfl) g (by rfl) _ _ _ _ j7 Tryd.underlying26 rfl (by rw [hsM]; kernel_rfl) ?_)
    | (refine wpList_load_row rfl 26 _ (by rfl) h (by rfl) _ _ _ _ j8 Tryd.underlying26 rfl (by rw [hsM]; kernel_rfl) ?_)
    | (refine wpList_load_rowG (by rfl) 26 _ (by rfl) x4.heap.size (by rfl) _ _ _ _ j9 Tryd.underlying26 rfl (by rw [hsU]; kernel_rfl) ?_)
    | (refine wpList_load_rowG (by rfl) 26 _ (by rfl) x7.heap.size (by rfl) _ _ _ _ k11 Tryd.underlying26 rfl (by rw [hsU]; kernel_rfl) ?_)
    | (go_at_call 14; refine (rsame_true _ _ B _ r9 s9).mono ?_; rintro e x10 ⟨rfl, hb10⟩; have m7 := (hb10.block _ (heap_lt j7)).trans j7; have m9 := (hb10.block _ (heap_lt j9)).trans j9; have hB10 := keep_trans hB9 hb10)
    | (refine wpList_load_rowG (by rfl) 26 _ (by rfl) g (by rfl) _ _ _ _ m7 Tryd.underlying26 rfl (by rw [hsM]; kernel_rfl) ?_)
    | (go_at_call_of 16 (#[Value.agg (sl kd0 M P O).toArray]); refine (hfM2 _).mono ?_; rintro e x11 ⟨rfl, hb11⟩; have m9' := (hb11.block _ (heap_lt m9)).trans m9; have hB11 := keep_trans hB10 hb11)
    | (refine wpList_load_rowG (by rfl) 26 _ (by rfl) x4.heap.size (by rfl) _ _ _ _ m9' Tryd.underlying26 rfl (by rw [hsU]; kernel_rfl) ?_)
    | (go_at_call_of 16 (#[Value.agg (sl kd0 U PU OU).toArray]); refine (hfU2 _).mono ?_; rintro e x12 ⟨rfl, hb12⟩; have hB12 := keep_trans hB11 hb12)
    | (go_at_call 7; refine (awake_any _ (HHT.out.below hB12)).mono ?_; rintro e x13 ⟨rfl, hb13⟩)
    | fail)
  go_ret
  exact ⟨rfl, keep_trans hB12 hb13⟩

set_option maxRecDepth 100000 in
theorem lifted (os : Os) (started : os.Started) (H : Type) (enc : TypeId × Value → H) :
    ReturnsInHanded {} Tryd.checked os 4 .any (fun w args => (Rows.keccakGoesSpec.pre enc Tryd.prog Tryd.f4 Rows.keccakGoesRow.domain false w args ∧ laidMetH Tryd.prog Rows.keccakGoesRow.laid w) ∧ sizedMet enc Tryd.prog Tryd.f4 (OpenSpec.ofChange Rows.keccakGoesSpec) false w args) (Rows.keccakGoesSpec.post enc Tryd.prog Tryd.f4 false true false false) := by
  refine change_laid_shaped (C := Tryd.checked) (X := fun w _ => laidMetH Tryd.prog Rows.keccakGoesRow.laid w) (fun _ _ _ hh h => h.of_heap hh) own started (by kernel_rfl) Tryd.func4
    (ChangeSpec.witness_shaped (enc := enc) (C := Tryd.checked) (os := os) (X := fun w _ => laidMetH Tryd.prog Rows.keccakGoesRow.laid w) false (World.laidAll Tryd.prog os Rows.keccakGoesRow.laid) #[.agg #[.int .i64 0, .int .u64 0, .int .u64 0, .int .u64 0, .int .u64 0, .int .u64 0, .int .u64 0, .int .u64 0, .int .u64 0, .int .u64 0, .int .u64 0, .int .u64 0, .int .u64 0, .int .u64 0, .int .u64 0, .int .u64 0, .int .u64 0, .int .u64 0, .int .u64 0, .int .u64 0, .int .u64 0, .int .u64 0, .int .u64 0, .int .u64 0, .int .u64 0, .int .u64 0, .int .i64 0, .bool false], .slice none 0 0, .int .i64 0] 8 (World.laidAll_os _ _ _)
      (World.shaped_of_ZipB (by kernel_rfl) (by kernel_rfl)) (by kernel_rfl) (by kernel_rfl) (by kernel_rfl)
      (by rw [MakeChecks.laidMetH_plain _ _ _ (by kernel_rfl)]; exact laidMet_laidAll _ (by kernel_rfl) (by kernel_rfl))) ?_
  intro W base args ds gs before hval0 hW hsz0 hL hsh
  have hVars : Vars W := vars_of_laid hL hsh
  have hval : ∀ (j : Nat) t v, Tryd.f4.params[j]? = some t → args[j]? = some v → Value.okWide Tryd.prog W .any base t v := hval0
  have hW' := hW
  obtain ⟨p, q, hA0, hV, rfl, hfz, hnd⟩ := hW
  have hA : DataW.TrodAll enc Tryd.prog W 0 (fun _ => true) true Tryd.f4.params.toList args.toList ds p := hA0
  rw [Tryd.params4] at hA hval
  obtain ⟨v0, vs0, d0, ds0, p0, q0, hargs, rfl, rfl, h0, r0⟩ := trodAll_cons hA
  obtain ⟨v1, vs1, d1, ds1, p1, q1, rfl, rfl, rfl, h1, r1⟩ := trodAll_cons r0
  obtain ⟨v2, vs2, d2, ds2, p2, q2, rfl, rfl, rfl, h2, r2⟩ := trodAll_cons r1
  obtain ⟨rfl, rfl, rfl⟩ := trodAll_nil r2
  obtain rfl : args = #[v0, v1, v2] := by cases args; simp_all
  obtain ⟨rfl, rfl⟩ := trodVars_none hV
  obtain ⟨cs0, rfl, hcz0⟩ := okWide_struct Tryd.underlying26 (hval 0 26 v0 rfl rfl)
  have k0 := h0
  have lt0 : ∀ x ∈ p0, x.block < W.heap.size := by obtain ⟨m, hm⟩ := k0; exact DataW.trod_lt m _ _ _ hm
  obtain ⟨kd0, ws0, pt0, ot0, w0⟩ : ∃ kd ws pt ot, SIs cs0 kd ws pt ot := by
    obtain ⟨fuel, hf⟩ := h0
    exact read_sponge (by simpa [Value.cells] using hf)
  obtain ⟨a1, len1, cap1, rfl⟩ := okWide_slice Tryd.underlying24 (hval 1 24 v1 rfl rfl)
  have k1 := h1
  have lt1 : ∀ x ∈ p1, x.block < W.heap.size := by obtain ⟨m, hm⟩ := k1; exact DataW.trod_lt m _ _ _ hm
  obtain ⟨z1, w1⟩ : ∃ zs, IsRow .u8 W a1 len1 cap1 zs := by
    obtain ⟨fuel, hf⟩ := h1
    rcases open_ints Tryd.underlying24 Tryd.underlying5 (by kernel_rfl) hf with ⟨hcs, _⟩ | ⟨x, l, c, zs, hcs, _, hl, hm, hz, _, hcell, hwz⟩
    · simp [Value.cells] at hcs
      obtain ⟨rfl, rfl, rfl⟩ := hcs
      exact ⟨[], .inl ⟨rfl, rfl, rfl, rfl⟩⟩
    · simp [Value.cells] at hcs
      obtain ⟨rfl, rfl, rfl⟩ := hcs
      exact ⟨zs, .inr ⟨_, rfl, hl, hm, by simpa using hz, hcell, hwz⟩⟩
  obtain ⟨a2, rfl, rfl, rfl, w2⟩ := open_int Tryd.underlying3 (hval 2 3 v2 rfl rfl) h2
  clear hA0 hval0
  refine (walk cs0 kd0 ws0 pt0 ot0 a1 len1 cap1 z1 a2 W w0 w1 w2 hVars).mono fun e W' ⟨he, bel⟩ => ?_
  subst he
  exact ⟨_, rfl, _, _, _, [], _, [], hW', trodAll_mk1 (shut_bool Tryd.underlying4 _), (trodAll_cons_mk (Below.trod laidOut (by kernel_rfl) (of_decide_eq_true (by kernel_rfl)) k0 bel lt0) (trodAll_cons_mk (Below.trod laidOut (by kernel_rfl) (of_decide_eq_true (by kernel_rfl)) k1 bel lt1) (trodAll_cons_mk (shut_int Tryd.underlying3 w2) trodAll_mk0))), rfl, bel.frame _, fun h => by cases h⟩

theorem over : Rows.keccakGoesRow.holds Tryd.pinned (OpenSpec.ofChange Rows.keccakGoesSpec) :=
  OpenClaim.holds_of_wide 4 Tryd.f4 rfl rfl rfl rfl rfl rfl rfl ⟨rfl, rfl, rfl, rfl, rfl⟩ rfl rfl rfl rfl rfl (by kernel_rfl) Tryd.func4 (by kernel_rfl)
    (of_decide_eq_true (by kernel_rfl)) (by unfold Func.isWrapper; first | (rw [if_pos (by decide +kernel)]; kernel_rfl) | (rw [if_neg (by decide +kernel)]; exact ⟨rfl, rfl⟩))
    (fun os started H enc _ => lifted os started H enc)

end Go.Proofs.YtnbohjoakngkeaaDoor.keccakGoes
namespace Go.Proofs.YtnbohjoakngkeaaDoor
theorem keccakGoes_card : Rows.KeccakGoesCardSaid :=
  Claim7.holds_tied_plain_at .later [] [.data] true (true, "65e1b20b851afa4a5164a7ae36cec46e7a6cca0244bca5644d7614fd41e2e818") false
    keccakGoes.over (fun _ h => by cases h) (by kernel_rfl) (fun _ h => by cases h) keccakGoes_row_tie rfl ⟨rfl, rfl⟩ (by kernel_rfl) rfl
    (fun f fn hf hfn => by
      obtain rfl : f = 4 := Option.some.inj ((show Tryd.prog.funcNamed Tryd.f4.name = some 4 by kernel_rfl).symm.trans hf) |>.symm
      obtain rfl : fn = Tryd.f4 := (Option.some.inj (Tryd.func4.symm.trans hfn)).symm
      exact ⟨by kernel_rfl, fun j t ht => by
        rw [Tryd.params4] at ht
        have hm : t ∈ [26, 24, 3] := by simpa using Array.mem_of_getElem? ht
        have hall : ([26, 24, 3].all fun u => !Tryd.prog.wantsStandIn u) = true := by kernel_rfl
        exact (show Tryd.prog.wantsStandIn t = false by simpa using List.all_eq_true.1 hall t hm)⟩)
    (by kernel_rfl)
end Go.Proofs.YtnbohjoakngkeaaDoor
