/- For every sponge, every two texts and every two bytes: apostillelaw08.KeccakParts returns true, and each argument reads afterwards as it read before; keccak's table of constants is as the program's text lays it. No other condition. -/
import Derived.Test.YtnbohjoakngkeaaDoorKVar
import Derived.Test.YtnbohjoakngkeaaDoorKLaw
import Derived.Test.YtnbohjoakngkeaaDoorKPar
import Derived.WalkKit
import Derived.ProofKit
import Derived.OpenShut
import Derived.ShutString
import Derived.ChangeOld
import Derived.Below
import Derived.SizedLaws
namespace Go.Proofs.YtnbohjoakngkeaaDoor.keccakParts
open Go.ChangeShapes Go.WideShapes Go.ChangeAt Go.RowKit
open Go.ChangeMaps (open_string shut_string)
set_option linter.unusedVariables false

set_option maxRecDepth 100000 in
set_option maxHeartbeats 4000000 in
theorem walk (cs0 : Array Value) (kd0 : Int) (ws0 : List Nat) (pt0 : Int) (ot0 : Bool) (a1 : Option Addr) (len1 cap1 : Nat) (z1 : List Int) (a2 : Option Addr) (len2 cap2 : Nat) (z2 : List Int) (a3 : Int) (a4 : Int) (w : World) (w0 : SIs cs0 kd0 ws0 pt0 ot0) (w1 : IsRow .u8 w a1 len1 cap1 z1) (w2 : IsRow .u8 w a2 len2 cap2 z2) (w3 : (Lit.int .u8 a3).wf = true) (w4 : (Lit.int .u8 a4).wf = true) (s1 : len1 ≤ 140737488351232) (s2 : len2 ≤ 140737488351232) (hV : Vars w) :
    Calls Tryd.prog 5 #[.agg cs0, .slice a1 len1 cap1, .slice a2 len2 cap2, .int .u8 a3, .int .u8 a4] w fun e w' => e = .returned (.bool true) ∧ Below w.heap.size w w' := by
  have hT : Csts w := hV
  have ta := isRow_tidy w1
  have tb := isRow_tidy w2
  obtain ⟨la, rfl, ra⟩ := w1.row wf_u8
  obtain ⟨lb, rfl, rb⟩ := w2.row wf_u8
  obtain ⟨rfl, k1, k2, hw, q1, q2⟩ := w0
  obtain ⟨n, rfl⟩ := Int.eq_ofNat_of_zero_le (wf_u8 a3 w3).1
  obtain ⟨m, rfl⟩ := Int.eq_ofNat_of_zero_le (wf_u8 a4 w4).1
  have bn := (wf_u8 _ w3).2
  have bm := (wf_u8 _ w4).2
  clear w1 w2 w3 w4 hV
  have hl := hw.1
  have hS : Sg (w.alloc (.cells (sl kd0 ws0 pt0 ot0).toArray 26)) w.heap.size kd0 ws0 pt0 ot0 := Sg.new w 26 kd0 ws0 pt0 ot0 hl
  have hb := keep_alloc w (.cells (sl kd0 ws0 pt0 ot0).toArray 26)
  have hll := hS.all
  have hsl := sl_len (kind := kd0) (p := pt0) (o := ot0) hl
  have hft := fun x => kfit_any kd0 ws0 pt0 ot0 x hl
  obtain ⟨L, hL⟩ : ∃ x : Nat, x = la.length + lb.length := ⟨_, rfl⟩
  have e_L : (la.length : Int) + (lb.length : Int) = (L : Int) := by omega
  have s_L : IntKind.i64.wrap (L : Int) = (L : Int) := by rw [IntKind.wrap_i64]; omega
  by_cases hff : fitK kd0 pt0 ot0 = false
  · rw [hff] at hft
    clear hff
    go_enter Tryd.func5, Tryd.ntmps5
    go_wp2_with (first
      | (refine wpList_load_mid rfl 26 _ (by rfl) w.heap.size 0 (by rfl) (sl kd0 ws0 pt0 ot0) _ hll Tryd.underlying26 rfl (by rw [hsl]; kernel_rfl) ?_)
      | (go_at_call 16; refine (hft _).mono ?_; rintro e x1 ⟨rfl, hb1⟩)
      | (go_at_call 7; refine (awake_any _ (hT.below (keep_trans hb hb1))).mono ?_; rintro e x2 ⟨rfl, hb2⟩)
      | fail)
    go_ret
    exact ⟨rfl, keep_trans (keep_trans hb hb1) hb2⟩
  have hf : fitK kd0 pt0 ot0 = true := by simpa using hff
  rw [hf] at hft
  by_cases h1 : 900 < L
  · have h1i : (900 : Int) < (L : Int) := by omega
    clear hL h1
    go_enter Tryd.func5, Tryd.ntmps5
    go_wp2_with (first
      | (refine wpList_load_mid rfl 26 _ (by rfl) w.heap.size 0 (by rfl) (sl kd0 ws0 pt0 ot0) _ hll Tryd.underlying26 rfl (by rw [hsl]; kernel_rfl) ?_)
      | (go_at_call 16; refine (hft _).mono ?_; rintro e x1 ⟨rfl, hb1⟩)
      | (go_at_call 7; refine (awake_any _ (hT.below (keep_trans hb hb1))).mono ?_; rintro e x2 ⟨rfl, hb2⟩)
      | fail)
    go_ret
    exact ⟨rfl, keep_trans (keep_trans hb hb1) hb2⟩
  have h1i : ¬ (900 : Int) < (L : Int) := by omega
  have h900 : la.length + lb.length ≤ 900 := by omega
  obtain ⟨M1, P1, M2, P2, hM, hA1, hA2, hA3, hA4⟩ := parts_abs kd0 ws0 pt0 ot0 (.slice a1 la.length cap1) (.slice a2 lb.length cap2) la lb w hT hw hf ra rb h900
  obtain ⟨UM, UP, VM, VP, X, Y, hU, hV, hfU, hX, hY, hC, hD, hE⟩ := parts_sqz kd0 ws0 pt0 ot0 n m w hT hw hf (by omega) (by omega)
  obtain ⟨N, hN⟩ : ∃ x : Nat, x = n + m := ⟨_, rfl⟩
  rw [← hN] at hE
  have s_n : IntKind.i64.wrap (n : Int) = (n : Int) := by rw [IntKind.wrap_i64]; omega
  have s_m : IntKind.i64.wrap (m : Int) = (m : Int) := by rw [IntKind.wrap_i64]; omega
  have e_N : (n : Int) + (m : Int) = (N : Int) := by omega
  have s_N : IntKind.i64.wrap (N : Int) = (N : Int) := by rw [IntKind.wrap_i64]; omega
  have h_len : ((X ++ Y).length : Int) = (N : Int) := by rw [List.length_append]; omega
  have h_xy : X.length + Y.length ≤ 1000 := by omega
  have hsU : (sl kd0 UM UP true).toArray.size = 28 := by simp [sl_len hU]
  have hsV : (sl kd0 VM VP true).toArray.size = 28 := by simp [sl_len hV]
  have hs0 : (sl 0 (zs 25) 0 false).toArray.size = 28 := by simp [sl_len (zs_len 25)]
  have hz := zero28
  have HHT := hide hT
  have Hlen := hide h_len
  have Hxy := hide h_xy
  have HfU := hide hfU
  clear hf hff h1 hL hN hX hY h_len h_xy hfU hT
  go_enter Tryd.func5, Tryd.ntmps5
  go_wp2_with (first
    | (refine wpList_load_mid rfl 26 _ (by rfl) w.heap.size 0 (by rfl) (sl kd0 ws0 pt0 ot0) _ hll Tryd.underlying26 rfl (by rw [hsl]; kernel_rfl) ?_)
    | (go_at_call 16; refine (hft _).mono ?_; rintro e x1 ⟨rfl, hb1⟩; have hS1 := hS.below hb1; have hB1 := keep_trans hb hb1)
    | fail)
  refine par_3 (w := w) (kind := kd0) (ws := ws0) (p := pt0) (ot := ot0) (av := .slice a1 la.length cap1) (bv := .slice a2 lb.length cap2) (la := la) (lb := lb) (n := (n : Int)) (m := (m : Int)) (M1 := M1) (M2 := M2) (P1 := P1) (P2 := P2) hl hM h900 ?_ hA1 hA2 hA3 hA4 ra rb ta tb ⟨⟨rfl, rfl⟩, rfl, rfl, rfl, rfl, rfl⟩ ⟨hS1, hB1⟩
  rename_i Q' K hK
  intro a x F t46 E
  obtain ⟨tm, df⟩ := a
  obtain ⟨⟨hsz, hdf⟩, t1, t2, t3, t4, t5⟩ := F
  obtain ⟨hSx, hBx⟩ := E
  dsimp only at hsz hdf
  subst hdf
  obtain ⟨ll⟩ := tm
  obtain ⟨u0, u1, u2, u3, u4, u5, u6, u7, u8, u9, u10, u11, u12, u13, u14, u15, u16, u17, u18, u19, u20, u21, u22, u23, u24, u25, u26, u27, u28, u29, u30, u31, u32, u33, u34, u35, u36, u37, u38, u39, u40, u41, u42, u43, u44, u45, u46, u47, u48, u49, u50, u51, u52, u53, u54, u55, u56, u57, u58, u59, u60, u61, u62, u63, u64, u65, u66, u67, u68, u69, u70, u71, u72, u73, u74, u75, u76, u77, u78, u79, u80, u81, u82, u83, u84, u85, u86, u87, u88, u89, u90, u91, u92, u93, u94, u95, u96, u97, u98, u99, u100, u101, rfl⟩ := list102 ll (by simpa using hsz)
  have e1 : u1 = .slice a1 la.length cap1 := t1
  have e2 : u2 = .slice a2 lb.length cap2 := t2
  have e3 : u3 = .int .u8 n := t3
  have e4 : u4 = .int .u8 m := t4
  have e5 : u5 = .pointer (some ⟨w.heap.size, 0, none⟩) := t5
  have e46 : u46 = .bool false := t46
  subst e1 e2 e3 e4 e5 e46
  clear t1 t2 t3 t4 t5 t46 hsz hS1 hB1 hS hb hb1 hll hft hA1 hA2 hA3 hA4 ra rb ta tb
  refine hK _ _ ?_
  clear hK
  have hlx := hSx.all
  go_wp2_with (first
    | (refine wpList_load_mid rfl 26 _ (by rfl) w.heap.size 0 (by rfl) (sl kd0 ws0 pt0 ot0) _ hlx Tryd.underlying26 rfl (by rw [hsl]; kernel_rfl) ?_)
    | (go_at_call_of 19 (#[Value.agg (sl kd0 ws0 pt0 ot0).toArray, Value.int .i64 (n : Int)]); refine (hC _ hBx).mono ?_; rintro e x4 ⟨vx, rfl, rvx, tvx, hbx4⟩; have hRx4 : (x4.alloc (.cells (sl 0 (zs 25) 0 false).toArray 26)).heap[x4.heap.size]? = some (.cells (sl 0 (zs 25) 0 false).toArray 26 (0, 0)) := heap_alloc_last x4 _; obtain ⟨ya, yc, rfl⟩ := rvx.form)
    | (refine wpList_store_row rfl 26 _ _ (by rfl) x4.heap.size (sl kd0 UM UP true).toArray (by rfl) (by rfl) _ _ hRx4 (by rw [hsU]; kernel_rfl) (by rw [hsU, hs0]) (all_oneCell_toArray (sl_one _ _ _ _)) ?_; have kx5 := setRow_heap (x4.alloc (.cells (sl 0 (zs 25) 0 false).toArray 26)) x4.heap.size _ (sl kd0 UM UP true).toArray 26 _ hRx4; have hcx4 : Below x4.heap.size x4 ((x4.alloc (.cells (sl 0 (zs 25) 0 false).toArray 26)).setRow x4.heap.size (sl kd0 UM UP true).toArray) := (keep_alloc x4 _).trans ((But.setRow (But.refl x4.heap.size _) _).below (Nat.le_refl _) (by simp)); have hdx4 := keep_trans hbx4 hcx4; have hB5 := keep_trans hBx hdx4; have hl5 := (hSx.below hdx4).all; have hS5 := hSx.below hdx4; have rx5 := rvx.below hcx4; clear hlx; clear hRx4; generalize (x4.alloc (.cells (sl 0 (zs 25) 0 false).toArray 26)).setRow x4.heap.size (sl kd0 UM UP true).toArray = x5 at *)
    | (refine wpList_load_row rfl 26 _ (by rfl) x4.heap.size (by rfl) _ _ _ _ kx5 Tryd.underlying26 rfl (by rw [hsU]; kernel_rfl) ?_)
    | (go_at_call_of 19 (#[Value.agg (sl kd0 UM UP true).toArray, Value.int .i64 (m : Int)]); refine (hD _ hB5).mono ?_; rintro e x6 ⟨vy, rfl, rvy, tvy, hbx6⟩; have hRx6 : (x6.alloc (.cells (sl 0 (zs 25) 0 false).toArray 26)).heap[x6.heap.size]? = some (.cells (sl 0 (zs 25) 0 false).toArray 26 (0, 0)) := heap_alloc_last x6 _; obtain ⟨yb, yd, rfl⟩ := rvy.form)
    | (refine wpList_store_row rfl 26 _ _ (by rfl) x6.heap.size (sl kd0 VM VP true).toArray (by rfl) (by rfl) _ _ hRx6 (by rw [hsV]; kernel_rfl) (by rw [hsV, hs0]) (all_oneCell_toArray (sl_one _ _ _ _)) ?_; have kx7 := setRow_heap (x6.alloc (.cells (sl 0 (zs 25) 0 false).toArray 26)) x6.heap.size _ (sl kd0 VM VP true).toArray 26 _ hRx6; have hcx6 : Below x6.heap.size x6 ((x6.alloc (.cells (sl 0 (zs 25) 0 false).toArray 26)).setRow x6.heap.size (sl kd0 VM VP true).toArray) := (keep_alloc x6 _).trans ((But.setRow (But.refl x6.heap.size _) _).below (Nat.le_refl _) (by simp)); have hdx6 := keep_trans hbx6 hcx6; have hB7 := keep_trans hB5 hdx6; have hl7 := (hS5.below hdx6).all; have hS7 := hS5.below hdx6; have rx7 := rx5.below hdx6; have ry7 := rvy.below hcx6; have ku7 := (hdx6.block _ (heap_lt kx5)).trans kx5; clear hl5 kx5; clear hRx6; generalize (x6.alloc (.cells (sl 0 (zs 25) 0 false).toArray 26)).setRow x6.heap.size (sl kd0 VM VP true).toArray = x7 at *)
    | (refine wpList_load_mid rfl 26 _ (by rfl) w.heap.size 0 (by rfl) (sl kd0 ws0 pt0 ot0) _ hl7 Tryd.underlying26 rfl (by rw [hsl]; kernel_rfl) ?_)
    | (go_at_call_of 19 (#[Value.agg (sl kd0 ws0 pt0 ot0).toArray, Value.int .i64 (N : Int)]); refine (hE _ hB7).mono ?_; rintro e x8 ⟨vz, rfl, rvz, tvz, hbx8⟩; have hRx8 : (x8.alloc (.cells (sl 0 (zs 25) 0 false).toArray 26)).heap[x8.heap.size]? = some (.cells (sl 0 (zs 25) 0 false).toArray 26 (0, 0)) := heap_alloc_last x8 _; obtain ⟨ye, yf, rfl⟩ := rvz.form)
    | (refine wpList_store_row rfl 26 _ _ (by rfl) x8.heap.size (sl kd0 VM VP true).toArray (by rfl) (by rfl) _ _ hRx8 (by rw [hsV]; kernel_rfl) (by rw [hsV, hs0]) (all_oneCell_toArray (sl_one _ _ _ _)) ?_; have kx9 := setRow_heap (x8.alloc (.cells (sl 0 (zs 25) 0 false).toArray 26)) x8.heap.size _ (sl kd0 VM VP true).toArray 26 _ hRx8; have hcx8 : Below x8.heap.size x8 ((x8.alloc (.cells (sl 0 (zs 25) 0 false).toArray 26)).setRow x8.heap.size (sl kd0 VM VP true).toArray) := (keep_alloc x8 _).trans ((But.setRow (But.refl x8.heap.size _) _).below (Nat.le_refl _) (by simp)); have hdx8 := keep_trans hbx8 hcx8; have hB9 := keep_trans hB7 hdx8; have rx9 := rx7.below hdx8; have ry9 := ry7.below hdx8; have rz9 := rvz.below hcx8; have ku9 := (hdx8.block _ (heap_lt ku7)).trans ku7; have kv9 := (hdx8.block _ (heap_lt kx7)).trans kx7; clear hl7; clear hRx8; generalize (x8.alloc (.cells (sl 0 (zs 25) 0 false).toArray 26)).setRow x8.heap.size (sl kd0 VM VP true).toArray = x9 at *)
    | fail)
  rw [List.length_append] at rz9
  refine par_8 (w := w) (kind := kd0) (UM := UM) (UP := UP) (VM := VM) (VP := VP) (gu := x4.heap.size) (gv := x6.heap.size) (gw := x8.heap.size) (av := .slice a1 la.length cap1) (X := X) (Y := Y) (n := (n : Int)) (m := (m : Int)) (c := (N : Int)) HHT.out hU hV HfU.out tvx tvy s_n s_m (by rw [e_N, s_N]) Hlen.out Hxy.out ?_ ⟨⟨rfl, rfl⟩, rfl, rfl, rfl, rfl, rfl, rfl, rfl, rfl, rfl⟩ ⟨ku9, kv9, kx9, rx9, ry9, rz9, hB9⟩
  rename_i Q2 K2 hK2
  intro a x F t10 hbx
  refine hK2 _ _ ?_
  refine wp_ret ?_
  exact bodyPost_ret (results_is Tryd.results5 t10 x) F.2 ⟨rfl, hbx⟩

set_option maxRecDepth 100000 in
theorem lifted (os : Os) (started : os.Started) (H : Type) (enc : TypeId × Value → H) :
    ReturnsInHanded {} Tryd.checked os 5 .any (fun w args => (Rows.keccakPartsSpec.pre enc Tryd.prog Tryd.f5 Rows.keccakPartsRow.domain false w args ∧ laidMetH Tryd.prog Rows.keccakPartsRow.laid w) ∧ sizedMet enc Tryd.prog Tryd.f5 (OpenSpec.ofChange Rows.keccakPartsSpec) false w args) (Rows.keccakPartsSpec.post enc Tryd.prog Tryd.f5 false true false false) := by
  refine change_laid_shaped (C := Tryd.checked) (X := fun w _ => laidMetH Tryd.prog Rows.keccakPartsRow.laid w) (fun _ _ _ hh h => h.of_heap hh) own started (by kernel_rfl) Tryd.func5
    (ChangeSpec.witness_shaped (enc := enc) (C := Tryd.checked) (os := os) (X := fun w _ => laidMetH Tryd.prog Rows.keccakPartsRow.laid w) false (World.laidAll Tryd.prog os Rows.keccakPartsRow.laid) #[.agg #[.int .i64 0, .int .u64 0, .int .u64 0, .int .u64 0, .int .u64 0, .int .u64 0, .int .u64 0, .int .u64 0, .int .u64 0, .int .u64 0, .int .u64 0, .int .u64 0, .int .u64 0, .int .u64 0, .int .u64 0, .int .u64 0, .int .u64 0, .int .u64 0, .int .u64 0, .int .u64 0, .int .u64 0, .int .u64 0, .int .u64 0, .int .u64 0, .int .u64 0, .int .u64 0, .int .i64 0, .bool false], .slice none 0 0, .slice none 0 0, .int .u8 0, .int .u8 0] 8 (World.laidAll_os _ _ _)
      (World.shaped_of_ZipB (by kernel_rfl) (by kernel_rfl)) (by kernel_rfl) (by kernel_rfl) (by kernel_rfl)
      (by rw [MakeChecks.laidMetH_plain _ _ _ (by kernel_rfl)]; exact laidMet_laidAll _ (by kernel_rfl) (by kernel_rfl))) ?_
  intro W base args ds gs before hval0 hW hsz0 hL hsh
  have hsz : (DataW.weightsEach Tryd.prog (Tryd.f5.params.toList ++ Rows.keccakPartsSpec.plain.varTypes Tryd.prog) (ds ++ gs)).all (· ≤ reachBytes) = true := hsz0
  clear hsz0
  have hVars : Vars W := vars_of_laid hL hsh
  have hval : ∀ (j : Nat) t v, Tryd.f5.params[j]? = some t → args[j]? = some v → Value.okWide Tryd.prog W .any base t v := hval0
  have hW' := hW
  obtain ⟨p, q, hA0, hV, rfl, hfz, hnd⟩ := hW
  have hA : DataW.TrodAll enc Tryd.prog W 0 (fun _ => true) true Tryd.f5.params.toList args.toList ds p := hA0
  rw [Tryd.params5] at hA hval hsz
  obtain ⟨v0, vs0, d0, ds0, p0, q0, hargs, rfl, rfl, h0, r0⟩ := trodAll_cons hA
  obtain ⟨v1, vs1, d1, ds1, p1, q1, rfl, rfl, rfl, h1, r1⟩ := trodAll_cons r0
  obtain ⟨v2, vs2, d2, ds2, p2, q2, rfl, rfl, rfl, h2, r2⟩ := trodAll_cons r1
  obtain ⟨v3, vs3, d3, ds3, p3, q3, rfl, rfl, rfl, h3, r3⟩ := trodAll_cons r2
  obtain ⟨v4, vs4, d4, ds4, p4, q4, rfl, rfl, rfl, h4, r4⟩ := trodAll_cons r3
  obtain ⟨rfl, rfl, rfl⟩ := trodAll_nil r4
  obtain rfl : args = #[v0, v1, v2, v3, v4] := by cases args; simp_all
  obtain ⟨rfl, rfl⟩ := trodVars_none hV
  obtain ⟨cs0, rfl, hcz0⟩ := okWide_struct Tryd.underlying26 (hval 0 26 v0 rfl rfl)
  have k0 := h0
  have lt0 : ∀ x ∈ p0, x.block < W.heap.size := by obtain ⟨m, hm⟩ := k0; exact DataW.trod_lt m _ _ _ hm
  obtain ⟨kd0, ws0, pt0, ot0, w0⟩ : ∃ kd ws pt ot, SIs cs0 kd ws pt ot := by
    obtain ⟨fuel, hf⟩ := h0
    exact read_sponge (by simpa [Value.cells] using hf)
  obtain ⟨a1, len1, cap1, rfl⟩ := okWide_slice Tryd.underlying24 (hval 1 24 v1 rfl rfl)
  have k1 := h1
  have lt1 : ∀ x ∈ p1, x.block < W.heap.size := by obtain ⟨m, hm⟩ := k1; exact DataW.trod_lt m _ _ _ hm
  obtain ⟨z1, w1, s1⟩ : ∃ zs, IsRow .u8 W a1 len1 cap1 zs ∧ len1 ≤ 140737488351232 := by
    obtain ⟨fuel, hf⟩ := h1
    rcases open_ints Tryd.underlying24 Tryd.underlying5 (by kernel_rfl) hf with ⟨hcs, _⟩ | ⟨x, l, c, zs, hcs, _, hl, hm, hz, hx, hcell, hwz⟩
    · simp [Value.cells] at hcs
      obtain ⟨rfl, rfl, rfl⟩ := hcs
      exact ⟨[], .inl ⟨rfl, rfl, rfl, rfl⟩, Nat.zero_le _⟩
    · simp [Value.cells] at hcs
      obtain ⟨rfl, rfl, rfl⟩ := hcs
      have hs := sized_slice hsz (j := 1) (t := 24) (e := 5) rfl (by rw [(Prod.mk.inj hx).1]; rfl) Tryd.underlying24
      rw [Tryd.bytes5] at hs
      simp only [lits, List.length_map, List.length_take, List.length_drop, reachBytes] at hs
      have hz' : zs.length = cap1 := by simpa using hz
      exact ⟨zs, .inr ⟨_, rfl, hl, hm, hz', hcell, hwz⟩, by omega⟩
  obtain ⟨a2, len2, cap2, rfl⟩ := okWide_slice Tryd.underlying24 (hval 2 24 v2 rfl rfl)
  have k2 := h2
  have lt2 : ∀ x ∈ p2, x.block < W.heap.size := by obtain ⟨m, hm⟩ := k2; exact DataW.trod_lt m _ _ _ hm
  obtain ⟨z2, w2, s2⟩ : ∃ zs, IsRow .u8 W a2 len2 cap2 zs ∧ len2 ≤ 140737488351232 := by
    obtain ⟨fuel, hf⟩ := h2
    rcases open_ints Tryd.underlying24 Tryd.underlying5 (by kernel_rfl) hf with ⟨hcs, _⟩ | ⟨x, l, c, zs, hcs, _, hl, hm, hz, hx, hcell, hwz⟩
    · simp [Value.cells] at hcs
      obtain ⟨rfl, rfl, rfl⟩ := hcs
      exact ⟨[], .inl ⟨rfl, rfl, rfl, rfl⟩, Nat.zero_le _⟩
    · simp [Value.cells] at hcs
      obtain ⟨rfl, rfl, rfl⟩ := hcs
      have hs := sized_slice hsz (j := 2) (t := 24) (e := 5) rfl (by rw [(Prod.mk.inj hx).1]; rfl) Tryd.underlying24
      rw [Tryd.bytes5] at hs
      simp only [lits, List.length_map, List.length_take, List.length_drop, reachBytes] at hs
      have hz' : zs.length = cap2 := by simpa using hz
      exact ⟨zs, .inr ⟨_, rfl, hl, hm, hz', hcell, hwz⟩, by omega⟩
  obtain ⟨a3, rfl, rfl, rfl, w3⟩ := open_int Tryd.underlying5 (hval 3 5 v3 rfl rfl) h3
  obtain ⟨a4, rfl, rfl, rfl, w4⟩ := open_int Tryd.underlying5 (hval 4 5 v4 rfl rfl) h4
  clear hA0 hval0
  refine (walk cs0 kd0 ws0 pt0 ot0 a1 len1 cap1 z1 a2 len2 cap2 z2 a3 a4 W w0 w1 w2 w3 w4 s1 s2 hVars).mono fun e W' ⟨he, bel⟩ => ?_
  subst he
  exact ⟨_, rfl, _, _, _, [], _, [], hW', trodAll_mk1 (shut_bool Tryd.underlying4 _), (trodAll_cons_mk (Below.trod laidOut (by kernel_rfl) (of_decide_eq_true (by kernel_rfl)) k0 bel lt0) (trodAll_cons_mk (Below.trod laidOut (by kernel_rfl) (of_decide_eq_true (by kernel_rfl)) k1 bel lt1) (trodAll_cons_mk (Below.trod laidOut (by kernel_rfl) (of_decide_eq_true (by kernel_rfl)) k2 bel lt2) (trodAll_cons_mk (shut_int Tryd.underlying5 w3) (trodAll_cons_mk (shut_int Tryd.underlying5 w4) trodAll_mk0))))), rfl, bel.frame _, fun h => by cases h⟩

theorem over : Rows.keccakPartsRow.holds Tryd.pinned (OpenSpec.ofChange Rows.keccakPartsSpec) :=
  OpenClaim.holds_of_wide 5 Tryd.f5 rfl rfl rfl rfl rfl rfl rfl ⟨rfl, rfl, rfl, rfl, rfl⟩ rfl rfl rfl rfl rfl (by kernel_rfl) Tryd.func5 (by kernel_rfl)
    (of_decide_eq_true (by kernel_rfl)) (by unfold Func.isWrapper; first | (rw [if_pos (by decide +kernel)]; kernel_rfl) | (rw [if_neg (by decide +kernel)]; exact ⟨rfl, rfl⟩))
    (fun os started H enc _ => lifted os started H enc)

end Go.Proofs.YtnbohjoakngkeaaDoor.keccakParts
namespace Go.Proofs.YtnbohjoakngkeaaDoor
theorem keccakParts_card : Rows.KeccakPartsCardSaid :=
  Claim7.holds_tied_plain_at .later [] [.data] true (true, "65e1b20b851afa4a5164a7ae36cec46e7a6cca0244bca5644d7614fd41e2e818") false
    keccakParts.over (fun _ h => by cases h) (by kernel_rfl) (fun _ h => by cases h) keccakParts_row_tie rfl ⟨rfl, rfl⟩ (by kernel_rfl) rfl
    (fun f fn hf hfn => by
      obtain rfl : f = 5 := Option.some.inj ((show Tryd.prog.funcNamed Tryd.f5.name = some 5 by kernel_rfl).symm.trans hf) |>.symm
      obtain rfl : fn = Tryd.f5 := (Option.some.inj (Tryd.func5.symm.trans hfn)).symm
      exact ⟨by kernel_rfl, fun j t ht => by
        rw [Tryd.params5] at ht
        have hm : t ∈ [26, 24, 24, 5, 5] := by simpa using Array.mem_of_getElem? ht
        have hall : ([26, 24, 24, 5, 5].all fun u => !Tryd.prog.wantsStandIn u) = true := by kernel_rfl
        exact (show Tryd.prog.wantsStandIn t = false by simpa using List.all_eq_true.1 hall t hm)⟩)
    (by kernel_rfl)
end Go.Proofs.YtnbohjoakngkeaaDoor
