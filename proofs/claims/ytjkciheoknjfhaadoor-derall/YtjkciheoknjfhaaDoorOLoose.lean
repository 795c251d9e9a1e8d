/- Contracts of oid.loose (a loop over an iterator), oid.Parse. -/
import Derived.Test.YtjkciheoknjfhaaDoorOLoo
import Derived.Lib.MinMax
namespace Go.Proofs.YtjkciheoknjfhaaDoor
open Go.RowKit Go.Shelf
set_option linter.unusedVariables false
attribute [local go_sem] Oper.semAt_some

set_option maxRecDepth 100000 in
set_option maxHeartbeats 4000000 in
theorem loose_in (F : Fence) (n : Nat) (h21 : F.fn 75) (h32 : F.fn 82) (h38 : F.fn 87) (hro : F.round = none) (hn : 3 ≤ n) (v : Value) (b : List Nat) (w : World) (hr : Row .u8 256 w v b) :
    CallsIn F n Tryd.prog 75 #[v] w fun e W' => ∃ u, e = .returned u ∧ Own 82 .u32 4294967296 W' w.heap.size u (looseS b) ∧ Below w.heap.size w W' := by
  have h1 : 1 ≤ n := by omega
  obtain ⟨i0, hi, hz0, hz1, hz2⟩ := info_parts Tryd.info82
  have hr' := hr
  obtain ⟨a, cap, rfl, hb1, hb2, hb3, hb4⟩ := hr
  refine callsIn_of_wp_marks Tryd.func75 rfl h21 ?_ hro
  simp only [Tryd.ntmps75, List.size_toArray, List.length_cons, List.length_nil, Nat.reduceAdd, Nat.reduceSub, Array.replicate_succ, Array.replicate_zero, List.push_toArray, List.append_toArray, List.nil_append, List.cons_append]
  have hB1 : Below w.heap.size w (w.alloc (.cells #[.slice none 0 0] 73)) := keep_alloc _ _
  gi_wp2_with (gi_at_call 82; refine (numbers_in F (n - 1) h32 hro _ b _ (hr'.below hB1)).mono ?_; rintro e w' ⟨rfl, rfl⟩)
  have bO := Boxed.new w 73 (.slice none 0 0)
  have bN := Boxed.new (w.alloc (.cells #[.slice none 0 0] 73)) 22 (.slice a b.length cap)
  rw [World.size_alloc] at bN
  have hB0 : Below w.heap.size w ((w.alloc (.cells #[.slice none 0 0] 73)).alloc (.cells #[.slice a b.length cap] 22)) := ((Below.refl _ w).alloc (Nat.le_refl _) _).alloc (by simp) _
  have hIown : OwnFrom ((w.alloc (.cells #[.slice none 0 0] 73)).alloc (.cells #[.slice a b.length cap] 22)).heap.size
      (fun (pre : List U32) W => (∃ v, Boxed W w.heap.size 73 v ∧ W.ownsRow w.heap.size 82 1 v (looseP pre).length (vals .u32 (looseP pre)) ∧ True) ∧ Below w.heap.size w W) :=
    OwnFrom.and (Own.from (holdsRow_own w.heap.size w.heap.size 73 82 1 (fun pre => (looseP pre).length) (fun pre => vals .u32 (looseP pre)) (fun _ _ => True)) _) (ownFrom_below (Nat.le_refl _) (by simp; omega))
  refine wpIn_rangeFunc_ownG hro h1 (gf := 87) (lb := #[.pointer (some ⟨w.heap.size + 1, 0, none⟩)]) rfl h38 (enters_of Tryd.func87 (by kernel_rfl) rfl)
    (numbers_stops F (n - 1) h38 hro (by omega) (w.heap.size + 1) a cap b w _ hr' (by simp) hB0 bN.cell) belowK_t (belowK_b (by simp; omega)) (Below.refl _ _) (fun _ => rfl)
    (fun pre W => (∃ v, Boxed W w.heap.size 73 v ∧ W.ownsRow w.heap.size 82 1 v (looseP pre).length (vals .u32 (looseP pre)) ∧ True) ∧ Below w.heap.size w W)
    (fun c pre W => (c = .exit 0 ∧ 20 < (looseP pre).length) ∧ (∃ v, Boxed W w.heap.size 73 v ∧ W.ownsRow w.heap.size 82 1 v (looseP pre).length (vals .u32 (looseP pre)) ∧ True) ∧ Below w.heap.size w W)
    hIown
    (fun c => OwnFrom.and (ownFrom_pure _ _) hIown)
    ⟨⟨_, bO.alloc _, World.ownsRow_nil _ _ _ _, trivial⟩, hB0⟩
    (fun x => { tmps := #[.slice a b.length cap, undef, .slice none 0 0, .pointer (some ⟨w.heap.size, 0, none⟩), .int .u32 (x.1 : Int), undef, .slice a b.length cap, .func (.func 87) #[] #[.pointer (some ⟨w.heap.size + 1, 0, none⟩)], .int .u32 (x.1 : Int), undef, undef, undef, undef, undef, undef, undef, undef, undef, undef, undef, undef, undef, undef, undef, undef, undef, undef, undef, undef, undef, undef], defers := [] }) ?assign ?body ?done ?stop
  case assign =>
    intro l x W K hK
    gi_wp2
    exact hK
  case body =>
    rintro l pre ⟨x, hx⟩ W ⟨⟨v, hv, hrow, _⟩, hB⟩ hlt
    have hc := hv.cell
    have hll := looseP_len pre
    have hsz := hB.size
    obtain ⟨ad, co, rfl, ho1, ho2, _, _⟩ := Own.row (⟨hrow, looseP_under pre⟩ : Own 82 .u32 4294967296 W w.heap.size v (looseP pre))
    unfold maxLen at ho2
    by_cases hfull : 20 < (looseP pre).length
    · have HS := hide (looseP_snoc_full hfull ⟨x, hx⟩)
      gi_wp2
      exact ⟨KeepsFrom.refl _ _, ⟨rfl, by rw [HS.out]; exact hfull⟩, ⟨_, hv, by rw [HS.out]; exact hrow, trivial⟩, hB⟩
    by_cases hz : (looseP pre).length = 0
    · obtain rfl := looseP_zero hz
      have HF := hide (looseP_first ⟨x, hx⟩)
      rw [hz] at hrow hc hv
      have gq0 : (0 : Int) ≤ min ((x : Int) / 40) 2 := by omega
      have gq1 : (0 : Int) ≤ (x : Int) - min ((x : Int) / 40) 2 * 40 := by omega
      have gq2 : (x : Int) - min ((x : Int) / 40) 2 * 40 < 4294967296 := by omega
      have gq3 : min ((x : Int) / 40) 2 * 40 < 4294967296 := by omega
      have gq4 : min ((x : Int) / 40) 2 < 4294967296 := by omega
      have hnew : ∀ j u, (vals .u32 (fst2 x))[j]? = some u → (W.alloc (.cells #[.int .u32 (min ((x : Int) / 40) 2), .int .u32 ((x : Int) - min ((x : Int) / 40) 2 * 40)] 82)).cell? ((⟨W.heap.size, 0, none⟩ : Addr).add j) = some u := by
        have e1 : min ((x : Int) / 40) 2 = ((min (x / 40) 2 : Nat) : Int) := by omega
        have e2 : (x : Int) - min ((x : Int) / 40) 2 * 40 = ((x - min (x / 40) 2 * 40 : Nat) : Int) := by omega
        rw [e2, e1]
        exact (two_own 82 .u32 (min (x / 40) 2) (x - min (x / 40) 2 * 40) W W.heap.size (Nat.le_refl _)).cells rfl
      gi_wp2_with (gi_at_builtin; refine wpListIn_append_own _ rfl _ _ 73 rfl w.heap.size 82 i0 (.int .u32 0) 1 4 Tryd.underlying73 hi hz0 hz1 hz2 rfl (by decide) _ _ _ rfl (hrow.alloc _) ⟨W.heap.size, 0, none⟩ 2 2 (vals .u32 (fst2 x)) rfl rfl hnew (vals_one _ _) (by decide) (by decide) (by simp; omega) ?_; intro v' w1 hown' hgrow _; obtain ⟨g', cap', rfl⟩ := ownsRow_succ hown'; obtain ⟨hv1, hv2, hr2, hk2, hb2⟩ := hv.appended (by decide) hrow hB.size (Nat.le_refl _) hown' hgrow; have hc1 := hv1.cell; have hf1 := hv1.frozen)
      exact ⟨hk2.from _, hb2, ⟨_, hv2, by rw [HF.out]; exact hr2⟩, hB.trans hb2⟩
    · have hpn : pre ≠ [] := by rintro rfl; exact hz rfl
      have HS := hide (looseP_snoc hpn hfull ⟨x, hx⟩)
      have hzz : (((looseP pre).length : Int) == 0) = false := beq_eq_false_iff_ne.2 (by omega)
      gi_wp2_with (gi_at_builtin; refine wpListIn_append_own _ rfl _ _ 73 rfl w.heap.size 82 i0 (.int .u32 0) 1 4 Tryd.underlying73 hi hz0 hz1 hz2 rfl (by decide) _ _ _ rfl (hrow.alloc _) ⟨W.heap.size, 0, none⟩ 1 1 (vals .u32 [x]) rfl rfl (app_cells W .u32 x _ _ rfl) (vals_one _ _) (by unfold maxLen; omega) (by omega) (by simp; omega) ?_; intro v' w1 hown' hgrow _; obtain ⟨g', cap', rfl⟩ := ownsRow_succ hown'; obtain ⟨hv1, hv2, hr2, hk2, hb2⟩ := hv.appended (by decide) hrow hB.size (Nat.le_refl _) hown' hgrow; have hc1 := hv1.cell; have hf1 := hv1.frozen)
      exact ⟨hk2.from _, hb2, ⟨_, hv2, by rw [HS.out, List.length_append, vals_append]; exact hr2⟩, hB.trans hb2⟩
  case done =>
    rintro D ys W hD rfl ⟨⟨v, hv, hrow, _⟩, hB⟩ hK
    have hc := hv.cell
    gi_wp2
    refine ⟨by simp, .inl ⟨_, _, rfl, run_takeDeferred hK, ?_⟩⟩
    rw [looseP_all] at hrow
    exact ⟨_, results_tmp rfl _ _ _, v, rfl, ⟨ownsRow_putObj hrow _ hK rfl, looseS_under b⟩, hB.trans (belowK_b (w := w) (Nat.le_refl _) W D _ _ (by simp at hD; omega) hK rfl rfl)⟩
  case stop =>
    rintro D c pre W hD hpre ⟨⟨rfl, hfull⟩, ⟨v, hv, hrow, _⟩, hB⟩ hK
    have hc := hv.cell
    rw [← looseP_prefix hpre hfull, looseP_all] at hrow
    gi_wp2
    refine ⟨by simp, .inl ⟨_, _, rfl, run_takeDeferred hK, ?_⟩⟩
    exact ⟨_, results_tmp rfl _ _ _, v, rfl, ⟨ownsRow_putObj hrow _ hK rfl, looseS_under b⟩, hB.trans (belowK_b (w := w) (Nat.le_refl _) W D _ _ (by simp at hD; omega) hK rfl rfl)⟩

theorem loose_any (v : Value) (b : List Nat) (w : World) (hr : Row .u8 256 w v b) :
    Calls Tryd.prog 75 #[v] w fun e W' => ∃ u, e = .returned u ∧ Own 82 .u32 4294967296 W' w.heap.size u (looseS b) ∧ Below w.heap.size w W' :=
  callsIn_wide.1 (loose_in Fence.wide 3 trivial trivial trivial rfl (by decide) v b w hr)

theorem parO_some {b : List Nat} (h1 : fitB (looseS b) = true) (h2 : bytesS (looseS b) = b) : parO b = some (looseS b) := by unfold parO; rw [if_pos ⟨h1, h2⟩]
theorem parO_none {b : List Nat} (h : ¬ (fitB (looseS b) = true ∧ bytesS (looseS b) = b)) : parO b = none := by unfold parO; rw [if_neg h]

set_option maxHeartbeats 1000000 in
theorem parse_any (v : Value) (b : List Nat) (w : World) (h : Row .u8 256 w v b) :
    Calls Tryd.prog 69 #[v] w fun e w' => Told .i64 5 (parO b) w' e ∧ Below w.heap.size w w' := by
  have h' := h
  obtain ⟨a, cap, rfl, _⟩ := h
  go_enter Tryd.func69, Tryd.ntmps69
  go_wp2_with fail
  refine (loose_any _ b _ h').mono ?_
  rintro e w1 ⟨u, rfl, ho, hb1⟩
  have hro := ho.row
  have hfit := fit_any u (looseS b) w1 hro
  cases hf : fitB (looseS b) with
  | false =>
    rw [hf] at hfit
    have HN := hide (parO_none (b := b) (by rw [hf]; simp))
    go_wp2_with (first | (go_at_call 76; refine hfit.mono ?_; rintro e w2 ⟨rfl, rfl⟩) | fail)
    go_ret2
    exact ⟨Told.none HN.out, hb1⟩
  | true =>
    rw [hf] at hfit
    go_wp2_with (first | (go_at_call 76; refine hfit.mono ?_; rintro e w2 ⟨rfl, rfl⟩) | fail)
    refine (bytes_any u (looseS b) w2 hro).mono ?_
    rintro e w3 ⟨v3, rfl, ho3, hb3⟩
    have heq := beq_any v3 _ _ b w3 ho3.row (h'.below (keep_trans hb1 hb3))
    by_cases hbb : bytesS (looseS b) = b
    · have HN := hide (parO_some hf hbb)
      rw [decide_eq_true hbb] at heq
      go_wp2_with (first | (go_at_call 26; refine heq.mono ?_; rintro e w4 ⟨rfl, rfl⟩) | fail)
      go_ret2
      exact ⟨⟨_, by rw [HN.out]; rfl, by rw [HN.out]; exact hro.below hb3⟩, keep_trans hb1 hb3⟩
    · have HN := hide (parO_none (b := b) (fun h => hbb h.2))
      rw [decide_eq_false hbb] at heq
      go_wp2_with (first | (go_at_call 26; refine heq.mono ?_; rintro e w4 ⟨rfl, rfl⟩) | fail)
      go_ret2
      exact ⟨Told.none HN.out, keep_trans hb1 hb3⟩
end Go.Proofs.YtjkciheoknjfhaaDoor
