/- Contract of sha.Add. -/
import Derived.Test.YtgdcpdbmacmheaaDoorHAdd32
import Derived.Test.YtgdcpdbmacmheaaDoorHAdd64
import Derived.Test.YtgdcpdbmacmheaaDoorHN3
import Derived.Test.YtgdcpdbmacmheaaDoorHPlF
namespace Go.Proofs.YtgdcpdbmacmheaaDoor
open Go.RowKit
set_option linter.unusedVariables false
set_option linter.unusedSimpArgs false

/-- what Add is, of either word size -/
theorem add_both (kind : Int) (hk : kind = 1 ∨ kind = 2 ∨ kind = 3) (ws : List Nat) (tv bv : Value) (tl b : List Nat) (size : Nat) (w : World) (hT : Roots w) (h8 : ws.length = 8) (hu : Under (wm (wide kind)) ws) (hRt : Row .u8 256 w tv tl) (tT : Tidy tv) (hRb : Row .u8 256 w bv b) (tB : Tidy bv) (htl : tl.length < bz (wide kind)) (hbl : b.length ≤ 100000) (hsz : size < 1152921504606846976) :
    (kind = 1 → Calls Tryd.prog 33 #[.agg (hv kind ws tv size), bv] w fun e w' => ∃ v', e = .returned (.agg (hv kind (eat (wide kind) ws (tl ++ b)) v' (size + b.length))) ∧ Row .u8 256 w' v' (left (wide kind) (tl ++ b)) ∧ Tidy v' ∧ (∀ q, v'.ownBlock = some q → w.heap.size ≤ q) ∧ Below w.heap.size w w') ∧
    (¬ kind = 1 → Calls Tryd.prog 34 #[.agg (hv kind ws tv size), bv] w fun e w' => ∃ v', e = .returned (.agg (hv kind (eat (wide kind) ws (tl ++ b)) v' (size + b.length))) ∧ Row .u8 256 w' v' (left (wide kind) (tl ++ b)) ∧ Tidy v' ∧ (∀ q, v'.ownBlock = some q → w.heap.size ≤ q) ∧ Below w.heap.size w w') := by
  constructor
  · rintro rfl
    exact add_any32 1 ws tv bv tl b size w hT h8 hu hRt tT hRb tB htl hbl hsz
  · intro h
    have hw : wide kind = true := by simp [wide, h]
    rw [hw] at hu htl ⊢
    exact add_any64 kind ws tv bv tl b size w hT h8 hu hRt tT hRb tB htl hbl hsz

set_option maxHeartbeats 2000000 in
set_option maxRecDepth 100000 in
theorem sAdd_any (kind : Int) (ws : List Nat) (tv bv : Value) (tl b : List Nat) (size : Nat) (w : World) (hT : Roots w) (h8 : ws.length = 8) (hu : Under 18446744073709551616 ws) (hRt : Row .u8 256 w tv tl) (tT : Tidy tv) (hRb : Row .u8 256 w bv b) (tB : Tidy bv) (hbl : b.length ≤ 100000) (hf : hfit kind ws tl.length size = true) (hs : size < 18446744073709551616) :
    Calls Tryd.prog 17 #[.agg (hv kind ws tv size), bv] w fun e w' => ∃ v', e = .returned (.agg (hv kind (eat (wide kind) ws (tl ++ b)) v' (size + b.length))) ∧ Row .u8 256 w' v' (left (wide kind) (tl ++ b)) ∧ Tidy v' ∧ Below w.heap.size w w' := by
  obtain ⟨hk, hsz, hn, hu'⟩ := hfit_true h8 hu hf
  have htl : tl.length < bz (wide kind) := by rw [hn]; exact Nat.mod_lt _ (bz_pos _)
  obtain ⟨ta, tc, rfl⟩ := hRt.form
  obtain ⟨ba, bc, rfl⟩ := hRb.form
  have hb0 : Below w.heap.size w ((w.alloc (.cells #[.int .i64 kind, .int .u64 (el ws 0), .int .u64 (el ws 1), .int .u64 (el ws 2), .int .u64 (el ws 3), .int .u64 (el ws 4), .int .u64 (el ws 5), .int .u64 (el ws 6), .int .u64 (el ws 7), .slice ta tl.length tc, .int .u64 size] 26)).alloc (.cells #[.int .i64 0, .int .u64 0, .int .u64 0, .int .u64 0, .int .u64 0, .int .u64 0, .int .u64 0, .int .u64 0, .int .u64 0, .slice none 0 0, .int .u64 0] 26)) := keep_trans (keep_alloc _ _) (keep_alloc _ _)
  have hH0 : Hb ((w.alloc (.cells #[.int .i64 kind, .int .u64 (el ws 0), .int .u64 (el ws 1), .int .u64 (el ws 2), .int .u64 (el ws 3), .int .u64 (el ws 4), .int .u64 (el ws 5), .int .u64 (el ws 6), .int .u64 (el ws 7), .slice ta tl.length tc, .int .u64 size] 26)).alloc (.cells #[.int .i64 0, .int .u64 0, .int .u64 0, .int .u64 0, .int .u64 0, .int .u64 0, .int .u64 0, .int .u64 0, .int .u64 0, .slice none 0 0, .int .u64 0] 26)) w.heap.size kind ws (.slice ta tl.length tc) size := (Hb.new w kind ws (.slice ta tl.length tc) size).below (keep_alloc _ _)
  have hO0 : El ((w.alloc (.cells #[.int .i64 kind, .int .u64 (el ws 0), .int .u64 (el ws 1), .int .u64 (el ws 2), .int .u64 (el ws 3), .int .u64 (el ws 4), .int .u64 (el ws 5), .int .u64 (el ws 6), .int .u64 (el ws 7), .slice ta tl.length tc, .int .u64 size] 26)).alloc (.cells #[.int .i64 0, .int .u64 0, .int .u64 0, .int .u64 0, .int .u64 0, .int .u64 0, .int .u64 0, .int .u64 0, .int .u64 0, .slice none 0 0, .int .u64 0] 26)) (w.heap.size + 1) := by
    have := (Hb.new (w.alloc (.cells (hv kind ws (.slice ta tl.length tc) size) 26)) 0 (List.replicate 8 0) (.slice none 0 0) 0).elev
    rw [World.size_alloc] at this
    exact this
  have hfc := fit_any kind ws _ tl size _ h8 hu (hRt.below hb0) hs
  rw [hf] at hfc
  have hT0 := hT.below hb0
  have hR0 := hRt.below hb0
  have hB0 := hRb.below hb0
  have hse := fun w1 hb1 => add_both kind hk ws _ _ tl b size w1 (hT0.below hb1) h8 hu' (hR0.below hb1) tT (hB0.below hb1) tB htl hbl hsz
  have hHn : ((w.alloc (.cells #[.int .i64 kind, .int .u64 (el ws 0), .int .u64 (el ws 1), .int .u64 (el ws 2), .int .u64 (el ws 3), .int .u64 (el ws 4), .int .u64 (el ws 5), .int .u64 (el ws 6), .int .u64 (el ws 7), .slice ta tl.length tc, .int .u64 size] 26)).alloc (.cells #[.int .i64 0, .int .u64 0, .int .u64 0, .int .u64 0, .int .u64 0, .int .u64 0, .int .u64 0, .int .u64 0, .int .u64 0, .slice none 0 0, .int .u64 0] 26)).heap[w.heap.size]? = some (.cells (hv kind ws (.slice ta tl.length tc) size) 26 (0, 0)) := hH0
  have HB := hide hb0
  have HO := hide hO0
  clear hn hf hu hs hsz hb0 hO0
  have huv : hv kind ws (.slice ta tl.length tc) size = #[.int .i64 kind, .int .u64 (el ws 0), .int .u64 (el ws 1), .int .u64 (el ws 2), .int .u64 (el ws 3), .int .u64 (el ws 4), .int .u64 (el ws 5), .int .u64 (el ws 6), .int .u64 (el ws 7), .slice ta tl.length tc, .int .u64 size] := rfl
  have hbody : ∀ (w1 : World) (hb1 : Below ((w.alloc (.cells #[.int .i64 kind, .int .u64 (el ws 0), .int .u64 (el ws 1), .int .u64 (el ws 2), .int .u64 (el ws 3), .int .u64 (el ws 4), .int .u64 (el ws 5), .int .u64 (el ws 6), .int .u64 (el ws 7), .slice ta tl.length tc, .int .u64 size] 26)).alloc (.cells #[.int .i64 0, .int .u64 0, .int .u64 0, .int .u64 0, .int .u64 0, .int .u64 0, .int .u64 0, .int .u64 0, .int .u64 0, .slice none 0 0, .int .u64 0] 26)).heap.size ((w.alloc (.cells #[.int .i64 kind, .int .u64 (el ws 0), .int .u64 (el ws 1), .int .u64 (el ws 2), .int .u64 (el ws 3), .int .u64 (el ws 4), .int .u64 (el ws 5), .int .u64 (el ws 6), .int .u64 (el ws 7), .slice ta tl.length tc, .int .u64 size] 26)).alloc (.cells #[.int .i64 0, .int .u64 0, .int .u64 0, .int .u64 0, .int .u64 0, .int .u64 0, .int .u64 0, .int .u64 0, .int .u64 0, .slice none 0 0, .int .u64 0] 26)) w1), Hb w1 w.heap.size kind ws (.slice ta tl.length tc) size := fun w1 hb1 => hH0.below hb1
  by_cases h1 : kind = 1
  · subst h1
    have hadd := fun w1 hb1 => (hse w1 hb1).1 rfl
    clear hse
    rw [huv]
    go_enter Tryd.func17, Tryd.ntmps17
    go_wp2_with (first
      | (go_at_call 14; refine hfc.mono ?_; rintro e w1 ⟨rfl, hb1⟩; obtain ⟨z0, z1, z2, z3, z4, z5, z6, z7, z8, z9, z10⟩ := (hbody w1 hb1).all)
      | (go_at_call 33; refine (hadd w1 hb1).mono ?_; rintro e w2 ⟨v2, rfl, hR2, hT2, hN2, hb2⟩; obtain ⟨old, ho1, ho2⟩ := (HO.out.below hb1).below hb2; obtain ⟨a2, c2, rfl⟩ := hR2.form; have hA2 : Away (w.heap.size + 1) (.slice a2 (left (wide 1) (tl ++ b)).length c2) (left (wide 1) (tl ++ b)) := fun _ q hq => (by have := hN2 q hq; have := hb1.size; simp at this; omega))
      | (refine wpList_store_row rfl 26 _ _ (by rfl) (w.heap.size + 1) _ (by rfl) (by rfl) _ _ ho2 (by kernel_rfl) (by rw [ho1]; rfl) (by simp [hv, Value.oneCell']) ?_)
      | fail)
    have hfu := setRow_heap w2 (w.heap.size + 1) old (hv 1 (eat (wide 1) ws (tl ++ b)) (.slice a2 (left (wide 1) (tl ++ b)).length c2) (size + b.length)) 26 _ ho2
    have hBf : But (w.heap.size + 1) w2 (w2.setRow (w.heap.size + 1) (hv 1 (eat (wide 1) ws (tl ++ b)) (.slice a2 (left (wide 1) (tl ++ b)).length c2) (size + b.length))) := (But.refl _ _).setRow _
    have hbw := keep_trans (keep_trans HB.out hb1) hb2
    refine bodyPost_ret (v := .agg (hv 1 (eat (wide 1) ws (tl ++ b)) (.slice a2 (left (wide 1) (tl ++ b)).length c2) (size + b.length))) ?_ ?_ ?_
    · exact results_cell_row Tryd.results17 _ _ (w.heap.size + 1) _ _ _ _ (by rfl) hfu Tryd.underlying26 rfl (by kernel_rfl)
    · rfl
    · exact ⟨_, rfl, hR2.but hA2 hBf, hT2, hbw.trans (hBf.below (by omega) hbw.size)⟩
  · have hadd := fun w1 hb1 => (hse w1 hb1).2 h1
    clear hse
    rw [huv]
    go_enter Tryd.func17, Tryd.ntmps17
    go_wp2_with (first
      | (go_at_call 14; refine hfc.mono ?_; rintro e w1 ⟨rfl, hb1⟩; obtain ⟨z0, z1, z2, z3, z4, z5, z6, z7, z8, z9, z10⟩ := (hbody w1 hb1).all)
      | (go_at_call 34; refine (hadd w1 hb1).mono ?_; rintro e w2 ⟨v2, rfl, hR2, hT2, hN2, hb2⟩; obtain ⟨old, ho1, ho2⟩ := (HO.out.below hb1).below hb2; obtain ⟨a2, c2, rfl⟩ := hR2.form; have hA2 : Away (w.heap.size + 1) (.slice a2 (left (wide kind) (tl ++ b)).length c2) (left (wide kind) (tl ++ b)) := fun _ q hq => (by have := hN2 q hq; have := hb1.size; simp at this; omega))
      | (refine wpList_store_row rfl 26 _ _ (by rfl) (w.heap.size + 1) _ (by rfl) (by rfl) _ _ ho2 (by kernel_rfl) (by rw [ho1]; rfl) (by simp [hv, Value.oneCell']) ?_)
      | fail)
    have hfu := setRow_heap w2 (w.heap.size + 1) old (hv kind (eat (wide kind) ws (tl ++ b)) (.slice a2 (left (wide kind) (tl ++ b)).length c2) (size + b.length)) 26 _ ho2
    have hBf : But (w.heap.size + 1) w2 (w2.setRow (w.heap.size + 1) (hv kind (eat (wide kind) ws (tl ++ b)) (.slice a2 (left (wide kind) (tl ++ b)).length c2) (size + b.length))) := (But.refl _ _).setRow _
    have hbw := keep_trans (keep_trans HB.out hb1) hb2
    refine bodyPost_ret (v := .agg (hv kind (eat (wide kind) ws (tl ++ b)) (.slice a2 (left (wide kind) (tl ++ b)).length c2) (size + b.length))) ?_ ?_ ?_
    · exact results_cell_row Tryd.results17 _ _ (w.heap.size + 1) _ _ _ _ (by rfl) hfu Tryd.underlying26 rfl (by kernel_rfl)
    · rfl
    · exact ⟨_, rfl, hR2.but hA2 hBf, hT2, hbw.trans (hBf.below (by omega) hbw.size)⟩
end Go.Proofs.YtgdcpdbmacmheaaDoor

/- Words for the laws of sums: what is fit; rows over worlds. -/
namespace Go.Proofs.YtgdcpdbmacmheaaDoor
open Go.RowKit
set_option linter.unusedVariables false
set_option linter.unusedSimpArgs false

/-- what makes a sum that goes on fit -/
theorem hfit_mk {kind : Int} {ws : List Nat} {n size : Nat} (h8 : ws.length = 8) (hk : kind = 1 ∨ kind = 2 ∨ kind = 3) (hs : size < 1152921504606846976) (hn : n = size % bz (wide kind)) (hu : Under (wm (wide kind)) ws) : hfit kind ws n size = true := by
  unfold hfit
  rw [Bool.and_eq_true, decide_eq_true_iff]
  refine ⟨⟨hk, hs, hn⟩, ?_⟩
  rcases hk with rfl | rfl | rfl
  · exact (wfit_one h8).2 (fun j hj => el_lt hu (by decide) j)
  · rfl
  · rfl
/-- a row of the call's own, behind a call -/
theorem own_below {w w' : World} {base : Nat} {e : TypeId} {size : Nat} {v : Value} {n : Nat} {xs : List Value} (h : w.ownsRow base e size v n xs) (hb : Below w.heap.size w w') : w'.ownsRow base e size v n xs := by
  obtain ⟨h1, h2⟩ := h
  refine ⟨h1, ?_⟩
  rcases h2 with h2 | ⟨g, cap, cur, rfl, h3, h4, h5⟩
  · exact .inl h2
  · refine .inr ⟨g, cap, cur, rfl, h3, ?_, h5⟩
    rw [hb.block g (by
      rcases Nat.lt_or_ge g w.heap.size with hlt | hge
      · exact hlt
      · rw [Array.getElem?_eq_none hge] at h4; cases h4)]
    exact h4
/-- the cells of a row of the call's own that is not empty -/
theorem own_news {e : TypeId} {k : IntKind} {m : Nat} {w : World} {B : Nat} {v : Value} {l : List Nat} (h : Own e k m w B v l) (n : Nat) (hn : l.length = n) (hl : 0 < n) :
    ∃ g c, v = .slice (some ⟨g, 0, none⟩) n c ∧ B ≤ g ∧ ∀ j u, (vals k l)[j]? = some u → w.cell? ((⟨g, 0, none⟩ : Addr).add j) = some u := by
  subst hn
  obtain ⟨g, c, rfl, hB, _, _⟩ := row_form h.1 hl
  refine ⟨g, c, rfl, hB, ?_⟩
  exact h.1.cells rfl
theorem leS_8 (n : Nat) : leS n 8 = leL n 8 := by unfold leS; rw [if_neg (by decide)]; rfl
end Go.Proofs.YtgdcpdbmacmheaaDoor
