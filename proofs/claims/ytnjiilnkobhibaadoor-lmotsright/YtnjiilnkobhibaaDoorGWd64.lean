/- Contract of the document's words, of 64 bits. -/
import Derived.Test.YtnjiilnkobhibaaDoorGRt
namespace Go.Proofs.YtnjiilnkobhibaaDoor
open Go.RowKit
set_option linter.unusedVariables false
set_option linter.unusedSimpArgs false

theorem Tryd.infoU64 : (Tryd.prog.info? 44).map (fun i => (i.zero, i.size, i.bytes)) = some (some (.int .u64 0), 1, 8) := by kernel_rfl
/-- the first words of a block -/
def wl64 (l : List Nat) (t : Nat) : List Nat := if t < 16 then words true l t else sched true l (t - 16)
theorem wl_length64 (l : List Nat) (t : Nat) : (wl64 l t).length = t := by
  unfold wl64
  split
  · exact words_length _ _ _
  · rw [sched_length]; omega
theorem wl_low64 (l : List Nat) (t : Nat) (h : t < 16) : wl64 l (t + 1) = wl64 l t ++ [word true l t] := by
  unfold wl64
  rw [if_pos h]
  by_cases h2 : t + 1 < 16
  · rw [if_pos h2]; exact words_succ _ _ _
  · obtain rfl : t = 15 := by omega
    exact words_succ _ _ _
theorem wl_high64 (l : List Nat) (t : Nat) (h : 16 ≤ t) : wl64 l (t + 1) = wl64 l t ++ [nxt true (wl64 l t)] := by
  unfold wl64
  rw [if_neg (by omega), if_neg (by omega), show t + 1 - 16 = (t - 16) + 1 by omega]; rfl
theorem wl_under64 (l : List Nat) (t : Nat) (hu : Under 256 l) : Under (wm true) (wl64 l t) := by
  unfold wl64
  split
  · exact words_under hu _
  · exact sched_under hu _

set_option maxHeartbeats 4000000 in
set_option maxRecDepth 100000 in
theorem words_any64 (v : Value) (l : List Nat) (w : World) (hR : Row .u8 256 w v l) (hl : l.length = 128) :
    Calls Tryd.prog 84 #[v, .bool true, .int .i64 80, (.int .u64 18446744073709551615)] w fun e w' => ∃ v', e = .returned v' ∧ Own 44 .u64 18446744073709551616 w' w.heap.size v' (sched true l 64) ∧ Below w.heap.size w w' := by
  have hu := hR.under
  obtain ⟨a, cap, rfl, h1, h2, h3⟩ := hR.opens hl
  obtain ⟨bb, off, rfl, hc⟩ := h3 (by decide)
  clear h3 hc
  obtain ⟨i0, hi, hz0, hz1, hz2⟩ := info_parts Tryd.infoU64
  go_enter Tryd.func84, Tryd.ntmps84
  go_wp2
  go_loopw [10, 11] (fun v i wr => ∃ t : Nat, t ≤ 80 ∧ i = .int .i64 t ∧ wr.ownsRow w.heap.size 44 1 v t (vals .u64 (wl64 l t)) ∧ Below w.heap.size w wr) (fun _ i _ => 80 - (intOf i).toNat)
  case atStart => exact ⟨0, Nat.zero_le _, rfl, World.ownsRow_nil _ _ _ _, Below.refl _ _⟩
  case round =>
    obtain ⟨t, ht, rfl, how, hbr⟩ := hrel
    have hsz := hbr.size
    by_cases hlt : t < 16
    · have hRt : Row .u8 256 wr (.slice (some ⟨bb, off + t * 8, none⟩) 8 (cap - t * 8)) ((l.drop (t * 8)).take 8) := by
        have := (hR.below hbr).mid (i := t * 8) (j := t * 8 + 8) (by omega) (by omega)
        rwa [show t * 8 + 8 - t * 8 = 8 by omega] at this
      have hwn := wl_low64 l t hlt
      have HWN := hide hwn
      clear hwn
      go_wp2_with (first
        | (go_at_call 37; refine (rnum_any _ _ _ hRt).mono ?_; rintro e w2 ⟨rfl, rfl⟩)
        | (at_builtin; refine wpList_append_own _ rfl _ _ 123 rfl w.heap.size 44 i0 (.int .u64 0) 1 8 Tryd.underlying123 hi hz0 hz1 hz2 rfl (by decide) _ _ _ rfl (how.alloc _) ⟨w2.heap.size, 0, none⟩ 1 1 (vals .u64 [word true l t]) rfl rfl (app_cells w2 .u64 (word true l t) _ _ rfl) (vals_one _ _) (by unfold maxLen; omega) (by omega) (by simp; omega) ?_; intro v4 w4 how4 hgrow4 _; have hb4 := below_append hbr hsz how _ hgrow4)
        | fail)
      exact ⟨⟨t + 1, by omega, by go_num, by rw [HWN.out, vals_append]; exact how4, hb4⟩, by simp [intOf]; omega⟩
    · by_cases hl2 : t < 80
      · obtain ⟨g, cg, rfl, hgB, hgc, hgm⟩ := row_form how (by omega)
        have hlen := wl_length64 l t
        have hwu := wl_under64 l t hu
        have hwn := wl_high64 l t (by omega)
        have HWN := hide hwn
        have HN : Hid (nxt true (wl64 l t) = (lS1 true (el (wl64 l t) (t - 2)) + el (wl64 l t) (t - 7) + lS0 true (el (wl64 l t) (t - 15)) + el (wl64 l t) (t - 16)) % wm true) := by
          apply hide; unfold nxt; rw [hlen]
        clear hwn
        have cc := fun (i : Nat) (hi : i < t) => (how.cellAt i (by omega)).trans (vals_get .u64 (wl64 l t) i (by omega))
        have x2 := cc (t - 2) (by omega)
        have x7 := cc (t - 7) (by omega)
        have x15 := cc (t - 15) (by omega)
        have x16 := cc (t - 16) (by omega)
        clear cc
        have y2 : (t : Int) - 2 = ((t - 2 : Nat) : Int) := by omega
        have y7 : (t : Int) - 7 = ((t - 7 : Nat) : Int) := by omega
        have y15 : (t : Int) - 15 = ((t - 15 : Nat) : Int) := by omega
        have y16 : (t : Int) - 16 = ((t - 16 : Nat) : Int) := by omega
        have n0 : t - 2 < t ∧ t - 7 < t ∧ t - 15 < t ∧ t - 16 < t ∧ t < 80 := by omega
        have u := fun i => el_lt hwu (wm_pos true) i
        have v2 : el (wl64 l t) (t - 2) < 18446744073709551616 := u _
        have v7 : el (wl64 l t) (t - 7) < 18446744073709551616 := u _
        have v15 : el (wl64 l t) (t - 15) < 18446744073709551616 := u _
        have v16 : el (wl64 l t) (t - 16) < 18446744073709551616 := u _
        have HWU := hide hwu
        clear u hlen hwu
        generalize nxt true (wl64 l t) = N at *
        generalize wl64 l t = s at *
        generalize t - 2 = c2 at *
        generalize t - 7 = c7 at *
        generalize t - 15 = c15 at *
        generalize t - 16 = c16 at *
        obtain ⟨n1, n2, n3, n4, n5⟩ := n0
        have i2 : (c2 : Int) < (t : Int) := by omega
        have i7 : (c7 : Int) < (t : Int) := by omega
        have i15 : (c15 : Int) < (t : Int) := by omega
        have i16 : (c16 : Int) < (t : Int) := by omega
        have r2 : IntKind.i64.wrap (c2 : Int) = (c2 : Int) := by rw [IntKind.wrap_i64]; omega
        have r7 : IntKind.i64.wrap (c7 : Int) = (c7 : Int) := by rw [IntKind.wrap_i64]; omega
        have r15 : IntKind.i64.wrap (c15 : Int) = (c15 : Int) := by rw [IntKind.wrap_i64]; omega
        have r16 : IntKind.i64.wrap (c16 : Int) = (c16 : Int) := by rw [IntKind.wrap_i64]; omega
        have hlow : ¬ (t : Int) < 16 := by omega
        go_wp2_with fail
        refine (rmix_any false true (el s c15) 7 18 3 wr (by omega) (by decide) (by decide) (by decide)).mono ?_
        rintro e w1 ⟨rfl, hb1⟩
        replace x2 := keep_cell x2 hb1
        replace x7 := keep_cell x7 hb1
        replace x15 := keep_cell x15 hb1
        replace x16 := keep_cell x16 hb1
        replace how := own_kept how hb1
        replace hbr := keep_trans hbr hb1
        go_wp2_with fail
        refine (rmix_any false true (el s c2) 17 19 10 w1 (by omega) (by decide) (by decide) (by decide)).mono ?_
        rintro e w2 ⟨rfl, hb2⟩
        replace x2 := keep_cell x2 hb2
        replace x7 := keep_cell x7 hb2
        replace x15 := keep_cell x15 hb2
        replace x16 := keep_cell x16 hb2
        replace how := own_kept how hb2
        replace hbr := keep_trans hbr hb2
        go_wp2_with fail
        refine (rmix_any true true (el s c15) 1 8 7 w2 (by omega) (by decide) (by decide) (by decide)).mono ?_
        rintro e w3 ⟨rfl, hb3⟩
        replace x2 := keep_cell x2 hb3
        replace x7 := keep_cell x7 hb3
        replace x15 := keep_cell x15 hb3
        replace x16 := keep_cell x16 hb3
        replace how := own_kept how hb3
        replace hbr := keep_trans hbr hb3
        go_wp2_with fail
        refine (rmix_any true true (el s c2) 19 61 6 w3 (by omega) (by decide) (by decide) (by decide)).mono ?_
        rintro e w4 ⟨rfl, hb4⟩
        replace x2 := keep_cell x2 hb4
        replace x7 := keep_cell x7 hb4
        replace x15 := keep_cell x15 hb4
        replace x16 := keep_cell x16 hb4
        replace how := own_kept how hb4
        replace hbr := keep_trans hbr hb4
        have hsz2 := hbr.size
        generalize hWR : w4 = wq at *
        go_wp2
        go_region_held3 (fun w' => w'.cell? ⟨g, c7, none⟩ = some (.int .u64 (el s c7)) ∧ w'.cell? ⟨g, c16, none⟩ = some (.int .u64 (el s c16)))
          (first
            | exact ⟨x7, x16⟩
            | exact ⟨keep_cell x7 (keep_alloc _ _), keep_cell x16 (keep_alloc _ _)⟩
            | (go_split_ands; exact ⟨(hcell5 c7 n2).trans (by assumption), (hcell5 c16 n4).trans (by assumption)⟩)
            | go_keep)
          (first
            | (refine step_append_keeps (by rfl) _ _ _ (by rfl) w.heap.size 44 i0 (.int .u64 0) 8 Tryd.underlying123 hi hz0 hz1 hz2 rfl g t cg _ (by rfl) ((how.alloc _).drew) ⟨wq.heap.size, 0, none⟩ 1 1 [.int .u64 (bits .and .u64 (IntKind.u64.wrap (IntKind.u64.wrap (IntKind.u64.wrap (((rmx true true 19 61 6 (el s c2) : Nat) : Int) + (el s c7 : Nat)) + ((rmx true true 1 8 7 (el s c15) : Nat) : Int)) + (el s c16 : Nat))) 18446744073709551615)] (by rfl) (by rfl) (World.news_of_block (cs := #[.int .u64 (bits .and .u64 (IntKind.u64.wrap (IntKind.u64.wrap (IntKind.u64.wrap (((rmx true true 19 61 6 (el s c2) : Nat) : Int) + (el s c7 : Nat)) + ((rmx true true 1 8 7 (el s c15) : Nat) : Int)) + (el s c16 : Nat))) 18446744073709551615)]) (t := 44) (fr := (0, 0)) (heap_alloc_new wq _)) (by simp [Value.oneCell']) (by decide) (by unfold maxLen; omega) (by omega) (by simp; omega) ?_; intro gg cap5 w5 how5 hgrow5 hcell5))
        have hb5 : Below w.heap.size w w5 := ((hbr.alloc hsz2 _).drew).grown hgrow5 (by simp; omega) (fun k h => by have e := Option.some.inj h; omega)
        have hsl := rmx_lt (b := true) (sh := true) (r1 := 19) (r2 := 61) (r3 := 6) (x := el s c2) (by omega)
        have hN : ((((shft3 true 19 61 6 (el s c2) + el s c7) % 18446744073709551616 + shft3 true 1 8 7 (el s c15)) % 18446744073709551616 + el s c16) % 18446744073709551616) % 18446744073709551616 = N := by
          rw [HN.out]
          simp only [lS0, lS1, wm, cond_true, cond_false]
          omega
        have hV : [.int .u64 (bits .and .u64 (IntKind.u64.wrap (IntKind.u64.wrap (IntKind.u64.wrap (((rmx true true 19 61 6 (el s c2) : Nat) : Int) + (el s c7 : Nat)) + ((rmx true true 1 8 7 (el s c15) : Nat) : Int)) + (el s c16 : Nat))) 18446744073709551615)] = vals .u64 [N] := by
          rw [rmx_shft (b := true) v2 (by decide) (by decide), rmx_shft (b := true) v15 (by decide) (by decide), add_is64, add_is64, add_is64, and_ones64 _ (Nat.mod_lt _ (by decide))]
          rw [Nat.mod_mod] at hN; rw [hN]; rfl
        rw [hV, ← vals_append] at how5
        rw [← HWN.out] at how5
        clear hN hV hgrow5 hcell5 hsl
        go_wp2
        exact ⟨⟨t + 1, by omega, by go_num, how5, hb5⟩, by simp [intOf]; omega⟩
      · obtain rfl : t = 80 := by omega
        have e : wl64 l 80 = sched true l 64 := rfl
        have hun := wl_under64 l 80 hu
        rw [e] at how hun
        have hsl := sched_length true l 64
        go_wp2
        go_ret
        exact ⟨_, rfl, ⟨by rw [hsl]; exact how, fun x hx => Nat.lt_of_lt_of_le (hun x hx) (wm_le true)⟩, hbr⟩
end Go.Proofs.YtnjiilnkobhibaaDoor
