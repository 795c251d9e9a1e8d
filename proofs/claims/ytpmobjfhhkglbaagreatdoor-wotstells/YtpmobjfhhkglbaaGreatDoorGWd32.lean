/- Contract of the document's words, of 32 bits. -/
import Derived.Test.YtpmobjfhhkglbaaGreatDoorHHsh
import Derived.Test.YtpmobjfhhkglbaaGreatDoorBase
namespace Go.Proofs.YtpmobjfhhkglbaaGreatDoor
open Go.RowKit
set_option linter.unusedVariables false
set_option linter.unusedSimpArgs false

theorem Tryz.infoU32 : (Tryz.prog.info? 26).map (fun i => (i.zero, i.size, i.bytes)) = some (some (.int .u64 0), 1, 8) := by kernel_rfl
/-- the first words of a block -/
def wl32 (l : List Nat) (t : Nat) : List Nat := if t < 16 then words false l t else sched false l (t - 16)
theorem wl_length32 (l : List Nat) (t : Nat) : (wl32 l t).length = t := by
  unfold wl32
  split
  · exact words_length _ _ _
  · rw [sched_length]; omega
theorem wl_low32 (l : List Nat) (t : Nat) (h : t < 16) : wl32 l (t + 1) = wl32 l t ++ [word false l t] := by
  unfold wl32
  rw [if_pos h]
  by_cases h2 : t + 1 < 16
  · rw [if_pos h2]; exact words_succ _ _ _
  · obtain rfl : t = 15 := by omega
    exact words_succ _ _ _
theorem wl_high32 (l : List Nat) (t : Nat) (h : 16 ≤ t) : wl32 l (t + 1) = wl32 l t ++ [nxt false (wl32 l t)] := by
  unfold wl32
  rw [if_neg (by omega), if_neg (by omega), show t + 1 - 16 = (t - 16) + 1 by omega]; rfl
theorem wl_under32 (l : List Nat) (t : Nat) (hu : Under 256 l) : Under (wm false) (wl32 l t) := by
  unfold wl32
  split
  · exact words_under hu _
  · exact sched_under hu _

set_option maxHeartbeats 4000000 in
set_option maxRecDepth 100000 in
theorem words_any32 (v : Value) (l : List Nat) (w : World) (hR : Row .u8 256 w v l) (hl : l.length = 64) :
    Calls Tryz.prog 93 #[v, .bool false, .int .i64 64, (.int .u64 4294967295)] w fun e w' => ∃ v', e = .returned v' ∧ Own 26 .u64 18446744073709551616 w' w.heap.size v' (sched false l 48) ∧ Below w.heap.size w w' := by
  have hu := hR.under
  obtain ⟨a, cap, rfl, h1, h2, h3⟩ := hR.opens hl
  obtain ⟨bb, off, rfl, hc⟩ := h3 (by decide)
  clear h3 hc
  obtain ⟨i0, hi, hz0, hz1, hz2⟩ := info_parts Tryz.infoU32
  go_enter Tryz.func93, Tryz.ntmps93
  go_wp2
  go_loopw [10, 11] (fun v i wr => ∃ t : Nat, t ≤ 64 ∧ i = .int .i64 t ∧ wr.ownsRow w.heap.size 26 1 v t (vals .u64 (wl32 l t)) ∧ Below w.heap.size w wr) (fun _ i _ => 64 - (intOf i).toNat)
  case atStart => exact ⟨0, Nat.zero_le _, rfl, World.ownsRow_nil _ _ _ _, Below.refl _ _⟩
  case round =>
    obtain ⟨t, ht, rfl, how, hbr⟩ := hrel
    have hsz := hbr.size
    by_cases hlt : t < 16
    · have hRt : Row .u8 256 wr (.slice (some ⟨bb, off + t * 4, none⟩) 4 (cap - t * 4)) ((l.drop (t * 4)).take 4) := by
        have := (hR.below hbr).mid (i := t * 4) (j := t * 4 + 4) (by omega) (by omega)
        rwa [show t * 4 + 4 - t * 4 = 4 by omega] at this
      have hwn := wl_low32 l t hlt
      have HWN := hide hwn
      clear hwn
      go_wp2_with (first
        | (go_at_call 75; refine (rnum_any _ _ _ hRt).mono ?_; rintro e w2 ⟨rfl, rfl⟩)
        | (at_builtin; refine wpList_append_own _ rfl _ _ 115 rfl w.heap.size 26 i0 (.int .u64 0) 1 8 Tryz.underlying115 hi hz0 hz1 hz2 rfl (by decide) _ _ _ rfl (how.alloc _) ⟨w2.heap.size, 0, none⟩ 1 1 (vals .u64 [word false l t]) rfl rfl (app_cells w2 .u64 (word false l t) _ _ rfl) (vals_one _ _) (by unfold maxLen; omega) (by omega) (by simp; omega) ?_; intro v4 w4 how4 hgrow4 _; have hb4 := below_append hbr hsz how _ hgrow4)
        | fail)
      exact ⟨⟨t + 1, by omega, by go_num, by rw [HWN.out, vals_append]; exact how4, hb4⟩, by simp [intOf]; omega⟩
    · by_cases hl2 : t < 64
      · obtain ⟨g, cg, rfl, hgB, hgc, hgm⟩ := row_form how (by omega)
        have hlen := wl_length32 l t
        have hwu := wl_under32 l t hu
        have hwn := wl_high32 l t (by omega)
        have HWN := hide hwn
        have HN : Hid (nxt false (wl32 l t) = (lS1 false (el (wl32 l t) (t - 2)) + el (wl32 l t) (t - 7) + lS0 false (el (wl32 l t) (t - 15)) + el (wl32 l t) (t - 16)) % wm false) := by
          apply hide; unfold nxt; rw [hlen]
        clear hwn
        have cc := fun (i : Nat) (hi : i < t) => (how.cellAt i (by omega)).trans (vals_get .u64 (wl32 l t) i (by omega))
        have x2 := cc (t - 2) (by omega)
        have x7 := cc (t - 7) (by omega)
        have x15 := cc (t - 15) (by omega)
        have x16 := cc (t - 16) (by omega)
        clear cc
        have y2 : (t : Int) - 2 = ((t - 2 : Nat) : Int) := by omega
        have y7 : (t : Int) - 7 = ((t - 7 : Nat) : Int) := by omega
        have y15 : (t : Int) - 15 = ((t - 15 : Nat) : Int) := by omega
        have y16 : (t : Int) - 16 = ((t - 16 : Nat) : Int) := by omega
        have n0 : t - 2 < t ∧ t - 7 < t ∧ t - 15 < t ∧ t - 16 < t ∧ t < 80 := by omega
        have u := fun i => el_lt hwu (wm_pos false) i
        have v2 : el (wl32 l t) (t - 2) < 4294967296 := u _
        have v7 : el (wl32 l t) (t - 7) < 4294967296 := u _
        have v15 : el (wl32 l t) (t - 15) < 4294967296 := u _
        have v16 : el (wl32 l t) (t - 16) < 4294967296 := u _
        have HWU := hide hwu
        clear u hlen hwu
        generalize nxt false (wl32 l t) = N at *
        generalize wl32 l t = s at *
        generalize t - 2 = c2 at *
        generalize t - 7 = c7 at *
        generalize t - 15 = c15 at *
        generalize t - 16 = c16 at *
        obtain ⟨n1, n2, n3, n4, n5⟩ := n0
        have i2 : (c2 : Int) < (t : Int) := by omega
        have i7 : (c7 : Int) < (t : Int) := by omega
        have i15 : (c15 : Int) < (t : Int) := by omega
        have i16 : (c16 : Int) < (t : Int) := by omega
        have r2 : IntKind.i64.wrap (c2 : Int) = (c2 : Int) := by rw [IntKind.wrap_i64]; omega
        have r7 : IntKind.i64.wrap (c7 : Int) = (c7 : Int) := by rw [IntKind.wrap_i64]; omega
        have r15 : IntKind.i64.wrap (c15 : Int) = (c15 : Int) := by rw [IntKind.wrap_i64]; omega
        have r16 : IntKind.i64.wrap (c16 : Int) = (c16 : Int) := by rw [IntKind.wrap_i64]; omega
        have hlow : ¬ (t : Int) < 16 := by omega
        go_wp2_with fail
        refine (rmix_any false true (el s c15) 7 18 3 wr (by omega) (by decide) (by decide) (by decide)).mono ?_
        rintro e w1 ⟨rfl, hb1⟩
        replace x2 := keep_cell x2 hb1
        replace x7 := keep_cell x7 hb1
        replace x15 := keep_cell x15 hb1
        replace x16 := keep_cell x16 hb1
        replace how := own_kept how hb1
        replace hbr := keep_trans hbr hb1
        go_wp2_with fail
        refine (rmix_any false true (el s c2) 17 19 10 w1 (by omega) (by decide) (by decide) (by decide)).mono ?_
        rintro e w2 ⟨rfl, hb2⟩
        replace x2 := keep_cell x2 hb2
        replace x7 := keep_cell x7 hb2
        replace x15 := keep_cell x15 hb2
        replace x16 := keep_cell x16 hb2
        replace how := own_kept how hb2
        replace hbr := keep_trans hbr hb2
        have hsz2 := hbr.size
        generalize hWR : w2 = wq at *
        go_wp2
        go_region_held3 (fun w' => w'.cell? ⟨g, c7, none⟩ = some (.int .u64 (el s c7)) ∧ w'.cell? ⟨g, c16, none⟩ = some (.int .u64 (el s c16)))
          (first
            | exact ⟨x7, x16⟩
            | exact ⟨keep_cell x7 (keep_alloc _ _), keep_cell x16 (keep_alloc _ _)⟩
            | (go_split_ands; exact ⟨(hcell5 c7 n2).trans (by assumption), (hcell5 c16 n4).trans (by assumption)⟩)
            | go_keep)
          (first
            | (refine step_append_keeps (by rfl) _ _ _ (by rfl) w.heap.size 26 i0 (.int .u64 0) 8 Tryz.underlying115 hi hz0 hz1 hz2 rfl g t cg _ (by rfl) ((how.alloc _).drew) ⟨wq.heap.size, 0, none⟩ 1 1 [.int .u64 (bits .and .u64 (IntKind.u64.wrap (IntKind.u64.wrap (IntKind.u64.wrap (((rmx false true 17 19 10 (el s c2) : Nat) : Int) + (el s c7 : Nat)) + ((rmx false true 7 18 3 (el s c15) : Nat) : Int)) + (el s c16 : Nat))) 4294967295)] (by rfl) (by rfl) (World.news_of_block (cs := #[.int .u64 (bits .and .u64 (IntKind.u64.wrap (IntKind.u64.wrap (IntKind.u64.wrap (((rmx false true 17 19 10 (el s c2) : Nat) : Int) + (el s c7 : Nat)) + ((rmx false true 7 18 3 (el s c15) : Nat) : Int)) + (el s c16 : Nat))) 4294967295)]) (t := 26) (fr := (0, 0)) (heap_alloc_new wq _)) (by simp [Value.oneCell']) (by decide) (by unfold maxLen; omega) (by omega) (by simp; omega) ?_; intro gg cap5 w5 how5 hgrow5 hcell5))
        have hb5 : Below w.heap.size w w5 := ((hbr.alloc hsz2 _).drew).grown hgrow5 (by simp; omega) (fun k h => by have e := Option.some.inj h; omega)
        have hsl := rmx_lt (b := false) (sh := true) (r1 := 17) (r2 := 19) (r3 := 10) (x := el s c2) (by omega)
        have hN : ((((shft3 false 17 19 10 (el s c2) + el s c7) % 18446744073709551616 + shft3 false 7 18 3 (el s c15)) % 18446744073709551616 + el s c16) % 18446744073709551616) % 4294967296 = N := by
          rw [HN.out]
          simp only [lS0, lS1, wm, cond_true, cond_false]
          omega
        have hV : [.int .u64 (bits .and .u64 (IntKind.u64.wrap (IntKind.u64.wrap (IntKind.u64.wrap (((rmx false true 17 19 10 (el s c2) : Nat) : Int) + (el s c7 : Nat)) + ((rmx false true 7 18 3 (el s c15) : Nat) : Int)) + (el s c16 : Nat))) 4294967295)] = vals .u64 [N] := by
          rw [rmx_shft (b := false) v2 (by decide) (by decide), rmx_shft (b := false) v15 (by decide) (by decide), add_is64, add_is64, add_is64, and_ones32 _ (Nat.mod_lt _ (by decide)), hN]
          rfl
        rw [hV, ← vals_append] at how5
        rw [← HWN.out] at how5
        clear hN hV hgrow5 hcell5 hsl
        go_wp2
        exact ⟨⟨t + 1, by omega, by go_num, how5, hb5⟩, by simp [intOf]; omega⟩
      · obtain rfl : t = 64 := by omega
        have e : wl32 l 64 = sched false l 48 := rfl
        have hun := wl_under32 l 64 hu
        rw [e] at how hun
        have hsl := sched_length false l 48
        go_wp2
        go_ret
        exact ⟨_, rfl, ⟨by rw [hsl]; exact how, fun x hx => Nat.lt_of_lt_of_le (hun x hx) (wm_le false)⟩, hbr⟩
end Go.Proofs.YtpmobjfhhkglbaaGreatDoor

/- Contract of sha.spread at words of 64 bits. -/
namespace Go.Proofs.YtpmobjfhhkglbaaGreatDoor
open Go.RowKit
set_option linter.unusedVariables false
set_option linter.unusedSimpArgs false

set_option maxRecDepth 100000 in
theorem zero8064 : ∀ w, (zeroValue 113).run Tryz.prog w = .ok (.agg (arr .u64 (List.replicate 80 0))) w := zero_arr (by kernel_rfl)

set_option maxHeartbeats 4000000 in
set_option maxRecDepth 100000 in
theorem spread_any64 (v : Value) (l : List Nat) (w : World) (hR : Row .u8 256 w v l) (hl : l.length = 128) :
    Calls Tryz.prog 133 #[v] w fun e w' => e = .returned (.agg (arr .u64 (pad 80 (sched true l 64)))) ∧ Below w.heap.size w w' := by
  have hu := hR.under
  obtain ⟨a, cap, rfl, h1, h2, h3⟩ := hR.opens hl
  obtain ⟨bb, off, rfl, hc⟩ := h3 (by decide)
  have hz := zero8064
  go_enter Tryz.func133, Tryz.ntmps133
  go_wp2_with fail
  refine (either_int64 _ _ _).mono ?_
  rintro e w1 ⟨rfl, rfl⟩
  go_wp2
  have hL0 : Lies .u64 113 ((w.alloc (.cells (arr .u64 (List.replicate 80 0)) 113)).alloc (.cells (arr .u64 (List.replicate 80 0)) 113)) (w.heap.size + 1) (pad 80 (words true l 0)) := by
    have := Lies.new .u64 113 (w.alloc (.cells (arr .u64 (List.replicate 80 0)) 113)) (List.replicate 80 0)
    rw [World.size_alloc] at this
    exact this
  have hO0 : Lies .u64 113 ((w.alloc (.cells (arr .u64 (List.replicate 80 0)) 113)).alloc (.cells (arr .u64 (List.replicate 80 0)) 113)) w.heap.size (List.replicate 80 0) := (Lies.new .u64 113 w (List.replicate 80 0)).alloc _
  have hb0 := keep_trans (keep_alloc w (.cells (arr .u64 (List.replicate 80 0)) 113)) (keep_alloc _ (.cells (arr .u64 (List.replicate 80 0)) 113))
  go_loopw [10] (fun i wr => ∃ t : Nat, t ≤ 16 ∧ i = .int .i64 t ∧ Lies .u64 113 wr (w.heap.size + 1) (pad 80 (words true l t)) ∧ Lies .u64 113 wr w.heap.size (List.replicate 80 0) ∧ Below w.heap.size w wr) (fun i _ => 16 - (intOf i).toNat)
  case atStart => exact ⟨0, Nat.zero_le _, rfl, hL0, hO0, hb0⟩
  case round =>
    obtain ⟨t, ht, rfl, hLt, hOt, hbt⟩ := hrel
    clear hL0 hO0 hb0
    by_cases hlt : t < 16
    · have hRt := (hR.below hbt).mid (i := t * 8) (j := (t + 1) * 8) (by omega) (by omega)
      go_wp2_with fail
      refine (num_any _ _ _ hRt).mono ?_
      rintro e w2 ⟨rfl, rfl⟩
      have hwd : numL ((l.drop (t * 8)).take ((t + 1) * 8 - t * 8)) = word true l t := by
        rw [show (t + 1) * 8 - t * 8 = 8 by omega]; rfl
      rw [hwd]
      have hwl : word true l t < 18446744073709551616 := word_lt hu t
      have hst := hLt.set t (word true l t)
      have hse := pad_set (n := 80) (l := words true l t) (by rw [words_length]; omega) (word true l t)
      rw [words_length, ← words_succ] at hse
      rw [hse] at hst
      have HST := hide hst
      have c1 := hLt.cell (i := t) (by rw [pad_length (by rw [words_length]; omega)]; omega)
      have f1 := hLt.frozen t
      clear hwd hse hst hRt
      generalize hW : word true l t = W at *
      have HW := hide hW
      clear hW
      have ik0 : (0 : Int) ≤ (t : Int) := Int.natCast_nonneg _
      have ik1 : (t : Int) < 80 := by omega
      go_wp2
      refine ⟨⟨t + 1, by omega, by go_num, HST.out, hOt.but (But.setCell (But.refl (w.heap.size + 1) _) _ _) (by omega), hbt.setCell (by simp) _⟩, by simp [intOf]; omega⟩
    · obtain rfl : t = 16 := by omega
      go_wp2_with fail
      refine (either_tur64 7 18 3 1 8 7 _).mono ?_
      rintro e w3 ⟨rfl, hb3⟩
      unfold tur64
      go_wp2_with fail
      refine (either_tur64 17 19 10 19 61 6 _).mono ?_
      rintro e w4 ⟨rfl, hb4⟩
      unfold tur64
      go_wp2
      have hw : Lies .u64 113 w4 (w.heap.size + 1) (pad 80 (sched true l 0)) := ((hLt.below hb3).alloc _).below hb4
      have hO4 : Lies .u64 113 w4 w.heap.size (List.replicate 80 0) := ((hOt.below hb3).alloc _).below hb4
      have hA4 : Tu64 w4 w3.heap.size 1 8 7 := (Tu64.new w3 1 8 7).below hb4
      have hB5 : Tu64 (w4.alloc (.cells #[.int .i64 19, .int .i64 61, .int .i64 6] 155)) w4.heap.size 19 61 6 := Tu64.new w4 19 61 6
      have hw5 := hw.alloc (.cells #[.int .i64 19, .int .i64 61, .int .i64 6] 155)
      have hO5 := hO4.alloc (.cells #[.int .i64 19, .int .i64 61, .int .i64 6] 155)
      have hA5 := hA4.below (keep_alloc w4 (.cells #[.int .i64 19, .int .i64 61, .int .i64 6] 155))
      have hs3 := hb3.size
      have hs4 := hb4.size
      rw [World.size_alloc] at hs4
      have hne3 : w3.heap.size ≠ w.heap.size + 1 := by have := hLt.lt; omega
      have hne4 : w4.heap.size ≠ w.heap.size + 1 := by have := hLt.lt; omega
      have hb5 := keep_trans hbt (keep_trans hb3 (keep_trans (keep_alloc _ _) (keep_trans hb4 (keep_alloc w4 (.cells #[.int .i64 19, .int .i64 61, .int .i64 6] 155)))))
      clear hw hO4 hA4 hb3 hb4 hLt hOt hbt hs3 hs4
      generalize w4.alloc (.cells #[.int .i64 19, .int .i64 61, .int .i64 6] 155) = w5 at *
      go_loopw [8] (fun i wr => ∃ j : Nat, j ≤ 64 ∧ i = .int .i64 ((16 + j : Nat) : Int) ∧ Lies .u64 113 wr (w.heap.size + 1) (pad 80 (sched true l j)) ∧ Lies .u64 113 wr w.heap.size (List.replicate 80 0) ∧ Tu64 wr w3.heap.size 1 8 7 ∧ Tu64 wr w4.heap.size 19 61 6 ∧ Below w.heap.size w wr) (fun i _ => 100 - (intOf i).toNat)
      case atStart => exact ⟨0, Nat.zero_le _, rfl, hw5, hO5, hA5, hB5, hb5⟩
      case round =>
        obtain ⟨j, hj, rfl, hLj, hOj, hAj, hBj, hbj⟩ := hrel
        clear hw5 hO5 hA5 hB5 hb5
        have hlen := sched_length true l j
        have hsu := sched_under (b := true) hu j
        have hsc := sched_succ true l j
        by_cases hlt : j < 64
        · have hpl : (pad 80 (sched true l j)).length = 80 := pad_length (by omega)
          have hse := pad_set (n := 80) (l := sched true l j) (by omega) (nxt true (sched true l j))
          rw [← hsc, hlen] at hse
          have HSE := hide hse
          have HN : Hid (nxt true (sched true l j) = (lS1 true (el (sched true l j) (14 + j)) + el (sched true l j) (9 + j) + lS0 true (el (sched true l j) (1 + j)) + el (sched true l j) j) % wm true) := by
            apply hide
            unfold nxt
            rw [hlen, show 16 + j - 2 = 14 + j by omega, show 16 + j - 7 = 9 + j by omega, show 16 + j - 15 = 1 + j by omega, show 16 + j - 16 = j by omega]
          have HL := hide hlen
          clear hse hsc hlen
          generalize nxt true (sched true l j) = N at *
          generalize sched true l j = s at *
          have u := fun i => el_lt hsu (wm_pos true) i
          have hX : LiesX .u64 113 wr (w.heap.size + 1) (pad 80 s) (16 + j) := hLj.toX (by omega)
          have e2 : el (pad 80 s) (14 + j) = el s (14 + j) := pad_el (by rw [HL.out]; omega)
          have e7 : el (pad 80 s) (9 + j) = el s (9 + j) := pad_el (by rw [HL.out]; omega)
          have e15 : el (pad 80 s) (1 + j) = el s (1 + j) := pad_el (by rw [HL.out]; omega)
          have e16 : el (pad 80 s) j = el s j := pad_el (by rw [HL.out]; omega)
          have hmk : ∀ w', LiesX .u64 113 w' (w.heap.size + 1) (pad 80 s) (16 + j) ∧ But (w.heap.size + 1) wr w' → (w'.cell? ⟨w.heap.size + 1, 14 + j, none⟩ = some (.int .u64 (el s (14 + j))) ∧ w'.cell? ⟨w.heap.size + 1, 9 + j, none⟩ = some (.int .u64 (el s (9 + j))) ∧ w'.cell? ⟨w.heap.size + 1, 1 + j, none⟩ = some (.int .u64 (el s (1 + j))) ∧ w'.cell? ⟨w.heap.size + 1, j, none⟩ = some (.int .u64 (el s j)) ∧ w'.cell? ⟨w3.heap.size, 0, none⟩ = some (.int .i64 1) ∧ w'.cell? ⟨w3.heap.size, 1, none⟩ = some (.int .i64 8) ∧ w'.cell? ⟨w3.heap.size, 2, none⟩ = some (.int .i64 7) ∧ w'.cell? ⟨w4.heap.size, 0, none⟩ = some (.int .i64 19) ∧ w'.cell? ⟨w4.heap.size, 1, none⟩ = some (.int .i64 61) ∧ w'.cell? ⟨w4.heap.size, 2, none⟩ = some (.int .i64 6) ∧ w'.cell? ⟨w.heap.size + 1, 16 + j, none⟩ = some (rdc w' ⟨w.heap.size + 1, 16 + j, none⟩) ∧ w'.frozen? ⟨w.heap.size + 1, 16 + j, none⟩ = false ∧ (LiesX .u64 113 w' (w.heap.size + 1) (pad 80 s) (16 + j) ∧ But (w.heap.size + 1) wr w')) := fun w' ⟨hb, hB⟩ => by
            obtain ⟨a0, a1, a2⟩ := (hAj.but hB hne3).cells
            obtain ⟨b0, b1, b2⟩ := (hBj.but hB hne4).cells
            exact ⟨by rw [hb.cell (by omega) (by omega), e2], by rw [hb.cell (by omega) (by omega), e7], by rw [hb.cell (by omega) (by omega), e15], by rw [hb.cell (by omega) (by omega), e16], a0, a1, a2, b0, b1, b2, hb.here (by omega), hb.frozen _, hb, hB⟩
          have HMK := hide hmk
          have HX := hide hX
          clear hmk hX e2 e7 e15 e16
          have y2 : ((16 + j : Nat) : Int) - 2 = ((14 + j : Nat) : Int) := by omega
          have y7 : ((16 + j : Nat) : Int) - 7 = ((9 + j : Nat) : Int) := by omega
          have y15 : ((16 + j : Nat) : Int) - 15 = ((1 + j : Nat) : Int) := by omega
          have y16 : ((16 + j : Nat) : Int) - 16 = (j : Int) := by omega
          have n0 : 16 + j < 80 ∧ 14 + j < 80 ∧ 9 + j < 80 ∧ 1 + j < 80 ∧ 16 + j < 80 := by omega
          have HNJ : Hid (16 + (j + 1) = 16 + j + 1) := hide (by omega)
          have HJ : Hid (j + 1 ≤ 64) := hide (by omega)
          have nj : j < 80 := by omega
          have u2 : el s (14 + j) < 18446744073709551616 := u _
          have u15 : el s (1 + j) < 18446744073709551616 := u _
          have u7 : el s (9 + j) < 18446744073709551616 := u _
          have u16 : el s j < 18446744073709551616 := u _
          clear hlt hj hpl hsu u
          generalize 16 + j = T at *
          generalize 14 + j = c2 at *
          generalize 9 + j = c7 at *
          generalize 1 + j = c15 at *
          obtain ⟨n1, n2, n3, n4, n5⟩ := n0
          have i0 : (0 : Int) ≤ (j : Int) := Int.natCast_nonneg _
          have i1 : (j : Int) < 80 := by omega
          have i2 : (0 : Int) ≤ (c2 : Int) := Int.natCast_nonneg _
          have i3 : (c2 : Int) < 80 := by omega
          have i4 : (0 : Int) ≤ (c7 : Int) := Int.natCast_nonneg _
          have i5 : (c7 : Int) < 80 := by omega
          have i6 : (0 : Int) ≤ (c15 : Int) := Int.natCast_nonneg _
          have i7 : (c15 : Int) < 80 := by omega
          have i8 : (0 : Int) ≤ (T : Int) := Int.natCast_nonneg _
          have i9 : (T : Int) < 80 := by omega
          have r2 : IntKind.i64.wrap (c2 : Int) = (c2 : Int) := by rw [IntKind.wrap_i64]; omega
          have r7 : IntKind.i64.wrap (c7 : Int) = (c7 : Int) := by rw [IntKind.wrap_i64]; omega
          have r15 : IntKind.i64.wrap (c15 : Int) = (c15 : Int) := by rw [IntKind.wrap_i64]; omega
          have r16 : IntKind.i64.wrap (j : Int) = (j : Int) := by rw [IntKind.wrap_i64]; omega
          have i10 : (T : Int) < 80 := by omega
          go_wp2_with fail
          refine (either_int64 _ _ _).mono ?_
          rintro e w6 ⟨rfl, rfl⟩
          go_wp2
          go_region_held3 (fun w' => w'.cell? ⟨w.heap.size + 1, c2, none⟩ = some (.int .u64 (el s c2)) ∧ w'.cell? ⟨w.heap.size + 1, c7, none⟩ = some (.int .u64 (el s c7)) ∧ w'.cell? ⟨w.heap.size + 1, c15, none⟩ = some (.int .u64 (el s c15)) ∧ w'.cell? ⟨w.heap.size + 1, j, none⟩ = some (.int .u64 (el s j)) ∧ w'.cell? ⟨w3.heap.size, 0, none⟩ = some (.int .i64 1) ∧ w'.cell? ⟨w3.heap.size, 1, none⟩ = some (.int .i64 8) ∧ w'.cell? ⟨w3.heap.size, 2, none⟩ = some (.int .i64 7) ∧ w'.cell? ⟨w4.heap.size, 0, none⟩ = some (.int .i64 19) ∧ w'.cell? ⟨w4.heap.size, 1, none⟩ = some (.int .i64 61) ∧ w'.cell? ⟨w4.heap.size, 2, none⟩ = some (.int .i64 6) ∧ w'.cell? ⟨w.heap.size + 1, T, none⟩ = some (rdc w' ⟨w.heap.size + 1, T, none⟩) ∧ w'.frozen? ⟨w.heap.size + 1, T, none⟩ = false ∧ (LiesX .u64 113 w' (w.heap.size + 1) (pad 80 s) T ∧ But (w.heap.size + 1) w6 w'))
            (first
              | exact HMK.out _ ⟨HX.out, But.refl _ _⟩
              | exact HMK.out _ ⟨HX.out, (But.refl _ _).drew⟩
              | (go_split_ands; exact HMK.out _ ⟨LiesX.below (by assumption) hb8, But.trans (by assumption) (But.of_below hb8)⟩)
              | (go_split_ands; exact HMK.out _ ⟨LiesX.below (by assumption) hb7, But.trans (by assumption) (But.of_below hb7)⟩)
              | (go_split_ands; exact HMK.out _ ⟨LiesX.set (by assumption) _, But.setCell (by assumption) _ _⟩)
              | (go_split_ands; exact HMK.out _ ⟨by assumption, But.drew (by assumption)⟩))
            (first
              | (go_at_call_of 142 (el s c2); refine (shifted64 (el s c2) 19 61 6 _ u2 (by decide) (by decide) (by decide)).mono ?_; rintro e w7 ⟨rfl, hb7⟩)
              | (go_at_call_of 142 (el s c15); refine (shifted64 (el s c15) 1 8 7 _ u15 (by decide) (by decide) (by decide)).mono ?_; rintro e w8 ⟨rfl, hb8⟩))
          go_wp2_with fail
          have hB78 : Below w6.heap.size w6 w8 := by first | exact keep_trans hb7 hb8 | exact keep_trans (un_drew hb7) hb8 | exact keep_trans (un_drewN hb7) hb8
          have hN : (((shft3 true 19 61 6 (el s c2) + el s c7) % 18446744073709551616 + shft3 true 1 8 7 (el s c15)) % 18446744073709551616 + el s j) % 18446744073709551616 = N := by
            rw [HN.out]
            simp only [lS0, lS1, wm, cond_true, cond_false]
            omega
          rw [add_is64, add_is64, add_is64, hN]
          have hBS : But (w.heap.size + 1) w6 (w8.setCell ⟨w.heap.size + 1, T, none⟩ (.int .u64 (N : Int))) := (But.of_below hB78).setCell T _
          exact ⟨⟨j + 1, HJ.out, vint (by rw [HNJ.out]; omega), by rw [← HSE.out]; exact (hLj.below hB78).set T N, hOj.but hBS (by omega), hAj.but hBS hne3, hBj.but hBS hne4, hbj.trans (hBS.below (by omega) hbj.size)⟩, by simp [intOf]; omega⟩
        · obtain rfl : j = 64 := by omega
          have hpl : (pad 80 (sched true l 64)).length = 80 := pad_length (by omega)
          have hlz : (List.replicate 80 0).length = 80 := rfl
          generalize hF : pad 80 (sched true l 64) = F at *
          have HF := hide hF
          clear hF
          go_wp2_with fail
          refine (either_int64 _ _ _).mono ?_
          rintro e w6 ⟨rfl, rfl⟩
          go_wp2_with (first
            | (refine wpList_load_row rfl 113 _ (by rfl) (w.heap.size + 1) (by rfl) _ _ _ (.array 80 26) hLj (by kernel_rfl) rfl (by rw [arr_size, hpl]; kernel_rfl) ?_)
            | (refine wpList_store_row rfl 113 _ _ (by rfl) w.heap.size (arr .u64 F) (by rfl) (by rfl) _ _ hOj (by rw [arr_size, hpl]; kernel_rfl) (by rw [arr_size, arr_size, hpl, List.length_replicate]) (arr_one _ _) ?_)
            | fail)
          have hOf : Lies .u64 113 (w6.setRow w.heap.size (arr .u64 F)) w.heap.size F := hOj.row
          have hbf : Below w.heap.size w (w6.setRow w.heap.size (arr .u64 F)) := hbj.trans ((But.setRow (But.refl _ _) _).below (Nat.le_refl _) hbj.size)
          refine bodyPost_ret (v := .agg (arr .u64 F)) ?_ ?_ ?_
          · exact results_cell_row Tryz.results133 _ _ w.heap.size _ _ _ (.array 80 26) (by rfl) hOf (by kernel_rfl) rfl (by rw [arr_size, hpl]; kernel_rfl)
          · rfl
          · exact ⟨by rw [HF.out], hbf⟩
end Go.Proofs.YtpmobjfhhkglbaaGreatDoor

/- Contracts of the document's tables. -/
namespace Go.Proofs.YtpmobjfhhkglbaaGreatDoor
open Go.RowKit
set_option linter.unusedVariables false
set_option linter.unusedSimpArgs false

theorem wpList_build_is {P : Program} {ops : Array Oper} {rest : List Oper} {o : Oper} {a : Act} {w : World} {Q : Exit → Act → World → Prop} (hg : o.guard = none) (t : TypeId) (parts : Array (Nat × Operand)) (ho : o.op = .build t parts) (cells : Array Value)
    (hf : P.built t (parts.map fun (i, x) => (i, a.eval x)).toList = some cells)
    (h : wpList P ops Q rest (a.put o.dst (.agg cells)) w) : wpList P ops Q (o :: rest) a w :=
  wpList_build hg t parts ho (by rw [hf]; rfl) (by rw [hf]; exact h)
/-- the document's table of 64 words -/
def k256 : List Nat := (ks false).take 64
theorem k256_length : k256.length = 64 := rfl
theorem k256_el {i : Nat} (h : i < 64) : el k256 i = el (ks false) i := el_take h
set_option maxRecDepth 100000 in
theorem zero64 : ∀ w, (zeroValue 111).run Tryz.prog w = .ok (.agg (arr .u64 (List.replicate 64 0))) w := zero_arr (by kernel_rfl)
set_option maxHeartbeats 1000000 in
set_option maxRecDepth 100000 in
theorem roots256_any (w : World) : Calls Tryz.prog 91 #[] w fun e w' => e = .returned (.agg (arr .u64 k256)) ∧ Below w.heap.size w w' := by
  have hz := zero64
  have hO : Lies .u64 111 (w.alloc (.cells (arr .u64 (List.replicate 64 0)) 111)) w.heap.size (List.replicate 64 0) := Lies.new _ _ w _
  go_enter Tryz.func91, Tryz.ntmps91
  go_wp2_with (first
    | (refine wpList_build_is rfl 111 _ (by rfl) (arr .u64 k256) (by kernel_rfl) ?_)
    | (refine wpList_store_row rfl 111 _ _ (by rfl) w.heap.size (arr .u64 k256) (by rfl) (by rfl) _ _ hO (by kernel_rfl) (by rw [arr_size, arr_size, List.length_replicate, k256_length]) (arr_one _ _) ?_)
    | fail)
  have hOf := hO.row (l' := k256)
  have hbf : Below w.heap.size w ((w.alloc (.cells (arr .u64 (List.replicate 64 0)) 111)).setRow w.heap.size (arr .u64 k256)) := (keep_alloc w _).trans ((But.setRow (But.refl _ _) _).below (Nat.le_refl _) (by simp))
  refine bodyPost_ret (v := .agg (arr .u64 k256)) ?_ ?_ ?_
  · exact results_cell_row Tryz.results91 _ _ w.heap.size _ _ _ (.array 64 26) (by rfl) hOf (by kernel_rfl) rfl (by kernel_rfl)
  · rfl
  · exact ⟨rfl, hbf⟩

set_option maxHeartbeats 1000000 in
set_option maxRecDepth 100000 in
theorem roots512_any (w : World) : Calls Tryz.prog 92 #[] w fun e w' => e = .returned (.agg (arr .u64 cubes)) ∧ Below w.heap.size w w' := by
  have hz := zero8064
  have hO : Lies .u64 113 (w.alloc (.cells (arr .u64 (List.replicate 80 0)) 113)) w.heap.size (List.replicate 80 0) := Lies.new _ _ w _
  go_enter Tryz.func92, Tryz.ntmps92
  go_wp2_with (first
    | (refine wpList_build_is rfl 113 _ (by rfl) (arr .u64 cubes) (by kernel_rfl) ?_)
    | (refine wpList_store_row rfl 113 _ _ (by rfl) w.heap.size (arr .u64 cubes) (by rfl) (by rfl) _ _ hO (by kernel_rfl) (by rw [arr_size, arr_size, List.length_replicate, cubes_length]) (arr_one _ _) ?_)
    | fail)
  have hOf := hO.row (l' := cubes)
  have hbf : Below w.heap.size w ((w.alloc (.cells (arr .u64 (List.replicate 80 0)) 113)).setRow w.heap.size (arr .u64 cubes)) := (keep_alloc w _).trans ((But.setRow (But.refl _ _) _).below (Nat.le_refl _) (by simp))
  refine bodyPost_ret (v := .agg (arr .u64 cubes)) ?_ ?_ ?_
  · exact results_cell_row Tryz.results92 _ _ w.heap.size _ _ _ (.array 80 26) (by rfl) hOf (by kernel_rfl) rfl (by kernel_rfl)
  · rfl
  · exact ⟨rfl, hbf⟩
end Go.Proofs.YtpmobjfhhkglbaaGreatDoor
