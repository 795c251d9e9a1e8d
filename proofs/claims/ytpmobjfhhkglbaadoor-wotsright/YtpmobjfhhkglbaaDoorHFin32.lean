/- Contract of sha.finish at words of 32 bits. -/
import Derived.Test.YtpmobjfhhkglbaaDoorHTak32
import Derived.Test.YtpmobjfhhkglbaaDoorHSl
import Derived.Test.YtpmobjfhhkglbaaDoorHHsh
import Derived.Test.YtpmobjfhhkglbaaDoorHTur32
namespace Go.Proofs.YtpmobjfhhkglbaaDoor
open Go.RowKit
set_option linter.unusedVariables false
set_option linter.unusedSimpArgs false

theorem room_le32 (n : Nat) : 8 ≤ room false n ∧ room false n ≤ 128 := by
  unfold room
  have e : bz false = 64 := rfl
  rw [e]
  split <;> omega
theorem endS_is32 (ws l : List Nat) (size n : Nat) : (bytesW false (eat false (eat false ws l) (left false l ++ fill false l.length size))).take n = endS false ws l size n := by
  unfold endS
  rw [eat_parts false ws l (fill false l.length size)]
set_option maxHeartbeats 8000000 in
set_option maxRecDepth 100000 in
theorem finish_any32 (kind : Int) (ws : List Nat) (tv : Value) (tl : List Nat) (size N : Nat) (w : World) (hT : Roots w) (h8 : ws.length = 8) (hu : Under 4294967296 ws) (hRt : Row .u8 256 w tv tl) (tT : Tidy tv) (htl : tl.length ≤ 100000) (hsz : size < 1152921504606846976) (hN : N ≤ 32) :
    Calls Tryd.prog 76 #[.agg (hv kind ws tv size), .int .i64 N] w fun e w' => ∃ v', e = .returned v' ∧ Own 5 .u8 256 w' w.heap.size v' (endS false ws tl size N) ∧ Below w.heap.size w w' := by
  have hb0 := keep_alloc w (.cells (hv kind ws tv size) 79)
  have hT0 := (hT.below hb0).1
  have hH0 := Hb.new w kind ws tv size
  obtain ⟨ta, tc, rfl⟩ := hRt.form
  have HH := hide hH0
  have HB := hide hb0
  clear hH0 hb0
  have huv : hv kind ws (.slice ta tl.length tc) size = #[.int .i64 kind, .int .u64 (el ws 0), .int .u64 (el ws 1), .int .u64 (el ws 2), .int .u64 (el ws 3), .int .u64 (el ws 4), .int .u64 (el ws 5), .int .u64 (el ws 6), .int .u64 (el ws 7), .slice ta tl.length tc, .int .u64 size] := rfl
  rw [huv]
  clear huv
  go_enter Tryd.func76, Tryd.ntmps76
  go_wp2_with (first
    | (refine wpList_load_mid rfl 107 _ (by rfl) 2 0 (by rfl) (vals .u64 cubes) (.array 80 49) hT0 (by kernel_rfl) rfl (by kernel_rfl) ?_)
    | fail)
  refine (resume_is32 ws _ h8 hu).mono ?_
  rintro e w1 ⟨g, rfl, hg, hS1, hb1⟩
  have hW2 : w.heap.size + 1 ≤ g := by have := hg; simp at this; omega
  have hge : w.heap.size ≠ g := by omega
  have hH1 := HH.out.below hb1
  have hbw := keep_trans HB.out hb1
  have hRt1 := hRt.below hbw
  have hAt : Away g (.slice ta tl.length tc) tl := hRt.away (by omega)
  have c9 := hH1.tail
  clear HH HB hb1 hg
  go_wp2_with fail
  refine (take_any32 g ws tl _ w1 hS1 h8 hu hRt1 hAt tT (by omega)).mono ?_
  rintro e w2 ⟨⟨v2, rfl, hR2, hA2, hT2⟩, hS2, hB2⟩
  obtain ⟨a2, c2, rfl⟩ := hR2.form
  have hH2 := hH1.but hB2 hge
  have hbw2 : Below w.heap.size w w2 := hbw.trans (hB2.below (by omega) hbw.size)
  have hll : (left false tl).length = tl.length % 64 := left_length false tl
  have hlt := left_lt false tl
  have hbz : bz false = 64 := rfl
  rw [hbz] at hlt
  have he8 := eat_len (b := false) tl h8
  have heu := eat_under (b := false) tl hu
  obtain ⟨R, hR⟩ : ∃ R, R = 64 - (left false tl).length - 1 := ⟨_, rfl⟩
  have hrm : room false tl.length = if R < 8 then R + 64 else R := by
    unfold room
    rw [hbz, ← hll, ← hR]
  have hRb : R < 64 := by omega
  have HL := hide hll
  generalize hn2 : (left false tl).length = n2 at *
  have HN2 := hide hn2
  have y1 : (64 : Int) - (n2 : Int) = ((R + 1 : Nat) : Int) := by omega
  have y2 : ((R + 1 : Nat) : Int) - 1 = (R : Int) := by omega
  have HR := hide hR
  have HRM := hide hrm
  have hrr := room_le32 tl.length
  clear hR hrm c9 hH1 hbw hRt1 hAt hS1 hB2 hbz hll hn2
  obtain ⟨Q, hQ⟩ : ∃ Q, Q = R + 1 := ⟨_, rfl⟩
  rw [← hQ] at y1 y2
  have hQb : Q ≤ 64 := by omega
  have c10 := hH2.size
  have hm8 : (8 : Int) * (size : Int) = ((8 * size : Nat) : Int) := by omega
  obtain ⟨bs, hbs⟩ : ∃ bs, bs = 8 * size := ⟨_, rfl⟩
  rw [← hbs] at hm8
  have hbw8 : IntKind.u64.wrap (bs : Int) = (bs : Int) := by rw [IntKind.wrap_u64]; omega
  have hbsb : bs < 18446744073709551616 := by omega
  have HBS := hide hbs
  clear hQ hbs
  have key : ∀ (M : Nat) , M = room false tl.length → fill false tl.length size = [128] ++ (leL bs M).reverse := fun M hM => by unfold fill; rw [HBS.out, hM]
  have HKEY := hide key
  clear key
  by_cases hr8 : R < 8
  · skip
    obtain ⟨M, hM⟩ : ∃ M, M = R + 64 := ⟨_, rfl⟩
    have hMi : (R : Int) + 64 = (M : Int) := by omega
    have hMr : M = room false tl.length := by rw [HRM.out, if_pos hr8, hM]
    have hr8i : (R : Int) < 8 := by omega
    have hfl0 := HKEY.out M hMr
    have hMb : 8 ≤ M ∧ M ≤ 128 := by omega
    clear hM hMr
    have hleS : (leS bs (M : Int)).reverse = (leL bs M).reverse := by unfold leS; rw [if_neg (by omega), Int.toNat_natCast]
    have hl3 : (leL bs M).reverse.length = M := by rw [List.length_reverse, leL_length]
    generalize (leL bs M).reverse = L3 at *
    have HFL := hide hfl0
    have HL3 := hide hl3
    clear hfl0 hl3
    have c10' : (w2.alloc (.cells #[.int .u8 128] 5)).cell? ⟨w.heap.size, 10, none⟩ = some (.int .u64 size) := keep_cell c10 (keep_alloc _ _)
    have h128 : Row .u8 256 (w2.alloc (.cells #[.int .u8 128] 5)) (.slice (some ⟨w2.heap.size, 0, none⟩) 1 1) [128] := lit_row .u8 256 w2 [128] 5 (Under.one (by decide)) (by unfold maxLen; decide)
    go_wp2_with (first
      | (go_at_call 71; refine (block_keep32 _ _).mono ?_; rintro e w9 ⟨rfl, rfl⟩)
      | (go_at_call 22; refine (be_any bs (M : Int) _ hbsb (by omega) (by omega)).mono ?_; rintro e w3 ⟨v3, rfl, hO3, hb3⟩; rw [hleS] at hO3; obtain ⟨a3, c3, rfl⟩ := hO3.row.form)
      | (go_at_call 15; refine (join_any _ [left false tl, [128], L3] _ (rows_lit3 (hR2.below (keep_trans (keep_alloc _ _) hb3)) (h128.below hb3) hO3.row hT2 (tidy_at _ _ _) hO3.tidy) (by have := hMb.2; have := HN2.out; have := HL3.out; simp; omega)).mono ?_; rintro e w4 ⟨v4, rfl, hO4, hb4⟩; have hfe : ([left false tl, [128], L3] : List (List Nat)).flatten = left false tl ++ fill false tl.length size := (by rw [HFL.out]; simp); rw [hfe] at hO4; clear hfe)
      | (go_at_call 72; refine (take_any32 g _ _ _ w4 ((hS2.below (keep_trans (keep_alloc w2 _) hb3)).alloc _ |>.below hb4) he8 heu hO4.row (hO4.away (by have := hS2.lt; have := hb3.size; simp at *; omega)) hO4.tidy (by have := hMb.2; have := HN2.out; have := HL3.out; rw [HFL.out]; simp; omega)).mono ?_; rintro e w5 ⟨⟨v5, rfl, hR5, hA5, hT5⟩, hS5, hB5⟩; have hq8 := eat_len (b := false) (left false tl ++ fill false tl.length size) he8; have hqu := eat_under (b := false) (left false tl ++ fill false tl.length size) heu; have hrg := head_range32 hS5)
      | (refine wpList_load_mid rfl 93 _ (by rfl) g 0 (by rfl) _ (.array 8 42) hrg (by kernel_rfl) rfl (by rw [vals_length, hq8]; kernel_rfl) ?_)
      | (go_at_call 87; refine (bytes_any32 _ N w5 hq8 hqu hN).mono ?_; rintro e w6 ⟨v6, rfl, hO6, hb6⟩)
      | fail)
    have hbw4 : Below w.heap.size w w4 := keep_trans hbw2 (keep_trans (keep_trans (keep_alloc w2 _) hb3) (keep_trans (keep_alloc w3 _) hb4))
    have hbw5 := hbw4.trans (hB5.below (by omega) hbw4.size)
    rw [endS_is32] at hO6
    go_ret
    exact ⟨_, rfl, hO6.mono hbw5.size, keep_trans hbw5 hb6⟩
  · skip
    obtain ⟨M, hM⟩ : ∃ M, M = R := ⟨_, rfl⟩
    have hMr : M = room false tl.length := by rw [HRM.out, if_neg hr8, hM]
    have hr8i : ¬ (R : Int) < 8 := by omega
    subst hM
    have hfl0 := HKEY.out M hMr
    have hMb : 8 ≤ M ∧ M ≤ 128 := by omega
    clear hMr
    have hleS : (leS bs (M : Int)).reverse = (leL bs M).reverse := by unfold leS; rw [if_neg (by omega), Int.toNat_natCast]
    have hl3 : (leL bs M).reverse.length = M := by rw [List.length_reverse, leL_length]
    generalize (leL bs M).reverse = L3 at *
    have HFL := hide hfl0
    have HL3 := hide hl3
    clear hfl0 hl3
    have c10' : (w2.alloc (.cells #[.int .u8 128] 5)).cell? ⟨w.heap.size, 10, none⟩ = some (.int .u64 size) := keep_cell c10 (keep_alloc _ _)
    have h128 : Row .u8 256 (w2.alloc (.cells #[.int .u8 128] 5)) (.slice (some ⟨w2.heap.size, 0, none⟩) 1 1) [128] := lit_row .u8 256 w2 [128] 5 (Under.one (by decide)) (by unfold maxLen; decide)
    go_wp2_with (first
      | (go_at_call 71; refine (block_keep32 _ _).mono ?_; rintro e w9 ⟨rfl, rfl⟩)
      | (go_at_call 22; refine (be_any bs (M : Int) _ hbsb (by omega) (by omega)).mono ?_; rintro e w3 ⟨v3, rfl, hO3, hb3⟩; rw [hleS] at hO3; obtain ⟨a3, c3, rfl⟩ := hO3.row.form)
      | (go_at_call 15; refine (join_any _ [left false tl, [128], L3] _ (rows_lit3 (hR2.below (keep_trans (keep_alloc _ _) hb3)) (h128.below hb3) hO3.row hT2 (tidy_at _ _ _) hO3.tidy) (by have := hMb.2; have := HN2.out; have := HL3.out; simp; omega)).mono ?_; rintro e w4 ⟨v4, rfl, hO4, hb4⟩; have hfe : ([left false tl, [128], L3] : List (List Nat)).flatten = left false tl ++ fill false tl.length size := (by rw [HFL.out]; simp); rw [hfe] at hO4; clear hfe)
      | (go_at_call 72; refine (take_any32 g _ _ _ w4 ((hS2.below (keep_trans (keep_alloc w2 _) hb3)).alloc _ |>.below hb4) he8 heu hO4.row (hO4.away (by have := hS2.lt; have := hb3.size; simp at *; omega)) hO4.tidy (by have := hMb.2; have := HN2.out; have := HL3.out; rw [HFL.out]; simp; omega)).mono ?_; rintro e w5 ⟨⟨v5, rfl, hR5, hA5, hT5⟩, hS5, hB5⟩; have hq8 := eat_len (b := false) (left false tl ++ fill false tl.length size) he8; have hqu := eat_under (b := false) (left false tl ++ fill false tl.length size) heu; have hrg := head_range32 hS5)
      | (refine wpList_load_mid rfl 93 _ (by rfl) g 0 (by rfl) _ (.array 8 42) hrg (by kernel_rfl) rfl (by rw [vals_length, hq8]; kernel_rfl) ?_)
      | (go_at_call 87; refine (bytes_any32 _ N w5 hq8 hqu hN).mono ?_; rintro e w6 ⟨v6, rfl, hO6, hb6⟩)
      | fail)
    have hbw4 : Below w.heap.size w w4 := keep_trans hbw2 (keep_trans (keep_trans (keep_alloc w2 _) hb3) (keep_trans (keep_alloc w3 _) hb4))
    have hbw5 := hbw4.trans (hB5.below (by omega) hbw4.size)
    rw [endS_is32] at hO6
    go_ret
    exact ⟨_, rfl, hO6.mono hbw5.size, keep_trans hbw5 hb6⟩
end Go.Proofs.YtpmobjfhhkglbaaDoor

/- Contract of sha.sum.mix at words of 64 bits. -/
namespace Go.Proofs.YtpmobjfhhkglbaaDoor
open Go.RowKit
set_option linter.unusedVariables false
set_option linter.unusedSimpArgs false

/-- a sum's block -/
abbrev Sm64 (w : World) (g : Nat) (hs cs : List Nat) : Prop := Lies .u64 115 w g (hs ++ cs)

set_option maxHeartbeats 4000000 in
set_option maxRecDepth 100000 in
theorem mix_any64 (g : Nat) (hs cs ls : List Nat) (w : World) (hS : Sm64 w g hs cs) (h8 : hs.length = 8) (c80 : cs.length = 80) (l80 : ls.length = 80) (hhu : Under 18446744073709551616 hs) (hcu : Under 18446744073709551616 cs) (hlu : Under 18446744073709551616 ls) :
    Calls Tryd.prog 85 #[.pointer (some ⟨g, 0, none⟩), .agg (arr .u64 ls)] w fun e w' => e = .returned (.tuple #[]) ∧ Sm64 w' g (addW true hs (rndN true cs ls (rn true) hs) 8) cs ∧ But g w w' := by
  go_enter Tryd.func85, Tryd.ntmps85
  go_wp2_with fail
  refine (either_tur64 2 13 22 28 34 39 _).mono ?_
  rintro e w1 ⟨rfl, hb1⟩
  unfold tur64
  go_wp2_with fail
  refine (either_tur64 6 11 25 14 18 41 _).mono ?_
  rintro e w2 ⟨rfl, hb2⟩
  unfold tur64
  have hS2 : Sm64 w2 g hs cs := (((hS.alloc _).below hb1).alloc _).below hb2
  have hL2 : Lies .u64 107 w2 w.heap.size ls := (((Lies.new .u64 107 w ls).below hb1).alloc _).below hb2
  have hA2 : Tu64 w2 w1.heap.size 28 34 39 := (Tu64.new w1 28 34 39).below hb2
  go_wp2
  have hB3 : Tu64 (w2.alloc (.cells #[.int .i64 14, .int .i64 18, .int .i64 41] 126)) w2.heap.size 14 18 41 := Tu64.new w2 14 18 41
  have hw3 := keep_trans (keep_trans (keep_trans (keep_trans (keep_alloc _ _) hb1) (keep_alloc _ _)) hb2) (keep_alloc w2 (.cells #[.int .i64 14, .int .i64 18, .int .i64 41] 126))
  have hS3 := hS2.alloc (.cells #[.int .i64 14, .int .i64 18, .int .i64 41] 126)
  have hL3 := hL2.alloc (.cells #[.int .i64 14, .int .i64 18, .int .i64 41] 126)
  have hA3 := hA2.below (keep_alloc w2 (.cells #[.int .i64 14, .int .i64 18, .int .i64 41] 126))
  clear hS2 hL2 hA2 hb1 hb2
  generalize w2.alloc (.cells #[.int .i64 14, .int .i64 18, .int .i64 41] 126) = w3 at *
  have hc := fun (i : Nat) (hi : i < 8) => hS3.cell (i := i) (by rw [List.length_append]; omega)
  have hel : ∀ i, i < 8 → el (hs ++ cs) i = el hs i := fun i hi => by unfold el; rw [List.getElem?_append_left (by omega)]
  have c0 := hc 0 (by decide)
  have c1 := hc 1 (by decide)
  have c2 := hc 2 (by decide)
  have c3 := hc 3 (by decide)
  have c4 := hc 4 (by decide)
  have c5 := hc 5 (by decide)
  have c6 := hc 6 (by decide)
  have c7 := hc 7 (by decide)
  rw [hel _ (by decide)] at c0 c1 c2 c3 c4 c5 c6 c7
  clear hc hel
  go_quiet (fail)
  go_wp2
  go_quiet (fail)
  go_wp2_with fail
  refine (either_int64 _ _ _).mono ?_
  rintro e w4 ⟨rfl, rfl⟩
  go_wp2
  go_loopw [6, 7, 8, 9, 10, 11, 12, 13, 66] (fun v0 v1 v2 v3 v4 v5 v6 v7 i wr => ∃ k : Nat, k ≤ 80 ∧ i = .int .i64 k ∧ v0 = .int .u64 (el (rndN true cs ls k hs) 0) ∧ v1 = .int .u64 (el (rndN true cs ls k hs) 1) ∧ v2 = .int .u64 (el (rndN true cs ls k hs) 2) ∧ v3 = .int .u64 (el (rndN true cs ls k hs) 3) ∧ v4 = .int .u64 (el (rndN true cs ls k hs) 4) ∧ v5 = .int .u64 (el (rndN true cs ls k hs) 5) ∧ v6 = .int .u64 (el (rndN true cs ls k hs) 6) ∧ v7 = .int .u64 (el (rndN true cs ls k hs) 7) ∧ Below w3.heap.size w3 wr) (fun _ _ _ _ _ _ _ _ i _ => 80 - (intOf i).toNat)
  case atStart => exact ⟨0, Nat.zero_le _, rfl, rfl, rfl, rfl, rfl, rfl, rfl, rfl, rfl, bel_drewN (Below.refl _ _) _⟩
  case round =>
    obtain ⟨k, hk, rfl, rfl, rfl, rfl, rfl, rfl, rfl, rfl, rfl, hbr⟩ := hrel
    clear c0 c1 c2 c3 c4 c5 c6 c7
    have hsu := rndN_under (b := true) (ks := cs) (ws := ls) hhu k
    by_cases hlt : k < 80
    · have hnx : rndN true cs ls (k + 1) hs = rnd true (el cs k) (el ls k) (rndN true cs ls k hs) := rfl
      have HNX := hide hnx
      clear hnx
      generalize rndN true cs ls k hs = s at *
      have hSr := hS3.below hbr
      have hLr := hL3.below hbr
      have hAr := hA3.below hbr
      have hBr := hB3.below hbr
      have d1 := hSr.cell (i := 8 + k) (by rw [List.length_append]; omega)
      have del : el (hs ++ cs) (8 + k) = el cs k := by unfold el; rw [List.getElem?_append_right (by omega), h8, Nat.add_sub_cancel_left]
      rw [del] at d1
      have d2 := hLr.cell (i := k) (by omega)
      obtain ⟨e0, e1, e2⟩ := hBr.cells
      obtain ⟨f0, f1, f2⟩ := hAr.cells
      have HA := hide f0
      have HA1 := hide f1
      have HA2 := hide f2
      clear f0 f1 f2 del hSr hLr hAr hBr
      have u := fun i => el_lt hsu (wm_pos true) i
      have u4 : el s 4 < 18446744073709551616 := u 4
      have hcall := turned64 (el s 4) 14 18 41 wr.drew u4 (by decide) (by decide) (by decide)
      have ik0 : (0 : Int) ≤ (k : Int) := Int.natCast_nonneg _
      have ik1 : (k : Int) < 80 := by omega
      have ik2 : k < 80 := by omega
      go_wp2
      go_region_held3 (fun w' => w'.cell? ⟨g, 8 + k, none⟩ = some (.int .u64 (el cs k)) ∧ w'.cell? ⟨w.heap.size, k, none⟩ = some (.int .u64 (el ls k)) ∧ w'.cell? ⟨w2.heap.size, 0, none⟩ = some (.int .i64 14) ∧ w'.cell? ⟨w2.heap.size, 1, none⟩ = some (.int .i64 18) ∧ w'.cell? ⟨w2.heap.size, 2, none⟩ = some (.int .i64 41))
        (first
          | exact ⟨keep_cell (w := wr.drew) d1 hb5, keep_cell (w := wr.drew) d2 hb5, keep_cell (w := wr.drew) e0 hb5, keep_cell (w := wr.drew) e1 hb5, keep_cell (w := wr.drew) e2 hb5⟩
          | exact ⟨d1, d2, e0, e1, e2⟩)
        (first
          | (go_at_call 94; refine hcall.mono ?_; rintro e w5 ⟨rfl, hb5⟩))
      have g0 := keep_cell (w := wr.drew) HA.out hb5
      have g1 := keep_cell (w := wr.drew) HA1.out hb5
      have g2 := keep_cell (w := wr.drew) HA2.out hb5
      clear d1 d2 e0 e1 e2 hcall
      go_wp2_with fail
      refine (turned64 (el s 0) 28 34 39 w5 (u 0) (by decide) (by decide) (by decide)).mono ?_
      rintro e w6 ⟨rfl, hb6⟩
      go_wp2
      go_roundw
      case rel =>
        have u1 : el s 1 < 18446744073709551616 := u 1
        have u2 : el s 2 < 18446744073709551616 := u 2
        have u0 : el s 0 < 18446744073709551616 := u 0
        have u5 : el s 5 < 18446744073709551616 := u 5
        have u6 : el s 6 < 18446744073709551616 := u 6
        rw [chs_is64 _ _ _ u4 u5 u6, maj_is64 _ _ _ u0 u1 u2]
        repeat rw [add_is64]
        rw [rnd064, rnd464]
        refine ⟨k + 1, by omega, by go_num, ?_, ?_, ?_, ?_, ?_, ?_, ?_, ?_, keep_trans hbr (keep_trans (un_drew hb5) hb6)⟩ <;> rw [HNX.out] <;> rfl
      case measure => simp [intOf]; omega
    · obtain rfl : k = 80 := by omega
      have h8s : (rndN true cs ls 80 hs).length = 8 := rndN_length h8 _
      have hSr := hS3.below hbr
      generalize hR : rndN true cs ls 80 hs = s at *
      have HR : Hid (rndN true cs ls (rn true) hs = s) := hR
      clear hR
      have hlen : (hs ++ cs).length = 88 := by rw [List.length_append]; omega
      go_wp2
      go_loopw [131] (fun i wr' => ∃ j : Nat, j ≤ 8 ∧ i = .int .i64 j ∧ Lies .u64 115 wr' g (addW true hs s j ++ hs.drop j ++ cs) ∧ But g w wr') (fun i _ => 8 - (intOf i).toNat)
      case atStart => exact ⟨0, Nat.zero_le _, rfl, hSr, But.of_below (keep_trans hw3 hbr)⟩
      case round =>
        obtain ⟨j, hj, rfl, hSj, hbj⟩ := hrel
        by_cases hlt : j < 8
        · have hix : ∀ w : World, (Instr.index 77 (.agg #[.int .u64 (el s 0), .int .u64 (el s 1), .int .u64 (el s 2), .int .u64 (el s 3), .int .u64 (el s 4), .int .u64 (el s 5), .int .u64 (el s 6), .int .u64 (el s 7)]) (.int .i64 (j : Int))).run Tryd.prog w = .ok (.int .u64 (el s j)) w := fun w => by
            rw [← arr8 .u64 s h8s]; exact index_arr _ 49 8 .u64 s (by kernel_rfl) (by kernel_rfl) (by kernel_rfl) h8s j hlt w
          have c1 := hSj.cell (i := j) (by rw [List.length_append, List.length_append, addW_length, List.length_drop]; omega)
          rw [addTo_get true hs s cs j (by omega)] at c1
          have f1 := hSj.frozen j
          have hst := hSj.set j ((el hs j + el s j) % 18446744073709551616)
          have hse := addTo_set true hs s cs j (by omega)
          have hst' : Lies .u64 115 (wr.setCell ⟨g, j, none⟩ (.int .u64 (((el hs j + el s j) % 18446744073709551616 : Nat) : Int))) g (addW true hs s (j + 1) ++ hs.drop (j + 1) ++ cs) := by rw [← hse]; exact hst
          have HST := hide hst'
          clear hst hse hst'
          have ij0 : (0 : Int) ≤ (j : Int) := Int.natCast_nonneg _
          have ij1 : (j : Int) < 8 := by omega
          go_wp2
          go_region
          go_wp2
          rw [add_is64]
          exact ⟨⟨j + 1, by omega, by go_num, HST.out, (hbj.setCell j _).drew⟩, by simp [intOf]; omega⟩
        · obtain rfl : j = 8 := by omega
          rw [List.drop_of_length_le (by omega), List.append_nil] at hSj
          go_wp2
          go_end0
          exact ⟨rfl, by rw [HR.out]; exact hSj, hbj⟩
end Go.Proofs.YtpmobjfhhkglbaaDoor

/- Contract of sha.sum.take at words of 64 bits. -/
namespace Go.Proofs.YtpmobjfhhkglbaaDoor
open Go.RowKit
set_option linter.unusedVariables false
set_option linter.unusedSimpArgs false

set_option maxHeartbeats 4000000 in
set_option maxRecDepth 100000 in
theorem take_any64 (g : Nat) (hs l : List Nat) (v : Value) (w : World) (hS : Sm64 w g hs (ks true)) (h8 : hs.length = 8) (hhu : Under 18446744073709551616 hs) (hR : Row .u8 256 w v l) (ha : Away g v l) (ht : Tidy v) (hl : l.length ≤ 1000000) :
    Calls Tryd.prog 75 #[.pointer (some ⟨g, 0, none⟩), v] w fun e w' => (∃ v', e = .returned v' ∧ Row .u8 256 w' v' (left true l) ∧ Away g v' (left true l) ∧ Tidy v') ∧ Sm64 w' g (eat true hs l) (ks true) ∧ But g w w' := by
  go_enter Tryd.func75, Tryd.ntmps75
  go_wp2
  go_loopw [1] (fun u wr => ∃ (L H : List Nat), L.length ≤ l.length ∧ slen u = L.length ∧ Row .u8 256 wr u L ∧ Away g u L ∧ Tidy u ∧ Sm64 wr g H (ks true) ∧ But g w wr ∧ eat true hs l = eat true H L ∧ left true l = left true L ∧ H.length = 8 ∧ Under 18446744073709551616 H) (fun u _ => slen u)
  case atStart => exact ⟨l, hs, Nat.le_refl _, by obtain ⟨a, c, rfl, _⟩ := hR; rfl, hR, ha, ht, hS, But.refl _ _, rfl, rfl, h8, hhu⟩
  case round =>
    obtain ⟨L, H, hLl, hsl, hRL, hAL, hTL, hSL, hBL, hE, hLf, hH8, hHu⟩ := hrel
    have HE := hide hE
    have HF := hide hLf
    have hlu := hRL.under
    clear hE hLf
    obtain ⟨a, cap, rfl, g1, g2, g3, g4⟩ := hRL
    have hRL : Row .u8 256 wr (.slice a L.length cap) L := ⟨a, cap, rfl, g1, g2, g3, g4⟩
    unfold maxLen at g2
    by_cases hlt : 128 ≤ L.length
    · obtain ⟨bb, off, rfl, hc⟩ := g3 (by omega)
      clear hc g3
      have hRt := hRL.cut (M := 128) hlt
      go_wp2_with fail
      refine (block_any64 _ _).mono ?_
      rintro e w1 ⟨rfl, rfl⟩
      go_wp2_with fail
      refine (block_any64 _ _).mono ?_
      rintro e w2 ⟨rfl, rfl⟩
      go_wp2_with fail
      refine (spread_any64 _ _ _ hRt (by rw [List.length_take]; omega)).mono ?_
      rintro e w3 ⟨rfl, hb3⟩
      have hS3 := hSL.below hb3
      have hsch := sched_under (b := true) (hlu.take 128) 64
      go_wp2_with fail
      refine (mix_any64 g H (ks true) _ w3 hS3 hH8 (ks_length true) (pad_length (by rw [sched_length]; decide)) hHu (ks_under true) (pad_under hsch (by decide))).mono ?_
      rintro e w4 ⟨rfl, hS4, hB4⟩
      have hcp : addW true H (rndN true (ks true) (pad 80 (sched true (L.take 128) 64)) (rn true) H) 8 = comp true H (L.take 128) := comp_pad H _
      rw [hcp] at hS4
      clear hcp
      go_wp2_with fail
      refine (block_any64 _ _).mono ?_
      rintro e w5 ⟨rfl, rfl⟩
      go_wp2
      have hif : (if cap = 128 then some (⟨bb, off, none⟩ : Addr) else some ⟨bb, off + 128, none⟩) = some ⟨bb, off, none⟩ ∧ cap = 128 ∨ (if cap = 128 then some (⟨bb, off, none⟩ : Addr) else some ⟨bb, off + 128, none⟩) = some ⟨bb, off + 128, none⟩ := by
        by_cases h : cap = 128
        · exact .inl ⟨if_pos h, h⟩
        · exact .inr (if_neg h)
      generalize (if cap = 128 then some (⟨bb, off, none⟩ : Addr) else some ⟨bb, off + 128, none⟩) = A at *
      have hbz : bz true = 128 := rfl
      have hdl : (L.drop 128).length = L.length - 128 := List.length_drop
      refine ⟨⟨L.drop 128, comp true H (L.take 128), by omega, by simp [slen], ((hRL.below hb3).but hAL hB4).rest hlt A hif, fun hp q hq => ?_, ?_, hS4, (hBL.trans (But.of_below hb3)).trans hB4, ?_, ?_, comp_length _ _ _, comp_under _ _ _⟩, by simp [slen]; omega⟩
      · refine hAL (by omega) q ?_
        rcases hif with ⟨rfl, _⟩ | rfl
        · exact hq
        · simpa [Value.ownBlock] using hq
      · rcases hif with ⟨rfl, _⟩ | rfl <;> exact tidy_at _ _ _
      · rw [HE.out, eat_step (by rw [hbz]; exact hlt), hbz]
      · rw [HF.out, left_step (by rw [hbz]; exact hlt), hbz]
    · go_wp2_with fail
      refine (block_any64 _ _).mono ?_
      rintro e w1 ⟨rfl, rfl⟩
      go_wp2
      go_ret
      exact ⟨⟨_, rfl, by rw [HF.out, left_short (by show _ < 128; omega)]; exact hRL, by rw [HF.out, left_short (by show _ < 128; omega)]; exact hAL, hTL⟩, by rw [HE.out, eat_short (by show _ < 128; omega)]; exact hSL, hBL⟩
end Go.Proofs.YtpmobjfhhkglbaaDoor

/- Contract of sha.state.bytes at words of 64 bits. -/
namespace Go.Proofs.YtpmobjfhhkglbaaDoor
open Go.RowKit
set_option linter.unusedVariables false
set_option linter.unusedSimpArgs false

set_option maxHeartbeats 4000000 in
set_option maxRecDepth 100000 in
theorem bytes_any64 (l : List Nat) (N : Nat) (w : World) (h8 : l.length = 8) (hu : Under 18446744073709551616 l) (hN : N ≤ 64) :
    Calls Tryd.prog 88 #[.agg (arr .u64 l), .int .i64 N] w fun e w' => ∃ v, e = .returned v ∧ Own 5 .u8 256 w' w.heap.size v ((bytesW true l).take N) ∧ Below w.heap.size w w' := by
  obtain ⟨i0, hi, hz0, hz1, hz2⟩ := info_parts Tryd.info5
  have hlen : ((bytesW true l).take N).length = N := by rw [List.length_take, bytesW_length, h8]; show min N (8 * 8) = N; omega
  have hBu : Under 256 ((bytesW true l).take N) := (bytesW_under true l).take N
  have hel : ∀ i, i < N → el ((bytesW true l).take N) i = el l (i / 8) / 256 ^ (8 - 1 - i % 8) % 256 := fun i hi => by
    rw [el_take hi, bytesW_el _ _ _ (by rw [h8]; show i < 8 * 8; omega)]; rfl
  have HEL := hide hel
  clear hel
  have hL := Lies.new .u64 97 w l
  go_enter Tryd.func88, Tryd.ntmps88
  go_wp2_with (first | (at_make; refine wpList_make_full _ rfl _ _ 26 rfl w.heap.size 5 i0 (.int .u8 0) 1 Tryd.underlying26 hi hz0 hz1 _ _ _ _ N rfl rfl rfl rfl (by rw [hz2]; omega) (by unfold maxLen; omega) (by simp) ?_; intro w1 hown hgrow) | fail)
  rw [made_u8] at hown
  have hb := (Below.refl (w.alloc (.cells (arr .u64 l) 97)).heap.size (w.alloc (.cells (arr .u64 l) 97))).grown hgrow (Nat.le_refl _) (fun k h => by cases h)
  have hL1 := hL.below hb
  have hb1 := keep_trans (keep_alloc w _) hb
  clear hgrow hL hb
  refine (either_int64 _ _ _).mono ?_
  rintro e w2 ⟨rfl, rfl⟩
  go_wp2
  generalize hO : (bytesW true l).take N = O at *
  have HO := hide hO
  clear hO
  have hown0 : w2.ownsRow w.heap.size 5 1 (.slice (some ⟨w.heap.size + 1, 0, none⟩) N N) N (vals .u8 (pad N (O.take 0))) := by simpa [pad] using hown
  clear hown
  go_loopw [13] (fun i wr => ∃ k : Nat, k ≤ N ∧ i = .int .i64 k ∧ wr.ownsRow w.heap.size 5 1 (.slice (some ⟨w.heap.size + 1, 0, none⟩) N N) N (vals .u8 (pad N (O.take k))) ∧ Lies .u64 97 wr w.heap.size l ∧ Below w.heap.size w wr) (fun i _ => N - (intOf i).toNat)
  case atStart => exact ⟨0, Nat.zero_le _, rfl, hown0, hL1, hb1⟩
  case round =>
    obtain ⟨k, hk, rfl, how, hLk, hbr⟩ := hrel
    clear hown0 hL1 hb1
    by_cases hlt : k < N
    · have htl : (O.take k).length = k := by rw [List.length_take]; omega
      have hpl : (pad N (O.take k)).length = N := pad_length (by omega)
      have c1 := how.cellAt k (by omega)
      rw [vals_get _ _ _ (by omega)] at c1
      have f1 := how.frozenAt k
      have hst := (how.stored k (.int .u8 ((el O k : Nat) : Int))).1
      have hse := pad_set (n := N) (l := O.take k) (by omega) (el O k)
      rw [htl, ← take_el (by omega)] at hse
      rw [vals_set, hse] at hst
      have HST := hide hst
      have c2 := hLk.cell (i := k / 8) (by omega)
      have hkl : el l (k / 8) < 18446744073709551616 := el_lt hu (by decide) _
      have HK := HEL.out k hlt
      have HKH := hide HK
      clear hst hse HK htl hpl
      have ik0 : (0 : Int) ≤ (k : Int) := Int.natCast_nonneg _
      have ik1 : (k : Int) < (N : Int) := by omega
      obtain ⟨q, hq⟩ : ∃ q, q = k / 8 := ⟨_, rfl⟩
      obtain ⟨r, hr⟩ : ∃ r, r = 8 - 1 - k % 8 := ⟨_, rfl⟩
      have k1 : (k : Int).tdiv 8 = (q : Int) := by rw [hq]; rfl
      have k2 : (k : Int) / 8 = (q : Int) := by rw [hq]; omega
      have k3 : IntKind.i64.wrap (q : Int) = (q : Int) := by rw [IntKind.wrap_i64]; omega
      have k4 : (q : Int) < 8 := by omega
      have k5 : (0 : Int) ≤ (q : Int) := Int.natCast_nonneg _
      have k6 : (k : Int).tmod 8 = 7 - (r : Int) := by rw [hr]; have : (k : Int).tmod 8 = ((k % 8 : Nat) : Int) := rfl; rw [this]; omega
      have k7 : (k : Int) % 8 = 7 - (r : Int) := by omega
      have k8 : q < 8 := by omega
      have k9 : r < 8 := by omega
      rw [← hq] at c2 hkl
      have HQ := hide hq
      have HR := hide hr
      clear hq hr
      go_wp2
      go_region
      go_wp2
      have ev : (el l q : Int) / 2 ^ (8 * (7 - (7 - r))) % 256 = ((el O k : Nat) : Int) := by
        rw [show 7 - (7 - r) = r by omega, byte_shr, HKH.out, ← HQ.out, ← HR.out]
      rw [ev]
      exact ⟨⟨k + 1, by omega, by go_num, HST.out, hLk.but ((But.setCell (But.refl (w.heap.size + 1) _) _ _).drew) (by omega), (hbr.setCell (by simp) _).drew⟩, by simp [intOf]; omega⟩
    · obtain rfl : k = N := by omega
      rw [List.take_of_length_le (by omega), pad_full hlen] at how
      go_wp2
      go_ret
      exact ⟨_, rfl, by rw [HO.out]; exact ⟨by rw [hlen]; exact how, hBu⟩, hbr⟩
end Go.Proofs.YtpmobjfhhkglbaaDoor

/- sha.resume, of the words as a sum holds them. -/
namespace Go.Proofs.YtpmobjfhhkglbaaDoor
open Go.RowKit
set_option linter.unusedVariables false
set_option linter.unusedSimpArgs false

theorem block_keep64 (v : Value) (w : World) :
    Calls Tryd.prog 74 #[v] w fun e w' => e = .returned (.int .i64 128) ∧ w = w' :=
  (block_any64 v w).mono fun _ _ ⟨h1, h2⟩ => ⟨h1, h2.symm⟩
theorem head_range64 {k : IntKind} {t : TypeId} {w : World} {g : Nat} {l c : List Nat} (h : Lies k t w g (l ++ c)) : w.rangeAt g 0 (vals k l) := fun j v hv => by
  have hj : j < l.length := by have := (List.getElem?_eq_some_iff.1 hv).1; rwa [vals_length] at this
  rw [Nat.zero_add, h.cell (by rw [List.length_append]; omega), el_app_left hj, ← vals_get k l j hj]; exact hv
theorem resume_is64 (ws : List Nat) (w : World) (h8 : ws.length = 8) (hu : Under 18446744073709551616 ws) :
    Calls Tryd.prog 73 #[.agg #[.int .u64 (el ws 0), .int .u64 (el ws 1), .int .u64 (el ws 2), .int .u64 (el ws 3), .int .u64 (el ws 4), .int .u64 (el ws 5), .int .u64 (el ws 6), .int .u64 (el ws 7)], .agg (vals .u64 cubes).toArray] w fun e w' => ∃ g, e = .returned (.pointer (some ⟨g, 0, none⟩)) ∧ w.heap.size ≤ g ∧ Sm64 w' g ws (ks true) ∧ Below w.heap.size w w' := by
  rw [← arr8 .u64 ws h8]
  exact resume_any64 ws cubes w h8 hu cubes_length cubes_under

end Go.Proofs.YtpmobjfhhkglbaaDoor
