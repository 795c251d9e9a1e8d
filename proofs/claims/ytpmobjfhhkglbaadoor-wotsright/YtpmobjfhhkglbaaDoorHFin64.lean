/- Contract of sha.finish at words of 64 bits. -/
import Derived.Test.YtpmobjfhhkglbaaDoorHFin32
import Derived.Test.YtpmobjfhhkglbaaDoorHTak32
import Derived.Test.YtpmobjfhhkglbaaDoorHSl
import Derived.Test.YtpmobjfhhkglbaaDoorHHsh
import Derived.Test.YtpmobjfhhkglbaaDoorHTur32
import Derived.Test.YtpmobjfhhkglbaaDoorWtM
import Derived.KernelRfl
import Derived.Test.YtpmobjfhhkglbaaDoorHSpr32
namespace Go.Proofs.YtpmobjfhhkglbaaDoor
open Go.RowKit
set_option linter.unusedVariables false
set_option linter.unusedSimpArgs false

theorem room_le64 (n : Nat) : 8 ≤ room true n ∧ room true n ≤ 256 := by
  unfold room
  have e : bz true = 128 := rfl
  rw [e]
  split <;> omega
theorem endS_is64 (ws l : List Nat) (size n : Nat) : (bytesW true (eat true (eat true ws l) (left true l ++ fill true l.length size))).take n = endS true ws l size n := by
  unfold endS
  rw [eat_parts true ws l (fill true l.length size)]
set_option maxHeartbeats 8000000 in
set_option maxRecDepth 100000 in
theorem finish_any64 (kind : Int) (ws : List Nat) (tv : Value) (tl : List Nat) (size N : Nat) (w : World) (hT : Roots w) (h8 : ws.length = 8) (hu : Under 18446744073709551616 ws) (hRt : Row .u8 256 w tv tl) (tT : Tidy tv) (htl : tl.length ≤ 100000) (hsz : size < 1152921504606846976) (hN : N ≤ 64) :
    Calls Tryd.prog 77 #[.agg (hv kind ws tv size), .int .i64 N] w fun e w' => ∃ v', e = .returned v' ∧ Own 5 .u8 256 w' w.heap.size v' (endS true ws tl size N) ∧ Below w.heap.size w w' := by
  have hb0 := keep_alloc w (.cells (hv kind ws tv size) 79)
  have hT0 := (hT.below hb0).1
  have hH0 := Hb.new w kind ws tv size
  obtain ⟨ta, tc, rfl⟩ := hRt.form
  have HH := hide hH0
  have HB := hide hb0
  clear hH0 hb0
  have huv : hv kind ws (.slice ta tl.length tc) size = #[.int .i64 kind, .int .u64 (el ws 0), .int .u64 (el ws 1), .int .u64 (el ws 2), .int .u64 (el ws 3), .int .u64 (el ws 4), .int .u64 (el ws 5), .int .u64 (el ws 6), .int .u64 (el ws 7), .slice ta tl.length tc, .int .u64 size] := rfl
  rw [huv]
  clear huv
  go_enter Tryd.func77, Tryd.ntmps77
  go_wp2_with (first
    | (refine wpList_load_mid rfl 107 _ (by rfl) 2 0 (by rfl) (vals .u64 cubes) (.array 80 49) hT0 (by kernel_rfl) rfl (by kernel_rfl) ?_)
    | fail)
  refine (resume_is64 ws _ h8 hu).mono ?_
  rintro e w1 ⟨g, rfl, hg, hS1, hb1⟩
  have hW2 : w.heap.size + 1 ≤ g := by have := hg; simp at this; omega
  have hge : w.heap.size ≠ g := by omega
  have hH1 := HH.out.below hb1
  have hbw := keep_trans HB.out hb1
  have hRt1 := hRt.below hbw
  have hAt : Away g (.slice ta tl.length tc) tl := hRt.away (by omega)
  have c9 := hH1.tail
  clear HH HB hb1 hg
  go_wp2_with fail
  refine (take_any64 g ws tl _ w1 hS1 h8 hu hRt1 hAt tT (by omega)).mono ?_
  rintro e w2 ⟨⟨v2, rfl, hR2, hA2, hT2⟩, hS2, hB2⟩
  obtain ⟨a2, c2, rfl⟩ := hR2.form
  have hH2 := hH1.but hB2 hge
  have hbw2 : Below w.heap.size w w2 := hbw.trans (hB2.below (by omega) hbw.size)
  have hll : (left true tl).length = tl.length % 128 := left_length true tl
  have hlt := left_lt true tl
  have hbz : bz true = 128 := rfl
  rw [hbz] at hlt
  have he8 := eat_len (b := true) tl h8
  have heu := eat_under (b := true) tl hu
  obtain ⟨R, hR⟩ : ∃ R, R = 128 - (left true tl).length - 1 := ⟨_, rfl⟩
  have hrm : room true tl.length = if R < 16 then R + 128 else R := by
    unfold room
    rw [hbz, ← hll, ← hR]
  have hRb : R < 128 := by omega
  have HL := hide hll
  generalize hn2 : (left true tl).length = n2 at *
  have HN2 := hide hn2
  have y1 : (128 : Int) - (n2 : Int) = ((R + 1 : Nat) : Int) := by omega
  have y2 : ((R + 1 : Nat) : Int) - 1 = (R : Int) := by omega
  have HR := hide hR
  have HRM := hide hrm
  have hrr := room_le64 tl.length
  clear hR hrm c9 hH1 hbw hRt1 hAt hS1 hB2 hbz hll hn2
  obtain ⟨Q, hQ⟩ : ∃ Q, Q = R + 1 := ⟨_, rfl⟩
  rw [← hQ] at y1 y2
  have hQb : Q ≤ 128 := by omega
  have c10 := hH2.size
  have hm8 : (8 : Int) * (size : Int) = ((8 * size : Nat) : Int) := by omega
  obtain ⟨bs, hbs⟩ : ∃ bs, bs = 8 * size := ⟨_, rfl⟩
  rw [← hbs] at hm8
  have hbw8 : IntKind.u64.wrap (bs : Int) = (bs : Int) := by rw [IntKind.wrap_u64]; omega
  have hbsb : bs < 18446744073709551616 := by omega
  have HBS := hide hbs
  clear hQ hbs
  have key : ∀ (M : Nat) , M = room true tl.length → fill true tl.length size = [128] ++ (leL bs M).reverse := fun M hM => by unfold fill; rw [HBS.out, hM]
  have HKEY := hide key
  clear key
  by_cases hr8 : R < 16
  · skip
    obtain ⟨M, hM⟩ : ∃ M, M = R + 128 := ⟨_, rfl⟩
    have hMi : (R : Int) + 128 = (M : Int) := by omega
    have hMr : M = room true tl.length := by rw [HRM.out, if_pos hr8, hM]
    have hr8i : (R : Int) < 16 := by omega
    have hfl0 := HKEY.out M hMr
    have hMb : 8 ≤ M ∧ M ≤ 256 := by omega
    clear hM hMr
    have hleS : (leS bs (M : Int)).reverse = (leL bs M).reverse := by unfold leS; rw [if_neg (by omega), Int.toNat_natCast]
    have hl3 : (leL bs M).reverse.length = M := by rw [List.length_reverse, leL_length]
    generalize (leL bs M).reverse = L3 at *
    have HFL := hide hfl0
    have HL3 := hide hl3
    clear hfl0 hl3
    have c10' : (w2.alloc (.cells #[.int .u8 128] 5)).cell? ⟨w.heap.size, 10, none⟩ = some (.int .u64 size) := keep_cell c10 (keep_alloc _ _)
    have h128 : Row .u8 256 (w2.alloc (.cells #[.int .u8 128] 5)) (.slice (some ⟨w2.heap.size, 0, none⟩) 1 1) [128] := lit_row .u8 256 w2 [128] 5 (Under.one (by decide)) (by unfold maxLen; decide)
    go_wp2_with (first
      | (go_at_call 74; refine (block_keep64 _ _).mono ?_; rintro e w9 ⟨rfl, rfl⟩)
      | (go_at_call 22; refine (be_any bs (M : Int) _ hbsb (by omega) (by omega)).mono ?_; rintro e w3 ⟨v3, rfl, hO3, hb3⟩; rw [hleS] at hO3; obtain ⟨a3, c3, rfl⟩ := hO3.row.form)
      | (go_at_call 15; refine (join_any _ [left true tl, [128], L3] _ (rows_lit3 (hR2.below (keep_trans (keep_alloc _ _) hb3)) (h128.below hb3) hO3.row hT2 (tidy_at _ _ _) hO3.tidy) (by have := hMb.2; have := HN2.out; have := HL3.out; simp; omega)).mono ?_; rintro e w4 ⟨v4, rfl, hO4, hb4⟩; have hfe : ([left true tl, [128], L3] : List (List Nat)).flatten = left true tl ++ fill true tl.length size := (by rw [HFL.out]; simp); rw [hfe] at hO4; clear hfe)
      | (go_at_call 75; refine (take_any64 g _ _ _ w4 ((hS2.below (keep_trans (keep_alloc w2 _) hb3)).alloc _ |>.below hb4) he8 heu hO4.row (hO4.away (by have := hS2.lt; have := hb3.size; simp at *; omega)) hO4.tidy (by have := hMb.2; have := HN2.out; have := HL3.out; rw [HFL.out]; simp; omega)).mono ?_; rintro e w5 ⟨⟨v5, rfl, hR5, hA5, hT5⟩, hS5, hB5⟩; have hq8 := eat_len (b := true) (left true tl ++ fill true tl.length size) he8; have hqu := eat_under (b := true) (left true tl ++ fill true tl.length size) heu; have hrg := head_range64 hS5)
      | (refine wpList_load_mid rfl 97 _ (by rfl) g 0 (by rfl) _ (.array 8 49) hrg (by kernel_rfl) rfl (by rw [vals_length, hq8]; kernel_rfl) ?_)
      | (go_at_call 88; refine (bytes_any64 _ N w5 hq8 hqu hN).mono ?_; rintro e w6 ⟨v6, rfl, hO6, hb6⟩)
      | fail)
    have hbw4 : Below w.heap.size w w4 := keep_trans hbw2 (keep_trans (keep_trans (keep_alloc w2 _) hb3) (keep_trans (keep_alloc w3 _) hb4))
    have hbw5 := hbw4.trans (hB5.below (by omega) hbw4.size)
    rw [endS_is64] at hO6
    go_ret
    exact ⟨_, rfl, hO6.mono hbw5.size, keep_trans hbw5 hb6⟩
  · skip
    obtain ⟨M, hM⟩ : ∃ M, M = R := ⟨_, rfl⟩
    have hMr : M = room true tl.length := by rw [HRM.out, if_neg hr8, hM]
    have hr8i : ¬ (R : Int) < 16 := by omega
    subst hM
    have hfl0 := HKEY.out M hMr
    have hMb : 8 ≤ M ∧ M ≤ 256 := by omega
    clear hMr
    have hleS : (leS bs (M : Int)).reverse = (leL bs M).reverse := by unfold leS; rw [if_neg (by omega), Int.toNat_natCast]
    have hl3 : (leL bs M).reverse.length = M := by rw [List.length_reverse, leL_length]
    generalize (leL bs M).reverse = L3 at *
    have HFL := hide hfl0
    have HL3 := hide hl3
    clear hfl0 hl3
    have c10' : (w2.alloc (.cells #[.int .u8 128] 5)).cell? ⟨w.heap.size, 10, none⟩ = some (.int .u64 size) := keep_cell c10 (keep_alloc _ _)
    have h128 : Row .u8 256 (w2.alloc (.cells #[.int .u8 128] 5)) (.slice (some ⟨w2.heap.size, 0, none⟩) 1 1) [128] := lit_row .u8 256 w2 [128] 5 (Under.one (by decide)) (by unfold maxLen; decide)
    go_wp2_with (first
      | (go_at_call 74; refine (block_keep64 _ _).mono ?_; rintro e w9 ⟨rfl, rfl⟩)
      | (go_at_call 22; refine (be_any bs (M : Int) _ hbsb (by omega) (by omega)).mono ?_; rintro e w3 ⟨v3, rfl, hO3, hb3⟩; rw [hleS] at hO3; obtain ⟨a3, c3, rfl⟩ := hO3.row.form)
      | (go_at_call 15; refine (join_any _ [left true tl, [128], L3] _ (rows_lit3 (hR2.below (keep_trans (keep_alloc _ _) hb3)) (h128.below hb3) hO3.row hT2 (tidy_at _ _ _) hO3.tidy) (by have := hMb.2; have := HN2.out; have := HL3.out; simp; omega)).mono ?_; rintro e w4 ⟨v4, rfl, hO4, hb4⟩; have hfe : ([left true tl, [128], L3] : List (List Nat)).flatten = left true tl ++ fill true tl.length size := (by rw [HFL.out]; simp); rw [hfe] at hO4; clear hfe)
      | (go_at_call 75; refine (take_any64 g _ _ _ w4 ((hS2.below (keep_trans (keep_alloc w2 _) hb3)).alloc _ |>.below hb4) he8 heu hO4.row (hO4.away (by have := hS2.lt; have := hb3.size; simp at *; omega)) hO4.tidy (by have := hMb.2; have := HN2.out; have := HL3.out; rw [HFL.out]; simp; omega)).mono ?_; rintro e w5 ⟨⟨v5, rfl, hR5, hA5, hT5⟩, hS5, hB5⟩; have hq8 := eat_len (b := true) (left true tl ++ fill true tl.length size) he8; have hqu := eat_under (b := true) (left true tl ++ fill true tl.length size) heu; have hrg := head_range64 hS5)
      | (refine wpList_load_mid rfl 97 _ (by rfl) g 0 (by rfl) _ (.array 8 49) hrg (by kernel_rfl) rfl (by rw [vals_length, hq8]; kernel_rfl) ?_)
      | (go_at_call 88; refine (bytes_any64 _ N w5 hq8 hqu hN).mono ?_; rintro e w6 ⟨v6, rfl, hO6, hb6⟩)
      | fail)
    have hbw4 : Below w.heap.size w w4 := keep_trans hbw2 (keep_trans (keep_trans (keep_alloc w2 _) hb3) (keep_trans (keep_alloc w3 _) hb4))
    have hbw5 := hbw4.trans (hB5.below (by omega) hbw4.size)
    rw [endS_is64] at hO6
    go_ret
    exact ⟨_, rfl, hO6.mono hbw5.size, keep_trans hbw5 hb6⟩
end Go.Proofs.YtpmobjfhhkglbaaDoor

/- Which sums that go on can be: the code's, and the document's. -/
namespace Go.Proofs.YtpmobjfhhkglbaaDoor
open Go.RowKit
set_option linter.unusedVariables false
set_option linter.unusedSimpArgs false

theorem and_tail {a b c d e f g h i j k l : Prop} (x : a ∧ b ∧ c ∧ d ∧ e ∧ f ∧ g ∧ h ∧ i ∧ j ∧ k) (y : l) : a ∧ b ∧ c ∧ d ∧ e ∧ f ∧ g ∧ h ∧ i ∧ j ∧ k ∧ l := by
  obtain ⟨a, b, c, d, e, f, g, h, i, j, k⟩ := x
  exact ⟨a, b, c, d, e, f, g, h, i, j, k, y⟩
set_option maxHeartbeats 4000000 in
set_option maxRecDepth 100000 in
theorem fit_any (kind : Int) (ws : List Nat) (tv : Value) (tl : List Nat) (size : Nat) (w : World) (h8 : ws.length = 8) (hu : Under 18446744073709551616 ws) (hR : Row .u8 256 w tv tl) (hs : size < 18446744073709551616) :
    Calls Tryd.prog 60 #[.agg (hv kind ws tv size)] w fun e w' => e = .returned (.bool (hfit kind ws tl.length size)) ∧ Below w.heap.size w w' := by
  obtain ⟨ta, tc, rfl, ht1, ht2, ht3, ht4⟩ := hR
  unfold maxLen at ht2
  have hbo := blockOf_any kind
  by_cases hk : bk kind = 0
  · have hf : hfit kind ws tl.length size = false := by
      have : ¬ (kind = 1 ∨ kind = 2 ∨ kind = 3) := by
        intro h
        rcases h with rfl | rfl | rfl <;> simp [bk] at hk
      simp [hfit, this]
    rw [hf]
    rw [hk] at hbo
    unfold hv
    go_enter Tryd.func60, Tryd.ntmps60
    go_wp2_with (first | (go_at_call 68; refine (hbo _).mono ?_; rintro e w1 ⟨rfl, rfl⟩) | fail)
    go_ret
    exact ⟨rfl, keep_alloc _ _⟩
  have hkk : (kind = 1 ∨ kind = 2 ∨ kind = 3) := by
    unfold bk at hk
    by_cases h1 : kind = 1
    · exact .inl h1
    · rw [if_neg h1] at hk
      by_cases h2 : kind = 2 ∨ kind = 3
      · exact .inr h2
      · rw [if_neg h2] at hk; exact absurd rfl hk
  have hbb : bk kind = bz (wide kind) := by rcases hkk with rfl | rfl | rfl <;> rfl
  have hbp : 0 < bz (wide kind) := bz_pos _
  rw [hbb] at hbo
  have hpos : ((bz (wide kind) : Nat) : Int) ≠ 0 := by omega
  have hne : ¬ bz (wide kind) = 0 := by omega
  by_cases hsz : size < 1152921504606846976
  · have hsz2 : ¬ (1152921504606846976 : Int) ≤ (size : Int) := by omega
    have htl : tl.length < 18446744073709551616 := by omega
    by_cases hl : tl.length = size % bz (wide kind)
    · have hf : hfit kind ws tl.length size = wfit kind ws := by simp [hfit, hkk, hsz, hl]
      rw [hf]
      have hwf := wordsFit_any kind ws (.slice ta tl.length tc) size
      have hl2 : (IntKind.u64.wrap ((tl.length : Nat) : Int) == (size : Int).tmod ((bz (wide kind) : Nat) : Int)) = true := by
        have e1 : (size : Int).tmod ((bz (wide kind) : Nat) : Int) = ((size % bz (wide kind) : Nat) : Int) := rfl
        rw [e1, ← hl, IntKind.wrap_u64, beq_iff_eq]; omega
      have hB := Hb.new w kind ws (.slice ta tl.length tc) size
      have hmk : ∀ w', Below (w.heap.size + 1) (w.alloc (.cells #[.int .i64 kind, .int .u64 (el ws 0), .int .u64 (el ws 1), .int .u64 (el ws 2), .int .u64 (el ws 3), .int .u64 (el ws 4), .int .u64 (el ws 5), .int .u64 (el ws 6), .int .u64 (el ws 7), .slice ta tl.length tc, .int .u64 size] 79)) w' → (w'.cell? ⟨w.heap.size, 0, none⟩ = some (.int .i64 kind) ∧ w'.cell? ⟨w.heap.size, 1, none⟩ = some (.int .u64 (el ws 0)) ∧ w'.cell? ⟨w.heap.size, 2, none⟩ = some (.int .u64 (el ws 1)) ∧ w'.cell? ⟨w.heap.size, 3, none⟩ = some (.int .u64 (el ws 2)) ∧ w'.cell? ⟨w.heap.size, 4, none⟩ = some (.int .u64 (el ws 3)) ∧ w'.cell? ⟨w.heap.size, 5, none⟩ = some (.int .u64 (el ws 4)) ∧ w'.cell? ⟨w.heap.size, 6, none⟩ = some (.int .u64 (el ws 5)) ∧ w'.cell? ⟨w.heap.size, 7, none⟩ = some (.int .u64 (el ws 6)) ∧ w'.cell? ⟨w.heap.size, 8, none⟩ = some (.int .u64 (el ws 7)) ∧ w'.cell? ⟨w.heap.size, 9, none⟩ = some (.slice ta tl.length tc) ∧ w'.cell? ⟨w.heap.size, 10, none⟩ = some (.int .u64 size)) := fun w' hb => by
        have hB' : Hb w' w.heap.size kind ws (.slice ta tl.length tc) size := Hb.below hB (by rw [World.size_alloc]; exact hb)
        exact ⟨hB'.kind, hB'.word (i := 0) (by decide), hB'.word (i := 1) (by decide), hB'.word (i := 2) (by decide), hB'.word (i := 3) (by decide), hB'.word (i := 4) (by decide), hB'.word (i := 5) (by decide), hB'.word (i := 6) (by decide), hB'.word (i := 7) (by decide), hB'.tail, hB'.size⟩
      have HMK := hide hmk
      unfold hv at *
      have hmk2 := fun w' hb => and_tail (HMK.out w' hb) hb
      have hb0 : Below w.heap.size w (w.alloc (.cells #[.int .i64 kind, .int .u64 (el ws 0), .int .u64 (el ws 1), .int .u64 (el ws 2), .int .u64 (el ws 3), .int .u64 (el ws 4), .int .u64 (el ws 5), .int .u64 (el ws 6), .int .u64 (el ws 7), .slice ta tl.length tc, .int .u64 size] 79)) := keep_alloc w _
      clear hmk hB
      have hD : decide ((1152921504606846976 : Int) ≤ (size : Int)) = false := decide_eq_false hsz2
      have hB0 : (((bz (wide kind) : Nat) : Int) == 0) = false := by simp [hne]
      clear hl hf hkk hk hbb hsz hsz2 hs htl
      generalize bz (wide kind) = B at *
      generalize hn : tl.length = n at *
      clear hn
      go_enter Tryd.func60, Tryd.ntmps60
      go_wp2_with (first | (go_at_call 68; refine (hbo _).mono ?_; rintro e w1 ⟨rfl, rfl⟩) | fail)
      go_region_held3 (fun w' => w'.cell? ⟨w.heap.size, 0, none⟩ = some (.int .i64 kind) ∧ w'.cell? ⟨w.heap.size, 1, none⟩ = some (.int .u64 (el ws 0)) ∧ w'.cell? ⟨w.heap.size, 2, none⟩ = some (.int .u64 (el ws 1)) ∧ w'.cell? ⟨w.heap.size, 3, none⟩ = some (.int .u64 (el ws 2)) ∧ w'.cell? ⟨w.heap.size, 4, none⟩ = some (.int .u64 (el ws 3)) ∧ w'.cell? ⟨w.heap.size, 5, none⟩ = some (.int .u64 (el ws 4)) ∧ w'.cell? ⟨w.heap.size, 6, none⟩ = some (.int .u64 (el ws 5)) ∧ w'.cell? ⟨w.heap.size, 7, none⟩ = some (.int .u64 (el ws 6)) ∧ w'.cell? ⟨w.heap.size, 8, none⟩ = some (.int .u64 (el ws 7)) ∧ w'.cell? ⟨w.heap.size, 9, none⟩ = some (.slice ta n tc) ∧ w'.cell? ⟨w.heap.size, 10, none⟩ = some (.int .u64 size) ∧ Below (w.heap.size + 1) (w.alloc (.cells #[.int .i64 kind, .int .u64 (el ws 0), .int .u64 (el ws 1), .int .u64 (el ws 2), .int .u64 (el ws 3), .int .u64 (el ws 4), .int .u64 (el ws 5), .int .u64 (el ws 6), .int .u64 (el ws 7), .slice ta n tc, .int .u64 size] 79)) w')
        (first
          | exact hmk2 _ (Below.refl _ _)
          | exact hmk2 _ (Below.refl _ _).drew
          | (go_split_ands; exact hmk2 _ (Below.drew (by assumption)))
          | exact hmk2 _ (((Below.refl _ _).drew).trans (hb7.mono (by simp)))
          | exact hmk2 _ ((Below.refl _ _).trans (hb7.mono (by simp))))
        (first
          | (go_at_call 69; refine (hwf _ h8 hu).mono ?_; rintro e w7 ⟨rfl, hb7⟩))
      go_wp2
      go_ret
      exact ⟨rfl, hb0.trans (((Below.refl _ _).drew).trans (hb7.mono (by simp)))⟩
    · have hf : hfit kind ws tl.length size = false := by simp [hfit, hkk, hsz, hl]
      rw [hf]
      have hl2 : (IntKind.u64.wrap ((tl.length : Nat) : Int) == (size : Int).tmod ((bz (wide kind) : Nat) : Int)) = false := by
        have e1 : (size : Int).tmod ((bz (wide kind) : Nat) : Int) = ((size % bz (wide kind) : Nat) : Int) := rfl
        rw [e1, IntKind.wrap_u64, beq_eq_false_iff_ne]; omega
      have hl3 : (((tl.length : Nat) : Int) == (size : Int) % ((bz (wide kind) : Nat) : Int)) = false := by
        rw [beq_eq_false_iff_ne]; omega
      have hD : decide ((1152921504606846976 : Int) ≤ (size : Int)) = false := decide_eq_false hsz2
      have hB0 : (((bz (wide kind) : Nat) : Int) == 0) = false := by simp [hne]
      clear hl hf hkk hk hbb hsz hsz2 hs
      generalize bz (wide kind) = B at *
      generalize hn : tl.length = n at *
      clear hn
      unfold hv
      go_enter Tryd.func60, Tryd.ntmps60
      go_wp2_with (first | (go_at_call 68; refine (hbo _).mono ?_; rintro e w1 ⟨rfl, rfl⟩) | fail)
      go_quiet (fail)
      go_wp2
      go_ret
      exact ⟨rfl, bel_drewN (keep_alloc _ _) _⟩
  · have hf : hfit kind ws tl.length size = false := by simp [hfit, hsz]
    rw [hf]
    have hD : decide ((1152921504606846976 : Int) ≤ (size : Int)) = true := decide_eq_true (by omega)
    have hB0 : (((bz (wide kind) : Nat) : Int) == 0) = false := by simp [hne]
    clear hf hkk hk hbb hsz hs
    generalize bz (wide kind) = B at *
    unfold hv
    go_enter Tryd.func60, Tryd.ntmps60
    go_wp2_with (first | (go_at_call 68; refine (hbo _).mono ?_; rintro e w1 ⟨rfl, rfl⟩) | fail)
    go_ret
    exact ⟨rfl, keep_alloc _ _⟩
end Go.Proofs.YtpmobjfhhkglbaaDoor

/- The chapter's examples, by the plain functions. -/
namespace Go.Proofs.YtpmobjfhhkglbaaDoor
set_option maxRecDepth 100000
def ini (k : Nat) : List Nat := if k = 1 then ((squares.drop 0).take 8).map (hi false) else if k = 2 then ((squares.drop 8).take 8).map (hi true) else ((squares.drop 0).take 8).map (hi true)
end Go.Proofs.YtpmobjfhhkglbaaDoor

/- Contract of sha.New. -/
namespace Go.Proofs.YtpmobjfhhkglbaaDoor
open Go.RowKit
set_option linter.unusedVariables false
set_option linter.unusedSimpArgs false

set_option maxHeartbeats 4000000 in
set_option maxRecDepth 100000 in
theorem new_1 (w : World) (hT : Roots w) :
    Calls Tryd.prog 42 #[.int .i64 1] w fun e w' => e = .returned (.tuple #[.agg (hv 1 (ini 1) (.slice none 0 0) 0), .int .i64 0]) ∧ Below w.heap.size w w' := by
  have hb0 := keep_alloc w (.cells (hv 0 (List.replicate 8 0) (.slice none 0 0) 0) 79)
  have hT0 := (hT.below hb0).2
  have hO0 := Hb.new w 0 (List.replicate 8 0) (.slice none 0 0) 0
  have h8 : (ini 1).length = 8 := by decide
  have hu : Under 4294967296 (ini 1) := dec_under (by decide)
  have hbeg : ∀ w, Calls Tryd.prog 56 #[.agg (vals .u64 squares).toArray, .int .i64 0] w fun e w' => e = .returned (.agg (arr .u32 (ini 1))) ∧ Below w.heap.size w w' := fun w => begin_any32 squares 0 w squares_length squares_under (by decide)
  have hsto : ∀ w, Calls Tryd.prog 57 #[.agg (arr .u32 (ini 1))] w fun e w' => e = .returned (.agg #[.int .u64 (el (ini 1) 0), .int .u64 (el (ini 1) 1), .int .u64 (el (ini 1) 2), .int .u64 (el (ini 1) 3), .int .u64 (el (ini 1) 4), .int .u64 (el (ini 1) 5), .int .u64 (el (ini 1) 6), .int .u64 (el (ini 1) 7)]) ∧ Below w.heap.size w w' := fun w => by
    rw [← arr8 .u64 (ini 1) h8]; exact stored_any32 (ini 1) w h8 hu
  have HO := hide hO0
  have HB := hide hb0
  clear hO0 hb0
  generalize ini 1 = E at *
  go_enter Tryd.func42, Tryd.ntmps42
  go_wp2_with (first
    | (refine wpList_load_mid rfl 95 _ (by rfl) 0 0 (by rfl) (vals .u64 squares) (.array 16 49) hT0 (by kernel_rfl) rfl (by kernel_rfl) ?_)
    | (go_at_call 56; refine (hbeg _).mono ?_; rintro e w1 ⟨rfl, hb1⟩)
    | (go_at_call 57; refine (hsto _).mono ?_; rintro e w2 ⟨rfl, hb2⟩; have hO2 := (HO.out.below hb1).below hb2; obtain ⟨o0, o1, o2, o3, o4, o5, o6, o7, o8, o9, o10⟩ := hO2.all; have p0 := hO2.frozen 0; have p1 := hO2.frozen 1; have p2 := hO2.frozen 2; have p3 := hO2.frozen 3; have p4 := hO2.frozen 4; have p5 := hO2.frozen 5; have p6 := hO2.frozen 6; have p7 := hO2.frozen 7; have p8 := hO2.frozen 8; have p9 := hO2.frozen 9; have p10 := hO2.frozen 10)
    | fail)
  have hfu := El.full hO2.elev (.int .i64 1) (.int .u64 (el E 0)) (.int .u64 (el E 1)) (.int .u64 (el E 2)) (.int .u64 (el E 3)) (.int .u64 (el E 4)) (.int .u64 (el E 5)) (.int .u64 (el E 6)) (.int .u64 (el E 7)) (.slice none 0 0) (.int .u64 0)
  have hBg : Below w.heap.size w (((((((((((w2.setCell ⟨w.heap.size, 0, none⟩ (.int .i64 1)).setCell ⟨w.heap.size, 1, none⟩ (.int .u64 (el E 0))).setCell ⟨w.heap.size, 2, none⟩ (.int .u64 (el E 1))).setCell ⟨w.heap.size, 3, none⟩ (.int .u64 (el E 2))).setCell ⟨w.heap.size, 4, none⟩ (.int .u64 (el E 3))).setCell ⟨w.heap.size, 5, none⟩ (.int .u64 (el E 4))).setCell ⟨w.heap.size, 6, none⟩ (.int .u64 (el E 5))).setCell ⟨w.heap.size, 7, none⟩ (.int .u64 (el E 6))).setCell ⟨w.heap.size, 8, none⟩ (.int .u64 (el E 7))).setCell ⟨w.heap.size, 9, none⟩ (.slice none 0 0)).setCell ⟨w.heap.size, 10, none⟩ (.int .u64 0)) := (keep_trans (keep_trans HB.out hb1) hb2).trans (((But.setCell (But.setCell (But.setCell (But.setCell (But.setCell (But.setCell (But.setCell (But.setCell (But.setCell (But.setCell (But.setCell (But.refl w.heap.size w2) _ _) _ _) _ _) _ _) _ _) _ _) _ _) _ _) _ _) _ _) _ _)).below (Nat.le_refl _) (by have := HB.out.size; have := hb1.size; have := hb2.size; simp at *; omega))
  have hfin : Hb (((((((((((w2.setCell ⟨w.heap.size, 0, none⟩ (.int .i64 1)).setCell ⟨w.heap.size, 1, none⟩ (.int .u64 (el E 0))).setCell ⟨w.heap.size, 2, none⟩ (.int .u64 (el E 1))).setCell ⟨w.heap.size, 3, none⟩ (.int .u64 (el E 2))).setCell ⟨w.heap.size, 4, none⟩ (.int .u64 (el E 3))).setCell ⟨w.heap.size, 5, none⟩ (.int .u64 (el E 4))).setCell ⟨w.heap.size, 6, none⟩ (.int .u64 (el E 5))).setCell ⟨w.heap.size, 7, none⟩ (.int .u64 (el E 6))).setCell ⟨w.heap.size, 8, none⟩ (.int .u64 (el E 7))).setCell ⟨w.heap.size, 9, none⟩ (.slice none 0 0)).setCell ⟨w.heap.size, 10, none⟩ (.int .u64 0)) w.heap.size 1 E (.slice none 0 0) 0 := hfu
  clear hfu
  generalize (((((((((((w2.setCell ⟨w.heap.size, 0, none⟩ (.int .i64 1)).setCell ⟨w.heap.size, 1, none⟩ (.int .u64 (el E 0))).setCell ⟨w.heap.size, 2, none⟩ (.int .u64 (el E 1))).setCell ⟨w.heap.size, 3, none⟩ (.int .u64 (el E 2))).setCell ⟨w.heap.size, 4, none⟩ (.int .u64 (el E 3))).setCell ⟨w.heap.size, 5, none⟩ (.int .u64 (el E 4))).setCell ⟨w.heap.size, 6, none⟩ (.int .u64 (el E 5))).setCell ⟨w.heap.size, 7, none⟩ (.int .u64 (el E 6))).setCell ⟨w.heap.size, 8, none⟩ (.int .u64 (el E 7))).setCell ⟨w.heap.size, 9, none⟩ (.slice none 0 0)).setCell ⟨w.heap.size, 10, none⟩ (.int .u64 0)) = wf at *
  obtain ⟨z0, z1, z2, z3, z4, z5, z6, z7, z8, z9, z10⟩ := hfin.all
  refine bodyPost_ret (v := .tuple #[.agg (hv 1 E (.slice none 0 0) 0), .int .i64 0]) ?_ rfl ⟨rfl, hBg⟩
  unfold hv
  simp [results, Tryd.results42, go_sem, z0, z1, z2, z3, z4, z5, z6, z7, z8, z9, z10]
end Go.Proofs.YtpmobjfhhkglbaaDoor

/- Contract of sha.New. -/
namespace Go.Proofs.YtpmobjfhhkglbaaDoor
open Go.RowKit
set_option linter.unusedVariables false
set_option linter.unusedSimpArgs false

set_option maxHeartbeats 4000000 in
set_option maxRecDepth 100000 in
theorem new_3 (w : World) (hT : Roots w) :
    Calls Tryd.prog 42 #[.int .i64 3] w fun e w' => e = .returned (.tuple #[.agg (hv 3 (ini 3) (.slice none 0 0) 0), .int .i64 0]) ∧ Below w.heap.size w w' := by
  have hb0 := keep_alloc w (.cells (hv 0 (List.replicate 8 0) (.slice none 0 0) 0) 79)
  have hT0 := (hT.below hb0).2
  have hO0 := Hb.new w 0 (List.replicate 8 0) (.slice none 0 0) 0
  have h8 : (ini 3).length = 8 := by decide
  have hu : Under 18446744073709551616 (ini 3) := dec_under (by decide)
  have hbeg : ∀ w, Calls Tryd.prog 58 #[.agg (vals .u64 squares).toArray, .int .i64 0] w fun e w' => e = .returned (.agg (arr .u64 (ini 3))) ∧ Below w.heap.size w w' := fun w => begin_any64 squares 0 w squares_length squares_under (by decide)
  have hsto : ∀ w, Calls Tryd.prog 59 #[.agg (arr .u64 (ini 3))] w fun e w' => e = .returned (.agg #[.int .u64 (el (ini 3) 0), .int .u64 (el (ini 3) 1), .int .u64 (el (ini 3) 2), .int .u64 (el (ini 3) 3), .int .u64 (el (ini 3) 4), .int .u64 (el (ini 3) 5), .int .u64 (el (ini 3) 6), .int .u64 (el (ini 3) 7)]) ∧ Below w.heap.size w w' := fun w => by
    rw [← arr8 .u64 (ini 3) h8]; exact stored_any64 (ini 3) w h8 hu
  have HO := hide hO0
  have HB := hide hb0
  clear hO0 hb0
  generalize ini 3 = E at *
  go_enter Tryd.func42, Tryd.ntmps42
  go_wp2_with (first
    | (refine wpList_load_mid rfl 95 _ (by rfl) 0 0 (by rfl) (vals .u64 squares) (.array 16 49) hT0 (by kernel_rfl) rfl (by kernel_rfl) ?_)
    | (go_at_call 58; refine (hbeg _).mono ?_; rintro e w1 ⟨rfl, hb1⟩)
    | (go_at_call 59; refine (hsto _).mono ?_; rintro e w2 ⟨rfl, hb2⟩; have hO2 := (HO.out.below hb1).below hb2; obtain ⟨o0, o1, o2, o3, o4, o5, o6, o7, o8, o9, o10⟩ := hO2.all; have p0 := hO2.frozen 0; have p1 := hO2.frozen 1; have p2 := hO2.frozen 2; have p3 := hO2.frozen 3; have p4 := hO2.frozen 4; have p5 := hO2.frozen 5; have p6 := hO2.frozen 6; have p7 := hO2.frozen 7; have p8 := hO2.frozen 8; have p9 := hO2.frozen 9; have p10 := hO2.frozen 10)
    | fail)
  have hfu := El.full hO2.elev (.int .i64 3) (.int .u64 (el E 0)) (.int .u64 (el E 1)) (.int .u64 (el E 2)) (.int .u64 (el E 3)) (.int .u64 (el E 4)) (.int .u64 (el E 5)) (.int .u64 (el E 6)) (.int .u64 (el E 7)) (.slice none 0 0) (.int .u64 0)
  have hBg : Below w.heap.size w (((((((((((w2.setCell ⟨w.heap.size, 0, none⟩ (.int .i64 3)).setCell ⟨w.heap.size, 1, none⟩ (.int .u64 (el E 0))).setCell ⟨w.heap.size, 2, none⟩ (.int .u64 (el E 1))).setCell ⟨w.heap.size, 3, none⟩ (.int .u64 (el E 2))).setCell ⟨w.heap.size, 4, none⟩ (.int .u64 (el E 3))).setCell ⟨w.heap.size, 5, none⟩ (.int .u64 (el E 4))).setCell ⟨w.heap.size, 6, none⟩ (.int .u64 (el E 5))).setCell ⟨w.heap.size, 7, none⟩ (.int .u64 (el E 6))).setCell ⟨w.heap.size, 8, none⟩ (.int .u64 (el E 7))).setCell ⟨w.heap.size, 9, none⟩ (.slice none 0 0)).setCell ⟨w.heap.size, 10, none⟩ (.int .u64 0)) := (keep_trans (keep_trans HB.out hb1) hb2).trans (((But.setCell (But.setCell (But.setCell (But.setCell (But.setCell (But.setCell (But.setCell (But.setCell (But.setCell (But.setCell (But.setCell (But.refl w.heap.size w2) _ _) _ _) _ _) _ _) _ _) _ _) _ _) _ _) _ _) _ _) _ _)).below (Nat.le_refl _) (by have := HB.out.size; have := hb1.size; have := hb2.size; simp at *; omega))
  have hfin : Hb (((((((((((w2.setCell ⟨w.heap.size, 0, none⟩ (.int .i64 3)).setCell ⟨w.heap.size, 1, none⟩ (.int .u64 (el E 0))).setCell ⟨w.heap.size, 2, none⟩ (.int .u64 (el E 1))).setCell ⟨w.heap.size, 3, none⟩ (.int .u64 (el E 2))).setCell ⟨w.heap.size, 4, none⟩ (.int .u64 (el E 3))).setCell ⟨w.heap.size, 5, none⟩ (.int .u64 (el E 4))).setCell ⟨w.heap.size, 6, none⟩ (.int .u64 (el E 5))).setCell ⟨w.heap.size, 7, none⟩ (.int .u64 (el E 6))).setCell ⟨w.heap.size, 8, none⟩ (.int .u64 (el E 7))).setCell ⟨w.heap.size, 9, none⟩ (.slice none 0 0)).setCell ⟨w.heap.size, 10, none⟩ (.int .u64 0)) w.heap.size 3 E (.slice none 0 0) 0 := hfu
  clear hfu
  generalize (((((((((((w2.setCell ⟨w.heap.size, 0, none⟩ (.int .i64 3)).setCell ⟨w.heap.size, 1, none⟩ (.int .u64 (el E 0))).setCell ⟨w.heap.size, 2, none⟩ (.int .u64 (el E 1))).setCell ⟨w.heap.size, 3, none⟩ (.int .u64 (el E 2))).setCell ⟨w.heap.size, 4, none⟩ (.int .u64 (el E 3))).setCell ⟨w.heap.size, 5, none⟩ (.int .u64 (el E 4))).setCell ⟨w.heap.size, 6, none⟩ (.int .u64 (el E 5))).setCell ⟨w.heap.size, 7, none⟩ (.int .u64 (el E 6))).setCell ⟨w.heap.size, 8, none⟩ (.int .u64 (el E 7))).setCell ⟨w.heap.size, 9, none⟩ (.slice none 0 0)).setCell ⟨w.heap.size, 10, none⟩ (.int .u64 0)) = wf at *
  obtain ⟨z0, z1, z2, z3, z4, z5, z6, z7, z8, z9, z10⟩ := hfin.all
  refine bodyPost_ret (v := .tuple #[.agg (hv 3 E (.slice none 0 0) 0), .int .i64 0]) ?_ rfl ⟨rfl, hBg⟩
  unfold hv
  simp [results, Tryd.results42, go_sem, z0, z1, z2, z3, z4, z5, z6, z7, z8, z9, z10]
end Go.Proofs.YtpmobjfhhkglbaaDoor
