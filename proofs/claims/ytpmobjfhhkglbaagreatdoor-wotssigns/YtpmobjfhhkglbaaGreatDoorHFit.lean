import Derived.Test.YtpmobjfhhkglbaaGreatDoorHHsh
import Derived.Test.YtpmobjfhhkglbaaGreatDoorGBl32
import Derived.Test.YtpmobjfhhkglbaaGreatDoorLmM
import Derived.Test.YtpmobjfhhkglbaaGreatDoorHaM
import Derived.KernelRfl
import Derived.Test.YtpmobjfhhkglbaaGreatDoorHRes32
import Derived.Test.YtpmobjfhhkglbaaGreatDoorHTur32
import Derived.Test.YtpmobjfhhkglbaaGreatDoorHSl
import Derived.Test.YtpmobjfhhkglbaaGreatDoorDig
import Derived.Test.YtpmobjfhhkglbaaGreatDoorHMix64
set_option maxHeartbeats 8000000
set_option maxRecDepth 100000
namespace Go.Proofs.YtpmobjfhhkglbaaGreatDoor
open Go.RowKit
set_option linter.unusedVariables false
set_option linter.unusedSimpArgs false
theorem and_tail {a b c d e f g h i j k l : Prop} (x : a ∧ b ∧ c ∧ d ∧ e ∧ f ∧ g ∧ h ∧ i ∧ j ∧ k) (y : l) : a ∧ b ∧ c ∧ d ∧ e ∧ f ∧ g ∧ h ∧ i ∧ j ∧ k ∧ l := by
  obtain ⟨a, b, c, d, e, f, g, h, i, j, k⟩ := x
  exact ⟨a, b, c, d, e, f, g, h, i, j, k, y⟩
theorem fit_any (kind : Int) (ws : List Nat) (tv : Value) (tl : List Nat) (size : Nat) (w : World) (h8 : ws.length = 8) (hu : Under 18446744073709551616 ws) (hR : Row .u8 256 w tv tl) (hs : size < 18446744073709551616) :
    Calls Tryz.prog 105 #[.agg (hv kind ws tv size)] w fun e w' => e = .returned (.bool (hfit kind ws tl.length size)) ∧ Below w.heap.size w w' := by
  obtain ⟨ta, tc, rfl, ht1, ht2, ht3, ht4⟩ := hR
  unfold maxLen at ht2
  have hbo := blockOf_any kind
  by_cases hk : bk kind = 0
  · have hf : hfit kind ws tl.length size = false := by
      have : ¬ (kind = 1 ∨ kind = 2 ∨ kind = 3) := by
        intro h
        rcases h with rfl | rfl | rfl <;> simp [bk] at hk
      simp [hfit, this]
    rw [hf]
    rw [hk] at hbo
    unfold hv
    go_enter Tryz.func105, Tryz.ntmps105
    go_wp2_with (first | (go_at_call 115; refine (hbo _).mono ?_; rintro e w1 ⟨rfl, rfl⟩) | fail)
    go_ret
    exact ⟨rfl, keep_alloc _ _⟩
  have hkk : (kind = 1 ∨ kind = 2 ∨ kind = 3) := by
    unfold bk at hk
    by_cases h1 : kind = 1
    · exact .inl h1
    · rw [if_neg h1] at hk
      by_cases h2 : kind = 2 ∨ kind = 3
      · exact .inr h2
      · rw [if_neg h2] at hk; exact absurd rfl hk
  have hbb : bk kind = bz (wide kind) := by rcases hkk with rfl | rfl | rfl <;> rfl
  have hbp : 0 < bz (wide kind) := bz_pos _
  rw [hbb] at hbo
  have hpos : ((bz (wide kind) : Nat) : Int) ≠ 0 := by omega
  have hne : ¬ bz (wide kind) = 0 := by omega
  by_cases hsz : size < 1152921504606846976
  · have hsz2 : ¬ (1152921504606846976 : Int) ≤ (size : Int) := by omega
    have htl : tl.length < 18446744073709551616 := by omega
    by_cases hl : tl.length = size % bz (wide kind)
    · have hf : hfit kind ws tl.length size = wfit kind ws := by simp [hfit, hkk, hsz, hl]
      rw [hf]
      have hwf := wordsFit_any kind ws (.slice ta tl.length tc) size
      have hl2 : (IntKind.u64.wrap ((tl.length : Nat) : Int) == (size : Int).tmod ((bz (wide kind) : Nat) : Int)) = true := by
        have e1 : (size : Int).tmod ((bz (wide kind) : Nat) : Int) = ((size % bz (wide kind) : Nat) : Int) := rfl
        rw [e1, ← hl, IntKind.wrap_u64, beq_iff_eq]; omega
      have hB := Hb.new w kind ws (.slice ta tl.length tc) size
      have hmk : ∀ w', Below (w.heap.size + 1) (w.alloc (.cells #[.int .i64 kind, .int .u64 (el ws 0), .int .u64 (el ws 1), .int .u64 (el ws 2), .int .u64 (el ws 3), .int .u64 (el ws 4), .int .u64 (el ws 5), .int .u64 (el ws 6), .int .u64 (el ws 7), .slice ta tl.length tc, .int .u64 size] 89)) w' → (w'.cell? ⟨w.heap.size, 0, none⟩ = some (.int .i64 kind) ∧ w'.cell? ⟨w.heap.size, 1, none⟩ = some (.int .u64 (el ws 0)) ∧ w'.cell? ⟨w.heap.size, 2, none⟩ = some (.int .u64 (el ws 1)) ∧ w'.cell? ⟨w.heap.size, 3, none⟩ = some (.int .u64 (el ws 2)) ∧ w'.cell? ⟨w.heap.size, 4, none⟩ = some (.int .u64 (el ws 3)) ∧ w'.cell? ⟨w.heap.size, 5, none⟩ = some (.int .u64 (el ws 4)) ∧ w'.cell? ⟨w.heap.size, 6, none⟩ = some (.int .u64 (el ws 5)) ∧ w'.cell? ⟨w.heap.size, 7, none⟩ = some (.int .u64 (el ws 6)) ∧ w'.cell? ⟨w.heap.size, 8, none⟩ = some (.int .u64 (el ws 7)) ∧ w'.cell? ⟨w.heap.size, 9, none⟩ = some (.slice ta tl.length tc) ∧ w'.cell? ⟨w.heap.size, 10, none⟩ = some (.int .u64 size)) := fun w' hb => by
        have hB' : Hb w' w.heap.size kind ws (.slice ta tl.length tc) size := Hb.below hB (by rw [World.size_alloc]; exact hb)
        exact ⟨hB'.kind, hB'.word (i := 0) (by decide), hB'.word (i := 1) (by decide), hB'.word (i := 2) (by decide), hB'.word (i := 3) (by decide), hB'.word (i := 4) (by decide), hB'.word (i := 5) (by decide), hB'.word (i := 6) (by decide), hB'.word (i := 7) (by decide), hB'.tail, hB'.size⟩
      have HMK := hide hmk
      unfold hv at *
      have hmk2 := fun w' hb => and_tail (HMK.out w' hb) hb
      have hb0 : Below w.heap.size w (w.alloc (.cells #[.int .i64 kind, .int .u64 (el ws 0), .int .u64 (el ws 1), .int .u64 (el ws 2), .int .u64 (el ws 3), .int .u64 (el ws 4), .int .u64 (el ws 5), .int .u64 (el ws 6), .int .u64 (el ws 7), .slice ta tl.length tc, .int .u64 size] 89)) := keep_alloc w _
      clear hmk hB
      have hD : decide ((1152921504606846976 : Int) ≤ (size : Int)) = false := decide_eq_false hsz2
      have hB0 : (((bz (wide kind) : Nat) : Int) == 0) = false := by simp [hne]
      clear hl hf hkk hk hbb hsz hsz2 hs htl
      generalize bz (wide kind) = B at *
      generalize hn : tl.length = n at *
      clear hn
      go_enter Tryz.func105, Tryz.ntmps105
      go_wp2_with (first | (go_at_call 115; refine (hbo _).mono ?_; rintro e w1 ⟨rfl, rfl⟩) | fail)
      go_region_held3 (fun w' => w'.cell? ⟨w.heap.size, 0, none⟩ = some (.int .i64 kind) ∧ w'.cell? ⟨w.heap.size, 1, none⟩ = some (.int .u64 (el ws 0)) ∧ w'.cell? ⟨w.heap.size, 2, none⟩ = some (.int .u64 (el ws 1)) ∧ w'.cell? ⟨w.heap.size, 3, none⟩ = some (.int .u64 (el ws 2)) ∧ w'.cell? ⟨w.heap.size, 4, none⟩ = some (.int .u64 (el ws 3)) ∧ w'.cell? ⟨w.heap.size, 5, none⟩ = some (.int .u64 (el ws 4)) ∧ w'.cell? ⟨w.heap.size, 6, none⟩ = some (.int .u64 (el ws 5)) ∧ w'.cell? ⟨w.heap.size, 7, none⟩ = some (.int .u64 (el ws 6)) ∧ w'.cell? ⟨w.heap.size, 8, none⟩ = some (.int .u64 (el ws 7)) ∧ w'.cell? ⟨w.heap.size, 9, none⟩ = some (.slice ta n tc) ∧ w'.cell? ⟨w.heap.size, 10, none⟩ = some (.int .u64 size) ∧ Below (w.heap.size + 1) (w.alloc (.cells #[.int .i64 kind, .int .u64 (el ws 0), .int .u64 (el ws 1), .int .u64 (el ws 2), .int .u64 (el ws 3), .int .u64 (el ws 4), .int .u64 (el ws 5), .int .u64 (el ws 6), .int .u64 (el ws 7), .slice ta n tc, .int .u64 size] 89)) w')
        (first
          | exact hmk2 _ (Below.refl _ _)
          | exact hmk2 _ (Below.refl _ _).drew
          | (go_split_ands; exact hmk2 _ (Below.drew (by assumption)))
          | exact hmk2 _ (((Below.refl _ _).drew).trans (hb7.mono (by simp)))
          | exact hmk2 _ ((Below.refl _ _).trans (hb7.mono (by simp))))
        (first
          | (go_at_call 116; refine (hwf _ h8 hu).mono ?_; rintro e w7 ⟨rfl, hb7⟩))
      go_wp2
      go_ret
      exact ⟨rfl, hb0.trans (((Below.refl _ _).drew).trans (hb7.mono (by simp)))⟩
    · have hf : hfit kind ws tl.length size = false := by simp [hfit, hkk, hsz, hl]
      rw [hf]
      have hl2 : (IntKind.u64.wrap ((tl.length : Nat) : Int) == (size : Int).tmod ((bz (wide kind) : Nat) : Int)) = false := by
        have e1 : (size : Int).tmod ((bz (wide kind) : Nat) : Int) = ((size % bz (wide kind) : Nat) : Int) := rfl
        rw [e1, IntKind.wrap_u64, beq_eq_false_iff_ne]; omega
      have hl3 : (((tl.length : Nat) : Int) == (size : Int) % ((bz (wide kind) : Nat) : Int)) = false := by
        rw [beq_eq_false_iff_ne]; omega
      have hD : decide ((1152921504606846976 : Int) ≤ (size : Int)) = false := decide_eq_false hsz2
      have hB0 : (((bz (wide kind) : Nat) : Int) == 0) = false := by simp [hne]
      clear hl hf hkk hk hbb hsz hsz2 hs
      generalize bz (wide kind) = B at *
      generalize hn : tl.length = n at *
      clear hn
      unfold hv
      go_enter Tryz.func105, Tryz.ntmps105
      go_wp2_with (first | (go_at_call 115; refine (hbo _).mono ?_; rintro e w1 ⟨rfl, rfl⟩) | fail)
      go_quiet (fail)
      go_wp2
      go_ret
      exact ⟨rfl, bel_drewN (keep_alloc _ _) _⟩
  · have hf : hfit kind ws tl.length size = false := by simp [hfit, hsz]
    rw [hf]
    have hD : decide ((1152921504606846976 : Int) ≤ (size : Int)) = true := decide_eq_true (by omega)
    have hB0 : (((bz (wide kind) : Nat) : Int) == 0) = false := by simp [hne]
    clear hf hkk hk hbb hsz hs
    generalize bz (wide kind) = B at *
    unfold hv
    go_enter Tryz.func105, Tryz.ntmps105
    go_wp2_with (first | (go_at_call 115; refine (hbo _).mono ?_; rintro e w1 ⟨rfl, rfl⟩) | fail)
    go_ret
    exact ⟨rfl, keep_alloc _ _⟩
end Go.Proofs.YtpmobjfhhkglbaaGreatDoor

namespace Go.Proofs.YtpmobjfhhkglbaaGreatDoor
set_option maxRecDepth 100000
def ini (k : Nat) : List Nat := if k = 1 then ((squares.drop 0).take 8).map (hi false) else if k = 2 then ((squares.drop 8).take 8).map (hi true) else ((squares.drop 0).take 8).map (hi true)
end Go.Proofs.YtpmobjfhhkglbaaGreatDoor

namespace Go.Proofs.YtpmobjfhhkglbaaGreatDoor
open Go.RowKit
set_option linter.unusedVariables false
set_option linter.unusedSimpArgs false
theorem new_1 (w : World) (hT : Roots w) :
    Calls Tryz.prog 80 #[.int .i64 1] w fun e w' => e = .returned (.tuple #[.agg (hv 1 (ini 1) (.slice none 0 0) 0), .int .i64 0]) ∧ Below w.heap.size w w' := by
  have hb0 := keep_alloc w (.cells (hv 0 (List.replicate 8 0) (.slice none 0 0) 0) 89)
  have hT0 := (hT.below hb0).2
  have hO0 := Hb.new w 0 (List.replicate 8 0) (.slice none 0 0) 0
  have h8 : (ini 1).length = 8 := by decide
  have hu : Under 4294967296 (ini 1) := dec_under (by decide)
  have hbeg : ∀ w, Calls Tryz.prog 101 #[.agg (vals .u64 squares).toArray, .int .i64 0] w fun e w' => e = .returned (.agg (arr .u32 (ini 1))) ∧ Below w.heap.size w w' := fun w => begin_any32 squares 0 w squares_length squares_under (by decide)
  have hsto : ∀ w, Calls Tryz.prog 102 #[.agg (arr .u32 (ini 1))] w fun e w' => e = .returned (.agg #[.int .u64 (el (ini 1) 0), .int .u64 (el (ini 1) 1), .int .u64 (el (ini 1) 2), .int .u64 (el (ini 1) 3), .int .u64 (el (ini 1) 4), .int .u64 (el (ini 1) 5), .int .u64 (el (ini 1) 6), .int .u64 (el (ini 1) 7)]) ∧ Below w.heap.size w w' := fun w => by
    rw [← arr8 .u64 (ini 1) h8]; exact stored_any32 (ini 1) w h8 hu
  have HO := hide hO0
  have HB := hide hb0
  clear hO0 hb0
  generalize ini 1 = E at *
  go_enter Tryz.func80, Tryz.ntmps80
  go_wp2_with (first
    | (refine wpList_load_mid rfl 124 _ (by rfl) 0 0 (by rfl) (vals .u64 squares) (.array 16 26) hT0 (by kernel_rfl) rfl (by kernel_rfl) ?_)
    | (go_at_call 101; refine (hbeg _).mono ?_; rintro e w1 ⟨rfl, hb1⟩)
    | (go_at_call 102; refine (hsto _).mono ?_; rintro e w2 ⟨rfl, hb2⟩; have hO2 := (HO.out.below hb1).below hb2; obtain ⟨o0, o1, o2, o3, o4, o5, o6, o7, o8, o9, o10⟩ := hO2.all; have p0 := hO2.frozen 0; have p1 := hO2.frozen 1; have p2 := hO2.frozen 2; have p3 := hO2.frozen 3; have p4 := hO2.frozen 4; have p5 := hO2.frozen 5; have p6 := hO2.frozen 6; have p7 := hO2.frozen 7; have p8 := hO2.frozen 8; have p9 := hO2.frozen 9; have p10 := hO2.frozen 10)
    | fail)
  have hfu := El.full hO2.elev (.int .i64 1) (.int .u64 (el E 0)) (.int .u64 (el E 1)) (.int .u64 (el E 2)) (.int .u64 (el E 3)) (.int .u64 (el E 4)) (.int .u64 (el E 5)) (.int .u64 (el E 6)) (.int .u64 (el E 7)) (.slice none 0 0) (.int .u64 0)
  have hBg : Below w.heap.size w (((((((((((w2.setCell ⟨w.heap.size, 0, none⟩ (.int .i64 1)).setCell ⟨w.heap.size, 1, none⟩ (.int .u64 (el E 0))).setCell ⟨w.heap.size, 2, none⟩ (.int .u64 (el E 1))).setCell ⟨w.heap.size, 3, none⟩ (.int .u64 (el E 2))).setCell ⟨w.heap.size, 4, none⟩ (.int .u64 (el E 3))).setCell ⟨w.heap.size, 5, none⟩ (.int .u64 (el E 4))).setCell ⟨w.heap.size, 6, none⟩ (.int .u64 (el E 5))).setCell ⟨w.heap.size, 7, none⟩ (.int .u64 (el E 6))).setCell ⟨w.heap.size, 8, none⟩ (.int .u64 (el E 7))).setCell ⟨w.heap.size, 9, none⟩ (.slice none 0 0)).setCell ⟨w.heap.size, 10, none⟩ (.int .u64 0)) := (keep_trans (keep_trans HB.out hb1) hb2).trans (((But.setCell (But.setCell (But.setCell (But.setCell (But.setCell (But.setCell (But.setCell (But.setCell (But.setCell (But.setCell (But.setCell (But.refl w.heap.size w2) _ _) _ _) _ _) _ _) _ _) _ _) _ _) _ _) _ _) _ _) _ _)).below (Nat.le_refl _) (by have := HB.out.size; have := hb1.size; have := hb2.size; simp at *; omega))
  have hfin : Hb (((((((((((w2.setCell ⟨w.heap.size, 0, none⟩ (.int .i64 1)).setCell ⟨w.heap.size, 1, none⟩ (.int .u64 (el E 0))).setCell ⟨w.heap.size, 2, none⟩ (.int .u64 (el E 1))).setCell ⟨w.heap.size, 3, none⟩ (.int .u64 (el E 2))).setCell ⟨w.heap.size, 4, none⟩ (.int .u64 (el E 3))).setCell ⟨w.heap.size, 5, none⟩ (.int .u64 (el E 4))).setCell ⟨w.heap.size, 6, none⟩ (.int .u64 (el E 5))).setCell ⟨w.heap.size, 7, none⟩ (.int .u64 (el E 6))).setCell ⟨w.heap.size, 8, none⟩ (.int .u64 (el E 7))).setCell ⟨w.heap.size, 9, none⟩ (.slice none 0 0)).setCell ⟨w.heap.size, 10, none⟩ (.int .u64 0)) w.heap.size 1 E (.slice none 0 0) 0 := hfu
  clear hfu
  generalize (((((((((((w2.setCell ⟨w.heap.size, 0, none⟩ (.int .i64 1)).setCell ⟨w.heap.size, 1, none⟩ (.int .u64 (el E 0))).setCell ⟨w.heap.size, 2, none⟩ (.int .u64 (el E 1))).setCell ⟨w.heap.size, 3, none⟩ (.int .u64 (el E 2))).setCell ⟨w.heap.size, 4, none⟩ (.int .u64 (el E 3))).setCell ⟨w.heap.size, 5, none⟩ (.int .u64 (el E 4))).setCell ⟨w.heap.size, 6, none⟩ (.int .u64 (el E 5))).setCell ⟨w.heap.size, 7, none⟩ (.int .u64 (el E 6))).setCell ⟨w.heap.size, 8, none⟩ (.int .u64 (el E 7))).setCell ⟨w.heap.size, 9, none⟩ (.slice none 0 0)).setCell ⟨w.heap.size, 10, none⟩ (.int .u64 0)) = wf at *
  obtain ⟨z0, z1, z2, z3, z4, z5, z6, z7, z8, z9, z10⟩ := hfin.all
  refine bodyPost_ret (v := .tuple #[.agg (hv 1 E (.slice none 0 0) 0), .int .i64 0]) ?_ rfl ⟨rfl, hBg⟩
  unfold hv
  simp [results, Tryz.results80, go_sem, z0, z1, z2, z3, z4, z5, z6, z7, z8, z9, z10]
theorem new_3 (w : World) (hT : Roots w) :
    Calls Tryz.prog 80 #[.int .i64 3] w fun e w' => e = .returned (.tuple #[.agg (hv 3 (ini 3) (.slice none 0 0) 0), .int .i64 0]) ∧ Below w.heap.size w w' := by
  have hb0 := keep_alloc w (.cells (hv 0 (List.replicate 8 0) (.slice none 0 0) 0) 89)
  have hT0 := (hT.below hb0).2
  have hO0 := Hb.new w 0 (List.replicate 8 0) (.slice none 0 0) 0
  have h8 : (ini 3).length = 8 := by decide
  have hu : Under 18446744073709551616 (ini 3) := dec_under (by decide)
  have hbeg : ∀ w, Calls Tryz.prog 103 #[.agg (vals .u64 squares).toArray, .int .i64 0] w fun e w' => e = .returned (.agg (arr .u64 (ini 3))) ∧ Below w.heap.size w w' := fun w => begin_any64 squares 0 w squares_length squares_under (by decide)
  have hsto : ∀ w, Calls Tryz.prog 104 #[.agg (arr .u64 (ini 3))] w fun e w' => e = .returned (.agg #[.int .u64 (el (ini 3) 0), .int .u64 (el (ini 3) 1), .int .u64 (el (ini 3) 2), .int .u64 (el (ini 3) 3), .int .u64 (el (ini 3) 4), .int .u64 (el (ini 3) 5), .int .u64 (el (ini 3) 6), .int .u64 (el (ini 3) 7)]) ∧ Below w.heap.size w w' := fun w => by
    rw [← arr8 .u64 (ini 3) h8]; exact stored_any64 (ini 3) w h8 hu
  have HO := hide hO0
  have HB := hide hb0
  clear hO0 hb0
  generalize ini 3 = E at *
  go_enter Tryz.func80, Tryz.ntmps80
  go_wp2_with (first
    | (refine wpList_load_mid rfl 124 _ (by rfl) 0 0 (by rfl) (vals .u64 squares) (.array 16 26) hT0 (by kernel_rfl) rfl (by kernel_rfl) ?_)
    | (go_at_call 103; refine (hbeg _).mono ?_; rintro e w1 ⟨rfl, hb1⟩)
    | (go_at_call 104; refine (hsto _).mono ?_; rintro e w2 ⟨rfl, hb2⟩; have hO2 := (HO.out.below hb1).below hb2; obtain ⟨o0, o1, o2, o3, o4, o5, o6, o7, o8, o9, o10⟩ := hO2.all; have p0 := hO2.frozen 0; have p1 := hO2.frozen 1; have p2 := hO2.frozen 2; have p3 := hO2.frozen 3; have p4 := hO2.frozen 4; have p5 := hO2.frozen 5; have p6 := hO2.frozen 6; have p7 := hO2.frozen 7; have p8 := hO2.frozen 8; have p9 := hO2.frozen 9; have p10 := hO2.frozen 10)
    | fail)
  have hfu := El.full hO2.elev (.int .i64 3) (.int .u64 (el E 0)) (.int .u64 (el E 1)) (.int .u64 (el E 2)) (.int .u64 (el E 3)) (.int .u64 (el E 4)) (.int .u64 (el E 5)) (.int .u64 (el E 6)) (.int .u64 (el E 7)) (.slice none 0 0) (.int .u64 0)
  have hBg : Below w.heap.size w (((((((((((w2.setCell ⟨w.heap.size, 0, none⟩ (.int .i64 3)).setCell ⟨w.heap.size, 1, none⟩ (.int .u64 (el E 0))).setCell ⟨w.heap.size, 2, none⟩ (.int .u64 (el E 1))).setCell ⟨w.heap.size, 3, none⟩ (.int .u64 (el E 2))).setCell ⟨w.heap.size, 4, none⟩ (.int .u64 (el E 3))).setCell ⟨w.heap.size, 5, none⟩ (.int .u64 (el E 4))).setCell ⟨w.heap.size, 6, none⟩ (.int .u64 (el E 5))).setCell ⟨w.heap.size, 7, none⟩ (.int .u64 (el E 6))).setCell ⟨w.heap.size, 8, none⟩ (.int .u64 (el E 7))).setCell ⟨w.heap.size, 9, none⟩ (.slice none 0 0)).setCell ⟨w.heap.size, 10, none⟩ (.int .u64 0)) := (keep_trans (keep_trans HB.out hb1) hb2).trans (((But.setCell (But.setCell (But.setCell (But.setCell (But.setCell (But.setCell (But.setCell (But.setCell (But.setCell (But.setCell (But.setCell (But.refl w.heap.size w2) _ _) _ _) _ _) _ _) _ _) _ _) _ _) _ _) _ _) _ _) _ _)).below (Nat.le_refl _) (by have := HB.out.size; have := hb1.size; have := hb2.size; simp at *; omega))
  have hfin : Hb (((((((((((w2.setCell ⟨w.heap.size, 0, none⟩ (.int .i64 3)).setCell ⟨w.heap.size, 1, none⟩ (.int .u64 (el E 0))).setCell ⟨w.heap.size, 2, none⟩ (.int .u64 (el E 1))).setCell ⟨w.heap.size, 3, none⟩ (.int .u64 (el E 2))).setCell ⟨w.heap.size, 4, none⟩ (.int .u64 (el E 3))).setCell ⟨w.heap.size, 5, none⟩ (.int .u64 (el E 4))).setCell ⟨w.heap.size, 6, none⟩ (.int .u64 (el E 5))).setCell ⟨w.heap.size, 7, none⟩ (.int .u64 (el E 6))).setCell ⟨w.heap.size, 8, none⟩ (.int .u64 (el E 7))).setCell ⟨w.heap.size, 9, none⟩ (.slice none 0 0)).setCell ⟨w.heap.size, 10, none⟩ (.int .u64 0)) w.heap.size 3 E (.slice none 0 0) 0 := hfu
  clear hfu
  generalize (((((((((((w2.setCell ⟨w.heap.size, 0, none⟩ (.int .i64 3)).setCell ⟨w.heap.size, 1, none⟩ (.int .u64 (el E 0))).setCell ⟨w.heap.size, 2, none⟩ (.int .u64 (el E 1))).setCell ⟨w.heap.size, 3, none⟩ (.int .u64 (el E 2))).setCell ⟨w.heap.size, 4, none⟩ (.int .u64 (el E 3))).setCell ⟨w.heap.size, 5, none⟩ (.int .u64 (el E 4))).setCell ⟨w.heap.size, 6, none⟩ (.int .u64 (el E 5))).setCell ⟨w.heap.size, 7, none⟩ (.int .u64 (el E 6))).setCell ⟨w.heap.size, 8, none⟩ (.int .u64 (el E 7))).setCell ⟨w.heap.size, 9, none⟩ (.slice none 0 0)).setCell ⟨w.heap.size, 10, none⟩ (.int .u64 0)) = wf at *
  obtain ⟨z0, z1, z2, z3, z4, z5, z6, z7, z8, z9, z10⟩ := hfin.all
  refine bodyPost_ret (v := .tuple #[.agg (hv 3 E (.slice none 0 0) 0), .int .i64 0]) ?_ rfl ⟨rfl, hBg⟩
  unfold hv
  simp [results, Tryz.results80, go_sem, z0, z1, z2, z3, z4, z5, z6, z7, z8, z9, z10]
def outn (kind : Int) : Nat := if kind = 1 then 32 else if kind = 2 then 48 else 64
theorem Row.mono_u64 {m : Nat} {l : List Nat} (h : Under 4294967296 l) : Under 18446744073709551616 l := fun x hx => Nat.lt_trans (h x hx) (by decide)
theorem send_1 (ws : List Nat) (tv : Value) (tl : List Nat) (size : Nat) (w : World) (hT : Roots w) (h8 : ws.length = 8) (hu : Under 4294967296 ws) (hRt : Row .u8 256 w tv tl) (tT : Tidy tv) (htl : tl.length ≤ 100000) (hsz : size < 1152921504606846976) :
    Calls Tryz.prog 108 #[.agg (hv 1 ws tv size)] w fun e w' => ∃ v', e = .returned v' ∧ Own 5 .u8 256 w' w.heap.size v' (endS false ws tl size 32) ∧ Below w.heap.size w w' := by
  have hb0 := keep_alloc w (.cells (hv 1 ws tv size) 89)
  have hf := finish_any32 1 ws tv tl size 32 _ (hT.below hb0) h8 hu (hRt.below hb0) tT htl hsz (by decide)
  obtain ⟨ta, tc, rfl⟩ := hRt.form
  unfold hv at *
  go_enter Tryz.func108, Tryz.ntmps108
  go_wp2_with (first | (go_at_call 123; refine hf.mono ?_; rintro e w1 ⟨v1, rfl, hO1, hb1⟩) | fail)
  go_ret
  exact ⟨_, rfl, hO1.mono (by simp), keep_trans hb0 hb1⟩
theorem send_2 (ws : List Nat) (tv : Value) (tl : List Nat) (size : Nat) (w : World) (hT : Roots w) (h8 : ws.length = 8) (hu : Under 18446744073709551616 ws) (hRt : Row .u8 256 w tv tl) (tT : Tidy tv) (htl : tl.length ≤ 100000) (hsz : size < 1152921504606846976) :
    Calls Tryz.prog 108 #[.agg (hv 2 ws tv size)] w fun e w' => ∃ v', e = .returned v' ∧ Own 5 .u8 256 w' w.heap.size v' (endS true ws tl size 48) ∧ Below w.heap.size w w' := by
  have hb0 := keep_alloc w (.cells (hv 2 ws tv size) 89)
  have hf := finish_any64 2 ws tv tl size 48 _ (hT.below hb0) h8 hu (hRt.below hb0) tT htl hsz (by decide)
  obtain ⟨ta, tc, rfl⟩ := hRt.form
  unfold hv at *
  go_enter Tryz.func108, Tryz.ntmps108
  go_wp2_with (first | (go_at_call 124; refine hf.mono ?_; rintro e w1 ⟨v1, rfl, hO1, hb1⟩) | fail)
  go_ret
  exact ⟨_, rfl, hO1.mono (by simp), keep_trans hb0 hb1⟩
theorem send_3 (ws : List Nat) (tv : Value) (tl : List Nat) (size : Nat) (w : World) (hT : Roots w) (h8 : ws.length = 8) (hu : Under 18446744073709551616 ws) (hRt : Row .u8 256 w tv tl) (tT : Tidy tv) (htl : tl.length ≤ 100000) (hsz : size < 1152921504606846976) :
    Calls Tryz.prog 108 #[.agg (hv 3 ws tv size)] w fun e w' => ∃ v', e = .returned v' ∧ Own 5 .u8 256 w' w.heap.size v' (endS true ws tl size 64) ∧ Below w.heap.size w w' := by
  have hb0 := keep_alloc w (.cells (hv 3 ws tv size) 89)
  have hf := finish_any64 3 ws tv tl size 64 _ (hT.below hb0) h8 hu (hRt.below hb0) tT htl hsz (by decide)
  obtain ⟨ta, tc, rfl⟩ := hRt.form
  unfold hv at *
  go_enter Tryz.func108, Tryz.ntmps108
  go_wp2_with (first | (go_at_call 124; refine hf.mono ?_; rintro e w1 ⟨v1, rfl, hO1, hb1⟩) | fail)
  go_ret
  exact ⟨_, rfl, hO1.mono (by simp), keep_trans hb0 hb1⟩
theorem send_any (kind : Int) (hk : kind = 1 ∨ kind = 2 ∨ kind = 3) (ws : List Nat) (tv : Value) (tl : List Nat) (size : Nat) (w : World) (hT : Roots w) (h8 : ws.length = 8) (hu : Under (wm (wide kind)) ws) (hRt : Row .u8 256 w tv tl) (tT : Tidy tv) (htl : tl.length ≤ 100000) (hsz : size < 1152921504606846976) :
    Calls Tryz.prog 108 #[.agg (hv kind ws tv size)] w fun e w' => ∃ v', e = .returned v' ∧ Own 5 .u8 256 w' w.heap.size v' (endS (wide kind) ws tl size (outn kind)) ∧ Below w.heap.size w w' := by
  rcases hk with rfl | rfl | rfl
  · exact send_1 ws tv tl size w hT h8 hu hRt tT htl hsz
  · exact send_2 ws tv tl size w hT h8 hu hRt tT htl hsz
  · exact send_3 ws tv tl size w hT h8 hu hRt tT htl hsz
theorem hfit_true {kind : Int} {ws : List Nat} {n size : Nat} (h8 : ws.length = 8) (hu : Under 18446744073709551616 ws) (h : hfit kind ws n size = true) : (kind = 1 ∨ kind = 2 ∨ kind = 3) ∧ size < 1152921504606846976 ∧ n = size % bz (wide kind) ∧ Under (wm (wide kind)) ws := by
  unfold hfit at h
  rw [Bool.and_eq_true, decide_eq_true_iff] at h
  obtain ⟨⟨h1, h2, h3⟩, h4⟩ := h
  refine ⟨h1, h2, h3, ?_⟩
  rcases h1 with rfl | rfl | rfl
  · have := (wfit_one h8).1 h4
    intro x hx
    obtain ⟨i, hi, rfl⟩ := List.getElem_of_mem hx
    have e := this i (by omega)
    rw [el_at hi] at e
    exact e
  · exact hu
  · exact hu
theorem sEnd_any (kind : Int) (ws : List Nat) (tv : Value) (tl : List Nat) (size : Nat) (w : World) (hT : Roots w) (h8 : ws.length = 8) (hu : Under 18446744073709551616 ws) (hRt : Row .u8 256 w tv tl) (tT : Tidy tv) (hf : hfit kind ws tl.length size = true) (hs : size < 18446744073709551616) :
    Calls Tryz.prog 84 #[.agg (hv kind ws tv size)] w fun e w' => ∃ v', e = .returned v' ∧ Own 5 .u8 256 w' w.heap.size v' (endS (wide kind) ws tl size (outn kind)) ∧ Below w.heap.size w w' := by
  obtain ⟨hk, hsz, hn, hu'⟩ := hfit_true h8 hu hf
  have htl : tl.length ≤ 100000 := by
    have h1 : tl.length < bz (wide kind) := by rw [hn]; exact Nat.mod_lt _ (bz_pos _)
    have h2 : bz (wide kind) ≤ 128 := by cases wide kind <;> decide
    omega
  have hb0 := keep_alloc w (.cells (hv kind ws tv size) 89)
  have hfc := fit_any kind ws tv tl size _ h8 hu (hRt.below hb0) hs
  rw [hf] at hfc
  have hT0 := hT.below hb0
  have hR0 := hRt.below hb0
  have hB0 := Hb.new w kind ws tv size
  have hB1 := fun w1 (hb1 : Below _ _ w1) => (hB0.below hb1).all
  have HB := hide hB1
  clear hB1 hB0
  have hse := fun w1 hb1 => send_any kind hk ws tv tl size w1 (hT0.below hb1) h8 hu' (hR0.below hb1) tT htl hsz
  clear hn hk hf hu hs hsz
  obtain ⟨ta, tc, rfl⟩ := hRt.form
  unfold hv at *
  go_enter Tryz.func84, Tryz.ntmps84
  go_wp2_with (first
    | (go_at_call 105; refine hfc.mono ?_; rintro e w1 ⟨rfl, hb1⟩; obtain ⟨z0, z1, z2, z3, z4, z5, z6, z7, z8, z9, z10⟩ := HB.out w1 hb1)
    | (go_at_call 108; refine (hse w1 hb1).mono ?_; rintro e w2 ⟨v2, rfl, hO2, hb2⟩)
    | fail)
  go_ret
  exact ⟨_, rfl, hO2.mono (by have := hb1.size; simp at this; omega), keep_trans (keep_trans hb0 hb1) hb2⟩
end Go.Proofs.YtpmobjfhhkglbaaGreatDoor
