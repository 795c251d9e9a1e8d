import Derived.Test.YtpmobjfhhkglbaaGreatDoorWtP
import Derived.Test.YtpmobjfhhkglbaaGreatDoorGBl64
import Derived.Test.YtpmobjfhhkglbaaGreatDoorHSl
import Derived.Test.YtpmobjfhhkglbaaGreatDoorBase
import Derived.Test.YtpmobjfhhkglbaaGreatDoorHFit
import Derived.Test.YtpmobjfhhkglbaaGreatDoorHAdd64
import Derived.Deep.RegionLaw
import Derived.Deep.AppendLies
import Derived.Test.YtpmobjfhhkglbaaGreatDoorGEn32
import Derived.Test.YtpmobjfhhkglbaaGreatDoorLmM
import Derived.Test.YtpmobjfhhkglbaaGreatDoorGBl32
import Derived.Test.YtpmobjfhhkglbaaGreatDoorPApp
set_option maxHeartbeats 8000000
set_option maxRecDepth 100000
namespace Go.Proofs.YtpmobjfhhkglbaaGreatDoor
open Go.RowKit
set_option linter.unusedVariables false
set_option linter.unusedSimpArgs false
def zer64 (off t : Nat) : Nat := if t + 1 ≤ 128 - off then 128 - off - 1 - t else 2 * 128 - off - 1 - t
theorem zer_at64 (off t j : Nat) (ho : off = 8 ∨ off = 16) (ht : t < 128) (hj : j ≤ zer64 off t) : (t + (j + 1)) % 128 = 128 - off ↔ j = zer64 off t := by
  unfold zer64 at *
  split at hj <;> rename_i h <;> (first | rw [if_pos h] | rw [if_neg h]) <;> rcases ho with rfl | rfl <;> omega
theorem bytes_take64 (X : List Nat) (k : Nat) (hk : k < X.length) : bytesW true (X.take (k + 1)) = bytesW true (X.take k) ++ (leL (el X k) 8).reverse := by
  unfold bytesW
  rw [List.take_add_one, List.map_append, List.flatten_append, List.getElem?_eq_getElem hk, el_at hk]
  simp [ez]
theorem leS_e64 (n : Nat) : leS n 8 = leL n 8 := by unfold leS; rw [if_neg (by decide)]; rfl
def ROut64 (w xf : World) (X : List Nat) (o i : Value) (wz : World) : Prop := ∃ k : Nat, k ≤ 8 ∧ i = .int .i64 k ∧ wz.ownsRow (w.heap.size + 1) 5 1 o (k * 8) (vals .u8 (bytesW true (X.take k))) ∧ Below (w.heap.size + 1) xf wz
theorem rend_new64 (kind : Int) (hk : wide kind = true) (ws : List Nat) (tv : Value) (tl : List Nat) (size : Nat) (w : World) (h8 : ws.length = 8) (hu : Under 18446744073709551616 ws) (hRt : Row .u8 256 w tv tl) (tT : Tidy tv) (htl : tl.length < 128) (hsz : size < 1152921504606846976) :
    Calls Tryz.prog 61 #[.agg (hv kind ws tv size)] w fun e w' => ∃ v', e = .returned v' ∧ Row .u8 256 w' v' (endS true ws tl size (outn kind)) ∧ New w.heap.size v' ∧ Below w.heap.size w w' := by
  have hblk : ∀ w, Calls Tryz.prog 72 #[.int .i64 kind] w fun e w' => e = .returned (.int .i64 128) ∧ w = w' := fun w => (rBlock_any kind w).mono fun _ _ ⟨h1, h2⟩ => ⟨by rw [h1, hk]; rfl, h2.symm⟩
  obtain ⟨ta, tc, rfl⟩ := hRt.form
  obtain ⟨i0, hi, hz0, hz1, hz2⟩ := info_parts Tryz.info5
  have hb0 : Below w.heap.size w (w.alloc (.cells #[.int .i64 kind, .int .u64 (el ws 0), .int .u64 (el ws 1), .int .u64 (el ws 2), .int .u64 (el ws 3), .int .u64 (el ws 4), .int .u64 (el ws 5), .int .u64 (el ws 6), .int .u64 (el ws 7), .slice ta tl.length tc, .int .u64 size] 89)) := keep_alloc _ _
  have hH0 : Hb (w.alloc (.cells #[.int .i64 kind, .int .u64 (el ws 0), .int .u64 (el ws 1), .int .u64 (el ws 2), .int .u64 (el ws 3), .int .u64 (el ws 4), .int .u64 (el ws 5), .int .u64 (el ws 6), .int .u64 (el ws 7), .slice ta tl.length tc, .int .u64 size] 89)) w.heap.size kind ws (.slice ta tl.length tc) size := Hb.new w kind ws (.slice ta tl.length tc) size
  obtain ⟨bs, hbs⟩ : ∃ bs, bs = 8 * size := ⟨_, rfl⟩
  have hm8 : (size : Int) * 8 = (bs : Int) := by omega
  have hbw8 : IntKind.u64.wrap (bs : Int) = (bs : Int) := by rw [IntKind.wrap_u64]; omega
  have hbe := fun w' => rbe_any bs 8 w' (by omega) (by decide) (by decide)
  rw [leS_8] at hbe
  have HBS := hide hbs
  have hl8 : (leL bs 8).length = 8 := leL_len bs 8
  have huv : hv kind ws (.slice ta tl.length tc) size = #[.int .i64 kind, .int .u64 (el ws 0), .int .u64 (el ws 1), .int .u64 (el ws 2), .int .u64 (el ws 3), .int .u64 (el ws 4), .int .u64 (el ws 5), .int .u64 (el ws 6), .int .u64 (el ws 7), .slice ta tl.length tc, .int .u64 size] := rfl
  have hadd := fun (wz : World) (pv : Value) (b : List Nat) (hz : Below w.heap.size w wz) (hR : Row .u8 256 wz pv b) (tB : Tidy pv) (hbl : b.length ≤ 100000) => radd_any64 kind hk ws _ pv tl b size wz h8 hu (hRt.below hz) tT hR tB (by omega) hbl hsz
  unfold hv at hadd
  rw [huv]
  clear huv hbs
  generalize hB8 : (leL bs 8).reverse = B8 at *
  have hB8l : B8.length = 8 := by rw [← hB8, List.length_reverse, hl8]
  have HB8 := hide hB8
  clear hB8 hl8
  have hw1 : Below w.heap.size w ((w.alloc (.cells #[.int .i64 kind, .int .u64 (el ws 0), .int .u64 (el ws 1), .int .u64 (el ws 2), .int .u64 (el ws 3), .int .u64 (el ws 4), .int .u64 (el ws 5), .int .u64 (el ws 6), .int .u64 (el ws 7), .slice ta tl.length tc, .int .u64 size] 89)).alloc (.cells #[.int .u8 128] 5)) := keep_trans hb0 (keep_alloc _ _)
  have hH1 := hH0.below (keep_alloc _ (.cells #[.int .u8 128] 5))
  have hO1 : ((w.alloc (.cells #[.int .i64 kind, .int .u64 (el ws 0), .int .u64 (el ws 1), .int .u64 (el ws 2), .int .u64 (el ws 3), .int .u64 (el ws 4), .int .u64 (el ws 5), .int .u64 (el ws 6), .int .u64 (el ws 7), .slice ta tl.length tc, .int .u64 size] 89)).alloc (.cells #[.int .u8 128] 5)).ownsRow (w.heap.size + 1) 5 1 (.slice (some ⟨w.heap.size + 1, 0, none⟩) 1 1) 1 (vals .u8 ([128] ++ List.replicate 0 0)) := by
    have := one_own 5 .u8 256 128 (w.alloc (.cells #[.int .i64 kind, .int .u64 (el ws 0), .int .u64 (el ws 1), .int .u64 (el ws 2), .int .u64 (el ws 3), .int .u64 (el ws 4), .int .u64 (el ws 5), .int .u64 (el ws 6), .int .u64 (el ws 7), .slice ta tl.length tc, .int .u64 size] 89)) (w.heap.size + 1) (by simp)
    rw [World.size_alloc] at this
    exact this
  go_enter Tryz.func61, Tryz.ntmps61
  go_wp2_with (first
    | (go_at_call 72; refine (hblk _).mono ?_; rintro e w9 ⟨rfl, rfl⟩)
    | fail)
  clear hblk
  generalize (w.alloc (.cells #[.int .i64 kind, .int .u64 (el ws 0), .int .u64 (el ws 1), .int .u64 (el ws 2), .int .u64 (el ws 3), .int .u64 (el ws 4), .int .u64 (el ws 5), .int .u64 (el ws 6), .int .u64 (el ws 7), .slice ta tl.length tc, .int .u64 size] 89)).alloc (.cells #[.int .u8 128] 5) = x1 at *
  have hHb : ∀ wr, Below (w.heap.size + 1) x1 wr → Hb wr w.heap.size kind ws (.slice ta tl.length tc) size := fun wr hb => (hb.block _ (by omega)).trans hH1
  have hx1 : w.heap.size + 1 ≤ x1.heap.size := hH1.lt
  go_loopw [5] (fun v wr => ∃ j : Nat, j ≤ zer64 8 tl.length ∧ slen v = 1 + j ∧ wr.ownsRow (w.heap.size + 1) 5 1 v (1 + j) (vals .u8 ([128] ++ List.replicate j 0)) ∧ Below (w.heap.size + 1) x1 wr) (fun v _ => 300 - slen v)
  case atStart => exact ⟨0, Nat.zero_le _, rfl, hO1, Below.refl _ _⟩
  case round =>
    skip
    obtain ⟨j, hj, hsl, how, hbr⟩ := hrel
    have c9 := (hHb wr hbr).tail
    have c10 := (hHb wr hbr).size
    have hsz1 : w.heap.size + 1 ≤ wr.heap.size := Nat.le_trans hx1 hbr.size
    obtain ⟨g, cg, rfl, hgB, hgc, hgm⟩ := row_form how (by omega)
    have hza := zer_at64 8 tl.length j (.inl rfl) htl hj
    have hzb : zer64 8 tl.length ≤ 2 * 128 := by unfold zer64; split <;> omega
    by_cases hjz : j = zer64 8 tl.length
    · have hcd : (((tl.length : Int) + (1 + (j : Int))) % 128 != 120) = false := by rw [bne_eq_false_iff_eq]; have := hza.2 hjz; omega
      have HJ := hide hjz
      clear hza hjz
      have hO2 : (wr.alloc (.cells #[.int .u8 128] 5)).ownsRow (w.heap.size + 1) 5 1 (.slice (some ⟨wr.heap.size, 0, none⟩) 1 1) 1 (vals .u8 ([128] ++ List.replicate 0 0)) := one_own 5 .u8 256 128 wr (w.heap.size + 1) hsz1
      have hb1y : Below (w.heap.size + 1) x1 (wr.alloc (.cells #[.int .u8 128] 5)) := hbr.alloc hsz1 _
      clear hO1
      have hO1 := hO2
      clear hO2
      go_wp2
      generalize wr.alloc (.cells #[.int .u8 128] 5) = y1 at *
      clear how hgB hgc hgm hcd HJ hj hsl hzb c9 c10 hbr hsz1
      go_loopw [5] (fun v wr => ∃ j : Nat, j ≤ zer64 16 tl.length ∧ slen v = 1 + j ∧ wr.ownsRow (w.heap.size + 1) 5 1 v (1 + j) (vals .u8 ([128] ++ List.replicate j 0)) ∧ Below (w.heap.size + 1) x1 wr) (fun v _ => 300 - slen v)
      case atStart => exact ⟨0, Nat.zero_le _, rfl, hO1, hb1y⟩
      case round =>
        skip
        obtain ⟨j, hj, hsl, how, hbr⟩ := hrel
        have c9 := (hHb wr hbr).tail
        have c10 := (hHb wr hbr).size
        have hsz1 : w.heap.size + 1 ≤ wr.heap.size := Nat.le_trans hx1 hbr.size
        obtain ⟨g, cg, rfl, hgB, hgc, hgm⟩ := row_form how (by omega)
        have hza := zer_at64 16 tl.length j (.inr rfl) htl hj
        have hzb : zer64 16 tl.length ≤ 2 * 128 := by unfold zer64; split <;> omega
        by_cases hjz : j = zer64 16 tl.length
        · have hcd : (((tl.length : Int) + (1 + (j : Int))) % 128 != 112) = false := by rw [bne_eq_false_iff_eq]; have := hza.2 hjz; omega
          have HJ := hide hjz
          clear hza hjz
          obtain ⟨sh, hsh⟩ : ∃ sh : Nat, sh = size / 2305843009213693952 := ⟨_, rfl⟩
          have hshi : (size : Int) / 2305843009213693952 = (sh : Int) := by omega
          have hbz := fun w' => rbe_any sh 8 w' (by omega) (by decide) (by decide)
          rw [leS_8] at hbz
          have HPF : Hid (tl ++ ([128] ++ List.replicate j 0 ++ (leL sh 8).reverse ++ B8) = tl ++ fill true tl.length size) := by
            apply hide
            rw [fill_wide tl.length size htl hsz, room64 tl.length htl, ← HB8.out, HBS.out, HJ.out, hsh]
            rfl
          have hZ8l : (leL sh 8).reverse.length = 8 := by rw [List.length_reverse, leL_len]
          generalize (leL sh 8).reverse = Z8 at *
          clear hsh
          go_wp2_with (first
            | (go_at_call 30; refine (hbz _).mono ?_; rintro e w2 ⟨v2, rfl, hO2, hb2⟩; obtain ⟨g2, c2, rfl, hg2, hn2⟩ := own_news hO2 8 hZ8l (by decide); have how2 := own_below how hb2)
            | (at_builtin; refine wpList_append_own _ rfl _ _ 27 rfl (w.heap.size + 1) 5 i0 (.int .u8 0) 1 1 Tryz.underlying27 hi hz0 hz1 hz2 rfl (by decide) _ _ _ rfl how2 ⟨g2, 0, none⟩ 8 c2 (vals .u8 Z8) rfl (by rw [vals_length, hZ8l]) hn2 (vals_one _ _) (by unfold maxLen; omega) (by omega) (by have := hb2.size; omega) ?_; intro v3 w3 how3 hgrow3 _; have hbp := below_append' (hbr.trans (hb2.mono hsz1)) (by have := hb2.size; omega) how2 hgrow3; obtain ⟨g, cg, rfl, hgB', hgc', hgm'⟩ := row_form how3 (by omega))
            | fail)
          have hPu : Under 256 ([128] ++ List.replicate j 0 ++ Z8) := (Under.append (dec_under (by decide)) (Under.replicate _ _ (by decide))).append hO2.2
          rw [← vals_append] at how3
          have hop := how3
          have hnb : 1 + j + 8 ≤ 300 := by omega
          clear hO2 hb2 hn2 how2 how3 hgrow3 how hbr hcd c9 c10 hsl hsz1 HJ hj hzb hO1 hb1y hbz hg2 hgB hgc hgm
          generalize hPd : [128] ++ List.replicate j 0 ++ Z8 = Pd at *
          generalize hnp : 1 + j + 8 = np at *
          clear hPd hnp
          have hsp : w.heap.size + 1 ≤ w3.heap.size := Nat.le_trans hx1 hbp.size
          have hPn : Pd.length = np := by have := hop.1; rw [vals_length] at this; omega
          have had := fun wz pv hz hR tB => hadd wz pv (Pd ++ B8) hz hR tB (by rw [List.length_append]; omega)
          rw [HPF.out] at had
          have hX8 : (eat true ws (tl ++ fill true tl.length size)).length = 8 := eat_len _ h8
          have hXu : Under 18446744073709551616 (eat true ws (tl ++ fill true tl.length size)) := eat_under (b := true) _ hu
          generalize hX : eat true ws (tl ++ fill true tl.length size) = X at had hX8 hXu
          generalize left true (tl ++ fill true tl.length size) = LL at had
          generalize size + (Pd ++ B8).length = N at had
          have HX := hide hX
          clear hX hadd HPF
          obtain ⟨z0, z1, z2, z3, z4, z5, z6, z7, z8, z9, z10⟩ := (hHb w3 hbp).all
          go_region_law (first
            | (refine step_append_lies _ (by rfl) _ _ 27 (by rfl) (w.heap.size + 1) 5 i0 (.int .u8 0) 1 1 Tryz.underlying27 hi hz0 hz1 hz2 rfl (by decide) _ np (vals .u8 Pd) (by rfl) hop2 ⟨g2, 0, none⟩ 8 c2 (vals .u8 B8) (by rfl) (by rw [vals_length, hB8l]) hn2 (vals_one _ _) (by decide) (by unfold maxLen; omega) (by omega) (by have := hb2.size; omega) w2.heap.size rfl ?_; intro g3 c3 w3 how3 hgrow3 _ _; have hb3 := below_append' (hbp.trans (hb2.mono hsp)) (by have := hb2.size; omega) hop2 hgrow3; obtain ⟨z0, z1, z2, z3, z4, z5, z6, z7, z8, z9, z10⟩ := (hHb w3 hb3).all; have hO3 : Own 5 .u8 256 w3 (w.heap.size + 1) (.slice (some ⟨g3, 0, none⟩) (np + 8) c3) (Pd ++ B8) := ⟨by rw [vals_append, List.length_append, hPn, hB8l]; exact how3, hPu.append hO2.2⟩)
            | (go_simp; go_at_call 30; refine (hbe _).mono ?_; rintro e w2 ⟨v2, rfl, hO2, hb2⟩; replace hb2 := un_drew hb2; obtain ⟨g2, c2, rfl, hg2, hn2⟩ := own_news hO2 8 hB8l (by decide); have hop2 := own_below hop hb2; obtain ⟨z0, z1, z2, z3, z4, z5, z6, z7, z8, z9, z10⟩ := (hHb w2 (hbp.trans (hb2.mono hsp))).all)
            | (go_simp; go_at_call 62; refine (had _ _ (hw1.trans (hb3.mono (Nat.le_succ _))) hO3.row hO3.tidy).mono ?_; rintro e w5 ⟨v5, rfl, hR5, hT5, hb5⟩; have hb5' := hb3.trans (hb5.mono (Nat.le_trans hx1 hb3.size)); obtain ⟨a5, c5, rfl⟩ := hR5.form; obtain ⟨z0, z1, z2, z3, z4, z5, z6, z7, z8, z9, z10⟩ := (hHb w5 hb5').all; have p0 := (hHb w5 hb5').frozen 0; have p1 := (hHb w5 hb5').frozen 1; have p2 := (hHb w5 hb5').frozen 2; have p3 := (hHb w5 hb5').frozen 3; have p4 := (hHb w5 hb5').frozen 4; have p5 := (hHb w5 hb5').frozen 5; have p6 := (hHb w5 hb5').frozen 6; have p7 := (hHb w5 hb5').frozen 7; have p8 := (hHb w5 hb5').frozen 8; have p9 := (hHb w5 hb5').frozen 9; have p10 := (hHb w5 hb5').frozen 10))
          all_goals (
            have hfull := ((hHb w5 hb5').elev).full (.int .i64 kind) (.int .u64 (el X 0)) (.int .u64 (el X 1)) (.int .u64 (el X 2)) (.int .u64 (el X 3)) (.int .u64 (el X 4)) (.int .u64 (el X 5)) (.int .u64 (el X 6)) (.int .u64 (el X 7)) (.slice a5 LL.length c5) (.int .u64 N)
            have hbut : But w.heap.size w5 (((((((((((w5.setCell ⟨w.heap.size, 0, none⟩ (.int .i64 kind)).setCell ⟨w.heap.size, 1, none⟩ (.int .u64 (el X 0))).setCell ⟨w.heap.size, 2, none⟩ (.int .u64 (el X 1))).setCell ⟨w.heap.size, 3, none⟩ (.int .u64 (el X 2))).setCell ⟨w.heap.size, 4, none⟩ (.int .u64 (el X 3))).setCell ⟨w.heap.size, 5, none⟩ (.int .u64 (el X 4))).setCell ⟨w.heap.size, 6, none⟩ (.int .u64 (el X 5))).setCell ⟨w.heap.size, 7, none⟩ (.int .u64 (el X 6))).setCell ⟨w.heap.size, 8, none⟩ (.int .u64 (el X 7))).setCell ⟨w.heap.size, 9, none⟩ (.slice a5 LL.length c5)).setCell ⟨w.heap.size, 10, none⟩ (.int .u64 N)) := (But.setCell (But.setCell (But.setCell (But.setCell (But.setCell (But.setCell (But.setCell (But.setCell (But.setCell (But.setCell (But.setCell (But.refl w.heap.size w5) _ _) _ _) _ _) _ _) _ _) _ _) _ _) _ _) _ _) _ _) _ _)
            have hbw5 : Below w.heap.size w w5 := hw1.trans (hb5'.mono (Nat.le_succ _))
            have hxf := hbw5.trans (hbut.below (Nat.le_refl _) hbw5.size)
            clear z0 z1 z2 z3 z4 z5 z6 z7 z8 z9 z10 p0 p1 p2 p3 p4 p5 p6 p7 p8 p9 p10 hbut hbw5
            generalize (((((((((((w5.setCell ⟨w.heap.size, 0, none⟩ (.int .i64 kind)).setCell ⟨w.heap.size, 1, none⟩ (.int .u64 (el X 0))).setCell ⟨w.heap.size, 2, none⟩ (.int .u64 (el X 1))).setCell ⟨w.heap.size, 3, none⟩ (.int .u64 (el X 2))).setCell ⟨w.heap.size, 4, none⟩ (.int .u64 (el X 3))).setCell ⟨w.heap.size, 5, none⟩ (.int .u64 (el X 4))).setCell ⟨w.heap.size, 6, none⟩ (.int .u64 (el X 5))).setCell ⟨w.heap.size, 7, none⟩ (.int .u64 (el X 6))).setCell ⟨w.heap.size, 8, none⟩ (.int .u64 (el X 7))).setCell ⟨w.heap.size, 9, none⟩ (.slice a5 LL.length c5)).setCell ⟨w.heap.size, 10, none⟩ (.int .u64 N)) = xf at *
            have hHf : Hb xf w.heap.size kind X (.slice a5 LL.length c5) N := hfull
            have hsf : w.heap.size + 1 ≤ xf.heap.size := hHf.lt
            clear hfull hb5' hb5 hR5 hT5 hO3 hb3 how3 hgrow3 hop2 hn2 hg2 hO2 hb2 hop hbp hHb had hbe hw1
            go_wp2
            go_loopw [6, 7] (fun o i wz => ROut64 w xf X o i wz) (fun _ i _ => 8 - (intOf i).toNat)
            case atStart => exact ⟨0, Nat.zero_le _, rfl, (by simpa [bytesW, vals] using World.ownsRow_nil xf (w.heap.size + 1) 5 1), Below.refl _ _⟩
            case round =>
              obtain ⟨k, hk8, rfl, how, hbr⟩ := hrel
              have hHz : Hb wr w.heap.size kind X (.slice a5 LL.length c5) N := (hbr.block _ (by omega)).trans hHf
              have hszr : w.heap.size + 1 ≤ wr.heap.size := Nat.le_trans hsf hbr.size
              by_cases hlt : k < 8
              · have ck := hHz.word hlt
                have hxk := el_lt hXu (by decide) k
                have hbe4 := fun w' => rbe_any (el X k) 8 w' (by omega) (by decide) (by decide)
                rw [leS_e64] at hbe4
                have hl4 : (leL (el X k) 8).reverse.length = 8 := by rw [List.length_reverse, leL_len]
                have hbt := bytes_take64 X k (by omega)
                generalize (leL (el X k) 8).reverse = B4 at *
                have HBT := hide hbt
                have ik0 : (0 : Int) ≤ (k : Int) := Int.natCast_nonneg _
                have ik1 : (k : Int) < 8 := by omega
                clear hbt
                go_wp2_with (first
                  | (go_at_call 30; refine (hbe4 _).mono ?_; rintro e w6 ⟨v6, rfl, hO6, hb6⟩; obtain ⟨g6, c6, rfl, hg6, hn6⟩ := own_news hO6 8 hl4 (by decide); have how6 := own_below how hb6)
                  | (at_builtin; refine wpList_append_own _ rfl _ _ 27 rfl (w.heap.size + 1) 5 i0 (.int .u8 0) 1 1 Tryz.underlying27 hi hz0 hz1 hz2 rfl (by decide) _ _ _ rfl how6 ⟨g6, 0, none⟩ 8 c6 (vals .u8 B4) rfl (by rw [vals_length, hl4]) hn6 (vals_one _ _) (by unfold maxLen; omega) (by omega) (by have := hb6.size; omega) ?_; intro v7 w7 how7 hgrow7 _; have hb7 := below_append' (hbr.trans (hb6.mono hszr)) (by have := hb6.size; omega) how6 hgrow7)
                  | fail)
                have hrl : ROut64 w xf X v7 (.int .i64 ((k : Int) + 1)) w7 := ⟨k + 1, by omega, by go_num, by rw [HBT.out, vals_append, Nat.succ_mul]; exact how7, hb7⟩
                exact ⟨hrl, by simp [intOf]; omega⟩
              · obtain rfl : k = 8 := by omega
                rw [List.take_of_length_le (by omega)] at how
                have hRo : Own 5 .u8 256 wr (w.heap.size + 1) _ (bytesW true X) := ⟨by rw [bytesW_length, hX8]; exact how, bytesW_under _ _⟩
                obtain ⟨g8, c8, rfl, hg8, hc8, _⟩ := row_form how (by decide)
                have hRr := hRo.row
                have c0 := hHz.kind
                have hbf := hxf.trans (hbr.mono (Nat.le_succ _))
                have hBl : (bytesW true X).length = 64 := by rw [bytesW_length, hX8]; rfl
                have HE : Hid (endS true ws tl size (outn kind) = (bytesW true X).take (outn kind)) := by
                  apply hide
                  unfold endS
                  rw [HX.out]
                clear hRo how hbr hHz
                have hk1 : ¬ kind = 1 := by rintro rfl; simp [wide] at hk
                by_cases hk2 : kind = 2
                · subst hk2
                  have hc48 : 48 ≤ c8 := by omega
                  have hsl := slice_to (some ⟨g8, 0, none⟩) 64 c8 48 hc48
                  have hcut := hRr.cut (M := 48) (by rw [hBl]; decide)
                  go_wp2
                  go_ret
                  exact ⟨_, rfl, by rw [HE.out]; exact hcut, New.at (by omega), hbf⟩
                · go_wp2
                  go_ret
                  refine ⟨_, rfl, ?_, New.at (by omega), hbf⟩
                  rw [HE.out, show outn kind = 64 by simp [outn, hk1, hk2], List.take_of_length_le (Nat.le_of_eq hBl)]
                  exact hRr)
        · have hcd : (((tl.length : Int) + (1 + (j : Int))) % 128 != 112) = true := by
            rw [bne_iff_ne]
            intro h
            exact hjz (hza.1 (by omega))
          clear hza
          go_wp2_with (first
            | (at_builtin; refine wpList_append_own _ rfl _ _ 27 rfl (w.heap.size + 1) 5 i0 (.int .u8 0) 1 1 Tryz.underlying27 hi hz0 hz1 hz2 rfl (by decide) _ _ _ rfl (how.alloc _) ⟨wr.heap.size, 0, none⟩ 1 1 (vals .u8 [0]) rfl rfl (app_cells wr .u8 0 _ _ rfl) (vals_one _ _) (by unfold maxLen; omega) (by omega) (by simp; omega) ?_; intro v4 w4 how4 hgrow4 _; have hb4 := below_append hbr hsz1 how _ hgrow4)
            | fail)
          have he4 : [128] ++ List.replicate (j + 1) 0 = ([128] ++ List.replicate j 0) ++ [0] := by rw [List.replicate_succ', List.append_assoc]
          have hs4 : slen v4 = 1 + (j + 1) := by
            obtain ⟨g4, c4, rfl, _⟩ := row_form how4 (by omega)
            show 1 + j + 1 = 1 + (j + 1); omega
          have hr4 : ∃ j : Nat, j ≤ zer64 16 tl.length ∧ slen v4 = 1 + j ∧ w4.ownsRow (w.heap.size + 1) 5 1 v4 (1 + j) (vals .u8 ([128] ++ List.replicate j 0)) ∧ Below (w.heap.size + 1) x1 w4 :=
            ⟨j + 1, by omega, hs4, by rw [he4, vals_append, show 1 + (j + 1) = 1 + j + 1 by omega]; exact how4, hb4⟩
          first
            | exact ⟨hr4, by rw [hs4]; simp [slen]; omega⟩
            | (go_roundw
               case rel => exact hr4
               case measure => rw [hs4]; simp [slen]; omega)
    · have hcd : (((tl.length : Int) + (1 + (j : Int))) % 128 != 120) = true := by
        rw [bne_iff_ne]
        intro h
        exact hjz (hza.1 (by omega))
      clear hza
      go_wp2_with (first
        | (at_builtin; refine wpList_append_own _ rfl _ _ 27 rfl (w.heap.size + 1) 5 i0 (.int .u8 0) 1 1 Tryz.underlying27 hi hz0 hz1 hz2 rfl (by decide) _ _ _ rfl (how.alloc _) ⟨wr.heap.size, 0, none⟩ 1 1 (vals .u8 [0]) rfl rfl (app_cells wr .u8 0 _ _ rfl) (vals_one _ _) (by unfold maxLen; omega) (by omega) (by simp; omega) ?_; intro v4 w4 how4 hgrow4 _; have hb4 := below_append hbr hsz1 how _ hgrow4)
        | fail)
      have he4 : [128] ++ List.replicate (j + 1) 0 = ([128] ++ List.replicate j 0) ++ [0] := by rw [List.replicate_succ', List.append_assoc]
      have hs4 : slen v4 = 1 + (j + 1) := by
        obtain ⟨g4, c4, rfl, _⟩ := row_form how4 (by omega)
        show 1 + j + 1 = 1 + (j + 1); omega
      have hr4 : ∃ j : Nat, j ≤ zer64 8 tl.length ∧ slen v4 = 1 + j ∧ w4.ownsRow (w.heap.size + 1) 5 1 v4 (1 + j) (vals .u8 ([128] ++ List.replicate j 0)) ∧ Below (w.heap.size + 1) x1 w4 :=
        ⟨j + 1, by omega, hs4, by rw [he4, vals_append, show 1 + (j + 1) = 1 + j + 1 by omega]; exact how4, hb4⟩
      first
        | exact ⟨hr4, by rw [hs4]; simp [slen]; omega⟩
        | (go_roundw
           case rel => exact hr4
           case measure => rw [hs4]; simp [slen]; omega)
theorem rnew_1 (w : World) :
    Calls Tryz.prog 60 #[.int .i64 1] w fun e w' => e = .returned (.tuple #[.agg (hv 1 (ini 1) (.slice none 0 0) 0), .int .i64 0]) ∧ Below w.heap.size w w' := by
  have hO0 := (Hb.new w 0 (List.replicate 8 0) (.slice none 0 0) 0).below (keep_alloc _ (.cells (hv 1 (ini 1) (.slice none 0 0) 0) 89))
  have hb0 := keep_trans (keep_alloc w (.cells (hv 0 (List.replicate 8 0) (.slice none 0 0) 0) 89)) (keep_alloc _ (.cells (hv 1 (ini 1) (.slice none 0 0) 0) 89))
  go_enter Tryz.func60, Tryz.ntmps60
  go_wp2
  refine bodyPost_ret (v := .tuple #[.agg (hv 1 (ini 1) (.slice none 0 0) 0), .int .i64 0]) ?_ rfl ⟨rfl, ?_⟩
  · have e : hv 1 (ini 1) (.slice none 0 0) 0 = #[.int .i64 1, .int .u64 1779033703, .int .u64 3144134277, .int .u64 1013904242, .int .u64 2773480762, .int .u64 1359893119, .int .u64 2600822924, .int .u64 528734635, .int .u64 1541459225, .slice none 0 0, .int .u64 0] := by kernel_rfl
    rw [e]
    simp [results, Tryz.results60, go_sem]
  · exact keep_trans (keep_alloc _ _) (keep_alloc _ _)
theorem rnew_2 (w : World) :
    Calls Tryz.prog 60 #[.int .i64 2] w fun e w' => e = .returned (.tuple #[.agg (hv 2 (ini 2) (.slice none 0 0) 0), .int .i64 0]) ∧ Below w.heap.size w w' := by
  have hO0 := (Hb.new w 0 (List.replicate 8 0) (.slice none 0 0) 0).below (keep_alloc _ (.cells (hv 2 (ini 2) (.slice none 0 0) 0) 89))
  have hb0 := keep_trans (keep_alloc w (.cells (hv 0 (List.replicate 8 0) (.slice none 0 0) 0) 89)) (keep_alloc _ (.cells (hv 2 (ini 2) (.slice none 0 0) 0) 89))
  go_enter Tryz.func60, Tryz.ntmps60
  go_wp2
  refine bodyPost_ret (v := .tuple #[.agg (hv 2 (ini 2) (.slice none 0 0) 0), .int .i64 0]) ?_ rfl ⟨rfl, ?_⟩
  · have e : hv 2 (ini 2) (.slice none 0 0) 0 = #[.int .i64 2, .int .u64 14680500436340154072, .int .u64 7105036623409894663, .int .u64 10473403895298186519, .int .u64 1526699215303891257, .int .u64 7436329637833083697, .int .u64 10282925794625328401, .int .u64 15784041429090275239, .int .u64 5167115440072839076, .slice none 0 0, .int .u64 0] := by kernel_rfl
    rw [e]
    simp [results, Tryz.results60, go_sem]
  · exact keep_trans (keep_alloc _ _) (keep_alloc _ _)
theorem rnew_3 (w : World) :
    Calls Tryz.prog 60 #[.int .i64 3] w fun e w' => e = .returned (.tuple #[.agg (hv 3 (ini 3) (.slice none 0 0) 0), .int .i64 0]) ∧ Below w.heap.size w w' := by
  have hO0 := (Hb.new w 0 (List.replicate 8 0) (.slice none 0 0) 0).below (keep_alloc _ (.cells (hv 3 (ini 3) (.slice none 0 0) 0) 89))
  have hb0 := keep_trans (keep_alloc w (.cells (hv 0 (List.replicate 8 0) (.slice none 0 0) 0) 89)) (keep_alloc _ (.cells (hv 3 (ini 3) (.slice none 0 0) 0) 89))
  go_enter Tryz.func60, Tryz.ntmps60
  go_wp2
  refine bodyPost_ret (v := .tuple #[.agg (hv 3 (ini 3) (.slice none 0 0) 0), .int .i64 0]) ?_ rfl ⟨rfl, ?_⟩
  · have e : hv 3 (ini 3) (.slice none 0 0) 0 = #[.int .i64 3, .int .u64 7640891576956012808, .int .u64 13503953896175478587, .int .u64 4354685564936845355, .int .u64 11912009170470909681, .int .u64 5840696475078001361, .int .u64 11170449401992604703, .int .u64 2270897969802886507, .int .u64 6620516959819538809, .slice none 0 0, .int .u64 0] := by kernel_rfl
    rw [e]
    simp [results, Tryz.results60, go_sem]
  · exact keep_trans (keep_alloc _ _) (keep_alloc _ _)
theorem sum_3 (bv : Value) (b : List Nat) (w : World) (hT : Roots w) (hR : Row .u8 256 w bv b) (tB : Tidy bv) (hbl : b.length ≤ 100000) :
    Calls Tryz.prog 87 #[.int .i64 3, bv] w fun e w' => ∃ v', e = .returned (.tuple #[v', .int .i64 0]) ∧ Own 5 .u8 256 w' w.heap.size v' (endS (wide 3) (ini 3) b b.length (outn 3)) ∧ Below w.heap.size w w' := by
  have h8 : (ini 3).length = 8 := by decide
  have hu : Under (wm (wide 3)) (ini 3) := dec_under (by decide)
  have hnew := new_3 w hT
  obtain ⟨ba, bc, rfl⟩ := hR.form
  have hse := fun w1 (hb1 : Below w.heap.size w w1) => send_any 3 (by decide) (ini 3) (.slice ba b.length bc) b b.length _ ((hT.below hb1).below (keep_alloc w1 (.cells (hv 3 (ini 3) (.slice ba b.length bc) b.length) 89))) h8 hu ((hR.below hb1).below (keep_alloc w1 (.cells (hv 3 (ini 3) (.slice ba b.length bc) b.length) 89))) tB hbl (by omega)
  generalize ini 3 = E at *
  have hwr : IntKind.u64.wrap (b.length : Int) = (b.length : Int) := by rw [IntKind.wrap_u64]; omega
  unfold hv at *
  go_enter Tryz.func87, Tryz.ntmps87
  go_wp2_with (first
    | (go_at_call 80; refine hnew.mono ?_; rintro e w1 ⟨rfl, hb1⟩)
    | (go_at_call 108; refine (hse w1 hb1).mono ?_; rintro e w2 ⟨v2, rfl, hO2, hb2⟩)
    | fail)
  go_ret2
  exact ⟨_, rfl, hO2.mono (by have := hb1.size; simp; omega), keep_trans (keep_trans hb1 (keep_alloc _ _)) hb2⟩
theorem fill_left (c : Bool) (l : List Nat) (s : Nat) : fill c (left c l).length s = fill c l.length s := by
  unfold fill room
  rw [left_length, Nat.mod_mod]
theorem endS_parts (c : Bool) (E b : List Nat) (s n : Nat) : endS c (eat c E b) (left c b) s n = endS c E b s n := by
  unfold endS
  rw [fill_left, ← eat_parts]
theorem rEnd_new (kind : Int) (ws : List Nat) (tv : Value) (tl : List Nat) (size : Nat) (w : World) (h8 : ws.length = 8) (hu : Under (wm (wide kind)) ws) (hRt : Row .u8 256 w tv tl) (tT : Tidy tv) (htl : tl.length < bz (wide kind)) (hsz : size < 1152921504606846976) :
    Calls Tryz.prog 61 #[.agg (hv kind ws tv size)] w fun e w' => ∃ v', e = .returned v' ∧ Row .u8 256 w' v' (endS (wide kind) ws tl size (outn kind)) ∧ New w.heap.size v' ∧ Below w.heap.size w w' := by
  cases hk : wide kind with
  | false => rw [hk] at hu htl; exact rend_new32 kind hk ws tv tl size w h8 hu hRt tT htl hsz
  | true => rw [hk] at hu htl; exact rend_new64 kind hk ws tv tl size w h8 hu hRt tT htl hsz
theorem rAdd_any (kind : Int) (ws : List Nat) (tv bv : Value) (tl b : List Nat) (size : Nat) (w : World) (h8 : ws.length = 8) (hu : Under (wm (wide kind)) ws) (hRt : Row .u8 256 w tv tl) (tT : Tidy tv) (hRb : Row .u8 256 w bv b) (tB : Tidy bv) (htl : tl.length ≤ 100000) (hbl : b.length ≤ 100000) (hsz : size < 1152921504606846976) :
    Calls Tryz.prog 62 #[.agg (hv kind ws tv size), bv] w fun e w' => ∃ v', e = .returned (.agg (hv kind (eat (wide kind) ws (tl ++ b)) v' (size + b.length))) ∧ Row .u8 256 w' v' (left (wide kind) (tl ++ b)) ∧ Tidy v' ∧ Below w.heap.size w w' := by
  cases hk : wide kind with
  | false => rw [hk] at hu; exact radd_any32 kind hk ws tv bv tl b size w h8 hu hRt tT hRb tB htl hbl hsz
  | true => rw [hk] at hu; exact radd_any64 kind hk ws tv bv tl b size w h8 hu hRt tT hRb tB htl hbl hsz
theorem rsum_new (kind : Int) (E : List Nat) (bv : Value) (b : List Nat) (w : World) (h8 : E.length = 8) (hu : Under (wm (wide kind)) E) (hR : Row .u8 256 w bv b) (tB : Tidy bv) (hbl : b.length ≤ 100000)
    (hnew : Calls Tryz.prog 60 #[.int .i64 kind] w fun e w' => e = .returned (.tuple #[.agg (hv kind E (.slice none 0 0) 0), .int .i64 0]) ∧ Below w.heap.size w w') :
    Calls Tryz.prog 38 #[.int .i64 kind, bv] w fun e w' => ∃ v', e = .returned (.tuple #[v', .int .i64 0]) ∧ Row .u8 256 w' v' (endS (wide kind) E b b.length (outn kind)) ∧ New w.heap.size v' ∧ Below w.heap.size w w' := by
  obtain ⟨ba, bc, rfl⟩ := hR.form
  have hadd := fun w1 (hb1 : Below w.heap.size w w1) => rAdd_any kind E (.slice none 0 0) _ [] b 0 w1 h8 hu (Row.nil _ _ _) tidy_nil (hR.below hb1) tB (by decide) hbl (by decide)
  have hend := fun w1 v1 (hR1 : Row .u8 256 w1 v1 (left (wide kind) b)) (hT1 : Tidy v1) => rEnd_new kind (eat (wide kind) E b) v1 (left (wide kind) b) b.length w1 (eat_len _ h8) (eat_under _ hu) hR1 hT1 (left_lt _ _) (by omega)
  rw [endS_parts] at hend
  simp only [List.nil_append, Nat.zero_add] at hadd
  unfold hv at hadd hend hnew
  generalize eat (wide kind) E b = X at *
  generalize left (wide kind) b = L at *
  go_enter Tryz.func38, Tryz.ntmps38
  go_wp2_with (first
    | (go_at_call 60; refine hnew.mono ?_; rintro e w1 ⟨rfl, hb1⟩)
    | (go_at_call 62; refine (hadd _ (keep_trans hb1 (keep_alloc _ _))).mono ?_; rintro e w2 ⟨v2, rfl, hR2, hT2, hb2⟩)
    | (go_at_call 61; refine (hend _ _ hR2 hT2).mono ?_; rintro e w3 ⟨v3, rfl, hR3, hN3, hb3⟩)
    | fail)
  go_ret2
  exact ⟨_, rfl, hR3, hN3.mono (keep_trans (keep_trans hb1 (keep_alloc _ _)) hb2).size, keep_trans (keep_trans (keep_trans hb1 (keep_alloc _ _)) hb2) hb3⟩
theorem texts_cons {w : World} {u : Value} {x : List Nat} {us : List Value} {ls : List (List Nat)} (h : Row .u8 256 w u x) (t : Tidy u) (k : Texts w us ls) : Texts w (u :: us) (x :: ls) := (Texts.one h t).append k
theorem rows_litL {w : World} {us : List Value} {ls : List (List Nat)} {B k : Nat} (h : Texts w us ls) (hB : w.heap.size = B) (hk : ls.length = k) (hl : k ≤ 1000) : Rows2 (w.alloc (.cells us.toArray 27)) (.slice (some ⟨B, 0, none⟩) k k) ls := by
  subst hB hk
  refine ⟨_, ls.length, rfl, Nat.le_refl _, by unfold maxLen; omega, fun _ => ⟨_, _, rfl, fun i hi => ?_⟩⟩
  have hb := keep_alloc w (.cells us.toArray 27)
  obtain ⟨u, hu, hr, ht⟩ := h.2 i hi
  refine ⟨u, ?_, hr.below hb, ht⟩
  rw [World.cell?_alloc_at _ _ _ _ rfl, Nat.zero_add]
  simpa using hu
theorem new_ntidy {w : World} {v : Value} {l : List Nat} (h : Row .u8 256 w v l) (hl : 0 < l.length) : Tidy v := by
  obtain ⟨a, c, rfl, _, _, g⟩ := h.opens rfl
  obtain ⟨b, o, rfl, _⟩ := g hl
  intro n c e
  cases e
theorem leS_2 (n : Nat) : leS n 2 = leL n 2 := by unfold leS; rw [if_neg (by decide)]; rfl
theorem rbe2 (a : Nat) (w : World) (ha : a < 18446744073709551616) : Calls Tryz.prog 30 #[.int .u64 (a : Int), .int .i64 2] w fun e w' => ∃ v, e = .returned v ∧ Own 5 .u8 256 w' w.heap.size v (be2 a) ∧ Below w.heap.size w w' := by
  have := rbe_any a 2 w ha (by decide) (by decide)
  rw [leS_2] at this
  exact this
end Go.Proofs.YtpmobjfhhkglbaaGreatDoor
