/- The document's End, of words of 32 bits. -/
import Derived.Test.YtpmobjfhhkglbaaGreatDoorWtP
import Derived.Test.YtpmobjfhhkglbaaGreatDoorHSl
import Derived.Test.YtpmobjfhhkglbaaGreatDoorBase
import Derived.Test.YtpmobjfhhkglbaaGreatDoorHFit
import Derived.Test.YtpmobjfhhkglbaaGreatDoorHAdd64
import Derived.Deep.RegionLaw
import Derived.Deep.AppendLies
import Derived.Test.YtpmobjfhhkglbaaGreatDoorHHsh
namespace Go.Proofs.YtpmobjfhhkglbaaGreatDoor
open Go.RowKit
set_option linter.unusedVariables false
set_option linter.unusedSimpArgs false

/-- so many bytes 0 -/
def zer32 (off t : Nat) : Nat := if t + 1 ≤ 64 - off then 64 - off - 1 - t else 2 * 64 - off - 1 - t
theorem zer_at32 (off t j : Nat) (ho : off = 8 ∨ off = 16) (ht : t < 64) (hj : j ≤ zer32 off t) : (t + (j + 1)) % 64 = 64 - off ↔ j = zer32 off t := by
  unfold zer32 at *
  split at hj <;> rename_i h <;> (first | rw [if_pos h] | rw [if_neg h]) <;> rcases ho with rfl | rfl <;> omega
theorem bytes_take32 (X : List Nat) (k : Nat) (hk : k < X.length) : bytesW false (X.take (k + 1)) = bytesW false (X.take k) ++ (leL (el X k) 4).reverse := by
  unfold bytesW
  rw [List.take_add_one, List.map_append, List.flatten_append, List.getElem?_eq_getElem hk, el_at hk]
  simp [ez]
theorem leS_e32 (n : Nat) : leS n 4 = leL n 4 := by unfold leS; rw [if_neg (by decide)]; rfl
/-- where the loop of words stands -/
def ROut32 (w xf : World) (X : List Nat) (o i : Value) (wz : World) : Prop := ∃ k : Nat, k ≤ 8 ∧ i = .int .i64 k ∧ wz.ownsRow (w.heap.size + 1) 5 1 o (k * 4) (vals .u8 (bytesW false (X.take k))) ∧ Below (w.heap.size + 1) xf wz

set_option maxHeartbeats 8000000 in
set_option maxRecDepth 100000 in
theorem rend_new32 (kind : Int) (hk : wide kind = false) (ws : List Nat) (tv : Value) (tl : List Nat) (size : Nat) (w : World) (h8 : ws.length = 8) (hu : Under 4294967296 ws) (hRt : Row .u8 256 w tv tl) (tT : Tidy tv) (htl : tl.length < 64) (hsz : size < 1152921504606846976) :
    Calls Tryz.prog 61 #[.agg (hv kind ws tv size)] w fun e w' => ∃ v', e = .returned v' ∧ Row .u8 256 w' v' (endS false ws tl size (outn kind)) ∧ New w.heap.size v' ∧ Below w.heap.size w w' := by
  have hblk : ∀ w, Calls Tryz.prog 72 #[.int .i64 kind] w fun e w' => e = .returned (.int .i64 64) ∧ w = w' := fun w => (rBlock_any kind w).mono fun _ _ ⟨h1, h2⟩ => ⟨by rw [h1, hk]; rfl, h2.symm⟩
  obtain ⟨ta, tc, rfl⟩ := hRt.form
  obtain ⟨i0, hi, hz0, hz1, hz2⟩ := info_parts Tryz.info5
  have hb0 : Below w.heap.size w (w.alloc (.cells #[.int .i64 kind, .int .u64 (el ws 0), .int .u64 (el ws 1), .int .u64 (el ws 2), .int .u64 (el ws 3), .int .u64 (el ws 4), .int .u64 (el ws 5), .int .u64 (el ws 6), .int .u64 (el ws 7), .slice ta tl.length tc, .int .u64 size] 89)) := keep_alloc _ _
  have hH0 : Hb (w.alloc (.cells #[.int .i64 kind, .int .u64 (el ws 0), .int .u64 (el ws 1), .int .u64 (el ws 2), .int .u64 (el ws 3), .int .u64 (el ws 4), .int .u64 (el ws 5), .int .u64 (el ws 6), .int .u64 (el ws 7), .slice ta tl.length tc, .int .u64 size] 89)) w.heap.size kind ws (.slice ta tl.length tc) size := Hb.new w kind ws (.slice ta tl.length tc) size
  obtain ⟨bs, hbs⟩ : ∃ bs, bs = 8 * size := ⟨_, rfl⟩
  have hm8 : (size : Int) * 8 = (bs : Int) := by omega
  have hbw8 : IntKind.u64.wrap (bs : Int) = (bs : Int) := by rw [IntKind.wrap_u64]; omega
  have hbe := fun w' => rbe_any bs 8 w' (by omega) (by decide) (by decide)
  rw [leS_8] at hbe
  have HBS := hide hbs
  have hl8 : (leL bs 8).length = 8 := leL_len bs 8
  have huv : hv kind ws (.slice ta tl.length tc) size = #[.int .i64 kind, .int .u64 (el ws 0), .int .u64 (el ws 1), .int .u64 (el ws 2), .int .u64 (el ws 3), .int .u64 (el ws 4), .int .u64 (el ws 5), .int .u64 (el ws 6), .int .u64 (el ws 7), .slice ta tl.length tc, .int .u64 size] := rfl
  have hadd := fun (wz : World) (pv : Value) (b : List Nat) (hz : Below w.heap.size w wz) (hR : Row .u8 256 wz pv b) (tB : Tidy pv) (hbl : b.length ≤ 100000) => radd_any32 kind hk ws _ pv tl b size wz h8 hu (hRt.below hz) tT hR tB (by omega) hbl hsz
  unfold hv at hadd
  rw [huv]
  clear huv hbs
  generalize hB8 : (leL bs 8).reverse = B8 at *
  have hB8l : B8.length = 8 := by rw [← hB8, List.length_reverse, hl8]
  have HB8 := hide hB8
  clear hB8 hl8
  have hw1 : Below w.heap.size w ((w.alloc (.cells #[.int .i64 kind, .int .u64 (el ws 0), .int .u64 (el ws 1), .int .u64 (el ws 2), .int .u64 (el ws 3), .int .u64 (el ws 4), .int .u64 (el ws 5), .int .u64 (el ws 6), .int .u64 (el ws 7), .slice ta tl.length tc, .int .u64 size] 89)).alloc (.cells #[.int .u8 128] 5)) := keep_trans hb0 (keep_alloc _ _)
  have hH1 := hH0.below (keep_alloc _ (.cells #[.int .u8 128] 5))
  have hO1 : ((w.alloc (.cells #[.int .i64 kind, .int .u64 (el ws 0), .int .u64 (el ws 1), .int .u64 (el ws 2), .int .u64 (el ws 3), .int .u64 (el ws 4), .int .u64 (el ws 5), .int .u64 (el ws 6), .int .u64 (el ws 7), .slice ta tl.length tc, .int .u64 size] 89)).alloc (.cells #[.int .u8 128] 5)).ownsRow (w.heap.size + 1) 5 1 (.slice (some ⟨w.heap.size + 1, 0, none⟩) 1 1) 1 (vals .u8 ([128] ++ List.replicate 0 0)) := by
    have := one_own 5 .u8 256 128 (w.alloc (.cells #[.int .i64 kind, .int .u64 (el ws 0), .int .u64 (el ws 1), .int .u64 (el ws 2), .int .u64 (el ws 3), .int .u64 (el ws 4), .int .u64 (el ws 5), .int .u64 (el ws 6), .int .u64 (el ws 7), .slice ta tl.length tc, .int .u64 size] 89)) (w.heap.size + 1) (by simp)
    rw [World.size_alloc] at this
    exact this
  go_enter Tryz.func61, Tryz.ntmps61
  go_wp2_with (first
    | (go_at_call 72; refine (hblk _).mono ?_; rintro e w9 ⟨rfl, rfl⟩)
    | fail)
  clear hblk
  generalize (w.alloc (.cells #[.int .i64 kind, .int .u64 (el ws 0), .int .u64 (el ws 1), .int .u64 (el ws 2), .int .u64 (el ws 3), .int .u64 (el ws 4), .int .u64 (el ws 5), .int .u64 (el ws 6), .int .u64 (el ws 7), .slice ta tl.length tc, .int .u64 size] 89)).alloc (.cells #[.int .u8 128] 5) = x1 at *
  have hHb : ∀ wr, Below (w.heap.size + 1) x1 wr → Hb wr w.heap.size kind ws (.slice ta tl.length tc) size := fun wr hb => (hb.block _ (by omega)).trans hH1
  have hx1 : w.heap.size + 1 ≤ x1.heap.size := hH1.lt
  go_loopw [5] (fun v wr => ∃ j : Nat, j ≤ zer32 8 tl.length ∧ slen v = 1 + j ∧ wr.ownsRow (w.heap.size + 1) 5 1 v (1 + j) (vals .u8 ([128] ++ List.replicate j 0)) ∧ Below (w.heap.size + 1) x1 wr) (fun v _ => 300 - slen v)
  case atStart => exact ⟨0, Nat.zero_le _, rfl, hO1, Below.refl _ _⟩
  case round =>
    skip
    obtain ⟨j, hj, hsl, how, hbr⟩ := hrel
    have c9 := (hHb wr hbr).tail
    have c10 := (hHb wr hbr).size
    have hsz1 : w.heap.size + 1 ≤ wr.heap.size := Nat.le_trans hx1 hbr.size
    obtain ⟨g, cg, rfl, hgB, hgc, hgm⟩ := row_form how (by omega)
    have hza := zer_at32 8 tl.length j (.inl rfl) htl hj
    have hzb : zer32 8 tl.length ≤ 2 * 64 := by unfold zer32; split <;> omega
    by_cases hjz : j = zer32 8 tl.length
    · have hcd : (((tl.length : Int) + (1 + (j : Int))) % 64 != 56) = false := by rw [bne_eq_false_iff_eq]; have := hza.2 hjz; omega
      have HJ := hide hjz
      clear hza hjz
      go_wp2
      have hop := how
      have hbp := hbr
      have hnb : 1 + j ≤ 200 := by omega
      have HPF : Hid (tl ++ ([128] ++ List.replicate j 0 ++ B8) = tl ++ fill false tl.length size) := by
        apply hide
        rw [fill_is false tl.length size hsz (room_8 _), room32 tl.length htl, ← HB8.out, HBS.out, HJ.out]
        rfl
      have hPu : Under 256 ([128] ++ List.replicate j 0) := Under.append (dec_under (by decide)) (Under.replicate _ _ (by decide))
      generalize hPd : [128] ++ List.replicate j 0 = Pd at *
      generalize hnp : 1 + j = np at *
      clear hPd hnp how hbr hcd c9 c10 hsl hsz1 HJ hj hzb hO1

      have hsp : w.heap.size + 1 ≤ wr.heap.size := Nat.le_trans hx1 hbp.size
      have hPn : Pd.length = np := by have := hop.1; rw [vals_length] at this; omega
      have had := fun wz pv hz hR tB => hadd wz pv (Pd ++ B8) hz hR tB (by rw [List.length_append]; omega)
      rw [HPF.out] at had
      have hX8 : (eat false ws (tl ++ fill false tl.length size)).length = 8 := eat_len _ h8
      have hXu : Under 4294967296 (eat false ws (tl ++ fill false tl.length size)) := eat_under (b := false) _ hu
      generalize hX : eat false ws (tl ++ fill false tl.length size) = X at had hX8 hXu
      generalize left false (tl ++ fill false tl.length size) = LL at had
      generalize size + (Pd ++ B8).length = N at had
      have HX := hide hX
      clear hX hadd HPF
      obtain ⟨z0, z1, z2, z3, z4, z5, z6, z7, z8, z9, z10⟩ := (hHb wr hbp).all
      go_region_law (first
        | (refine step_append_lies _ (by rfl) _ _ 27 (by rfl) (w.heap.size + 1) 5 i0 (.int .u8 0) 1 1 Tryz.underlying27 hi hz0 hz1 hz2 rfl (by decide) _ np (vals .u8 Pd) (by rfl) hop2 ⟨g2, 0, none⟩ 8 c2 (vals .u8 B8) (by rfl) (by rw [vals_length, hB8l]) hn2 (vals_one _ _) (by decide) (by unfold maxLen; omega) (by omega) (by have := hb2.size; omega) w2.heap.size rfl ?_; intro g3 c3 w3 how3 hgrow3 _ _; have hb3 := below_append' (hbp.trans (hb2.mono hsp)) (by have := hb2.size; omega) hop2 hgrow3; obtain ⟨z0, z1, z2, z3, z4, z5, z6, z7, z8, z9, z10⟩ := (hHb w3 hb3).all; have hO3 : Own 5 .u8 256 w3 (w.heap.size + 1) (.slice (some ⟨g3, 0, none⟩) (np + 8) c3) (Pd ++ B8) := ⟨by rw [vals_append, List.length_append, hPn, hB8l]; exact how3, hPu.append hO2.2⟩)
        | (go_simp; go_at_call 30; refine (hbe _).mono ?_; rintro e w2 ⟨v2, rfl, hO2, hb2⟩; replace hb2 := un_drew hb2; obtain ⟨g2, c2, rfl, hg2, hn2⟩ := own_news hO2 8 hB8l (by decide); have hop2 := own_below hop hb2; obtain ⟨z0, z1, z2, z3, z4, z5, z6, z7, z8, z9, z10⟩ := (hHb w2 (hbp.trans (hb2.mono hsp))).all)
        | (go_simp; go_at_call 62; refine (had _ _ (hw1.trans (hb3.mono (Nat.le_succ _))) hO3.row hO3.tidy).mono ?_; rintro e w5 ⟨v5, rfl, hR5, hT5, hb5⟩; have hb5' := hb3.trans (hb5.mono (Nat.le_trans hx1 hb3.size)); obtain ⟨a5, c5, rfl⟩ := hR5.form; obtain ⟨z0, z1, z2, z3, z4, z5, z6, z7, z8, z9, z10⟩ := (hHb w5 hb5').all; have p0 := (hHb w5 hb5').frozen 0; have p1 := (hHb w5 hb5').frozen 1; have p2 := (hHb w5 hb5').frozen 2; have p3 := (hHb w5 hb5').frozen 3; have p4 := (hHb w5 hb5').frozen 4; have p5 := (hHb w5 hb5').frozen 5; have p6 := (hHb w5 hb5').frozen 6; have p7 := (hHb w5 hb5').frozen 7; have p8 := (hHb w5 hb5').frozen 8; have p9 := (hHb w5 hb5').frozen 9; have p10 := (hHb w5 hb5').frozen 10))
      all_goals (
        have hfull := ((hHb w5 hb5').elev).full (.int .i64 kind) (.int .u64 (el X 0)) (.int .u64 (el X 1)) (.int .u64 (el X 2)) (.int .u64 (el X 3)) (.int .u64 (el X 4)) (.int .u64 (el X 5)) (.int .u64 (el X 6)) (.int .u64 (el X 7)) (.slice a5 LL.length c5) (.int .u64 N)
        have hbut : But w.heap.size w5 (((((((((((w5.setCell ⟨w.heap.size, 0, none⟩ (.int .i64 kind)).setCell ⟨w.heap.size, 1, none⟩ (.int .u64 (el X 0))).setCell ⟨w.heap.size, 2, none⟩ (.int .u64 (el X 1))).setCell ⟨w.heap.size, 3, none⟩ (.int .u64 (el X 2))).setCell ⟨w.heap.size, 4, none⟩ (.int .u64 (el X 3))).setCell ⟨w.heap.size, 5, none⟩ (.int .u64 (el X 4))).setCell ⟨w.heap.size, 6, none⟩ (.int .u64 (el X 5))).setCell ⟨w.heap.size, 7, none⟩ (.int .u64 (el X 6))).setCell ⟨w.heap.size, 8, none⟩ (.int .u64 (el X 7))).setCell ⟨w.heap.size, 9, none⟩ (.slice a5 LL.length c5)).setCell ⟨w.heap.size, 10, none⟩ (.int .u64 N)) := (But.setCell (But.setCell (But.setCell (But.setCell (But.setCell (But.setCell (But.setCell (But.setCell (But.setCell (But.setCell (But.setCell (But.refl w.heap.size w5) _ _) _ _) _ _) _ _) _ _) _ _) _ _) _ _) _ _) _ _) _ _)
        have hbw5 : Below w.heap.size w w5 := hw1.trans (hb5'.mono (Nat.le_succ _))
        have hxf := hbw5.trans (hbut.below (Nat.le_refl _) hbw5.size)
        clear z0 z1 z2 z3 z4 z5 z6 z7 z8 z9 z10 p0 p1 p2 p3 p4 p5 p6 p7 p8 p9 p10 hbut hbw5
        generalize (((((((((((w5.setCell ⟨w.heap.size, 0, none⟩ (.int .i64 kind)).setCell ⟨w.heap.size, 1, none⟩ (.int .u64 (el X 0))).setCell ⟨w.heap.size, 2, none⟩ (.int .u64 (el X 1))).setCell ⟨w.heap.size, 3, none⟩ (.int .u64 (el X 2))).setCell ⟨w.heap.size, 4, none⟩ (.int .u64 (el X 3))).setCell ⟨w.heap.size, 5, none⟩ (.int .u64 (el X 4))).setCell ⟨w.heap.size, 6, none⟩ (.int .u64 (el X 5))).setCell ⟨w.heap.size, 7, none⟩ (.int .u64 (el X 6))).setCell ⟨w.heap.size, 8, none⟩ (.int .u64 (el X 7))).setCell ⟨w.heap.size, 9, none⟩ (.slice a5 LL.length c5)).setCell ⟨w.heap.size, 10, none⟩ (.int .u64 N)) = xf at *
        have hHf : Hb xf w.heap.size kind X (.slice a5 LL.length c5) N := hfull
        have hsf : w.heap.size + 1 ≤ xf.heap.size := hHf.lt
        clear hfull hb5' hb5 hR5 hT5 hO3 hb3 how3 hgrow3 hop2 hn2 hg2 hO2 hb2 hop hbp hHb had hbe hw1
        go_wp2
        go_loopw [6, 7] (fun o i wz => ROut32 w xf X o i wz) (fun _ i _ => 8 - (intOf i).toNat)
        case atStart => exact ⟨0, Nat.zero_le _, rfl, (by simpa [bytesW, vals] using World.ownsRow_nil xf (w.heap.size + 1) 5 1), Below.refl _ _⟩
        case round =>
          obtain ⟨k, hk8, rfl, how, hbr⟩ := hrel
          have hHz : Hb wr w.heap.size kind X (.slice a5 LL.length c5) N := (hbr.block _ (by omega)).trans hHf
          have hszr : w.heap.size + 1 ≤ wr.heap.size := Nat.le_trans hsf hbr.size
          by_cases hlt : k < 8
          · have ck := hHz.word hlt
            have hxk := el_lt hXu (by decide) k
            have hbe4 := fun w' => rbe_any (el X k) 4 w' (by omega) (by decide) (by decide)
            rw [leS_e32] at hbe4
            have hl4 : (leL (el X k) 4).reverse.length = 4 := by rw [List.length_reverse, leL_len]
            have hbt := bytes_take32 X k (by omega)
            generalize (leL (el X k) 4).reverse = B4 at *
            have HBT := hide hbt
            have ik0 : (0 : Int) ≤ (k : Int) := Int.natCast_nonneg _
            have ik1 : (k : Int) < 8 := by omega
            clear hbt
            go_wp2_with (first
              | (go_at_call 30; refine (hbe4 _).mono ?_; rintro e w6 ⟨v6, rfl, hO6, hb6⟩; obtain ⟨g6, c6, rfl, hg6, hn6⟩ := own_news hO6 4 hl4 (by decide); have how6 := own_below how hb6)
              | (at_builtin; refine wpList_append_own _ rfl _ _ 27 rfl (w.heap.size + 1) 5 i0 (.int .u8 0) 1 1 Tryz.underlying27 hi hz0 hz1 hz2 rfl (by decide) _ _ _ rfl how6 ⟨g6, 0, none⟩ 4 c6 (vals .u8 B4) rfl (by rw [vals_length, hl4]) hn6 (vals_one _ _) (by unfold maxLen; omega) (by omega) (by have := hb6.size; omega) ?_; intro v7 w7 how7 hgrow7 _; have hb7 := below_append' (hbr.trans (hb6.mono hszr)) (by have := hb6.size; omega) how6 hgrow7)
              | fail)
            have hrl : ROut32 w xf X v7 (.int .i64 ((k : Int) + 1)) w7 := ⟨k + 1, by omega, by go_num, by rw [HBT.out, vals_append, Nat.succ_mul]; exact how7, hb7⟩
            exact ⟨hrl, by simp [intOf]; omega⟩
          · obtain rfl : k = 8 := by omega
            rw [List.take_of_length_le (by omega)] at how
            have hRo : Own 5 .u8 256 wr (w.heap.size + 1) _ (bytesW false X) := ⟨by rw [bytesW_length, hX8]; exact how, bytesW_under _ _⟩
            obtain ⟨g8, c8, rfl, hg8, hc8, _⟩ := row_form how (by decide)
            have hRr := hRo.row
            have c0 := hHz.kind
            have hbf := hxf.trans (hbr.mono (Nat.le_succ _))
            have hBl : (bytesW false X).length = 32 := by rw [bytesW_length, hX8]; rfl
            have HE : Hid (endS false ws tl size (outn kind) = (bytesW false X).take (outn kind)) := by
              apply hide
              unfold endS
              rw [HX.out]
            clear hRo how hbr hHz
            have hk2 : ¬ kind = 2 := by rintro rfl; simp [wide] at hk
            have hk1 : kind = 1 := by simpa [wide] using hk
            go_wp2
            go_ret
            refine ⟨_, rfl, ?_, New.at (by omega), hbf⟩
            rw [HE.out, hk1, show outn 1 = 32 from rfl, List.take_of_length_le (Nat.le_of_eq hBl)]
            exact hRr)
    · have hcd : (((tl.length : Int) + (1 + (j : Int))) % 64 != 56) = true := by
        rw [bne_iff_ne]
        intro h
        exact hjz (hza.1 (by omega))
      clear hza
      go_wp2_with (first
        | (at_builtin; refine wpList_append_own _ rfl _ _ 27 rfl (w.heap.size + 1) 5 i0 (.int .u8 0) 1 1 Tryz.underlying27 hi hz0 hz1 hz2 rfl (by decide) _ _ _ rfl (how.alloc _) ⟨wr.heap.size, 0, none⟩ 1 1 (vals .u8 [0]) rfl rfl (app_cells wr .u8 0 _ _ rfl) (vals_one _ _) (by unfold maxLen; omega) (by omega) (by simp; omega) ?_; intro v4 w4 how4 hgrow4 _; have hb4 := below_append hbr hsz1 how _ hgrow4)
        | fail)
      have he4 : [128] ++ List.replicate (j + 1) 0 = ([128] ++ List.replicate j 0) ++ [0] := by rw [List.replicate_succ', List.append_assoc]
      have hs4 : slen v4 = 1 + (j + 1) := by
        obtain ⟨g4, c4, rfl, _⟩ := row_form how4 (by omega)
        show 1 + j + 1 = 1 + (j + 1); omega
      have hr4 : ∃ j : Nat, j ≤ zer32 8 tl.length ∧ slen v4 = 1 + j ∧ w4.ownsRow (w.heap.size + 1) 5 1 v4 (1 + j) (vals .u8 ([128] ++ List.replicate j 0)) ∧ Below (w.heap.size + 1) x1 w4 :=
        ⟨j + 1, by omega, hs4, by rw [he4, vals_append, show 1 + (j + 1) = 1 + j + 1 by omega]; exact how4, hb4⟩
      first
        | exact ⟨hr4, by rw [hs4]; simp [slen]; omega⟩
        | (go_roundw
           case rel => exact hr4
           case measure => rw [hs4]; simp [slen]; omega)
end Go.Proofs.YtpmobjfhhkglbaaGreatDoor

/- Contract of the document's words, of 64 bits. -/
namespace Go.Proofs.YtpmobjfhhkglbaaGreatDoor
open Go.RowKit
set_option linter.unusedVariables false
set_option linter.unusedSimpArgs false

theorem Tryz.infoU64 : (Tryz.prog.info? 26).map (fun i => (i.zero, i.size, i.bytes)) = some (some (.int .u64 0), 1, 8) := by kernel_rfl
/-- the first words of a block -/
def wl64 (l : List Nat) (t : Nat) : List Nat := if t < 16 then words true l t else sched true l (t - 16)
theorem wl_length64 (l : List Nat) (t : Nat) : (wl64 l t).length = t := by
  unfold wl64
  split
  · exact words_length _ _ _
  · rw [sched_length]; omega
theorem wl_low64 (l : List Nat) (t : Nat) (h : t < 16) : wl64 l (t + 1) = wl64 l t ++ [word true l t] := by
  unfold wl64
  rw [if_pos h]
  by_cases h2 : t + 1 < 16
  · rw [if_pos h2]; exact words_succ _ _ _
  · obtain rfl : t = 15 := by omega
    exact words_succ _ _ _
theorem wl_high64 (l : List Nat) (t : Nat) (h : 16 ≤ t) : wl64 l (t + 1) = wl64 l t ++ [nxt true (wl64 l t)] := by
  unfold wl64
  rw [if_neg (by omega), if_neg (by omega), show t + 1 - 16 = (t - 16) + 1 by omega]; rfl
theorem wl_under64 (l : List Nat) (t : Nat) (hu : Under 256 l) : Under (wm true) (wl64 l t) := by
  unfold wl64
  split
  · exact words_under hu _
  · exact sched_under hu _

set_option maxHeartbeats 4000000 in
set_option maxRecDepth 100000 in
theorem words_any64 (v : Value) (l : List Nat) (w : World) (hR : Row .u8 256 w v l) (hl : l.length = 128) :
    Calls Tryz.prog 93 #[v, .bool true, .int .i64 80, (.int .u64 18446744073709551615)] w fun e w' => ∃ v', e = .returned v' ∧ Own 26 .u64 18446744073709551616 w' w.heap.size v' (sched true l 64) ∧ Below w.heap.size w w' := by
  have hu := hR.under
  obtain ⟨a, cap, rfl, h1, h2, h3⟩ := hR.opens hl
  obtain ⟨bb, off, rfl, hc⟩ := h3 (by decide)
  clear h3 hc
  obtain ⟨i0, hi, hz0, hz1, hz2⟩ := info_parts Tryz.infoU64
  go_enter Tryz.func93, Tryz.ntmps93
  go_wp2
  go_loopw [10, 11] (fun v i wr => ∃ t : Nat, t ≤ 80 ∧ i = .int .i64 t ∧ wr.ownsRow w.heap.size 26 1 v t (vals .u64 (wl64 l t)) ∧ Below w.heap.size w wr) (fun _ i _ => 80 - (intOf i).toNat)
  case atStart => exact ⟨0, Nat.zero_le _, rfl, World.ownsRow_nil _ _ _ _, Below.refl _ _⟩
  case round =>
    obtain ⟨t, ht, rfl, how, hbr⟩ := hrel
    have hsz := hbr.size
    by_cases hlt : t < 16
    · have hRt : Row .u8 256 wr (.slice (some ⟨bb, off + t * 8, none⟩) 8 (cap - t * 8)) ((l.drop (t * 8)).take 8) := by
        have := (hR.below hbr).mid (i := t * 8) (j := t * 8 + 8) (by omega) (by omega)
        rwa [show t * 8 + 8 - t * 8 = 8 by omega] at this
      have hwn := wl_low64 l t hlt
      have HWN := hide hwn
      clear hwn
      go_wp2_with (first
        | (go_at_call 75; refine (rnum_any _ _ _ hRt).mono ?_; rintro e w2 ⟨rfl, rfl⟩)
        | (at_builtin; refine wpList_append_own _ rfl _ _ 115 rfl w.heap.size 26 i0 (.int .u64 0) 1 8 Tryz.underlying115 hi hz0 hz1 hz2 rfl (by decide) _ _ _ rfl (how.alloc _) ⟨w2.heap.size, 0, none⟩ 1 1 (vals .u64 [word true l t]) rfl rfl (app_cells w2 .u64 (word true l t) _ _ rfl) (vals_one _ _) (by unfold maxLen; omega) (by omega) (by simp; omega) ?_; intro v4 w4 how4 hgrow4 _; have hb4 := below_append hbr hsz how _ hgrow4)
        | fail)
      exact ⟨⟨t + 1, by omega, by go_num, by rw [HWN.out, vals_append]; exact how4, hb4⟩, by simp [intOf]; omega⟩
    · by_cases hl2 : t < 80
      · obtain ⟨g, cg, rfl, hgB, hgc, hgm⟩ := row_form how (by omega)
        have hlen := wl_length64 l t
        have hwu := wl_under64 l t hu
        have hwn := wl_high64 l t (by omega)
        have HWN := hide hwn
        have HN : Hid (nxt true (wl64 l t) = (lS1 true (el (wl64 l t) (t - 2)) + el (wl64 l t) (t - 7) + lS0 true (el (wl64 l t) (t - 15)) + el (wl64 l t) (t - 16)) % wm true) := by
          apply hide; unfold nxt; rw [hlen]
        clear hwn
        have cc := fun (i : Nat) (hi : i < t) => (how.cellAt i (by omega)).trans (vals_get .u64 (wl64 l t) i (by omega))
        have x2 := cc (t - 2) (by omega)
        have x7 := cc (t - 7) (by omega)
        have x15 := cc (t - 15) (by omega)
        have x16 := cc (t - 16) (by omega)
        clear cc
        have y2 : (t : Int) - 2 = ((t - 2 : Nat) : Int) := by omega
        have y7 : (t : Int) - 7 = ((t - 7 : Nat) : Int) := by omega
        have y15 : (t : Int) - 15 = ((t - 15 : Nat) : Int) := by omega
        have y16 : (t : Int) - 16 = ((t - 16 : Nat) : Int) := by omega
        have n0 : t - 2 < t ∧ t - 7 < t ∧ t - 15 < t ∧ t - 16 < t ∧ t < 80 := by omega
        have u := fun i => el_lt hwu (wm_pos true) i
        have v2 : el (wl64 l t) (t - 2) < 18446744073709551616 := u _
        have v7 : el (wl64 l t) (t - 7) < 18446744073709551616 := u _
        have v15 : el (wl64 l t) (t - 15) < 18446744073709551616 := u _
        have v16 : el (wl64 l t) (t - 16) < 18446744073709551616 := u _
        have HWU := hide hwu
        clear u hlen hwu
        generalize nxt true (wl64 l t) = N at *
        generalize wl64 l t = s at *
        generalize t - 2 = c2 at *
        generalize t - 7 = c7 at *
        generalize t - 15 = c15 at *
        generalize t - 16 = c16 at *
        obtain ⟨n1, n2, n3, n4, n5⟩ := n0
        have i2 : (c2 : Int) < (t : Int) := by omega
        have i7 : (c7 : Int) < (t : Int) := by omega
        have i15 : (c15 : Int) < (t : Int) := by omega
        have i16 : (c16 : Int) < (t : Int) := by omega
        have r2 : IntKind.i64.wrap (c2 : Int) = (c2 : Int) := by rw [IntKind.wrap_i64]; omega
        have r7 : IntKind.i64.wrap (c7 : Int) = (c7 : Int) := by rw [IntKind.wrap_i64]; omega
        have r15 : IntKind.i64.wrap (c15 : Int) = (c15 : Int) := by rw [IntKind.wrap_i64]; omega
        have r16 : IntKind.i64.wrap (c16 : Int) = (c16 : Int) := by rw [IntKind.wrap_i64]; omega
        have hlow : ¬ (t : Int) < 16 := by omega
        go_wp2_with fail
        refine (rmix_any false true (el s c15) 7 18 3 wr (by omega) (by decide) (by decide) (by decide)).mono ?_
        rintro e w1 ⟨rfl, hb1⟩
        replace x2 := keep_cell x2 hb1
        replace x7 := keep_cell x7 hb1
        replace x15 := keep_cell x15 hb1
        replace x16 := keep_cell x16 hb1
        replace how := own_kept how hb1
        replace hbr := keep_trans hbr hb1
        go_wp2_with fail
        refine (rmix_any false true (el s c2) 17 19 10 w1 (by omega) (by decide) (by decide) (by decide)).mono ?_
        rintro e w2 ⟨rfl, hb2⟩
        replace x2 := keep_cell x2 hb2
        replace x7 := keep_cell x7 hb2
        replace x15 := keep_cell x15 hb2
        replace x16 := keep_cell x16 hb2
        replace how := own_kept how hb2
        replace hbr := keep_trans hbr hb2
        go_wp2_with fail
        refine (rmix_any true true (el s c15) 1 8 7 w2 (by omega) (by decide) (by decide) (by decide)).mono ?_
        rintro e w3 ⟨rfl, hb3⟩
        replace x2 := keep_cell x2 hb3
        replace x7 := keep_cell x7 hb3
        replace x15 := keep_cell x15 hb3
        replace x16 := keep_cell x16 hb3
        replace how := own_kept how hb3
        replace hbr := keep_trans hbr hb3
        go_wp2_with fail
        refine (rmix_any true true (el s c2) 19 61 6 w3 (by omega) (by decide) (by decide) (by decide)).mono ?_
        rintro e w4 ⟨rfl, hb4⟩
        replace x2 := keep_cell x2 hb4
        replace x7 := keep_cell x7 hb4
        replace x15 := keep_cell x15 hb4
        replace x16 := keep_cell x16 hb4
        replace how := own_kept how hb4
        replace hbr := keep_trans hbr hb4
        have hsz2 := hbr.size
        generalize hWR : w4 = wq at *
        go_wp2
        go_region_held3 (fun w' => w'.cell? ⟨g, c7, none⟩ = some (.int .u64 (el s c7)) ∧ w'.cell? ⟨g, c16, none⟩ = some (.int .u64 (el s c16)))
          (first
            | exact ⟨x7, x16⟩
            | exact ⟨keep_cell x7 (keep_alloc _ _), keep_cell x16 (keep_alloc _ _)⟩
            | (go_split_ands; exact ⟨(hcell5 c7 n2).trans (by assumption), (hcell5 c16 n4).trans (by assumption)⟩)
            | go_keep)
          (first
            | (refine step_append_keeps (by rfl) _ _ _ (by rfl) w.heap.size 26 i0 (.int .u64 0) 8 Tryz.underlying115 hi hz0 hz1 hz2 rfl g t cg _ (by rfl) ((how.alloc _).drew) ⟨wq.heap.size, 0, none⟩ 1 1 [.int .u64 (bits .and .u64 (IntKind.u64.wrap (IntKind.u64.wrap (IntKind.u64.wrap (((rmx true true 19 61 6 (el s c2) : Nat) : Int) + (el s c7 : Nat)) + ((rmx true true 1 8 7 (el s c15) : Nat) : Int)) + (el s c16 : Nat))) 18446744073709551615)] (by rfl) (by rfl) (World.news_of_block (cs := #[.int .u64 (bits .and .u64 (IntKind.u64.wrap (IntKind.u64.wrap (IntKind.u64.wrap (((rmx true true 19 61 6 (el s c2) : Nat) : Int) + (el s c7 : Nat)) + ((rmx true true 1 8 7 (el s c15) : Nat) : Int)) + (el s c16 : Nat))) 18446744073709551615)]) (t := 26) (fr := (0, 0)) (heap_alloc_new wq _)) (by simp [Value.oneCell']) (by decide) (by unfold maxLen; omega) (by omega) (by simp; omega) ?_; intro gg cap5 w5 how5 hgrow5 hcell5))
        have hb5 : Below w.heap.size w w5 := ((hbr.alloc hsz2 _).drew).grown hgrow5 (by simp; omega) (fun k h => by have e := Option.some.inj h; omega)
        have hsl := rmx_lt (b := true) (sh := true) (r1 := 19) (r2 := 61) (r3 := 6) (x := el s c2) (by omega)
        have hN : ((((shft3 true 19 61 6 (el s c2) + el s c7) % 18446744073709551616 + shft3 true 1 8 7 (el s c15)) % 18446744073709551616 + el s c16) % 18446744073709551616) % 18446744073709551616 = N := by
          rw [HN.out]
          simp only [lS0, lS1, wm, cond_true, cond_false]
          omega
        have hV : [.int .u64 (bits .and .u64 (IntKind.u64.wrap (IntKind.u64.wrap (IntKind.u64.wrap (((rmx true true 19 61 6 (el s c2) : Nat) : Int) + (el s c7 : Nat)) + ((rmx true true 1 8 7 (el s c15) : Nat) : Int)) + (el s c16 : Nat))) 18446744073709551615)] = vals .u64 [N] := by
          rw [rmx_shft (b := true) v2 (by decide) (by decide), rmx_shft (b := true) v15 (by decide) (by decide), add_is64, add_is64, add_is64, and_ones64 _ (Nat.mod_lt _ (by decide))]
          rw [Nat.mod_mod] at hN; rw [hN]; rfl
        rw [hV, ← vals_append] at how5
        rw [← HWN.out] at how5
        clear hN hV hgrow5 hcell5 hsl
        go_wp2
        exact ⟨⟨t + 1, by omega, by go_num, how5, hb5⟩, by simp [intOf]; omega⟩
      · obtain rfl : t = 80 := by omega
        have e : wl64 l 80 = sched true l 64 := rfl
        have hun := wl_under64 l 80 hu
        rw [e] at how hun
        have hsl := sched_length true l 64
        go_wp2
        go_ret
        exact ⟨_, rfl, ⟨by rw [hsl]; exact how, fun x hx => Nat.lt_of_lt_of_le (hun x hx) (wm_le true)⟩, hbr⟩
end Go.Proofs.YtpmobjfhhkglbaaGreatDoor
