/- Contract of sha.sum.take at words of 64 bits. -/
import Derived.Test.YtgdcpdbmacmheaaDoorHMix64
import Derived.Test.YtgdcpdbmacmheaaDoorHSpr64
import Derived.Test.YtgdcpdbmacmheaaDoorHRes64
import Derived.Test.YtgdcpdbmacmheaaDoorTex
import Derived.Test.YtgdcpdbmacmheaaDoorHTur64
import Derived.Test.YtgdcpdbmacmheaaDoorHSl
namespace Go.Proofs.YtgdcpdbmacmheaaDoor
open Go.RowKit
set_option linter.unusedVariables false
set_option linter.unusedSimpArgs false

set_option maxHeartbeats 4000000 in
set_option maxRecDepth 100000 in
theorem take_any64 (g : Nat) (hs l : List Nat) (v : Value) (w : World) (hS : Sm64 w g hs (ks true)) (h8 : hs.length = 8) (hhu : Under 18446744073709551616 hs) (hR : Row .u8 256 w v l) (ha : Away g v l) (ht : Tidy v) (hl : l.length ≤ 1000000) :
    Calls Tryd.prog 46 #[.pointer (some ⟨g, 0, none⟩), v] w fun e w' => (∃ v', e = .returned v' ∧ Row .u8 256 w' v' (left true l) ∧ Away g v' (left true l) ∧ Tidy v') ∧ Sm64 w' g (eat true hs l) (ks true) ∧ But g w w' := by
  go_enter Tryd.func46, Tryd.ntmps46
  go_wp2
  go_loopw [1] (fun u wr => ∃ (L H : List Nat), L.length ≤ l.length ∧ slen u = L.length ∧ Row .u8 256 wr u L ∧ Away g u L ∧ Tidy u ∧ Sm64 wr g H (ks true) ∧ But g w wr ∧ eat true hs l = eat true H L ∧ left true l = left true L ∧ H.length = 8 ∧ Under 18446744073709551616 H) (fun u _ => slen u)
  case atStart => exact ⟨l, hs, Nat.le_refl _, by obtain ⟨a, c, rfl, _⟩ := hR; rfl, hR, ha, ht, hS, But.refl _ _, rfl, rfl, h8, hhu⟩
  case round =>
    obtain ⟨L, H, hLl, hsl, hRL, hAL, hTL, hSL, hBL, hE, hLf, hH8, hHu⟩ := hrel
    have HE := hide hE
    have HF := hide hLf
    have hlu := hRL.under
    clear hE hLf
    obtain ⟨a, cap, rfl, g1, g2, g3, g4⟩ := hRL
    have hRL : Row .u8 256 wr (.slice a L.length cap) L := ⟨a, cap, rfl, g1, g2, g3, g4⟩
    unfold maxLen at g2
    by_cases hlt : 128 ≤ L.length
    · obtain ⟨bb, off, rfl, hc⟩ := g3 (by omega)
      clear hc g3
      have hRt := hRL.cut (M := 128) hlt
      go_wp2_with fail
      refine (block_any64 _ _).mono ?_
      rintro e w1 ⟨rfl, rfl⟩
      go_wp2_with fail
      refine (block_any64 _ _).mono ?_
      rintro e w2 ⟨rfl, rfl⟩
      go_wp2_with fail
      refine (spread_any64 _ _ _ hRt (by rw [List.length_take]; omega)).mono ?_
      rintro e w3 ⟨rfl, hb3⟩
      have hS3 := hSL.below hb3
      have hsch := sched_under (b := true) (hlu.take 128) 64
      go_wp2_with fail
      refine (mix_any64 g H (ks true) _ w3 hS3 hH8 (ks_length true) (pad_length (by rw [sched_length]; decide)) hHu (ks_under true) (pad_under hsch (by decide))).mono ?_
      rintro e w4 ⟨rfl, hS4, hB4⟩
      have hcp : addW true H (rndN true (ks true) (pad 80 (sched true (L.take 128) 64)) (rn true) H) 8 = comp true H (L.take 128) := comp_pad H _
      rw [hcp] at hS4
      clear hcp
      go_wp2_with fail
      refine (block_any64 _ _).mono ?_
      rintro e w5 ⟨rfl, rfl⟩
      go_wp2
      have hif : (if cap = 128 then some (⟨bb, off, none⟩ : Addr) else some ⟨bb, off + 128, none⟩) = some ⟨bb, off, none⟩ ∧ cap = 128 ∨ (if cap = 128 then some (⟨bb, off, none⟩ : Addr) else some ⟨bb, off + 128, none⟩) = some ⟨bb, off + 128, none⟩ := by
        by_cases h : cap = 128
        · exact .inl ⟨if_pos h, h⟩
        · exact .inr (if_neg h)
      generalize (if cap = 128 then some (⟨bb, off, none⟩ : Addr) else some ⟨bb, off + 128, none⟩) = A at *
      have hbz : bz true = 128 := rfl
      have hdl : (L.drop 128).length = L.length - 128 := List.length_drop
      refine ⟨⟨L.drop 128, comp true H (L.take 128), by omega, by simp [slen], ((hRL.below hb3).but hAL hB4).rest hlt A hif, fun hp q hq => ?_, ?_, hS4, (hBL.trans (But.of_below hb3)).trans hB4, ?_, ?_, comp_length _ _ _, comp_under _ _ _⟩, by simp [slen]; omega⟩
      · refine hAL (by omega) q ?_
        rcases hif with ⟨rfl, _⟩ | rfl
        · exact hq
        · simpa [Value.ownBlock] using hq
      · rcases hif with ⟨rfl, _⟩ | rfl <;> exact tidy_at _ _ _
      · rw [HE.out, eat_step (by rw [hbz]; exact hlt), hbz]
      · rw [HF.out, left_step (by rw [hbz]; exact hlt), hbz]
    · go_wp2_with fail
      refine (block_any64 _ _).mono ?_
      rintro e w1 ⟨rfl, rfl⟩
      go_wp2
      go_ret
      exact ⟨⟨_, rfl, by rw [HF.out, left_short (by show _ < 128; omega)]; exact hRL, by rw [HF.out, left_short (by show _ < 128; omega)]; exact hAL, hTL⟩, by rw [HE.out, eat_short (by show _ < 128; omega)]; exact hSL, hBL⟩
end Go.Proofs.YtgdcpdbmacmheaaDoor

/- Contract of sha.state.bytes at words of 64 bits. -/
namespace Go.Proofs.YtgdcpdbmacmheaaDoor
open Go.RowKit
set_option linter.unusedVariables false
set_option linter.unusedSimpArgs false

set_option maxHeartbeats 4000000 in
set_option maxRecDepth 100000 in
theorem bytes_any64 (l : List Nat) (N : Nat) (w : World) (h8 : l.length = 8) (hu : Under 18446744073709551616 l) (hN : N ≤ 64) :
    Calls Tryd.prog 53 #[.agg (arr .u64 l), .int .i64 N] w fun e w' => ∃ v, e = .returned v ∧ Own 5 .u8 256 w' w.heap.size v ((bytesW true l).take N) ∧ Below w.heap.size w w' := by
  obtain ⟨i0, hi, hz0, hz1, hz2⟩ := info_parts Tryd.info5
  have hlen : ((bytesW true l).take N).length = N := by rw [List.length_take, bytesW_length, h8]; show min N (8 * 8) = N; omega
  have hBu : Under 256 ((bytesW true l).take N) := (bytesW_under true l).take N
  have hel : ∀ i, i < N → el ((bytesW true l).take N) i = el l (i / 8) / 256 ^ (8 - 1 - i % 8) % 256 := fun i hi => by
    rw [el_take hi, bytesW_el _ _ _ (by rw [h8]; show i < 8 * 8; omega)]; rfl
  have HEL := hide hel
  clear hel
  have hL := Lies.new .u64 57 w l
  go_enter Tryd.func53, Tryd.ntmps53
  go_wp2_with (first | (at_make; refine wpList_make_full _ rfl _ _ 22 rfl w.heap.size 5 i0 (.int .u8 0) 1 Tryd.underlying22 hi hz0 hz1 _ _ _ _ N rfl rfl rfl rfl (by rw [hz2]; omega) (by unfold maxLen; omega) (by simp) ?_; intro w1 hown hgrow) | fail)
  rw [made_u8] at hown
  have hb := (Below.refl (w.alloc (.cells (arr .u64 l) 57)).heap.size (w.alloc (.cells (arr .u64 l) 57))).grown hgrow (Nat.le_refl _) (fun k h => by cases h)
  have hL1 := hL.below hb
  have hb1 := keep_trans (keep_alloc w _) hb
  clear hgrow hL hb
  refine (either_int64 _ _ _).mono ?_
  rintro e w2 ⟨rfl, rfl⟩
  go_wp2
  generalize hO : (bytesW true l).take N = O at *
  have HO := hide hO
  clear hO
  have hown0 : w2.ownsRow w.heap.size 5 1 (.slice (some ⟨w.heap.size + 1, 0, none⟩) N N) N (vals .u8 (pad N (O.take 0))) := by simpa [pad] using hown
  clear hown
  go_loopw [13] (fun i wr => ∃ k : Nat, k ≤ N ∧ i = .int .i64 k ∧ wr.ownsRow w.heap.size 5 1 (.slice (some ⟨w.heap.size + 1, 0, none⟩) N N) N (vals .u8 (pad N (O.take k))) ∧ Lies .u64 57 wr w.heap.size l ∧ Below w.heap.size w wr) (fun i _ => N - (intOf i).toNat)
  case atStart => exact ⟨0, Nat.zero_le _, rfl, hown0, hL1, hb1⟩
  case round =>
    obtain ⟨k, hk, rfl, how, hLk, hbr⟩ := hrel
    clear hown0 hL1 hb1
    by_cases hlt : k < N
    · have htl : (O.take k).length = k := by rw [List.length_take]; omega
      have hpl : (pad N (O.take k)).length = N := pad_length (by omega)
      have c1 := how.cellAt k (by omega)
      rw [vals_get _ _ _ (by omega)] at c1
      have f1 := how.frozenAt k
      have hst := (how.stored k (.int .u8 ((el O k : Nat) : Int))).1
      have hse := pad_set (n := N) (l := O.take k) (by omega) (el O k)
      rw [htl, ← take_el (by omega)] at hse
      rw [vals_set, hse] at hst
      have HST := hide hst
      have c2 := hLk.cell (i := k / 8) (by omega)
      have hkl : el l (k / 8) < 18446744073709551616 := el_lt hu (by decide) _
      have HK := HEL.out k hlt
      have HKH := hide HK
      clear hst hse HK htl hpl
      have ik0 : (0 : Int) ≤ (k : Int) := Int.natCast_nonneg _
      have ik1 : (k : Int) < (N : Int) := by omega
      obtain ⟨q, hq⟩ : ∃ q, q = k / 8 := ⟨_, rfl⟩
      obtain ⟨r, hr⟩ : ∃ r, r = 8 - 1 - k % 8 := ⟨_, rfl⟩
      have k1 : (k : Int).tdiv 8 = (q : Int) := by rw [hq]; rfl
      have k2 : (k : Int) / 8 = (q : Int) := by rw [hq]; omega
      have k3 : IntKind.i64.wrap (q : Int) = (q : Int) := by rw [IntKind.wrap_i64]; omega
      have k4 : (q : Int) < 8 := by omega
      have k5 : (0 : Int) ≤ (q : Int) := Int.natCast_nonneg _
      have k6 : (k : Int).tmod 8 = 7 - (r : Int) := by rw [hr]; have : (k : Int).tmod 8 = ((k % 8 : Nat) : Int) := rfl; rw [this]; omega
      have k7 : (k : Int) % 8 = 7 - (r : Int) := by omega
      have k8 : q < 8 := by omega
      have k9 : r < 8 := by omega
      rw [← hq] at c2 hkl
      have HQ := hide hq
      have HR := hide hr
      clear hq hr
      go_wp2
      go_region
      go_wp2
      have ev : (el l q : Int) / 2 ^ (8 * (7 - (7 - r))) % 256 = ((el O k : Nat) : Int) := by
        rw [show 7 - (7 - r) = r by omega, byte_shr, HKH.out, ← HQ.out, ← HR.out]
      rw [ev]
      exact ⟨⟨k + 1, by omega, by go_num, HST.out, hLk.but ((But.setCell (But.refl (w.heap.size + 1) _) _ _).drew) (by omega), (hbr.setCell (by simp) _).drew⟩, by simp [intOf]; omega⟩
    · obtain rfl : k = N := by omega
      rw [List.take_of_length_le (by omega), pad_full hlen] at how
      go_wp2
      go_ret
      exact ⟨_, rfl, by rw [HO.out]; exact ⟨by rw [hlen]; exact how, hBu⟩, hbr⟩
end Go.Proofs.YtgdcpdbmacmheaaDoor

/- sha.resume, of the words as a sum holds them. -/
namespace Go.Proofs.YtgdcpdbmacmheaaDoor
open Go.RowKit
set_option linter.unusedVariables false
set_option linter.unusedSimpArgs false

theorem block_keep64 (v : Value) (w : World) :
    Calls Tryd.prog 45 #[v] w fun e w' => e = .returned (.int .i64 128) ∧ w = w' :=
  (block_any64 v w).mono fun _ _ ⟨h1, h2⟩ => ⟨h1, h2.symm⟩
theorem head_range64 {k : IntKind} {t : TypeId} {w : World} {g : Nat} {l c : List Nat} (h : Lies k t w g (l ++ c)) : w.rangeAt g 0 (vals k l) := fun j v hv => by
  have hj : j < l.length := by have := (List.getElem?_eq_some_iff.1 hv).1; rwa [vals_length] at this
  rw [Nat.zero_add, h.cell (by rw [List.length_append]; omega), el_app_left hj, ← vals_get k l j hj]; exact hv
theorem resume_is64 (ws : List Nat) (w : World) (h8 : ws.length = 8) (hu : Under 18446744073709551616 ws) :
    Calls Tryd.prog 44 #[.agg #[.int .u64 (el ws 0), .int .u64 (el ws 1), .int .u64 (el ws 2), .int .u64 (el ws 3), .int .u64 (el ws 4), .int .u64 (el ws 5), .int .u64 (el ws 6), .int .u64 (el ws 7)], .agg (vals .u64 cubes).toArray] w fun e w' => ∃ g, e = .returned (.pointer (some ⟨g, 0, none⟩)) ∧ w.heap.size ≤ g ∧ Sm64 w' g ws (ks true) ∧ Below w.heap.size w w' := by
  rw [← arr8 .u64 ws h8]
  exact resume_any64 ws cubes w h8 hu cubes_length cubes_under

end Go.Proofs.YtgdcpdbmacmheaaDoor
