/- Contract of sha.state.bytes at words of 32 bits. -/
import Derived.Test.YtgdcpdbmacmheaaDoorHTur32
import Derived.Test.YtgdcpdbmacmheaaDoorTex
import Derived.Test.YtgdcpdbmacmheaaDoorHTak32
import Derived.Test.YtgdcpdbmacmheaaDoorHSl
namespace Go.Proofs.YtgdcpdbmacmheaaDoor
open Go.RowKit
set_option linter.unusedVariables false
set_option linter.unusedSimpArgs false

set_option maxHeartbeats 4000000 in
set_option maxRecDepth 100000 in
theorem bytes_any32 (l : List Nat) (N : Nat) (w : World) (h8 : l.length = 8) (hu : Under 4294967296 l) (hN : N ≤ 32) :
    Calls Tryd.prog 52 #[.agg (arr .u32 l), .int .i64 N] w fun e w' => ∃ v, e = .returned v ∧ Own 5 .u8 256 w' w.heap.size v ((bytesW false l).take N) ∧ Below w.heap.size w w' := by
  obtain ⟨i0, hi, hz0, hz1, hz2⟩ := info_parts Tryd.info5
  have hlen : ((bytesW false l).take N).length = N := by rw [List.length_take, bytesW_length, h8]; show min N (8 * 4) = N; omega
  have hBu : Under 256 ((bytesW false l).take N) := (bytesW_under false l).take N
  have hel : ∀ i, i < N → el ((bytesW false l).take N) i = el l (i / 4) / 256 ^ (4 - 1 - i % 4) % 256 := fun i hi => by
    rw [el_take hi, bytesW_el _ _ _ (by rw [h8]; show i < 8 * 4; omega)]; rfl
  have HEL := hide hel
  clear hel
  have hL := Lies.new .u32 53 w l
  go_enter Tryd.func52, Tryd.ntmps52
  go_wp2_with (first | (at_make; refine wpList_make_full _ rfl _ _ 22 rfl w.heap.size 5 i0 (.int .u8 0) 1 Tryd.underlying22 hi hz0 hz1 _ _ _ _ N rfl rfl rfl rfl (by rw [hz2]; omega) (by unfold maxLen; omega) (by simp) ?_; intro w1 hown hgrow) | fail)
  rw [made_u8] at hown
  have hb := (Below.refl (w.alloc (.cells (arr .u32 l) 53)).heap.size (w.alloc (.cells (arr .u32 l) 53))).grown hgrow (Nat.le_refl _) (fun k h => by cases h)
  have hL1 := hL.below hb
  have hb1 := keep_trans (keep_alloc w _) hb
  clear hgrow hL hb
  refine (either_int32 _ _ _).mono ?_
  rintro e w2 ⟨rfl, rfl⟩
  go_wp2
  generalize hO : (bytesW false l).take N = O at *
  have HO := hide hO
  clear hO
  have hown0 : w2.ownsRow w.heap.size 5 1 (.slice (some ⟨w.heap.size + 1, 0, none⟩) N N) N (vals .u8 (pad N (O.take 0))) := by simpa [pad] using hown
  clear hown
  go_loopw [13] (fun i wr => ∃ k : Nat, k ≤ N ∧ i = .int .i64 k ∧ wr.ownsRow w.heap.size 5 1 (.slice (some ⟨w.heap.size + 1, 0, none⟩) N N) N (vals .u8 (pad N (O.take k))) ∧ Lies .u32 53 wr w.heap.size l ∧ Below w.heap.size w wr) (fun i _ => N - (intOf i).toNat)
  case atStart => exact ⟨0, Nat.zero_le _, rfl, hown0, hL1, hb1⟩
  case round =>
    obtain ⟨k, hk, rfl, how, hLk, hbr⟩ := hrel
    clear hown0 hL1 hb1
    by_cases hlt : k < N
    · have htl : (O.take k).length = k := by rw [List.length_take]; omega
      have hpl : (pad N (O.take k)).length = N := pad_length (by omega)
      have c1 := how.cellAt k (by omega)
      rw [vals_get _ _ _ (by omega)] at c1
      have f1 := how.frozenAt k
      have hst := (how.stored k (.int .u8 ((el O k : Nat) : Int))).1
      have hse := pad_set (n := N) (l := O.take k) (by omega) (el O k)
      rw [htl, ← take_el (by omega)] at hse
      rw [vals_set, hse] at hst
      have HST := hide hst
      have c2 := hLk.cell (i := k / 4) (by omega)
      have hkl : el l (k / 4) < 4294967296 := el_lt hu (by decide) _
      have HK := HEL.out k hlt
      have HKH := hide HK
      clear hst hse HK htl hpl
      have ik0 : (0 : Int) ≤ (k : Int) := Int.natCast_nonneg _
      have ik1 : (k : Int) < (N : Int) := by omega
      obtain ⟨q, hq⟩ : ∃ q, q = k / 4 := ⟨_, rfl⟩
      obtain ⟨r, hr⟩ : ∃ r, r = 4 - 1 - k % 4 := ⟨_, rfl⟩
      have k1 : (k : Int).tdiv 4 = (q : Int) := by rw [hq]; rfl
      have k2 : (k : Int) / 4 = (q : Int) := by rw [hq]; omega
      have k3 : IntKind.i64.wrap (q : Int) = (q : Int) := by rw [IntKind.wrap_i64]; omega
      have k4 : (q : Int) < 8 := by omega
      have k5 : (0 : Int) ≤ (q : Int) := Int.natCast_nonneg _
      have k6 : (k : Int).tmod 4 = 3 - (r : Int) := by rw [hr]; have : (k : Int).tmod 4 = ((k % 4 : Nat) : Int) := rfl; rw [this]; omega
      have k7 : (k : Int) % 4 = 3 - (r : Int) := by omega
      have k8 : q < 8 := by omega
      have k9 : r < 4 := by omega
      rw [← hq] at c2 hkl
      have HQ := hide hq
      have HR := hide hr
      clear hq hr
      go_wp2
      go_region
      go_wp2
      have ev : (el l q : Int) / 2 ^ (8 * (3 - (3 - r))) % 256 = ((el O k : Nat) : Int) := by
        rw [show 3 - (3 - r) = r by omega, byte_shr, HKH.out, ← HQ.out, ← HR.out]
      rw [ev]
      exact ⟨⟨k + 1, by omega, by go_num, HST.out, hLk.but ((But.setCell (But.refl (w.heap.size + 1) _) _ _).drew) (by omega), (hbr.setCell (by simp) _).drew⟩, by simp [intOf]; omega⟩
    · obtain rfl : k = N := by omega
      rw [List.take_of_length_le (by omega), pad_full hlen] at how
      go_wp2
      go_ret
      exact ⟨_, rfl, by rw [HO.out]; exact ⟨by rw [hlen]; exact how, hBu⟩, hbr⟩
end Go.Proofs.YtgdcpdbmacmheaaDoor

/- sha.resume, of the words as a sum holds them. -/
namespace Go.Proofs.YtgdcpdbmacmheaaDoor
open Go.RowKit
set_option linter.unusedVariables false
set_option linter.unusedSimpArgs false

theorem block_keep32 (v : Value) (w : World) :
    Calls Tryd.prog 41 #[v] w fun e w' => e = .returned (.int .i64 64) ∧ w = w' :=
  (block_any32 v w).mono fun _ _ ⟨h1, h2⟩ => ⟨h1, h2.symm⟩
theorem head_range32 {k : IntKind} {t : TypeId} {w : World} {g : Nat} {l c : List Nat} (h : Lies k t w g (l ++ c)) : w.rangeAt g 0 (vals k l) := fun j v hv => by
  have hj : j < l.length := by have := (List.getElem?_eq_some_iff.1 hv).1; rwa [vals_length] at this
  rw [Nat.zero_add, h.cell (by rw [List.length_append]; omega), el_app_left hj, ← vals_get k l j hj]; exact hv
theorem resume_is32 (ws : List Nat) (w : World) (h8 : ws.length = 8) (hu : Under 4294967296 ws) :
    Calls Tryd.prog 40 #[.agg #[.int .u64 (el ws 0), .int .u64 (el ws 1), .int .u64 (el ws 2), .int .u64 (el ws 3), .int .u64 (el ws 4), .int .u64 (el ws 5), .int .u64 (el ws 6), .int .u64 (el ws 7)], .agg (vals .u64 cubes).toArray] w fun e w' => ∃ g, e = .returned (.pointer (some ⟨g, 0, none⟩)) ∧ w.heap.size ≤ g ∧ Sm32 w' g ws (ks false) ∧ Below w.heap.size w w' := by
  rw [← arr8 .u64 ws h8]
  exact resume_any32 ws cubes w h8 hu cubes_length cubes_under

end Go.Proofs.YtgdcpdbmacmheaaDoor
