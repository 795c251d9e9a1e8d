/- Contract of stamp.loose. -/
import Derived.Test.YtjkciheoknjfhaaDoorStM
import Derived.BigRegion
namespace Go.Proofs.YtjkciheoknjfhaaDoor
open Go.RowKit
set_option linter.unusedVariables false

/-- the zero date, as a block -/
abbrev zero6o : Obj := .cells #[.int .i64 0, .int .i64 0, .int .i64 0, .int .i64 0, .int .i64 0, .int .i64 0] 102
/-- a text's bytes in a new block -/
theorem to_bytes (w : World) (l : List UInt8) : ∃ cap w', (convert 9 22 (str l)).run Tryd.prog w = .ok (.slice (some ⟨w.heap.size, 0, none⟩) l.length cap) w' ∧ (∀ j, j < l.length → w'.cell? ⟨w.heap.size, j, none⟩ = some (.int .u8 (bat l j))) ∧ w.grownBy w' none := by
  have h := run_bytes_of_string (P := Tryd.prog) w 9 22 5 ⟨l.toArray⟩ Tryd.underlying9 Tryd.underlying22 Tryd.underlying5
  refine ⟨_, _, h, ?_, ?_⟩
  · intro j hj
    rw [show w.heap.size = w.drew.heap.size from rfl, World.cell?_alloc_mark]
    rw [bytesRow_at _ _ j (by simpa using hj), bat_at hj]
    rfl
  · exact World.grownBy.trans (⟨rfl, rfl, rfl, Nat.le_refl _, fun _ _ _ => rfl⟩ : w.grownBy w.drew none) (World.grownBy_alloc _ _ _)

/-- what loose keeps of its own: its result, still 0, the parts, and the bytes -/
structure Loo (w : World) (l : List UInt8) (ps : List Nat) (wr : World) : Prop where
  res : wr.heap[w.heap.size]? = some zero6o
  prt : wr.heap[w.heap.size + 1]? = some (.cells (vals .i64 ps).toArray 102)
  byt : ∀ j, j < 14 → wr.cell? ⟨w.heap.size + 2, j, none⟩ = some (.int .u8 (bat l j))
  bel : Below w.heap.size w wr
theorem Loo.cell {w : World} {l : List UInt8} {ps : List Nat} {wr : World} (h : Loo w l ps wr) (j : Nat) (hj : j < ps.length) : wr.cell? ⟨w.heap.size + 1, j, none⟩ = some (.int .i64 (el ps j)) ∧ wr.frozen? ⟨w.heap.size + 1, j, none⟩ = false := by
  refine ⟨?_, by simp [World.frozen?, h.prt]⟩
  simp only [World.cell?, h.prt, List.getElem?_toArray]
  exact vals_get _ _ _ hj
theorem Loo.rcell {w : World} {l : List UInt8} {ps : List Nat} {wr : World} (h : Loo w l ps wr) (j : Nat) (hj : j < 6) : wr.cell? ⟨w.heap.size, j, none⟩ = some (.int .i64 0) ∧ wr.frozen? ⟨w.heap.size, j, none⟩ = false := by
  simp only [World.cell?, World.frozen?, h.res]
  rcases (by omega : j = 0 ∨ j = 1 ∨ j = 2 ∨ j = 3 ∨ j = 4 ∨ j = 5) with rfl | rfl | rfl | rfl | rfl | rfl <;> exact ⟨rfl, rfl⟩
theorem Loo.set {w : World} {l : List UInt8} {ps : List Nat} {wr : World} (h : Loo w l ps wr) (j x : Nat) : Loo w l (ps.set j x) (wr.setCell ⟨w.heap.size + 1, j, none⟩ (.int .i64 x)) := by
  refine ⟨?_, ?_, ?_, h.bel.setCell (by simp) _⟩
  · rw [Below.heap_setCell _ _ _ _ (by simp)]
    exact h.res
  · simp only [World.setCell, Array.getElem?_modify, if_true, h.prt]
    simp [← vals_set]
  · intro k hk
    rw [World.cell?_setCell_other _ _ _ _ (by simp)]
    exact h.byt k hk

/-- loose's ending -/
def LooO (l : List UInt8) (e : Ending) : Prop := ∃ (ok : Bool) (y m d h i c : Nat), e = .returned (.tuple #[dt y m d h i c, .bool ok]) ∧ LooT l ok y m d h i c
theorem LooO.no {l : List UInt8} (h : LooT l false 0 0 0 0 0 0) : LooO l (.returned (.tuple #[dt 0 0 0 0 0 0, .bool false])) := ⟨false, 0, 0, 0, 0, 0, 0, rfl, h⟩

set_option maxRecDepth 100000 in
set_option maxHeartbeats 2000000 in
theorem sloose_any (l : List UInt8) (w : World) (hl : l.length ≤ 1000000) :
    Calls Tryd.prog 78 #[str l] w fun e w' => LooO l e ∧ Below w.heap.size w w' := by
  by_cases h15 : l.length = 15
  · obtain ⟨b, hb⟩ : ∃ b, (⟨l.toArray⟩ : ByteArray)[14]'(by simp [ByteArray.size, h15]) = b := ⟨_, rfl⟩
    have hbn : bat l 14 = b.toNat := by rw [bat_at (by omega)]; exact congrArg UInt8.toNat hb
    have g15 : ((l.length : Int) != 15) = false := by simp; omega
    by_cases hz : b.toNat = 90
    · have gz : ((b.toNat : Int) != 90) = false := by simp; omega
      have hsub : (⟨l.toArray⟩ : ByteArray).extract 0 14 = ⟨(l.take 14).toArray⟩ := by rw [sub_eq]; rfl
      have hb14 : ∀ j, j < 14 → bat (l.take 14) j = bat l j := by
        intro j hj
        unfold bat
        rw [List.getElem?_take_of_lt hj]
      obtain ⟨cap, w3, hcv, hcells, hgr⟩ := to_bytes ((w.alloc zero6o).alloc zero6o) (l.take 14)
      have hlt : (l.take 14).length = 14 := by simp; omega
      rw [hlt, show ((w.alloc zero6o).alloc zero6o).heap.size = w.heap.size + 1 + 1 by simp] at hcv
      have hL : Loo w l (psOf l 0) w3 := by
        refine ⟨?_, ?_, ?_, ?_⟩
        · rw [hgr.block _ (by simp; omega) (by simp), Below.heap_alloc _ _ _ (by simp)]
          exact heap_alloc_new w zero6o
        · rw [hgr.block _ (by simp) (by simp)]
          have h := heap_alloc_new (w.alloc zero6o) zero6o
          rw [show (w.alloc zero6o).heap.size = w.heap.size + 1 by simp] at h
          exact h
        · intro j hj
          have h := hcells j (by omega)
          rw [hb14 j hj, show ((w.alloc zero6o).alloc zero6o).heap.size = w.heap.size + 2 by simp] at h
          exact h
        · exact (((Below.refl w.heap.size w).alloc (Nat.le_refl _) _).alloc (by simp) _).grown hgr (by simp; omega) (fun _ h => by cases h)
      clear hcells hgr hb14 hlt
      have HB := hide hbn
      clear hbn
      go_enter Tryd.func78, Tryd.ntmps78
      go_wp2
      clear hcv
      go_loopw [21] (fun j wr => ∃ k : Nat, k ≤ 14 ∧ j = .int .i64 k ∧ Hid (∀ j, j < k → 48 ≤ bat l j ∧ bat l j ≤ 57) ∧ Loo w l (psOf l k) wr) (fun j _ => 14 - (intOf j).toNat)
      case atStart => exact ⟨0, by omega, rfl, hide (fun j hj => by omega), hL⟩
      case round =>
        obtain ⟨k, hk, rfl, HD, hL⟩ := hrel
        by_cases hlt : k < 14
        · have cb : wr.cell? ⟨w.heap.size + 1 + 1, k, none⟩ = some (.int .u8 (bat l k)) := hL.byt k hlt
          have hbl := bat_lt l k
          have i1 : (k : Int) < 14 := by omega
          by_cases hlo : bat l k < 48
          · have HL : Hid (LooT l false 0 0 0 0 0 0) := hide (.inr ⟨rfl, loo_d hlt (.inl hlo)⟩)
            have g1 : (bat l k : Int) < 48 := by omega
            generalize bat l k = x at *
            have hbel := hL.bel
            obtain ⟨p0, z0⟩ := hL.rcell 0 (by omega)
            obtain ⟨p1, z1⟩ := hL.rcell 1 (by omega)
            obtain ⟨p2, z2⟩ := hL.rcell 2 (by omega)
            obtain ⟨p3, z3⟩ := hL.rcell 3 (by omega)
            obtain ⟨p4, z4⟩ := hL.rcell 4 (by omega)
            obtain ⟨p5, z5⟩ := hL.rcell 5 (by omega)
            clear hL
            go_wp2
            refine bodyPost_ret (v := .tuple #[dt 0 0 0 0 0 0, .bool false]) (by simp [results, Tryd.results78, go_sem, p0, p1, p2, p3, p4, p5]) rfl ⟨LooO.no HL.out, ?_⟩
            exact (((((hbel.setCell (Nat.le_refl _) _).setCell (Nat.le_refl _) _).setCell (Nat.le_refl _) _).setCell (Nat.le_refl _) _).setCell (Nat.le_refl _) _).setCell (Nat.le_refl _) _
          by_cases hhi : 57 < bat l k
          · have HL : Hid (LooT l false 0 0 0 0 0 0) := hide (.inr ⟨rfl, loo_d hlt (.inr hhi)⟩)
            have g1 : ¬ (bat l k : Int) < 48 := by omega
            have g2 : (57 : Int) < (bat l k : Int) := by omega
            generalize bat l k = x at *
            have hbel := hL.bel
            obtain ⟨p0, z0⟩ := hL.rcell 0 (by omega)
            obtain ⟨p1, z1⟩ := hL.rcell 1 (by omega)
            obtain ⟨p2, z2⟩ := hL.rcell 2 (by omega)
            obtain ⟨p3, z3⟩ := hL.rcell 3 (by omega)
            obtain ⟨p4, z4⟩ := hL.rcell 4 (by omega)
            obtain ⟨p5, z5⟩ := hL.rcell 5 (by omega)
            clear hL
            go_wp2
            refine bodyPost_ret (v := .tuple #[dt 0 0 0 0 0 0, .bool false]) (by simp [results, Tryd.results78, go_sem, p0, p1, p2, p3, p4, p5]) rfl ⟨LooO.no HL.out, ?_⟩
            exact (((((hbel.setCell (Nat.le_refl _) _).setCell (Nat.le_refl _) _).setCell (Nat.le_refl _) _).setCell (Nat.le_refl _) _).setCell (Nat.le_refl _) _).setCell (Nat.le_refl _) _
          have g1 : ¬ (bat l k : Int) < 48 := by omega
          have g2 : ¬ (57 : Int) < (bat l k : Int) := by omega
          have HD2 : Hid (∀ j, j < k + 1 → 48 ≤ bat l j ∧ bat l j ≤ 57) := hide (fun j hj => by
            by_cases hj2 : j = k
            · subst hj2; omega
            · exact HD.out j (by omega))
          have hps := psOf_lt l k (fun j hj => (HD.out j hj).2) (k / 2 - 1)
          have hp14 : el (psOf l k) (k / 2 - 1) < 100000000000000 := by
            have : 10 ^ k ≤ 10 ^ 14 := Nat.pow_le_pow_right (by decide) (by omega)
            omega
          clear hps
          obtain ⟨cp, fp⟩ := hL.cell (k / 2 - 1) (by rw [psOf_len]; omega)
          have hset := hL.set (k / 2 - 1) (el (psOf l k) (k / 2 - 1) * 10 + (bat l k - 48))
          have HP : Hid (psOf l (k + 1) = (psOf l k).set (k / 2 - 1) (el (psOf l k) (k / 2 - 1) * 10 + (bat l k - 48))) := hide rfl
          rw [← HP.out] at hset
          have g4 : (0 : Int) ≤ (bat l k : Int) - 48 := by omega
          have HV : Hid ((el (psOf l k) (k / 2 - 1) : Int) * 10 + ((bat l k : Int) - 48) = ((el (psOf l k) (k / 2 - 1) * 10 + (bat l k - 48) : Nat) : Int)) := hide (by omega)
          generalize el (psOf l k) (k / 2 - 1) = E at *
          generalize bat l k = x at *
          rcases (by omega : k / 2 = 0 ∨ k / 2 = 1 ∨ k / 2 = 2 ∨ k / 2 = 3 ∨ k / 2 = 4 ∨ k / 2 = 5 ∨ k / 2 = 6) with hq | hq | hq | hq | hq | hq | hq
          · have hqi : (k : Int) / 2 = 0 := by omega
            rw [show k / 2 - 1 = 0 by omega] at cp fp hset
            clear hq
            go_wp2
            exact ⟨⟨k + 1, by omega, by simp, HD2, by rw [HV.out]; exact hset⟩, by simp [intOf]; omega⟩
          · have hqi : (k : Int) / 2 = 1 := by omega
            rw [show k / 2 - 1 = 0 by omega] at cp fp hset
            clear hq
            go_wp2
            exact ⟨⟨k + 1, by omega, by simp, HD2, by rw [HV.out]; exact hset⟩, by simp [intOf]; omega⟩
          · have hqi : (k : Int) / 2 = 2 := by omega
            rw [show k / 2 - 1 = 1 by omega] at cp fp hset
            clear hq
            go_wp2
            exact ⟨⟨k + 1, by omega, by simp, HD2, by rw [HV.out]; exact hset⟩, by simp [intOf]; omega⟩
          · have hqi : (k : Int) / 2 = 3 := by omega
            rw [show k / 2 - 1 = 2 by omega] at cp fp hset
            clear hq
            go_wp2
            exact ⟨⟨k + 1, by omega, by simp, HD2, by rw [HV.out]; exact hset⟩, by simp [intOf]; omega⟩
          · have hqi : (k : Int) / 2 = 4 := by omega
            rw [show k / 2 - 1 = 3 by omega] at cp fp hset
            clear hq
            go_wp2
            exact ⟨⟨k + 1, by omega, by simp, HD2, by rw [HV.out]; exact hset⟩, by simp [intOf]; omega⟩
          · have hqi : (k : Int) / 2 = 5 := by omega
            rw [show k / 2 - 1 = 4 by omega] at cp fp hset
            clear hq
            go_wp2
            exact ⟨⟨k + 1, by omega, by simp, HD2, by rw [HV.out]; exact hset⟩, by simp [intOf]; omega⟩
          · have hqi : (k : Int) / 2 = 6 := by omega
            rw [show k / 2 - 1 = 5 by omega] at cp fp hset
            clear hq
            go_wp2
            exact ⟨⟨k + 1, by omega, by simp, HD2, by rw [HV.out]; exact hset⟩, by simp [intOf]; omega⟩
        · obtain rfl : k = 14 := by omega
          have hps := psOf_len l 14
          have hbel := hL.bel
          obtain ⟨p0, z0⟩ := hL.rcell 0 (by omega)
          obtain ⟨p1, z1⟩ := hL.rcell 1 (by omega)
          obtain ⟨p2, z2⟩ := hL.rcell 2 (by omega)
          obtain ⟨p3, z3⟩ := hL.rcell 3 (by omega)
          obtain ⟨p4, z4⟩ := hL.rcell 4 (by omega)
          obtain ⟨p5, z5⟩ := hL.rcell 5 (by omega)
          obtain ⟨v0, _⟩ := hL.cell 0 (by omega)
          obtain ⟨v1, _⟩ := hL.cell 1 (by omega)
          obtain ⟨v2, _⟩ := hL.cell 2 (by omega)
          obtain ⟨v3, _⟩ := hL.cell 3 (by omega)
          obtain ⟨v4, _⟩ := hL.cell 4 (by omega)
          obtain ⟨v5, _⟩ := hL.cell 5 (by omega)
          obtain ⟨hB, hT⟩ := digits_text l h15 (by rw [HB.out]; exact hz) HD.out
          have HL : Hid (LooT l true (el (psOf l 14) 0) (el (psOf l 14) 1) (el (psOf l 14) 2) (el (psOf l 14) 3) (el (psOf l 14) 4) (el (psOf l 14) 5)) := hide (.inl ⟨rfl, hB, hT⟩)
          clear hL hB hT HD HB
          generalize el (psOf l 14) 0 = e0 at *
          generalize el (psOf l 14) 1 = e1 at *
          generalize el (psOf l 14) 2 = e2 at *
          generalize el (psOf l 14) 3 = e3 at *
          generalize el (psOf l 14) 4 = e4 at *
          generalize el (psOf l 14) 5 = e5 at *
          go_wp2
          refine bodyPost_ret (v := .tuple #[dt e0 e1 e2 e3 e4 e5, .bool true]) (by simp [results, Tryd.results78, go_sem, p0, p1, p2, p3, p4, p5]) rfl ⟨⟨true, e0, e1, e2, e3, e4, e5, rfl, HL.out⟩, ?_⟩
          exact (((((hbel.setCell (Nat.le_refl _) _).setCell (Nat.le_refl _) _).setCell (Nat.le_refl _) _).setCell (Nat.le_refl _) _).setCell (Nat.le_refl _) _).setCell (Nat.le_refl _) _
    · have HL : Hid (LooT l false 0 0 0 0 0 0) := hide (.inr ⟨rfl, loo_z (by omega)⟩)
      have gz : ((b.toNat : Int) != 90) = true := by simp; omega
      go_enter Tryd.func78, Tryd.ntmps78
      go_wp2
      refine bodyPost_ret (v := .tuple #[dt 0 0 0 0 0 0, .bool false]) (by simp [results, Tryd.results78, go_sem]) rfl ⟨LooO.no HL.out, keep_alloc _ _⟩
  · have HL : Hid (LooT l false 0 0 0 0 0 0) := hide (.inr ⟨rfl, loo_len h15⟩)
    have g15 : ((l.length : Int) != 15) = true := by simp; omega
    go_enter Tryd.func78, Tryd.ntmps78
    go_wp2
    refine bodyPost_ret (v := .tuple #[dt 0 0 0 0 0 0, .bool false]) (by simp [results, Tryd.results78, go_sem]) rfl ⟨LooO.no HL.out, keep_alloc _ _⟩
end Go.Proofs.YtjkciheoknjfhaaDoor
