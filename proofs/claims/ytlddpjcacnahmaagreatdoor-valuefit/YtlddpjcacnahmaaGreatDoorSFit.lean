/- Contracts of date.fit, date.time. -/
import Derived.Test.YtlddpjcacnahmaaGreatDoorStT
import Derived.Test.YtlddpjcacnahmaaGreatDoorSTwo
import Derived.BigRegion
namespace Go.Proofs.YtlddpjcacnahmaaGreatDoor
open Go.RowKit
set_option linter.unusedVariables false

/-- has the calendar that date? -/
def sfitB (y m d h i c : Nat) : Bool := decide (1 ≤ d ∧ d ≤ daysS y m ∧ h < 24 ∧ i < 60 ∧ c < 60)

set_option maxRecDepth 100000 in
set_option maxHeartbeats 2000000 in
theorem dfit_any (y m d h i c : Nat) (w : World) :
    Calls Tryz.prog 106 #[dt y m d h i c] w fun e w' => e = .returned (.bool (sfitB y m d h i c)) ∧ Below w.heap.size w w' := by
  have hb := Bxd.new y m d h i c w
  have c0 := hb.cell 0 y rfl
  have c1 := hb.cell 1 m rfl
  have c2 := hb.cell 2 d rfl
  have c3 := hb.cell 3 h rfl
  have c4 := hb.cell 4 i rfl
  have c5 := hb.cell 5 c rfl
  have hcall := fun w' => days_any (y : Int) (m : Int) w'
  by_cases k1 : d < 1
  · have g1 : decide ((1 : Int) ≤ (d : Int)) = false := by simp; omega
    rw [show sfitB y m d h i c = false from by unfold sfitB; rw [decide_eq_false_iff_not]; omega]
    generalize daysS (y : Int) (m : Int) = D at *
    go_enter Tryz.func106, Tryz.ntmps106
    go_wp2_with fail
    go_quiet (first | (go_at_call 118; exact (hcall _).mono (by rintro e w' ⟨rfl, rfl⟩; exact ⟨rfl, _, rfl⟩)) | fail)
    go_wp2
    go_ret
    exact ⟨rfl, below_drewN (keep_alloc _ _) _⟩
  have g1 : (1 : Int) ≤ (d : Int) := by omega
  have n1 : 1 ≤ d := by omega
  by_cases k2 : daysS y m < d
  · have g2 : decide (d ≤ daysS y m) = false := by simp; omega
    rw [show sfitB y m d h i c = false from by unfold sfitB; rw [decide_eq_false_iff_not]; omega]
    generalize daysS (y : Int) (m : Int) = D at *
    go_enter Tryz.func106, Tryz.ntmps106
    go_wp2_with fail
    go_quiet (first | (go_at_call 118; exact (hcall _).mono (by rintro e w' ⟨rfl, rfl⟩; exact ⟨rfl, _, rfl⟩)) | fail)
    go_wp2
    go_ret
    exact ⟨rfl, below_drewN (keep_alloc _ _) _⟩
  have g2 : (d : Int) ≤ ((daysS y m : Nat) : Int) := by omega
  have n2 : d ≤ daysS y m := by omega
  by_cases k3 : 24 ≤ h
  · have g3 : decide ((h : Int) < 24) = false := by simp; omega
    rw [show sfitB y m d h i c = false from by unfold sfitB; rw [decide_eq_false_iff_not]; omega]
    generalize daysS (y : Int) (m : Int) = D at *
    go_enter Tryz.func106, Tryz.ntmps106
    go_wp2_with fail
    go_quiet (first | (go_at_call 118; exact (hcall _).mono (by rintro e w' ⟨rfl, rfl⟩; exact ⟨rfl, _, rfl⟩)) | fail)
    go_wp2
    go_ret
    exact ⟨rfl, below_drewN (keep_alloc _ _) _⟩
  have g3 : (h : Int) < 24 := by omega
  have n3 : h < 24 := by omega
  by_cases k4 : 60 ≤ i
  · have g4 : decide ((i : Int) < 60) = false := by simp; omega
    rw [show sfitB y m d h i c = false from by unfold sfitB; rw [decide_eq_false_iff_not]; omega]
    generalize daysS (y : Int) (m : Int) = D at *
    go_enter Tryz.func106, Tryz.ntmps106
    go_wp2_with fail
    go_quiet (first | (go_at_call 118; exact (hcall _).mono (by rintro e w' ⟨rfl, rfl⟩; exact ⟨rfl, _, rfl⟩)) | fail)
    go_wp2
    go_ret
    exact ⟨rfl, below_drewN (keep_alloc _ _) _⟩
  have g4 : (i : Int) < 60 := by omega
  have n4 : i < 60 := by omega
  by_cases k5 : 60 ≤ c
  · have g5 : decide ((c : Int) < 60) = false := by simp; omega
    rw [show sfitB y m d h i c = false from by unfold sfitB; rw [decide_eq_false_iff_not]; omega]
    generalize daysS (y : Int) (m : Int) = D at *
    go_enter Tryz.func106, Tryz.ntmps106
    go_wp2_with fail
    go_quiet (first | (go_at_call 118; exact (hcall _).mono (by rintro e w' ⟨rfl, rfl⟩; exact ⟨rfl, _, rfl⟩)) | fail)
    go_wp2
    go_ret
    exact ⟨rfl, below_drewN (keep_alloc _ _) _⟩
  · have g5 : (c : Int) < 60 := by omega
    have n5 : c < 60 := by omega
    rw [show sfitB y m d h i c = true from by unfold sfitB; rw [decide_eq_true_iff]; omega]
    generalize daysS (y : Int) (m : Int) = D at *
    go_enter Tryz.func106, Tryz.ntmps106
    go_wp2_with fail
    go_quiet (first | (go_at_call 118; exact (hcall _).mono (by rintro e w' ⟨rfl, rfl⟩; exact ⟨rfl, _, rfl⟩)) | fail)
    go_wp2
    go_ret
    exact ⟨rfl, below_drewN (keep_alloc _ _) _⟩
end Go.Proofs.YtlddpjcacnahmaaGreatDoor

/- Contract of date.time. -/
namespace Go.Proofs.YtlddpjcacnahmaaGreatDoor
open Go.RowKit
set_option linter.unusedVariables false

set_option maxRecDepth 100000 in
set_option maxHeartbeats 2000000 in
theorem dtime_any (y m d h i c : Nat) (w : World) (hD : DateOk y m d) (hh : h < 24) (hi : i < 60) (hc : c < 60) :
    Calls Tryz.prog 107 #[dt y m d h i c] w fun e w' => e = .returned (.int .i64 (tim y m d (h * 3600 + i * 60 + c))) ∧ Below w.heap.size w w' := by
  have hb := Bxd.new y m d h i c w
  have c0 := hb.cell 0 y rfl
  have c1 := hb.cell 1 m rfl
  have c2 := hb.cell 2 d rfl
  have c3 := hb.cell 3 h rfl
  have c4 := hb.cell 4 i rfl
  have c5 := hb.cell 5 c rfl
  have hmax := day_max hD
  have hno : dayNo y m d = yrs y + mon y m + (d - 1) := rfl
  obtain ⟨a1, a2, a3, a4, a5, a6⟩ := hD
  have hdm := dim_le y m
  have HT : Hid (-62135596800 + ((yrs y + (d - 1) + mon y m : Nat) : Int) * 86400 + ((((h : Int) * 60 + (i : Int)) * 60) + (c : Int)) = tim y m d (h * 3600 + i * 60 + c)) := hide (by unfold tim; rw [hno]; omega)
  have hcall := fun w' => ahead_any y w' a1 (by omega)
  obtain ⟨n0, HN0⟩ : ∃ n0 : Nat, Hid (n0 = yrs y + (d - 1)) := ⟨_, hide rfl⟩
  have HS0 : Hid (((yrs y : Nat) : Int) + (d : Int) - 1 = (n0 : Int)) := hide (by rw [HN0.out]; omega)
  have hbel : Below w.heap.size w (w.alloc (bx y m d h i c)) := keep_alloc _ _
  have hsum : yrs y + (d - 1) + mon y m ≤ 3652058 := by omega
  generalize tim y m d (h * 3600 + i * 60 + c) = T at *
  have i1 : (d : Int) < 100 := by omega
  have i2 : ((yrs y : Nat) : Int) ≤ 3652058 := by omega
  clear hno hmax
  go_enter Tryz.func107, Tryz.ntmps107
  go_wp2_with fail
  go_quiet (first | (go_at_call 117; exact (hcall _).mono (by rintro e w' ⟨rfl, rfl⟩; exact ⟨rfl, _, rfl⟩)) | fail)
  go_wp2_with fail
  rw [HS0.out]
  have hb : Bxd y m d h i c w.heap.size ((w.alloc (bx y m d h i c)).drewN nq) := by unfold Bxd at hb ⊢; simpa using hb
  have hbW := below_drewN hbel nq
  generalize (w.alloc (bx y m d h i c)).drewN nq = W at *
  clear c0 c1 c2 c3 c4 c5 hcall HS0 i1 i2
  have c0 := hb.cell 0 y rfl
  have c1 := hb.cell 1 m rfl
  have c3 := hb.cell 3 h rfl
  have c4 := hb.cell 4 i rfl
  have c5 := hb.cell 5 c rfl
  clear hb
  go_loop [3, 4] (fun u v => ∃ k n : Nat, 1 ≤ k ∧ k ≤ m ∧ v = .int .i64 k ∧ u = .int .i64 n ∧ Hid (n = yrs y + (d - 1) + mon y k)) (fun _ v => m - (intOf v).toNat)
  case atStart => exact ⟨1, _, Nat.le_refl _, a3, rfl, rfl, hide (by rw [HN0.out, show mon y 1 = 0 by simp [mon, dimY]]; omega)⟩
  case round =>
    obtain ⟨k, n, hk1, hkm, rfl, rfl, HN⟩ := hrel
    have hmm := mon_mono y hkm
    have hn : n ≤ 3652058 := by have := HN.out; omega
    clear hmm
    by_cases hlt : k < m
    · have hcall := fun w' => days_any (y : Int) (k : Int) w'
      rw [days_at a1 a2 hk1 (by omega)] at hcall
      have hDk := dim_le y k
      have HN2 : Hid (n + dimY y k = yrs y + (d - 1) + mon y (k + 1)) := hide (by rw [HN.out, show mon y (k + 1) = mon y k + dimY y k from rfl]; omega)
      generalize dimY y k = D at *
      have HV : Hid ((n : Int) + (D : Int) = ((n + D : Nat) : Int)) := hide (by omega)
      go_wp2_with (first | (go_at_call 118; refine (hcall _).mono ?_; rintro e w' ⟨rfl, rfl⟩) | go_in)
      go_round
      case rel => exact ⟨k + 1, n + D, by omega, hlt, by go_num, by rw [HV.out], HN2⟩
      case measure => simp [intOf]; omega
    · obtain rfl : k = m := by omega
      have HT2 : Hid (-62135596800 + (n : Int) * 86400 + ((((h : Int) * 60 + (i : Int)) * 60) + (c : Int)) = T) := hide (by rw [← HT.out, ← HN.out])
      clear HT HN
      go_wp2
      go_ret
      exact ⟨ret_int HT2.out, hbW⟩
end Go.Proofs.YtlddpjcacnahmaaGreatDoor

/- Contract of stamp.loose. -/
namespace Go.Proofs.YtlddpjcacnahmaaGreatDoor
open Go.RowKit
set_option linter.unusedVariables false

/-- the zero date, as a block -/
abbrev zero6o : Obj := .cells #[.int .i64 0, .int .i64 0, .int .i64 0, .int .i64 0, .int .i64 0, .int .i64 0] 121
/-- a text's bytes in a new block -/
theorem to_bytes (w : World) (l : List UInt8) : ∃ cap w', (convert 9 22 (str l)).run Tryz.prog w = .ok (.slice (some ⟨w.heap.size, 0, none⟩) l.length cap) w' ∧ (∀ j, j < l.length → w'.cell? ⟨w.heap.size, j, none⟩ = some (.int .u8 (bat l j))) ∧ w.grownBy w' none := by
  have h := run_bytes_of_string (P := Tryz.prog) w 9 22 5 ⟨l.toArray⟩ Tryz.underlying9 Tryz.underlying22 Tryz.underlying5
  refine ⟨_, _, h, ?_, ?_⟩
  · intro j hj
    rw [show w.heap.size = w.drew.heap.size from rfl, World.cell?_alloc_mark]
    rw [bytesRow_at _ _ j (by simpa using hj), bat_at hj]
    rfl
  · exact World.grownBy.trans (⟨rfl, rfl, rfl, Nat.le_refl _, fun _ _ _ => rfl⟩ : w.grownBy w.drew none) (World.grownBy_alloc _ _ _)

/-- what loose keeps of its own: its result, still 0, the parts, and the bytes -/
structure Loo (w : World) (l : List UInt8) (ps : List Nat) (wr : World) : Prop where
  res : wr.heap[w.heap.size]? = some zero6o
  prt : wr.heap[w.heap.size + 1]? = some (.cells (vals .i64 ps).toArray 121)
  byt : ∀ j, j < 14 → wr.cell? ⟨w.heap.size + 2, j, none⟩ = some (.int .u8 (bat l j))
  bel : Below w.heap.size w wr
theorem Loo.cell {w : World} {l : List UInt8} {ps : List Nat} {wr : World} (h : Loo w l ps wr) (j : Nat) (hj : j < ps.length) : wr.cell? ⟨w.heap.size + 1, j, none⟩ = some (.int .i64 (el ps j)) ∧ wr.frozen? ⟨w.heap.size + 1, j, none⟩ = false := by
  refine ⟨?_, by simp [World.frozen?, h.prt]⟩
  simp only [World.cell?, h.prt, List.getElem?_toArray]
  exact vals_get _ _ _ hj
theorem Loo.rcell {w : World} {l : List UInt8} {ps : List Nat} {wr : World} (h : Loo w l ps wr) (j : Nat) (hj : j < 6) : wr.cell? ⟨w.heap.size, j, none⟩ = some (.int .i64 0) ∧ wr.frozen? ⟨w.heap.size, j, none⟩ = false := by
  simp only [World.cell?, World.frozen?, h.res]
  rcases (by omega : j = 0 ∨ j = 1 ∨ j = 2 ∨ j = 3 ∨ j = 4 ∨ j = 5) with rfl | rfl | rfl | rfl | rfl | rfl <;> exact ⟨rfl, rfl⟩
theorem Loo.set {w : World} {l : List UInt8} {ps : List Nat} {wr : World} (h : Loo w l ps wr) (j x : Nat) : Loo w l (ps.set j x) (wr.setCell ⟨w.heap.size + 1, j, none⟩ (.int .i64 x)) := by
  refine ⟨?_, ?_, ?_, h.bel.setCell (by simp) _⟩
  · rw [Below.heap_setCell _ _ _ _ (by simp)]
    exact h.res
  · simp only [World.setCell, Array.getElem?_modify, if_true, h.prt]
    simp [← vals_set]
  · intro k hk
    rw [World.cell?_setCell_other _ _ _ _ (by simp)]
    exact h.byt k hk

/-- loose's ending -/
def LooO (l : List UInt8) (e : Ending) : Prop := ∃ (ok : Bool) (y m d h i c : Nat), e = .returned (.tuple #[dt y m d h i c, .bool ok]) ∧ LooT l ok y m d h i c
theorem LooO.no {l : List UInt8} (h : LooT l false 0 0 0 0 0 0) : LooO l (.returned (.tuple #[dt 0 0 0 0 0 0, .bool false])) := ⟨false, 0, 0, 0, 0, 0, 0, rfl, h⟩

set_option maxRecDepth 100000 in
set_option maxHeartbeats 2000000 in
theorem sloose_any (l : List UInt8) (w : World) (hl : l.length ≤ 1000000) :
    Calls Tryz.prog 105 #[str l] w fun e w' => LooO l e ∧ Below w.heap.size w w' := by
  by_cases h15 : l.length = 15
  · obtain ⟨b, hb⟩ : ∃ b, (⟨l.toArray⟩ : ByteArray)[14]'(by simp [ByteArray.size, h15]) = b := ⟨_, rfl⟩
    have hbn : bat l 14 = b.toNat := by rw [bat_at (by omega)]; exact congrArg UInt8.toNat hb
    have g15 : ((l.length : Int) != 15) = false := by simp; omega
    by_cases hz : b.toNat = 90
    · have gz : ((b.toNat : Int) != 90) = false := by simp; omega
      have hsub : (⟨l.toArray⟩ : ByteArray).extract 0 14 = ⟨(l.take 14).toArray⟩ := by rw [sub_eq]; rfl
      have hb14 : ∀ j, j < 14 → bat (l.take 14) j = bat l j := by
        intro j hj
        unfold bat
        rw [List.getElem?_take_of_lt hj]
      obtain ⟨cap, w3, hcv, hcells, hgr⟩ := to_bytes ((w.alloc zero6o).alloc zero6o) (l.take 14)
      have hlt : (l.take 14).length = 14 := by simp; omega
      rw [hlt, show ((w.alloc zero6o).alloc zero6o).heap.size = w.heap.size + 1 + 1 by simp] at hcv
      have hL : Loo w l (psOf l 0) w3 := by
        refine ⟨?_, ?_, ?_, ?_⟩
        · rw [hgr.block _ (by simp; omega) (by simp), Below.heap_alloc _ _ _ (by simp)]
          exact heap_alloc_new w zero6o
        · rw [hgr.block _ (by simp) (by simp)]
          have h := heap_alloc_new (w.alloc zero6o) zero6o
          rw [show (w.alloc zero6o).heap.size = w.heap.size + 1 by simp] at h
          exact h
        · intro j hj
          have h := hcells j (by omega)
          rw [hb14 j hj, show ((w.alloc zero6o).alloc zero6o).heap.size = w.heap.size + 2 by simp] at h
          exact h
        · exact (((Below.refl w.heap.size w).alloc (Nat.le_refl _) _).alloc (by simp) _).grown hgr (by simp; omega) (fun _ h => by cases h)
      clear hcells hgr hb14 hlt
      have HB := hide hbn
      clear hbn
      go_enter Tryz.func105, Tryz.ntmps105
      go_wp2
      clear hcv
      go_loopw [21] (fun j wr => ∃ k : Nat, k ≤ 14 ∧ j = .int .i64 k ∧ Hid (∀ j, j < k → 48 ≤ bat l j ∧ bat l j ≤ 57) ∧ Loo w l (psOf l k) wr) (fun j _ => 14 - (intOf j).toNat)
      case atStart => exact ⟨0, by omega, rfl, hide (fun j hj => by omega), hL⟩
      case round =>
        obtain ⟨k, hk, rfl, HD, hL⟩ := hrel
        by_cases hlt : k < 14
        · have cb : wr.cell? ⟨w.heap.size + 1 + 1, k, none⟩ = some (.int .u8 (bat l k)) := hL.byt k hlt
          have hbl := bat_lt l k
          have i1 : (k : Int) < 14 := by omega
          by_cases hlo : bat l k < 48
          · have HL : Hid (LooT l false 0 0 0 0 0 0) := hide (.inr ⟨rfl, loo_d hlt (.inl hlo)⟩)
            have g1 : (bat l k : Int) < 48 := by omega
            generalize bat l k = x at *
            have hbel := hL.bel
            obtain ⟨p0, z0⟩ := hL.rcell 0 (by omega)
            obtain ⟨p1, z1⟩ := hL.rcell 1 (by omega)
            obtain ⟨p2, z2⟩ := hL.rcell 2 (by omega)
            obtain ⟨p3, z3⟩ := hL.rcell 3 (by omega)
            obtain ⟨p4, z4⟩ := hL.rcell 4 (by omega)
            obtain ⟨p5, z5⟩ := hL.rcell 5 (by omega)
            clear hL
            go_wp2
            refine bodyPost_ret (v := .tuple #[dt 0 0 0 0 0 0, .bool false]) (by simp [results, Tryz.results105, go_sem, p0, p1, p2, p3, p4, p5]) rfl ⟨LooO.no HL.out, ?_⟩
            exact (((((hbel.setCell (Nat.le_refl _) _).setCell (Nat.le_refl _) _).setCell (Nat.le_refl _) _).setCell (Nat.le_refl _) _).setCell (Nat.le_refl _) _).setCell (Nat.le_refl _) _
          by_cases hhi : 57 < bat l k
          · have HL : Hid (LooT l false 0 0 0 0 0 0) := hide (.inr ⟨rfl, loo_d hlt (.inr hhi)⟩)
            have g1 : ¬ (bat l k : Int) < 48 := by omega
            have g2 : (57 : Int) < (bat l k : Int) := by omega
            generalize bat l k = x at *
            have hbel := hL.bel
            obtain ⟨p0, z0⟩ := hL.rcell 0 (by omega)
            obtain ⟨p1, z1⟩ := hL.rcell 1 (by omega)
            obtain ⟨p2, z2⟩ := hL.rcell 2 (by omega)
            obtain ⟨p3, z3⟩ := hL.rcell 3 (by omega)
            obtain ⟨p4, z4⟩ := hL.rcell 4 (by omega)
            obtain ⟨p5, z5⟩ := hL.rcell 5 (by omega)
            clear hL
            go_wp2
            refine bodyPost_ret (v := .tuple #[dt 0 0 0 0 0 0, .bool false]) (by simp [results, Tryz.results105, go_sem, p0, p1, p2, p3, p4, p5]) rfl ⟨LooO.no HL.out, ?_⟩
            exact (((((hbel.setCell (Nat.le_refl _) _).setCell (Nat.le_refl _) _).setCell (Nat.le_refl _) _).setCell (Nat.le_refl _) _).setCell (Nat.le_refl _) _).setCell (Nat.le_refl _) _
          have g1 : ¬ (bat l k : Int) < 48 := by omega
          have g2 : ¬ (57 : Int) < (bat l k : Int) := by omega
          have HD2 : Hid (∀ j, j < k + 1 → 48 ≤ bat l j ∧ bat l j ≤ 57) := hide (fun j hj => by
            by_cases hj2 : j = k
            · subst hj2; omega
            · exact HD.out j (by omega))
          have hps := psOf_lt l k (fun j hj => (HD.out j hj).2) (k / 2 - 1)
          have hp14 : el (psOf l k) (k / 2 - 1) < 100000000000000 := by
            have : 10 ^ k ≤ 10 ^ 14 := Nat.pow_le_pow_right (by decide) (by omega)
            omega
          clear hps
          obtain ⟨cp, fp⟩ := hL.cell (k / 2 - 1) (by rw [psOf_len]; omega)
          have hset := hL.set (k / 2 - 1) (el (psOf l k) (k / 2 - 1) * 10 + (bat l k - 48))
          have HP : Hid (psOf l (k + 1) = (psOf l k).set (k / 2 - 1) (el (psOf l k) (k / 2 - 1) * 10 + (bat l k - 48))) := hide rfl
          rw [← HP.out] at hset
          have g4 : (0 : Int) ≤ (bat l k : Int) - 48 := by omega
          have HV : Hid ((el (psOf l k) (k / 2 - 1) : Int) * 10 + ((bat l k : Int) - 48) = ((el (psOf l k) (k / 2 - 1) * 10 + (bat l k - 48) : Nat) : Int)) := hide (by omega)
          generalize el (psOf l k) (k / 2 - 1) = E at *
          generalize bat l k = x at *
          rcases (by omega : k / 2 = 0 ∨ k / 2 = 1 ∨ k / 2 = 2 ∨ k / 2 = 3 ∨ k / 2 = 4 ∨ k / 2 = 5 ∨ k / 2 = 6) with hq | hq | hq | hq | hq | hq | hq
          · have hqi : (k : Int) / 2 = 0 := by omega
            rw [show k / 2 - 1 = 0 by omega] at cp fp hset
            clear hq
            go_wp2
            exact ⟨⟨k + 1, by omega, by simp, HD2, by rw [HV.out]; exact hset⟩, by simp [intOf]; omega⟩
          · have hqi : (k : Int) / 2 = 1 := by omega
            rw [show k / 2 - 1 = 0 by omega] at cp fp hset
            clear hq
            go_wp2
            exact ⟨⟨k + 1, by omega, by simp, HD2, by rw [HV.out]; exact hset⟩, by simp [intOf]; omega⟩
          · have hqi : (k : Int) / 2 = 2 := by omega
            rw [show k / 2 - 1 = 1 by omega] at cp fp hset
            clear hq
            go_wp2
            exact ⟨⟨k + 1, by omega, by simp, HD2, by rw [HV.out]; exact hset⟩, by simp [intOf]; omega⟩
          · have hqi : (k : Int) / 2 = 3 := by omega
            rw [show k / 2 - 1 = 2 by omega] at cp fp hset
            clear hq
            go_wp2
            exact ⟨⟨k + 1, by omega, by simp, HD2, by rw [HV.out]; exact hset⟩, by simp [intOf]; omega⟩
          · have hqi : (k : Int) / 2 = 4 := by omega
            rw [show k / 2 - 1 = 3 by omega] at cp fp hset
            clear hq
            go_wp2
            exact ⟨⟨k + 1, by omega, by simp, HD2, by rw [HV.out]; exact hset⟩, by simp [intOf]; omega⟩
          · have hqi : (k : Int) / 2 = 5 := by omega
            rw [show k / 2 - 1 = 4 by omega] at cp fp hset
            clear hq
            go_wp2
            exact ⟨⟨k + 1, by omega, by simp, HD2, by rw [HV.out]; exact hset⟩, by simp [intOf]; omega⟩
          · have hqi : (k : Int) / 2 = 6 := by omega
            rw [show k / 2 - 1 = 5 by omega] at cp fp hset
            clear hq
            go_wp2
            exact ⟨⟨k + 1, by omega, by simp, HD2, by rw [HV.out]; exact hset⟩, by simp [intOf]; omega⟩
        · obtain rfl : k = 14 := by omega
          have hps := psOf_len l 14
          have hbel := hL.bel
          obtain ⟨p0, z0⟩ := hL.rcell 0 (by omega)
          obtain ⟨p1, z1⟩ := hL.rcell 1 (by omega)
          obtain ⟨p2, z2⟩ := hL.rcell 2 (by omega)
          obtain ⟨p3, z3⟩ := hL.rcell 3 (by omega)
          obtain ⟨p4, z4⟩ := hL.rcell 4 (by omega)
          obtain ⟨p5, z5⟩ := hL.rcell 5 (by omega)
          obtain ⟨v0, _⟩ := hL.cell 0 (by omega)
          obtain ⟨v1, _⟩ := hL.cell 1 (by omega)
          obtain ⟨v2, _⟩ := hL.cell 2 (by omega)
          obtain ⟨v3, _⟩ := hL.cell 3 (by omega)
          obtain ⟨v4, _⟩ := hL.cell 4 (by omega)
          obtain ⟨v5, _⟩ := hL.cell 5 (by omega)
          obtain ⟨hB, hT⟩ := digits_text l h15 (by rw [HB.out]; exact hz) HD.out
          have HL : Hid (LooT l true (el (psOf l 14) 0) (el (psOf l 14) 1) (el (psOf l 14) 2) (el (psOf l 14) 3) (el (psOf l 14) 4) (el (psOf l 14) 5)) := hide (.inl ⟨rfl, hB, hT⟩)
          clear hL hB hT HD HB
          generalize el (psOf l 14) 0 = e0 at *
          generalize el (psOf l 14) 1 = e1 at *
          generalize el (psOf l 14) 2 = e2 at *
          generalize el (psOf l 14) 3 = e3 at *
          generalize el (psOf l 14) 4 = e4 at *
          generalize el (psOf l 14) 5 = e5 at *
          go_wp2
          refine bodyPost_ret (v := .tuple #[dt e0 e1 e2 e3 e4 e5, .bool true]) (by simp [results, Tryz.results105, go_sem, p0, p1, p2, p3, p4, p5]) rfl ⟨⟨true, e0, e1, e2, e3, e4, e5, rfl, HL.out⟩, ?_⟩
          exact (((((hbel.setCell (Nat.le_refl _) _).setCell (Nat.le_refl _) _).setCell (Nat.le_refl _) _).setCell (Nat.le_refl _) _).setCell (Nat.le_refl _) _).setCell (Nat.le_refl _) _
    · have HL : Hid (LooT l false 0 0 0 0 0 0) := hide (.inr ⟨rfl, loo_z (by omega)⟩)
      have gz : ((b.toNat : Int) != 90) = true := by simp; omega
      go_enter Tryz.func105, Tryz.ntmps105
      go_wp2
      refine bodyPost_ret (v := .tuple #[dt 0 0 0 0 0 0, .bool false]) (by simp [results, Tryz.results105, go_sem]) rfl ⟨LooO.no HL.out, keep_alloc _ _⟩
  · have HL : Hid (LooT l false 0 0 0 0 0 0) := hide (.inr ⟨rfl, loo_len h15⟩)
    have g15 : ((l.length : Int) != 15) = true := by simp; omega
    go_enter Tryz.func105, Tryz.ntmps105
    go_wp2
    refine bodyPost_ret (v := .tuple #[dt 0 0 0 0 0 0, .bool false]) (by simp [results, Tryz.results105, go_sem]) rfl ⟨LooO.no HL.out, keep_alloc _ _⟩
end Go.Proofs.YtlddpjcacnahmaaGreatDoor
