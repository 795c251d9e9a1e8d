/- Contract of date.time. -/
import Derived.Test.YtjkciheoknjfhaaDoorSFit
namespace Go.Proofs.YtjkciheoknjfhaaDoor
open Go.RowKit
set_option linter.unusedVariables false

set_option maxRecDepth 100000 in
set_option maxHeartbeats 2000000 in
theorem dtime_any (y m d h i c : Nat) (w : World) (hD : DateOk y m d) (hh : h < 24) (hi : i < 60) (hc : c < 60) :
    Calls Tryd.prog 80 #[dt y m d h i c] w fun e w' => e = .returned (.int .i64 (tim y m d (h * 3600 + i * 60 + c))) ∧ Below w.heap.size w w' := by
  have hb := Bxd.new y m d h i c w
  have c0 := hb.cell 0 y rfl
  have c1 := hb.cell 1 m rfl
  have c2 := hb.cell 2 d rfl
  have c3 := hb.cell 3 h rfl
  have c4 := hb.cell 4 i rfl
  have c5 := hb.cell 5 c rfl
  have hmax := day_max hD
  have hno : dayNo y m d = yrs y + mon y m + (d - 1) := rfl
  obtain ⟨a1, a2, a3, a4, a5, a6⟩ := hD
  have hdm := dim_le y m
  have HT : Hid (-62135596800 + ((yrs y + (d - 1) + mon y m : Nat) : Int) * 86400 + ((((h : Int) * 60 + (i : Int)) * 60) + (c : Int)) = tim y m d (h * 3600 + i * 60 + c)) := hide (by unfold tim; rw [hno]; omega)
  have hcall := fun w' => ahead_any y w' a1 (by omega)
  obtain ⟨n0, HN0⟩ : ∃ n0 : Nat, Hid (n0 = yrs y + (d - 1)) := ⟨_, hide rfl⟩
  have HS0 : Hid (((yrs y : Nat) : Int) + (d : Int) - 1 = (n0 : Int)) := hide (by rw [HN0.out]; omega)
  have hbel : Below w.heap.size w (w.alloc (bx y m d h i c)) := keep_alloc _ _
  have hsum : yrs y + (d - 1) + mon y m ≤ 3652058 := by omega
  generalize tim y m d (h * 3600 + i * 60 + c) = T at *
  have i1 : (d : Int) < 100 := by omega
  have i2 : ((yrs y : Nat) : Int) ≤ 3652058 := by omega
  clear hno hmax
  go_enter Tryd.func80, Tryd.ntmps80
  go_wp2_with fail
  go_quiet (first | (go_at_call 85; exact (hcall _).mono (by rintro e w' ⟨rfl, rfl⟩; exact ⟨rfl, _, rfl⟩)) | fail)
  go_wp2_with fail
  rw [HS0.out]
  have hb : Bxd y m d h i c w.heap.size ((w.alloc (bx y m d h i c)).drewN nq) := by unfold Bxd at hb ⊢; simpa using hb
  have hbW := below_drewN hbel nq
  generalize (w.alloc (bx y m d h i c)).drewN nq = W at *
  clear c0 c1 c2 c3 c4 c5 hcall HS0 i1 i2
  have c0 := hb.cell 0 y rfl
  have c1 := hb.cell 1 m rfl
  have c3 := hb.cell 3 h rfl
  have c4 := hb.cell 4 i rfl
  have c5 := hb.cell 5 c rfl
  clear hb
  go_loop [3, 4] (fun u v => ∃ k n : Nat, 1 ≤ k ∧ k ≤ m ∧ v = .int .i64 k ∧ u = .int .i64 n ∧ Hid (n = yrs y + (d - 1) + mon y k)) (fun _ v => m - (intOf v).toNat)
  case atStart => exact ⟨1, _, Nat.le_refl _, a3, rfl, rfl, hide (by rw [HN0.out, show mon y 1 = 0 by simp [mon, dimY]]; omega)⟩
  case round =>
    obtain ⟨k, n, hk1, hkm, rfl, rfl, HN⟩ := hrel
    have hmm := mon_mono y hkm
    have hn : n ≤ 3652058 := by have := HN.out; omega
    clear hmm
    by_cases hlt : k < m
    · have hcall := fun w' => days_any (y : Int) (k : Int) w'
      rw [days_at a1 a2 hk1 (by omega)] at hcall
      have hDk := dim_le y k
      have HN2 : Hid (n + dimY y k = yrs y + (d - 1) + mon y (k + 1)) := hide (by rw [HN.out, show mon y (k + 1) = mon y k + dimY y k from rfl]; omega)
      generalize dimY y k = D at *
      have HV : Hid ((n : Int) + (D : Int) = ((n + D : Nat) : Int)) := hide (by omega)
      go_wp2_with (first | (go_at_call 84; refine (hcall _).mono ?_; rintro e w' ⟨rfl, rfl⟩) | go_in)
      go_round
      case rel => exact ⟨k + 1, n + D, by omega, hlt, by go_num, by rw [HV.out], HN2⟩
      case measure => simp [intOf]; omega
    · obtain rfl : k = m := by omega
      have HT2 : Hid (-62135596800 + (n : Int) * 86400 + ((((h : Int) * 60 + (i : Int)) * 60) + (c : Int)) = T) := hide (by rw [← HT.out, ← HN.out])
      clear HT HN
      go_wp2
      go_ret
      exact ⟨ret_int HT2.out, hbW⟩
end Go.Proofs.YtjkciheoknjfhaaDoor
