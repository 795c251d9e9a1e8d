/- Contract of apostilleref03.Read. -/
import Derived.Test.YtjkciheoknjfhaaDoorSNum
namespace Go.Proofs.YtjkciheoknjfhaaDoor
open Go.RowKit
set_option linter.unusedVariables false

set_option maxRecDepth 100000 in
set_option maxHeartbeats 4000000 in
theorem srread_any (l : List UInt8) (w : World) (hl : l.length ≤ 1000000) :
    Calls Tryd.prog 51 #[str l] w fun e w' => ReadO l e ∧ w' = w := by
  by_cases h15 : l.length = 15
  · obtain ⟨b, hb⟩ : ∃ b, (⟨l.toArray⟩ : ByteArray)[14]'(by simp [ByteArray.size, h15]) = b := ⟨_, rfl⟩
    have hbn : bat l 14 = b.toNat := by rw [bat_at (by omega)]; exact congrArg UInt8.toNat hb
    have g15 : ((l.length : Int) != 15) = false := by simp; omega
    by_cases hz : b.toNat = 90
    · have gz : ((b.toNat : Int) != 90) = false := by simp; omega
      have hall := @nums_read l h15 (by omega)
      have s0 := sub_eq l 0 4
      have s1 := sub_eq l 4 6
      have s2 := sub_eq l 6 8
      have s3 := sub_eq l 8 10
      have s4 := sub_eq l 10 12
      have s5 := sub_eq l 12 14
      have l0 : ((l.take 4).drop 0).length ≤ 14 := by simp; omega
      have l1 : ((l.take 6).drop 4).length ≤ 14 := by simp; omega
      have l2 : ((l.take 8).drop 6).length ≤ 14 := by simp; omega
      have l3 : ((l.take 10).drop 8).length ≤ 14 := by simp; omega
      have l4 : ((l.take 12).drop 10).length ≤ 14 := by simp; omega
      have l5 : ((l.take 14).drop 12).length ≤ 14 := by simp; omega
      generalize (l.take 4).drop 0 = x0 at *
      generalize (l.take 6).drop 4 = x1 at *
      generalize (l.take 8).drop 6 = x2 at *
      generalize (l.take 10).drop 8 = x3 at *
      generalize (l.take 12).drop 10 = x4 at *
      generalize (l.take 14).drop 12 = x5 at *
      clear hbn
      go_enter Tryd.func51, Tryd.ntmps51
      go_wp2_with fail
      refine (srnumber_any x0 _ l0).mono ?_
      rintro e w' ⟨⟨n0, rfl, h0⟩, rfl⟩
      go_wp2_with fail
      refine (srnumber_any x1 _ l1).mono ?_
      rintro e w' ⟨⟨n1, rfl, h1⟩, rfl⟩
      go_wp2_with fail
      refine (srnumber_any x2 _ l2).mono ?_
      rintro e w' ⟨⟨n2, rfl, h2⟩, rfl⟩
      go_wp2_with fail
      refine (srnumber_any x3 _ l3).mono ?_
      rintro e w' ⟨⟨n3, rfl, h3⟩, rfl⟩
      go_wp2_with fail
      refine (srnumber_any x4 _ l4).mono ?_
      rintro e w' ⟨⟨n4, rfl, h4⟩, rfl⟩
      go_wp2_with fail
      refine (srnumber_any x5 _ l5).mono ?_
      rintro e w' ⟨⟨n5, rfl, h5⟩, rfl⟩
      rcases hall h0 h1 h2 h3 h4 h5 with ⟨hG, y, m, d, h, i, c, rfl, rfl, rfl, rfl, rfl, rfl, hf, rfl⟩ | ⟨hG, hR⟩
      · clear h0 h1 h2 h3 h4 h5 hall s0 s1 s2 s3 s4 s5 hG
        obtain ⟨hD, k3, k4, k5⟩ := fit_date hf
        have HR := hide (read_fit hf)
        have hmax := day_max hD
        have hno : dayNo y m d = yrs y + mon y m + (d - 1) := rfl
        obtain ⟨a1, a2, a3, a4, a5, a6⟩ := hD
        have hdm := dim_le y m
        have HT : Hid (-62135596800 + ((yrs y + (d - 1) + mon y m : Nat) : Int) * 86400 + ((h : Int) * 3600 + (i : Int) * 60 + (c : Int)) = tim y m d (h * 3600 + i * 60 + c)) := hide (by unfold tim; rw [hno]; omega)
        have hcall := fun w' => rdays_any (y : Int) (m : Int) w'
        rw [days_at a1 a2 a3 a4] at hcall
        have hyr := fun w' => ryears_any y w' a1 (by omega)
        obtain ⟨n0, HN0⟩ : ∃ n0 : Nat, Hid (n0 = yrs y + (d - 1)) := ⟨_, hide rfl⟩
        have HS0 : Hid (((yrs y : Nat) : Int) + ((d : Int) - 1) = (n0 : Int)) := hide (by rw [HN0.out]; omega)
        have hsum : yrs y + (d - 1) + mon y m ≤ 3652058 := by omega
        have hy0 : yrs y ≤ 3652058 := by omega
        have hd100 : d < 100 := by omega
        generalize tim y m d (h * 3600 + i * 60 + c) = T at *
        have j1 : ¬ (d : Int) < 1 := by omega
        have j2 : ¬ (dimY y m : Int) < (d : Int) := by omega
        have j2n : ¬ dimY y m < d := by omega
        have j3 : ¬ (23 : Int) < (h : Int) := by omega
        have j4 : ¬ (59 : Int) < (i : Int) := by omega
        have j5 : ¬ (59 : Int) < (c : Int) := by omega
        clear hno hmax hf
        go_wp2_with fail
        refine (hcall _).mono ?_
        rintro e w' ⟨rfl, rfl⟩
        go_wp2_with fail
        refine (hyr _).mono ?_
        rintro e w' ⟨rfl, rfl⟩
        go_wp2_with fail
        rw [HS0.out]
        clear hcall hyr HS0
        go_loop [10, 11] (fun u v => ∃ k n : Nat, 1 ≤ k ∧ k ≤ m ∧ v = .int .i64 k ∧ u = .int .i64 n ∧ Hid (n = yrs y + (d - 1) + mon y k)) (fun _ v => m - (intOf v).toNat)
        case atStart => exact ⟨1, _, Nat.le_refl _, a3, rfl, rfl, hide (by rw [HN0.out, show mon y 1 = 0 by simp [mon, dimY]]; omega)⟩
        case round =>
          obtain ⟨k, n, hk1, hkm, rfl, rfl, HN⟩ := hrel
          have hmm := mon_mono y hkm
          have hn : n ≤ 3652058 := by have := HN.out; omega
          clear hmm
          by_cases hlt : k < m
          · have hcall := fun w' => rdays_any (y : Int) (k : Int) w'
            rw [days_at a1 a2 hk1 (by omega)] at hcall
            have hDk := dim_le y k
            have HN2 : Hid (n + dimY y k = yrs y + (d - 1) + mon y (k + 1)) := hide (by rw [HN.out, show mon y (k + 1) = mon y k + dimY y k from rfl]; omega)
            generalize dimY y k = D at *
            have HV : Hid ((n : Int) + (D : Int) = ((n + D : Nat) : Int)) := hide (by omega)
            go_wp2_with (first | (go_at_call 65; refine (hcall _).mono ?_; rintro e w' ⟨rfl, rfl⟩) | go_in)
            go_round
            case rel => exact ⟨k + 1, n + D, by omega, hlt, by go_num, by rw [HV.out], HN2⟩
            case measure => simp [intOf]; omega
          · obtain rfl : k = m := by omega
            have HT2 : Hid (-62135596800 + (n : Int) * 86400 + ((h : Int) * 3600 + (i : Int) * 60 + (c : Int)) = T) := hide (by rw [← HT.out, ← HN.out])
            clear HT HN
            go_wp2
            go_ret2
            exact ⟨⟨_, _, rfl, by rw [← HT2.out] at HR; exact HR.out⟩, rfl⟩
      · clear h0 h1 h2 h3 h4 h5 hall s0 s1 s2 s3 s4 s5
        have HR := hide hR
        clear hR
        by_cases t1 : n2 < 1
        · go_wp2
          go_ret2
          exact ⟨ReadO.mk' HR.out, rfl⟩
        have hcall := fun w => rdays_any n0 n1 w
        unfold Good at hG
        generalize daysS n0 n1 = D at *
        by_cases t2 : (D : Int) < n2
        · clear hG
          go_wp2_with (first | (go_at_call 65; refine (hcall _).mono ?_; rintro e w' ⟨rfl, rfl⟩) | go_in)
          go_ret2
          exact ⟨ReadO.mk' HR.out, rfl⟩
        by_cases t3 : n3 < 0
        · clear hG
          go_wp2_with (first | (go_at_call 65; refine (hcall _).mono ?_; rintro e w' ⟨rfl, rfl⟩) | go_in)
          go_ret2
          exact ⟨ReadO.mk' HR.out, rfl⟩
        by_cases t4 : 23 < n3
        · clear hG
          go_wp2_with (first | (go_at_call 65; refine (hcall _).mono ?_; rintro e w' ⟨rfl, rfl⟩) | go_in)
          go_ret2
          exact ⟨ReadO.mk' HR.out, rfl⟩
        by_cases t5 : n4 < 0
        · clear hG
          go_wp2_with (first | (go_at_call 65; refine (hcall _).mono ?_; rintro e w' ⟨rfl, rfl⟩) | go_in)
          go_ret2
          exact ⟨ReadO.mk' HR.out, rfl⟩
        by_cases t6 : 59 < n4
        · clear hG
          go_wp2_with (first | (go_at_call 65; refine (hcall _).mono ?_; rintro e w' ⟨rfl, rfl⟩) | go_in)
          go_ret2
          exact ⟨ReadO.mk' HR.out, rfl⟩
        by_cases t7 : n5 < 0
        · clear hG
          go_wp2_with (first | (go_at_call 65; refine (hcall _).mono ?_; rintro e w' ⟨rfl, rfl⟩) | go_in)
          go_ret2
          exact ⟨ReadO.mk' HR.out, rfl⟩
        by_cases t8 : 59 < n5
        · clear hG
          go_wp2_with (first | (go_at_call 65; refine (hcall _).mono ?_; rintro e w' ⟨rfl, rfl⟩) | go_in)
          go_ret2
          exact ⟨ReadO.mk' HR.out, rfl⟩
        omega
    · have HR := hide (read_no (loo_z (l := l) (by omega)))
      have gz : ((b.toNat : Int) != 90) = true := by simp; omega
      go_enter Tryd.func51, Tryd.ntmps51
      go_wp2
      go_ret2
      exact ⟨ReadO.mk' HR.out, rfl⟩
  · have HR := hide (read_no (loo_len h15))
    have g15 : ((l.length : Int) != 15) = true := by simp; omega
    go_enter Tryd.func51, Tryd.ntmps51
    go_wp2
    go_ret2
    exact ⟨ReadO.mk' HR.out, rfl⟩
end Go.Proofs.YtjkciheoknjfhaaDoor
