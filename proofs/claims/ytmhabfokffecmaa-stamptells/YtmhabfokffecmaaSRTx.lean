/- Contracts of apostilleref03's two, Text. -/
import Derived.Test.YtmhabfokffecmaaSTxt
import Derived.Test.YtmhabfokffecmaaSDay
import Derived.Test.YtmhabfokffecmaaSDof
namespace Go.Proofs.Ytmhabfokffecmaa
open Go.RowKit
set_option linter.unusedVariables false

theorem conv_two (w : World) (n : Nat) (x y : Int) (hn : n < 100) (hx : x = ((48 + n / 10 : Nat) : Int)) (hy : y = ((48 + n % 10 : Nat) : Int)) :
    (convert 45 9 (.slice (some ⟨w.heap.size, 0, none⟩) 2 2)).run Try.prog (w.alloc (.cells #[.int .u8 x, .int .u8 y] 5)) = .ok (str (dd n)) (w.alloc (.cells #[.int .u8 x, .int .u8 y] 5)) := by
  subst hx
  subst hy
  exact conv_own (two_own 5 .u8 (48 + n / 10) (48 + n % 10) w w.heap.size (Nat.le_refl _)) rfl (dn_under hn) (by decide)

set_option maxRecDepth 100000 in
set_option maxHeartbeats 1000000 in
theorem rtwo_any (n : Nat) (w : World) (hn : n < 100) :
    Calls Try.prog 20 #[.int .i64 n] w fun e w' => e = .returned (str (dd n)) ∧ Below w.heap.size w w' := by
  have hcv := conv_two w n (48 + (n : Int) / 10) (48 + (n : Int) % 10) hn (by omega) (by omega)
  have g1 : (n : Int) / 10 % 10 = (n : Int) / 10 := by omega
  have g2 : 48 + (n : Int) / 10 < 256 := by omega
  have g3 : 48 + (n : Int) % 10 < 256 := by omega
  go_enter Try.func20, Try.ntmps20
  go_wp2
  go_ret
  exact ⟨rfl, keep_alloc _ _⟩

/-- halves all the way down -/
def Two (W : Nat) : Prop := ∃ k, W = 2 ^ k
theorem Two.half {W : Nat} (h : Two W) (h1 : 1 < W) : W = 2 * (W / 2) ∧ Two (W / 2) := by
  obtain ⟨k, rfl⟩ := h
  cases k with
  | zero => simp at h1
  | succ k =>
    have e : 2 ^ (k + 1) / 2 = 2 ^ k := by rw [Nat.pow_succ]; omega
    rw [e]
    exact ⟨by rw [Nat.pow_succ]; omega, k, rfl⟩
theorem Two.pos {W : Nat} (h : Two W) : 0 < W := by
  obtain ⟨k, rfl⟩ := h
  exact Nat.pow_pos (by decide)
theorem cat8 (a b c d e f g : List UInt8) : (⟨a.toArray⟩ ++ ⟨b.toArray⟩ ++ ⟨c.toArray⟩ ++ ⟨d.toArray⟩ ++ ⟨e.toArray⟩ ++ ⟨f.toArray⟩ ++ ⟨g.toArray⟩ ++ ⟨#[90]⟩ : ByteArray) = ⟨(a ++ (b ++ (c ++ (d ++ (e ++ (f ++ (g ++ [ch 90]))))))).toArray⟩ := by
  have e90 : (⟨#[90]⟩ : ByteArray) = ⟨[ch 90].toArray⟩ := rfl
  rw [e90, str_app, str_app, str_app, str_app, str_app, str_app, str_app]
  simp only [List.append_assoc]
theorem dd_len (n : Nat) : (dd n).length = 2 := rfl

set_option maxRecDepth 100000 in
set_option maxHeartbeats 4000000 in
theorem rtext_in (y m d s : Nat) (w : World) (hM : Mom y m d s) :
    Calls Try.prog 10 #[.int .i64 (tim y m d s)] w fun e w' => e = .returned (str (txt y m d s)) ∧ Below w.heap.size w w' := by
  have hr := tim_range hM
  have hmax := day_max hM.1
  obtain ⟨b1, b2, b3, b4, b5, b6, b7⟩ := mom_le hM
  have HQ : Hid ((tim y m d s + 62135596800) / 86400 = ((dayNo y m d : Nat) : Int)) := hide (by have := hM.2; unfold tim; omega)
  have HR : Hid ((tim y m d s + 62135596800) % 86400 = ((s : Nat) : Int)) := hide (by have := hM.2; unfold tim; omega)
  have hno : dayNo y m d = yrs y + mon y m + (d - 1) := rfl
  have hyn : dayNo y m d < yrs (y + 1) := by
    obtain ⟨⟨a1, a2, a3, a4, a5, a6⟩, a7⟩ := hM
    have e1 := mon_le a4 a6 a5
    have e2 := yrs_next a1
    omega
  have g1 : ¬ tim y m d s < -62135596800 := by omega
  have g2 : ¬ 253402300799 < tim y m d s := by omega
  have g0 : 0 ≤ tim y m d s + 62135596800 := by omega
  generalize tim y m d s = t at *
  obtain ⟨⟨a1, a2, a3, a4, a5, a6⟩, a7⟩ := hM
  obtain ⟨n, HN⟩ : ∃ n, Hid (dayNo y m d = n) := ⟨_, hide rfl⟩
  rw [HN.out] at HQ hmax hno hyn
  have HNO := hide hno
  clear hno
  go_enter Try.func10, Try.ntmps10
  go_wp2
  rw [HQ.out, HR.out]
  go_loop [5, 6] (fun u v => ∃ a W st : Nat, u = .int .i64 a ∧ v = .int .i64 st ∧ 1 ≤ a ∧ a ≤ y ∧ y < a + W ∧ W ≤ 16384 ∧ Hid (W / 2 = st) ∧ Hid (Two W)) (fun _ v => (intOf v).toNat)
  case atStart => exact ⟨1, 16384, 8192, rfl, rfl, by omega, by omega, by omega, by omega, hide rfl, hide ⟨14, rfl⟩⟩
  case round =>
    obtain ⟨a, W, st, rfl, rfl, ha1, hay, hyW, hW, HS, HW⟩ := hrel
    have hW0 := HW.out.pos
    by_cases h1 : 1 < W
    · have hst : W = 2 * st := by have := (HW.out.half h1).1; rw [HS.out] at this; exact this
      have HW2 : Hid (Two st) := hide (by have := (HW.out.half h1).2; rw [HS.out] at this; exact this)
      have i1 : (1 : Int) ≤ (st : Int) := by omega
      have n1 : 1 ≤ st := by omega
      have hqq : (st : Int) / 2 = ((st / 2 : Nat) : Int) := nat_quo st 2
      have hd0 : st / 2 < st := by omega
      obtain ⟨q, hq⟩ : ∃ q, st / 2 = q := ⟨_, rfl⟩
      rw [hq] at hqq hd0
      have HQ2 := hide hqq
      have HQ3 := hide hq
      have HST := hide hst
      clear hqq hq
      have HV : Hid ((a : Int) + (st : Int) = ((a + st : Nat) : Int)) := hide (by omega)
      by_cases h2 : a + st ≤ 9999
      · have i2 : (a : Int) + (st : Int) ≤ 9999 := by omega
        have hcall := fun w' => ryears_any (a + st) w' (by omega) (by omega)
        by_cases h3 : yrs (a + st) ≤ n
        · have hle : a + st ≤ y := by
            apply Classical.byContradiction
            intro hn
            have := yrs_mono (a := y + 1) (b := a + st) (by omega) (by omega)
            omega
          have i3 : ((yrs (a + st) : Nat) : Int) ≤ (n : Int) := by omega
          generalize yrs (a + st) = Y at *
          clear hst
          go_wp2_with (first | (go_at_call 17; rw [HV.out]; refine (hcall _).mono ?_; rintro e w' ⟨rfl, rfl⟩) | go_in)
          exact ⟨⟨a + st, st, q, by rw [HV.out], by rw [HQ2.out], by omega, hle, by have := HST.out; omega, by have := HST.out; omega, HQ3, HW2⟩, by simp [intOf]; omega⟩
        · have hlt : y < a + st := by
            apply Classical.byContradiction
            intro hn
            have := yrs_mono (a := a + st) (b := y) (by omega) (by omega)
            have := HNO.out
            omega
          have i3 : ¬ ((yrs (a + st) : Nat) : Int) ≤ (n : Int) := by omega
          generalize yrs (a + st) = Y at *
          clear hst
          go_wp2_with (first | (go_at_call 17; rw [HV.out]; refine (hcall _).mono ?_; rintro e w' ⟨rfl, rfl⟩) | go_in)
          exact ⟨⟨a, st, q, rfl, by rw [HQ2.out], ha1, hay, hlt, by have := HST.out; omega, HQ3, HW2⟩, by simp [intOf]; omega⟩
      · have i2 : ¬ (a : Int) + (st : Int) ≤ 9999 := by omega
        have hlt : y < a + st := by omega
        have hst8 : st ≤ 8192 := by omega
        clear hst
        go_wp2
        exact ⟨⟨a, st, q, rfl, by rw [HQ2.out], ha1, hay, hlt, by have := HST.out; omega, HQ3, HW2⟩, by simp [intOf]; omega⟩
    · obtain rfl : W = 1 := by omega
      obtain rfl : a = y := by omega
      obtain rfl : st = 0 := by have := HS.out; omega
      have hcall := fun w' => ryears_any a w' a1 (by omega)
      have HV : Hid ((n : Int) - ((yrs a : Nat) : Int) = ((mon a m + (d - 1) : Nat) : Int)) := hide (by have := HNO.out; omega)
      have hmm : mon a m + (d - 1) ≤ 366 := by
        have e1 := mon_le a4 a6 a5
        have e2 := mon_year a
        split at e2 <;> omega
      obtain ⟨r0, HR0⟩ : ∃ r0, Hid (mon a m + (d - 1) = r0) := ⟨_, hide rfl⟩
      have ib : yrs a ≤ n := by have := HNO.out; omega
      rw [HR0.out] at HV hmm
      have hr0 : r0 ≤ 366 := hmm
      go_wp2_with fail
      refine (hcall _).mono ?_
      rintro e w' ⟨rfl, rfl⟩
      go_wp2_with fail
      rw [HV.out]
      clear HV hcall HN HNO HQ HR hr g0 hmax hyn hmm
      go_loop [3, 7] (fun u v => ∃ k r : Nat, 1 ≤ k ∧ k ≤ m ∧ v = .int .i64 k ∧ u = .int .i64 r ∧ r ≤ 366 ∧ Hid (mon a k + r = mon a m + (d - 1))) (fun _ v => 12 - (intOf v).toNat)
      case atStart => exact ⟨1, r0, Nat.le_refl _, a3, rfl, rfl, hr0, hide (by rw [HR0.out, show mon a 1 = 0 by simp [mon, dimY]]; omega)⟩
      case round =>
        obtain ⟨k, r, hk1, hkm, rfl, rfl, hr, HK⟩ := hrel
        have hcall := fun w' => rdays_any (a : Int) (k : Int) w'
        rw [days_at a1 a2 hk1 (by omega)] at hcall
        have hDk := dim_le a k
        have hnext : mon a (k + 1) = mon a k + dimY a k := rfl
        by_cases hlt : k < m
        · have hmm := mon_mono a (a := k + 1) (b := m) hlt
          have hge : dimY a k ≤ r := by have := HK.out; omega
          have HK2 : Hid (mon a (k + 1) + (r - dimY a k) = mon a m + (d - 1)) := hide (by have := HK.out; omega)
          clear hnext hmm
          generalize dimY a k = D at *
          have HS : Hid ((r : Int) - (D : Int) = ((r - D : Nat) : Int)) := hide (by omega)
          have i1 : (k : Int) < 12 := by omega
          have i2 : (D : Int) ≤ (r : Int) := by omega
          go_wp2_with (first | (go_at_call 12; refine (hcall _).mono ?_; rintro e w' ⟨rfl, rfl⟩) | go_in)
          go_round
          case rel => exact ⟨k + 1, r - D, by omega, hlt, by go_num, by rw [HS.out], by omega, HK2⟩
          case measure => simp [intOf]; omega
        · obtain rfl : k = m := by omega
          obtain rfl : r = d - 1 := by have := HK.out; omega
          have HD : Hid (((d - 1 : Nat) : Int) + 1 = (d : Int)) := hide (by omega)
          have hDr : ¬ dimY a k ≤ d - 1 := by omega
          obtain ⟨A, QA, hA, eA⟩ : ∃ A : Nat, Hid ((a : Int) / 100 = (A : Int)) ∧ A < 100 ∧ Hid (a / 100 = A) := ⟨a / 100, hide (nat_quo a 100), b1, hide rfl⟩
          obtain ⟨B, QB, hB, eB⟩ : ∃ B : Nat, Hid ((a : Int) % 100 = (B : Int)) ∧ B < 100 ∧ Hid (a % 100 = B) := ⟨a % 100, hide (nat_rem a 100), b2, hide rfl⟩
          obtain ⟨h, QH, hH, eH⟩ : ∃ h : Nat, Hid ((s : Int) / 3600 = (h : Int)) ∧ h < 100 ∧ Hid (s / 3600 = h) := ⟨s / 3600, hide (nat_quo s 3600), b5, hide rfl⟩
          obtain ⟨i, QI, hI, eI⟩ : ∃ i : Nat, Hid ((s : Int) / 60 % 60 = (i : Int)) ∧ i < 100 ∧ Hid (s / 60 % 60 = i) := ⟨s / 60 % 60, hide (by omega), b6, hide rfl⟩
          obtain ⟨c, QC, hC, eC⟩ : ∃ c : Nat, Hid ((s : Int) % 60 = (c : Int)) ∧ c < 100 ∧ Hid (s % 60 = c) := ⟨s % 60, hide (nat_rem s 60), b7, hide rfl⟩
          have HTX : Hid (txt a k d s = dd A ++ (dd B ++ (dd k ++ (dd d ++ (dd h ++ (dd i ++ (dd c ++ [ch 90]))))))) := hide (by unfold txt; rw [eA.out, eB.out, eH.out, eI.out, eC.out])
          have l1 := dd_len A
          have l2 := dd_len B
          have l3 := dd_len k
          have l4 := dd_len d
          have l5 := dd_len h
          have l6 := dd_len i
          have l7 := dd_len c
          clear hnext HK eA eB eH eI eC HR0
          generalize dimY a k = D at *
          generalize d - 1 = r at *
          by_cases h12 : k < 12
          · have i1 : (k : Int) < 12 := by omega
            have i2 : ¬ (D : Int) ≤ (r : Int) := by omega
            go_wp2_with fail
            refine (hcall _).mono ?_
            rintro e w' ⟨rfl, rfl⟩
            go_wp2_with fail
            rw [QA.out]
            refine (rtwo_any A _ hA).mono ?_
            rintro e w1 ⟨rfl, c1⟩
            go_wp2_with fail
            rw [QB.out]
            refine (rtwo_any B _ hB).mono ?_
            rintro e w2 ⟨rfl, c2⟩
            go_wp2_with fail
            refine (rtwo_any k _ b3).mono ?_
            rintro e w3 ⟨rfl, c3⟩
            go_wp2_with fail
            rw [HD.out]
            refine (rtwo_any d _ b4).mono ?_
            rintro e w4 ⟨rfl, c4⟩
            go_wp2_with fail
            rw [QH.out]
            refine (rtwo_any h _ hH).mono ?_
            rintro e w5 ⟨rfl, c5⟩
            go_wp2_with fail
            rw [QI.out]
            refine (rtwo_any i _ hI).mono ?_
            rintro e w6 ⟨rfl, c6⟩
            go_wp2_with fail
            rw [QC.out]
            refine (rtwo_any c _ hC).mono ?_
            rintro e w7 ⟨rfl, c7⟩
            go_wp2
            go_ret
            exact ⟨by rw [HTX.out]; exact congrArg (fun b => Ending.returned (Value.string b)) (cat8 _ _ _ _ _ _ _), keep_trans (keep_trans (keep_trans (keep_trans (keep_trans (keep_trans c1 c2) c3) c4) c5) c6) c7⟩
          · have i1 : ¬ (k : Int) < 12 := by omega
            go_wp2_with fail
            rw [QA.out]
            refine (rtwo_any A _ hA).mono ?_
            rintro e w1 ⟨rfl, c1⟩
            go_wp2_with fail
            rw [QB.out]
            refine (rtwo_any B _ hB).mono ?_
            rintro e w2 ⟨rfl, c2⟩
            go_wp2_with fail
            refine (rtwo_any k _ b3).mono ?_
            rintro e w3 ⟨rfl, c3⟩
            go_wp2_with fail
            rw [HD.out]
            refine (rtwo_any d _ b4).mono ?_
            rintro e w4 ⟨rfl, c4⟩
            go_wp2_with fail
            rw [QH.out]
            refine (rtwo_any h _ hH).mono ?_
            rintro e w5 ⟨rfl, c5⟩
            go_wp2_with fail
            rw [QI.out]
            refine (rtwo_any i _ hI).mono ?_
            rintro e w6 ⟨rfl, c6⟩
            go_wp2_with fail
            rw [QC.out]
            refine (rtwo_any c _ hC).mono ?_
            rintro e w7 ⟨rfl, c7⟩
            go_wp2
            go_ret
            exact ⟨by rw [HTX.out]; exact congrArg (fun b => Ending.returned (Value.string b)) (cat8 _ _ _ _ _ _ _), keep_trans (keep_trans (keep_trans (keep_trans (keep_trans (keep_trans c1 c2) c3) c4) c5) c6) c7⟩

set_option maxHeartbeats 1000000 in
theorem rtext_any (t : Int) (w : World) :
    Calls Try.prog 10 #[.int .i64 t] w fun e w' => ∃ l, e = .returned (str l) ∧ TextT t l ∧ Below w.heap.size w w' := by
  by_cases h1 : t < -62135596800
  · go_enter Try.func10, Try.ntmps10
    go_wp2
    go_ret
    exact ⟨[], rfl, .inl ⟨.inl h1, rfl⟩, Below.refl _ _⟩
  by_cases h2 : 253402300799 < t
  · go_enter Try.func10, Try.ntmps10
    go_wp2
    go_ret
    exact ⟨[], rfl, .inl ⟨.inr h2, rfl⟩, Below.refl _ _⟩
  obtain ⟨y, m, d, s, hM, rfl⟩ := tim_ex (t := t) (by omega) (by omega)
  refine (rtext_in y m d s w hM).mono ?_
  rintro e w' ⟨rfl, hb⟩
  exact ⟨_, rfl, .inr ⟨y, m, d, s, hM, rfl, rfl⟩, hb⟩
end Go.Proofs.Ytmhabfokffecmaa
