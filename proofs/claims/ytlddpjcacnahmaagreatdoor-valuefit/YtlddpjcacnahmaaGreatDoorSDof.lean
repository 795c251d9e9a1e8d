/- Contract of dateOf. -/
import Derived.Test.YtlddpjcacnahmaaGreatDoorEWVl
import Derived.BigRegion
import Derived.Deep.DeepCutAuto
import Derived.Test.YtlddpjcacnahmaaGreatDoorSTwo
import Derived.Test.YtlddpjcacnahmaaGreatDoorStT
namespace Go.Proofs.YtlddpjcacnahmaaGreatDoor
open Go.RowKit
set_option linter.unusedVariables false

theorem year_uniq {n y z : Nat} (h1 : 1 ≤ y) (h2 : yrs y ≤ n) (h3 : n < yrs (y + 1)) (h4 : yrs (z + 1) ≤ n) (h5 : n < yrs (z + 2)) : z + 1 = y := by
  by_cases c1 : z + 1 < y
  · have := yrs_mono (a := z + 2) (b := y) (by omega) (by omega); omega
  by_cases c2 : y < z + 1
  · have := yrs_mono (a := y + 1) (b := z + 1) (by omega) (by omega); omega
  omega

/-- the zero date -/
abbrev zero6 : Obj := .cells #[.int .i64 0, .int .i64 0, .int .i64 0, .int .i64 0, .int .i64 0, .int .i64 0] 121
/-- what dateOf keeps of its own: its result, still 0, and the days that are left -/
structure Cal (w : World) (n : Nat) (wr : World) : Prop where
  res : wr.heap[w.heap.size]? = some zero6
  day : wr.heap[w.heap.size + 1]? = some (.cells #[.int .i64 n] 3)
  bel : Below w.heap.size w wr
theorem Cal.new (w : World) (n : Nat) : Cal w n ((w.alloc zero6).alloc (.cells #[.int .i64 n] 3)) := by
  refine ⟨?_, ?_, ((Below.refl _ _).alloc (Nat.le_refl _) _).alloc (by simp) _⟩
  · rw [Below.heap_alloc _ _ _ (by simp)]
    exact heap_alloc_new w zero6
  · have h := heap_alloc_new (w.alloc zero6) (.cells #[.int .i64 (n : Int)] 3)
    rw [show (w.alloc zero6).heap.size = w.heap.size + 1 by simp] at h
    exact h
theorem Cal.drewN {w : World} {n : Nat} {wr : World} (h : Cal w n wr) (q : Nat) : Cal w n (wr.drewN q) := ⟨by simpa using h.res, by simpa using h.day, below_drewN h.bel q⟩
theorem Cal.drew {w : World} {n : Nat} {wr : World} (h : Cal w n wr) : Cal w n wr.drew := ⟨h.res, h.day, h.bel.drew⟩
theorem Cal.cell {w : World} {n : Nat} {wr : World} (h : Cal w n wr) : wr.cell? ⟨w.heap.size + 1, 0, none⟩ = some (.int .i64 n) := by
  simp only [World.cell?, h.day]; rfl
theorem Cal.frozen {w : World} {n : Nat} {wr : World} (h : Cal w n wr) : wr.frozen? ⟨w.heap.size + 1, 0, none⟩ = false := by
  simp [World.frozen?, h.day]
theorem Cal.set {w : World} {n : Nat} {wr : World} (h : Cal w n wr) (n' : Nat) : Cal w n' (wr.setCell ⟨w.heap.size + 1, 0, none⟩ (.int .i64 n')) := by
  refine ⟨?_, ?_, h.bel.setCell (by simp) _⟩
  · rw [Below.heap_setCell _ _ _ _ (by simp)]
    exact h.res
  · simp only [World.setCell, Array.getElem?_modify, if_true, h.day]
    rfl
theorem Cal.rcell {w : World} {n : Nat} {wr : World} (h : Cal w n wr) (j : Nat) (hj : j < 6) : wr.cell? ⟨w.heap.size, j, none⟩ = some (.int .i64 0) ∧ wr.frozen? ⟨w.heap.size, j, none⟩ = false := by
  simp only [World.cell?, World.frozen?, h.res]
  rcases (by omega : j = 0 ∨ j = 1 ∨ j = 2 ∨ j = 3 ∨ j = 4 ∨ j = 5) with rfl | rfl | rfl | rfl | rfl | rfl <;> exact ⟨rfl, rfl⟩

set_option maxRecDepth 100000 in
set_option maxHeartbeats 2000000 in
theorem dateOf_any (y m d s : Nat) (w : World) (hM : Mom y m d s) :
    Calls Tryz.prog 90 #[.int .i64 (tim y m d s)] w fun e w' => e = .returned (dt y m d (s / 3600) (s / 60 % 60) (s % 60)) ∧ Below w.heap.size w w' := by
  have hr := tim_range hM
  have hmax := day_max hM.1
  have hs := hM.2
  have HQ : Hid ((tim y m d s + 62135596800) / 86400 = ((dayNo y m d : Nat) : Int)) := hide (by unfold tim; omega)
  have HR : Hid ((tim y m d s + 62135596800) % 86400 = ((s : Nat) : Int)) := hide (by unfold tim; omega)
  have hmf : ∀ (fn : Fn) (first cap : Array Value) (w : World), (Instr.makeFunc fn first cap).run Tryz.prog w = .ok (.func fn first cap) w := fun _ _ _ _ => rfl
  generalize tim y m d s = t at *
  have g0 : 0 ≤ t + 62135596800 := by omega
  go_enter Tryz.func90, Tryz.ntmps90
  go_wp2_with fail
  rw [HQ.out, HR.out]
  have hC := Cal.new w (dayNo y m d)
  refine (search_any (dayNo y m d) (w.heap.size + 1) _ hC.cell hmax).mono ?_
  rintro e w1 ⟨z, rfl, hz, h4, h5, q, rfl⟩
  have hC := hC.drewN q
  have hzy : z + 1 = y := by
    obtain ⟨⟨a1, a2, a3, a4, a5, a6⟩, a7⟩ := hM
    have e1 := mon_le a4 a6 a5
    have e2 := yrs_next a1
    exact year_uniq a1 (n := dayNo y m d) (by unfold dayNo; omega) (by unfold dayNo; omega) h4 h5
  have HZ : Hid ((1 : Int) + (z : Int) = (y : Int)) := hide (by omega)
  generalize (((w.alloc zero6).alloc (.cells #[.int .i64 ((dayNo y m d : Nat) : Int)] 3)).drewN q) = W1 at *
  clear h4 h5 hzy
  have hcall := fun w' => ahead_any y w' hM.1.1 (by have := hM.1.2.1; omega)
  have c1 := hC.cell
  have f1 := hC.frozen
  have HS : Hid (IntKind.i64.wrap (((dayNo y m d : Nat) : Int) - ((yrs y : Nat) : Int)) = ((mon y m + (d - 1) : Nat) : Int)) := hide (by have hh : dayNo y m d = yrs y + mon y m + (d - 1) := rfl; rw [IntKind.wrap_i64]; omega)
  go_upto_region 3 with fail
  rw [HZ.out]
  go_cut [] (fun wx => Cal w (mon y m + (d - 1)) wx)
  case first =>
    go_region_with (first | (go_at_call 117; refine (hcall _).mono ?_; rintro e w' ⟨rfl, rfl⟩) | fail)
    all_goals (go_wp2_with fail; go_meet; rw [HS.out]; exact (hC.set _).drew)
  case rest =>
  clear hC c1 f1 hcall HS HQ HR hr g0 hmf hmax
  obtain ⟨⟨a1, a2, a3, a4, a5, a6⟩, a7⟩ := hM
  have hdd := dim_le y m
  have hm13 : mon y m + (d - 1) ≤ 366 := by
    have e1 := mon_le a4 a6 a5
    have e2 := mon_year y
    split at e2 <;> omega
  go_wp2_with fail
  go_loopw [6] (fun j wr => ∃ k r : Nat, 1 ≤ k ∧ k ≤ m ∧ j = .int .i64 k ∧ Hid (mon y k + r = mon y m + (d - 1)) ∧ Cal w r wr) (fun j _ => 12 - (intOf j).toNat)
  case atStart => exact ⟨1, _, Nat.le_refl _, a3, rfl, hide (by rw [show mon y 1 = 0 by simp [mon, dimY]]; omega), hcut⟩
  case round =>
    obtain ⟨k, r, hk1, hkm, rfl, HK, hC⟩ := hrel
    have c1 := hC.cell
    have f1 := hC.frozen
    have hr : r ≤ 366 := by have := HK.out; omega
    have hcall := fun w' => days_any (y : Int) (k : Int) w'
    rw [days_at a1 a2 hk1 (by omega)] at hcall
    have hDk := dim_le y k
    have hnext : mon y (k + 1) = mon y k + dimY y k := rfl
    by_cases hlt : k < m
    · have hmm := mon_mono y (a := k + 1) (b := m) hlt
      have hge : dimY y k ≤ r := by have := HK.out; omega
      have HK2 : Hid (mon y (k + 1) + (r - dimY y k) = mon y m + (d - 1)) := hide (by have := HK.out; omega)
      clear hnext hmm
      generalize dimY y k = D at *
      have HS : Hid (IntKind.i64.wrap ((r : Int) - (D : Int)) = ((r - D : Nat) : Int)) := hide (by rw [IntKind.wrap_i64]; omega)
      have g1 : (D : Int) ≤ (r : Int) := by omega
      go_wp2_with fail
      go_quiet (first | (go_at_call 118; exact (hcall _).mono (by rintro e w' ⟨rfl, rfl⟩; exact ⟨rfl, _, rfl⟩)) | fail)
      have hC := hC.drewN nq
      have c1 := hC.cell
      have f1 := hC.frozen
      generalize wr.drewN nq = W2 at *
      go_wp2_with fail
      go_region_with (first | (go_at_call 118; refine (hcall _).mono ?_; rintro e w' ⟨rfl, rfl⟩) | fail)
      all_goals
        rw [HS.out]
        have hC3 := (hC.set (r - D)).drew
        generalize (W2.setCell ⟨w.heap.size + 1, 0, none⟩ (.int .i64 ((r - D : Nat) : Int))).drew = W3 at *
        go_wp2
        exact ⟨⟨k + 1, r - D, by omega, hlt, by simp, HK2, hC3⟩, by simp [intOf]; omega⟩
    · obtain rfl : k = m := by omega
      obtain rfl : r = d - 1 := by have := HK.out; omega
      have HD : Hid (((d - 1 : Nat) : Int) + 1 = (d : Int)) := hide (by omega)
      have g1 : ¬ (dimY y k : Int) ≤ ((d - 1 : Nat) : Int) := by omega
      clear hnext HK hcut
      generalize dimY y k = D at *
      generalize d - 1 = r at *
      go_wp2_with fail
      go_quiet (first | (go_at_call 118; exact (hcall _).mono (by rintro e w' ⟨rfl, rfl⟩; exact ⟨rfl, _, rfl⟩)) | fail)
      have hC := hC.drewN nq
      have c1 := hC.cell
      have hb := hC.bel
      obtain ⟨p0, z0⟩ := hC.rcell 0 (by omega)
      obtain ⟨p1, z1⟩ := hC.rcell 1 (by omega)
      obtain ⟨p2, z2⟩ := hC.rcell 2 (by omega)
      obtain ⟨p3, z3⟩ := hC.rcell 3 (by omega)
      obtain ⟨p4, z4⟩ := hC.rcell 4 (by omega)
      obtain ⟨p5, z5⟩ := hC.rcell 5 (by omega)
      generalize wr.drewN nq = W2 at *
      go_wp2
      refine bodyPost_ret (v := .agg #[.int .i64 (y : Int), .int .i64 (k : Int), .int .i64 ((r : Int) + 1), .int .i64 ((s : Int) / 3600), .int .i64 ((s : Int) / 60 % 60), .int .i64 ((s : Int) % 60)]) (by simp [results, Tryz.results90, go_sem, p0, p1, p2, p3, p4, p5]) rfl ⟨?_, ?_⟩
      · rw [HD.out]; rfl
      · exact (((((hb.setCell (Nat.le_refl _) _).setCell (Nat.le_refl _) _).setCell (Nat.le_refl _) _).setCell (Nat.le_refl _) _).setCell (Nat.le_refl _) _).setCell (Nat.le_refl _) _
end Go.Proofs.YtlddpjcacnahmaaGreatDoor

/- Contracts of apostilleref03's two, Text. -/
namespace Go.Proofs.YtlddpjcacnahmaaGreatDoor
open Go.RowKit
set_option linter.unusedVariables false

theorem conv_two (w : World) (n : Nat) (x y : Int) (hn : n < 100) (hx : x = ((48 + n / 10 : Nat) : Int)) (hy : y = ((48 + n % 10 : Nat) : Int)) :
    (convert 22 9 (.slice (some ⟨w.heap.size, 0, none⟩) 2 2)).run Tryz.prog (w.alloc (.cells #[.int .u8 x, .int .u8 y] 5)) = .ok (str (dd n)) (w.alloc (.cells #[.int .u8 x, .int .u8 y] 5)) := by
  subst hx
  subst hy
  exact conv_own (two_own 5 .u8 (48 + n / 10) (48 + n % 10) w w.heap.size (Nat.le_refl _)) rfl (dn_under hn) (by decide)

set_option maxRecDepth 100000 in
set_option maxHeartbeats 1000000 in
theorem rtwo_any (n : Nat) (w : World) (hn : n < 100) :
    Calls Tryz.prog 94 #[.int .i64 n] w fun e w' => e = .returned (str (dd n)) ∧ Below w.heap.size w w' := by
  have hcv := conv_two w n (48 + (n : Int) / 10) (48 + (n : Int) % 10) hn (by omega) (by omega)
  have g1 : (n : Int) / 10 % 10 = (n : Int) / 10 := by omega
  have g2 : 48 + (n : Int) / 10 < 256 := by omega
  have g3 : 48 + (n : Int) % 10 < 256 := by omega
  go_enter Tryz.func94, Tryz.ntmps94
  go_wp2
  go_ret
  exact ⟨rfl, keep_alloc _ _⟩

/-- halves all the way down -/
def Two (W : Nat) : Prop := ∃ k, W = 2 ^ k
theorem Two.half {W : Nat} (h : Two W) (h1 : 1 < W) : W = 2 * (W / 2) ∧ Two (W / 2) := by
  obtain ⟨k, rfl⟩ := h
  cases k with
  | zero => simp at h1
  | succ k =>
    have e : 2 ^ (k + 1) / 2 = 2 ^ k := by rw [Nat.pow_succ]; omega
    rw [e]
    exact ⟨by rw [Nat.pow_succ]; omega, k, rfl⟩
theorem Two.pos {W : Nat} (h : Two W) : 0 < W := by
  obtain ⟨k, rfl⟩ := h
  exact Nat.pow_pos (by decide)
theorem cat8 (a b c d e f g : List UInt8) : (⟨a.toArray⟩ ++ ⟨b.toArray⟩ ++ ⟨c.toArray⟩ ++ ⟨d.toArray⟩ ++ ⟨e.toArray⟩ ++ ⟨f.toArray⟩ ++ ⟨g.toArray⟩ ++ ⟨#[90]⟩ : ByteArray) = ⟨(a ++ (b ++ (c ++ (d ++ (e ++ (f ++ (g ++ [ch 90]))))))).toArray⟩ := by
  have e90 : (⟨#[90]⟩ : ByteArray) = ⟨[ch 90].toArray⟩ := rfl
  rw [e90, str_app, str_app, str_app, str_app, str_app, str_app, str_app]
  simp only [List.append_assoc]
theorem dd_len (n : Nat) : (dd n).length = 2 := rfl

set_option maxRecDepth 100000 in
set_option maxHeartbeats 4000000 in
theorem rtext_in (y m d s : Nat) (w : World) (hM : Mom y m d s) :
    Calls Tryz.prog 53 #[.int .i64 (tim y m d s)] w fun e w' => e = .returned (str (txt y m d s)) ∧ Below w.heap.size w w' := by
  have hr := tim_range hM
  have hmax := day_max hM.1
  obtain ⟨b1, b2, b3, b4, b5, b6, b7⟩ := mom_le hM
  have HQ : Hid ((tim y m d s + 62135596800) / 86400 = ((dayNo y m d : Nat) : Int)) := hide (by have := hM.2; unfold tim; omega)
  have HR : Hid ((tim y m d s + 62135596800) % 86400 = ((s : Nat) : Int)) := hide (by have := hM.2; unfold tim; omega)
  have hno : dayNo y m d = yrs y + mon y m + (d - 1) := rfl
  have hyn : dayNo y m d < yrs (y + 1) := by
    obtain ⟨⟨a1, a2, a3, a4, a5, a6⟩, a7⟩ := hM
    have e1 := mon_le a4 a6 a5
    have e2 := yrs_next a1
    omega
  have g1 : ¬ tim y m d s < -62135596800 := by omega
  have g2 : ¬ 253402300799 < tim y m d s := by omega
  have g0 : 0 ≤ tim y m d s + 62135596800 := by omega
  generalize tim y m d s = t at *
  obtain ⟨⟨a1, a2, a3, a4, a5, a6⟩, a7⟩ := hM
  obtain ⟨n, HN⟩ : ∃ n, Hid (dayNo y m d = n) := ⟨_, hide rfl⟩
  rw [HN.out] at HQ hmax hno hyn
  have HNO := hide hno
  clear hno
  go_enter Tryz.func53, Tryz.ntmps53
  go_wp2
  rw [HQ.out, HR.out]
  go_loop [5, 6] (fun u v => ∃ a W st : Nat, u = .int .i64 a ∧ v = .int .i64 st ∧ 1 ≤ a ∧ a ≤ y ∧ y < a + W ∧ W ≤ 16384 ∧ Hid (W / 2 = st) ∧ Hid (Two W)) (fun _ v => (intOf v).toNat)
  case atStart => exact ⟨1, 16384, 8192, rfl, rfl, by omega, by omega, by omega, by omega, hide rfl, hide ⟨14, rfl⟩⟩
  case round =>
    obtain ⟨a, W, st, rfl, rfl, ha1, hay, hyW, hW, HS, HW⟩ := hrel
    have hW0 := HW.out.pos
    by_cases h1 : 1 < W
    · have hst : W = 2 * st := by have := (HW.out.half h1).1; rw [HS.out] at this; exact this
      have HW2 : Hid (Two st) := hide (by have := (HW.out.half h1).2; rw [HS.out] at this; exact this)
      have i1 : (1 : Int) ≤ (st : Int) := by omega
      have n1 : 1 ≤ st := by omega
      have hqq : (st : Int) / 2 = ((st / 2 : Nat) : Int) := nat_quo st 2
      have hd0 : st / 2 < st := by omega
      obtain ⟨q, hq⟩ : ∃ q, st / 2 = q := ⟨_, rfl⟩
      rw [hq] at hqq hd0
      have HQ2 := hide hqq
      have HQ3 := hide hq
      have HST := hide hst
      clear hqq hq
      have HV : Hid ((a : Int) + (st : Int) = ((a + st : Nat) : Int)) := hide (by omega)
      by_cases h2 : a + st ≤ 9999
      · have i2 : (a : Int) + (st : Int) ≤ 9999 := by omega
        have hcall := fun w' => ryears_any (a + st) w' (by omega) (by omega)
        by_cases h3 : yrs (a + st) ≤ n
        · have hle : a + st ≤ y := by
            apply Classical.byContradiction
            intro hn
            have := yrs_mono (a := y + 1) (b := a + st) (by omega) (by omega)
            omega
          have i3 : ((yrs (a + st) : Nat) : Int) ≤ (n : Int) := by omega
          generalize yrs (a + st) = Y at *
          clear hst
          go_wp2_with (first | (go_at_call 92; rw [HV.out]; refine (hcall _).mono ?_; rintro e w' ⟨rfl, rfl⟩) | go_in)
          exact ⟨⟨a + st, st, q, by rw [HV.out], by rw [HQ2.out], by omega, hle, by have := HST.out; omega, by have := HST.out; omega, HQ3, HW2⟩, by simp [intOf]; omega⟩
        · have hlt : y < a + st := by
            apply Classical.byContradiction
            intro hn
            have := yrs_mono (a := a + st) (b := y) (by omega) (by omega)
            have := HNO.out
            omega
          have i3 : ¬ ((yrs (a + st) : Nat) : Int) ≤ (n : Int) := by omega
          generalize yrs (a + st) = Y at *
          clear hst
          go_wp2_with (first | (go_at_call 92; rw [HV.out]; refine (hcall _).mono ?_; rintro e w' ⟨rfl, rfl⟩) | go_in)
          exact ⟨⟨a, st, q, rfl, by rw [HQ2.out], ha1, hay, hlt, by have := HST.out; omega, HQ3, HW2⟩, by simp [intOf]; omega⟩
      · have i2 : ¬ (a : Int) + (st : Int) ≤ 9999 := by omega
        have hlt : y < a + st := by omega
        have hst8 : st ≤ 8192 := by omega
        clear hst
        go_wp2
        exact ⟨⟨a, st, q, rfl, by rw [HQ2.out], ha1, hay, hlt, by have := HST.out; omega, HQ3, HW2⟩, by simp [intOf]; omega⟩
    · obtain rfl : W = 1 := by omega
      obtain rfl : a = y := by omega
      obtain rfl : st = 0 := by have := HS.out; omega
      have hcall := fun w' => ryears_any a w' a1 (by omega)
      have HV : Hid ((n : Int) - ((yrs a : Nat) : Int) = ((mon a m + (d - 1) : Nat) : Int)) := hide (by have := HNO.out; omega)
      have hmm : mon a m + (d - 1) ≤ 366 := by
        have e1 := mon_le a4 a6 a5
        have e2 := mon_year a
        split at e2 <;> omega
      obtain ⟨r0, HR0⟩ : ∃ r0, Hid (mon a m + (d - 1) = r0) := ⟨_, hide rfl⟩
      have ib : yrs a ≤ n := by have := HNO.out; omega
      rw [HR0.out] at HV hmm
      have hr0 : r0 ≤ 366 := hmm
      go_wp2_with fail
      refine (hcall _).mono ?_
      rintro e w' ⟨rfl, rfl⟩
      go_wp2_with fail
      rw [HV.out]
      clear HV hcall HN HNO HQ HR hr g0 hmax hyn hmm
      go_loop [3, 7] (fun u v => ∃ k r : Nat, 1 ≤ k ∧ k ≤ m ∧ v = .int .i64 k ∧ u = .int .i64 r ∧ r ≤ 366 ∧ Hid (mon a k + r = mon a m + (d - 1))) (fun _ v => 12 - (intOf v).toNat)
      case atStart => exact ⟨1, r0, Nat.le_refl _, a3, rfl, rfl, hr0, hide (by rw [HR0.out, show mon a 1 = 0 by simp [mon, dimY]]; omega)⟩
      case round =>
        obtain ⟨k, r, hk1, hkm, rfl, rfl, hr, HK⟩ := hrel
        have hcall := fun w' => rdays_any (a : Int) (k : Int) w'
        rw [days_at a1 a2 hk1 (by omega)] at hcall
        have hDk := dim_le a k
        have hnext : mon a (k + 1) = mon a k + dimY a k := rfl
        by_cases hlt : k < m
        · have hmm := mon_mono a (a := k + 1) (b := m) hlt
          have hge : dimY a k ≤ r := by have := HK.out; omega
          have HK2 : Hid (mon a (k + 1) + (r - dimY a k) = mon a m + (d - 1)) := hide (by have := HK.out; omega)
          clear hnext hmm
          generalize dimY a k = D at *
          have HS : Hid ((r : Int) - (D : Int) = ((r - D : Nat) : Int)) := hide (by omega)
          have i1 : (k : Int) < 12 := by omega
          have i2 : (D : Int) ≤ (r : Int) := by omega
          go_wp2_with (first | (go_at_call 93; refine (hcall _).mono ?_; rintro e w' ⟨rfl, rfl⟩) | go_in)
          go_round
          case rel => exact ⟨k + 1, r - D, by omega, hlt, by go_num, by rw [HS.out], by omega, HK2⟩
          case measure => simp [intOf]; omega
        · obtain rfl : k = m := by omega
          obtain rfl : r = d - 1 := by have := HK.out; omega
          have HD : Hid (((d - 1 : Nat) : Int) + 1 = (d : Int)) := hide (by omega)
          have hDr : ¬ dimY a k ≤ d - 1 := by omega
          obtain ⟨A, QA, hA, eA⟩ : ∃ A : Nat, Hid ((a : Int) / 100 = (A : Int)) ∧ A < 100 ∧ Hid (a / 100 = A) := ⟨a / 100, hide (nat_quo a 100), b1, hide rfl⟩
          obtain ⟨B, QB, hB, eB⟩ : ∃ B : Nat, Hid ((a : Int) % 100 = (B : Int)) ∧ B < 100 ∧ Hid (a % 100 = B) := ⟨a % 100, hide (nat_rem a 100), b2, hide rfl⟩
          obtain ⟨h, QH, hH, eH⟩ : ∃ h : Nat, Hid ((s : Int) / 3600 = (h : Int)) ∧ h < 100 ∧ Hid (s / 3600 = h) := ⟨s / 3600, hide (nat_quo s 3600), b5, hide rfl⟩
          obtain ⟨i, QI, hI, eI⟩ : ∃ i : Nat, Hid ((s : Int) / 60 % 60 = (i : Int)) ∧ i < 100 ∧ Hid (s / 60 % 60 = i) := ⟨s / 60 % 60, hide (by omega), b6, hide rfl⟩
          obtain ⟨c, QC, hC, eC⟩ : ∃ c : Nat, Hid ((s : Int) % 60 = (c : Int)) ∧ c < 100 ∧ Hid (s % 60 = c) := ⟨s % 60, hide (nat_rem s 60), b7, hide rfl⟩
          have HTX : Hid (txt a k d s = dd A ++ (dd B ++ (dd k ++ (dd d ++ (dd h ++ (dd i ++ (dd c ++ [ch 90]))))))) := hide (by unfold txt; rw [eA.out, eB.out, eH.out, eI.out, eC.out])
          have l1 := dd_len A
          have l2 := dd_len B
          have l3 := dd_len k
          have l4 := dd_len d
          have l5 := dd_len h
          have l6 := dd_len i
          have l7 := dd_len c
          clear hnext HK eA eB eH eI eC HR0
          generalize dimY a k = D at *
          generalize d - 1 = r at *
          by_cases h12 : k < 12
          · have i1 : (k : Int) < 12 := by omega
            have i2 : ¬ (D : Int) ≤ (r : Int) := by omega
            go_wp2_with fail
            refine (hcall _).mono ?_
            rintro e w' ⟨rfl, rfl⟩
            go_wp2_with fail
            rw [QA.out]
            refine (rtwo_any A _ hA).mono ?_
            rintro e w1 ⟨rfl, c1⟩
            go_wp2_with fail
            rw [QB.out]
            refine (rtwo_any B _ hB).mono ?_
            rintro e w2 ⟨rfl, c2⟩
            go_wp2_with fail
            refine (rtwo_any k _ b3).mono ?_
            rintro e w3 ⟨rfl, c3⟩
            go_wp2_with fail
            rw [HD.out]
            refine (rtwo_any d _ b4).mono ?_
            rintro e w4 ⟨rfl, c4⟩
            go_wp2_with fail
            rw [QH.out]
            refine (rtwo_any h _ hH).mono ?_
            rintro e w5 ⟨rfl, c5⟩
            go_wp2_with fail
            rw [QI.out]
            refine (rtwo_any i _ hI).mono ?_
            rintro e w6 ⟨rfl, c6⟩
            go_wp2_with fail
            rw [QC.out]
            refine (rtwo_any c _ hC).mono ?_
            rintro e w7 ⟨rfl, c7⟩
            go_wp2
            go_ret
            exact ⟨by rw [HTX.out]; exact congrArg (fun b => Ending.returned (Value.string b)) (cat8 _ _ _ _ _ _ _), keep_trans (keep_trans (keep_trans (keep_trans (keep_trans (keep_trans c1 c2) c3) c4) c5) c6) c7⟩
          · have i1 : ¬ (k : Int) < 12 := by omega
            go_wp2_with fail
            rw [QA.out]
            refine (rtwo_any A _ hA).mono ?_
            rintro e w1 ⟨rfl, c1⟩
            go_wp2_with fail
            rw [QB.out]
            refine (rtwo_any B _ hB).mono ?_
            rintro e w2 ⟨rfl, c2⟩
            go_wp2_with fail
            refine (rtwo_any k _ b3).mono ?_
            rintro e w3 ⟨rfl, c3⟩
            go_wp2_with fail
            rw [HD.out]
            refine (rtwo_any d _ b4).mono ?_
            rintro e w4 ⟨rfl, c4⟩
            go_wp2_with fail
            rw [QH.out]
            refine (rtwo_any h _ hH).mono ?_
            rintro e w5 ⟨rfl, c5⟩
            go_wp2_with fail
            rw [QI.out]
            refine (rtwo_any i _ hI).mono ?_
            rintro e w6 ⟨rfl, c6⟩
            go_wp2_with fail
            rw [QC.out]
            refine (rtwo_any c _ hC).mono ?_
            rintro e w7 ⟨rfl, c7⟩
            go_wp2
            go_ret
            exact ⟨by rw [HTX.out]; exact congrArg (fun b => Ending.returned (Value.string b)) (cat8 _ _ _ _ _ _ _), keep_trans (keep_trans (keep_trans (keep_trans (keep_trans (keep_trans c1 c2) c3) c4) c5) c6) c7⟩

set_option maxHeartbeats 1000000 in
theorem srtext_any (t : Int) (w : World) :
    Calls Tryz.prog 53 #[.int .i64 t] w fun e w' => ∃ l, e = .returned (str l) ∧ TextT t l ∧ Below w.heap.size w w' := by
  by_cases h1 : t < -62135596800
  · go_enter Tryz.func53, Tryz.ntmps53
    go_wp2
    go_ret
    exact ⟨[], rfl, .inl ⟨.inl h1, rfl⟩, Below.refl _ _⟩
  by_cases h2 : 253402300799 < t
  · go_enter Tryz.func53, Tryz.ntmps53
    go_wp2
    go_ret
    exact ⟨[], rfl, .inl ⟨.inr h2, rfl⟩, Below.refl _ _⟩
  obtain ⟨y, m, d, s, hM, rfl⟩ := tim_ex (t := t) (by omega) (by omega)
  refine (rtext_in y m d s w hM).mono ?_
  rintro e w' ⟨rfl, hb⟩
  exact ⟨_, rfl, .inr ⟨y, m, d, s, hM, rfl, rfl⟩, hb⟩
end Go.Proofs.YtlddpjcacnahmaaGreatDoor

/- Contract of stamp.Text. -/
namespace Go.Proofs.YtlddpjcacnahmaaGreatDoor
open Go.RowKit
set_option linter.unusedVariables false

set_option maxRecDepth 100000 in
set_option maxHeartbeats 1000000 in
theorem stext_any (t : Int) (w : World) :
    Calls Tryz.prog 52 #[.int .i64 t] w fun e w' => ∃ l, e = .returned (str l) ∧ TextT t l ∧ Below w.heap.size w w' := by
  by_cases h1 : t < -62135596800
  · go_enter Tryz.func52, Tryz.ntmps52
    go_wp2
    go_ret
    exact ⟨[], rfl, .inl ⟨.inl h1, rfl⟩, Below.refl _ _⟩
  by_cases h2 : 253402300799 < t
  · go_enter Tryz.func52, Tryz.ntmps52
    go_wp2
    go_ret
    exact ⟨[], rfl, .inl ⟨.inr h2, rfl⟩, Below.refl _ _⟩
  obtain ⟨y, m, d, s, hM, rfl⟩ := tim_ex (t := t) (by omega) (by omega)
  have hd := dateOf_any y m d s w hM
  obtain ⟨b1, b2, b3, b4, b5, b6, b7⟩ := mom_le hM
  have hx := fun w' => dtext_any y m d (s / 3600) (s / 60 % 60) (s % 60) w' (by omega) b3 b4 b5 b6 b7
  have HT : Hid (TextT (tim y m d s) (txt6 y m d (s / 3600) (s / 60 % 60) (s % 60))) := hide (.inr ⟨y, m, d, s, hM, rfl, rfl⟩)
  clear b1 b2 b3 b4 b5 b6 b7 hM
  generalize tim y m d s = t at *
  generalize s / 3600 = h at *
  generalize s / 60 % 60 = i at *
  generalize s % 60 = c at *
  go_enter Tryz.func52, Tryz.ntmps52
  go_wp2_with fail
  refine hd.mono ?_
  rintro e w1 ⟨rfl, k1⟩
  go_wp2_with fail
  refine (hx w1).mono ?_
  rintro e w2 ⟨rfl, k2⟩
  go_wp2
  go_ret
  exact ⟨_, rfl, HT.out, keep_trans k1 k2⟩
end Go.Proofs.YtlddpjcacnahmaaGreatDoor
