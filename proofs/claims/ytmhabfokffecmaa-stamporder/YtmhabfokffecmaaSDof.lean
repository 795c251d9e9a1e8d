/- Contract of dateOf. -/
import Derived.Test.YtmhabfokffecmaaSDat
import Derived.BigRegion
import Derived.Deep.DeepCutAuto
namespace Go.Proofs.Ytmhabfokffecmaa
open Go.RowKit
set_option linter.unusedVariables false

theorem year_uniq {n y z : Nat} (h1 : 1 ≤ y) (h2 : yrs y ≤ n) (h3 : n < yrs (y + 1)) (h4 : yrs (z + 1) ≤ n) (h5 : n < yrs (z + 2)) : z + 1 = y := by
  by_cases c1 : z + 1 < y
  · have := yrs_mono (a := z + 2) (b := y) (by omega) (by omega); omega
  by_cases c2 : y < z + 1
  · have := yrs_mono (a := y + 1) (b := z + 1) (by omega) (by omega); omega
  omega

/-- the zero date -/
abbrev zero6 : Obj := .cells #[.int .i64 0, .int .i64 0, .int .i64 0, .int .i64 0, .int .i64 0, .int .i64 0] 36
/-- what dateOf keeps of its own: its result, still 0, and the days that are left -/
structure Cal (w : World) (n : Nat) (wr : World) : Prop where
  res : wr.heap[w.heap.size]? = some zero6
  day : wr.heap[w.heap.size + 1]? = some (.cells #[.int .i64 n] 3)
  bel : Below w.heap.size w wr
theorem Cal.new (w : World) (n : Nat) : Cal w n ((w.alloc zero6).alloc (.cells #[.int .i64 n] 3)) := by
  refine ⟨?_, ?_, ((Below.refl _ _).alloc (Nat.le_refl _) _).alloc (by simp) _⟩
  · rw [Below.heap_alloc _ _ _ (by simp)]
    exact heap_alloc_new w zero6
  · have h := heap_alloc_new (w.alloc zero6) (.cells #[.int .i64 (n : Int)] 3)
    rw [show (w.alloc zero6).heap.size = w.heap.size + 1 by simp] at h
    exact h
theorem Cal.drewN {w : World} {n : Nat} {wr : World} (h : Cal w n wr) (q : Nat) : Cal w n (wr.drewN q) := ⟨by simpa using h.res, by simpa using h.day, below_drewN h.bel q⟩
theorem Cal.drew {w : World} {n : Nat} {wr : World} (h : Cal w n wr) : Cal w n wr.drew := ⟨h.res, h.day, h.bel.drew⟩
theorem Cal.cell {w : World} {n : Nat} {wr : World} (h : Cal w n wr) : wr.cell? ⟨w.heap.size + 1, 0, none⟩ = some (.int .i64 n) := by
  simp only [World.cell?, h.day]; rfl
theorem Cal.frozen {w : World} {n : Nat} {wr : World} (h : Cal w n wr) : wr.frozen? ⟨w.heap.size + 1, 0, none⟩ = false := by
  simp [World.frozen?, h.day]
theorem Cal.set {w : World} {n : Nat} {wr : World} (h : Cal w n wr) (n' : Nat) : Cal w n' (wr.setCell ⟨w.heap.size + 1, 0, none⟩ (.int .i64 n')) := by
  refine ⟨?_, ?_, h.bel.setCell (by simp) _⟩
  · rw [Below.heap_setCell _ _ _ _ (by simp)]
    exact h.res
  · simp only [World.setCell, Array.getElem?_modify, if_true, h.day]
    rfl
theorem Cal.rcell {w : World} {n : Nat} {wr : World} (h : Cal w n wr) (j : Nat) (hj : j < 6) : wr.cell? ⟨w.heap.size, j, none⟩ = some (.int .i64 0) ∧ wr.frozen? ⟨w.heap.size, j, none⟩ = false := by
  simp only [World.cell?, World.frozen?, h.res]
  rcases (by omega : j = 0 ∨ j = 1 ∨ j = 2 ∨ j = 3 ∨ j = 4 ∨ j = 5) with rfl | rfl | rfl | rfl | rfl | rfl <;> exact ⟨rfl, rfl⟩

set_option maxRecDepth 100000 in
set_option maxHeartbeats 2000000 in
theorem dateOf_any (y m d s : Nat) (w : World) (hM : Mom y m d s) :
    Calls Try.prog 18 #[.int .i64 (tim y m d s)] w fun e w' => e = .returned (dt y m d (s / 3600) (s / 60 % 60) (s % 60)) ∧ Below w.heap.size w w' := by
  have hr := tim_range hM
  have hmax := day_max hM.1
  have hs := hM.2
  have HQ : Hid ((tim y m d s + 62135596800) / 86400 = ((dayNo y m d : Nat) : Int)) := hide (by unfold tim; omega)
  have HR : Hid ((tim y m d s + 62135596800) % 86400 = ((s : Nat) : Int)) := hide (by unfold tim; omega)
  have hmf : ∀ (fn : Fn) (first cap : Array Value) (w : World), (Instr.makeFunc fn first cap).run Try.prog w = .ok (.func fn first cap) w := fun _ _ _ _ => rfl
  generalize tim y m d s = t at *
  have g0 : 0 ≤ t + 62135596800 := by omega
  go_enter Try.func18, Try.ntmps18
  go_wp2_with fail
  rw [HQ.out, HR.out]
  have hC := Cal.new w (dayNo y m d)
  refine (search_any (dayNo y m d) (w.heap.size + 1) _ hC.cell hmax).mono ?_
  rintro e w1 ⟨z, rfl, hz, h4, h5, q, rfl⟩
  have hC := hC.drewN q
  have hzy : z + 1 = y := by
    obtain ⟨⟨a1, a2, a3, a4, a5, a6⟩, a7⟩ := hM
    have e1 := mon_le a4 a6 a5
    have e2 := yrs_next a1
    exact year_uniq a1 (n := dayNo y m d) (by unfold dayNo; omega) (by unfold dayNo; omega) h4 h5
  have HZ : Hid ((1 : Int) + (z : Int) = (y : Int)) := hide (by omega)
  generalize (((w.alloc zero6).alloc (.cells #[.int .i64 ((dayNo y m d : Nat) : Int)] 3)).drewN q) = W1 at *
  clear h4 h5 hzy
  have hcall := fun w' => ahead_any y w' hM.1.1 (by have := hM.1.2.1; omega)
  have c1 := hC.cell
  have f1 := hC.frozen
  have HS : Hid (IntKind.i64.wrap (((dayNo y m d : Nat) : Int) - ((yrs y : Nat) : Int)) = ((mon y m + (d - 1) : Nat) : Int)) := hide (by have hh : dayNo y m d = yrs y + mon y m + (d - 1) := rfl; rw [IntKind.wrap_i64]; omega)
  go_upto_region 3 with fail
  rw [HZ.out]
  go_cut [] (fun wx => Cal w (mon y m + (d - 1)) wx)
  case first =>
    go_region_with (first | (go_at_call 23; refine (hcall _).mono ?_; rintro e w' ⟨rfl, rfl⟩) | fail)
    all_goals (go_wp2_with fail; go_meet; rw [HS.out]; exact (hC.set _).drew)
  case rest =>
  clear hC c1 f1 hcall HS HQ HR hr g0 hmf hmax
  obtain ⟨⟨a1, a2, a3, a4, a5, a6⟩, a7⟩ := hM
  have hdd := dim_le y m
  have hm13 : mon y m + (d - 1) ≤ 366 := by
    have e1 := mon_le a4 a6 a5
    have e2 := mon_year y
    split at e2 <;> omega
  go_wp2_with fail
  go_loopw [6] (fun j wr => ∃ k r : Nat, 1 ≤ k ∧ k ≤ m ∧ j = .int .i64 k ∧ Hid (mon y k + r = mon y m + (d - 1)) ∧ Cal w r wr) (fun j _ => 12 - (intOf j).toNat)
  case atStart => exact ⟨1, _, Nat.le_refl _, a3, rfl, hide (by rw [show mon y 1 = 0 by simp [mon, dimY]]; omega), hcut⟩
  case round =>
    obtain ⟨k, r, hk1, hkm, rfl, HK, hC⟩ := hrel
    have c1 := hC.cell
    have f1 := hC.frozen
    have hr : r ≤ 366 := by have := HK.out; omega
    have hcall := fun w' => days_any (y : Int) (k : Int) w'
    rw [days_at a1 a2 hk1 (by omega)] at hcall
    have hDk := dim_le y k
    have hnext : mon y (k + 1) = mon y k + dimY y k := rfl
    by_cases hlt : k < m
    · have hmm := mon_mono y (a := k + 1) (b := m) hlt
      have hge : dimY y k ≤ r := by have := HK.out; omega
      have HK2 : Hid (mon y (k + 1) + (r - dimY y k) = mon y m + (d - 1)) := hide (by have := HK.out; omega)
      clear hnext hmm
      generalize dimY y k = D at *
      have HS : Hid (IntKind.i64.wrap ((r : Int) - (D : Int)) = ((r - D : Nat) : Int)) := hide (by rw [IntKind.wrap_i64]; omega)
      have g1 : (D : Int) ≤ (r : Int) := by omega
      go_wp2_with fail
      go_quiet (first | (go_at_call 11; exact (hcall _).mono (by rintro e w' ⟨rfl, rfl⟩; exact ⟨rfl, _, rfl⟩)) | fail)
      have hC := hC.drewN nq
      have c1 := hC.cell
      have f1 := hC.frozen
      generalize wr.drewN nq = W2 at *
      go_wp2_with fail
      go_region_with (first | (go_at_call 11; refine (hcall _).mono ?_; rintro e w' ⟨rfl, rfl⟩) | fail)
      all_goals
        rw [HS.out]
        have hC3 := (hC.set (r - D)).drew
        generalize (W2.setCell ⟨w.heap.size + 1, 0, none⟩ (.int .i64 ((r - D : Nat) : Int))).drew = W3 at *
        go_wp2
        exact ⟨⟨k + 1, r - D, by omega, hlt, by simp, HK2, hC3⟩, by simp [intOf]; omega⟩
    · obtain rfl : k = m := by omega
      obtain rfl : r = d - 1 := by have := HK.out; omega
      have HD : Hid (((d - 1 : Nat) : Int) + 1 = (d : Int)) := hide (by omega)
      have g1 : ¬ (dimY y k : Int) ≤ ((d - 1 : Nat) : Int) := by omega
      clear hnext HK hcut
      generalize dimY y k = D at *
      generalize d - 1 = r at *
      go_wp2_with fail
      go_quiet (first | (go_at_call 11; exact (hcall _).mono (by rintro e w' ⟨rfl, rfl⟩; exact ⟨rfl, _, rfl⟩)) | fail)
      have hC := hC.drewN nq
      have c1 := hC.cell
      have hb := hC.bel
      obtain ⟨p0, z0⟩ := hC.rcell 0 (by omega)
      obtain ⟨p1, z1⟩ := hC.rcell 1 (by omega)
      obtain ⟨p2, z2⟩ := hC.rcell 2 (by omega)
      obtain ⟨p3, z3⟩ := hC.rcell 3 (by omega)
      obtain ⟨p4, z4⟩ := hC.rcell 4 (by omega)
      obtain ⟨p5, z5⟩ := hC.rcell 5 (by omega)
      generalize wr.drewN nq = W2 at *
      go_wp2
      refine bodyPost_ret (v := .agg #[.int .i64 (y : Int), .int .i64 (k : Int), .int .i64 ((r : Int) + 1), .int .i64 ((s : Int) / 3600), .int .i64 ((s : Int) / 60 % 60), .int .i64 ((s : Int) % 60)]) (by simp [results, Try.results18, go_sem, p0, p1, p2, p3, p4, p5]) rfl ⟨?_, ?_⟩
      · rw [HD.out]; rfl
      · exact (((((hb.setCell (Nat.le_refl _) _).setCell (Nat.le_refl _) _).setCell (Nat.le_refl _) _).setCell (Nat.le_refl _) _).setCell (Nat.le_refl _) _).setCell (Nat.le_refl _) _
end Go.Proofs.Ytmhabfokffecmaa
