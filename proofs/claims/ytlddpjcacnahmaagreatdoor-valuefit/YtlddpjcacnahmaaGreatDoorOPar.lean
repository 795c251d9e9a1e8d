/- Contracts of apostilleref02.first, apostilleref02.Parse. -/
import Derived.Test.YtlddpjcacnahmaaGreatDoorOByt
import Derived.Test.YtlddpjcacnahmaaGreatDoorApp2
import Derived.Test.YtlddpjcacnahmaaGreatDoorBase
namespace Go.Proofs.YtlddpjcacnahmaaGreatDoor
open Go.RowKit
set_option linter.unusedVariables false

theorem fst2_low {n : Nat} (h : n < 80) : fst2 n = [n / 40, n % 40] := by
  unfold fst2; congr 1
  · omega
  · congr 1; omega
theorem fst2_high {n : Nat} (h : ¬ n < 80) : fst2 n = [2, n - 80] := by
  unfold fst2; congr 1
  · omega
  · congr 1; omega
theorem fst2_under {n : Nat} (h : n < 4294967296) : Under 4294967296 (fst2 n) := by
  intro x hx; simp [fst2] at hx; omega
theorem fst2_len (n : Nat) : (fst2 n).length = 2 := rfl

set_option maxHeartbeats 400000 in
theorem rfirst_any (n : Nat) (w : World) (hn : n < 4294967296) :
    Calls Tryz.prog 104 #[.int .u64 n] w fun e w' => e = .returned (.slice (some ⟨w.heap.size, 0, none⟩) 2 2) ∧
      w'.ownsRow w.heap.size 102 1 (.slice (some ⟨w.heap.size, 0, none⟩) 2 2) 2 (vals .u32 (fst2 n)) ∧ Below w.heap.size w w' := by
  by_cases h : n < 80
  · rw [fst2_low h]
    have ho := two_own 102 .u32 (n / 40) (n % 40) w w.heap.size (Nat.le_refl _)
    have w1 : n / 40 < 4294967296 := by omega
    have w2 : n % 40 < 4294967296 := by omega
    have HO := hide ho
    clear ho
    go_enter Tryz.func104, Tryz.ntmps104
    go_wp2
    go_ret
    exact ⟨rfl, HO.out, keep_alloc _ _⟩
  · rw [fst2_high h]
    have e80 : ((n : Int) - 80) = ((n - 80 : Nat) : Int) := by omega
    have ho := two_own 102 .u32 2 (n - 80) w w.heap.size (Nat.le_refl _)
    rw [← e80] at ho
    have HO := hide ho
    clear ho e80
    go_enter Tryz.func104, Tryz.ntmps104
    go_wp2
    go_ret
    exact ⟨rfl, HO.out, keep_alloc _ _⟩

/-- what a reader of bytes or of a text tells: an identifier and 0, or none and an error -/
def Told (k : IntKind) (err : Int) (r : Option (List Nat)) (w : World) (e : Ending) : Prop :=
  ∃ u, e = .returned (.tuple #[u, .int k (if r.isSome then 0 else err)]) ∧ Row .u32 4294967296 w u (r.getD [])
theorem Told.none {k : IntKind} {err : Int} {r : Option (List Nat)} {w : World} (h : r = none) : Told k err r w (.returned (.tuple #[.slice none 0 0, .int k err])) := by
  subst h; exact ⟨_, rfl, Row.nil _ _ _⟩

theorem expand_snoc {acc : List Nat} (h : acc ≠ []) (n : Nat) : expand (acc ++ [n]) = expand acc ++ [n] := by
  match acc, h with
  | a :: r, _ => show fst2 a ++ (r ++ [n]) = (fst2 a ++ r) ++ [n]; simp
theorem expand_len (acc : List Nat) : (expand acc).length ≤ acc.length + 1 := by
  cases acc with
  | nil => simp [expand]
  | cons a r => simp [expand, fst2]
theorem expand_nil_iff (acc : List Nat) : (expand acc).length = 0 ↔ acc = [] := by
  cases acc with
  | nil => simp [expand]
  | cons a r => simp [expand, fst2]

theorem dec_dead {n : Nat} {fr : Bool} {x : Nat} {r : List Nat} (h : (fr = true ∧ x = 128) ∨ 4294967295 < n * 128 + x % 128) : dec n fr (x :: r) = none := by
  unfold dec
  rcases h with h | h
  · rw [if_pos h]
  · split
    · rfl
    · rfl
theorem dec_end {n : Nat} {fr : Bool} {x : Nat} {r : List Nat} (h1 : ¬ (fr = true ∧ x = 128)) (h2 : ¬ 4294967295 < n * 128 + x % 128) (h3 : x < 128) :
    dec n fr (x :: r) = (dec 0 true r).map ((n * 128 + x % 128) :: ·) := by
  conv => lhs; unfold dec
  rw [if_neg h1, if_neg h2, if_pos h3]
theorem dec_on {n : Nat} {fr : Bool} {x : Nat} {r : List Nat} (h1 : ¬ (fr = true ∧ x = 128)) (h2 : ¬ 4294967295 < n * 128 + x % 128) (h3 : ¬ x < 128) :
    dec n fr (x :: r) = dec (n * 128 + x % 128) false r := by
  conv => lhs; unfold dec
  rw [if_neg h1, if_neg h2, if_neg h3]
theorem parR_none {b : List Nat} (h : dec 0 true b = none) : parR b = none := by unfold parR; rw [h]; rfl
theorem parR_some {b ns : List Nat} (h : dec 0 true b = some ns) : parR b = if fitB (expand ns) = true then some (expand ns) else none := by unfold parR; rw [h]; rfl

set_option maxHeartbeats 2000000 in
theorem rparse_any (v : Value) (b : List Nat) (w : World) (h : Row .u8 256 w v b) (hbl : b.length ≤ 1000000) :
    Calls Tryz.prog 70 #[v] w fun e w' => Told .i64 5 (parR b) w' e ∧ Below w.heap.size w w' := by
  have h' := h
  obtain ⟨a, cap, rfl, h1, h2, h3, h4⟩ := h
  unfold maxLen at h2
  obtain ⟨i0, hi, hz0, hz1, hz2⟩ := info_parts Tryz.info102
  go_enter Tryz.func70, Tryz.ntmps70
  go_wp2
  go_loopw [4, 5, 6, 7] (fun vo vn vf vi wr => ∃ (k n : Nat) (fr : Bool) (acc : List Nat), k ≤ b.length ∧ vi = .int .i64 k ∧ vn = .int .u64 n ∧ n ≤ 4294967295 ∧ vf = .bool fr ∧
      Hid (dec 0 true b = (dec n fr (b.drop k)).map (acc ++ ·)) ∧ acc.length ≤ k ∧ Hid (Under 4294967296 acc) ∧
      wr.ownsRow w.heap.size 102 1 vo (expand acc).length (vals .u32 (expand acc)) ∧ Below w.heap.size w wr) (fun _ _ _ i _ => b.length - (intOf i).toNat)
  case atStart => exact ⟨0, 0, true, [], Nat.zero_le _, rfl, rfl, by decide, rfl, hide (by simp), by simp, hide (fun x hx => by simp at hx), World.ownsRow_nil _ _ _ _, Below.refl _ _⟩
  case round =>
    obtain ⟨k, n, fr, acc, hk, rfl, rfl, hn, rfl, HD, hak, HU, how, hbr⟩ := hrel
    have hsz := hbr.size
    have hel := expand_len acc
    have hro : Row .u32 4294967296 wr _ (expand acc) := Own.row ⟨how, expand_under HU.out⟩
    obtain ⟨ad, co, rfl, ho1, ho2, _, _⟩ := hro
    unfold maxLen at ho2
    by_cases hlt : k < b.length
    · obtain ⟨_, _, hee, _, _, hcc, _⟩ := h'.below hbr
      simp only [Value.slice.injEq, true_and] at hee
      obtain ⟨rfl, rfl⟩ := hee
      obtain ⟨bb, off, rfl, hcell⟩ := hcc (by omega)
      have ck := hcell k hlt
      clear hcell hcc h3
      have hx := el_lt h4 (by decide) k
      have HDR := hide (drop_el hlt)
      generalize el b k = x at *
      have HEN : Hid ((n : Int) * 128 + (x : Int) % 128 = ((n * 128 + x % 128 : Nat) : Int)) := hide (by simp)
      have g1 : (n : Int) * 128 < 18446744073709551616 := by omega
      have g2 : (n : Int) * 128 + (x : Int) % 128 < 18446744073709551616 := by omega
      by_cases hdead : fr = true ∧ x = 128
      · obtain ⟨rfl, rfl⟩ := hdead
        have HN : Hid (parR b = none) := hide (parR_none (by rw [HD.out, HDR.out, dec_dead (.inl ⟨rfl, rfl⟩)]; rfl))
        go_wp2
        go_ret2
        exact ⟨Told.none HN.out, hbr⟩
      by_cases hbig : 4294967295 < n * 128 + x % 128
      · have HN : Hid (parR b = none) := hide (parR_none (by rw [HD.out, HDR.out, dec_dead (.inr hbig)]; rfl))
        have g3 : (4294967295 : Int) < (n : Int) * 128 + (x : Int) % 128 := by omega
        cases fr with
        | true =>
          have gx : ((x : Int) == 128) = false := by simp at hdead ⊢; omega
          go_wp2
          go_ret2
          exact ⟨Told.none HN.out, hbr⟩
        | false =>
          go_wp2
          go_ret2
          exact ⟨Told.none HN.out, hbr⟩
      have g3 : ¬ (4294967295 : Int) < (n : Int) * 128 + (x : Int) % 128 := by omega
      by_cases hlow : x < 128
      · have hHD2 : dec 0 true b = (dec 0 true (b.drop (k + 1))).map ((acc ++ [n * 128 + x % 128]) ++ ·) := by
          rw [HD.out, HDR.out, dec_end hdead hbig hlow]
          cases dec 0 true (b.drop (k + 1)) with
          | none => rfl
          | some r => simp only [Option.map_some, List.append_assoc, List.cons_append, List.nil_append]
        have HD2 := hide hHD2
        clear hHD2
        have HU2 : Hid (Under 4294967296 (acc ++ [n * 128 + x % 128])) := hide (HU.out.append (Under.one (by omega)))
        have gl : (x : Int) < 128 := by omega
        have hN : n * 128 + x % 128 < 4294967296 := by omega
        generalize hNN : n * 128 + x % 128 = N at *
        have HNN := hide hNN
        clear hNN
        by_cases hnil : acc = []
        · subst hnil
          have HX : Hid (expand [N] = fst2 N) := hide (by simp [expand])
          have hr0 : Hid ((expand ([] : List Nat)).length = 0) := hide rfl
          rw [hr0.out] at how ho1 ⊢
          cases fr with
          | true =>
            have gx : ((x : Int) == 128) = false := by simp at hdead ⊢; omega
            go_wp2_with (first
              | (go_at_call 104; rw [HEN.out]; refine (rfirst_any _ _ hN).mono ?_; rintro e w5 ⟨rfl, ho5, hb5⟩; have how5 := own_kept how hb5; have hsz5 := hb5.size)
              | (at_builtin; refine wpList_append_own2 _ rfl _ _ 24 23 102 rfl Tryz.underlying23 w.heap.size 102 i0 (.int .u32 0) 1 4 Tryz.underlying24 hi hz0 hz1 hz2 rfl (by decide) _ _ _ rfl how5 ⟨wr.heap.size, 0, none⟩ 2 2 (vals .u32 (fst2 N)) rfl rfl (ho5.cells rfl) (vals_one _ _) (by decide) (by omega) (by omega) ?_; intro v6 w6 how6 hgrow6 _)
              | fail)
            have hb6 := below_append' (hbr.trans (hb5.mono hsz)) (by omega) how5 hgrow6
            try rw [HEN.out]
            go_roundw
            case rel => exact ⟨k + 1, 0, true, [N], by omega, by go_num, rfl, by omega, rfl, HD2, by simp, HU2, by rw [HX.out]; exact how6, hb6⟩
            case measure => simp [intOf]; omega
          | false =>
            go_wp2_with (first
              | (go_at_call 104; rw [HEN.out]; refine (rfirst_any _ _ hN).mono ?_; rintro e w5 ⟨rfl, ho5, hb5⟩; have how5 := own_kept how hb5; have hsz5 := hb5.size)
              | (at_builtin; refine wpList_append_own2 _ rfl _ _ 24 23 102 rfl Tryz.underlying23 w.heap.size 102 i0 (.int .u32 0) 1 4 Tryz.underlying24 hi hz0 hz1 hz2 rfl (by decide) _ _ _ rfl how5 ⟨wr.heap.size, 0, none⟩ 2 2 (vals .u32 (fst2 N)) rfl rfl (ho5.cells rfl) (vals_one _ _) (by decide) (by omega) (by omega) ?_; intro v6 w6 how6 hgrow6 _)
              | fail)
            have hb6 := below_append' (hbr.trans (hb5.mono hsz)) (by omega) how5 hgrow6
            try rw [HEN.out]
            go_roundw
            case rel => exact ⟨k + 1, 0, true, [N], by omega, by go_num, rfl, by omega, rfl, HD2, by simp, HU2, by rw [HX.out]; exact how6, hb6⟩
            case measure => simp [intOf]; omega
        · have HX : Hid (expand (acc ++ [N]) = expand acc ++ [N]) := hide (expand_snoc hnil N)
          have hl0 : (((expand acc).length : Int) == 0) = false := by
            have h0 : (expand acc).length ≠ 0 := fun h => hnil ((expand_nil_iff acc).1 h)
            exact beq_eq_false_iff_ne.2 (by omega)
          have HXL : Hid ((expand acc ++ [N]).length = (expand acc).length + 1) := hide (by simp)
          cases fr with
          | true =>
            have gx : ((x : Int) == 128) = false := by simp at hdead ⊢; omega
            go_wp2_with (first
              | (at_builtin; refine wpList_append_own _ rfl _ _ 24 rfl w.heap.size 102 i0 (.int .u32 0) 1 4 Tryz.underlying24 hi hz0 hz1 hz2 rfl (by decide) _ _ _ rfl (how.alloc _) ⟨wr.heap.size, 0, none⟩ 1 1 (vals .u32 [N]) rfl rfl (app_cells wr .u32 N _ _ (by first | exact HEN.out | (simp; done) | skip)) (vals_one _ _) (by unfold maxLen; omega) (by omega) (by simp; omega) ?_; intro v6 w6 how6 hgrow6 _)
              | fail)
            have hb6 := below_append hbr hsz how _ hgrow6
            rw [← vals_append] at how6
            try rw [HEN.out]
            go_roundw
            case rel => exact ⟨k + 1, 0, true, acc ++ [N], by omega, by go_num, rfl, by omega, rfl, HD2, by simp; omega, HU2, by rw [HX.out, HXL.out]; exact how6, hb6⟩
            case measure => simp [intOf]; omega
          | false =>
            go_wp2_with (first
              | (at_builtin; refine wpList_append_own _ rfl _ _ 24 rfl w.heap.size 102 i0 (.int .u32 0) 1 4 Tryz.underlying24 hi hz0 hz1 hz2 rfl (by decide) _ _ _ rfl (how.alloc _) ⟨wr.heap.size, 0, none⟩ 1 1 (vals .u32 [N]) rfl rfl (app_cells wr .u32 N _ _ (by first | exact HEN.out | (simp; done) | skip)) (vals_one _ _) (by unfold maxLen; omega) (by omega) (by simp; omega) ?_; intro v6 w6 how6 hgrow6 _)
              | fail)
            have hb6 := below_append hbr hsz how _ hgrow6
            rw [← vals_append] at how6
            try rw [HEN.out]
            go_roundw
            case rel => exact ⟨k + 1, 0, true, acc ++ [N], by omega, by go_num, rfl, by omega, rfl, HD2, by simp; omega, HU2, by rw [HX.out, HXL.out]; exact how6, hb6⟩
            case measure => simp [intOf]; omega
      · have gl : ¬ (x : Int) < 128 := by omega
        have hHD2 : dec 0 true b = (dec (n * 128 + x % 128) false (b.drop (k + 1))).map (acc ++ ·) := by
          rw [HD.out, HDR.out, dec_on hdead hbig hlow]
        have HD2 := hide hHD2
        clear hHD2
        cases fr with
        | true =>
          have gx : ((x : Int) == 128) = false := by simp at hdead ⊢; omega
          go_wp2
          rw [HEN.out]
          go_roundw
          case rel => exact ⟨k + 1, n * 128 + x % 128, false, acc, by omega, by go_num, rfl, by omega, rfl, HD2, by omega, HU, how, hbr⟩
          case measure => simp [intOf]; omega
        | false =>
          go_wp2
          rw [HEN.out]
          go_roundw
          case rel => exact ⟨k + 1, n * 128 + x % 128, false, acc, by omega, by go_num, rfl, by omega, rfl, HD2, by omega, HU, how, hbr⟩
          case measure => simp [intOf]; omega
    · have hke : k = b.length := by omega
      have hD := HD.out
      rw [List.drop_of_length_le (by omega)] at hD
      cases fr with
      | false =>
        have HN : Hid (parR b = none) := hide (parR_none (by rw [hD]; rfl))
        clear hD
        go_wp2
        go_ret2
        exact ⟨Told.none HN.out, hbr⟩
      | true =>
        have hP : dec 0 true b = some acc := by rw [hD]; simp [dec]
        clear hD
        have hP2 := parR_some hP
        have hc := rfit_any _ (expand acc) wr (Own.row ⟨how, expand_under HU.out⟩)
        cases hf : fitB (expand acc) with
        | false =>
          rw [hf] at hc hP2
          have HN : Hid (parR b = none) := hide hP2
          clear hP hP2
          go_wp2_with (first | (go_at_call 88; refine hc.mono ?_; rintro e w1 ⟨rfl, rfl⟩) | fail)
          go_ret2
          exact ⟨Told.none HN.out, hbr⟩
        | true =>
          rw [hf] at hc hP2
          have HN : Hid (parR b = some (expand acc)) := hide hP2
          clear hP hP2
          go_wp2_with (first | (go_at_call 88; refine hc.mono ?_; rintro e w1 ⟨rfl, rfl⟩) | fail)
          go_ret2
          exact ⟨⟨_, by rw [HN.out]; rfl, by rw [HN.out]; exact Own.row ⟨how, expand_under HU.out⟩⟩, hbr⟩
end Go.Proofs.YtlddpjcacnahmaaGreatDoor

/- Plain facts on the calendar: days, months, years. -/
namespace Go.Proofs.YtlddpjcacnahmaaGreatDoor
open Go.RowKit
set_option linter.unusedVariables false

/-- has a year a 29th of February? -/
def leapY (y : Nat) : Bool := decide ((y % 4 = 0 ∧ y % 100 ≠ 0) ∨ y % 400 = 0)
/-- how many days a month has, of any year -/
def dimY (y m : Nat) : Nat := if m = 2 then (if leapY y = true then 29 else 28) else if m = 4 ∨ m = 6 ∨ m = 9 ∨ m = 11 then 30 else if 1 ≤ m ∧ m ≤ 12 then 31 else 0
/-- what Days tells -/
def daysS (y m : Int) : Nat := if y < 1 ∨ 9999 < y ∨ m < 1 ∨ 12 < m then 0 else dimY y.toNat m.toNat
/-- how many days are ahead of a year -/
def yrs (y : Nat) : Nat := (y - 1) * 365 + (y - 1) / 4 - (y - 1) / 100 + (y - 1) / 400
/-- how many days of its year are ahead of a month -/
def mon (y : Nat) : Nat → Nat
  | 0 => 0
  | m + 1 => mon y m + dimY y m
/-- a day's number, from the first one on -/
def dayNo (y m d : Nat) : Nat := yrs y + mon y m + (d - 1)
/-- a date that is -/
def DateOk (y m d : Nat) : Prop := 1 ≤ y ∧ y ≤ 9999 ∧ 1 ≤ m ∧ m ≤ 12 ∧ 1 ≤ d ∧ d ≤ dimY y m

theorem leap_true {y : Nat} (h : leapY y = true) : (y % 4 = 0 ∧ y % 100 ≠ 0) ∨ y % 400 = 0 := of_decide_eq_true h
theorem leap_false {y : Nat} (h : leapY y = false) : ¬ ((y % 4 = 0 ∧ y % 100 ≠ 0) ∨ y % 400 = 0) := of_decide_eq_false h

theorem yrs_succ {y : Nat} (h : 1 ≤ y) : yrs (y + 1) = yrs y + (if leapY y = true then 366 else 365) := by
  unfold yrs
  have e : y + 1 - 1 = y := by omega
  rw [e]
  have d4 : (y % 4 = 0 ∧ y / 4 = (y - 1) / 4 + 1) ∨ (y % 4 ≠ 0 ∧ y / 4 = (y - 1) / 4) := by omega
  have d100 : (y % 100 = 0 ∧ y / 100 = (y - 1) / 100 + 1) ∨ (y % 100 ≠ 0 ∧ y / 100 = (y - 1) / 100) := by omega
  have d400 : (y % 400 = 0 ∧ y / 400 = (y - 1) / 400 + 1) ∨ (y % 400 ≠ 0 ∧ y / 400 = (y - 1) / 400) := by omega
  have r1 : y % 100 = 0 → y % 4 = 0 := by omega
  have r2 : y % 400 = 0 → y % 100 = 0 := by omega
  have l1 : (y - 1) / 100 ≤ (y - 1) / 4 := by omega
  have l2 : y / 100 ≤ y / 4 := by omega
  have hm : (y - 1) * 365 + 365 = y * 365 := by omega
  cases hl : leapY y with
  | true =>
    have hc := leap_true hl
    simp only [if_true]
    generalize y % 4 = a at *
    generalize y % 100 = b at *
    generalize y % 400 = c at *
    generalize y / 4 = a1 at *
    generalize y / 100 = b1 at *
    generalize y / 400 = c1 at *
    generalize (y - 1) / 4 = a2 at *
    generalize (y - 1) / 100 = b2 at *
    generalize (y - 1) / 400 = c2 at *
    omega
  | false =>
    have hc := leap_false hl
    simp only [Bool.false_eq_true, if_false]
    generalize y % 4 = a at *
    generalize y % 100 = b at *
    generalize y % 400 = c at *
    generalize y / 4 = a1 at *
    generalize y / 100 = b1 at *
    generalize y / 400 = c1 at *
    generalize (y - 1) / 4 = a2 at *
    generalize (y - 1) / 100 = b2 at *
    generalize (y - 1) / 400 = c2 at *
    omega
theorem dim_two (y : Nat) : dimY y 2 = if leapY y = true then 29 else 28 := by simp [dimY]
theorem mon_year (y : Nat) : mon y 13 = if leapY y = true then 366 else 365 := by
  simp only [mon, dimY]
  cases leapY y <;> decide
theorem dim_le (y m : Nat) : dimY y m ≤ 31 := by unfold dimY; (repeat' split) <;> omega
theorem dim_pos {y m : Nat} (h1 : 1 ≤ m) (h2 : m ≤ 12) : 28 ≤ dimY y m := by unfold dimY; (repeat' split) <;> omega
theorem mon_mono (y : Nat) {a b : Nat} (h : a ≤ b) : mon y a ≤ mon y b := by
  induction h with
  | refl => exact Nat.le_refl _
  | step _ ih => exact Nat.le_trans ih (Nat.le_add_right _ _)
theorem mon_le {y m d : Nat} (hm : m ≤ 12) (hd : d ≤ dimY y m) (h0 : 1 ≤ d) : mon y m + (d - 1) < mon y 13 := by
  have h1 : mon y (m + 1) ≤ mon y 13 := mon_mono y (by omega)
  have h2 : mon y (m + 1) = mon y m + dimY y m := rfl
  omega
theorem yrs_mono {a b : Nat} (h1 : 1 ≤ a) (h : a ≤ b) : yrs a ≤ yrs b := by
  induction h with
  | refl => exact Nat.le_refl _
  | @step m h ih =>
    have hs := yrs_succ (y := m) (Nat.le_trans h1 h)
    show yrs a ≤ yrs (m + 1)
    split at hs <;> omega
theorem yrs_next {y : Nat} (h : 1 ≤ y) : yrs (y + 1) = yrs y + mon y 13 := by rw [yrs_succ h, mon_year]

/-- a date ahead of another has the lesser number -/
theorem day_lt {y m d y' m' d' : Nat} (h : DateOk y m d) (h' : DateOk y' m' d') (hl : y < y' ∨ (y = y' ∧ (m < m' ∨ (m = m' ∧ d < d')))) : dayNo y m d < dayNo y' m' d' := by
  obtain ⟨a1, a2, a3, a4, a5, a6⟩ := h
  obtain ⟨b1, b2, b3, b4, b5, b6⟩ := h'
  unfold dayNo
  rcases hl with hl | ⟨rfl, hl | ⟨rfl, hl⟩⟩
  · have e1 := mon_le a4 a6 a5
    have e2 := yrs_next a1
    have e3 := yrs_mono (a := y + 1) (b := y') (by omega) (by omega)
    omega
  · have e1 : mon y (m + 1) ≤ mon y m' := mon_mono y (by omega)
    have e2 : mon y (m + 1) = mon y m + dimY y m := rfl
    omega
  · omega
theorem day_inj {y m d y' m' d' : Nat} (h : DateOk y m d) (h' : DateOk y' m' d') (he : dayNo y m d = dayNo y' m' d') : y = y' ∧ m = m' ∧ d = d' := by
  by_cases c1 : y < y'
  · have := day_lt h h' (.inl c1); omega
  by_cases c2 : y' < y
  · have := day_lt h' h (.inl c2); omega
  obtain rfl : y = y' := by omega
  by_cases c3 : m < m'
  · have := day_lt h h' (.inr ⟨rfl, .inl c3⟩); omega
  by_cases c4 : m' < m
  · have := day_lt h' h (.inr ⟨rfl, .inl c4⟩); omega
  obtain rfl : m = m' := by omega
  by_cases c5 : d < d'
  · have := day_lt h h' (.inr ⟨rfl, .inr ⟨rfl, c5⟩⟩); omega
  by_cases c6 : d' < d
  · have := day_lt h' h (.inr ⟨rfl, .inr ⟨rfl, c6⟩⟩); omega
  exact ⟨rfl, rfl, by omega⟩
theorem day_max {y m d : Nat} (h : DateOk y m d) : dayNo y m d ≤ 3652058 := by
  obtain ⟨a1, a2, a3, a4, a5, a6⟩ := h
  unfold dayNo
  have e1 := mon_le a4 a6 a5
  have e2 := yrs_next a1
  have e3 := yrs_mono (a := y + 1) (b := 10000) (by omega) (by omega)
  have e4 : yrs 10000 = 3652059 := by decide
  omega

/-- the year of a day: the last one that begins no later -/
theorem year_ex (n : Nat) (hn : n ≤ 3652058) : ∃ y, 1 ≤ y ∧ y ≤ 9999 ∧ yrs y ≤ n ∧ n < yrs (y + 1) := by
  have key : ∀ k, k ≤ 9999 → n < yrs (k + 1) → ∃ y, 1 ≤ y ∧ y ≤ 9999 ∧ yrs y ≤ n ∧ n < yrs (y + 1) := by
    intro k
    induction k with
    | zero => intro _ h; rw [show yrs (0 + 1) = 0 by decide] at h; omega
    | succ k ih =>
      intro hk h
      by_cases hy : yrs (k + 1) ≤ n
      · exact ⟨k + 1, by omega, hk, hy, h⟩
      · exact ih (by omega) (by omega)
  exact key 9999 (Nat.le_refl _) (by rw [show yrs (9999 + 1) = 3652059 by decide]; omega)
theorem month_ex (y r : Nat) (hr : r < mon y 13) : ∃ m, 1 ≤ m ∧ m ≤ 12 ∧ mon y m ≤ r ∧ r < mon y (m + 1) := by
  have key : ∀ k, k ≤ 12 → r < mon y (k + 1) → ∃ m, 1 ≤ m ∧ m ≤ 12 ∧ mon y m ≤ r ∧ r < mon y (m + 1) := by
    intro k
    induction k with
    | zero => intro _ h; have : mon y (0 + 1) = 0 := by simp [mon, dimY]
              omega
    | succ k ih =>
      intro hk h
      by_cases hy : mon y (k + 1) ≤ r
      · exact ⟨k + 1, by omega, hk, hy, h⟩
      · exact ih (by omega) (by omega)
  exact key 12 (Nat.le_refl _) hr
theorem date_ex (n : Nat) (hn : n ≤ 3652058) : ∃ y m d, DateOk y m d ∧ dayNo y m d = n := by
  obtain ⟨y, h1, h2, h3, h4⟩ := year_ex n hn
  rw [yrs_next h1] at h4
  obtain ⟨m, k1, k2, k3, k4⟩ := month_ex y (n - yrs y) (by omega)
  have e : mon y (m + 1) = mon y m + dimY y m := rfl
  refine ⟨y, m, n - yrs y - mon y m + 1, ⟨h1, h2, k1, k2, by omega, by omega⟩, ?_⟩
  unfold dayNo
  omega
end Go.Proofs.YtlddpjcacnahmaaGreatDoor
