/- Contracts of apostilleref02.first, apostilleref02.Parse. -/
import Derived.Test.YtjkciheoknjfhaaDoorOSame
import Derived.Test.YtjkciheoknjfhaaDoorApp2
namespace Go.Proofs.YtjkciheoknjfhaaDoor
open Go.RowKit
set_option linter.unusedVariables false

theorem fst2_low {n : Nat} (h : n < 80) : fst2 n = [n / 40, n % 40] := by
  unfold fst2; congr 1
  · omega
  · congr 1; omega
theorem fst2_high {n : Nat} (h : ¬ n < 80) : fst2 n = [2, n - 80] := by
  unfold fst2; congr 1
  · omega
  · congr 1; omega
theorem fst2_under {n : Nat} (h : n < 4294967296) : Under 4294967296 (fst2 n) := by
  intro x hx; simp [fst2] at hx; omega
theorem fst2_len (n : Nat) : (fst2 n).length = 2 := rfl

set_option maxHeartbeats 400000 in
theorem rfirst_any (n : Nat) (w : World) (hn : n < 4294967296) :
    Calls Tryd.prog 61 #[.int .u64 n] w fun e w' => e = .returned (.slice (some ⟨w.heap.size, 0, none⟩) 2 2) ∧
      w'.ownsRow w.heap.size 82 1 (.slice (some ⟨w.heap.size, 0, none⟩) 2 2) 2 (vals .u32 (fst2 n)) ∧ Below w.heap.size w w' := by
  by_cases h : n < 80
  · rw [fst2_low h]
    have ho := two_own 82 .u32 (n / 40) (n % 40) w w.heap.size (Nat.le_refl _)
    have w1 : n / 40 < 4294967296 := by omega
    have w2 : n % 40 < 4294967296 := by omega
    have HO := hide ho
    clear ho
    go_enter Tryd.func61, Tryd.ntmps61
    go_wp2
    go_ret
    exact ⟨rfl, HO.out, keep_alloc _ _⟩
  · rw [fst2_high h]
    have e80 : ((n : Int) - 80) = ((n - 80 : Nat) : Int) := by omega
    have ho := two_own 82 .u32 2 (n - 80) w w.heap.size (Nat.le_refl _)
    rw [← e80] at ho
    have HO := hide ho
    clear ho e80
    go_enter Tryd.func61, Tryd.ntmps61
    go_wp2
    go_ret
    exact ⟨rfl, HO.out, keep_alloc _ _⟩

/-- what a reader of bytes or of a text tells: an identifier and 0, or none and an error -/
def Told (k : IntKind) (err : Int) (r : Option (List Nat)) (w : World) (e : Ending) : Prop :=
  ∃ u, e = .returned (.tuple #[u, .int k (if r.isSome then 0 else err)]) ∧ Row .u32 4294967296 w u (r.getD [])
theorem Told.none {k : IntKind} {err : Int} {r : Option (List Nat)} {w : World} (h : r = none) : Told k err r w (.returned (.tuple #[.slice none 0 0, .int k err])) := by
  subst h; exact ⟨_, rfl, Row.nil _ _ _⟩

theorem expand_snoc {acc : List Nat} (h : acc ≠ []) (n : Nat) : expand (acc ++ [n]) = expand acc ++ [n] := by
  match acc, h with
  | a :: r, _ => show fst2 a ++ (r ++ [n]) = (fst2 a ++ r) ++ [n]; simp
theorem expand_len (acc : List Nat) : (expand acc).length ≤ acc.length + 1 := by
  cases acc with
  | nil => simp [expand]
  | cons a r => simp [expand, fst2]
theorem expand_nil_iff (acc : List Nat) : (expand acc).length = 0 ↔ acc = [] := by
  cases acc with
  | nil => simp [expand]
  | cons a r => simp [expand, fst2]

theorem dec_dead {n : Nat} {fr : Bool} {x : Nat} {r : List Nat} (h : (fr = true ∧ x = 128) ∨ 4294967295 < n * 128 + x % 128) : dec n fr (x :: r) = none := by
  unfold dec
  rcases h with h | h
  · rw [if_pos h]
  · split
    · rfl
    · rfl
theorem dec_end {n : Nat} {fr : Bool} {x : Nat} {r : List Nat} (h1 : ¬ (fr = true ∧ x = 128)) (h2 : ¬ 4294967295 < n * 128 + x % 128) (h3 : x < 128) :
    dec n fr (x :: r) = (dec 0 true r).map ((n * 128 + x % 128) :: ·) := by
  conv => lhs; unfold dec
  rw [if_neg h1, if_neg h2, if_pos h3]
theorem dec_on {n : Nat} {fr : Bool} {x : Nat} {r : List Nat} (h1 : ¬ (fr = true ∧ x = 128)) (h2 : ¬ 4294967295 < n * 128 + x % 128) (h3 : ¬ x < 128) :
    dec n fr (x :: r) = dec (n * 128 + x % 128) false r := by
  conv => lhs; unfold dec
  rw [if_neg h1, if_neg h2, if_neg h3]
theorem parR_none {b : List Nat} (h : dec 0 true b = none) : parR b = none := by unfold parR; rw [h]; rfl
theorem parR_some {b ns : List Nat} (h : dec 0 true b = some ns) : parR b = if fitB (expand ns) = true then some (expand ns) else none := by unfold parR; rw [h]; rfl

set_option maxHeartbeats 2000000 in
theorem rparse_any (v : Value) (b : List Nat) (w : World) (h : Row .u8 256 w v b) (hbl : b.length ≤ 1000000) :
    Calls Tryd.prog 49 #[v] w fun e w' => Told .i64 5 (parR b) w' e ∧ Below w.heap.size w w' := by
  have h' := h
  obtain ⟨a, cap, rfl, h1, h2, h3, h4⟩ := h
  unfold maxLen at h2
  obtain ⟨i0, hi, hz0, hz1, hz2⟩ := info_parts Tryd.info82
  go_enter Tryd.func49, Tryd.ntmps49
  go_wp2
  go_loopw [4, 5, 6, 7] (fun vo vn vf vi wr => ∃ (k n : Nat) (fr : Bool) (acc : List Nat), k ≤ b.length ∧ vi = .int .i64 k ∧ vn = .int .u64 n ∧ n ≤ 4294967295 ∧ vf = .bool fr ∧
      Hid (dec 0 true b = (dec n fr (b.drop k)).map (acc ++ ·)) ∧ acc.length ≤ k ∧ Hid (Under 4294967296 acc) ∧
      wr.ownsRow w.heap.size 82 1 vo (expand acc).length (vals .u32 (expand acc)) ∧ Below w.heap.size w wr) (fun _ _ _ i _ => b.length - (intOf i).toNat)
  case atStart => exact ⟨0, 0, true, [], Nat.zero_le _, rfl, rfl, by decide, rfl, hide (by simp), by simp, hide (fun x hx => by simp at hx), World.ownsRow_nil _ _ _ _, Below.refl _ _⟩
  case round =>
    obtain ⟨k, n, fr, acc, hk, rfl, rfl, hn, rfl, HD, hak, HU, how, hbr⟩ := hrel
    have hsz := hbr.size
    have hel := expand_len acc
    have hro : Row .u32 4294967296 wr _ (expand acc) := Own.row ⟨how, expand_under HU.out⟩
    obtain ⟨ad, co, rfl, ho1, ho2, _, _⟩ := hro
    unfold maxLen at ho2
    by_cases hlt : k < b.length
    · obtain ⟨_, _, hee, _, _, hcc, _⟩ := h'.below hbr
      simp only [Value.slice.injEq, true_and] at hee
      obtain ⟨rfl, rfl⟩ := hee
      obtain ⟨bb, off, rfl, hcell⟩ := hcc (by omega)
      have ck := hcell k hlt
      clear hcell hcc h3
      have hx := el_lt h4 (by decide) k
      have HDR := hide (drop_el hlt)
      generalize el b k = x at *
      have HEN : Hid ((n : Int) * 128 + (x : Int) % 128 = ((n * 128 + x % 128 : Nat) : Int)) := hide (by simp)
      have g1 : (n : Int) * 128 < 18446744073709551616 := by omega
      have g2 : (n : Int) * 128 + (x : Int) % 128 < 18446744073709551616 := by omega
      by_cases hdead : fr = true ∧ x = 128
      · obtain ⟨rfl, rfl⟩ := hdead
        have HN : Hid (parR b = none) := hide (parR_none (by rw [HD.out, HDR.out, dec_dead (.inl ⟨rfl, rfl⟩)]; rfl))
        go_wp2
        go_ret2
        exact ⟨Told.none HN.out, hbr⟩
      by_cases hbig : 4294967295 < n * 128 + x % 128
      · have HN : Hid (parR b = none) := hide (parR_none (by rw [HD.out, HDR.out, dec_dead (.inr hbig)]; rfl))
        have g3 : (4294967295 : Int) < (n : Int) * 128 + (x : Int) % 128 := by omega
        cases fr with
        | true =>
          have gx : ((x : Int) == 128) = false := by simp at hdead ⊢; omega
          go_wp2
          go_ret2
          exact ⟨Told.none HN.out, hbr⟩
        | false =>
          go_wp2
          go_ret2
          exact ⟨Told.none HN.out, hbr⟩
      have g3 : ¬ (4294967295 : Int) < (n : Int) * 128 + (x : Int) % 128 := by omega
      by_cases hlow : x < 128
      · have hHD2 : dec 0 true b = (dec 0 true (b.drop (k + 1))).map ((acc ++ [n * 128 + x % 128]) ++ ·) := by
          rw [HD.out, HDR.out, dec_end hdead hbig hlow]
          cases dec 0 true (b.drop (k + 1)) with
          | none => rfl
          | some r => simp only [Option.map_some, List.append_assoc, List.cons_append, List.nil_append]
        have HD2 := hide hHD2
        clear hHD2
        have HU2 : Hid (Under 4294967296 (acc ++ [n * 128 + x % 128])) := hide (HU.out.append (Under.one (by omega)))
        have gl : (x : Int) < 128 := by omega
        have hN : n * 128 + x % 128 < 4294967296 := by omega
        generalize hNN : n * 128 + x % 128 = N at *
        have HNN := hide hNN
        clear hNN
        by_cases hnil : acc = []
        · subst hnil
          have HX : Hid (expand [N] = fst2 N) := hide (by simp [expand])
          have hr0 : Hid ((expand ([] : List Nat)).length = 0) := hide rfl
          rw [hr0.out] at how ho1 ⊢
          cases fr with
          | true =>
            have gx : ((x : Int) == 128) = false := by simp at hdead ⊢; omega
            go_wp2_with (first
              | (go_at_call 61; rw [HEN.out]; refine (rfirst_any _ _ hN).mono ?_; rintro e w5 ⟨rfl, ho5, hb5⟩; have how5 := own_kept how hb5; have hsz5 := hb5.size)
              | (at_builtin; refine wpList_append_own2 _ rfl _ _ 73 72 82 rfl Tryd.underlying72 w.heap.size 82 i0 (.int .u32 0) 1 4 Tryd.underlying73 hi hz0 hz1 hz2 rfl (by decide) _ _ _ rfl how5 ⟨wr.heap.size, 0, none⟩ 2 2 (vals .u32 (fst2 N)) rfl rfl (ho5.cells rfl) (vals_one _ _) (by decide) (by omega) (by omega) ?_; intro v6 w6 how6 hgrow6 _)
              | fail)
            have hb6 := below_append' (hbr.trans (hb5.mono hsz)) (by omega) how5 hgrow6
            try rw [HEN.out]
            go_roundw
            case rel => exact ⟨k + 1, 0, true, [N], by omega, by go_num, rfl, by omega, rfl, HD2, by simp, HU2, by rw [HX.out]; exact how6, hb6⟩
            case measure => simp [intOf]; omega
          | false =>
            go_wp2_with (first
              | (go_at_call 61; rw [HEN.out]; refine (rfirst_any _ _ hN).mono ?_; rintro e w5 ⟨rfl, ho5, hb5⟩; have how5 := own_kept how hb5; have hsz5 := hb5.size)
              | (at_builtin; refine wpList_append_own2 _ rfl _ _ 73 72 82 rfl Tryd.underlying72 w.heap.size 82 i0 (.int .u32 0) 1 4 Tryd.underlying73 hi hz0 hz1 hz2 rfl (by decide) _ _ _ rfl how5 ⟨wr.heap.size, 0, none⟩ 2 2 (vals .u32 (fst2 N)) rfl rfl (ho5.cells rfl) (vals_one _ _) (by decide) (by omega) (by omega) ?_; intro v6 w6 how6 hgrow6 _)
              | fail)
            have hb6 := below_append' (hbr.trans (hb5.mono hsz)) (by omega) how5 hgrow6
            try rw [HEN.out]
            go_roundw
            case rel => exact ⟨k + 1, 0, true, [N], by omega, by go_num, rfl, by omega, rfl, HD2, by simp, HU2, by rw [HX.out]; exact how6, hb6⟩
            case measure => simp [intOf]; omega
        · have HX : Hid (expand (acc ++ [N]) = expand acc ++ [N]) := hide (expand_snoc hnil N)
          have hl0 : (((expand acc).length : Int) == 0) = false := by
            have h0 : (expand acc).length ≠ 0 := fun h => hnil ((expand_nil_iff acc).1 h)
            exact beq_eq_false_iff_ne.2 (by omega)
          have HXL : Hid ((expand acc ++ [N]).length = (expand acc).length + 1) := hide (by simp)
          cases fr with
          | true =>
            have gx : ((x : Int) == 128) = false := by simp at hdead ⊢; omega
            go_wp2_with (first
              | (at_builtin; refine wpList_append_own _ rfl _ _ 73 rfl w.heap.size 82 i0 (.int .u32 0) 1 4 Tryd.underlying73 hi hz0 hz1 hz2 rfl (by decide) _ _ _ rfl (how.alloc _) ⟨wr.heap.size, 0, none⟩ 1 1 (vals .u32 [N]) rfl rfl (app_cells wr .u32 N _ _ (by first | exact HEN.out | (simp; done) | skip)) (vals_one _ _) (by unfold maxLen; omega) (by omega) (by simp; omega) ?_; intro v6 w6 how6 hgrow6 _)
              | fail)
            have hb6 := below_append hbr hsz how _ hgrow6
            rw [← vals_append] at how6
            try rw [HEN.out]
            go_roundw
            case rel => exact ⟨k + 1, 0, true, acc ++ [N], by omega, by go_num, rfl, by omega, rfl, HD2, by simp; omega, HU2, by rw [HX.out, HXL.out]; exact how6, hb6⟩
            case measure => simp [intOf]; omega
          | false =>
            go_wp2_with (first
              | (at_builtin; refine wpList_append_own _ rfl _ _ 73 rfl w.heap.size 82 i0 (.int .u32 0) 1 4 Tryd.underlying73 hi hz0 hz1 hz2 rfl (by decide) _ _ _ rfl (how.alloc _) ⟨wr.heap.size, 0, none⟩ 1 1 (vals .u32 [N]) rfl rfl (app_cells wr .u32 N _ _ (by first | exact HEN.out | (simp; done) | skip)) (vals_one _ _) (by unfold maxLen; omega) (by omega) (by simp; omega) ?_; intro v6 w6 how6 hgrow6 _)
              | fail)
            have hb6 := below_append hbr hsz how _ hgrow6
            rw [← vals_append] at how6
            try rw [HEN.out]
            go_roundw
            case rel => exact ⟨k + 1, 0, true, acc ++ [N], by omega, by go_num, rfl, by omega, rfl, HD2, by simp; omega, HU2, by rw [HX.out, HXL.out]; exact how6, hb6⟩
            case measure => simp [intOf]; omega
      · have gl : ¬ (x : Int) < 128 := by omega
        have hHD2 : dec 0 true b = (dec (n * 128 + x % 128) false (b.drop (k + 1))).map (acc ++ ·) := by
          rw [HD.out, HDR.out, dec_on hdead hbig hlow]
        have HD2 := hide hHD2
        clear hHD2
        cases fr with
        | true =>
          have gx : ((x : Int) == 128) = false := by simp at hdead ⊢; omega
          go_wp2
          rw [HEN.out]
          go_roundw
          case rel => exact ⟨k + 1, n * 128 + x % 128, false, acc, by omega, by go_num, rfl, by omega, rfl, HD2, by omega, HU, how, hbr⟩
          case measure => simp [intOf]; omega
        | false =>
          go_wp2
          rw [HEN.out]
          go_roundw
          case rel => exact ⟨k + 1, n * 128 + x % 128, false, acc, by omega, by go_num, rfl, by omega, rfl, HD2, by omega, HU, how, hbr⟩
          case measure => simp [intOf]; omega
    · have hke : k = b.length := by omega
      have hD := HD.out
      rw [List.drop_of_length_le (by omega)] at hD
      cases fr with
      | false =>
        have HN : Hid (parR b = none) := hide (parR_none (by rw [hD]; rfl))
        clear hD
        go_wp2
        go_ret2
        exact ⟨Told.none HN.out, hbr⟩
      | true =>
        have hP : dec 0 true b = some acc := by rw [hD]; simp [dec]
        clear hD
        have hP2 := parR_some hP
        have hc := rfit_any _ (expand acc) wr (Own.row ⟨how, expand_under HU.out⟩)
        cases hf : fitB (expand acc) with
        | false =>
          rw [hf] at hc hP2
          have HN : Hid (parR b = none) := hide hP2
          clear hP hP2
          go_wp2_with (first | (go_at_call 62; refine hc.mono ?_; rintro e w1 ⟨rfl, rfl⟩) | fail)
          go_ret2
          exact ⟨Told.none HN.out, hbr⟩
        | true =>
          rw [hf] at hc hP2
          have HN : Hid (parR b = some (expand acc)) := hide hP2
          clear hP hP2
          go_wp2_with (first | (go_at_call 62; refine hc.mono ?_; rintro e w1 ⟨rfl, rfl⟩) | fail)
          go_ret2
          exact ⟨⟨_, by rw [HN.out]; rfl, by rw [HN.out]; exact Own.row ⟨how, expand_under HU.out⟩⟩, hbr⟩
end Go.Proofs.YtjkciheoknjfhaaDoor
