/- Whether two sums that go on are the same: the code's, and the document's. -/
import Derived.Test.YtgdcpdbmacmheaaDoorTex
import Derived.Test.YtgdcpdbmacmheaaDoorHFin64
import Derived.Test.YtgdcpdbmacmheaaDoorOwn
import Derived.ChangeKeysEq
namespace Go.Proofs.YtgdcpdbmacmheaaDoor
open Go.RowKit
set_option linter.unusedVariables false
set_option linter.unusedSimpArgs false

def hsame (ka : Int) (wa la : List Nat) (sa : Nat) (kb : Int) (wb lb : List Nat) (sb : Nat) : Bool := decide (ka = kb ∧ wa = wb ∧ sa = sb ∧ la = lb)
theorem eq8 {a b : List Nat} (ha : a.length = 8) (hb : b.length = 8) : a = b ↔ ∀ j, j < 8 → el a j = el b j := by
  constructor
  · rintro rfl j _; rfl
  · intro h; exact el_ext (by omega) (fun i hi => h i (by omega))
theorem infoU : (Tryd.prog.info? 23).map (fun i => (i.zero, i.size, i.bytes)) = some (some (.int .u64 0), 1, 8) := by kernel_rfl
theorem run_items_arr {P : Program} (w : World) (d : Nat) {e : TypeId} {k : IntKind} (he : P.underlying e = some (.int k)) (xs ys : List Nat) : ∀ is : List Nat, (∀ i ∈ is, i < xs.length ∧ i < ys.length) →
    (Op.eqItems (d + 1) e 1 (arr k xs) (arr k ys) is).run P w = .ok (is.all (fun i => el xs i == el ys i)) w
  | [], _ => by simp [Op.eqItems]
  | i :: is, h => by
    obtain ⟨h1, h2⟩ := h i (by simp)
    have hag : (isAgg e).run P w = .ok false w := by unfold isAgg; rw [Sem.run_bind, run_underlying he w]; rfl
    have px : (part e (arr k xs) (i * 1)).run P w = .ok (.int k (el xs i)) w := by simp [part, hag, arr_get k xs i h1]
    have py : (part e (arr k ys) (i * 1)).run P w = .ok (.int k (el ys i)) w := by simp [part, hag, arr_get k ys i h2]
    have pe := run_equalIn_int (P := P) w d e k k (el xs i) (el ys i) he
    have ih := run_items_arr w d he xs ys is (fun j hj => h j (by simp [hj]))
    have hc : ((el xs i : Int) == (el ys i : Int)) = (el xs i == el ys i) := by rw [Bool.eq_iff_iff]; simp; omega
    rw [hc] at pe
    simp only [Op.eqItems, Sem.run_bind, px, py, pe, Result.andThen_ok, List.all_cons]
    cases hb : (el xs i == el ys i)
    · simp
    · simpa using ih
theorem run_equalIn_arr {P : Program} (w : World) (t e : TypeId) (k : IntKind) (i : TypeInfo) (hu : P.underlying t = some (.array 8 e)) (hi : P.info? e = some i) (hc : P.cellsOf e = 1) (he : P.underlying e = some (.int k)) (xs ys : List Nat) (hx : xs.length = 8) (hy : ys.length = 8) :
    (Op.equalIn 10000 t (.agg (arr k xs)) (.agg (arr k ys))).run P w = .ok (decide (xs = ys)) w := by
  rw [run_equalIn_array w 9999 (arr k xs) (arr k ys) hu hi, hc, run_items_arr w 9998 he xs ys (List.range 8) (fun i hi => by have := List.mem_range.1 hi; omega)]
  congr 1
  rw [Bool.eq_iff_iff, List.all_eq_true, decide_eq_true_iff, eq8 hx hy]
  simp only [List.mem_range, beq_iff_eq]
set_option maxHeartbeats 4000000 in
set_option maxRecDepth 100000 in
theorem rsameH_any (ka : Int) (wa : List Nat) (ta : Value) (la : List Nat) (sa : Nat) (kb : Int) (wb : List Nat) (tb : Value) (lb : List Nat) (sb : Nat) (w : World) (ha8 : wa.length = 8) (hb8 : wb.length = 8) (hua : Under 18446744073709551616 wa) (hub : Under 18446744073709551616 wb) (hRa : Row .u8 256 w ta la) (hRb : Row .u8 256 w tb lb) :
    Calls Tryd.prog 13 #[.agg (hv ka wa ta sa), .agg (hv kb wb tb sb)] w fun e w' => e = .returned (.bool (hsame ka wa la sa kb wb lb sb)) ∧ Below w.heap.size w w' := by
  have hq := (keep_trans (keep_alloc w (.cells (hv ka wa ta sa) 26)) (keep_alloc _ (.cells (hv kb wb tb sb) 26)))
  have hcall := rsame_any ta tb la lb _ (hRa.below hq) (hRb.below hq)
  have heq : ∀ w, (Op.equalIn 10000 24 (.agg #[.int .u64 (el wa 0), .int .u64 (el wa 1), .int .u64 (el wa 2), .int .u64 (el wa 3), .int .u64 (el wa 4), .int .u64 (el wa 5), .int .u64 (el wa 6), .int .u64 (el wa 7)]) (.agg #[.int .u64 (el wb 0), .int .u64 (el wb 1), .int .u64 (el wb 2), .int .u64 (el wb 3), .int .u64 (el wb 4), .int .u64 (el wb 5), .int .u64 (el wb 6), .int .u64 (el wb 7)])).run Tryd.prog w = .ok (decide (wa = wb)) w := fun w => by
    obtain ⟨i0, hi, _⟩ := info_parts infoU
    rw [← arr8 .u64 wa ha8, ← arr8 .u64 wb hb8]
    exact run_equalIn_arr w 24 23 .u64 i0 (by kernel_rfl) hi (by kernel_rfl) (by kernel_rfl) wa wb ha8 hb8
  obtain ⟨aa, ac, rfl, _⟩ := hRa
  obtain ⟨ba, bc, rfl, _⟩ := hRb
  unfold hv at *
  by_cases hk : ka = kb
  · subst hk
    by_cases hw : wa = wb
    · subst hw
      have hd1 : decide (wa = wa) = true := decide_eq_true rfl
      rw [hd1] at heq
      clear hd1
      by_cases hs : sa = sb
      · subst hs
        have hf : hsame ka wa la sa ka wa lb sa = decide (la = lb) := by simp [hsame]
        rw [hf]
        go_enter Tryd.func13, Tryd.ntmps13
        go_wp2_with (first | (go_at_call 12; refine hcall.mono ?_; rintro e w1 ⟨rfl, nn, rfl⟩) | fail)
        go_ret
        exact ⟨rfl, bel_drewN hq _⟩
      · have hf : hsame ka wa la sa ka wa lb sb = false := by simp [hsame, hs]
        have hs2 : ((sa : Int) == (sb : Int)) = false := by rw [beq_eq_false_iff_ne]; omega
        rw [hf]
        clear hf hs
        go_enter Tryd.func13, Tryd.ntmps13
        go_wp2
        go_ret
        exact ⟨rfl, hq⟩
    · have hf : hsame ka wa la sa ka wb lb sb = false := by simp [hsame, hw]
      rw [hf]
      rw [decide_eq_false hw] at heq
      clear hf hw
      go_enter Tryd.func13, Tryd.ntmps13
      go_wp2
      go_ret
      exact ⟨rfl, hq⟩
  · have hf : hsame ka wa la sa kb wb lb sb = false := by simp [hsame, hk]
    have hk2 : (ka == kb) = false := by rw [beq_eq_false_iff_ne]; exact hk
    rw [hf]
    clear hf hk
    go_enter Tryd.func13, Tryd.ntmps13
    go_wp2
    go_ret
    exact ⟨rfl, hq⟩
set_option maxHeartbeats 4000000 in
set_option maxRecDepth 100000 in
theorem ssame_any (ka : Int) (wa : List Nat) (ta : Value) (la : List Nat) (sa : Nat) (kb : Int) (wb : List Nat) (tb : Value) (lb : List Nat) (sb : Nat) (w : World) (ha8 : wa.length = 8) (hb8 : wb.length = 8) (hua : Under 18446744073709551616 wa) (hub : Under 18446744073709551616 wb) (hRa : Row .u8 256 w ta la) (hRb : Row .u8 256 w tb lb) :
    Calls Tryd.prog 16 #[.agg (hv ka wa ta sa), .agg (hv kb wb tb sb)] w fun e w' => e = .returned (.bool (hsame ka wa la sa kb wb lb sb)) ∧ Below w.heap.size w w' := by
  have hA := (Hb.new w ka wa ta sa).below (keep_alloc _ (.cells (hv kb wb tb sb) 26))
  have hB : Hb ((w.alloc (.cells (hv ka wa ta sa) 26)).alloc (.cells (hv kb wb tb sb) 26)) (w.heap.size + 1) kb wb tb sb := by
    have := Hb.new (w.alloc (.cells (hv ka wa ta sa) 26)) kb wb tb sb
    rw [World.size_alloc] at this
    exact this
  have hq := (keep_trans (keep_alloc w (.cells (hv ka wa ta sa) 26)) (keep_alloc _ (.cells (hv kb wb tb sb) 26)))
  have hra := hRa.below hq
  have hrb := hRb.below hq
  obtain ⟨aa, ac, rfl, _⟩ := hRa
  obtain ⟨ba, bc, rfl, _⟩ := hRb
  unfold hv at *
  go_enter Tryd.func16, Tryd.ntmps16
  go_wp2
  generalize (w.alloc (.cells #[.int .i64 ka, .int .u64 (el wa 0), .int .u64 (el wa 1), .int .u64 (el wa 2), .int .u64 (el wa 3), .int .u64 (el wa 4), .int .u64 (el wa 5), .int .u64 (el wa 6), .int .u64 (el wa 7), .slice aa la.length ac, .int .u64 sa] 26)).alloc (.cells #[.int .i64 kb, .int .u64 (el wb 0), .int .u64 (el wb 1), .int .u64 (el wb 2), .int .u64 (el wb 3), .int .u64 (el wb 4), .int .u64 (el wb 5), .int .u64 (el wb 6), .int .u64 (el wb 7), .slice ba lb.length bc, .int .u64 sb] 26) = w1 at *
  go_loopw [5, 8] (fun d i wr => ∃ (j q D : Nat), j ≤ 8 ∧ i = .int .i64 j ∧ wr = w1.drewN q ∧ d = .int .u64 D ∧ D < 18446744073709551616 ∧ (D = 0 ↔ ∀ t, t < j → el wa t = el wb t)) (fun _ i _ => 8 - (intOf i).toNat)
  case atStart => exact ⟨0, 0, 0, Nat.zero_le _, rfl, rfl, rfl, by decide, ⟨fun _ t ht => by omega, fun _ => rfl⟩⟩
  case round =>
    obtain ⟨j, qq, D, hj, rfl, rfl, rfl, hD, hall⟩ := hrel
    have HA := hide hall
    clear hall
    by_cases hlt : j < 8
    · have c1 : w1.cell? ⟨w.heap.size, 1 + j, none⟩ = some (.int .u64 (el wa j)) := Hb.word hA hlt
      have c2 : w1.cell? ⟨w.heap.size + 1, 1 + j, none⟩ = some (.int .u64 (el wb j)) := Hb.word hB hlt
      have ij0 : (0 : Int) ≤ (j : Int) := Int.natCast_nonneg _
      have ij1 : (j : Int) < 8 := by omega
      have hx : el wa j < 18446744073709551616 := el_lt hua (by decide) j
      have hy : el wb j < 18446744073709551616 := el_lt hub (by decide) j
      go_wp2
      go_quiet (fail)
      go_wp2
      have hxy := Nat.xor_lt_two_pow (n := 64) hx hy
      rw [u64_xor_nat _ _ hx hy, u64_or_nat D _ hD hxy]
      refine ⟨⟨j + 1, _, D ||| (el wa j ^^^ el wb j), by omega, by go_num, rfl, rfl, Nat.or_lt_two_pow (n := 64) hD hxy, ?_⟩, by simp [intOf]; omega⟩
      rw [or_zero, xor_zero, HA.out]
      constructor
      · rintro ⟨h1, h2⟩ t ht
        by_cases e : t = j
        · subst e; exact h2
        · exact h1 t (by omega)
      · intro h
        exact ⟨fun t ht => h t (by omega), h j (by omega)⟩
    · obtain rfl : j = 8 := by omega
      have hiff : D = 0 ↔ wa = wb := by rw [HA.out, eq8 ha8 hb8]
      have HI := hide hiff
      clear hiff
      have e0 : (w1.drewN qq).cell? ⟨w.heap.size, 0, none⟩ = some (.int .i64 ka) := Hb.kind (w := w1.drewN qq) hA
      have e1 : (w1.drewN qq).cell? ⟨w.heap.size + 1, 0, none⟩ = some (.int .i64 kb) := Hb.kind (w := w1.drewN qq) hB
      have e2 : (w1.drewN qq).cell? ⟨w.heap.size, 9, none⟩ = some (.slice aa la.length ac) := Hb.tail (w := w1.drewN qq) hA
      have e3 : (w1.drewN qq).cell? ⟨w.heap.size + 1, 9, none⟩ = some (.slice ba lb.length bc) := Hb.tail (w := w1.drewN qq) hB
      have e4 : (w1.drewN qq).cell? ⟨w.heap.size, 10, none⟩ = some (.int .u64 sa) := Hb.size (w := w1.drewN qq) hA
      have e5 : (w1.drewN qq).cell? ⟨w.heap.size + 1, 10, none⟩ = some (.int .u64 sb) := Hb.size (w := w1.drewN qq) hB
      have hcall := bsame_any _ _ la lb (w1.drewN qq) (hra.drewN qq) (hrb.drewN qq)
      clear hra hrb hA hB
      by_cases g1 : D = 0
      · subst g1
        obtain rfl : wa = wb := HI.out.1 rfl
        by_cases g2 : la = lb
        · subst g2
          rw [decide_eq_true rfl] at hcall
          by_cases g3 : ka = kb
          · subst g3
            by_cases g4 : sa = sb
            · subst g4
              have hf : hsame ka wa la sa ka wa la sa = true := by simp [hsame]
              go_wp2_with fail
              refine hcall.mono ?_
              rintro e w2 ⟨rfl, hb2⟩
              replace e0 := keep_cell e0 hb2
              replace e1 := keep_cell e1 hb2
              replace e4 := keep_cell e4 hb2
              replace e5 := keep_cell e5 hb2
              go_wp2
              go_ret
              exact ⟨by rw [hf]; rfl, keep_trans (bel_drewN hq qq) hb2⟩
            · have hf : hsame ka wa la sa ka wa la sb = false := by simp [hsame, g4]
              have g4' : ((sa : Int) == (sb : Int)) = false := by rw [beq_eq_false_iff_ne]; omega
              clear g4
              go_wp2_with fail
              refine hcall.mono ?_
              rintro e w2 ⟨rfl, hb2⟩
              replace e0 := keep_cell e0 hb2
              replace e1 := keep_cell e1 hb2
              replace e4 := keep_cell e4 hb2
              replace e5 := keep_cell e5 hb2
              go_wp2
              go_ret
              exact ⟨by rw [hf]; rfl, keep_trans (bel_drewN hq qq) hb2⟩
          · have hf : hsame ka wa la sa kb wa la sb = false := by simp [hsame, g3]
            have g3' : (ka == kb) = false := by rw [beq_eq_false_iff_ne]; exact g3
            clear g3
            go_wp2_with fail
            refine hcall.mono ?_
            rintro e w2 ⟨rfl, hb2⟩
            replace e0 := keep_cell e0 hb2
            replace e1 := keep_cell e1 hb2
            replace e4 := keep_cell e4 hb2
            replace e5 := keep_cell e5 hb2
            go_wp2
            go_ret
            exact ⟨by rw [hf]; rfl, keep_trans (bel_drewN hq qq) hb2⟩
        · have hf : hsame ka wa la sa kb wa lb sb = false := by simp [hsame, g2]
          rw [decide_eq_false g2] at hcall
          clear g2
          go_wp2_with fail
          refine hcall.mono ?_
          rintro e w2 ⟨rfl, hb2⟩
          replace e0 := keep_cell e0 hb2
          replace e1 := keep_cell e1 hb2
          replace e4 := keep_cell e4 hb2
          replace e5 := keep_cell e5 hb2
          go_wp2
          go_ret
          exact ⟨by rw [hf]; rfl, keep_trans (bel_drewN hq qq) hb2⟩
      · have hf : hsame ka wa la sa kb wb lb sb = false := by
          have : ¬ wa = wb := fun h => g1 (HI.out.2 h)
          simp [hsame, this]
        have g1' : ((D : Int) == 0) = false := by rw [beq_eq_false_iff_ne]; omega
        clear g1
        go_wp2_with fail
        refine hcall.mono ?_
        rintro e w2 ⟨rfl, hb2⟩
        replace e0 := keep_cell e0 hb2
        replace e1 := keep_cell e1 hb2
        replace e4 := keep_cell e4 hb2
        replace e5 := keep_cell e5 hb2
        go_wp2
        go_ret
        exact ⟨by rw [hf]; rfl, keep_trans (bel_drewN hq qq) hb2⟩
end Go.Proofs.YtgdcpdbmacmheaaDoor
