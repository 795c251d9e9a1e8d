/- Contracts of the document's tables. -/
import Derived.Test.YtogiballdmgcpaaGreatDoorHTur64
import Derived.Test.YtogiballdmgcpaaGreatDoorHRes32
import Derived.Test.YtogiballdmgcpaaGreatDoorLsFrm
import Derived.Test.YtogiballdmgcpaaGreatDoorHKit
import Derived.Test.YtogiballdmgcpaaGreatDoorHRes64
namespace Go.Proofs.YtogiballdmgcpaaGreatDoor
open Go.RowKit
set_option linter.unusedVariables false
set_option linter.unusedSimpArgs false

theorem wpList_build_is {P : Program} {ops : Array Oper} {rest : List Oper} {o : Oper} {a : Act} {w : World} {Q : Exit → Act → World → Prop} (hg : o.guard = none) (t : TypeId) (parts : Array (Nat × Operand)) (ho : o.op = .build t parts) (cells : Array Value)
    (hf : P.built t (parts.map fun (i, x) => (i, a.eval x)).toList = some cells)
    (h : wpList P ops Q rest (a.put o.dst (.agg cells)) w) : wpList P ops Q (o :: rest) a w :=
  wpList_build hg t parts ho (by rw [hf]; rfl) (by rw [hf]; exact h)
/-- the document's table of 64 words -/
def k256 : List Nat := (ks false).take 64
theorem k256_length : k256.length = 64 := rfl
theorem k256_el {i : Nat} (h : i < 64) : el k256 i = el (ks false) i := el_take h
set_option maxRecDepth 100000 in
theorem zero64 : ∀ w, (zeroValue 172).run Tryz.prog w = .ok (.agg (arr .u64 (List.replicate 64 0))) w := zero_arr (by kernel_rfl)
set_option maxHeartbeats 1000000 in
set_option maxRecDepth 100000 in
theorem roots256_any (w : World) : Calls Tryz.prog 134 #[] w fun e w' => e = .returned (.agg (arr .u64 k256)) ∧ Below w.heap.size w w' := by
  have hz := zero64
  have hO : Lies .u64 172 (w.alloc (.cells (arr .u64 (List.replicate 64 0)) 172)) w.heap.size (List.replicate 64 0) := Lies.new _ _ w _
  go_enter Tryz.func134, Tryz.ntmps134
  go_wp2_with (first
    | (refine wpList_build_is rfl 172 _ (by rfl) (arr .u64 k256) (by kernel_rfl) ?_)
    | (refine wpList_store_row rfl 172 _ _ (by rfl) w.heap.size (arr .u64 k256) (by rfl) (by rfl) _ _ hO (by kernel_rfl) (by rw [arr_size, arr_size, List.length_replicate, k256_length]) (arr_one _ _) ?_)
    | fail)
  have hOf := hO.row (l' := k256)
  have hbf : Below w.heap.size w ((w.alloc (.cells (arr .u64 (List.replicate 64 0)) 172)).setRow w.heap.size (arr .u64 k256)) := (keep_alloc w _).trans ((But.setRow (But.refl _ _) _).below (Nat.le_refl _) (by simp))
  refine bodyPost_ret (v := .agg (arr .u64 k256)) ?_ ?_ ?_
  · exact results_cell_row Tryz.results134 _ _ w.heap.size _ _ _ (.array 64 26) (by rfl) hOf (by kernel_rfl) rfl (by kernel_rfl)
  · rfl
  · exact ⟨rfl, hbf⟩

set_option maxHeartbeats 1000000 in
set_option maxRecDepth 100000 in
theorem roots512_any (w : World) : Calls Tryz.prog 135 #[] w fun e w' => e = .returned (.agg (arr .u64 cubes)) ∧ Below w.heap.size w w' := by
  have hz := zero8064
  have hO : Lies .u64 174 (w.alloc (.cells (arr .u64 (List.replicate 80 0)) 174)) w.heap.size (List.replicate 80 0) := Lies.new _ _ w _
  go_enter Tryz.func135, Tryz.ntmps135
  go_wp2_with (first
    | (refine wpList_build_is rfl 174 _ (by rfl) (arr .u64 cubes) (by kernel_rfl) ?_)
    | (refine wpList_store_row rfl 174 _ _ (by rfl) w.heap.size (arr .u64 cubes) (by rfl) (by rfl) _ _ hO (by kernel_rfl) (by rw [arr_size, arr_size, List.length_replicate, cubes_length]) (arr_one _ _) ?_)
    | fail)
  have hOf := hO.row (l' := cubes)
  have hbf : Below w.heap.size w ((w.alloc (.cells (arr .u64 (List.replicate 80 0)) 174)).setRow w.heap.size (arr .u64 cubes)) := (keep_alloc w _).trans ((But.setRow (But.refl _ _) _).below (Nat.le_refl _) (by simp))
  refine bodyPost_ret (v := .agg (arr .u64 cubes)) ?_ ?_ ?_
  · exact results_cell_row Tryz.results135 _ _ w.heap.size _ _ _ (.array 80 26) (by rfl) hOf (by kernel_rfl) rfl (by kernel_rfl)
  · rfl
  · exact ⟨rfl, hbf⟩
end Go.Proofs.YtogiballdmgcpaaGreatDoor

/- Contract of the document's block, of words of 32 bits. -/
namespace Go.Proofs.YtogiballdmgcpaaGreatDoor
open Go.RowKit
set_option linter.unusedVariables false
set_option linter.unusedSimpArgs false

theorem rchs32 (e f g : Nat) (he : e < 4294967296) (hf : f < 4294967296) (hg : g < 4294967296) : bits .xor .u64 (bits .and .u64 (e : Int) (f : Int)) (bits .and .u64 (bits .xor .u64 4294967295 (e : Int)) (g : Int)) = ((chs false e f g : Nat) : Int) := by
  have hn : bits .xor .u64 4294967295 (e : Int) = ((4294967296 - 1 - e : Nat) : Int) := by
    rw [show (4294967295 : Int) = ((4294967296 - 1 : Nat) : Int) from rfl, u64_xor_nat _ _ (by decide) (by omega), ← ones_xor 32 e he]
  rw [hn, and_is64 e f (by omega) (by omega), and_is64 _ g (by omega) (by omega), xor_is64 _ _ (Nat.lt_of_le_of_lt Nat.and_le_left (by omega)) (Nat.lt_of_le_of_lt Nat.and_le_left (by omega))]
  rfl
theorem rr032 (s : List Nat) (k w : Nat) : ((((((el s 7 + turn3 false 6 11 25 (el s 4)) % 18446744073709551616 + chs false (el s 4) (el s 5) (el s 6)) % 18446744073709551616 + k) % 18446744073709551616 + w) % 18446744073709551616 + (turn3 false 2 13 22 (el s 0) + maj (el s 0) (el s 1) (el s 2)) % 18446744073709551616) % 18446744073709551616) % 4294967296 = el (rnd false k w s) 0 := by
  show _ = (tOne false s k w + tTwo false s) % wm false
  unfold tOne tTwo
  simp only [gS0, gS1, wm, cond_true, cond_false]
  omega
theorem rr432 (s : List Nat) (k w : Nat) : ((el s 3 + ((((el s 7 + turn3 false 6 11 25 (el s 4)) % 18446744073709551616 + chs false (el s 4) (el s 5) (el s 6)) % 18446744073709551616 + k) % 18446744073709551616 + w) % 18446744073709551616) % 18446744073709551616) % 4294967296 = el (rnd false k w s) 4 := by
  show _ = (el s 3 + tOne false s k w) % wm false
  unfold tOne
  simp only [gS0, gS1, wm, cond_true, cond_false]
  omega
theorem addS_get32 (h s : List Nat) (j : Nat) (hj : j < s.length) : el (addW false h s j ++ s.drop j) j = el s j := by
  rw [el_app_right (by rw [addW_length]; omega), addW_length, el_drop, Nat.sub_self]; rfl
theorem addS_set32 (h s : List Nat) (j : Nat) (hj : j < s.length) : (addW false h s j ++ s.drop j).set j ((el s j + el h j) % wm false) = addW false h s (j + 1) ++ s.drop (j + 1) := by
  have e : addW false h s (j + 1) = addW false h s j ++ [(el s j + el h j) % wm false] := by simp [addW, List.range_succ]
  rw [e, drop_el hj, List.append_assoc, List.set_append_right _ _ (by rw [addW_length]; omega), addW_length, Nat.sub_self]
  rfl
theorem eight32 {t : TypeId} {w : World} {g : Nat} {l : List Nat} (h : Lies .u64 t w g l) (h8 : l.length = 8) : w.cell? ⟨g, 0, none⟩ = some (.int .u64 (el l 0)) ∧ w.cell? ⟨g, 1, none⟩ = some (.int .u64 (el l 1)) ∧ w.cell? ⟨g, 2, none⟩ = some (.int .u64 (el l 2)) ∧ w.cell? ⟨g, 3, none⟩ = some (.int .u64 (el l 3)) ∧ w.cell? ⟨g, 4, none⟩ = some (.int .u64 (el l 4)) ∧ w.cell? ⟨g, 5, none⟩ = some (.int .u64 (el l 5)) ∧ w.cell? ⟨g, 6, none⟩ = some (.int .u64 (el l 6)) ∧ w.cell? ⟨g, 7, none⟩ = some (.int .u64 (el l 7)) :=
  ⟨h.cell (by omega), h.cell (by omega), h.cell (by omega), h.cell (by omega), h.cell (by omega), h.cell (by omega), h.cell (by omega), h.cell (by omega)⟩
theorem set832 (s : List Nat) (h : s.length = 8) (a b c d e f g i : Nat) : (((((((s.set 0 a).set 1 b).set 2 c).set 3 d).set 4 e).set 5 f).set 6 g).set 7 i = [a, b, c, d, e, f, g, i] := by
  match s, h with
  | [_, _, _, _, _, _, _, _], _ => rfl
set_option maxHeartbeats 8000000 in
set_option maxRecDepth 100000 in
theorem rblock_any32 (hs l : List Nat) (v : Value) (w : World) (hR : Row .u8 256 w v l) (hl : l.length = 64) (h8 : hs.length = 8) (hhu : Under 4294967296 hs) :
    Calls Tryz.prog 123 #[.agg (arr .u64 hs), v, .bool false] w fun e w' => e = .returned (.agg (arr .u64 (comp false hs l))) ∧ Below w.heap.size w w' := by
  have hz := zero64
  have hz2 := zero8064
  have hO : Lies .u64 144 ((w.alloc (.cells (arr .u64 hs) 144)).alloc (.cells #[.int .u64 0, .int .u64 0, .int .u64 0, .int .u64 0, .int .u64 0, .int .u64 0, .int .u64 0, .int .u64 0] 144)) (w.heap.size + 1) (List.replicate 8 0) := by
    have := Lies.new .u64 144 (w.alloc (.cells (arr .u64 hs) 144)) (List.replicate 8 0)
    rw [World.size_alloc] at this
    exact this
  have hH : Lies .u64 144 ((w.alloc (.cells (arr .u64 hs) 144)).alloc (.cells #[.int .u64 0, .int .u64 0, .int .u64 0, .int .u64 0, .int .u64 0, .int .u64 0, .int .u64 0, .int .u64 0] 144)) w.heap.size hs := (Lies.new .u64 144 w hs).alloc _
  have hb0 := keep_trans (keep_alloc w (.cells (arr .u64 hs) 144)) (keep_alloc _ (.cells #[.int .u64 0, .int .u64 0, .int .u64 0, .int .u64 0, .int .u64 0, .int .u64 0, .int .u64 0, .int .u64 0] 144))
  go_enter Tryz.func123, Tryz.ntmps123
  go_wp2_with fail
  refine (roots256_any _).mono ?_
  rintro e w1 ⟨rfl, hb1⟩
  have hO1 := hO.below hb1
  have hH1 := hH.below hb1
  have hb1' := keep_trans hb0 hb1
  clear hO hH hb0 hb1
  have hK1 : Lies .u64 172 (w1.alloc (.cells (arr .u64 (List.replicate 64 0)) 172)) w1.heap.size (List.replicate 64 0) := Lies.new _ _ w1 _
  go_wp2_with (first
    | (refine wpList_store_row rfl 172 _ _ (by rfl) w1.heap.size (arr .u64 k256) (by rfl) (by rfl) _ _ hK1 (by kernel_rfl) (by rw [arr_size, arr_size, List.length_replicate, k256_length]) (arr_one _ _) ?_)
    | fail)
  have hK1' := hK1.row (l' := k256)
  have hB1 : Below w1.heap.size w1 _ := (keep_alloc w1 (.cells (arr .u64 (List.replicate 64 0)) 172)).trans ((But.setRow (But.refl w1.heap.size _) (arr .u64 k256)).below (Nat.le_refl _) (by simp))
  refine (roots512_any _).mono ?_
  rintro e w2 ⟨rfl, hb2⟩
  have hO2 : Lies .u64 144 w2 (w.heap.size + 1) (List.replicate 8 0) := (hO1.below hB1).below hb2
  have hH2 : Lies .u64 144 w2 w.heap.size hs := (hH1.below hB1).below hb2
  have hK2 : Lies .u64 172 w2 w1.heap.size k256 := hK1'.below hb2
  have hb2' : Below w.heap.size w w2 := keep_trans hb1' (keep_trans hB1 hb2)
  clear hO1 hH1 hK1 hK1' hB1 hb2 hb1'
  have hC2 : Lies .u64 174 (w2.alloc (.cells (arr .u64 (List.replicate 80 0)) 174)) w2.heap.size (List.replicate 80 0) := Lies.new _ _ w2 _
  have hC2' := hC2.row (l' := cubes)
  have hB2 : Below w2.heap.size w2 _ := (keep_alloc w2 (.cells (arr .u64 (List.replicate 80 0)) 174)).trans ((But.setRow (But.refl w2.heap.size _) (arr .u64 cubes)).below (Nat.le_refl _) (by simp))
  go_wp2_with (first
    | (refine wpList_store_row rfl 174 _ _ (by rfl) w2.heap.size (arr .u64 cubes) (by rfl) (by rfl) _ _ hC2 (by kernel_rfl) (by rw [arr_size, arr_size, List.length_replicate, cubes_length]) (arr_one _ _) ?_)
    | fail)
  refine (words_any32 v l _ ((hR.below hb2').below hB2) hl).mono ?_
  rintro e w3 ⟨wv, rfl, hW, hb3⟩
  have hO3 : Lies .u64 144 w3 (w.heap.size + 1) (List.replicate 8 0) := (hO2.below hB2).below hb3
  have hH3 : Lies .u64 144 w3 w.heap.size hs := (hH2.below hB2).below hb3
  have hK3 : Lies .u64 172 w3 w1.heap.size k256 := (hK2.below hB2).below hb3
  have hC3 : Lies .u64 174 w3 w2.heap.size cubes := hC2'.below hb3
  have hb3' : Below w.heap.size w w3 := keep_trans hb2' (keep_trans hB2 hb3)
  have hWl : (sched false l 48).length = 64 := by rw [sched_length]
  have hWr := hW.row
  have hcmp : comp false hs l = addW false hs (rndN false (ks false) (sched false l 48) 64 hs) 8 := rfl
  have HCMP := hide hcmp
  clear hO2 hH2 hK2 hC2 hC2' hB2 hb2' hW hb3 hcmp
  generalize sched false l 48 = S at *
  obtain ⟨wa, wc, rfl, hw1, hw2, hw3⟩ := hWr.opens hWl
  obtain ⟨wbk, woff, rfl, hwc⟩ := hw3 (by decide)
  clear hw3 hwc
  have hV3 : Lies .u64 144 (w3.alloc (.cells #[.int .u64 0, .int .u64 0, .int .u64 0, .int .u64 0, .int .u64 0, .int .u64 0, .int .u64 0, .int .u64 0] 144)) w3.heap.size (List.replicate 8 0) := Lies.new .u64 144 w3 (List.replicate 8 0)
  go_wp2_with (first
    | (refine wpList_load_row rfl 144 _ (by rfl) w.heap.size (by rfl) _ _ _ (.array 8 26) hH3 (by kernel_rfl) rfl (by rw [arr_size, h8]; kernel_rfl) ?_)
    | (refine wpList_store_row rfl 144 _ _ (by rfl) w3.heap.size (arr .u64 hs) (by rfl) (by rfl) _ _ hV3 (by rw [arr_size, h8]; kernel_rfl) (by rw [arr_size, arr_size, h8, List.length_replicate]) (arr_one _ _) ?_)
    | fail)
  have hB3 : Below w3.heap.size w3 ((w3.alloc (.cells #[.int .u64 0, .int .u64 0, .int .u64 0, .int .u64 0, .int .u64 0, .int .u64 0, .int .u64 0, .int .u64 0] 144)).setRow w3.heap.size (arr .u64 hs)) := (keep_alloc w3 _).trans ((But.setRow (But.refl w3.heap.size _) (arr .u64 hs)).below (Nat.le_refl _) (by simp))
  have hV4 := hV3.row (l' := hs)
  have hO4 := hO3.below hB3
  have hH4 := hH3.below hB3
  have hK4 := hK3.below hB3
  have hC4 := hC3.below hB3
  have hW4 := hWr.below hB3
  have hb4 := keep_trans hb3' hB3
  have hoO : w.heap.size + 1 ≠ w3.heap.size := by have := hO3.lt; omega
  have hoH : w.heap.size ≠ w3.heap.size := by have := hH3.lt; omega
  have hoK : w1.heap.size ≠ w3.heap.size := by have := hK3.lt; omega
  have hoC : w2.heap.size ≠ w3.heap.size := by have := hC3.lt; omega
  have hoW : Away w3.heap.size (.slice (some ⟨wbk, woff, none⟩) 64 wc) S := hWr.away (Nat.le_refl _)
  have hlo : w.heap.size ≤ w3.heap.size := hb3'.size
  clear hO3 hH3 hK3 hC3 hWr hb3' hV3 hB3 hR
  generalize (w3.alloc (.cells #[.int .u64 0, .int .u64 0, .int .u64 0, .int .u64 0, .int .u64 0, .int .u64 0, .int .u64 0, .int .u64 0] 144)).setRow w3.heap.size (arr .u64 hs) = w4 at *
  generalize w3.heap.size = q at *
  go_loopw [13] (fun i wr => ∃ k : Nat, k ≤ 64 ∧ i = .int .i64 k ∧ Lies .u64 144 wr q (rndN false (ks false) S k hs) ∧ But q w4 wr) (fun i _ => 64 - (intOf i).toNat)
  case atStart => exact ⟨0, Nat.zero_le _, rfl, hV4, But.refl _ _⟩
  case round =>
    obtain ⟨k, hk, rfl, hVr, hBr⟩ := hrel
    clear hV4
    have hsu := rndN_under (b := false) (ks := ks false) (ws := S) hhu k
    have hs8 : (rndN false (ks false) S k hs).length = 8 := rndN_length h8 k
    by_cases hlt : k < 64
    · have hnx : rndN false (ks false) S (k + 1) hs = rnd false (el (ks false) k) (el S k) (rndN false (ks false) S k hs) := rfl
      have HNX := hide hnx
      clear hnx
      generalize rndN false (ks false) S k hs = s at *
      have u := fun i => el_lt hsu (wm_pos false) i
      have u0 : el s 0 < 4294967296 := u 0
      have u1 : el s 1 < 4294967296 := u 1
      have u2 : el s 2 < 4294967296 := u 2
      have u4 : el s 4 < 4294967296 := u 4
      have u5 : el s 5 < 4294967296 := u 5
      have u6 : el s 6 < 4294967296 := u 6
      clear u
      obtain ⟨z0, z1, z2, z3, z4, z5, z6, z7⟩ := eight32 hVr hs8
      go_wp2_with fail
      refine (rmix_any false false (el s 0) 2 13 22 _ (by omega) (by decide) (by decide) (by decide)).mono ?_
      rintro e w5 ⟨rfl, hb5⟩
      replace hVr := hVr.below hb5
      replace hBr := hBr.trans (But.of_below hb5)
      obtain ⟨z0, z1, z2, z3, z4, z5, z6, z7⟩ := eight32 hVr (by assumption)
      go_wp2_with fail
      refine (rmix_any false false (el s 4) 6 11 25 _ (by omega) (by decide) (by decide) (by decide)).mono ?_
      rintro e w6 ⟨rfl, hb6⟩
      replace hVr := hVr.below hb6
      replace hBr := hBr.trans (But.of_below hb6)
      obtain ⟨z0, z1, z2, z3, z4, z5, z6, z7⟩ := eight32 hVr (by assumption)
      have hCr := hK4.but hBr hoK
      have ck := hCr.cell (i := k) (by rw [k256_length]; omega)
      have hck : el k256 k = el (ks false) k := k256_el hlt
      rw [hck] at ck
      have hWk := hW4.but hoW hBr
      obtain ⟨_, _, hew, _, _, hwc⟩ := hWk.opens hWl
      simp only [Value.slice.injEq, true_and] at hew
      obtain ⟨rfl, rfl⟩ := hew
      obtain ⟨_, _, hew, hwc⟩ := hwc (by decide)
      simp only [Option.some.injEq, Addr.mk.injEq, and_true] at hew
      obtain ⟨rfl, rfl⟩ := hew
      have cw := hwc k hlt
      clear hwc hWk hck
      have ik0 : (0 : Int) ≤ (k : Int) := Int.natCast_nonneg _
      have ik1 : (k : Int) < 64 := by omega
      have p0 := hVr.frozen 0
      have p1 := hVr.frozen 1
      have p2 := hVr.frozen 2
      have p3 := hVr.frozen 3
      have p4 := hVr.frozen 4
      have p5 := hVr.frozen 5
      have p6 := hVr.frozen 6
      have p7 := hVr.frozen 7
      go_wp2
      go_quiet (fail)
      go_wp2
      rw [rmx_turn (b := false) u0 (by decide) (by decide) (by decide), rmx_turn (b := false) u4 (by decide) (by decide) (by decide), rchs32 _ _ _ u4 u5 u6, maj_is64 _ _ _ (by omega) (by omega) (by omega)]
      repeat rw [add_is64]
      rw [and_ones32 _ (Nat.mod_lt _ (by decide)), and_ones32 _ (Nat.mod_lt _ (by decide)), rr032, rr432]
      have hset := ((((((((hVr.drewN nq).set 0 (el (rnd false (el (ks false) k) (el S k) s) 0)).set 1 (el s 0)).set 2 (el s 1)).set 3 (el s 2)).set 4 (el (rnd false (el (ks false) k) (el S k) s) 4)).set 5 (el s 4)).set 6 (el s 5)).set 7 (el s 6)
      rw [set832 s hs8] at hset
      refine ⟨⟨k + 1, by omega, by go_num, by rw [HNX.out]; exact hset, ?_⟩, by simp [intOf]; omega⟩
      exact ((((((((hBr.drewN nq).setCell _ _).setCell _ _).setCell _ _).setCell _ _).setCell _ _).setCell _ _).setCell _ _).setCell _ _
    · obtain rfl : k = 64 := by omega
      generalize hsR : rndN false (ks false) S 64 hs = s at *
      have HSR := hide hsR
      clear hsR
      have hVr0 : Lies .u64 144 wr q (addW false hs s 0 ++ s.drop 0) := hVr
      go_wp2
      go_loopw [19] (fun i wr => ∃ j : Nat, j ≤ 8 ∧ i = .int .i64 j ∧ Lies .u64 144 wr q (addW false hs s j ++ s.drop j) ∧ But q w4 wr) (fun i _ => 8 - (intOf i).toNat)
      case atStart => exact ⟨0, Nat.zero_le _, rfl, hVr0, hBr⟩
      case round =>
        clear hVr hVr0 hBr
        obtain ⟨j, hj, rfl, hVr, hBr⟩ := hrel
        by_cases hlt : j < 8
        · have hHr := hH4.but hBr hoH
          have c1 := hVr.cell (i := j) (by rw [List.length_append, addW_length, List.length_drop]; omega)
          rw [addS_get32 hs s j (by omega)] at c1
          have f1 := hVr.frozen j
          have c2 := hHr.cell (i := j) (by omega)
          have v1 : el s j < 4294967296 := el_lt hsu (wm_pos false) j
          have v2 : el hs j < 4294967296 := el_lt hhu (by decide) j
          have hst := hVr.set j ((el s j + el hs j) % 4294967296)
          have hse := addS_set32 hs s j (by omega)
          have hst' : Lies .u64 144 (wr.setCell ⟨q, j, none⟩ (.int .u64 (((el s j + el hs j) % 4294967296 : Nat) : Int))) q (addW false hs s (j + 1) ++ s.drop (j + 1)) := by rw [← hse]; exact hst
          have HST := hide hst'
          clear hst hse hst' hHr
          have hqn : w.heap.size ≠ q := hoH
          have ij0 : (0 : Int) ≤ (j : Int) := Int.natCast_nonneg _
          have ij1 : (j : Int) < 8 := by omega
          go_wp2
          go_region
          go_wp2
          rw [show (el s j : Int) + (el hs j : Int) = ((el s j + el hs j : Nat) : Int) by omega, and_ones32 _ (by omega)]
          exact ⟨⟨j + 1, by omega, by go_num, HST.out, (hBr.setCell j _).drew⟩, by simp [intOf]; omega⟩
        · obtain rfl : j = 8 := by omega
          rw [List.drop_of_length_le (by omega), List.append_nil] at hVr
          have hOr := hO4.but hBr hoO
          have h8a : (addW false hs s 8).length = 8 := addW_length _ _ _ _
          have hOf : Lies .u64 144 (wr.setRow (w.heap.size + 1) (arr .u64 (addW false hs s 8))) (w.heap.size + 1) (addW false hs s 8) := hOr.row
          have hbf : Below w.heap.size w (wr.setRow (w.heap.size + 1) (arr .u64 (addW false hs s 8))) := (hb4.trans (hBr.below hlo hb4.size)).trans ((But.setRow (But.refl (w.heap.size + 1) _) _).below (by omega) (by have := hb4.size; have := hBr.size; omega))
          go_wp2_with (first
            | (refine wpList_load_row rfl 144 _ (by rfl) q (by rfl) _ _ _ (.array 8 26) hVr (by kernel_rfl) rfl (by rw [arr_size, h8a]; kernel_rfl) ?_)
            | (refine wpList_store_row rfl 144 _ _ (by rfl) (w.heap.size + 1) (arr .u64 (addW false hs s 8)) (by rfl) (by rfl) _ _ hOr (by rw [arr_size, h8a]; kernel_rfl) (by rw [arr_size, arr_size, h8a, List.length_replicate]) (arr_one _ _) ?_)
            | fail)
          refine bodyPost_ret (v := .agg (arr .u64 (addW false hs s 8))) ?_ ?_ ?_
          · exact results_cell_row Tryz.results123 _ _ (w.heap.size + 1) _ _ _ (.array 8 26) (by rfl) hOf (by kernel_rfl) rfl (by rw [arr_size, h8a]; kernel_rfl)
          · rfl
          · exact ⟨by rw [HCMP.out], hbf⟩
end Go.Proofs.YtogiballdmgcpaaGreatDoor
