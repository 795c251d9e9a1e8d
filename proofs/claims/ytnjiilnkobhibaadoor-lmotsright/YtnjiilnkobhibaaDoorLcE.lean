/- Leaves that sign once: few, Digits and Size of the program, the chapter's examples. -/
import Derived.Test.YtnjiilnkobhibaaDoorLcD
namespace Go.Proofs.YtnjiilnkobhibaaDoor
open Go.RowKit
set_option linter.unusedVariables false
set_option linter.unusedSimpArgs false

set_option maxHeartbeats 2000000 in
set_option maxRecDepth 100000 in
theorem fewL (g N : Nat) (len cp : Nat → Nat) (ad : Nat → Option Addr) (w : World) (hN : N ≤ 10) (hc : ∀ i, i < N → w.cell? ⟨g, i, none⟩ = some (.slice (ad i) (len i) (cp i))) :
    Calls Tryd.prog 5 #[.slice (some ⟨g, 0, none⟩) N N] w fun e w' => e = .returned (.bool (decide (∀ i, i < N → len i ≤ 300))) ∧ w' = w := by
  go_enter Tryd.func5, Tryd.ntmps5
  go_wp2
  go_loop [7] (fun i => ∃ k : Nat, k ≤ N ∧ i = .int .i64 k ∧ Hid (∀ j, j < k → len j ≤ 300)) (fun i => N - (intOf i).toNat)
  case atStart => exact ⟨0, Nat.zero_le _, rfl, hide (fun j hj => by omega)⟩
  case round =>
    obtain ⟨k, hk, rfl, HA⟩ := hrel
    by_cases hlt : k < N
    · have hcell := hc k hlt
      have hkN : (k : Int) < (N : Int) := by omega
      have z_k : (0 : Int) ≤ (k : Int) := Int.natCast_nonneg _
      obtain ⟨Q, hQ⟩ : ∃ x : Nat, x = k + 1 := ⟨_, rfl⟩
      have e_Q : (k : Int) + 1 = (Q : Int) := by omega
      have s_Q : IntKind.i64.wrap (Q : Int) = (Q : Int) := by rw [IntKind.wrap_i64]; omega
      by_cases hl : 300 < len k
      · have g1 : (300 : Int) < (len k : Int) := by omega
        have g2 : (len k : Int) > 300 := by omega
        have hd : decide (∀ i, i < N → len i ≤ 300) = false := decide_eq_false fun h => by have := h k hlt; omega
        have HD := hide hd
        clear hc hd hQ
        obtain ⟨n, hn⟩ : ∃ n, n = len k := ⟨_, rfl⟩
        rw [← hn] at hcell g1 g2
        generalize ad k = aa at *
        generalize cp k = cc at *
        go_wp2
        go_ret
        exact ⟨by rw [HD.out]; rfl, rfl⟩
      · have g1 : ¬ (300 : Int) < (len k : Int) := by omega
        have g2 : ¬ (len k : Int) > 300 := by omega
        have HB : Hid (∀ j, j < k + 1 → len j ≤ 300) := hide fun j hj => by
          by_cases e : j = k
          · rw [e]; omega
          · exact HA.out j (by omega)
        have HQ := hide hQ
        clear hc hQ
        obtain ⟨n, hn⟩ : ∃ n, n = len k := ⟨_, rfl⟩
        rw [← hn] at hcell g1 g2
        generalize ad k = aa at *
        generalize cp k = cc at *
        go_wp2
        go_round
        case rel => exact ⟨k + 1, by omega, vint (by have := HQ.out; omega), HB⟩
        case measure => have := HQ.out; simp [intOf]; omega
    · obtain rfl : k = N := by omega
      have hd : decide (∀ i, i < k → len i ≤ 300) = true := decide_eq_true HA.out
      have hge : ¬ ((k : Int) < (k : Int)) := by omega
      have HD := hide hd
      clear hc hd
      go_wp2
      go_ret
      exact ⟨by rw [HD.out]; rfl, rfl⟩
theorem cell_row0 (w : World) (us : Array Value) (t : TypeId) (i : Nat) (u : Value) (h : us[i]? = some u) : (w.alloc (.cells us t)).cell? ⟨w.heap.size, i, none⟩ = some u := by
  rw [World.cell?_alloc_at _ _ _ _ rfl]
  exact h
theorem few1L (a0 : Option Addr) (n0 c0 : Nat) (w : World) :
    Calls Tryd.prog 5 #[.slice (some ⟨w.heap.size, 0, none⟩) 1 1] (w.alloc (.cells #[.slice a0 n0 c0] 22)) fun e w' => e = .returned (.bool (decide (n0 ≤ 300))) ∧ Below w.heap.size w w' := by
  have h := fewL w.heap.size 1 (fun i => n0) (fun i => c0) (fun i => a0) (w.alloc (.cells #[.slice a0 n0 c0] 22)) (by decide) (fun i hi => by
    match i, hi with
    | 0, _ => exact cell_row0 _ _ _ _ _ rfl)
  refine h.mono fun e w' hh => ⟨?_, by rw [hh.2]; exact keep_alloc _ _⟩
  rw [hh.1]
  congr 2
  exact decide_eq_decide.2 ⟨fun h => h 0 (by decide), fun h i _ => h⟩
theorem few3L (a0 a1 a2 : Option Addr) (n0 n1 n2 c0 c1 c2 : Nat) (w : World) :
    Calls Tryd.prog 5 #[.slice (some ⟨w.heap.size, 0, none⟩) 3 3] (w.alloc (.cells #[.slice a0 n0 c0, .slice a1 n1 c1, .slice a2 n2 c2] 22)) fun e w' => e = .returned (.bool (decide (n0 ≤ 300 ∧ n1 ≤ 300 ∧ n2 ≤ 300))) ∧ Below w.heap.size w w' := by
  have h := fewL w.heap.size 3 (fun i => if i = 0 then n0 else if i = 1 then n1 else n2) (fun i => if i = 0 then c0 else if i = 1 then c1 else c2) (fun i => if i = 0 then a0 else if i = 1 then a1 else a2) (w.alloc (.cells #[.slice a0 n0 c0, .slice a1 n1 c1, .slice a2 n2 c2] 22)) (by decide) (fun i hi => by
    match i, hi with
    | 0, _ => exact cell_row0 _ _ _ _ _ rfl
    | 1, _ => exact cell_row0 _ _ _ _ _ rfl
    | 2, _ => exact cell_row0 _ _ _ _ _ rfl)
  refine h.mono fun e w' hh => ⟨?_, by rw [hh.2]; exact keep_alloc _ _⟩
  rw [hh.1]
  congr 2
  refine decide_eq_decide.2 ⟨fun h => ⟨h 0 (by decide), h 1 (by decide), h 2 (by decide)⟩, ?_⟩
  rintro ⟨h0, h1, h2⟩ i hi
  match i, hi with
  | 0, _ => exact h0
  | 1, _ => exact h1
  | 2, _ => exact h2
set_option maxHeartbeats 2000000 in
set_option maxRecDepth 100000 in
theorem csize_no (x : Int) (w : World) (h : NoK x) : Calls Tryd.prog 14 #[.int .i64 x] w fun e w' => e = .returned (.int .i64 0) ∧ Below w.heap.size w w' := by
  have hk := fun y => ckind_no x y h
  clear h
  go_enter Tryd.func14, Tryd.ntmps14
  go_wp2_with (first
    | (go_at_call 38; refine (hk _).mono ?_; rintro e w1 ⟨rfl, g1⟩)
    | fail)
  go_ret
  exact ⟨rfl, keep_trans g1 (keep_alloc _ _)⟩
set_option maxHeartbeats 2000000 in
set_option maxRecDepth 100000 in
theorem csize_ok {k n m s c P : Nat} (h : Kd k n m s c) (hP : P = n + m) (w : World) : Calls Tryd.prog 14 #[.int .i64 (k : Int)] w fun e w' => e = .returned (.int .i64 ((36 + 32 * P : Nat) : Int)) ∧ Below w.heap.size w w' := by
  have hk := fun y => ckind_ok h hP y
  obtain ⟨p1, p2, p3, p4, p5, p6, p7⟩ := h.pos
  have hz := fun y => ksize_any k P s c y (by omega)
  obtain ⟨Z, hZ⟩ : ∃ Z : Nat, Z = 36 + 32 * P := ⟨_, rfl⟩
  rw [← hZ] at hz ⊢
  clear h hP p1 p2 p3 p4 p5 p6 p7 hZ
  go_enter Tryd.func14, Tryd.ntmps14
  go_wp2_with (first
    | (go_at_call 38; refine (hk _).mono ?_; rintro e w1 ⟨rfl, g1⟩; have hA := heap_alloc_new w1 (.cells #[.int .i64 (k : Int), .int .i64 (P : Int), .int .i64 (s : Int), .int .u64 (c : Int)] 46))
    | (go_at_call 34; refine (hz _).mono ?_; rintro e w2 ⟨rfl, g2⟩)
    | (refine wpList_load_row rfl 46 _ (by rfl) w1.heap.size (by rfl) _ _ _ _ hA Tryd.underlying46 rfl (by kernel_rfl) ?_)
    | fail)
  go_ret
  exact ⟨rfl, keep_trans g1 (keep_trans (keep_alloc _ _) g2)⟩
set_option maxHeartbeats 2000000 in
set_option maxRecDepth 100000 in
theorem cdig_no (x : Int) (da : Option Addr) (dl dc : Nat) (w : World) (h : NoK x) : Calls Tryd.prog 15 #[.int .i64 x, .slice da dl dc] w fun e w' => e = .returned (.tuple #[.slice none 0 0, .int .i64 9]) ∧ Below w.heap.size w w' := by
  have hk := fun y => ckind_no x y h
  clear h
  go_enter Tryd.func15, Tryd.ntmps15
  go_wp2_with (first
    | (go_at_call 38; refine (hk _).mono ?_; rintro e w1 ⟨rfl, g1⟩)
    | fail)
  go_ret2
  exact ⟨rfl, keep_trans g1 (keep_alloc _ _)⟩
set_option maxHeartbeats 2000000 in
set_option maxRecDepth 100000 in
theorem cdig_size {k n m s c P : Nat} (h : Kd k n m s c) (hP : P = n + m) (da : Option Addr) (dl dc : Nat) (w : World) (hl : ¬ dl = 32) : Calls Tryd.prog 15 #[.int .i64 (k : Int), .slice da dl dc] w fun e w' => e = .returned (.tuple #[.slice none 0 0, .int .i64 14]) ∧ Below w.heap.size w w' := by
  have hk := fun y => ckind_ok h hP y
  have hli : ¬ (dl : Int) = 32 := by omega
  clear h hP hl
  go_enter Tryd.func15, Tryd.ntmps15
  go_wp2_with (first
    | (go_at_call 38; refine (hk _).mono ?_; rintro e w1 ⟨rfl, g1⟩)
    | fail)
  go_ret2
  exact ⟨rfl, keep_trans g1 (keep_alloc _ _)⟩
set_option maxHeartbeats 2000000 in
set_option maxRecDepth 100000 in
theorem cdig_ok {k n m s c P : Nat} (h : Kd k n m s c) (hP : P = n + m) (d : List Nat) (dv : Value) (w : World) (hd : Row .u8 256 w dv d) (td : Tidy dv) (hl : d.length = 32) : Calls Tryd.prog 15 #[.int .i64 (k : Int), dv] w fun e w' => ∃ v, e = .returned (.tuple #[v, .int .i64 0]) ∧ Own 23 .u32 4294967296 w' w.heap.size v (digsL k n m s d) ∧ Below w.heap.size w w' := by
  obtain ⟨da, dc, rfl, _⟩ := hd.opens hl
  have hk := fun y => ckind_ok h hP y
  have hg := fun y (r : Row .u8 256 y (.slice da 32 dc) d) => kdigs_any h hP d _ y r td hl
  have HD := hide hd
  clear h hP hl hd
  go_enter Tryd.func15, Tryd.ntmps15
  go_wp2_with (first
    | (go_at_call 38; refine (hk _).mono ?_; rintro e w1 ⟨rfl, g1⟩; have hA := heap_alloc_new w1 (.cells #[.int .i64 (k : Int), .int .i64 (P : Int), .int .i64 (s : Int), .int .u64 (c : Int)] 46); have gA := keep_trans g1 (keep_alloc w1 (.cells #[.int .i64 (k : Int), .int .i64 (P : Int), .int .i64 (s : Int), .int .u64 (c : Int)] 46)))
    | (go_at_call 26; refine (hg _ (HD.out.below gA)).mono ?_; rintro e w2 ⟨v2, rfl, o2, g2⟩)
    | (refine wpList_load_row rfl 46 _ (by rfl) w1.heap.size (by rfl) _ _ _ _ hA Tryd.underlying46 rfl (by kernel_rfl) ?_)
    | fail)
  go_ret2
  exact ⟨_, rfl, o2.mono gA.size, keep_trans gA g2⟩
/-- 32 bytes, the first k of them 255 -/
def flB (k : Nat) : List Nat := (List.range 32).map fun i => if i < k then 255 else 0
theorem flB_zero : flB 0 = List.replicate 32 0 := by decide
theorem flB_set : ∀ k, k < 32 → (flB k).set k 255 = flB (k + 1) := by decide
theorem flB_len (k : Nat) : (flB k).length = 32 := by simp [flB]
theorem flB_under (k : Nat) : Under 256 (flB k) := fun x hx => by
  obtain ⟨i, _, rfl⟩ := List.mem_map.1 hx
  split <;> decide
theorem ex14 : digsL 8 32 2 0 (flB 32) = List.replicate 32 255 ++ [0, 0] := by kernel_rfl
set_option maxHeartbeats 4000000 in
set_option maxRecDepth 100000 in
theorem awakeL_any (w : World) : Calls Tryd.prog 6 #[] w fun e w' => e = .returned (.bool true) ∧ Below w.heap.size w w' := by
  have hd8 := fun y dv (r : Row .u8 256 y dv (flB 32)) (t : Tidy dv) => cdig_ok Kd.k8 (P := 34) rfl (flB 32) dv y r t (flB_len _)
  rw [ex14] at hd8
  have hd3 := fun da dl dc y => cdig_no 3 da dl dc y ⟨by decide, by decide, by decide, by decide⟩
  have hz := fun y => csize_ok Kd.k4 (P := 67) rfl y
  obtain ⟨DS, hDS⟩ : ∃ x, x = List.replicate 32 255 ++ [0, 0] := ⟨_, rfl⟩
  rw [← hDS] at hd8
  have hDl : DS.length = 34 := by rw [hDS]; rfl
  have e31 : el DS 31 = 255 := by rw [hDS]; decide
  have e32 : el DS 32 = 0 := by rw [hDS]; decide
  have e33 : el DS 33 = 0 := by rw [hDS]; decide
  have HE := hide (And.intro e31 (And.intro e32 (And.intro e33 hDl)))
  clear hDS hDl e31 e32 e33
  obtain ⟨i0, hi, hz0, hz1, hz2⟩ := info_parts Tryd.info5
  go_enter Tryd.func6, Tryd.ntmps6
  go_wp2_with (first | (at_make; refine wpList_make_full _ rfl _ _ 22 rfl w.heap.size 5 i0 (.int .u8 0) 1 Tryd.underlying22 hi hz0 hz1 _ _ _ _ 32 rfl rfl rfl rfl (by rw [hz2]; decide) (by unfold maxLen; decide) (Nat.le_refl _) ?_; intro w1 hown hgrow) | fail)
  rw [made_u8, ← flB_zero] at hown
  have hb := (Below.refl w.heap.size w).grown hgrow (Nat.le_refl _) (fun k h => by cases h)
  clear hgrow
  go_loopw [10] (fun i wr => ∃ k : Nat, k ≤ 32 ∧ i = .int .i64 (k : Int) ∧ wr.ownsRow w.heap.size 5 1 (.slice (some ⟨w.heap.size, 0, none⟩) 32 32) 32 (vals .u8 (flB k)) ∧ Below w.heap.size w wr) (fun i _ => 32 - (intOf i).toNat)
  case atStart => exact ⟨0, by decide, rfl, hown, hb⟩
  case round =>
    obtain ⟨k, hk, rfl, how, hbr⟩ := hrel
    clear hown hb
    rename World => wr
    by_cases hlt : k < 32
    · have hli : (k : Int) < 32 := by omega
      have z_k : (0 : Int) ≤ (k : Int) := Int.natCast_nonneg _
      have c1 := how.cellAt k (by omega)
      rw [vals_get _ _ _ (by rw [flB_len]; omega)] at c1
      have f1 := how.frozenAt k
      have st := (how.stored k (.int .u8 ((255 : Nat) : Int))).1
      rw [vals_set, flB_set k hlt] at st
      obtain ⟨Q, hQ⟩ : ∃ x : Nat, x = k + 1 := ⟨_, rfl⟩
      have e_Q : (k : Int) + 1 = (Q : Int) := by omega
      have s_Q : IntKind.i64.wrap (Q : Int) = (Q : Int) := by rw [IntKind.wrap_i64]; omega
      have HK := hide (And.intro st (And.intro hbr hQ))
      clear st hbr hQ how
      go_wp2
      obtain ⟨st, hbr, hQ⟩ := HK.out
      exact ⟨⟨k + 1, by omega, vint (by omega), st, hbr.setCell (by simp) _⟩, by simp [intOf]; omega⟩
    · obtain rfl : k = 32 := by omega
      have rA : Row .u8 256 wr (.slice (some ⟨w.heap.size, 0, none⟩) 32 32) (flB 32) := by
        have : Own 5 .u8 256 wr w.heap.size (.slice (some ⟨w.heap.size, 0, none⟩) 32 32) (flB 32) := ⟨by rw [flB_len]; exact how, flB_under _⟩
        exact this.row
      have h8 := hd8 wr _ rA (fun n c e => by cases e)
      have HB := hide hbr
      clear hd8 rA how hbr
      go_wp2_with (first
        | (go_at_call 15; have hu := h8; clear h8; refine hu.mono ?_; rintro e w2 ⟨v2, rfl, o2, g2⟩; obtain ⟨a2, c2, rfl, _, _, ho2⟩ := o2.row.opens HE.out.2.2.2; obtain ⟨b2, f2, rfl, hc2⟩ := ho2 (by decide); have q31 := hc2 31 (by decide); have q32 := hc2 32 (by decide); have q33 := hc2 33 (by decide); rw [HE.out.1] at q31; rw [HE.out.2.1] at q32; rw [HE.out.2.2.1] at q33; clear hc2 ho2)
        | (go_at_call 15; refine (hd3 _ _ _ _).mono ?_; rintro e w3 ⟨rfl, g3⟩; replace q31 := keep_cell q31 g3; replace q32 := keep_cell q32 g3; replace q33 := keep_cell q33 g3)
        | (go_at_call 14; refine (hz _).mono ?_; rintro e w4 ⟨rfl, g4⟩; replace q31 := keep_cell q31 g4; replace q32 := keep_cell q32 g4; replace q33 := keep_cell q33 g4)
        | fail)
      go_ret
      exact ⟨rfl, keep_trans HB.out (keep_trans g2 (keep_trans g3 g4))⟩
end Go.Proofs.YtnjiilnkobhibaaDoor

/- Leaves that sign once: both sides of Digits and Size. -/
namespace Go.Proofs.YtnjiilnkobhibaaDoor
open Go.RowKit
set_option linter.unusedVariables false
set_option linter.unusedSimpArgs false

def TellsD (y : World) (X : List Nat) (c : Int) (e : Ending) (y' : World) : Prop := ∃ v, e = .returned (.tuple #[v, .int .i64 c]) ∧ Row .u32 4294967296 y' v X ∧ Below y.heap.size y y'
theorem tellsD_own {y y' : World} {X : List Nat} {c : Int} {e : Ending} (h : ∃ v, e = .returned (.tuple #[v, .int .i64 c]) ∧ Own 23 .u32 4294967296 y' y.heap.size v X ∧ Below y.heap.size y y') : TellsD y X c e y' := by
  obtain ⟨v, h1, h2, h3⟩ := h
  exact ⟨v, h1, h2.row, h3⟩
theorem tellsD_nil {y y' : World} {c : Int} {e : Ending} (h : e = .returned (.tuple #[.slice none 0 0, .int .i64 c]) ∧ Below y.heap.size y y') : TellsD y [] c e y' := ⟨_, h.1, Row.nil _ _ _, h.2⟩
theorem tellsD_nilw {y y' : World} {c : Int} {e : Ending} (h : e = .returned (.tuple #[.slice none 0 0, .int .i64 c]) ∧ y' = y) : TellsD y [] c e y' := tellsD_nil ⟨h.1, by rw [h.2]; exact Below.refl _ _⟩
theorem both_dig {w : World} {d : List Nat} {da : Option Addr} {dl dc : Nat} (x : Int) (hd : Row .u8 256 w (.slice da dl dc) d) (td : Tidy (.slice da dl dc)) :
    ∃ (c : Int) (X : List Nat), (∀ y, Below w.heap.size w y → Calls Tryd.prog 15 #[.int .i64 x, .slice da dl dc] y (TellsD y X c)) ∧ (∀ y, Below w.heap.size w y → Calls Tryd.prog 29 #[.int .i64 x, .slice da dl dc] y (TellsD y X c)) := by
  have hdl : d.length = dl := by obtain ⟨a, c, e, _⟩ := hd; simp only [Value.slice.injEq] at e; exact e.2.1.symm
  rcases kd_or x with h | ⟨k, n, m, s, c, rfl, h⟩
  · exact ⟨9, [], fun y _ => (cdig_no x da dl dc y h).mono fun e y' h => tellsD_nil h, fun y hb => (rdigs_no x d _ y (hd.below hb) h).mono fun e y' h => tellsD_nilw h⟩
  · by_cases hl : d.length = 32
    · refine ⟨0, digsL k n m s d, fun y hb => (cdig_ok h rfl d _ y (hd.below hb) td hl).mono fun e y' h => tellsD_own h, fun y hb => ?_⟩
      cases h
      · exact (rdigs_1 d _ y (hd.below hb) td hl).mono fun e y' h => tellsD_own h
      · exact (rdigs_2 d _ y (hd.below hb) td hl).mono fun e y' h => tellsD_own h
      · exact (rdigs_4 d _ y (hd.below hb) td hl).mono fun e y' h => tellsD_own h
      · exact (rdigs_8 d _ y (hd.below hb) td hl).mono fun e y' h => tellsD_own h
    · exact ⟨14, [], fun y _ => (cdig_size h rfl da dl dc y (by omega)).mono fun e y' h => tellsD_nil h, fun y hb => (rdigs_size d _ y (hd.below hb) h hl).mono fun e y' h => tellsD_nilw h⟩
theorem both_size (x : Int) : ∃ z : Int, (∀ y, Calls Tryd.prog 14 #[.int .i64 x] y fun e y' => e = .returned (.int .i64 z) ∧ Below y.heap.size y y') ∧ (∀ y, Calls Tryd.prog 36 #[.int .i64 x] y fun e y' => e = .returned (.int .i64 z) ∧ y' = y) := by
  rcases kd_or x with h | ⟨k, n, m, s, c, rfl, h⟩
  · exact ⟨0, fun y => csize_no x y h, fun y => rsize_no x y h⟩
  · exact ⟨_, fun y => csize_ok h rfl y, fun y => rsize_ok y h⟩
end Go.Proofs.YtnjiilnkobhibaaDoor
