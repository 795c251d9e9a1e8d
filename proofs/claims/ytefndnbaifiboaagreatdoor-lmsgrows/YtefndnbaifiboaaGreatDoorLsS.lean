/- Trees of leaves that sign once: words for the law of growing. -/
import Derived.Test.YtefndnbaifiboaaGreatDoorLsE
import Derived.Test.YtefndnbaifiboaaGreatDoorLtS2
namespace Go.Proofs.YtefndnbaifiboaaGreatDoor
open Go.RowKit
set_option linter.unusedVariables false
set_option linter.unusedSimpArgs false

def TellsS (y : World) (X : List Nat) (c : Int) (e : Ending) (y' : World) : Prop := ∃ v, e = .returned (.tuple #[v, .int .i64 c]) ∧ Row .u8 256 y' v X ∧ Tidy v ∧ New y.heap.size v ∧ Below y.heap.size y y'
theorem tellsS_own {y y' : World} {X : List Nat} {c : Int} {e : Ending} (h : ∃ v, e = .returned (.tuple #[v, .int .i64 c]) ∧ Own 5 .u8 256 y' y.heap.size v X ∧ Below y.heap.size y y') : TellsS y X c e y' := by
  obtain ⟨v, h1, h2, h3⟩ := h
  exact ⟨v, h1, h2.row, h2.tidy, h2.new, h3⟩
theorem tellsS_new {y y' : World} {X : List Nat} {c : Int} {e : Ending} (hl : 0 < X.length) (h : ∃ v, e = .returned (.tuple #[v, .int .i64 c]) ∧ Row .u8 256 y' v X ∧ New y.heap.size v ∧ Below y.heap.size y y') : TellsS y X c e y' := by
  obtain ⟨v, h1, h2, h3, h4⟩ := h
  exact ⟨v, h1, h2, new_ntidy h2 hl, h3, h4⟩
theorem tellsS_nil {y y' : World} {c : Int} {e : Ending} (h : e = .returned (.tuple #[.slice none 0 0, .int .i64 c]) ∧ Below y.heap.size y y') : TellsS y [] c e y' := ⟨_, h.1, Row.nil _ _ _, (fun n c e => by cases e; exact ⟨rfl, rfl⟩), (fun q hq => by simp [Value.ownBlock] at hq), h.2⟩
theorem tellsS_nilw {y y' : World} {c : Int} {e : Ending} (h : e = .returned (.tuple #[.slice none 0 0, .int .i64 c]) ∧ y' = y) : TellsS y [] c e y' := tellsS_nil ⟨h.1, by rw [h.2]; exact Below.refl _ _⟩
set_option maxHeartbeats 4000000 in
set_option maxRecDepth 100000 in
theorem clight (h x : Int) (w : World) : Calls Tryz.prog 5 #[.agg #[.int .i64 h, .int .i64 x]] w fun e w' => e = .returned (.bool (decide (h ≤ 2 ∧ ¬ x = 8 ∨ 10 < h ∨ ¬ FitL h x))) ∧ Below w.heap.size w w' := by
  have hf := fun y => rfitT_any h x y
  have hR : ∀ (y : World) (q : Bool), decide (h ≤ 2 ∧ ¬ x = 8 ∨ 10 < h ∨ ¬ FitL h x) = q → Ending.returned (.bool q) = Ending.returned (.bool (decide (h ≤ 2 ∧ ¬ x = 8 ∨ 10 < h ∨ ¬ FitL h x))) := fun y q e => by rw [e]
  by_cases h2 : h ≤ 2
  · by_cases h8 : x = 8
    · have h10 : ¬ 10 < h := by omega
      have h10g : ¬ h > 10 := by omega
      subst h8
      have hd : decide (h ≤ 2 ∧ ¬ (8 : Int) = 8 ∨ 10 < h ∨ ¬ FitL h 8) = !(decide (FitL h 8)) := by simp [h10]
      rw [hd]
      generalize decide (FitL h 8) = B at *
      clear hd hR
      go_enter Tryz.func5, Tryz.ntmps5
      go_wp2_with (first | (go_at_call 13; refine (hf _).mono ?_; rintro e w1 ⟨rfl, g1⟩) | fail)
      go_ret
      exact ⟨rfl, keep_trans (keep_alloc _ _) g1⟩
    · have h8b : (x != 8) = true := by simp [h8]
      have hd : decide (h ≤ 2 ∧ ¬ x = 8 ∨ 10 < h ∨ ¬ FitL h x) = true := by simp [h2, h8]
      rw [hd]
      clear hd hR hf
      go_enter Tryz.func5, Tryz.ntmps5
      go_wp2
      go_ret
      exact ⟨rfl, keep_alloc _ _⟩
  · by_cases h10 : 10 < h
    · have h10g : h > 10 := by omega
      have hd : decide (h ≤ 2 ∧ ¬ x = 8 ∨ 10 < h ∨ ¬ FitL h x) = true := by simp [h10]
      rw [hd]
      clear hd hR hf
      go_enter Tryz.func5, Tryz.ntmps5
      go_wp2
      go_ret
      exact ⟨rfl, keep_alloc _ _⟩
    · have h10g : ¬ h > 10 := by omega
      have hd : decide (h ≤ 2 ∧ ¬ x = 8 ∨ 10 < h ∨ ¬ FitL h x) = !(decide (FitL h x)) := by simp [h2, h10]
      rw [hd]
      generalize decide (FitL h x) = B at *
      clear hd hR
      go_enter Tryz.func5, Tryz.ntmps5
      go_wp2_with (first | (go_at_call 13; refine (hf _).mono ?_; rintro e w1 ⟨rfl, g1⟩) | fail)
      go_ret
      exact ⟨rfl, keep_trans (keep_alloc _ _) g1⟩
section
variable {w : World} {id seed text : List Nat} {ia sa ta : Option Addr} {il ic sl sc tl tc : Nat}
theorem len_of {v : World} {a : Option Addr} {n c : Nat} {l : List Nat} (h : Row .u8 256 v (.slice a n c) l) : l.length = n := by
  obtain ⟨a', c', e, _⟩ := h
  simp only [Value.slice.injEq] at e
  exact e.2.1.symm
theorem kd_of {h x : Int} (hf : FitL h x) (h8 : ¬ x = 8) : ∃ (k n m s c : Nat), x = (k : Int) ∧ Kd k n m s c ∧ k ≠ 8 := by
  rcases kd_or x with q | ⟨k, n, m, s, c, rfl, hk⟩
  · obtain ⟨h1, h2, h4, h8'⟩ := q
    exact absurd (by unfold szW; rw [if_neg h1, if_neg h2, if_neg h4, if_neg h8']) hf.2
  · exact ⟨k, n, m, s, c, rfl, hk, by omega⟩
theorem both_pubT (h x : Int) (hl : h ≤ 2 ∧ ¬ x = 8 ∨ 10 < h ∨ ¬ FitL h x) (hT : Roots w) (ri : Row .u8 256 w (.slice ia il ic) id) (ti : Tidy (.slice ia il ic)) (rs : Row .u8 256 w (.slice sa sl sc) seed) (ts : Tidy (.slice sa sl sc)) :
    ∃ (c : Int) (X : List Nat), (∀ y, Below w.heap.size w y → Calls Tryz.prog 8 #[.agg #[.int .i64 h, .int .i64 x], .slice ia il ic, .slice sa sl sc] y (TellsS y X c)) ∧ (∀ y, Below w.heap.size w y → Calls Tryz.prog 9 #[.agg #[.int .i64 h, .int .i64 x], .slice ia il ic, .slice sa sl sc] y (TellsS y X c)) := by
  have hil := len_of ri
  have hsl := len_of rs
  by_cases hne : wrgT h x il sl = 0
  · obtain ⟨hf, rfl, rfl, h10⟩ := wrgT_zero hne
    have hp := hf.pos
    have h2 : h ≤ 2 ∧ ¬ x = 8 := by
      rcases hl with q | q | q
      · exact q
      · exact absurd q h10
      · exact absurd hf q
    obtain ⟨k, n, m, s, c, rfl, hk, hk8⟩ := kd_of hf h2.2
    obtain ⟨hn, rfl⟩ : ∃ hn : Nat, h = (hn : Int) := ⟨h.toNat, by omega⟩
    refine ⟨0, _, fun y hb => (cpubT_ok hk hn id seed _ _ y (hT.below hb) (ri.below hb) ti (rs.below hb) ts hil hsl hne).mono fun e w' q => tellsS_own q, fun y hb => (rpubT_ok hk hk8 hn (by omega) (by omega) id seed _ _ y (ri.below hb) ti (rs.below hb) ts (by rw [hil, hsl]; exact hne) hil hsl).mono fun e w' q => ?_⟩
    obtain ⟨v, h1, h2, h3, h4, h5⟩ := q
    exact ⟨v, h1, h2, h4, h3, h5⟩
  · exact ⟨_, [], fun y hb => (cpubT_no h x il sl ia sa ic sc y hne).mono fun e w' q => tellsS_nil q, fun y hb => (by
      have := rpubT_no h x id seed _ _ y (ri.below hb) (rs.below hb) (by rw [hil, hsl]; exact hne)
      rw [hil, hsl] at this
      exact this.mono fun e w' q => tellsS_nil q)⟩
theorem both_sgnT (h x : Int) (q : Nat) (hq : q < 4294967296) (hl : h ≤ 2 ∧ ¬ x = 8 ∨ 10 < h ∨ ¬ FitL h x) (hT : Roots w) (ri : Row .u8 256 w (.slice ia il ic) id) (ti : Tidy (.slice ia il ic)) (rs : Row .u8 256 w (.slice sa sl sc) seed) (ts : Tidy (.slice sa sl sc)) (rt : Row .u8 256 w (.slice ta tl tc) text) (tt : Tidy (.slice ta tl tc)) (htl : text.length ≤ 300) :
    ∃ (c : Int) (X : List Nat), (∀ y, Below w.heap.size w y → Calls Tryz.prog 10 #[.agg #[.int .i64 h, .int .i64 x], .slice ia il ic, .slice sa sl sc, .int .u32 (q : Int), .slice ta tl tc] y (TellsS y X c)) ∧ (∀ y, Below w.heap.size w y → Calls Tryz.prog 11 #[.agg #[.int .i64 h, .int .i64 x], .slice ia il ic, .slice sa sl sc, .int .u32 (q : Int), .slice ta tl tc] y (TellsS y X c)) := by
  have hil := len_of ri
  have hsl := len_of rs
  by_cases hne : wrgT h x il sl = 0
  · obtain ⟨hf, rfl, rfl, h10⟩ := wrgT_zero hne
    have hp := hf.pos
    have h2 : h ≤ 2 ∧ ¬ x = 8 := by
      rcases hl with q | q | q
      · exact q
      · exact absurd q h10
      · exact absurd hf q
    obtain ⟨k, n, m, s, c, rfl, hk, hk8⟩ := kd_of hf h2.2
    obtain ⟨hn, rfl⟩ : ∃ hn : Nat, h = (hn : Int) := ⟨h.toNat, by omega⟩
    have hne' : wrgT (hn : Int) (k : Int) id.length seed.length = 0 := by rw [hil, hsl]; exact hne
    by_cases hqM : q < 2 ^ hn
    · exact ⟨0, _, fun y hb => (csignT_ok hk hn q id seed text _ _ _ y (hT.below hb) (ri.below hb) ti (rs.below hb) ts (rt.below hb) tt hil hsl (by omega) hne hqM).mono fun e w' q => tellsS_own q,
        fun y hb => (rsignT_ok hk hk8 hn (by omega) id seed text q _ _ _ y (ri.below hb) ti (rs.below hb) ts (rt.below hb) tt hne' hil hsl (by omega) hqM).mono fun e w' q => tellsS_own q⟩
    · exact ⟨13, [], fun y hb => (csignT_spent hn q (k : Int) ia sa ta ic sc tl tc y hne (by omega) hq).mono fun e w' q => tellsS_nil q,
        fun y hb => (rsignT_spent hn (2 ^ hn) (k : Int) id seed q _ _ ta tl tc y (ri.below hb) (rs.below hb) hne' rfl (by omega) (by omega) hq).mono fun e w' q => tellsS_nil q⟩
  · exact ⟨_, [], fun y hb => (csignT_no h x q il sl ia sa ta ic sc tl tc y hne).mono fun e w' q => tellsS_nil q, fun y hb => (by
      have := rsignT_no h x id seed q _ _ ta tl tc y (ri.below hb) (rs.below hb) (by rw [hil, hsl]; exact hne)
      rw [hil, hsl] at this
      exact this.mono fun e w' q => tellsS_nil q)⟩
end
end Go.Proofs.YtefndnbaifiboaaGreatDoor

/- The drawn region of the law of growing. -/
namespace Go.Proofs.YtefndnbaifiboaaGreatDoor
open Go.RowKit
set_option linter.unusedVariables false
set_option linter.unusedSimpArgs false

def gwlt : List Lt := [(0, some 63, [5]), (1, some 64, [63]), (0, some 65, [5]), (6, some 66, [65]), (10, some 67, [64, 66]), (24, some 68, [67]), (32, some 69, [5, 68]), (96, some 70, [69, 68]), (32, some 71, [5, 68]), (416, some 72, [71, 68]), (672, some 73, [70, 72, 68]), (1056, some 74, [68, 73]), (2560, some 75, [74]), (4096, some 76, [11, 75]), (4096, some 77, [13, 75]), (28672, some 78, [76, 77, 75]), (36864, some 79, [75, 78]), (98304, some 80, [79]), (131072, some 81, [12, 80]), (131072, some 82, [14, 80]), (917504, some 83, [81, 82, 80]), (1179648, some 84, [80, 83]), (2228224, some 85, [84]), (4194304, some 86, [15, 85]), (4194304, some 87, [17, 85]), (29360128, some 88, [86, 87, 85]), (37748736, some 89, [85, 88]), (100663296, some 90, [89]), (134217728, some 91, [16, 90]), (134217728, some 92, [18, 90]), (939524096, some 93, [91, 92, 90]), (1207959552, some 94, [90, 93]), (2281701376, some 95, [94]), (4294967296, some 96, [95]), (12884901888, some 97, [95, 96]), (34359738367, some 10, [97])]
theorem gwreg : Reg (opsA (cLA (cRA (cRA (cRA (cRA (cRA (cRA (Tryz.f3.body.getD .skip))))))))) gwlt := ⟨by kernel_rfl, by kernel_rfl⟩
set_option maxHeartbeats 8000000 in
theorem grows_reg {Q : Exit → Act → World → Prop} {id : Nat} {a : Act} {x0 : World} {B5 : Nat} {va vb vc vd : Value} {X1 X2 : List Nat} {h x C1 C2 : Int}
    (F : FrK 98 a) (s5 : a.eval (.tmp 5) = .pointer (some ⟨B5, 0, none⟩)) (s11 : a.eval (.tmp 11) = va) (s12 : a.eval (.tmp 12) = .int .i64 C1) (s13 : a.eval (.tmp 13) = vb) (s14 : a.eval (.tmp 14) = .int .i64 C1) (s15 : a.eval (.tmp 15) = vc) (s16 : a.eval (.tmp 16) = .int .i64 C2) (s17 : a.eval (.tmp 17) = vd) (s18 : a.eval (.tmp 18) = .int .i64 C2)
    (b5 : Bx2T x0 B5 (.int .i64 h) (.int .i64 x)) (ra : Row .u8 256 x0 va X1) (rb : Row .u8 256 x0 vb X1) (rc : Row .u8 256 x0 vc X2) (rd : Row .u8 256 x0 vd X2)
    (hQ : ∀ (a' : Act) (y : World), FrK 98 a' → a'.eval (.tmp 10) = .bool true → Below x0.heap.size x0 y → Q .normal a' y) :
    (Code.region id (opsA (cLA (cRA (cRA (cRA (cRA (cRA (cRA (Tryz.f3.body.getD .skip))))))))) true).wp Tryz.prog Q a x0 := by
  have hb0 : Below x0.heap.size x0 x0.drew := (Below.refl _ _).drew
  refine at_begin (n := 36) (fun y => Below x0.heap.size x0 y) (by kernel_rfl) (by kernel_rfl) ?_
  refine at_takeD (i := 0) (m' := 1) (d := some 63) (v := .agg #[.int .i64 h, .int .i64 x]) gwreg rfl (by decide) rfl rfl (y_rowG (cs := [.int .i64 h, .int .i64 x]) (wanted_free rfl) rfl s5 Tryz.underlying23 rfl (by kernel_rfl) (fun _ h => (b5.below h).range)) hb0 ?_
  refine F.step (kk := 63) rfl (by decide) ?_
  intro a1 F s63 e
  replace s5 := (e 5 (by decide)).trans s5
  replace s11 := (e 11 (by decide)).trans s11
  replace s12 := (e 12 (by decide)).trans s12
  replace s13 := (e 13 (by decide)).trans s13
  replace s14 := (e 14 (by decide)).trans s14
  replace s15 := (e 15 (by decide)).trans s15
  replace s16 := (e 16 (by decide)).trans s16
  replace s17 := (e 17 (by decide)).trans s17
  replace s18 := (e 18 (by decide)).trans s18
  clear e
  refine at_takeD (i := 2) (m' := 5) (d := some 65) (v := .agg #[.int .i64 h, .int .i64 x]) gwreg rfl (by decide) rfl rfl (y_rowG (cs := [.int .i64 h, .int .i64 x]) (wanted_free rfl) rfl s5 Tryz.underlying23 rfl (by kernel_rfl) (fun _ h => (b5.below h).range)) hb0 ?_
  refine F.step (kk := 65) rfl (by decide) ?_
  intro a2 F s65 e
  replace s5 := (e 5 (by decide)).trans s5
  replace s11 := (e 11 (by decide)).trans s11
  replace s12 := (e 12 (by decide)).trans s12
  replace s13 := (e 13 (by decide)).trans s13
  replace s14 := (e 14 (by decide)).trans s14
  replace s15 := (e 15 (by decide)).trans s15
  replace s16 := (e 16 (by decide)).trans s16
  replace s17 := (e 17 (by decide)).trans s17
  replace s18 := (e 18 (by decide)).trans s18
  replace s63 := (e 63 (by decide)).trans s63
  clear e
  refine at_one (i := 1) (m' := 7) gwreg (by decide) rfl ?_
  refine p_callG (args := #[.agg #[.int .i64 h, .int .i64 x]]) (d := some 64) rfl (wanted_free rfl) rfl (by simp only [List.map_toArray, List.map_cons, List.map_nil, s63]) rfl Tryz.call12 ((cfitT_any h x x0.drew).mono ?_)
  rintro e y3 ⟨rfl, g3⟩
  have hb3 := keep_trans hb0 g3
  refine ⟨_, rfl, hb3, ?_⟩
  refine F.step (kk := 64) rfl (by decide) ?_
  intro a3 F s64 e
  replace s5 := (e 5 (by decide)).trans s5
  replace s11 := (e 11 (by decide)).trans s11
  replace s12 := (e 12 (by decide)).trans s12
  replace s13 := (e 13 (by decide)).trans s13
  replace s14 := (e 14 (by decide)).trans s14
  replace s15 := (e 15 (by decide)).trans s15
  replace s16 := (e 16 (by decide)).trans s16
  replace s17 := (e 17 (by decide)).trans s17
  replace s18 := (e 18 (by decide)).trans s18
  replace s65 := (e 65 (by decide)).trans s65
  clear e
  refine at_one (i := 3) (m' := 15) gwreg (by decide) rfl ?_
  refine p_callG (args := #[.agg #[.int .i64 h, .int .i64 x]]) (d := some 66) rfl (wanted_free rfl) rfl (by simp only [List.map_toArray, List.map_cons, List.map_nil, s65]) rfl Tryz.call13 ((rfitT_any h x y3).mono ?_)
  rintro e y4 ⟨rfl, g4⟩
  have hb4 := keep_trans hb3 g4
  refine ⟨_, rfl, hb4, ?_⟩
  refine F.step (kk := 66) rfl (by decide) ?_
  intro a4 F s66 e
  replace s5 := (e 5 (by decide)).trans s5
  replace s11 := (e 11 (by decide)).trans s11
  replace s12 := (e 12 (by decide)).trans s12
  replace s13 := (e 13 (by decide)).trans s13
  replace s14 := (e 14 (by decide)).trans s14
  replace s15 := (e 15 (by decide)).trans s15
  replace s16 := (e 16 (by decide)).trans s16
  replace s17 := (e 17 (by decide)).trans s17
  replace s18 := (e 18 (by decide)).trans s18
  replace s64 := (e 64 (by decide)).trans s64
  clear e
  refine at_takeD (i := 4) (m' := 31) (d := some 67) (v := .bool true) gwreg rfl (by decide) rfl rfl (y_eqB (wanted_free rfl) rfl s64 s66 Tryz.underlying4 (by simp)) hb4 ?_
  refine F.step (kk := 67) rfl (by decide) ?_
  intro a5 F s67 e
  replace s5 := (e 5 (by decide)).trans s5
  replace s11 := (e 11 (by decide)).trans s11
  replace s12 := (e 12 (by decide)).trans s12
  replace s13 := (e 13 (by decide)).trans s13
  replace s14 := (e 14 (by decide)).trans s14
  replace s15 := (e 15 (by decide)).trans s15
  replace s16 := (e 16 (by decide)).trans s16
  replace s17 := (e 17 (by decide)).trans s17
  replace s18 := (e 18 (by decide)).trans s18
  clear e
  refine at_takeD (i := 5) (m' := 63) (d := some 68) (v := .bool true) gwreg rfl (by decide) rfl rfl (y_moveG (wanted_free rfl) rfl s67) hb4 ?_
  refine F.step (kk := 68) rfl (by decide) ?_
  intro a6 F s68 e
  replace s5 := (e 5 (by decide)).trans s5
  replace s11 := (e 11 (by decide)).trans s11
  replace s12 := (e 12 (by decide)).trans s12
  replace s13 := (e 13 (by decide)).trans s13
  replace s14 := (e 14 (by decide)).trans s14
  replace s15 := (e 15 (by decide)).trans s15
  replace s16 := (e 16 (by decide)).trans s16
  replace s17 := (e 17 (by decide)).trans s17
  replace s18 := (e 18 (by decide)).trans s18
  clear e
  refine at_takeD (i := 6) (m' := 127) (d := some 69) (v := .agg #[.int .i64 h, .int .i64 x]) gwreg rfl (by decide) rfl rfl (y_rowG (cs := [.int .i64 h, .int .i64 x]) (wanted_gG (j := 5) rfl rfl rfl s68) rfl s5 Tryz.underlying23 rfl (by kernel_rfl) (fun _ h => (b5.below h).range)) hb4 ?_
  refine F.step (kk := 69) rfl (by decide) ?_
  intro a7 F s69 e
  replace s5 := (e 5 (by decide)).trans s5
  replace s11 := (e 11 (by decide)).trans s11
  replace s12 := (e 12 (by decide)).trans s12
  replace s13 := (e 13 (by decide)).trans s13
  replace s14 := (e 14 (by decide)).trans s14
  replace s15 := (e 15 (by decide)).trans s15
  replace s16 := (e 16 (by decide)).trans s16
  replace s17 := (e 17 (by decide)).trans s17
  replace s18 := (e 18 (by decide)).trans s18
  replace s68 := (e 68 (by decide)).trans s68
  clear e
  refine at_takeD (i := 8) (m' := 383) (d := some 71) (v := .agg #[.int .i64 h, .int .i64 x]) gwreg rfl (by decide) rfl rfl (y_rowG (cs := [.int .i64 h, .int .i64 x]) (wanted_gG (j := 5) rfl rfl rfl s68) rfl s5 Tryz.underlying23 rfl (by kernel_rfl) (fun _ h => (b5.below h).range)) hb4 ?_
  refine F.step (kk := 71) rfl (by decide) ?_
  intro a8 F s71 e
  replace s11 := (e 11 (by decide)).trans s11
  replace s12 := (e 12 (by decide)).trans s12
  replace s13 := (e 13 (by decide)).trans s13
  replace s14 := (e 14 (by decide)).trans s14
  replace s15 := (e 15 (by decide)).trans s15
  replace s16 := (e 16 (by decide)).trans s16
  replace s17 := (e 17 (by decide)).trans s17
  replace s18 := (e 18 (by decide)).trans s18
  replace s68 := (e 68 (by decide)).trans s68
  replace s69 := (e 69 (by decide)).trans s69
  clear e
  refine at_one (i := 7) (m' := 511) gwreg (by decide) rfl ?_
  refine p_callG (args := #[.agg #[.int .i64 h, .int .i64 x]]) (d := some 70) rfl (wanted_gG (j := 5) rfl rfl rfl s68) rfl (by simp only [List.map_toArray, List.map_cons, List.map_nil, s69]) rfl Tryz.call14 ((csizeT_any h x y4).mono ?_)
  rintro e y9 ⟨rfl, g9⟩
  have hb9 := keep_trans hb4 g9
  refine ⟨_, rfl, hb9, ?_⟩
  refine F.step (kk := 70) rfl (by decide) ?_
  intro a9 F s70 e
  replace s11 := (e 11 (by decide)).trans s11
  replace s12 := (e 12 (by decide)).trans s12
  replace s13 := (e 13 (by decide)).trans s13
  replace s14 := (e 14 (by decide)).trans s14
  replace s15 := (e 15 (by decide)).trans s15
  replace s16 := (e 16 (by decide)).trans s16
  replace s17 := (e 17 (by decide)).trans s17
  replace s18 := (e 18 (by decide)).trans s18
  replace s68 := (e 68 (by decide)).trans s68
  replace s71 := (e 71 (by decide)).trans s71
  clear e
  refine at_one (i := 9) (m' := 1023) gwreg (by decide) rfl ?_
  refine p_callG (args := #[.agg #[.int .i64 h, .int .i64 x]]) (d := some 72) rfl (wanted_gG (j := 5) rfl rfl rfl s68) rfl (by simp only [List.map_toArray, List.map_cons, List.map_nil, s71]) rfl Tryz.call15 ((rsizeT_any h x y9).mono ?_)
  rintro e y10 ⟨rfl, g10⟩
  have hb10 := keep_trans hb9 g10
  refine ⟨_, rfl, hb10, ?_⟩
  refine F.step (kk := 72) rfl (by decide) ?_
  intro a10 F s72 e
  replace s11 := (e 11 (by decide)).trans s11
  replace s12 := (e 12 (by decide)).trans s12
  replace s13 := (e 13 (by decide)).trans s13
  replace s14 := (e 14 (by decide)).trans s14
  replace s15 := (e 15 (by decide)).trans s15
  replace s16 := (e 16 (by decide)).trans s16
  replace s17 := (e 17 (by decide)).trans s17
  replace s18 := (e 18 (by decide)).trans s18
  replace s68 := (e 68 (by decide)).trans s68
  replace s70 := (e 70 (by decide)).trans s70
  clear e
  refine at_takeD (i := 10) (m' := 2047) (d := some 73) (v := .bool true) gwreg rfl (by decide) rfl rfl (y_eqI (wanted_gG (j := 5) rfl rfl rfl s68) rfl s70 s72 Tryz.underlying3 (by simp)) hb10 ?_
  refine F.step (kk := 73) rfl (by decide) ?_
  intro a11 F s73 e
  replace s11 := (e 11 (by decide)).trans s11
  replace s12 := (e 12 (by decide)).trans s12
  replace s13 := (e 13 (by decide)).trans s13
  replace s14 := (e 14 (by decide)).trans s14
  replace s15 := (e 15 (by decide)).trans s15
  replace s16 := (e 16 (by decide)).trans s16
  replace s17 := (e 17 (by decide)).trans s17
  replace s18 := (e 18 (by decide)).trans s18
  replace s68 := (e 68 (by decide)).trans s68
  clear e
  refine at_takeD (i := 11) (m' := 4095) (d := some 74) (v := .bool true) gwreg rfl (by decide) rfl rfl (y_pickTG (wanted_free rfl) rfl s68 s73) hb10 ?_
  refine F.step (kk := 74) rfl (by decide) ?_
  intro a12 F s74 e
  replace s11 := (e 11 (by decide)).trans s11
  replace s12 := (e 12 (by decide)).trans s12
  replace s13 := (e 13 (by decide)).trans s13
  replace s14 := (e 14 (by decide)).trans s14
  replace s15 := (e 15 (by decide)).trans s15
  replace s16 := (e 16 (by decide)).trans s16
  replace s17 := (e 17 (by decide)).trans s17
  replace s18 := (e 18 (by decide)).trans s18
  clear e
  refine at_takeD (i := 12) (m' := 8191) (d := some 75) (v := .bool true) gwreg rfl (by decide) rfl rfl (y_moveG (wanted_free rfl) rfl s74) hb10 ?_
  refine F.step (kk := 75) rfl (by decide) ?_
  intro a13 F s75 e
  replace s11 := (e 11 (by decide)).trans s11
  replace s12 := (e 12 (by decide)).trans s12
  replace s13 := (e 13 (by decide)).trans s13
  replace s14 := (e 14 (by decide)).trans s14
  replace s15 := (e 15 (by decide)).trans s15
  replace s16 := (e 16 (by decide)).trans s16
  replace s17 := (e 17 (by decide)).trans s17
  replace s18 := (e 18 (by decide)).trans s18
  clear e
  refine at_takeD (i := 13) (m' := 16383) (d := some 76) (v := va) gwreg rfl (by decide) rfl rfl (y_moveG (wanted_gG (j := 12) rfl rfl rfl s75) rfl s11) hb10 ?_
  refine F.step (kk := 76) rfl (by decide) ?_
  intro a14 F s76 e
  replace s12 := (e 12 (by decide)).trans s12
  replace s13 := (e 13 (by decide)).trans s13
  replace s14 := (e 14 (by decide)).trans s14
  replace s15 := (e 15 (by decide)).trans s15
  replace s16 := (e 16 (by decide)).trans s16
  replace s17 := (e 17 (by decide)).trans s17
  replace s18 := (e 18 (by decide)).trans s18
  replace s75 := (e 75 (by decide)).trans s75
  clear e
  refine at_takeD (i := 14) (m' := 32767) (d := some 77) (v := vb) gwreg rfl (by decide) rfl rfl (y_moveG (wanted_gG (j := 12) rfl rfl rfl s75) rfl s13) hb10 ?_
  refine F.step (kk := 77) rfl (by decide) ?_
  intro a15 F s77 e
  replace s12 := (e 12 (by decide)).trans s12
  replace s14 := (e 14 (by decide)).trans s14
  replace s15 := (e 15 (by decide)).trans s15
  replace s16 := (e 16 (by decide)).trans s16
  replace s17 := (e 17 (by decide)).trans s17
  replace s18 := (e 18 (by decide)).trans s18
  replace s75 := (e 75 (by decide)).trans s75
  replace s76 := (e 76 (by decide)).trans s76
  clear e
  refine at_one (i := 15) (m' := 65535) gwreg (by decide) rfl ?_
  refine p_callG (args := #[va, vb]) (d := some 78) rfl (wanted_gG (j := 12) rfl rfl rfl s75) rfl (by simp only [List.map_toArray, List.map_cons, List.map_nil, s76, s77]) rfl Tryz.call16 ((rsame_true va vb X1 y10 (ra.below hb10) (rb.below hb10)).mono ?_)
  rintro e y16 ⟨rfl, g16⟩
  have hb16 := keep_trans hb10 g16
  refine ⟨_, rfl, hb16, ?_⟩
  refine F.step (kk := 78) rfl (by decide) ?_
  intro a16 F s78 e
  replace s12 := (e 12 (by decide)).trans s12
  replace s14 := (e 14 (by decide)).trans s14
  replace s15 := (e 15 (by decide)).trans s15
  replace s16 := (e 16 (by decide)).trans s16
  replace s17 := (e 17 (by decide)).trans s17
  replace s18 := (e 18 (by decide)).trans s18
  replace s75 := (e 75 (by decide)).trans s75
  clear e
  refine at_takeD (i := 16) (m' := 131071) (d := some 79) (v := .bool true) gwreg rfl (by decide) rfl rfl (y_pickTG (wanted_free rfl) rfl s75 s78) hb16 ?_
  refine F.step (kk := 79) rfl (by decide) ?_
  intro a17 F s79 e
  replace s12 := (e 12 (by decide)).trans s12
  replace s14 := (e 14 (by decide)).trans s14
  replace s15 := (e 15 (by decide)).trans s15
  replace s16 := (e 16 (by decide)).trans s16
  replace s17 := (e 17 (by decide)).trans s17
  replace s18 := (e 18 (by decide)).trans s18
  clear e
  refine at_takeD (i := 17) (m' := 262143) (d := some 80) (v := .bool true) gwreg rfl (by decide) rfl rfl (y_moveG (wanted_free rfl) rfl s79) hb16 ?_
  refine F.step (kk := 80) rfl (by decide) ?_
  intro a18 F s80 e
  replace s12 := (e 12 (by decide)).trans s12
  replace s14 := (e 14 (by decide)).trans s14
  replace s15 := (e 15 (by decide)).trans s15
  replace s16 := (e 16 (by decide)).trans s16
  replace s17 := (e 17 (by decide)).trans s17
  replace s18 := (e 18 (by decide)).trans s18
  clear e
  refine at_takeD (i := 18) (m' := 524287) (d := some 81) (v := .int .i64 C1) gwreg rfl (by decide) rfl rfl (y_moveG (wanted_gG (j := 17) rfl rfl rfl s80) rfl s12) hb16 ?_
  refine F.step (kk := 81) rfl (by decide) ?_
  intro a19 F s81 e
  replace s14 := (e 14 (by decide)).trans s14
  replace s15 := (e 15 (by decide)).trans s15
  replace s16 := (e 16 (by decide)).trans s16
  replace s17 := (e 17 (by decide)).trans s17
  replace s18 := (e 18 (by decide)).trans s18
  replace s80 := (e 80 (by decide)).trans s80
  clear e
  refine at_takeD (i := 19) (m' := 1048575) (d := some 82) (v := .int .i64 C1) gwreg rfl (by decide) rfl rfl (y_moveG (wanted_gG (j := 17) rfl rfl rfl s80) rfl s14) hb16 ?_
  refine F.step (kk := 82) rfl (by decide) ?_
  intro a20 F s82 e
  replace s15 := (e 15 (by decide)).trans s15
  replace s16 := (e 16 (by decide)).trans s16
  replace s17 := (e 17 (by decide)).trans s17
  replace s18 := (e 18 (by decide)).trans s18
  replace s80 := (e 80 (by decide)).trans s80
  replace s81 := (e 81 (by decide)).trans s81
  clear e
  refine at_takeD (i := 20) (m' := 2097151) (d := some 83) (v := .bool true) gwreg rfl (by decide) rfl rfl (y_eqI (wanted_gG (j := 17) rfl rfl rfl s80) rfl s81 s82 Tryz.underlying3 (by simp)) hb16 ?_
  refine F.step (kk := 83) rfl (by decide) ?_
  intro a21 F s83 e
  replace s15 := (e 15 (by decide)).trans s15
  replace s16 := (e 16 (by decide)).trans s16
  replace s17 := (e 17 (by decide)).trans s17
  replace s18 := (e 18 (by decide)).trans s18
  replace s80 := (e 80 (by decide)).trans s80
  clear e
  refine at_takeD (i := 21) (m' := 4194303) (d := some 84) (v := .bool true) gwreg rfl (by decide) rfl rfl (y_pickTG (wanted_free rfl) rfl s80 s83) hb16 ?_
  refine F.step (kk := 84) rfl (by decide) ?_
  intro a22 F s84 e
  replace s15 := (e 15 (by decide)).trans s15
  replace s16 := (e 16 (by decide)).trans s16
  replace s17 := (e 17 (by decide)).trans s17
  replace s18 := (e 18 (by decide)).trans s18
  clear e
  refine at_takeD (i := 22) (m' := 8388607) (d := some 85) (v := .bool true) gwreg rfl (by decide) rfl rfl (y_moveG (wanted_free rfl) rfl s84) hb16 ?_
  refine F.step (kk := 85) rfl (by decide) ?_
  intro a23 F s85 e
  replace s15 := (e 15 (by decide)).trans s15
  replace s16 := (e 16 (by decide)).trans s16
  replace s17 := (e 17 (by decide)).trans s17
  replace s18 := (e 18 (by decide)).trans s18
  clear e
  refine at_takeD (i := 23) (m' := 16777215) (d := some 86) (v := vc) gwreg rfl (by decide) rfl rfl (y_moveG (wanted_gG (j := 22) rfl rfl rfl s85) rfl s15) hb16 ?_
  refine F.step (kk := 86) rfl (by decide) ?_
  intro a24 F s86 e
  replace s16 := (e 16 (by decide)).trans s16
  replace s17 := (e 17 (by decide)).trans s17
  replace s18 := (e 18 (by decide)).trans s18
  replace s85 := (e 85 (by decide)).trans s85
  clear e
  refine at_takeD (i := 24) (m' := 33554431) (d := some 87) (v := vd) gwreg rfl (by decide) rfl rfl (y_moveG (wanted_gG (j := 22) rfl rfl rfl s85) rfl s17) hb16 ?_
  refine F.step (kk := 87) rfl (by decide) ?_
  intro a25 F s87 e
  replace s16 := (e 16 (by decide)).trans s16
  replace s18 := (e 18 (by decide)).trans s18
  replace s85 := (e 85 (by decide)).trans s85
  replace s86 := (e 86 (by decide)).trans s86
  clear e
  refine at_one (i := 25) (m' := 67108863) gwreg (by decide) rfl ?_
  refine p_callG (args := #[vc, vd]) (d := some 88) rfl (wanted_gG (j := 22) rfl rfl rfl s85) rfl (by simp only [List.map_toArray, List.map_cons, List.map_nil, s86, s87]) rfl Tryz.call16 ((rsame_true vc vd X2 y16 (rc.below hb16) (rd.below hb16)).mono ?_)
  rintro e y26 ⟨rfl, g26⟩
  have hb26 := keep_trans hb16 g26
  refine ⟨_, rfl, hb26, ?_⟩
  refine F.step (kk := 88) rfl (by decide) ?_
  intro a26 F s88 e
  replace s16 := (e 16 (by decide)).trans s16
  replace s18 := (e 18 (by decide)).trans s18
  replace s85 := (e 85 (by decide)).trans s85
  clear e
  refine at_takeD (i := 26) (m' := 134217727) (d := some 89) (v := .bool true) gwreg rfl (by decide) rfl rfl (y_pickTG (wanted_free rfl) rfl s85 s88) hb26 ?_
  refine F.step (kk := 89) rfl (by decide) ?_
  intro a27 F s89 e
  replace s16 := (e 16 (by decide)).trans s16
  replace s18 := (e 18 (by decide)).trans s18
  clear e
  refine at_takeD (i := 27) (m' := 268435455) (d := some 90) (v := .bool true) gwreg rfl (by decide) rfl rfl (y_moveG (wanted_free rfl) rfl s89) hb26 ?_
  refine F.step (kk := 90) rfl (by decide) ?_
  intro a28 F s90 e
  replace s16 := (e 16 (by decide)).trans s16
  replace s18 := (e 18 (by decide)).trans s18
  clear e
  refine at_takeD (i := 28) (m' := 536870911) (d := some 91) (v := .int .i64 C2) gwreg rfl (by decide) rfl rfl (y_moveG (wanted_gG (j := 27) rfl rfl rfl s90) rfl s16) hb26 ?_
  refine F.step (kk := 91) rfl (by decide) ?_
  intro a29 F s91 e
  replace s18 := (e 18 (by decide)).trans s18
  replace s90 := (e 90 (by decide)).trans s90
  clear e
  refine at_takeD (i := 29) (m' := 1073741823) (d := some 92) (v := .int .i64 C2) gwreg rfl (by decide) rfl rfl (y_moveG (wanted_gG (j := 27) rfl rfl rfl s90) rfl s18) hb26 ?_
  refine F.step (kk := 92) rfl (by decide) ?_
  intro a30 F s92 e
  replace s90 := (e 90 (by decide)).trans s90
  replace s91 := (e 91 (by decide)).trans s91
  clear e
  refine at_takeD (i := 30) (m' := 2147483647) (d := some 93) (v := .bool true) gwreg rfl (by decide) rfl rfl (y_eqI (wanted_gG (j := 27) rfl rfl rfl s90) rfl s91 s92 Tryz.underlying3 (by simp)) hb26 ?_
  refine F.step (kk := 93) rfl (by decide) ?_
  intro a31 F s93 e
  replace s90 := (e 90 (by decide)).trans s90
  clear e
  refine at_takeD (i := 31) (m' := 4294967295) (d := some 94) (v := .bool true) gwreg rfl (by decide) rfl rfl (y_pickTG (wanted_free rfl) rfl s90 s93) hb26 ?_
  refine F.step (kk := 94) rfl (by decide) ?_
  intro a32 F s94 e
  clear e
  refine at_takeD (i := 32) (m' := 8589934591) (d := some 95) (v := .bool true) gwreg rfl (by decide) rfl rfl (y_moveG (wanted_free rfl) rfl s94) hb26 ?_
  refine F.step (kk := 95) rfl (by decide) ?_
  intro a33 F s95 e
  clear e
  refine at_one (i := 33) (m' := 17179869183) gwreg (by decide) rfl ?_
  refine p_callG (args := #[]) (d := some 96) rfl (wanted_gG (j := 32) rfl rfl rfl s95) rfl (by simp only [List.map_toArray, List.map_nil]) rfl Tryz.call7 ((awakeM_any y26).mono ?_)
  rintro e y34 ⟨rfl, g34⟩
  have hb34 := keep_trans hb26 g34
  refine ⟨_, rfl, hb34, ?_⟩
  refine F.step (kk := 96) rfl (by decide) ?_
  intro a34 F s96 e
  replace s95 := (e 95 (by decide)).trans s95
  clear e
  refine at_takeD (i := 34) (m' := 34359738367) (d := some 97) (v := .bool true) gwreg rfl (by decide) rfl rfl (y_pickTG (wanted_free rfl) rfl s95 s96) hb34 ?_
  refine F.step (kk := 97) rfl (by decide) ?_
  intro a35 F s97 e
  clear e
  refine at_takeD (i := 35) (m' := 68719476735) (d := some 10) (v := .bool true) gwreg rfl (by decide) rfl rfl (y_assignG (wanted_free rfl) rfl s97) hb34 ?_
  refine F.step (kk := 10) rfl (by decide) ?_
  intro a36 F s10 e
  clear e
  refine at_done gwreg (by decide) ?_
  exact hQ _ _ F s10 hb34
end Go.Proofs.YtefndnbaifiboaaGreatDoor
