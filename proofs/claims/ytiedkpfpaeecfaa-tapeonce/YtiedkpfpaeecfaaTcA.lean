/- tape's own code: Fit, Left, own, copied, take. -/
import Derived.Test.YtiedkpfpaeecfaaTpP
import Derived.Test.YtiedkpfpaeecfaaOwT
namespace Go.Proofs.Ytiedkpfpaeecfaa
open Go.RowKit
set_option linter.unusedVariables false
set_option linter.unusedSimpArgs false

set_option maxHeartbeats 2000000 in
set_option maxRecDepth 100000 in
theorem tfit_any (a : Option Addr) (n c : Nat) (x : Int) (w : World) :
    Calls Try.prog 10 #[.agg #[.slice a n c, .int .i64 x]] w fun e w' => e = .returned (.bool (decide (FitT n x))) ∧ Below w.heap.size w w' := by
  by_cases h1 : (n : Int) ≤ 1048576
  · by_cases h2 : (0 : Int) ≤ x
    · by_cases h3 : x ≤ (n : Int)
      · have hd : decide (FitT n x) = true := decide_eq_true ⟨by omega, h2, h3⟩
        rw [hd]
        go_enter Try.func10, Try.ntmps10
        go_wp2
        go_ret
        exact ⟨rfl, keep_alloc _ _⟩
      · have hd : decide (FitT n x) = false := decide_eq_false fun h => h3 h.2.2
        rw [hd]
        go_enter Try.func10, Try.ntmps10
        go_wp2
        go_ret
        exact ⟨rfl, keep_alloc _ _⟩
    · have hd : decide (FitT n x) = false := decide_eq_false fun h => h2 h.2.1
      rw [hd]
      go_enter Try.func10, Try.ntmps10
      go_wp2
      go_ret
      exact ⟨rfl, keep_alloc _ _⟩
  · have hd : decide (FitT n x) = false := decide_eq_false fun h => h1 (by have := h.1; omega)
    rw [hd]
    go_enter Try.func10, Try.ntmps10
    go_wp2
    go_ret
    exact ⟨rfl, keep_alloc _ _⟩
set_option maxHeartbeats 2000000 in
set_option maxRecDepth 100000 in
theorem tleft_any (a : Option Addr) (n c : Nat) (x : Int) (w : World) :
    Calls Try.prog 12 #[.agg #[.slice a n c, .int .i64 x]] w fun e w' => e = .returned (.int .i64 (leftT n x)) ∧ Below w.heap.size w w' := by
  have hf := fun y => tfit_any a n c x y
  by_cases h : FitT n x
  · have hd : decide (FitT n x) = true := decide_eq_true h
    have hl : leftT n x = (n : Int) - x := if_pos h
    obtain ⟨L, hL⟩ : ∃ L : Int, L = (n : Int) - x := ⟨_, rfl⟩
    have s_L : IntKind.i64.wrap L = L := by rw [IntKind.wrap_i64]; unfold FitT at h; omega
    have e_L : (n : Int) - x = L := hL.symm
    rw [hl, e_L]
    rw [hd] at hf
    clear hl hL hd h
    go_enter Try.func12, Try.ntmps12
    go_wp2_with (first | (go_at_call 10; refine (hf _).mono ?_; rintro e w1 ⟨rfl, hb1⟩; have b1 := (Bx2.new w (.slice a n c) (.int .i64 x)).below hb1; have c0 := b1.c0; have c1 := b1.c1) | fail)
    go_ret
    exact ⟨rfl, keep_trans (keep_alloc _ _) hb1⟩
  · have hd : decide (FitT n x) = false := decide_eq_false h
    have hl : leftT n x = 0 := if_neg h
    rw [hl]
    rw [hd] at hf
    clear hl hd h
    go_enter Try.func12, Try.ntmps12
    go_wp2_with (first | (go_at_call 10; refine (hf _).mono ?_; rintro e w1 ⟨rfl, hb1⟩) | fail)
    go_ret
    exact ⟨rfl, keep_trans (keep_alloc _ _) hb1⟩
set_option maxHeartbeats 2000000 in
set_option maxRecDepth 100000 in
/-- a text in new memory -/
theorem town_any (l : List Nat) (v : Value) (w : World) (hv : Row .u8 256 w v l) (tv : Tidy v) (hl : l.length ≤ 1000000) :
    Calls Try.prog 24 #[v] w fun e w' => ∃ u, e = .returned u ∧ Own 5 .u8 256 w' w.heap.size u l ∧ Below w.heap.size w w' := by
  have hv' := hv
  obtain ⟨a, c, rfl, _⟩ := hv'.opens rfl
  clear hv'
  generalize hn : l.length = n at *
  go_enter Try.func24, Try.ntmps24
  go_wp2_with (first
    | (at_builtin; refine wpList_appA rfl _ _ rfl w.heap.size _ _ 0 [] l rfl (World.ownsRow_nil _ _ _ _) rfl hv tv (Nat.zero_le _) (by omega) (Nat.le_refl _) ?_; intro v3 w3 how3 hg3)
    | fail)
  go_ret
  refine ⟨_, rfl, ⟨by rw [Nat.zero_add] at how3; exact how3, hv.under⟩, below_append' (v := .slice none 0 0) (k := 0) (xs := []) (Below.refl _ _) (Nat.le_refl _) (World.ownsRow_nil w w.heap.size 5 1) hg3⟩
theorem fT0 (q : Nat) (w : World) : (Instr.fieldAt 24 (.pointer (some ⟨q, 0, none⟩)) 0).run Try.prog w = .ok (.pointer (some ⟨q, 0, none⟩)) w := by simp [go_sem]
theorem fT1 (q : Nat) (w : World) : (Instr.fieldAt 24 (.pointer (some ⟨q, 0, none⟩)) 1).run Try.prog w = .ok (.pointer (some ⟨q, 1, none⟩)) w := by simp [go_sem]
theorem fR0 (q : Nat) (w : World) : (Instr.fieldAt 46 (.pointer (some ⟨q, 0, none⟩)) 0).run Try.prog w = .ok (.pointer (some ⟨q, 0, none⟩)) w := by simp [go_sem]
theorem built_tape (aa : Option Addr) (n c : Nat) (x : Int) : Try.prog.built 24 [(0, .slice aa n c), (1, .int .i64 x)] = some #[.slice aa n c, .int .i64 x] := by kernel_rfl
theorem y_tapeX {ops : Array Oper} {S : World → Prop} {o : Oper} {a : Act} {x y : Operand} {aa : Option Addr} {n c : Nat} {z : Int} (hg : o.guard = none) (ho : o.op = .build 24 #[(0, x), (1, y)]) (hx : a.eval x = .slice aa n c) (hy : a.eval y = .int .i64 z) : YieldsIf Try.prog ops S o (.agg #[.slice aa n c, .int .i64 z]) a := by
  refine y_of hg fun w _ => ?_
  have hb := run_build (P := Try.prog) w 24 #[(0, .slice aa n c), (1, .int .i64 z)] _ (built_tape aa n c z)
  unfold execOp
  simp only [ho, List.map_toArray, List.map_cons, List.map_nil, hx, hy]
  simp [Sem.run_bind, hb]
theorem Bx2.load1 {P : Program} {W : World} {B : Nat} {v0 v1 : Value} (h : Bx2 W B v0 v1) {fn : Func} {p : Tmp} (hr : fn.results = #[.cell p 24]) (hP : P = Try.prog) (tmps : Array Value) (hp : tmps.getD p undef = .pointer (some ⟨B, 0, none⟩)) :
    (results fn tmps).run P W = .ok (.agg #[v0, v1]) W := by
  subst hP
  have hp' : tmps[p]?.getD undef = .pointer (some ⟨B, 0, none⟩) := by simpa using hp
  simp [results, hr, hp', asAddr, run_loadVar_row W B 24 24 #[v0, v1] (0, 0) _ h.here Try.underlying24 rfl (by kernel_rfl)]
theorem own_rowZ {z : World} {b Z : Nat} {u : Value} {l : List Nat} {v0 v1 : Value} {c : Array Value} (h : Own 5 .u8 256 z b u l) (hz : Bx2 z Z v0 v1) : Own 5 .u8 256 (z.setRow Z c) b u l := by
  refine ⟨?_, h.2⟩
  have hb := (But.refl Z z).setRow c
  refine h.1.kept (row := some Z) ⟨hb.os, hb.tape, hb.output, hb.size, fun k hk hne => hb.block k hk fun e => hne (by rw [e])⟩ ?_
  rcases h.1.2 with ⟨rfl, _⟩ | ⟨g, cap, cur, rfl, _, hg1, _⟩
  · exact .inl rfl
  · refine .inr fun e => ?_
    have e2 : g = Z := by simpa [Value.ownBlock] using e
    subst e2
    rw [hz.here] at hg1
    simp at hg1
def cplt : List Lt := [(0, some 3, [1]), (1, some 4, [3]), (2, some 5, [4]), (0, some 6, [1]), (8, some 7, [6]), (20, some 8, [5, 7]), (63, none, [2, 8])]
theorem cpreg : Reg (opsA (cLA (cRA (Try.f20.body.getD .skip)))) cplt := ⟨by kernel_rfl, by kernel_rfl⟩
set_option maxHeartbeats 4000000 in
set_option maxRecDepth 100000 in
/-- a tape in new memory -/
theorem tcop_any (l : List Nat) (v : Value) (x : Int) (w : World) (hv : Row .u8 256 w v l) (tv : Tidy v) (hl : l.length ≤ 1000000) :
    Calls Try.prog 20 #[.agg #[v, .int .i64 x]] w fun e w' => ∃ u, e = .returned (.agg #[u, .int .i64 x]) ∧ Own 5 .u8 256 w' w.heap.size u l ∧ Below w.heap.size w w' := by
  have hv' := hv
  obtain ⟨a, c, rfl, _⟩ := hv'.opens rfl
  clear hv'
  obtain ⟨n, hn⟩ : ∃ n, l.length = n := ⟨_, rfl⟩
  rw [hn] at hv tv ⊢
  obtain ⟨b0, r0, hbw⟩ := two_bx w (.slice a n c) (.int .i64 x) (.slice none 0 0) (.int .i64 0)
  have HW := hide hbw
  have HN := hide hn
  clear hn
  obtain ⟨B, hB⟩ : ∃ B, w.heap.size = B := ⟨_, rfl⟩
  obtain ⟨Z, hZ⟩ : ∃ Z, B + 1 = Z := ⟨_, rfl⟩
  rw [hB] at b0 r0
  rw [hZ] at r0
  have HB := hide (And.intro hB hZ)
  have s1 : (w.alloc (.cells #[.slice a n c, .int .i64 x] 24)).heap.size = Z := by rw [World.size_alloc, hB, hZ]
  have hown := fun y (h : Below w.heap.size w y) => town_any l (.slice a n c) y (hv.below h) tv hl
  go_enter Try.func20, Try.ntmps20
  go_wp2
  generalize (w.alloc (.cells #[.slice a n c, .int .i64 x] 24)).alloc (.cells #[.slice none 0 0, .int .i64 0] 24) = W2 at *
  have hbd : Below W2.heap.size W2 W2.drew := (Below.refl _ _).drew
  have hSf : ∀ y, Below W2.heap.size W2 y → (y.cell? ⟨B, 0, none⟩ = some (.slice a n c) ∧ y.cell? ⟨B, 1, none⟩ = some (.int .i64 x)) := fun y h => ⟨(b0.below h).c0, (b0.below h).c1⟩
  have hS0 := hSf _ hbd
  replace hown := fun y (h : Below W2.heap.size W2 y) => hown y (keep_trans HW.out h)
  refine at_beginR (ops := opsA (cLA (cRA (Try.f20.body.getD .skip)))) (k := 7) (R := fun a' W' => ∃ (ua : Option Addr) (uc : Nat) (z : World), a' = { tmps := #[.agg #[.slice a n c, .int .i64 x], .pointer (some ⟨B, 0, none⟩), .pointer (some ⟨Z, 0, none⟩), .pointer (some ⟨B, 0, none⟩), .slice a n c, .slice ua l.length uc, .pointer (some ⟨B, 1, none⟩), .int .i64 x, .agg #[.slice ua l.length uc, .int .i64 x]], defers := [] } ∧ Own 5 .u8 256 z W2.heap.size (.slice ua l.length uc) l ∧ Below W2.heap.size W2 z ∧ Bx2 z Z (.slice none 0 0) (.int .i64 0) ∧ W' = z.setRow Z #[.slice ua l.length uc, .int .i64 x]) (fun y => y.cell? ⟨B, 0, none⟩ = some (.slice a n c) ∧ y.cell? ⟨B, 1, none⟩ = some (.int .i64 x)) (by kernel_rfl) (by kernel_rfl) ?reg ?cont
  case reg =>
    have hne : B ≠ Z := by have := HB.out.2; omega
    refine at_takeD (i := 0) (m' := 1) (d := some 3) (v := .pointer (some ⟨B, 0, none⟩)) cpreg rfl (by decide) rfl rfl (y_fieldX rfl rfl rfl (fT0 _)) hS0 ?_
    simp only [Act.put, List.setIfInBounds_toArray, List.set_cons_zero, List.set_cons_succ]
    refine at_takeD (i := 1) (m' := 3) (d := some 4) (v := .slice a n c) cpreg rfl (by decide) rfl rfl (y_load_plain rfl rfl rfl Try.underlying22 rfl (fun _ h => h.1)) hS0 ?_
    simp only [Act.put, List.setIfInBounds_toArray, List.set_cons_zero, List.set_cons_succ]
    refine at_takeD (i := 3) (m' := 11) (d := some 6) (v := .pointer (some ⟨B, 1, none⟩)) cpreg rfl (by decide) rfl rfl (y_fieldX rfl rfl rfl (fT1 _)) hS0 ?_
    simp only [Act.put, List.setIfInBounds_toArray, List.set_cons_zero, List.set_cons_succ]
    refine at_takeD (i := 4) (m' := 27) (d := some 7) (v := .int .i64 x) cpreg rfl (by decide) rfl rfl (y_load rfl rfl rfl Try.underlying3 (fun _ h => h.2)) hS0 ?_
    simp only [Act.put, List.setIfInBounds_toArray, List.set_cons_zero, List.set_cons_succ]
    refine at_one (i := 2) (m' := 31) cpreg (by decide) rfl ?_
    refine p_call1 (u := .slice a n c) (d := some 5) rfl rfl rfl rfl rfl Try.call24 ((hown _ hbd).mono ?_)
    rintro e z1 ⟨u, rfl, ou, hb1⟩
    obtain ⟨ua, uc, rfl⟩ := own_sliceA ou.1
    have hbz := keep_trans hbd hb1
    refine ⟨_, rfl, hSf _ hbz, ?_⟩
    simp only [Act.put, List.setIfInBounds_toArray, List.set_cons_zero, List.set_cons_succ]
    refine at_takeD (i := 5) (m' := 63) (d := some 8) (v := .agg #[.slice ua l.length uc, .int .i64 x]) cpreg rfl (by decide) rfl rfl (y_tapeX rfl rfl rfl rfl) (hSf _ hbz) ?_
    simp only [Act.put, List.setIfInBounds_toArray, List.set_cons_zero, List.set_cons_succ]
    refine at_one (i := 6) (m' := 127) cpreg (by decide) rfl ?_
    have bz := (r0.below hbd).below hb1
    refine p_rowA (cells := #[.slice ua l.length uc, .int .i64 x]) rfl rfl rfl rfl rfl rfl bz.here (by kernel_rfl) rfl (by simp [Value.oneCell']) ⟨?_, ?_⟩
    · exact ⟨((b0.below hbz).but ((But.refl Z z1).setRow _) hne).c0, ((b0.below hbz).but ((But.refl Z z1).setRow _) hne).c1⟩
    refine at_done cpreg (by decide) ?_
    exact ⟨ua, uc, z1, rfl, ou, hbz, bz, rfl⟩
  case cont =>
    rintro a' W' ⟨ua, uc, z, rfl, ou, hbz, bz, rfl⟩
    go_wp2
    refine bodyPost_ret ((bz.row (u0 := .slice ua l.length uc) (u1 := .int .i64 x)).load1 rfl rfl _ rfl) rfl ?_
    have hbZ := keep_trans HW.out hbz
    refine ⟨_, rfl, (own_rowZ ou bz).mono HW.out.size, hbZ.trans (((But.refl Z z).setRow _).below ?_ hbZ.size)⟩
    have := HB.out
    omega
/-- a reader's box -/
structure BxR (W : World) (B : Nat) (v0 v1 : Value) : Prop where
  here : W.heap[B]? = some (.cells #[v0, v1] 46 (0, 0))
theorem BxR.lt {W : World} {B : Nat} {v0 v1 : Value} (h : BxR W B v0 v1) : B < W.heap.size := (Array.getElem?_eq_some_iff.1 h.here).1
theorem BxR.c0 {W : World} {B : Nat} {v0 v1 : Value} (h : BxR W B v0 v1) : W.cell? ⟨B, 0, none⟩ = some v0 := by simp [World.cell?, h.here]
theorem BxR.c1 {W : World} {B : Nat} {v0 v1 : Value} (h : BxR W B v0 v1) : W.cell? ⟨B, 1, none⟩ = some v1 := by simp [World.cell?, h.here]
theorem BxR.f1 {W : World} {B : Nat} {v0 v1 : Value} (h : BxR W B v0 v1) : W.frozen? ⟨B, 1, none⟩ = false := by simp [World.frozen?, h.here]
theorem BxR.f0 {W : World} {B : Nat} {v0 v1 : Value} (h : BxR W B v0 v1) : W.frozen? ⟨B, 0, none⟩ = false := by simp [World.frozen?, h.here]
theorem BxR.below {W W' : World} {B : Nat} {v0 v1 : Value} (h : BxR W B v0 v1) (hb : Below W.heap.size W W') : BxR W' B v0 v1 := ⟨(hb.block _ h.lt).trans h.here⟩
theorem BxR.set1 {W : World} {B : Nat} {v0 v1 : Value} (h : BxR W B v0 v1) (u1 : Value) : BxR (W.setCell ⟨B, 1, none⟩ u1) B v0 u1 := ⟨set_here u1 h.here⟩
theorem BxR.set {W : World} {B : Nat} {v0 v1 : Value} (h : BxR W B v0 v1) (u0 u1 : Value) : BxR ((W.setCell ⟨B, 0, none⟩ u0).setCell ⟨B, 1, none⟩ u1) B u0 u1 := ⟨set_here u1 (set_here u0 h.here)⟩
theorem BxR.new (W : World) (v0 v1 : Value) : BxR (W.alloc (.cells #[v0, v1] 46)) W.heap.size v0 v1 := ⟨heap_alloc_new W _⟩
set_option maxHeartbeats 4000000 in
set_option maxRecDepth 100000 in
/-- take where it refuses -/
theorem ttake_no (a : Option Addr) (n c B : Nat) (x k : Int) (w : World) (bx : BxR w B (.slice a n c) (.int .i64 x)) (h : tkC n x k ≠ 0) :
    Calls Try.prog 19 #[.pointer (some ⟨B, 0, none⟩), .int .i64 k] w fun e w' => e = .returned (.tuple #[.slice none 0 0, .int .i64 (tkC n x k)]) ∧ Below w.heap.size w w' := by
  have hf := fun y => tfit_any a n c x y
  have hl := fun y => tleft_any a n c x y
  have c0 := bx.c0
  have c1 := bx.c1
  by_cases h1 : FitT n x
  · have hd : decide (FitT n x) = true := decide_eq_true h1
    rw [hd] at hf
    by_cases h2 : k < 0
    · have hc : tkC n x k = 8 := by unfold tkC; rw [if_neg (by simp [h1]), if_pos h2]
      rw [hc]
      clear hc h hd h1
      go_enter Try.func19, Try.ntmps19
      go_wp2_with (first | (go_at_call 10; refine (hf _).mono ?_; rintro e w1 ⟨rfl, hb1⟩) | fail)
      go_ret2
      exact ⟨rfl, hb1⟩
    · have h3 : leftT n x < k := by
        refine Decidable.byContradiction fun h3 => h ?_
        unfold tkC
        rw [if_neg (by simp [h1]), if_neg h2, if_neg h3]
      have hc : tkC n x k = 13 := by unfold tkC; rw [if_neg (by simp [h1]), if_neg h2, if_pos h3]
      rw [hc]
      generalize leftT n x = L at *
      clear hc h hd h1
      go_enter Try.func19, Try.ntmps19
      go_wp2_with (first | (go_at_call 10; refine (hf _).mono ?_; rintro e w1 ⟨rfl, hb1⟩; have b1 := bx.below hb1; have d0 := b1.c0; have d1 := b1.c1) | (go_at_call 12; refine (hl _).mono ?_; rintro e w2 ⟨rfl, hb2⟩) | fail)
      go_ret2
      exact ⟨rfl, keep_trans hb1 hb2⟩
  · have hd : decide (FitT n x) = false := decide_eq_false h1
    rw [hd] at hf
    have hc : tkC n x k = 1 := by unfold tkC; rw [if_pos h1]
    rw [hc]
    clear hc h hd h1
    go_enter Try.func19, Try.ntmps19
    go_wp2_with (first | (go_at_call 10; refine (hf _).mono ?_; rintro e w1 ⟨rfl, hb1⟩) | fail)
    go_ret2
    exact ⟨rfl, hb1⟩
theorem res2 {P : Program} {W : World} {fn : Func} {p q : Tmp} {tmps : Array Value} {u v : Value} (hr : fn.results = #[.tmp p, .tmp q]) (h1 : tmps.getD p undef = u) (h2 : tmps.getD q undef = v) : (results fn tmps).run P W = .ok (.tuple #[u, v]) W := by
  have h1' : tmps[p]?.getD undef = u := by simpa using h1
  have h2' : tmps[q]?.getD undef = v := by simpa using h2
  simp [results, hr, h1', h2']
def tklt : List Lt := [(0, some 37, [0]), (1, some 38, [37]), (2, some 39, [38]), (4, some 40, [39]), (8, some 41, [40]), (0, some 42, [6]), (0, some 43, [0]), (64, some 44, [43]), (128, some 45, [44]), (256, some 46, [45]), (512, some 47, [46]), (1072, some 48, [41, 42, 47]), (2048, some 49, [48]), (8191, some 4, [49]), (16383, some 5, [])]
theorem tkreg : Reg (opsA (cLA (cRA (cRA (cRA (cRA (cRA (cRA (Try.f19.body.getD .skip)))))))))  tklt := ⟨by kernel_rfl, by kernel_rfl⟩
set_option maxHeartbeats 4000000 in
set_option maxRecDepth 100000 in
/-- take where it answers -/
theorem ttake_ok (l : List Nat) (v : Value) (x k : Int) (B : Nat) (w0 w : World) (hv : Row .u8 256 w0 v l) (tv : Tidy v) (hll : l.length ≤ 1000000) (h : tkC l.length x k = 0) (hw0 : w0.heap.size ≤ B) (hb0 : Below w0.heap.size w0 w) (bx : BxR w B v (.int .i64 x)) :
    Calls Try.prog 19 #[.pointer (some ⟨B, 0, none⟩), .int .i64 k] w fun e w' => ∃ u, e = .returned (.tuple #[u, .int .i64 0]) ∧ Own 5 .u8 256 w' w.heap.size u (tkL l x k) ∧ BxR w' B v (.int .i64 (x + k)) ∧ But B w w' := by
  have hv' := hv
  obtain ⟨a, c, rfl, lc1, lc2, _⟩ := hv'.opens rfl
  clear hv'
  have hlen := tkL_len h
  have hk0 := h
  obtain ⟨n, hn⟩ : ∃ n, l.length = n := ⟨_, rfl⟩
  rw [hn] at h lc1 hv tv bx ⊢
  obtain ⟨h1, h2, h3⟩ := tk_ok h
  have hf := fun y => tfit_any a n c x y
  have hl := fun y => tleft_any a n c x y
  rw [decide_eq_true h1] at hf
  rw [show leftT n x = (n : Int) - x from if_pos h1] at hl
  have h1' := h1
  unfold FitT at h1'
  obtain ⟨X, rfl⟩ : ∃ X : Nat, x = (X : Int) := ⟨x.toNat, by omega⟩
  obtain ⟨Y, hY⟩ : ∃ Y : Nat, (X : Int) + k = (Y : Int) := ⟨((X : Int) + k).toNat, by omega⟩
  obtain ⟨L, hL⟩ : ∃ L : Int, L = (n : Int) - (X : Int) := ⟨_, rfl⟩
  have s_Y : IntKind.i64.wrap (Y : Int) = (Y : Int) := by rw [IntKind.wrap_i64]; omega
  have n_k : ¬ (k < 0) := by omega
  have n_L : ¬ (L < k) := by omega
  rw [← hL] at hl
  obtain ⟨A, hsl, hA⟩ := slice_mid a n c X Y (by omega) (by omega)
  have rT : ∀ y, Below w0.heap.size w0 y → Row .u8 256 y (.slice A (Y - X) (c - X)) (tkL l (X : Int) k) ∧ Tidy (.slice A (Y - X) (c - X)) := fun y hy =>
    (show Part (.slice a n c) (X : Int) k (.slice A (Y - X) (c - X)) from ⟨a, n, c, X, Y - X, A, rfl, rfl, by omega, rfl, hA⟩).row (hv.below hy) tv hk0
  have hlt : (tkL l (X : Int) k).length ≤ 1000000 := by rw [hlen]; omega
  have c0 := bx.c0
  have c1 := bx.c1
  rw [hY]
  have HX := hide (And.intro hL (And.intro h (And.intro h1' (And.intro h3 (And.intro lc1 (And.intro lc2 (And.intro hk0 (And.intro hn hY))))))))
  have HR := hide rT
  clear hL h h1 h1' h2 h3 lc1 lc2 hlen hk0 hn rT hA
  go_enter Try.func19, Try.ntmps19
  go_wp2_with (first | (go_at_call 10; refine (hf _).mono ?_; rintro e w1 ⟨rfl, hb1⟩; have b1 := bx.below hb1; have d0 := b1.c0; have d1 := b1.c1) | (go_at_call 12; refine (hl _).mono ?_; rintro e w2 ⟨rfl, hb2⟩; have b2 := b1.below hb2; have e0 := b2.c0; have e1 := b2.c1; have e2 := b2.f1) | fail)
  have b3 := b2.set1 (.int .i64 (Y : Int))
  have hb3 : But B w2 (w2.setCell ⟨B, 1, none⟩ (.int .i64 (Y : Int))) := (But.refl _ _).setCell 1 _
  generalize w2.setCell ⟨B, 1, none⟩ (.int .i64 (Y : Int)) = W2 at *
  have hb12 := keep_trans hb1 hb2
  have hbW : But B w W2 := (But.of_below hb12).trans hb3
  have hb0W : Below w0.heap.size w0 W2 := hb0.trans (hbW.below hw0 hb0.size)
  have hbd : Below W2.heap.size W2 W2.drew := (Below.refl _ _).drew
  have hSf : ∀ y, Below W2.heap.size W2 y → (y.cell? ⟨B, 0, none⟩ = some (.slice a n c) ∧ y.cell? ⟨B, 1, none⟩ = some (.int .i64 (Y : Int))) := fun y h => ⟨(b3.below h).c0, (b3.below h).c1⟩
  have hS0 := hSf _ hbd
  have hown := fun y (h : Below W2.heap.size W2 y) => town_any (tkL l (X : Int) k) (.slice A (Y - X) (c - X)) y (HR.out y (hb0W.trans (h.mono hb0W.size))).1 (HR.out y (hb0W.trans (h.mono hb0W.size))).2 hlt
  clear hf hl b1 d0 d1 b2 e0 e1 e2 c0 c1 s_Y n_k n_L
  refine at_beginR (ops := opsA (cLA (cRA (cRA (cRA (cRA (cRA (cRA (Try.f19.body.getD .skip))))))))) (k := 15) (R := fun a' W' => ∃ (u : Value), Own 5 .u8 256 W' W2.heap.size u (tkL l (X : Int) k) ∧ Below W2.heap.size W2 W' ∧ a'.defers = [] ∧ a'.tmps.getD 4 undef = u ∧ a'.tmps.getD 5 undef = .int .i64 0 ∧ True) (fun y => y.cell? ⟨B, 0, none⟩ = some (.slice a n c) ∧ y.cell? ⟨B, 1, none⟩ = some (.int .i64 (Y : Int))) (by kernel_rfl) (by kernel_rfl) ?reg ?cont
  case reg =>
    refine at_takeD (i := 0) (m' := 1) (d := some 37) (v := .pointer (some ⟨B, 0, none⟩)) tkreg rfl (by decide) rfl rfl (y_move rfl rfl rfl) hS0 ?_
    simp only [Act.put, List.setIfInBounds_toArray, List.set_cons_zero, List.set_cons_succ]
    refine at_takeD (i := 1) (m' := 3) (d := some 38) (v := .pointer (some ⟨B, 0, none⟩)) tkreg rfl (by decide) rfl rfl (y_nilX rfl rfl rfl) hS0 ?_
    simp only [Act.put, List.setIfInBounds_toArray, List.set_cons_zero, List.set_cons_succ]
    refine at_takeD (i := 2) (m' := 7) (d := some 39) (v := .pointer (some ⟨B, 0, none⟩)) tkreg rfl (by decide) rfl rfl (y_fieldX rfl rfl rfl (fR0 _)) hS0 ?_
    simp only [Act.put, List.setIfInBounds_toArray, List.set_cons_zero, List.set_cons_succ]
    refine at_takeD (i := 3) (m' := 15) (d := some 40) (v := .pointer (some ⟨B, 0, none⟩)) tkreg rfl (by decide) rfl rfl (y_fieldX rfl rfl rfl (fT0 _)) hS0 ?_
    simp only [Act.put, List.setIfInBounds_toArray, List.set_cons_zero, List.set_cons_succ]
    refine at_takeD (i := 4) (m' := 31) (d := some 41) (v := .slice a n c) tkreg rfl (by decide) rfl rfl (y_load_plain rfl rfl rfl Try.underlying22 rfl (fun _ h => h.1)) hS0 ?_
    simp only [Act.put, List.setIfInBounds_toArray, List.set_cons_zero, List.set_cons_succ]
    refine at_takeD (i := 5) (m' := 63) (d := some 42) (v := .int .i64 (X : Int)) tkreg rfl (by decide) rfl rfl (y_move rfl rfl rfl) hS0 ?_
    simp only [Act.put, List.setIfInBounds_toArray, List.set_cons_zero, List.set_cons_succ]
    refine at_takeD (i := 6) (m' := 127) (d := some 43) (v := .pointer (some ⟨B, 0, none⟩)) tkreg rfl (by decide) rfl rfl (y_move rfl rfl rfl) hS0 ?_
    simp only [Act.put, List.setIfInBounds_toArray, List.set_cons_zero, List.set_cons_succ]
    refine at_takeD (i := 7) (m' := 255) (d := some 44) (v := .pointer (some ⟨B, 0, none⟩)) tkreg rfl (by decide) rfl rfl (y_nilX rfl rfl rfl) hS0 ?_
    simp only [Act.put, List.setIfInBounds_toArray, List.set_cons_zero, List.set_cons_succ]
    refine at_takeD (i := 8) (m' := 511) (d := some 45) (v := .pointer (some ⟨B, 0, none⟩)) tkreg rfl (by decide) rfl rfl (y_fieldX rfl rfl rfl (fR0 _)) hS0 ?_
    simp only [Act.put, List.setIfInBounds_toArray, List.set_cons_zero, List.set_cons_succ]
    refine at_takeD (i := 9) (m' := 1023) (d := some 46) (v := .pointer (some ⟨B, 1, none⟩)) tkreg rfl (by decide) rfl rfl (y_fieldX rfl rfl rfl (fT1 _)) hS0 ?_
    simp only [Act.put, List.setIfInBounds_toArray, List.set_cons_zero, List.set_cons_succ]
    refine at_takeD (i := 10) (m' := 2047) (d := some 47) (v := .int .i64 (Y : Int)) tkreg rfl (by decide) rfl rfl (y_load rfl rfl rfl Try.underlying3 (fun _ h => h.2)) hS0 ?_
    simp only [Act.put, List.setIfInBounds_toArray, List.set_cons_zero, List.set_cons_succ]
    refine at_takeD (i := 11) (m' := 4095) (d := some 48) (v := .slice A (Y - X) (c - X)) tkreg rfl (by decide) rfl rfl (y_sliceX rfl rfl rfl rfl rfl hsl) hS0 ?_
    simp only [Act.put, List.setIfInBounds_toArray, List.set_cons_zero, List.set_cons_succ]
    refine at_one (i := 12) (m' := 8191) tkreg (by decide) rfl ?_
    refine p_call1 (u := .slice A (Y - X) (c - X)) (d := some 49) rfl rfl rfl rfl rfl Try.call24 ((hown _ hbd).mono ?_)
    rintro e z1 ⟨u, rfl, ou, hb1⟩
    obtain ⟨ua, uc, rfl⟩ := own_sliceA ou.1
    have hbz := keep_trans hbd hb1
    refine ⟨_, rfl, hSf _ hbz, ?_⟩
    simp only [Act.put, List.setIfInBounds_toArray, List.set_cons_zero, List.set_cons_succ]
    refine at_takeD (i := 13) (m' := 16383) (d := some 4) (v := .slice ua (tkL l (X : Int) k).length uc) tkreg rfl (by decide) rfl rfl (y_assignA rfl rfl rfl) (hSf _ hbz) ?_
    simp only [Act.put, List.setIfInBounds_toArray, List.set_cons_zero, List.set_cons_succ]
    refine at_takeD (i := 14) (m' := 32767) (d := some 5) (v := .int .i64 0) tkreg rfl (by decide) rfl rfl (y_assignA rfl rfl rfl) (hSf _ hbz) ?_
    simp only [Act.put, List.setIfInBounds_toArray, List.set_cons_zero, List.set_cons_succ]
    refine at_done tkreg (by decide) ?_
    exact ⟨_, ou, hbz, rfl, rfl, rfl, trivial⟩
  case cont =>
    rintro a' W' ⟨u, ou, hbz, hd, h4, h5, _⟩
    go_wp2
    refine bodyPost_ret (res2 rfl h4 h5) hd ?_
    have hz := hbW.size
    exact ⟨_, rfl, ou.mono hz, b3.below hbz, hbW.trans (But.of_below hbz)⟩
/-- take, whatever comes -/
theorem ttake_any (l : List Nat) (v : Value) (x k : Int) (B : Nat) (w0 w : World) (hv : Row .u8 256 w0 v l) (tv : Tidy v) (hll : l.length ≤ 1000000) (hw0 : w0.heap.size ≤ B) (hb0 : Below w0.heap.size w0 w) (bx : BxR w B v (.int .i64 x)) :
    Calls Try.prog 19 #[.pointer (some ⟨B, 0, none⟩), .int .i64 k] w fun e w' => ∃ u, e = .returned (.tuple #[u, .int .i64 (tkC l.length x k)]) ∧ (tkC l.length x k = 0 → Own 5 .u8 256 w' w.heap.size u (tkL l x k)) ∧ (tkC l.length x k ≠ 0 → u = .slice none 0 0) ∧ BxR w' B v (.int .i64 (tkY l.length x k)) ∧ But B w w' := by
  by_cases h : tkC l.length x k = 0
  · refine (ttake_ok l v x k B w0 w hv tv hll h hw0 hb0 bx).mono ?_
    rintro e w' ⟨u, rfl, ou, b, hb⟩
    exact ⟨u, by rw [h], fun _ => ou, fun hh => absurd h hh, by unfold tkY; rw [if_pos h]; exact b, hb⟩
  · obtain ⟨a, c, rfl, _⟩ := hv.opens rfl
    refine (ttake_no a l.length c B x k w bx h).mono ?_
    rintro e w' ⟨rfl, hb⟩
    exact ⟨_, rfl, fun hh => absurd hh h, fun _ => rfl, by unfold tkY; rw [if_neg h]; exact bx.below hb, But.of_below hb⟩
end Go.Proofs.Ytiedkpfpaeecfaa
