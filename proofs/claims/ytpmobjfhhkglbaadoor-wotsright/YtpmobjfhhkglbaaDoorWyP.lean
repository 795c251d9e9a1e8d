/- Keys of chains, the program's own: places (partAt, Put, ofType, shortened), filled. -/
import Derived.Test.YtpmobjfhhkglbaaDoorHSum
import Derived.Test.YtpmobjfhhkglbaaDoorBase
import Derived.Test.YtpmobjfhhkglbaaDoorHTak32
import Derived.Lib.SliceRun
import Derived.Test.YtpmobjfhhkglbaaDoorWtM
import Derived.Test.YtpmobjfhhkglbaaDoorPlan2
import Derived.Deep.DeepCutAuto
namespace Go.Proofs.YtpmobjfhhkglbaaDoor
open Go.RowKit
set_option linter.unusedVariables false
set_option linter.unusedSimpArgs false

theorem run_midV {o : Oper} {a : Act} (w : World) {x lo hi : Operand} {g F T K : Nat} (ho : o.op = .slice 23 x (some lo) (some hi) none) (hx : a.eval x = .pointer (some ⟨g, 0, none⟩)) (hlo : a.eval lo = .int .i64 (F : Int)) (hhi : a.eval hi = .int .i64 (T : Int)) (hFT : F ≤ T) (hT : T ≤ 32) (hK : T - F = K) (hF : F < 32) : (execOp a.eval o).run Tryd.prog w = .ok (.value (.slice (some ⟨g, F, none⟩) K (32 - F))) w := by
  obtain ⟨i0, hi0, hz0, hz1, hz2⟩ := info_byte
  have h1 : (F : Int) ≤ (T : Int) := by omega
  have h2 : (T : Int) ≤ 32 := by omega
  have h3 : ¬ 32 = F := by omega
  unfold execOp
  simp only [ho, hx, hlo, hhi, Option.map_some, Option.map_none, ev_const]
  simp [Instr.sliceAt, Instr.slice, Instr.sliceBounds, Instr.sliceBound, asIntOf, Sem.run_bind, run_underlying Tryd.underlying23, run_underlying Tryd.underlying26, sizeOf, typeInfo, hi0, hz1, Addr.add, go_sem, h1, h2, h3, hFT, hT, hK]
  by_cases h0 : F = 0 <;> simp [h0]
theorem run_dropV {o : Oper} {a : Act} (w : World) {x lo : Operand} {g F K : Nat} (ho : o.op = .slice 23 x (some lo) none none) (hx : a.eval x = .pointer (some ⟨g, 0, none⟩)) (hlo : a.eval lo = .int .i64 (F : Int)) (hK : 32 - F = K) (hF : F < 32) : (execOp a.eval o).run Tryd.prog w = .ok (.value (.slice (some ⟨g, F, none⟩) K K)) w := by
  obtain ⟨i0, hi0, hz0, hz1, hz2⟩ := info_byte
  have h1 : (F : Int) ≤ 32 := by omega
  have h3 : ¬ 32 = F := by omega
  unfold execOp
  simp only [ho, hx, hlo, Option.map_some, Option.map_none, ev_const]
  simp [Instr.sliceAt, Instr.slice, Instr.sliceBounds, Instr.sliceBound, asIntOf, Sem.run_bind, run_underlying Tryd.underlying23, run_underlying Tryd.underlying26, sizeOf, typeInfo, hi0, hz1, Addr.add, go_sem, h1, h3, hK, show F ≤ 32 by omega]
  by_cases h0 : F = 0 <;> simp [h0]
theorem y_midV {ops : Array Oper} {S : World → Prop} {o : Oper} {a : Act} {x lo hi : Operand} {g F T K : Nat} (hw : Region.wanted o (yielded ops a.tmps) = true) (ho : o.op = .slice 23 x (some lo) (some hi) none) (hx : a.eval x = .pointer (some ⟨g, 0, none⟩)) (hlo : a.eval lo = .int .i64 (F : Int)) (hhi : a.eval hi = .int .i64 (T : Int)) (hFT : F ≤ T) (hT : T ≤ 32) (hK : T - F = K) (hF : F < 32) : YieldsIf Tryd.prog ops S o (.slice (some ⟨g, F, none⟩) K (32 - F)) a := .inl ⟨hw, fun w _ => run_midV w ho hx hlo hhi hFT hT hK hF⟩
theorem y_dropV {ops : Array Oper} {S : World → Prop} {o : Oper} {a : Act} {x lo : Operand} {g F K : Nat} (hw : Region.wanted o (yielded ops a.tmps) = true) (ho : o.op = .slice 23 x (some lo) none none) (hx : a.eval x = .pointer (some ⟨g, 0, none⟩)) (hlo : a.eval lo = .int .i64 (F : Int)) (hK : 32 - F = K) (hF : F < 32) : YieldsIf Tryd.prog ops S o (.slice (some ⟨g, F, none⟩) K K) a := .inl ⟨hw, fun w _ => run_dropV w ho hx hlo hK hF⟩
theorem wpList_dropV {ops : Array Oper} {rest : List Oper} {o : Oper} {a : Act} {w : World} {Q : Exit → Act → World → Prop} (hg : o.guard = none) (x lo : Operand) (ho : o.op = .slice 23 x (some lo) none none) (g F K : Nat) (hx : a.eval x = .pointer (some ⟨g, 0, none⟩)) (hlo : a.eval lo = .int .i64 (F : Int)) (hK : 32 - F = K) (hF : F < 32)
    (h : wpList Tryd.prog ops Q rest (a.put o.dst (.slice (some ⟨g, F, none⟩) K K)) w) : wpList Tryd.prog ops Q (o :: rest) a w := by
  refine wpList_plain hg fun R hR => ?_
  unfold Oper.wp
  rw [run_dropV w ho hx hlo hK hF, Oper.upon_value]
  exact hR _ _ h
theorem y_subX {ops : Array Oper} {S : World → Prop} {o : Oper} {a : Act} {x y : Operand} {t t' : TypeId} {F T K : Nat} (hw : Region.wanted o (yielded ops a.tmps) = true) (ho : o.op = .binOp .sub t x y t') (hx : a.eval x = .int .i64 (T : Int)) (hy : a.eval y = .int .i64 (F : Int)) (hu : Tryd.prog.underlying t = some (.int .i64)) (hFT : F ≤ T) (hT : T ≤ 32) (hK : T - F = K) : YieldsIf Tryd.prog ops S o (.int .i64 (K : Int)) a := by
  have e : (T : Int) - (F : Int) = (K : Int) := by omega
  have s : IntKind.i64.wrap (K : Int) = (K : Int) := by rw [IntKind.wrap_i64]; omega
  exact .inl ⟨hw, fun w _ => by unfold execOp; simp only [ho, hx, hy]; simp [go_sem, hu, e, s]⟩
/-- copy, one step of a plan -/
theorem p_copyX {ops : Array Oper} {Q : Exit → Act → World → Prop} {R : Act → World → Prop} {i : Nat} {o : Oper} {a : Act} {w : World} {x s : Operand} {t t' : TypeId} {v u : Value} {dd : Option Nat} (hD : o.dst = dd) (hi : ops[i]? = some o) (hw : Region.wanted o (yielded ops a.tmps) = true) (ho : o.op = .call { callee := .builtin .copy, args := #[x, s], argTypes := #[t, t'] }) (hx : a.eval x = v) (hs : a.eval s = u) {v' : Value} {w' : World}
    (hr : (Builtin.copy_ #[t, t'] o.type #[v, u]).run Tryd.prog w = .ok v' w') (h : R (a.put dd v') w') : wpOp Tryd.prog ops Q i R a w := by
  unfold wpOp
  simp only [hi]
  rw [if_pos hw]
  left
  unfold Oper.wp execOp
  simp only [ho, resolve, invoke, builtin, Sem.run_bind, Sem.run_pure, Result.andThen_ok, List.map_toArray, List.map_cons, List.map_nil, hx, hs, hr]
  show R (a.put o.dst v') w'
  rw [hD]
  exact h
/-- clear, one step -/
theorem wpList_clearX {ops : Array Oper} {rest : List Oper} {o : Oper} {a : Act} {w : World} {Q : Exit → Act → World → Prop} (hg : o.guard = none) (x : Operand) (t : TypeId) (ho : o.op = .call { callee := .builtin .clear, args := #[x], argTypes := #[t] }) (v : Value) (hx : a.eval x = v) {v' : Value} {w' : World}
    (hr : (Builtin.clear_ #[t] o.type #[v]).run Tryd.prog w = .ok v' w') (h : wpList Tryd.prog ops Q rest (a.put o.dst v') w') : wpList Tryd.prog ops Q (o :: rest) a w := by
  refine wpList_plain hg fun R hR => ?_
  unfold Oper.wp execOp
  simp only [ho, resolve, invoke, builtin, Sem.run_bind, Sem.run_pure, Result.andThen_ok, List.map_toArray, List.map_cons, List.map_nil, hx, hr]
  exact hR _ _ h
theorem lay_cells (a b : List Nat) (F : Nat) : ((arr .u8 a).toList.take F ++ vals .u8 b ++ (arr .u8 a).toList.drop (F + (vals .u8 b).length)).toArray = arr .u8 (layLW a F b) := by
  unfold arr layLW
  rw [List.toList_toArray, vals_length, vals_append, vals_append]
  simp [vals, List.map_take, List.map_drop]
/-- a text copied into a place's box -/
theorem copy_ad {y : World} {B : Nat} {a b : List Nat} {bv : Value} {F K c : Nat} {ty : TypeId} (hL : Lies .u8 23 y B a) (ha : Pl a) (hb : Row .u8 256 y bv b) (hK : b.length = K) (hF : F + K ≤ 32) :
    (Builtin.copy_ #[26, 26] ty #[.slice (some ⟨B, F, none⟩) K c, bv]).run Tryd.prog y = .ok (.int .i64 (K : Int)) (y.setRow B (arr .u8 (layLW a F b))) := by
  obtain ⟨i0, hi0, hz0, hz1, hz2⟩ := info_byte
  have hs : (Tryd.prog.info? 5).map (·.size) = some 1 := by rw [hi0]; simp [hz1]
  obtain ⟨ba, bc, rfl, hle, hmx, hc, hu⟩ := hb
  rw [hK]
  by_cases h0 : K = 0
  · subst h0
    rw [run_copy_none (P := Tryd.prog) y 26 26 ty 5 _ _ 0 c 0 bc Tryd.underlying26 hs (by simp)]
    rw [List.length_eq_zero_iff.1 hK, lay_none]
    rw [setRow_self y B (arr .u8 a) 23 (0, 0) hL]
    rfl
  · obtain ⟨bb, bo, rfl, hcell⟩ := hc (by omega)
    have := run_copy_row (P := Tryd.prog) y 26 26 ty 5 B F K c ⟨bb, bo, none⟩ K bc (arr .u8 a) 23 (vals .u8 b) Tryd.underlying26 hs hL (by rw [vals_length, hK]; simp)
      (fun j v hv => by
        have hj : j < b.length := by have := (List.getElem?_eq_some_iff.1 hv).1; rwa [vals_length] at this
        have hcj := hcell j hj
        rw [vals_get .u8 b j hj] at hv
        obtain rfl := Option.some.inj hv
        by_cases hj0 : j = 0
        · subst hj0; simpa [Addr.add] using hcj
        · simpa [Addr.add, hj0] using hcj)
      (by rw [vals_length, arr_size, ha.1, hK]; omega) (fun v hv => by obtain ⟨n, _, rfl⟩ := List.mem_map.1 hv; rfl)
    rw [lay_cells, vals_length, hK] at this
    exact this
theorem But.cellsW {g : Nat} {a : World} : ∀ (vs : List Value) (o : Nat) (w : World), But g a w → But g a (w.setCells g o vs)
  | [], _, _, h => h
  | v :: r, o, w, h => But.cellsW r (o + 1) _ (h.setCell o v)
/-- what stands behind a place's type set to 0 -/
theorem clear_ad {y : World} {B : Nat} {a : List Nat} {F K c : Nat} {ty : TypeId} (hL : Lies .u8 23 y B a) (ha : Pl a) (hF : F + K = 32) (hK : 0 < K) :
    ∃ y', (Builtin.clear_ #[26] ty #[.slice (some ⟨B, F, none⟩) K c]).run Tryd.prog y = .ok (.tuple #[]) y' ∧ Lies .u8 23 y' B (layLW a F (List.replicate K 0)) ∧ But B y y' := by
  have hr := Lib.run_clear_slice (P := Tryd.prog) y 26 5 ty (.int .u8 0) Tryd.underlying26 (fun w => by kernel_rfl) rfl rfl B F K c hK (fun j hj => by rw [hL.cell (by rw [ha.1]; omega)]; rfl) (fun j hj => hL.frozen _)
  refine ⟨_, hr, ?_, But.cellsW _ _ _ (But.refl _ _)⟩
  clear hr
  have hgen : ∀ (m f : Nat) (l : List Nat) (z : World), Lies .u8 23 z B l → f + m ≤ l.length → Lies .u8 23 (z.setCells B f (List.replicate m (.int .u8 0))) B (layLW l f (List.replicate m 0)) := by
    intro m
    induction m with
    | zero => intro f l z hz _; rw [List.replicate_zero, List.replicate_zero, lay_none]; exact hz
    | succ m ih =>
      intro f l z hz hf
      rw [List.replicate_succ, World.setCells]
      have h1 := hz.set f 0
      have h2 := ih (f + 1) (l.set f 0) _ h1 (by rw [List.length_set]; omega)
      have e : layLW (l.set f 0) (f + 1) (List.replicate m 0) = layLW l f (List.replicate (m + 1) 0) := by
        have hl1 := layL_len (a := l.set f 0) (p := f + 1) (b := List.replicate m 0) (by rw [List.length_replicate, List.length_set]; omega)
        have hl2 := layL_len (a := l) (p := f) (b := List.replicate (m + 1) 0) (by rw [List.length_replicate]; omega)
        refine ext_elW (by rw [hl1, hl2, List.length_set]) fun i hi => ?_
        rw [hl1, List.length_set] at hi
        rw [el_lay (by rw [List.length_replicate, List.length_set]; omega), el_lay (by rw [List.length_replicate]; omega), List.length_replicate, List.length_replicate, el_setW]
        have er : ∀ n k, el (List.replicate n 0) k = 0 := fun n k => by unfold el; rw [List.getElem?_replicate]; split <;> rfl
        rw [er, er]
        by_cases h0 : f = i
        · subst h0; rw [if_neg (by omega), if_pos (by omega), if_pos (by omega)]
        · by_cases h1 : f + 1 ≤ i ∧ i < f + 1 + m
          · rw [if_pos h1, if_pos (by omega)]
          · rw [if_neg h1, if_neg (fun h => h0 h.1), if_neg (by omega)]
      rw [e] at h2
      exact h2
  exact hgen K F a y hL (by rw [ha.1]; omega)
theorem wbeX (n k : Nat) (w : World) (hn : n < 18446744073709551616) (hk : k ≤ 100) :
    Calls Tryd.prog 22 #[.int .u64 (n : Int), .int .i64 (k : Int)] w fun e w' => ∃ v, e = .returned v ∧ Own 5 .u8 256 w' w.heap.size v (beNW n k) ∧ Below w.heap.size w w' := by
  have := be_any n (k : Int) w hn (by omega) (by omega)
  have e : (leS n (k : Int)).reverse = beNW n k := by
    by_cases h0 : k = 0
    · subst h0
      rw [rbe_nil _ _ (.inl (by omega))]
      have := beN_len n 0
      exact (List.length_eq_zero_iff.1 this).symm
    · unfold leS beNW
      rw [if_neg (by omega), Int.toNat_natCast]
  rw [e] at this
  exact this
set_option maxHeartbeats 4000000 in
set_option maxRecDepth 100000 in
theorem wpart_0 (w : World) : Calls Tryd.prog 26 #[.int .i64 0] w fun e w' => e = .returned (.tuple #[.int .i64 ((0 : Nat) : Int), .int .i64 ((4 : Nat) : Int)]) ∧ w' = w := by
  go_enter Tryd.func26, Tryd.ntmps26
  go_wp2
  go_ret2
  exact ⟨rfl, rfl⟩
set_option maxHeartbeats 4000000 in
set_option maxRecDepth 100000 in
theorem wpart_1 (w : World) : Calls Tryd.prog 26 #[.int .i64 1] w fun e w' => e = .returned (.tuple #[.int .i64 ((4 : Nat) : Int), .int .i64 ((16 : Nat) : Int)]) ∧ w' = w := by
  go_enter Tryd.func26, Tryd.ntmps26
  go_wp2
  go_ret2
  exact ⟨rfl, rfl⟩
set_option maxHeartbeats 4000000 in
set_option maxRecDepth 100000 in
theorem wpart_2 (w : World) : Calls Tryd.prog 26 #[.int .i64 2] w fun e w' => e = .returned (.tuple #[.int .i64 ((16 : Nat) : Int), .int .i64 ((20 : Nat) : Int)]) ∧ w' = w := by
  go_enter Tryd.func26, Tryd.ntmps26
  go_wp2
  go_ret2
  exact ⟨rfl, rfl⟩
set_option maxHeartbeats 4000000 in
set_option maxRecDepth 100000 in
theorem wpart_3 (w : World) : Calls Tryd.prog 26 #[.int .i64 3] w fun e w' => e = .returned (.tuple #[.int .i64 ((20 : Nat) : Int), .int .i64 ((24 : Nat) : Int)]) ∧ w' = w := by
  go_enter Tryd.func26, Tryd.ntmps26
  go_wp2
  go_ret2
  exact ⟨rfl, rfl⟩
set_option maxHeartbeats 4000000 in
set_option maxRecDepth 100000 in
theorem wpart_4 (w : World) : Calls Tryd.prog 26 #[.int .i64 4] w fun e w' => e = .returned (.tuple #[.int .i64 ((24 : Nat) : Int), .int .i64 ((28 : Nat) : Int)]) ∧ w' = w := by
  go_enter Tryd.func26, Tryd.ntmps26
  go_wp2
  go_ret2
  exact ⟨rfl, rfl⟩
set_option maxHeartbeats 4000000 in
set_option maxRecDepth 100000 in
theorem wpart_5 (w : World) : Calls Tryd.prog 26 #[.int .i64 5] w fun e w' => e = .returned (.tuple #[.int .i64 ((28 : Nat) : Int), .int .i64 ((32 : Nat) : Int)]) ∧ w' = w := by
  go_enter Tryd.func26, Tryd.ntmps26
  go_wp2
  go_ret2
  exact ⟨rfl, rfl⟩
set_option maxHeartbeats 4000000 in
set_option maxRecDepth 100000 in
theorem wpart_no (part : Int) (w : World) (h0 : ¬ part = 0) (h1 : ¬ part = 1) (h2 : ¬ part = 2) (h3 : ¬ part = 3) (h4 : ¬ part = 4) (h5 : ¬ part = 5) : Calls Tryd.prog 26 #[.int .i64 part] w fun e w' => e = .returned (.tuple #[.int .i64 ((0 : Nat) : Int), .int .i64 ((0 : Nat) : Int)]) ∧ w' = w := by
  have b0 : (part == 0) = false := by simp [h0]
  have b1 : (part == 1) = false := by simp [h1]
  have b2 : (part == 2) = false := by simp [h2]
  have b3 : (part == 3) = false := by simp [h3]
  have b4 : (part == 4) = false := by simp [h4]
  have b5 : (part == 5) = false := by simp [h5]
  go_enter Tryd.func26, Tryd.ntmps26
  go_wp2
  go_ret2
  exact ⟨rfl, rfl⟩

/-- where a part of a place lies -/
structure PaX (part : Int) (F T : Nat) : Prop where
  le : F ≤ T
  top : T ≤ 32
  low : F < 32
  is : ∀ w, Calls Tryd.prog 26 #[.int .i64 part] w fun e w' => e = .returned (.tuple #[.int .i64 (F : Int), .int .i64 (T : Int)]) ∧ w' = w
def pu2lt : List Lt := [(0, some 14, [7]), (0, some 15, [8]), (3, some 16, [3, 14, 15]), (0, some 17, [2]), (0, some 18, [8]), (0, some 19, [7]), (48, some 20, [18, 19]), (72, some 21, [17, 20]), (132, some 22, [16, 21])]
theorem pu2reg : Reg (opsA (cLA (cRA (cRA (Tryd.f17.body.getD .skip))))) pu2lt := ⟨by kernel_rfl, by kernel_rfl⟩
set_option maxHeartbeats 4000000 in
set_option maxRecDepth 100000 in
theorem wput_o (a : List Nat) (part : Int) (n F T : Nat) (w : World) (ha : Pl a) (hn : n < 18446744073709551616) (hp : PaX part F T) (h2 : ¬ part = 2) :
    Calls Tryd.prog 17 #[.agg (arr .u8 a), .int .i64 part, .int .u64 (n : Int)] w fun e w' => e = .returned (.agg (arr .u8 (layLW a F (beNW n (T - F))))) ∧ Below w.heap.size w w' := by
  have hpart := hp.is
  have hFT := hp.le
  have hT32 := hp.top
  have hF32 := hp.low
  obtain ⟨K, hK⟩ : ∃ K : Nat, T - F = K := ⟨_, rfl⟩
  rw [hK]
  have hbe := fun y => wbeX n K y hn (by omega)
  have hbl := beN_len n K
  have hfit : F + K ≤ 32 := by omega
  have hfin := ha.lay (b := beNW n K) (p := F) (beN_under n K) (by rw [hbl]; exact hfit)
  generalize beNW n K = BB at *
  have b2 : (part == 2) = false := by simp [h2]
  obtain ⟨W0, hW0⟩ : ∃ W0 : World, W0 = (w.alloc (.cells (arr .u8 a) 23)).alloc (.cells (arr .u8 zP) 23) := ⟨_, rfl⟩
  have hb0 : Below w.heap.size w W0 := by rw [hW0]; exact keep_trans (keep_alloc _ _) (keep_alloc _ _)
  have L0' : Lies .u8 23 W0 w.heap.size a := by rw [hW0]; exact (Lies.new .u8 23 w a).below (keep_alloc _ _)
  have L0 : Lies .u8 23 W0.drew w.heap.size a := L0'
  have Z0' : Lies .u8 23 W0 (w.heap.size + 1) zP := by rw [hW0]; have := Lies.new .u8 23 (w.alloc (.cells (arr .u8 a) 23)) zP; rw [World.size_alloc] at this; exact this
  have Z0 : Lies .u8 23 W0.drew (w.heap.size + 1) zP := Z0'
  have hbd : Below w.heap.size w W0.drew := hb0.drew
  clear L0' Z0'
  have hz := zeroAd
  clear hp hb0
  go_enter Tryd.func17, Tryd.ntmps17
  go_wp2_with (first
    | (go_at_call 26; refine (hpart _).mono ?_; rintro e w1 ⟨rfl, hx⟩; obtain rfl := hx.symm)
    | fail)
  rw [← hW0]
  clear hW0
  refine at_begin (ops := opsA (cLA (cRA (cRA (Tryd.f17.body.getD .skip))))) (n := 9) (fun y => Below w.heap.size w y) (by kernel_rfl) (by kernel_rfl) ?_
  refine at_takeD (i := 0) (m' := 1) (d := some 14) (v := .int .i64 (F : Int)) pu2reg rfl (by decide) rfl rfl (y_moveG (wanted_free rfl) rfl rfl) hbd ?_
  simp only [Act.put, List.setIfInBounds_toArray, List.set_cons_zero, List.set_cons_succ]
  refine at_takeD (i := 1) (m' := 3) (d := some 15) (v := .int .i64 (T : Int)) pu2reg rfl (by decide) rfl rfl (y_moveG (wanted_free rfl) rfl rfl) hbd ?_
  simp only [Act.put, List.setIfInBounds_toArray, List.set_cons_zero, List.set_cons_succ]
  refine at_takeD (i := 2) (m' := 7) (d := some 16) (v := .slice (some ⟨w.heap.size, F, none⟩) K (32 - F)) pu2reg rfl (by decide) rfl rfl (y_midV (wanted_free rfl) rfl rfl rfl rfl hFT hT32 hK hF32) hbd ?_
  simp only [Act.put, List.setIfInBounds_toArray, List.set_cons_zero, List.set_cons_succ]
  refine at_takeD (i := 3) (m' := 15) (d := some 17) (v := .int .u64 (n : Int)) pu2reg rfl (by decide) rfl rfl (y_moveG (wanted_free rfl) rfl rfl) hbd ?_
  simp only [Act.put, List.setIfInBounds_toArray, List.set_cons_zero, List.set_cons_succ]
  refine at_takeD (i := 4) (m' := 31) (d := some 18) (v := .int .i64 (T : Int)) pu2reg rfl (by decide) rfl rfl (y_moveG (wanted_free rfl) rfl rfl) hbd ?_
  simp only [Act.put, List.setIfInBounds_toArray, List.set_cons_zero, List.set_cons_succ]
  refine at_takeD (i := 5) (m' := 63) (d := some 19) (v := .int .i64 (F : Int)) pu2reg rfl (by decide) rfl rfl (y_moveG (wanted_free rfl) rfl rfl) hbd ?_
  simp only [Act.put, List.setIfInBounds_toArray, List.set_cons_zero, List.set_cons_succ]
  refine at_takeD (i := 6) (m' := 127) (d := some 20) (v := .int .i64 (K : Int)) pu2reg rfl (by decide) rfl rfl (y_subX (wanted_free rfl) rfl rfl rfl Tryd.underlying3 hFT hT32 hK) hbd ?_
  simp only [Act.put, List.setIfInBounds_toArray, List.set_cons_zero, List.set_cons_succ]
  refine at_one (i := 7) (m' := 255) pu2reg (by decide) rfl ?_
  refine p_callG (args := #[.int .u64 (n : Int), .int .i64 (K : Int)]) (d := some 21) rfl (wanted_free rfl) rfl (by simp only [List.map_toArray, List.map_cons, List.map_nil]; rfl) rfl Tryd.call22 ((hbe W0.drew).mono ?_)
  rintro e y8 ⟨bv, rfl, ob, g8⟩
  have Lb := L0.below g8
  have Zb := Z0.below g8
  have hb8 := keep_trans hbd g8
  refine ⟨_, rfl, hb8, ?_⟩
  simp only [Act.put, List.setIfInBounds_toArray, List.set_cons_zero, List.set_cons_succ]
  refine at_one (i := 8) (m' := 511) pu2reg (by decide) rfl ?_
  refine p_copyX (dd := some 22) rfl rfl (wanted_free rfl) rfl rfl rfl (copy_ad Lb ha ob.row hbl hfit) ?_
  have hbc : Below w.heap.size w (y8.setRow w.heap.size (arr .u8 (layLW a F BB))) := (hb8).trans (((But.refl w.heap.size _).setRow _).below (Nat.le_refl _) (hb8).size)
  have Lc : Lies .u8 23 (y8.setRow w.heap.size (arr .u8 (layLW a F BB))) w.heap.size (layLW a F BB) := Lb.row
  have Zc : Lies .u8 23 (y8.setRow w.heap.size (arr .u8 (layLW a F BB))) (w.heap.size + 1) zP := Zb.but ((But.refl w.heap.size _).setRow _) (by omega)
  obtain ⟨yc, hyc⟩ : ∃ yc : World, yc = y8.setRow w.heap.size (arr .u8 (layLW a F BB)) := ⟨_, rfl⟩
  rw [← hyc] at hbc Lc Zc ⊢
  clear hyc
  have hb9 := hbc
  refine ⟨hb9, ?_⟩
  simp only [Act.put, List.setIfInBounds_toArray, List.set_cons_zero, List.set_cons_succ]
  refine at_done pu2reg (by decide) ?_
  have hal := hfin.1
  have hzl : zP.length = 32 := by decide
  go_wp2_with (first
    | (refine wpList_load_row rfl 23 _ (by rfl) w.heap.size (by rfl) _ _ _ (.array 32 5) Lc (by kernel_rfl) rfl (by rw [arr_size, hal]; kernel_rfl) ?_)
    | (refine wpList_store_row rfl 23 _ _ (by rfl) (w.heap.size + 1) (arr .u8 (layLW a F BB)) (by rfl) (by rfl) _ _ Zc (by rw [arr_size, hal]; kernel_rfl) (by rw [arr_size, arr_size, hal, hzl]) (arr_one _ _) ?_)
    | fail)
  refine bodyPost_ret (v := .agg (arr .u8 (layLW a F BB))) ?_ ?_ ?_
  · exact results_cell_row Tryd.results17 _ _ (w.heap.size + 1) _ _ _ (.array 32 5) (by rfl) (Zc.row (l' := layLW a F BB)) (by kernel_rfl) rfl (by rw [arr_size, hal]; kernel_rfl)
  · rfl
  · refine ⟨rfl, ?_⟩
    exact hbc.trans (((But.refl (w.heap.size + 1) _).setRow _).below (by omega) hbc.size)
set_option maxHeartbeats 4000000 in
set_option maxRecDepth 100000 in
theorem wput_2 (a : List Nat) (n : Nat) (w : World) (ha : Pl a) (hn : n < 18446744073709551616) :
    Calls Tryd.prog 17 #[.agg (arr .u8 a), .int .i64 2, .int .u64 (n : Int)] w fun e w' => e = .returned (.agg (arr .u8 (layLW (layLW a 16 (beNW n 4)) 20 (List.replicate 12 0)))) ∧ Below w.heap.size w w' := by
  have hpart := fun w => wpart_2 w
  obtain ⟨F, hF⟩ : ∃ F : Nat, F = 16 := ⟨_, rfl⟩
  obtain ⟨T, hT⟩ : ∃ T : Nat, T = 20 := ⟨_, rfl⟩
  obtain ⟨K, hKe⟩ : ∃ K : Nat, K = 4 := ⟨_, rfl⟩
  have hFT : F ≤ T := by omega
  have hT32 : T ≤ 32 := by omega
  have hF32 : F < 32 := by omega
  have hK : T - F = K := by omega
  have hiF : ((16 : Nat) : Int) = (F : Int) := by rw [hF]
  have hiT : ((20 : Nat) : Int) = (T : Int) := by rw [hT]
  rw [hiF, hiT] at hpart
  rw [← hF, ← hKe, ← hT]
  have hbe := fun y => wbeX n K y hn (by omega)
  have hbl := beN_len n K
  have hfit : F + K ≤ 32 := by omega
  have hfin := ha.lay (b := beNW n K) (p := F) (beN_under n K) (by rw [hbl]; exact hfit)
  have hfi2 := hfin.lay (b := List.replicate 12 0) (p := T) (Under.replicate 256 12 (by decide)) (by rw [List.length_replicate]; omega)
  generalize beNW n K = BB at *
  obtain ⟨W0, hW0⟩ : ∃ W0 : World, W0 = (w.alloc (.cells (arr .u8 a) 23)).alloc (.cells (arr .u8 zP) 23) := ⟨_, rfl⟩
  have hb0 : Below w.heap.size w W0 := by rw [hW0]; exact keep_trans (keep_alloc _ _) (keep_alloc _ _)
  have L0' : Lies .u8 23 W0 w.heap.size a := by rw [hW0]; exact (Lies.new .u8 23 w a).below (keep_alloc _ _)
  have L0 : Lies .u8 23 W0.drew w.heap.size a := L0'
  have Z0' : Lies .u8 23 W0 (w.heap.size + 1) zP := by rw [hW0]; have := Lies.new .u8 23 (w.alloc (.cells (arr .u8 a) 23)) zP; rw [World.size_alloc] at this; exact this
  have Z0 : Lies .u8 23 W0.drew (w.heap.size + 1) zP := Z0'
  have hbd : Below w.heap.size w W0.drew := hb0.drew
  clear L0' Z0'
  have hz := zeroAd
  have hTx : 32 - T = 12 := by omega
  have HFT := hide (And.intro hF (And.intro hT hKe))
  clear hb0 hF hT hKe hiF hiT
  go_enter Tryd.func17, Tryd.ntmps17
  go_wp2_with (first
    | (go_at_call 26; refine (hpart _).mono ?_; rintro e w1 ⟨rfl, hx⟩; obtain rfl := hx.symm)
    | fail)
  rw [← hW0]
  clear hW0
  refine at_begin (ops := opsA (cLA (cRA (cRA (Tryd.f17.body.getD .skip))))) (n := 9) (fun y => Below w.heap.size w y) (by kernel_rfl) (by kernel_rfl) ?_
  refine at_takeD (i := 0) (m' := 1) (d := some 14) (v := .int .i64 (F : Int)) pu2reg rfl (by decide) rfl rfl (y_moveG (wanted_free rfl) rfl rfl) hbd ?_
  simp only [Act.put, List.setIfInBounds_toArray, List.set_cons_zero, List.set_cons_succ]
  refine at_takeD (i := 1) (m' := 3) (d := some 15) (v := .int .i64 (T : Int)) pu2reg rfl (by decide) rfl rfl (y_moveG (wanted_free rfl) rfl rfl) hbd ?_
  simp only [Act.put, List.setIfInBounds_toArray, List.set_cons_zero, List.set_cons_succ]
  refine at_takeD (i := 2) (m' := 7) (d := some 16) (v := .slice (some ⟨w.heap.size, F, none⟩) K (32 - F)) pu2reg rfl (by decide) rfl rfl (y_midV (wanted_free rfl) rfl rfl rfl rfl hFT hT32 hK hF32) hbd ?_
  simp only [Act.put, List.setIfInBounds_toArray, List.set_cons_zero, List.set_cons_succ]
  refine at_takeD (i := 3) (m' := 15) (d := some 17) (v := .int .u64 (n : Int)) pu2reg rfl (by decide) rfl rfl (y_moveG (wanted_free rfl) rfl rfl) hbd ?_
  simp only [Act.put, List.setIfInBounds_toArray, List.set_cons_zero, List.set_cons_succ]
  refine at_takeD (i := 4) (m' := 31) (d := some 18) (v := .int .i64 (T : Int)) pu2reg rfl (by decide) rfl rfl (y_moveG (wanted_free rfl) rfl rfl) hbd ?_
  simp only [Act.put, List.setIfInBounds_toArray, List.set_cons_zero, List.set_cons_succ]
  refine at_takeD (i := 5) (m' := 63) (d := some 19) (v := .int .i64 (F : Int)) pu2reg rfl (by decide) rfl rfl (y_moveG (wanted_free rfl) rfl rfl) hbd ?_
  simp only [Act.put, List.setIfInBounds_toArray, List.set_cons_zero, List.set_cons_succ]
  refine at_takeD (i := 6) (m' := 127) (d := some 20) (v := .int .i64 (K : Int)) pu2reg rfl (by decide) rfl rfl (y_subX (wanted_free rfl) rfl rfl rfl Tryd.underlying3 hFT hT32 hK) hbd ?_
  simp only [Act.put, List.setIfInBounds_toArray, List.set_cons_zero, List.set_cons_succ]
  refine at_one (i := 7) (m' := 255) pu2reg (by decide) rfl ?_
  refine p_callG (args := #[.int .u64 (n : Int), .int .i64 (K : Int)]) (d := some 21) rfl (wanted_free rfl) rfl (by simp only [List.map_toArray, List.map_cons, List.map_nil]; rfl) rfl Tryd.call22 ((hbe W0.drew).mono ?_)
  rintro e y8 ⟨bv, rfl, ob, g8⟩
  have Lb := L0.below g8
  have Zb := Z0.below g8
  have hb8 := keep_trans hbd g8
  refine ⟨_, rfl, hb8, ?_⟩
  simp only [Act.put, List.setIfInBounds_toArray, List.set_cons_zero, List.set_cons_succ]
  refine at_one (i := 8) (m' := 511) pu2reg (by decide) rfl ?_
  refine p_copyX (dd := some 22) rfl rfl (wanted_free rfl) rfl rfl rfl (copy_ad Lb ha ob.row hbl hfit) ?_
  have hbc : Below w.heap.size w (y8.setRow w.heap.size (arr .u8 (layLW a F BB))) := (hb8).trans (((But.refl w.heap.size _).setRow _).below (Nat.le_refl _) (hb8).size)
  have Lc : Lies .u8 23 (y8.setRow w.heap.size (arr .u8 (layLW a F BB))) w.heap.size (layLW a F BB) := Lb.row
  have Zc : Lies .u8 23 (y8.setRow w.heap.size (arr .u8 (layLW a F BB))) (w.heap.size + 1) zP := Zb.but ((But.refl w.heap.size _).setRow _) (by omega)
  obtain ⟨yc, hyc⟩ : ∃ yc : World, yc = y8.setRow w.heap.size (arr .u8 (layLW a F BB)) := ⟨_, rfl⟩
  rw [← hyc] at hbc Lc Zc ⊢
  clear hyc
  have hb9 := hbc
  refine ⟨hb9, ?_⟩
  simp only [Act.put, List.setIfInBounds_toArray, List.set_cons_zero, List.set_cons_succ]
  refine at_done pu2reg (by decide) ?_
  have hal := hfi2.1
  have hzl : zP.length = 32 := by decide
  obtain ⟨yd, hcl, Ld, hbut⟩ := clear_ad (F := T) (K := 12) (c := 12) (ty := 0) Lc hfin (by omega) (by decide)
  have Zd := Zc.but hbut (by omega)
  have hbe2 := hbc.trans (hbut.below (Nat.le_refl _) hbc.size)
  go_wp2_with (first
    | (refine wpList_dropV rfl _ _ (by rfl) w.heap.size T 12 (by rfl) (by rfl) hTx (by omega) ?_)
    | (refine wpList_clearX rfl _ 26 (by rfl) _ (by rfl) hcl ?_)
    | (refine wpList_load_row rfl 23 _ (by rfl) w.heap.size (by rfl) _ _ _ (.array 32 5) Ld (by kernel_rfl) rfl (by rw [arr_size, hal]; kernel_rfl) ?_)
    | (refine wpList_store_row rfl 23 _ _ (by rfl) (w.heap.size + 1) (arr .u8 (layLW (layLW a F BB) T (List.replicate 12 0))) (by rfl) (by rfl) _ _ Zd (by rw [arr_size, hal]; kernel_rfl) (by rw [arr_size, arr_size, hal, hzl]) (arr_one _ _) ?_)
    | fail)
  refine bodyPost_ret (v := .agg (arr .u8 (layLW (layLW a F BB) T (List.replicate 12 0)))) ?_ ?_ ?_
  · exact results_cell_row Tryd.results17 _ _ (w.heap.size + 1) _ _ _ (.array 32 5) (by rfl) (Zd.row (l' := layLW (layLW a F BB) T (List.replicate 12 0))) (by kernel_rfl) rfl (by rw [arr_size, hal]; kernel_rfl)
  · rfl
  · refine ⟨rfl, ?_⟩
    exact hbe2.trans (((But.refl (w.heap.size + 1) _).setRow _).below (by omega) hbe2.size)
theorem wput_any (a : List Nat) (part : Int) (n : Nat) (w : World) (ha : Pl a) (hn : n < 18446744073709551616) :
    Calls Tryd.prog 17 #[.agg (arr .u8 a), .int .i64 part, .int .u64 (n : Int)] w fun e w' => e = .returned (.agg (arr .u8 (putA a part n))) ∧ Below w.heap.size w w' := by
  unfold putA
  split
  · next h => subst h; exact wput_o a 0 n 0 4 w ha hn ⟨by decide, by decide, by decide, wpart_0⟩ (by decide)
  split
  · next h => subst h; exact wput_o a 1 n 4 16 w ha hn ⟨by decide, by decide, by decide, wpart_1⟩ (by decide)
  split
  · next h => subst h; exact wput_2 a n w ha hn
  split
  · next h => subst h; exact wput_o a 3 n 20 24 w ha hn ⟨by decide, by decide, by decide, wpart_3⟩ (by decide)
  split
  · next h => subst h; exact wput_o a 4 n 24 28 w ha hn ⟨by decide, by decide, by decide, wpart_4⟩ (by decide)
  split
  · next h => subst h; exact wput_o a 5 n 28 32 w ha hn ⟨by decide, by decide, by decide, wpart_5⟩ (by decide)
  · next h0 h1 h2 h3 h4 h5 =>
    have := wput_o a part n 0 0 w ha hn ⟨by decide, by decide, by decide, fun w => wpart_no part w h0 h1 h2 h3 h4 h5⟩ h2
    have e : layLW a 0 (beNW n (0 - 0)) = a := by
      rw [show beNW n (0 - 0) = [] from List.length_eq_zero_iff.1 (beN_len n 0), lay_none]
    rw [e] at this
    exact this
end Go.Proofs.YtpmobjfhhkglbaaDoor

/- Keys of chains: which kinds can be. -/
namespace Go.Proofs.YtpmobjfhhkglbaaDoor
open Go.RowKit
set_option linter.unusedVariables false
set_option linter.unusedSimpArgs false

/-- a kind that can be -/
def FitX (N H D A K : Int) : Prop := (N = 16 ∨ N = 24 ∨ N = 32) ∧ 1 ≤ D ∧ H ≤ 68 ∧ D ≤ H ∧ H % D = 0 ∧ H / D ≤ 9 ∧ 1 ≤ A ∧ A ≤ 14 ∧ 1 ≤ K ∧ K ≤ 40
instance (N H D A K : Int) : Decidable (FitX N H D A K) := by unfold FitX; infer_instance
/-- a kind as a value -/
def slV (N H D A K : Int) (sh : Bool) : Value := .agg #[.int .i64 N, .int .i64 H, .int .i64 D, .int .i64 A, .int .i64 K, .bool sh]
structure BxSW (W : World) (B : Nat) (N H D A K : Int) (sh : Bool) : Prop where
  here : W.heap[B]? = some (.cells #[.int .i64 N, .int .i64 H, .int .i64 D, .int .i64 A, .int .i64 K, .bool sh] 25 (0, 0))
theorem BxSW.lt {W : World} {B : Nat} {N H D A K : Int} {sh : Bool} (h : BxSW W B N H D A K sh) : B < W.heap.size := (Array.getElem?_eq_some_iff.1 h.here).1
theorem BxSW.below {W W' : World} {B : Nat} {N H D A K : Int} {sh : Bool} (h : BxSW W B N H D A K sh) (hb : Below W.heap.size W W') : BxSW W' B N H D A K sh := ⟨(hb.block _ h.lt).trans h.here⟩
theorem BxSW.new (W : World) (N H D A K : Int) (sh : Bool) : BxSW (W.alloc (.cells #[.int .i64 N, .int .i64 H, .int .i64 D, .int .i64 A, .int .i64 K, .bool sh] 25)) W.heap.size N H D A K sh := ⟨heap_alloc_new W _⟩
theorem BxSW.c0 {W : World} {B : Nat} {N H D A K : Int} {sh : Bool} (h : BxSW W B N H D A K sh) : W.cell? ⟨B, 0, none⟩ = some (.int .i64 N) := by simp [World.cell?, h.here]
theorem BxSW.c1 {W : World} {B : Nat} {N H D A K : Int} {sh : Bool} (h : BxSW W B N H D A K sh) : W.cell? ⟨B, 1, none⟩ = some (.int .i64 H) := by simp [World.cell?, h.here]
theorem BxSW.c2 {W : World} {B : Nat} {N H D A K : Int} {sh : Bool} (h : BxSW W B N H D A K sh) : W.cell? ⟨B, 2, none⟩ = some (.int .i64 D) := by simp [World.cell?, h.here]
theorem BxSW.c3 {W : World} {B : Nat} {N H D A K : Int} {sh : Bool} (h : BxSW W B N H D A K sh) : W.cell? ⟨B, 3, none⟩ = some (.int .i64 A) := by simp [World.cell?, h.here]
theorem BxSW.c4 {W : World} {B : Nat} {N H D A K : Int} {sh : Bool} (h : BxSW W B N H D A K sh) : W.cell? ⟨B, 4, none⟩ = some (.int .i64 K) := by simp [World.cell?, h.here]
theorem BxSW.c5 {W : World} {B : Nat} {N H D A K : Int} {sh : Bool} (h : BxSW W B N H D A K sh) : W.cell? ⟨B, 5, none⟩ = some (.bool sh) := by simp [World.cell?, h.here]
end Go.Proofs.YtpmobjfhhkglbaaDoor
