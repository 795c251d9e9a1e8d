/- Trees of trees: words for the laws. -/
import Derived.Test.YtogiballdmgcpaaGreatDoorLhA
import Derived.Test.YtogiballdmgcpaaGreatDoorLhV
import Derived.Test.YtogiballdmgcpaaGreatDoorLcD
namespace Go.Proofs.YtogiballdmgcpaaGreatDoor
open Go.RowKit
set_option linter.unusedVariables false
set_option linter.unusedSimpArgs false

set_option maxHeartbeats 2000000 in
set_option maxRecDepth 100000 in
theorem fewH (g N : Nat) (len cp : Nat → Nat) (ad : Nat → Option Addr) (w : World) (hN : N ≤ 10) (hc : ∀ i, i < N → w.cell? ⟨g, i, none⟩ = some (.slice (ad i) (len i) (cp i))) :
    Calls Tryz.prog 7 #[.slice (some ⟨g, 0, none⟩) N N] w fun e w' => e = .returned (.bool (decide (∀ i, i < N → len i ≤ 300))) ∧ w' = w := by
  go_enter Tryz.func7, Tryz.ntmps7
  go_wp2
  go_loop [7] (fun i => ∃ k : Nat, k ≤ N ∧ i = .int .i64 k ∧ Hid (∀ j, j < k → len j ≤ 300)) (fun i => N - (intOf i).toNat)
  case atStart => exact ⟨0, Nat.zero_le _, rfl, hide (fun j hj => by omega)⟩
  case round =>
    obtain ⟨k, hk, rfl, HA⟩ := hrel
    by_cases hlt : k < N
    · have hcell := hc k hlt
      have hkN : (k : Int) < (N : Int) := by omega
      have z_k : (0 : Int) ≤ (k : Int) := Int.natCast_nonneg _
      obtain ⟨Q, hQ⟩ : ∃ x : Nat, x = k + 1 := ⟨_, rfl⟩
      have e_Q : (k : Int) + 1 = (Q : Int) := by omega
      have s_Q : IntKind.i64.wrap (Q : Int) = (Q : Int) := by rw [IntKind.wrap_i64]; omega
      by_cases hl : 300 < len k
      · have g1 : (300 : Int) < (len k : Int) := by omega
        have g2 : (len k : Int) > 300 := by omega
        have hd : decide (∀ i, i < N → len i ≤ 300) = false := decide_eq_false fun h => by have := h k hlt; omega
        have HD := hide hd
        clear hc hd hQ
        obtain ⟨n, hn⟩ : ∃ n, n = len k := ⟨_, rfl⟩
        rw [← hn] at hcell g1 g2
        generalize ad k = aa at *
        generalize cp k = cc at *
        go_wp2
        go_ret
        exact ⟨by rw [HD.out]; rfl, rfl⟩
      · have g1 : ¬ (300 : Int) < (len k : Int) := by omega
        have g2 : ¬ (len k : Int) > 300 := by omega
        have HB : Hid (∀ j, j < k + 1 → len j ≤ 300) := hide fun j hj => by
          by_cases e : j = k
          · rw [e]; omega
          · exact HA.out j (by omega)
        have HQ := hide hQ
        clear hc hQ
        obtain ⟨n, hn⟩ : ∃ n, n = len k := ⟨_, rfl⟩
        rw [← hn] at hcell g1 g2
        generalize ad k = aa at *
        generalize cp k = cc at *
        go_wp2
        go_round
        case rel => exact ⟨k + 1, by omega, vint (by have := HQ.out; omega), HB⟩
        case measure => have := HQ.out; simp [intOf]; omega
    · obtain rfl : k = N := by omega
      have hd : decide (∀ i, i < k → len i ≤ 300) = true := decide_eq_true HA.out
      have hge : ¬ ((k : Int) < (k : Int)) := by omega
      have HD := hide hd
      clear hc hd
      go_wp2
      go_ret
      exact ⟨by rw [HD.out]; rfl, rfl⟩
theorem few1H (a0 : Option Addr) (n0 c0 : Nat) (w : World) :
    Calls Tryz.prog 7 #[.slice (some ⟨w.heap.size, 0, none⟩) 1 1] (w.alloc (.cells #[.slice a0 n0 c0] 23)) fun e w' => e = .returned (.bool (decide (n0 ≤ 300))) ∧ Below w.heap.size w w' := by
  have h := fewH w.heap.size 1 (fun i => n0) (fun i => c0) (fun i => a0) (w.alloc (.cells #[.slice a0 n0 c0] 23)) (by decide) (fun i hi => by
    match i, hi with
    | 0, _ => exact cell_row0 _ _ _ _ _ rfl)
  refine h.mono fun e w' hh => ⟨?_, by rw [hh.2]; exact keep_alloc _ _⟩
  rw [hh.1]
  congr 2
  exact decide_eq_decide.2 ⟨fun h => h 0 (by decide), fun h i _ => h⟩
set_option maxHeartbeats 2000000 in
set_option maxRecDepth 100000 in
theorem cvfH_60 (ta sa pa : Option Addr) (tn tc sn sc pn pc : Nat) (w : World) (h60 : pn ≠ 60) :
    Calls Tryz.prog 14 #[.slice pa pn pc, .slice ta tn tc, .slice sa sn sc] w fun e w' => e = .returned (.int .i64 10) ∧ w' = w := by
  have hi : ¬ (pn : Int) = 60 := by omega
  have hb : ((pn : Int) == 60) = false := beq_eq_false_iff_ne.2 hi
  have hn : ((pn : Int) != 60) = true := by simp [bne, hb]
  go_enter Tryz.func14, Tryz.ntmps14
  go_wp2
  go_ret
  exact ⟨rfl, rfl⟩
theorem p_makeXH {ops : Array Oper} {Q : Exit → Act → World → Prop} {K : Act → World → Prop} {i : Nat} {o : Oper} {a : Act} {w : World} {n : Nat} {x y : Operand} {d : Option Nat} (hi : ops[i]? = some o) (hw : Region.wanted o (yielded ops a.tmps) = true) (ho : o.op = .makeSlice 23 x y) (hx : a.eval x = .int .i64 (n : Int)) (hy : a.eval y = .int .i64 (n : Int)) (hd : o.dst = d) (hn : n ≤ 100000)
    (h : ∀ w', Own 5 .u8 256 w' w.heap.size (.slice (some ⟨w.heap.size, 0, none⟩) n n) (List.replicate n 0) → Below w.heap.size w w' → K (a.put d (.slice (some ⟨w.heap.size, 0, none⟩) n n)) w') : wpOp Tryz.prog ops Q i K a w := by
  obtain ⟨i0, hi0, hz0, hz1, hz2⟩ := info_parts Tryz.info5
  obtain ⟨w', hrun, r1, r2⟩ := run_make_full (P := Tryz.prog) w w.heap.size 23 5 i0 (.int .u8 0) 1 Tryz.underlying23 hi0 hz0 hz1 .i64 .i64 n (by rw [hz2]; omega) (by unfold maxLen; omega) (Nat.le_refl _)
  rw [made_u8] at r1
  have hb := (Below.refl w.heap.size w).grown r2 (Nat.le_refl _) (fun k h => by cases h)
  have hr : (execOp a.eval o).run Tryz.prog w = .ok (.value (.slice (some ⟨w.heap.size, 0, none⟩) n n)) w' := by
    unfold execOp
    simp only [ho, hx, hy]
    simp [hrun, Sem.run_bind]
  unfold wpOp
  simp only [hi]
  rw [if_pos hw]
  left
  unfold Oper.wp
  rw [hr]
  show K (a.put o.dst _) _
  rw [hd]
  exact h w' ⟨by rw [List.length_replicate]; exact r1, Under.replicate 256 n (by decide)⟩ hb
theorem zeroTrH : ∀ w, (zeroValue 45).run Tryz.prog w = .ok (.agg #[.int .i64 0, .int .i64 0]) w := fun w => by kernel_rfl
theorem zeroKyH : ∀ w, (zeroValue 25).run Tryz.prog w = .ok (.agg #[.slice none 0 0, .slice none 0 0, .slice none 0 0]) w := fun w => by kernel_rfl
theorem p_allocKyH {ops : Array Oper} {Q : Exit → Act → World → Prop} {K : Act → World → Prop} {i : Nat} {o : Oper} {a : Act} {x : World} {d : Option Nat} (hi : ops[i]? = some o) (hw : Region.wanted o (yielded ops a.tmps) = true) (ho : o.op = .alloc 25) (hd : o.dst = d)
    (h : K (a.put d (.pointer (some ⟨x.heap.size, 0, none⟩))) (x.alloc (.cells #[.slice none 0 0, .slice none 0 0, .slice none 0 0] 25))) : wpOp Tryz.prog ops Q i K a x := by
  have hz := zeroKyH
  have hr : (execOp a.eval o).run Tryz.prog x = .ok (.value (.pointer (some ⟨x.heap.size, 0, none⟩))) (x.alloc (.cells #[.slice none 0 0, .slice none 0 0, .slice none 0 0] 25)) := by
    unfold execOp
    simp only [ho]
    simp [go_sem, hz]
  unfold wpOp
  simp only [hi]
  rw [if_pos hw]
  left
  unfold Oper.wp
  rw [hr]
  show K (a.put o.dst _) _
  rw [hd]
  exact h
theorem y_buildKyH {ops : Array Oper} {S : World → Prop} {o : Oper} {a : Act} {x y z : Operand} {ia ja ka : Option Addr} {im ic jn jc kn kc : Nat} (hw : Region.wanted o (yielded ops a.tmps) = true) (ho : o.op = .build 25 #[(0, x), (1, y), (2, z)]) (hx : a.eval x = .slice ia im ic) (hy : a.eval y = .slice ja jn jc) (hz : a.eval z = .slice ka kn kc) : YieldsIf Tryz.prog ops S o (.agg #[.slice ia im ic, .slice ja jn jc, .slice ka kn kc]) a := by
  refine y_ofG hw fun w _ => ?_
  unfold execOp
  simp only [ho, List.map_toArray, List.map_cons, List.map_nil, hx, hy, hz]
  simp [go_sem]
theorem y_buildTrH {ops : Array Oper} {S : World → Prop} {o : Oper} {a : Act} {x y : Operand} {u v : Int} (hw : Region.wanted o (yielded ops a.tmps) = true) (ho : o.op = .build 45 #[(0, x), (1, y)]) (hx : a.eval x = .int .i64 u) (hy : a.eval y = .int .i64 v) : YieldsIf Tryz.prog ops S o (.agg #[.int .i64 u, .int .i64 v]) a := by
  refine y_ofG hw fun w _ => ?_
  unfold execOp
  simp only [ho, List.map_toArray, List.map_cons, List.map_nil, hx, hy]
  simp [go_sem]
/-- two trees written out as a list -/
theorem p_trees2H {ops : Array Oper} {Q : Exit → Act → World → Prop} {K : Act → World → Prop} {i : Nat} {o : Oper} {a : Act} {w : World} {p q : Operand} {a1 a2 b1 b2 : Int} {d : Option Nat} (hi : ops[i]? = some o) (hw : Region.wanted o (yielded ops a.tmps) = true) (ho : o.op = .buildSlice 22 2 #[(0, p), (1, q)]) (hp : a.eval p = .agg #[.int .i64 a1, .int .i64 a2]) (hq : a.eval q = .agg #[.int .i64 b1, .int .i64 b2]) (hd : o.dst = d)
    (h : K (a.put d (.slice (some ⟨w.heap.size, 0, none⟩) 2 2)) (w.alloc (.cells #[.int .i64 a1, .int .i64 a2, .int .i64 b1, .int .i64 b2] 45))) : wpOp Tryz.prog ops Q i K a w := by
  have hu := Tryz.underlying22
  have hz0 := zeroTrH
  obtain ⟨z, hz, hsz⟩ := Option.map_eq_some_iff.1 (show (Tryz.prog.info? 45).map (·.size) = some 2 by kernel_rfl)
  have hr : (execOp a.eval o).run Tryz.prog w = .ok (.value (.slice (some ⟨w.heap.size, 0, none⟩) 2 2)) (w.alloc (.cells #[.int .i64 a1, .int .i64 a2, .int .i64 b1, .int .i64 b2] 45)) := by
    unfold execOp
    simp only [ho, List.map_toArray, List.map_cons, List.map_nil, hp, hq]
    simp [Sem.run_bind, run_underlying hu, sizeOf, typeInfo, hz, hsz, hz0, go_sem]
  unfold wpOp
  simp only [hi]
  rw [if_pos hw]
  left
  unfold Oper.wp
  rw [hr]
  show K (a.put o.dst _) _
  rw [hd]
  exact h
theorem trs_twoH (w : World) (a b c d : Int) : TrS (w.alloc (.cells #[.int .i64 a, .int .i64 b, .int .i64 c, .int .i64 d] 45)) (.slice (some ⟨w.heap.size, 0, none⟩) 2 2) [(a, b), (c, d)] := by
  refine ⟨_, 2, rfl, Nat.le_refl _, by unfold maxLen; decide, fun _ => ⟨_, _, rfl, fun i hi => ?_⟩⟩
  match i, hi with
  | 0, _ => exact ⟨by rw [World.cell?_alloc_at _ _ _ _ rfl]; rfl, by rw [World.cell?_alloc_at _ _ _ _ rfl]; rfl⟩
  | 1, _ => exact ⟨by rw [World.cell?_alloc_at _ _ _ _ rfl]; rfl, by rw [World.cell?_alloc_at _ _ _ _ rfl]; rfl⟩
/-- a text, and a slice of trees, lie in no key's box -/
theorem row_neK {W : World} {B : Nat} {v : Value} {l : List Nat} (h : Row .u8 256 W v l) (hk : BxK W B (.slice none 0 0) (.slice none 0 0) (.slice none 0 0)) (hl : 0 < l.length) : ∀ q, v.ownBlock = some q → q ≠ B := by
  intro q hq he
  subst he
  obtain ⟨x, cap, rfl, h1, h2, h3, h4⟩ := h
  obtain ⟨bb, off, rfl, hc⟩ := h3 hl
  have e : bb = q := by simpa [Value.ownBlock] using hq
  subst e
  have h0 := hc 0 hl
  simp only [World.cell?, hk.here, Nat.add_zero] at h0
  match off, h0 with
  | 0, h0 => simp at h0
  | 1, h0 => simp at h0
  | 2, h0 => simp at h0
  | off + 3, h0 => simp at h0
theorem trs_ne {W : World} {B : Nat} {v : Value} {ts : List (Int × Int)} (h : TrS W v ts) (hk : BxK W B (.slice none 0 0) (.slice none 0 0) (.slice none 0 0)) : ∀ i b off, i < ts.length → v = .slice (some ⟨b, off, none⟩) ts.length ts.length → b ≠ B := by
  intro i b off hi hv he
  subst he
  obtain ⟨x, cap, e, h1, h2, h3⟩ := h
  obtain ⟨bb, of2, rfl, hc⟩ := h3 (by omega)
  rw [hv] at e
  simp only [Value.slice.injEq, Option.some.injEq, Addr.mk.injEq] at e
  obtain ⟨⟨rfl, rfl, _⟩, _⟩ := e
  have h0 := (hc i hi).1
  simp only [World.cell?, hk.here] at h0
  generalize off + i * 2 = k at h0
  match k, h0 with
  | 0, h0 => simp at h0
  | 1, h0 => simp at h0
  | 2, h0 => simp at h0
  | k + 3, h0 => simp at h0
theorem trs_but {W W' : World} {B : Nat} {b off : Nat} {ts : List (Int × Int)} (h : TrS W (.slice (some ⟨b, off, none⟩) ts.length ts.length) ts) (hb : But B W W') (hn : ∀ i b2 of2, i < ts.length → (.slice (some ⟨b, off, none⟩) ts.length ts.length : Value) = .slice (some ⟨b2, of2, none⟩) ts.length ts.length → b2 ≠ B) : TrS W' (.slice (some ⟨b, off, none⟩) ts.length ts.length) ts := by
  obtain ⟨x, cap, e, h1, h2, h3⟩ := h
  simp only [Value.slice.injEq] at e
  obtain ⟨rfl, _, rfl⟩ := e
  refine ⟨_, _, rfl, h1, h2, fun hl => ?_⟩
  obtain ⟨bb, of2, e2, hc⟩ := h3 hl
  simp only [Option.some.injEq, Addr.mk.injEq] at e2
  obtain ⟨rfl, rfl, _⟩ := e2
  refine ⟨_, _, rfl, fun i hi => ?_⟩
  obtain ⟨c1, c2⟩ := hc i hi
  have := hn i _ _ hi rfl
  exact ⟨But.cell c1 hb this, But.cell c2 hb this⟩
theorem at_four8 {ops : Array Oper} {S : World → Prop} {Q : Exit → Act → World → Prop} {lt : List Lt} (Rg : Reg ops lt) {m m1 m2 m3 m4 i j k l fuel : Nat} {a : Act} {w : World} (hc : someL lt [i, j, k, l] m = true) (e1 : m ||| 2 ^ i = m1) (e2 : m ||| 2 ^ j = m2) (e3 : m ||| 2 ^ k = m3) (e4 : m ||| 2 ^ l = m4)
    (h1 : wpOp Tryz.prog ops (NoPanic Q) i (fun a' w' => S w' ∧ At Tryz.prog ops Q S fuel m1 a' w') a w) (h2 : wpOp Tryz.prog ops (NoPanic Q) j (fun a' w' => S w' ∧ At Tryz.prog ops Q S fuel m2 a' w') a w) (h3 : wpOp Tryz.prog ops (NoPanic Q) k (fun a' w' => S w' ∧ At Tryz.prog ops Q S fuel m3 a' w') a w) (h4 : wpOp Tryz.prog ops (NoPanic Q) l (fun a' w' => S w' ∧ At Tryz.prog ops Q S fuel m4 a' w') a w) : At Tryz.prog ops Q S (fuel + 1) m a w :=
  at_some Rg [i, j, k, l] hc fun q hq => by
    simp only [List.mem_cons, List.not_mem_nil, or_false] at hq
    rcases hq with rfl | rfl | rfl | rfl
    · rw [e1]; exact h1
    · rw [e2]; exact h2
    · rw [e3]; exact h3
    · rw [e4]; exact h4
theorem BxK.range {W : World} {B : Nat} {a b c : Value} (h : BxK W B a b c) : W.rangeAt B 0 [a, b, c] := fun j v hv => by
  rw [Nat.zero_add]
  simp only [World.cell?, h.here]
  simpa using hv
theorem BxK.rowH {W : World} {B : Nat} {a b c a' b' c' : Value} (h : BxK W B a b c) : BxK (W.setRow B #[a', b', c']) B a' b' c' := ⟨setRow_heap W B _ _ _ _ h.here⟩
theorem own_cellsH {w : World} {B : Nat} {v : Value} {l : List Nat} (h : Own 52 .u32 4294967296 w B v l) (hl : l.length = 2) : ∃ g c, v = .slice (some ⟨g, 0, none⟩) 2 c ∧ 2 ≤ c ∧ w.cell? ⟨g, 0, none⟩ = some (.int .u32 (el l 0 : Nat)) ∧ w.cell? ⟨g, 1, none⟩ = some (.int .u32 (el l 1 : Nat)) := by
  have hr := h.row
  obtain ⟨a, c, rfl, h1, h2, h3, h4⟩ := hr
  obtain ⟨g, off, rfl, hc⟩ := h3 (by omega)
  have hoff : off = 0 := by
    rcases h.1.2 with ⟨e, _⟩ | ⟨g', cap, cur, e, _⟩
    · cases e
    · simp only [Value.slice.injEq, Option.some.injEq, Addr.mk.injEq] at e
      exact e.1.2.1
  subst hoff
  refine ⟨g, c, by rw [hl], by omega, ?_, ?_⟩
  · have := hc 0 (by omega); exact this
  · have := hc 1 (by omega); exact this
set_option maxHeartbeats 4000000 in
set_option maxRecDepth 100000 in
theorem awake_tailH (W w0 : World) (hT : Roots W) (B : Nat) (tv : Value) (ja ka : Option Addr) (jc kc : Nat) (bk : BxK W B tv (.slice ja 16 jc) (.slice ka 32 kc)) (ht : TrS W tv [(2, 1), (3, 1)]) (ri : Row .u8 256 W (.slice ja 16 jc) (List.replicate 16 0)) (ti : Tidy (.slice ja 16 jc)) (rs : Row .u8 256 W (.slice ka 32 kc) (List.replicate 32 0)) (ts : Tidy (.slice ka 32 kc)) (k0 : Below w0.heap.size w0 W) :
    Code.wp Tryz.prog (cRA (cRA (Tryz.f8.body.getD .skip))) (bodyPost Tryz.prog Tryz.f8 (fun e w' => e = .returned (.bool true) ∧ Below w0.heap.size w0 w')) { tmps := #[.bool false, .pointer (some ⟨B, 0, none⟩), undef, undef, .agg #[.int .i64 2, .int .i64 1], .agg #[.int .i64 3, .int .i64 1], tv, .slice ja 16 jc, .slice ka 32 kc, .agg #[tv, .slice ja 16 jc, .slice ka 32 kc], undef, undef, undef, undef, undef, undef, undef, undef, undef, undef, undef, undef, undef, undef, undef, undef, undef, undef, undef, undef, undef, undef, undef, undef, undef, undef, undef, undef, undef, undef, undef, undef, undef], defers := [] } W := by
  have hK : FitK [(2, 1), (3, 1)] (List.replicate 16 0).length (List.replicate 32 0).length := by decide
  have hvc := fun y (k : Below W.heap.size W y) => cvec_ok [(2, 1), (3, 1)] tv _ _ _ _ 9 y (ht.below k) (ri.below k) ti (rs.below k) ts (hT.below k) hK (by decide)
  rw [show vecF [(2, 1), (3, 1)] 9 = [1, 1] by decide] at hvc
  have hlv := fun y (k : Below W.heap.size W y) => clvs_any [(2, 1), (3, 1)] tv ja ka 16 jc 32 kc y (ht.below k)
  rw [if_pos (by decide), show lvN [(2, 1), (3, 1)] = 32 by decide] at hlv
  have hv := fun y => cvfH_60 none none none 0 0 0 0 0 0 y (by decide)
  obtain ⟨ta, tc, rfl, _⟩ := ht
  have HX := hide k0
  clear hK hT ri rs ti ts k0
  simp only [Tryz.f8, Option.getD_some, cRA]
  go_wp2_with (first
    | (refine wpList_load_row rfl 25 _ (by rfl) B (by rfl) _ _ _ _ bk.here Tryz.underlying25 rfl (by kernel_rfl) ?_)
    | (go_at_call 18; refine (hvc _ (Below.refl _ _)).mono ?_; rintro e y1 ⟨v, rfl, o1, g1⟩; obtain ⟨g, c, rfl, hc2, c0, c1⟩ := own_cellsH o1 rfl; have b1 := bk.below g1; clear bk o1)
    | (refine wpList_load_row rfl 25 _ (by rfl) B (by rfl) _ _ _ _ b1.here Tryz.underlying25 rfl (by kernel_rfl) ?_)
    | (go_at_call 16; refine (hlv _ g1).mono ?_; rintro e y2 ⟨rfl, g2⟩; have d0 := keep_cell c0 g2; have d1 := keep_cell c1 g2)
    | (go_at_call 14; refine (hv _).mono ?_; rintro e y3 ⟨rfl, hy⟩; obtain rfl := hy.symm)
    | fail)
  go_ret
  exact ⟨rfl, keep_trans (keep_trans HX.out g1) g2⟩
def ha1lt : List Lt := [(0, some 4, []), (0, some 5, []), (3, some 6, [4, 5]), (0, some 7, []), (0, some 8, []), (28, some 9, [6, 7, 8]), (0, some 1, []), (127, none, [1, 9])]
theorem ha1reg : Reg (opsA (cLA (cRA (Tryz.f8.body.getD .skip)))) ha1lt := ⟨by kernel_rfl, by kernel_rfl⟩
set_option maxHeartbeats 8000000 in
set_option maxRecDepth 100000 in
theorem awakeH_any (w : World) (hT : Roots w) : Calls Tryz.prog 8 #[] w fun e w' => e = .returned (.bool true) ∧ Below w.heap.size w w' := by
  go_enter Tryz.func8, Tryz.ntmps8
  go_wp2
  rename_i K1 hK1
  have hbd : Below w.heap.size w w.drew := (Below.refl _ _).drew
  refine at_begin (ops := opsA (cLA (cRA (Tryz.f8.body.getD .skip)))) (n := 8) (fun y => Below w.heap.size w y) (by kernel_rfl) (by kernel_rfl) ?_
  refine at_takeD (i := 0) (m' := 1) (d := some 4) (v := .agg #[.int .i64 2, .int .i64 1]) ha1reg rfl (by decide) rfl rfl (y_buildTrH (wanted_free rfl) rfl rfl rfl) hbd ?_
  simp only [Act.put, List.setIfInBounds_toArray, List.set_cons_zero, List.set_cons_succ]
  refine at_takeD (i := 1) (m' := 3) (d := some 5) (v := .agg #[.int .i64 3, .int .i64 1]) ha1reg rfl (by decide) rfl rfl (y_buildTrH (wanted_free rfl) rfl rfl rfl) hbd ?_
  simp only [Act.put, List.setIfInBounds_toArray, List.set_cons_zero, List.set_cons_succ]
  refine at_four8 (i := 2) (j := 3) (k := 4) (l := 6) (m1 := 7) (m2 := 11) (m3 := 19) (m4 := 67) ha1reg (by decide) rfl rfl rfl rfl ?_ ?_ ?_ ?_
  · refine p_trees2H (d := some 6) rfl (wanted_free rfl) rfl rfl rfl rfl ?_
    have rt := trs_twoH (w.drew) 2 1 3 1
    have kz3 := keep_alloc (w.drew) (.cells #[.int .i64 2, .int .i64 1, .int .i64 3, .int .i64 1] 45)
    try replace ri := ri.below kz3
    try replace rs := rs.below kz3
    try replace bk := bk.below kz3
    obtain ⟨GT, hGT⟩ : ∃ q : Nat, (w.drew).heap.size = q := ⟨_, rfl⟩
    obtain ⟨z3, hz3⟩ : ∃ z : World, z = (w.drew).alloc (.cells #[.int .i64 2, .int .i64 1, .int .i64 3, .int .i64 1] 45) := ⟨_, rfl⟩
    have hb3 := keep_trans hbd kz3
    try rw [← hz3] at rt
    try rw [← hz3] at ri
    try rw [← hz3] at rs
    try rw [← hz3] at bk
    rw [← hz3] at hb3 ⊢
    rw [hGT] at rt ⊢
    clear hGT hz3
    refine ⟨hb3, ?_⟩
    simp only [Act.put, List.setIfInBounds_toArray, List.set_cons_zero, List.set_cons_succ]
    refine at_three8 (i := 3) (j := 4) (k := 6) (m1 := 15) (m2 := 23) (m3 := 71) ha1reg (by decide) rfl rfl rfl ?_ ?_ ?_
    · refine p_makeXH (d := some 7) (n := 16) rfl (wanted_free rfl) rfl rfl rfl rfl (by decide) ?_
      intro y4 oy4 kz4
      try replace rt := rt.below kz4
      try replace ri := ri.below kz4
      try replace rs := rs.below kz4
      try replace bk := bk.below kz4
      have ri := oy4.row
      have ti := oy4.tidy
      obtain ⟨GI, hGI⟩ : ∃ q : Nat, (z3).heap.size = q := ⟨_, rfl⟩
      have hb4 := keep_trans hb3 kz4
      rw [hGI] at ri ti ⊢
      clear hGI oy4
      refine ⟨hb4, ?_⟩
      simp only [Act.put, List.setIfInBounds_toArray, List.set_cons_zero, List.set_cons_succ]
      refine at_two (i := 4) (j := 6) (m1 := 31) (m2 := 79) ha1reg (by decide) rfl rfl ?_ ?_
      · refine p_makeXH (d := some 8) (n := 32) rfl (wanted_free rfl) rfl rfl rfl rfl (by decide) ?_
        intro y5 oy5 kz5
        try replace rt := rt.below kz5
        try replace ri := ri.below kz5
        try replace rs := rs.below kz5
        try replace bk := bk.below kz5
        have rs := oy5.row
        have ts := oy5.tidy
        obtain ⟨GS, hGS⟩ : ∃ q : Nat, (y4).heap.size = q := ⟨_, rfl⟩
        have hb5 := keep_trans hb4 kz5
        rw [hGS] at rs ts ⊢
        clear hGS oy5
        refine ⟨hb5, ?_⟩
        simp only [Act.put, List.setIfInBounds_toArray, List.set_cons_zero, List.set_cons_succ]
        refine at_takeD (i := 5) (m' := 63) (d := some 9) (v := .agg #[.slice (some ⟨GT, 0, none⟩) 2 2, .slice (some ⟨GI, 0, none⟩) 16 16, .slice (some ⟨GS, 0, none⟩) 32 32]) ha1reg rfl (by decide) rfl rfl (y_buildKyH (wanted_free rfl) rfl rfl rfl rfl) hb5 ?_
        simp only [Act.put, List.setIfInBounds_toArray, List.set_cons_zero, List.set_cons_succ]
        refine at_one (i := 6) (m' := 127) ha1reg (by decide) rfl ?_
        refine p_allocKyH (d := some 1) rfl (wanted_free rfl) rfl rfl ?_
        have hGB0 : w.heap.size ≤ (y5).heap.size := (hb5).size
        have bk := BxK.new (y5) (.slice none 0 0) (.slice none 0 0) (.slice none 0 0)
        have kz7 := keep_alloc (y5) (.cells #[.slice none 0 0, .slice none 0 0, .slice none 0 0] 25)
        try replace rt := rt.below kz7
        try replace ri := ri.below kz7
        try replace rs := rs.below kz7
        obtain ⟨GB, hGB⟩ : ∃ q : Nat, (y5).heap.size = q := ⟨_, rfl⟩
        obtain ⟨z7, hz7⟩ : ∃ z : World, z = (y5).alloc (.cells #[.slice none 0 0, .slice none 0 0, .slice none 0 0] 25) := ⟨_, rfl⟩
        have hb7 := keep_trans hb5 kz7
        try rw [← hz7] at rt
        try rw [← hz7] at ri
        try rw [← hz7] at rs
        try rw [← hz7] at bk
        rw [← hz7] at hb7 ⊢
        rw [hGB] at bk hGB0 ⊢
        clear hGB hz7
        refine ⟨hb7, ?_⟩
        simp only [Act.put, List.setIfInBounds_toArray, List.set_cons_zero, List.set_cons_succ]
        refine at_one (i := 7) (m' := 255) ha1reg (by decide) rfl ?_
        refine p_rowA (cells := #[.slice (some ⟨GT, 0, none⟩) 2 2, .slice (some ⟨GI, 0, none⟩) 16 16, .slice (some ⟨GS, 0, none⟩) 32 32]) rfl rfl rfl rfl rfl rfl bk.here (by kernel_rfl) rfl (by simp [Value.oneCell']) ?_
        have hb8 := below_setRow (vs := #[.slice (some ⟨GT, 0, none⟩) 2 2, .slice (some ⟨GI, 0, none⟩) 16 16, .slice (some ⟨GS, 0, none⟩) 32 32]) hb7 hGB0
        have hBk : But GB z7 (World.setRow z7 GB #[.slice (some ⟨GT, 0, none⟩) 2 2, .slice (some ⟨GI, 0, none⟩) 16 16, .slice (some ⟨GS, 0, none⟩) 32 32]) := (But.refl _ _).setRow _
        refine ⟨hb8, ?_⟩
        refine at_done ha1reg (by decide) ?_
        refine hK1 _ _ ?_
        have nt := trs_ne rt bk
        have ni := row_neK ri bk (by decide)
        have ns := row_neK rs bk (by decide)
        exact awake_tailH _ w (hT.below (hb8)) GB _ _ _ _ _ bk.rowH (trs_but rt hBk nt) (row_butH ri (fun q _ hq => ni q hq) hBk) ti (row_butH rs (fun q _ hq => ns q hq) hBk) ts hb8
      · refine p_allocKyH (d := some 1) rfl (wanted_free rfl) rfl rfl ?_
        have hGB0 : w.heap.size ≤ (y4).heap.size := (hb4).size
        have bk := BxK.new (y4) (.slice none 0 0) (.slice none 0 0) (.slice none 0 0)
        have kz5 := keep_alloc (y4) (.cells #[.slice none 0 0, .slice none 0 0, .slice none 0 0] 25)
        try replace rt := rt.below kz5
        try replace ri := ri.below kz5
        try replace rs := rs.below kz5
        obtain ⟨GB, hGB⟩ : ∃ q : Nat, (y4).heap.size = q := ⟨_, rfl⟩
        obtain ⟨z5, hz5⟩ : ∃ z : World, z = (y4).alloc (.cells #[.slice none 0 0, .slice none 0 0, .slice none 0 0] 25) := ⟨_, rfl⟩
        have hb5 := keep_trans hb4 kz5
        try rw [← hz5] at rt
        try rw [← hz5] at ri
        try rw [← hz5] at rs
        try rw [← hz5] at bk
        rw [← hz5] at hb5 ⊢
        rw [hGB] at bk hGB0 ⊢
        clear hGB hz5
        refine ⟨hb5, ?_⟩
        simp only [Act.put, List.setIfInBounds_toArray, List.set_cons_zero, List.set_cons_succ]
        refine at_one (i := 4) (m' := 95) ha1reg (by decide) rfl ?_
        refine p_makeXH (d := some 8) (n := 32) rfl (wanted_free rfl) rfl rfl rfl rfl (by decide) ?_
        intro y6 oy6 kz6
        try replace rt := rt.below kz6
        try replace ri := ri.below kz6
        try replace rs := rs.below kz6
        try replace bk := bk.below kz6
        have rs := oy6.row
        have ts := oy6.tidy
        obtain ⟨GS, hGS⟩ : ∃ q : Nat, (z5).heap.size = q := ⟨_, rfl⟩
        have hb6 := keep_trans hb5 kz6
        rw [hGS] at rs ts ⊢
        clear hGS oy6
        refine ⟨hb6, ?_⟩
        simp only [Act.put, List.setIfInBounds_toArray, List.set_cons_zero, List.set_cons_succ]
        refine at_takeD (i := 5) (m' := 127) (d := some 9) (v := .agg #[.slice (some ⟨GT, 0, none⟩) 2 2, .slice (some ⟨GI, 0, none⟩) 16 16, .slice (some ⟨GS, 0, none⟩) 32 32]) ha1reg rfl (by decide) rfl rfl (y_buildKyH (wanted_free rfl) rfl rfl rfl rfl) hb6 ?_
        simp only [Act.put, List.setIfInBounds_toArray, List.set_cons_zero, List.set_cons_succ]
        refine at_one (i := 7) (m' := 255) ha1reg (by decide) rfl ?_
        refine p_rowA (cells := #[.slice (some ⟨GT, 0, none⟩) 2 2, .slice (some ⟨GI, 0, none⟩) 16 16, .slice (some ⟨GS, 0, none⟩) 32 32]) rfl rfl rfl rfl rfl rfl bk.here (by kernel_rfl) rfl (by simp [Value.oneCell']) ?_
        have hb8 := below_setRow (vs := #[.slice (some ⟨GT, 0, none⟩) 2 2, .slice (some ⟨GI, 0, none⟩) 16 16, .slice (some ⟨GS, 0, none⟩) 32 32]) hb6 hGB0
        have hBk : But GB y6 (World.setRow y6 GB #[.slice (some ⟨GT, 0, none⟩) 2 2, .slice (some ⟨GI, 0, none⟩) 16 16, .slice (some ⟨GS, 0, none⟩) 32 32]) := (But.refl _ _).setRow _
        refine ⟨hb8, ?_⟩
        refine at_done ha1reg (by decide) ?_
        refine hK1 _ _ ?_
        have nt := trs_ne rt bk
        have ni := row_neK ri bk (by decide)
        have ns := row_neK rs bk (by decide)
        exact awake_tailH _ w (hT.below (hb8)) GB _ _ _ _ _ bk.rowH (trs_but rt hBk nt) (row_butH ri (fun q _ hq => ni q hq) hBk) ti (row_butH rs (fun q _ hq => ns q hq) hBk) ts hb8
    · refine p_makeXH (d := some 8) (n := 32) rfl (wanted_free rfl) rfl rfl rfl rfl (by decide) ?_
      intro y4 oy4 kz4
      try replace rt := rt.below kz4
      try replace ri := ri.below kz4
      try replace rs := rs.below kz4
      try replace bk := bk.below kz4
      have rs := oy4.row
      have ts := oy4.tidy
      obtain ⟨GS, hGS⟩ : ∃ q : Nat, (z3).heap.size = q := ⟨_, rfl⟩
      have hb4 := keep_trans hb3 kz4
      rw [hGS] at rs ts ⊢
      clear hGS oy4
      refine ⟨hb4, ?_⟩
      simp only [Act.put, List.setIfInBounds_toArray, List.set_cons_zero, List.set_cons_succ]
      refine at_two (i := 3) (j := 6) (m1 := 31) (m2 := 87) ha1reg (by decide) rfl rfl ?_ ?_
      · refine p_makeXH (d := some 7) (n := 16) rfl (wanted_free rfl) rfl rfl rfl rfl (by decide) ?_
        intro y5 oy5 kz5
        try replace rt := rt.below kz5
        try replace ri := ri.below kz5
        try replace rs := rs.below kz5
        try replace bk := bk.below kz5
        have ri := oy5.row
        have ti := oy5.tidy
        obtain ⟨GI, hGI⟩ : ∃ q : Nat, (y4).heap.size = q := ⟨_, rfl⟩
        have hb5 := keep_trans hb4 kz5
        rw [hGI] at ri ti ⊢
        clear hGI oy5
        refine ⟨hb5, ?_⟩
        simp only [Act.put, List.setIfInBounds_toArray, List.set_cons_zero, List.set_cons_succ]
        refine at_takeD (i := 5) (m' := 63) (d := some 9) (v := .agg #[.slice (some ⟨GT, 0, none⟩) 2 2, .slice (some ⟨GI, 0, none⟩) 16 16, .slice (some ⟨GS, 0, none⟩) 32 32]) ha1reg rfl (by decide) rfl rfl (y_buildKyH (wanted_free rfl) rfl rfl rfl rfl) hb5 ?_
        simp only [Act.put, List.setIfInBounds_toArray, List.set_cons_zero, List.set_cons_succ]
        refine at_one (i := 6) (m' := 127) ha1reg (by decide) rfl ?_
        refine p_allocKyH (d := some 1) rfl (wanted_free rfl) rfl rfl ?_
        have hGB0 : w.heap.size ≤ (y5).heap.size := (hb5).size
        have bk := BxK.new (y5) (.slice none 0 0) (.slice none 0 0) (.slice none 0 0)
        have kz7 := keep_alloc (y5) (.cells #[.slice none 0 0, .slice none 0 0, .slice none 0 0] 25)
        try replace rt := rt.below kz7
        try replace ri := ri.below kz7
        try replace rs := rs.below kz7
        obtain ⟨GB, hGB⟩ : ∃ q : Nat, (y5).heap.size = q := ⟨_, rfl⟩
        obtain ⟨z7, hz7⟩ : ∃ z : World, z = (y5).alloc (.cells #[.slice none 0 0, .slice none 0 0, .slice none 0 0] 25) := ⟨_, rfl⟩
        have hb7 := keep_trans hb5 kz7
        try rw [← hz7] at rt
        try rw [← hz7] at ri
        try rw [← hz7] at rs
        try rw [← hz7] at bk
        rw [← hz7] at hb7 ⊢
        rw [hGB] at bk hGB0 ⊢
        clear hGB hz7
        refine ⟨hb7, ?_⟩
        simp only [Act.put, List.setIfInBounds_toArray, List.set_cons_zero, List.set_cons_succ]
        refine at_one (i := 7) (m' := 255) ha1reg (by decide) rfl ?_
        refine p_rowA (cells := #[.slice (some ⟨GT, 0, none⟩) 2 2, .slice (some ⟨GI, 0, none⟩) 16 16, .slice (some ⟨GS, 0, none⟩) 32 32]) rfl rfl rfl rfl rfl rfl bk.here (by kernel_rfl) rfl (by simp [Value.oneCell']) ?_
        have hb8 := below_setRow (vs := #[.slice (some ⟨GT, 0, none⟩) 2 2, .slice (some ⟨GI, 0, none⟩) 16 16, .slice (some ⟨GS, 0, none⟩) 32 32]) hb7 hGB0
        have hBk : But GB z7 (World.setRow z7 GB #[.slice (some ⟨GT, 0, none⟩) 2 2, .slice (some ⟨GI, 0, none⟩) 16 16, .slice (some ⟨GS, 0, none⟩) 32 32]) := (But.refl _ _).setRow _
        refine ⟨hb8, ?_⟩
        refine at_done ha1reg (by decide) ?_
        refine hK1 _ _ ?_
        have nt := trs_ne rt bk
        have ni := row_neK ri bk (by decide)
        have ns := row_neK rs bk (by decide)
        exact awake_tailH _ w (hT.below (hb8)) GB _ _ _ _ _ bk.rowH (trs_but rt hBk nt) (row_butH ri (fun q _ hq => ni q hq) hBk) ti (row_butH rs (fun q _ hq => ns q hq) hBk) ts hb8
      · refine p_allocKyH (d := some 1) rfl (wanted_free rfl) rfl rfl ?_
        have hGB0 : w.heap.size ≤ (y4).heap.size := (hb4).size
        have bk := BxK.new (y4) (.slice none 0 0) (.slice none 0 0) (.slice none 0 0)
        have kz5 := keep_alloc (y4) (.cells #[.slice none 0 0, .slice none 0 0, .slice none 0 0] 25)
        try replace rt := rt.below kz5
        try replace ri := ri.below kz5
        try replace rs := rs.below kz5
        obtain ⟨GB, hGB⟩ : ∃ q : Nat, (y4).heap.size = q := ⟨_, rfl⟩
        obtain ⟨z5, hz5⟩ : ∃ z : World, z = (y4).alloc (.cells #[.slice none 0 0, .slice none 0 0, .slice none 0 0] 25) := ⟨_, rfl⟩
        have hb5 := keep_trans hb4 kz5
        try rw [← hz5] at rt
        try rw [← hz5] at ri
        try rw [← hz5] at rs
        try rw [← hz5] at bk
        rw [← hz5] at hb5 ⊢
        rw [hGB] at bk hGB0 ⊢
        clear hGB hz5
        refine ⟨hb5, ?_⟩
        simp only [Act.put, List.setIfInBounds_toArray, List.set_cons_zero, List.set_cons_succ]
        refine at_one (i := 3) (m' := 95) ha1reg (by decide) rfl ?_
        refine p_makeXH (d := some 7) (n := 16) rfl (wanted_free rfl) rfl rfl rfl rfl (by decide) ?_
        intro y6 oy6 kz6
        try replace rt := rt.below kz6
        try replace ri := ri.below kz6
        try replace rs := rs.below kz6
        try replace bk := bk.below kz6
        have ri := oy6.row
        have ti := oy6.tidy
        obtain ⟨GI, hGI⟩ : ∃ q : Nat, (z5).heap.size = q := ⟨_, rfl⟩
        have hb6 := keep_trans hb5 kz6
        rw [hGI] at ri ti ⊢
        clear hGI oy6
        refine ⟨hb6, ?_⟩
        simp only [Act.put, List.setIfInBounds_toArray, List.set_cons_zero, List.set_cons_succ]
        refine at_takeD (i := 5) (m' := 127) (d := some 9) (v := .agg #[.slice (some ⟨GT, 0, none⟩) 2 2, .slice (some ⟨GI, 0, none⟩) 16 16, .slice (some ⟨GS, 0, none⟩) 32 32]) ha1reg rfl (by decide) rfl rfl (y_buildKyH (wanted_free rfl) rfl rfl rfl rfl) hb6 ?_
        simp only [Act.put, List.setIfInBounds_toArray, List.set_cons_zero, List.set_cons_succ]
        refine at_one (i := 7) (m' := 255) ha1reg (by decide) rfl ?_
        refine p_rowA (cells := #[.slice (some ⟨GT, 0, none⟩) 2 2, .slice (some ⟨GI, 0, none⟩) 16 16, .slice (some ⟨GS, 0, none⟩) 32 32]) rfl rfl rfl rfl rfl rfl bk.here (by kernel_rfl) rfl (by simp [Value.oneCell']) ?_
        have hb8 := below_setRow (vs := #[.slice (some ⟨GT, 0, none⟩) 2 2, .slice (some ⟨GI, 0, none⟩) 16 16, .slice (some ⟨GS, 0, none⟩) 32 32]) hb6 hGB0
        have hBk : But GB y6 (World.setRow y6 GB #[.slice (some ⟨GT, 0, none⟩) 2 2, .slice (some ⟨GI, 0, none⟩) 16 16, .slice (some ⟨GS, 0, none⟩) 32 32]) := (But.refl _ _).setRow _
        refine ⟨hb8, ?_⟩
        refine at_done ha1reg (by decide) ?_
        refine hK1 _ _ ?_
        have nt := trs_ne rt bk
        have ni := row_neK ri bk (by decide)
        have ns := row_neK rs bk (by decide)
        exact awake_tailH _ w (hT.below (hb8)) GB _ _ _ _ _ bk.rowH (trs_but rt hBk nt) (row_butH ri (fun q _ hq => ni q hq) hBk) ti (row_butH rs (fun q _ hq => ns q hq) hBk) ts hb8
    · refine p_allocKyH (d := some 1) rfl (wanted_free rfl) rfl rfl ?_
      have hGB0 : w.heap.size ≤ (z3).heap.size := (hb3).size
      have bk := BxK.new (z3) (.slice none 0 0) (.slice none 0 0) (.slice none 0 0)
      have kz4 := keep_alloc (z3) (.cells #[.slice none 0 0, .slice none 0 0, .slice none 0 0] 25)
      try replace rt := rt.below kz4
      try replace ri := ri.below kz4
      try replace rs := rs.below kz4
      obtain ⟨GB, hGB⟩ : ∃ q : Nat, (z3).heap.size = q := ⟨_, rfl⟩
      obtain ⟨z4, hz4⟩ : ∃ z : World, z = (z3).alloc (.cells #[.slice none 0 0, .slice none 0 0, .slice none 0 0] 25) := ⟨_, rfl⟩
      have hb4 := keep_trans hb3 kz4
      try rw [← hz4] at rt
      try rw [← hz4] at ri
      try rw [← hz4] at rs
      try rw [← hz4] at bk
      rw [← hz4] at hb4 ⊢
      rw [hGB] at bk hGB0 ⊢
      clear hGB hz4
      refine ⟨hb4, ?_⟩
      simp only [Act.put, List.setIfInBounds_toArray, List.set_cons_zero, List.set_cons_succ]
      refine at_two (i := 3) (j := 4) (m1 := 79) (m2 := 87) ha1reg (by decide) rfl rfl ?_ ?_
      · refine p_makeXH (d := some 7) (n := 16) rfl (wanted_free rfl) rfl rfl rfl rfl (by decide) ?_
        intro y5 oy5 kz5
        try replace rt := rt.below kz5
        try replace ri := ri.below kz5
        try replace rs := rs.below kz5
        try replace bk := bk.below kz5
        have ri := oy5.row
        have ti := oy5.tidy
        obtain ⟨GI, hGI⟩ : ∃ q : Nat, (z4).heap.size = q := ⟨_, rfl⟩
        have hb5 := keep_trans hb4 kz5
        rw [hGI] at ri ti ⊢
        clear hGI oy5
        refine ⟨hb5, ?_⟩
        simp only [Act.put, List.setIfInBounds_toArray, List.set_cons_zero, List.set_cons_succ]
        refine at_one (i := 4) (m' := 95) ha1reg (by decide) rfl ?_
        refine p_makeXH (d := some 8) (n := 32) rfl (wanted_free rfl) rfl rfl rfl rfl (by decide) ?_
        intro y6 oy6 kz6
        try replace rt := rt.below kz6
        try replace ri := ri.below kz6
        try replace rs := rs.below kz6
        try replace bk := bk.below kz6
        have rs := oy6.row
        have ts := oy6.tidy
        obtain ⟨GS, hGS⟩ : ∃ q : Nat, (y5).heap.size = q := ⟨_, rfl⟩
        have hb6 := keep_trans hb5 kz6
        rw [hGS] at rs ts ⊢
        clear hGS oy6
        refine ⟨hb6, ?_⟩
        simp only [Act.put, List.setIfInBounds_toArray, List.set_cons_zero, List.set_cons_succ]
        refine at_takeD (i := 5) (m' := 127) (d := some 9) (v := .agg #[.slice (some ⟨GT, 0, none⟩) 2 2, .slice (some ⟨GI, 0, none⟩) 16 16, .slice (some ⟨GS, 0, none⟩) 32 32]) ha1reg rfl (by decide) rfl rfl (y_buildKyH (wanted_free rfl) rfl rfl rfl rfl) hb6 ?_
        simp only [Act.put, List.setIfInBounds_toArray, List.set_cons_zero, List.set_cons_succ]
        refine at_one (i := 7) (m' := 255) ha1reg (by decide) rfl ?_
        refine p_rowA (cells := #[.slice (some ⟨GT, 0, none⟩) 2 2, .slice (some ⟨GI, 0, none⟩) 16 16, .slice (some ⟨GS, 0, none⟩) 32 32]) rfl rfl rfl rfl rfl rfl bk.here (by kernel_rfl) rfl (by simp [Value.oneCell']) ?_
        have hb8 := below_setRow (vs := #[.slice (some ⟨GT, 0, none⟩) 2 2, .slice (some ⟨GI, 0, none⟩) 16 16, .slice (some ⟨GS, 0, none⟩) 32 32]) hb6 hGB0
        have hBk : But GB y6 (World.setRow y6 GB #[.slice (some ⟨GT, 0, none⟩) 2 2, .slice (some ⟨GI, 0, none⟩) 16 16, .slice (some ⟨GS, 0, none⟩) 32 32]) := (But.refl _ _).setRow _
        refine ⟨hb8, ?_⟩
        refine at_done ha1reg (by decide) ?_
        refine hK1 _ _ ?_
        have nt := trs_ne rt bk
        have ni := row_neK ri bk (by decide)
        have ns := row_neK rs bk (by decide)
        exact awake_tailH _ w (hT.below (hb8)) GB _ _ _ _ _ bk.rowH (trs_but rt hBk nt) (row_butH ri (fun q _ hq => ni q hq) hBk) ti (row_butH rs (fun q _ hq => ns q hq) hBk) ts hb8
      · refine p_makeXH (d := some 8) (n := 32) rfl (wanted_free rfl) rfl rfl rfl rfl (by decide) ?_
        intro y5 oy5 kz5
        try replace rt := rt.below kz5
        try replace ri := ri.below kz5
        try replace rs := rs.below kz5
        try replace bk := bk.below kz5
        have rs := oy5.row
        have ts := oy5.tidy
        obtain ⟨GS, hGS⟩ : ∃ q : Nat, (z4).heap.size = q := ⟨_, rfl⟩
        have hb5 := keep_trans hb4 kz5
        rw [hGS] at rs ts ⊢
        clear hGS oy5
        refine ⟨hb5, ?_⟩
        simp only [Act.put, List.setIfInBounds_toArray, List.set_cons_zero, List.set_cons_succ]
        refine at_one (i := 3) (m' := 95) ha1reg (by decide) rfl ?_
        refine p_makeXH (d := some 7) (n := 16) rfl (wanted_free rfl) rfl rfl rfl rfl (by decide) ?_
        intro y6 oy6 kz6
        try replace rt := rt.below kz6
        try replace ri := ri.below kz6
        try replace rs := rs.below kz6
        try replace bk := bk.below kz6
        have ri := oy6.row
        have ti := oy6.tidy
        obtain ⟨GI, hGI⟩ : ∃ q : Nat, (y5).heap.size = q := ⟨_, rfl⟩
        have hb6 := keep_trans hb5 kz6
        rw [hGI] at ri ti ⊢
        clear hGI oy6
        refine ⟨hb6, ?_⟩
        simp only [Act.put, List.setIfInBounds_toArray, List.set_cons_zero, List.set_cons_succ]
        refine at_takeD (i := 5) (m' := 127) (d := some 9) (v := .agg #[.slice (some ⟨GT, 0, none⟩) 2 2, .slice (some ⟨GI, 0, none⟩) 16 16, .slice (some ⟨GS, 0, none⟩) 32 32]) ha1reg rfl (by decide) rfl rfl (y_buildKyH (wanted_free rfl) rfl rfl rfl rfl) hb6 ?_
        simp only [Act.put, List.setIfInBounds_toArray, List.set_cons_zero, List.set_cons_succ]
        refine at_one (i := 7) (m' := 255) ha1reg (by decide) rfl ?_
        refine p_rowA (cells := #[.slice (some ⟨GT, 0, none⟩) 2 2, .slice (some ⟨GI, 0, none⟩) 16 16, .slice (some ⟨GS, 0, none⟩) 32 32]) rfl rfl rfl rfl rfl rfl bk.here (by kernel_rfl) rfl (by simp [Value.oneCell']) ?_
        have hb8 := below_setRow (vs := #[.slice (some ⟨GT, 0, none⟩) 2 2, .slice (some ⟨GI, 0, none⟩) 16 16, .slice (some ⟨GS, 0, none⟩) 32 32]) hb6 hGB0
        have hBk : But GB y6 (World.setRow y6 GB #[.slice (some ⟨GT, 0, none⟩) 2 2, .slice (some ⟨GI, 0, none⟩) 16 16, .slice (some ⟨GS, 0, none⟩) 32 32]) := (But.refl _ _).setRow _
        refine ⟨hb8, ?_⟩
        refine at_done ha1reg (by decide) ?_
        refine hK1 _ _ ?_
        have nt := trs_ne rt bk
        have ni := row_neK ri bk (by decide)
        have ns := row_neK rs bk (by decide)
        exact awake_tailH _ w (hT.below (hb8)) GB _ _ _ _ _ bk.rowH (trs_but rt hBk nt) (row_butH ri (fun q _ hq => ni q hq) hBk) ti (row_butH rs (fun q _ hq => ns q hq) hBk) ts hb8
  · refine p_makeXH (d := some 7) (n := 16) rfl (wanted_free rfl) rfl rfl rfl rfl (by decide) ?_
    intro y3 oy3 kz3
    try replace rt := rt.below kz3
    try replace ri := ri.below kz3
    try replace rs := rs.below kz3
    try replace bk := bk.below kz3
    have ri := oy3.row
    have ti := oy3.tidy
    obtain ⟨GI, hGI⟩ : ∃ q : Nat, (w.drew).heap.size = q := ⟨_, rfl⟩
    have hb3 := keep_trans hbd kz3
    rw [hGI] at ri ti ⊢
    clear hGI oy3
    refine ⟨hb3, ?_⟩
    simp only [Act.put, List.setIfInBounds_toArray, List.set_cons_zero, List.set_cons_succ]
    refine at_three8 (i := 2) (j := 4) (k := 6) (m1 := 15) (m2 := 27) (m3 := 75) ha1reg (by decide) rfl rfl rfl ?_ ?_ ?_
    · refine p_trees2H (d := some 6) rfl (wanted_free rfl) rfl rfl rfl rfl ?_
      have rt := trs_twoH (y3) 2 1 3 1
      have kz4 := keep_alloc (y3) (.cells #[.int .i64 2, .int .i64 1, .int .i64 3, .int .i64 1] 45)
      try replace ri := ri.below kz4
      try replace rs := rs.below kz4
      try replace bk := bk.below kz4
      obtain ⟨GT, hGT⟩ : ∃ q : Nat, (y3).heap.size = q := ⟨_, rfl⟩
      obtain ⟨z4, hz4⟩ : ∃ z : World, z = (y3).alloc (.cells #[.int .i64 2, .int .i64 1, .int .i64 3, .int .i64 1] 45) := ⟨_, rfl⟩
      have hb4 := keep_trans hb3 kz4
      try rw [← hz4] at rt
      try rw [← hz4] at ri
      try rw [← hz4] at rs
      try rw [← hz4] at bk
      rw [← hz4] at hb4 ⊢
      rw [hGT] at rt ⊢
      clear hGT hz4
      refine ⟨hb4, ?_⟩
      simp only [Act.put, List.setIfInBounds_toArray, List.set_cons_zero, List.set_cons_succ]
      refine at_two (i := 4) (j := 6) (m1 := 31) (m2 := 79) ha1reg (by decide) rfl rfl ?_ ?_
      · refine p_makeXH (d := some 8) (n := 32) rfl (wanted_free rfl) rfl rfl rfl rfl (by decide) ?_
        intro y5 oy5 kz5
        try replace rt := rt.below kz5
        try replace ri := ri.below kz5
        try replace rs := rs.below kz5
        try replace bk := bk.below kz5
        have rs := oy5.row
        have ts := oy5.tidy
        obtain ⟨GS, hGS⟩ : ∃ q : Nat, (z4).heap.size = q := ⟨_, rfl⟩
        have hb5 := keep_trans hb4 kz5
        rw [hGS] at rs ts ⊢
        clear hGS oy5
        refine ⟨hb5, ?_⟩
        simp only [Act.put, List.setIfInBounds_toArray, List.set_cons_zero, List.set_cons_succ]
        refine at_takeD (i := 5) (m' := 63) (d := some 9) (v := .agg #[.slice (some ⟨GT, 0, none⟩) 2 2, .slice (some ⟨GI, 0, none⟩) 16 16, .slice (some ⟨GS, 0, none⟩) 32 32]) ha1reg rfl (by decide) rfl rfl (y_buildKyH (wanted_free rfl) rfl rfl rfl rfl) hb5 ?_
        simp only [Act.put, List.setIfInBounds_toArray, List.set_cons_zero, List.set_cons_succ]
        refine at_one (i := 6) (m' := 127) ha1reg (by decide) rfl ?_
        refine p_allocKyH (d := some 1) rfl (wanted_free rfl) rfl rfl ?_
        have hGB0 : w.heap.size ≤ (y5).heap.size := (hb5).size
        have bk := BxK.new (y5) (.slice none 0 0) (.slice none 0 0) (.slice none 0 0)
        have kz7 := keep_alloc (y5) (.cells #[.slice none 0 0, .slice none 0 0, .slice none 0 0] 25)
        try replace rt := rt.below kz7
        try replace ri := ri.below kz7
        try replace rs := rs.below kz7
        obtain ⟨GB, hGB⟩ : ∃ q : Nat, (y5).heap.size = q := ⟨_, rfl⟩
        obtain ⟨z7, hz7⟩ : ∃ z : World, z = (y5).alloc (.cells #[.slice none 0 0, .slice none 0 0, .slice none 0 0] 25) := ⟨_, rfl⟩
        have hb7 := keep_trans hb5 kz7
        try rw [← hz7] at rt
        try rw [← hz7] at ri
        try rw [← hz7] at rs
        try rw [← hz7] at bk
        rw [← hz7] at hb7 ⊢
        rw [hGB] at bk hGB0 ⊢
        clear hGB hz7
        refine ⟨hb7, ?_⟩
        simp only [Act.put, List.setIfInBounds_toArray, List.set_cons_zero, List.set_cons_succ]
        refine at_one (i := 7) (m' := 255) ha1reg (by decide) rfl ?_
        refine p_rowA (cells := #[.slice (some ⟨GT, 0, none⟩) 2 2, .slice (some ⟨GI, 0, none⟩) 16 16, .slice (some ⟨GS, 0, none⟩) 32 32]) rfl rfl rfl rfl rfl rfl bk.here (by kernel_rfl) rfl (by simp [Value.oneCell']) ?_
        have hb8 := below_setRow (vs := #[.slice (some ⟨GT, 0, none⟩) 2 2, .slice (some ⟨GI, 0, none⟩) 16 16, .slice (some ⟨GS, 0, none⟩) 32 32]) hb7 hGB0
        have hBk : But GB z7 (World.setRow z7 GB #[.slice (some ⟨GT, 0, none⟩) 2 2, .slice (some ⟨GI, 0, none⟩) 16 16, .slice (some ⟨GS, 0, none⟩) 32 32]) := (But.refl _ _).setRow _
        refine ⟨hb8, ?_⟩
        refine at_done ha1reg (by decide) ?_
        refine hK1 _ _ ?_
        have nt := trs_ne rt bk
        have ni := row_neK ri bk (by decide)
        have ns := row_neK rs bk (by decide)
        exact awake_tailH _ w (hT.below (hb8)) GB _ _ _ _ _ bk.rowH (trs_but rt hBk nt) (row_butH ri (fun q _ hq => ni q hq) hBk) ti (row_butH rs (fun q _ hq => ns q hq) hBk) ts hb8
      · refine p_allocKyH (d := some 1) rfl (wanted_free rfl) rfl rfl ?_
        have hGB0 : w.heap.size ≤ (z4).heap.size := (hb4).size
        have bk := BxK.new (z4) (.slice none 0 0) (.slice none 0 0) (.slice none 0 0)
        have kz5 := keep_alloc (z4) (.cells #[.slice none 0 0, .slice none 0 0, .slice none 0 0] 25)
        try replace rt := rt.below kz5
        try replace ri := ri.below kz5
        try replace rs := rs.below kz5
        obtain ⟨GB, hGB⟩ : ∃ q : Nat, (z4).heap.size = q := ⟨_, rfl⟩
        obtain ⟨z5, hz5⟩ : ∃ z : World, z = (z4).alloc (.cells #[.slice none 0 0, .slice none 0 0, .slice none 0 0] 25) := ⟨_, rfl⟩
        have hb5 := keep_trans hb4 kz5
        try rw [← hz5] at rt
        try rw [← hz5] at ri
        try rw [← hz5] at rs
        try rw [← hz5] at bk
        rw [← hz5] at hb5 ⊢
        rw [hGB] at bk hGB0 ⊢
        clear hGB hz5
        refine ⟨hb5, ?_⟩
        simp only [Act.put, List.setIfInBounds_toArray, List.set_cons_zero, List.set_cons_succ]
        refine at_one (i := 4) (m' := 95) ha1reg (by decide) rfl ?_
        refine p_makeXH (d := some 8) (n := 32) rfl (wanted_free rfl) rfl rfl rfl rfl (by decide) ?_
        intro y6 oy6 kz6
        try replace rt := rt.below kz6
        try replace ri := ri.below kz6
        try replace rs := rs.below kz6
        try replace bk := bk.below kz6
        have rs := oy6.row
        have ts := oy6.tidy
        obtain ⟨GS, hGS⟩ : ∃ q : Nat, (z5).heap.size = q := ⟨_, rfl⟩
        have hb6 := keep_trans hb5 kz6
        rw [hGS] at rs ts ⊢
        clear hGS oy6
        refine ⟨hb6, ?_⟩
        simp only [Act.put, List.setIfInBounds_toArray, List.set_cons_zero, List.set_cons_succ]
        refine at_takeD (i := 5) (m' := 127) (d := some 9) (v := .agg #[.slice (some ⟨GT, 0, none⟩) 2 2, .slice (some ⟨GI, 0, none⟩) 16 16, .slice (some ⟨GS, 0, none⟩) 32 32]) ha1reg rfl (by decide) rfl rfl (y_buildKyH (wanted_free rfl) rfl rfl rfl rfl) hb6 ?_
        simp only [Act.put, List.setIfInBounds_toArray, List.set_cons_zero, List.set_cons_succ]
        refine at_one (i := 7) (m' := 255) ha1reg (by decide) rfl ?_
        refine p_rowA (cells := #[.slice (some ⟨GT, 0, none⟩) 2 2, .slice (some ⟨GI, 0, none⟩) 16 16, .slice (some ⟨GS, 0, none⟩) 32 32]) rfl rfl rfl rfl rfl rfl bk.here (by kernel_rfl) rfl (by simp [Value.oneCell']) ?_
        have hb8 := below_setRow (vs := #[.slice (some ⟨GT, 0, none⟩) 2 2, .slice (some ⟨GI, 0, none⟩) 16 16, .slice (some ⟨GS, 0, none⟩) 32 32]) hb6 hGB0
        have hBk : But GB y6 (World.setRow y6 GB #[.slice (some ⟨GT, 0, none⟩) 2 2, .slice (some ⟨GI, 0, none⟩) 16 16, .slice (some ⟨GS, 0, none⟩) 32 32]) := (But.refl _ _).setRow _
        refine ⟨hb8, ?_⟩
        refine at_done ha1reg (by decide) ?_
        refine hK1 _ _ ?_
        have nt := trs_ne rt bk
        have ni := row_neK ri bk (by decide)
        have ns := row_neK rs bk (by decide)
        exact awake_tailH _ w (hT.below (hb8)) GB _ _ _ _ _ bk.rowH (trs_but rt hBk nt) (row_butH ri (fun q _ hq => ni q hq) hBk) ti (row_butH rs (fun q _ hq => ns q hq) hBk) ts hb8
    · refine p_makeXH (d := some 8) (n := 32) rfl (wanted_free rfl) rfl rfl rfl rfl (by decide) ?_
      intro y4 oy4 kz4
      try replace rt := rt.below kz4
      try replace ri := ri.below kz4
      try replace rs := rs.below kz4
      try replace bk := bk.below kz4
      have rs := oy4.row
      have ts := oy4.tidy
      obtain ⟨GS, hGS⟩ : ∃ q : Nat, (y3).heap.size = q := ⟨_, rfl⟩
      have hb4 := keep_trans hb3 kz4
      rw [hGS] at rs ts ⊢
      clear hGS oy4
      refine ⟨hb4, ?_⟩
      simp only [Act.put, List.setIfInBounds_toArray, List.set_cons_zero, List.set_cons_succ]
      refine at_two (i := 2) (j := 6) (m1 := 31) (m2 := 91) ha1reg (by decide) rfl rfl ?_ ?_
      · refine p_trees2H (d := some 6) rfl (wanted_free rfl) rfl rfl rfl rfl ?_
        have rt := trs_twoH (y4) 2 1 3 1
        have kz5 := keep_alloc (y4) (.cells #[.int .i64 2, .int .i64 1, .int .i64 3, .int .i64 1] 45)
        try replace ri := ri.below kz5
        try replace rs := rs.below kz5
        try replace bk := bk.below kz5
        obtain ⟨GT, hGT⟩ : ∃ q : Nat, (y4).heap.size = q := ⟨_, rfl⟩
        obtain ⟨z5, hz5⟩ : ∃ z : World, z = (y4).alloc (.cells #[.int .i64 2, .int .i64 1, .int .i64 3, .int .i64 1] 45) := ⟨_, rfl⟩
        have hb5 := keep_trans hb4 kz5
        try rw [← hz5] at rt
        try rw [← hz5] at ri
        try rw [← hz5] at rs
        try rw [← hz5] at bk
        rw [← hz5] at hb5 ⊢
        rw [hGT] at rt ⊢
        clear hGT hz5
        refine ⟨hb5, ?_⟩
        simp only [Act.put, List.setIfInBounds_toArray, List.set_cons_zero, List.set_cons_succ]
        refine at_takeD (i := 5) (m' := 63) (d := some 9) (v := .agg #[.slice (some ⟨GT, 0, none⟩) 2 2, .slice (some ⟨GI, 0, none⟩) 16 16, .slice (some ⟨GS, 0, none⟩) 32 32]) ha1reg rfl (by decide) rfl rfl (y_buildKyH (wanted_free rfl) rfl rfl rfl rfl) hb5 ?_
        simp only [Act.put, List.setIfInBounds_toArray, List.set_cons_zero, List.set_cons_succ]
        refine at_one (i := 6) (m' := 127) ha1reg (by decide) rfl ?_
        refine p_allocKyH (d := some 1) rfl (wanted_free rfl) rfl rfl ?_
        have hGB0 : w.heap.size ≤ (z5).heap.size := (hb5).size
        have bk := BxK.new (z5) (.slice none 0 0) (.slice none 0 0) (.slice none 0 0)
        have kz7 := keep_alloc (z5) (.cells #[.slice none 0 0, .slice none 0 0, .slice none 0 0] 25)
        try replace rt := rt.below kz7
        try replace ri := ri.below kz7
        try replace rs := rs.below kz7
        obtain ⟨GB, hGB⟩ : ∃ q : Nat, (z5).heap.size = q := ⟨_, rfl⟩
        obtain ⟨z7, hz7⟩ : ∃ z : World, z = (z5).alloc (.cells #[.slice none 0 0, .slice none 0 0, .slice none 0 0] 25) := ⟨_, rfl⟩
        have hb7 := keep_trans hb5 kz7
        try rw [← hz7] at rt
        try rw [← hz7] at ri
        try rw [← hz7] at rs
        try rw [← hz7] at bk
        rw [← hz7] at hb7 ⊢
        rw [hGB] at bk hGB0 ⊢
        clear hGB hz7
        refine ⟨hb7, ?_⟩
        simp only [Act.put, List.setIfInBounds_toArray, List.set_cons_zero, List.set_cons_succ]
        refine at_one (i := 7) (m' := 255) ha1reg (by decide) rfl ?_
        refine p_rowA (cells := #[.slice (some ⟨GT, 0, none⟩) 2 2, .slice (some ⟨GI, 0, none⟩) 16 16, .slice (some ⟨GS, 0, none⟩) 32 32]) rfl rfl rfl rfl rfl rfl bk.here (by kernel_rfl) rfl (by simp [Value.oneCell']) ?_
        have hb8 := below_setRow (vs := #[.slice (some ⟨GT, 0, none⟩) 2 2, .slice (some ⟨GI, 0, none⟩) 16 16, .slice (some ⟨GS, 0, none⟩) 32 32]) hb7 hGB0
        have hBk : But GB z7 (World.setRow z7 GB #[.slice (some ⟨GT, 0, none⟩) 2 2, .slice (some ⟨GI, 0, none⟩) 16 16, .slice (some ⟨GS, 0, none⟩) 32 32]) := (But.refl _ _).setRow _
        refine ⟨hb8, ?_⟩
        refine at_done ha1reg (by decide) ?_
        refine hK1 _ _ ?_
        have nt := trs_ne rt bk
        have ni := row_neK ri bk (by decide)
        have ns := row_neK rs bk (by decide)
        exact awake_tailH _ w (hT.below (hb8)) GB _ _ _ _ _ bk.rowH (trs_but rt hBk nt) (row_butH ri (fun q _ hq => ni q hq) hBk) ti (row_butH rs (fun q _ hq => ns q hq) hBk) ts hb8
      · refine p_allocKyH (d := some 1) rfl (wanted_free rfl) rfl rfl ?_
        have hGB0 : w.heap.size ≤ (y4).heap.size := (hb4).size
        have bk := BxK.new (y4) (.slice none 0 0) (.slice none 0 0) (.slice none 0 0)
        have kz5 := keep_alloc (y4) (.cells #[.slice none 0 0, .slice none 0 0, .slice none 0 0] 25)
        try replace rt := rt.below kz5
        try replace ri := ri.below kz5
        try replace rs := rs.below kz5
        obtain ⟨GB, hGB⟩ : ∃ q : Nat, (y4).heap.size = q := ⟨_, rfl⟩
        obtain ⟨z5, hz5⟩ : ∃ z : World, z = (y4).alloc (.cells #[.slice none 0 0, .slice none 0 0, .slice none 0 0] 25) := ⟨_, rfl⟩
        have hb5 := keep_trans hb4 kz5
        try rw [← hz5] at rt
        try rw [← hz5] at ri
        try rw [← hz5] at rs
        try rw [← hz5] at bk
        rw [← hz5] at hb5 ⊢
        rw [hGB] at bk hGB0 ⊢
        clear hGB hz5
        refine ⟨hb5, ?_⟩
        simp only [Act.put, List.setIfInBounds_toArray, List.set_cons_zero, List.set_cons_succ]
        refine at_one (i := 2) (m' := 95) ha1reg (by decide) rfl ?_
        refine p_trees2H (d := some 6) rfl (wanted_free rfl) rfl rfl rfl rfl ?_
        have rt := trs_twoH (z5) 2 1 3 1
        have kz6 := keep_alloc (z5) (.cells #[.int .i64 2, .int .i64 1, .int .i64 3, .int .i64 1] 45)
        try replace ri := ri.below kz6
        try replace rs := rs.below kz6
        try replace bk := bk.below kz6
        obtain ⟨GT, hGT⟩ : ∃ q : Nat, (z5).heap.size = q := ⟨_, rfl⟩
        obtain ⟨z6, hz6⟩ : ∃ z : World, z = (z5).alloc (.cells #[.int .i64 2, .int .i64 1, .int .i64 3, .int .i64 1] 45) := ⟨_, rfl⟩
        have hb6 := keep_trans hb5 kz6
        try rw [← hz6] at rt
        try rw [← hz6] at ri
        try rw [← hz6] at rs
        try rw [← hz6] at bk
        rw [← hz6] at hb6 ⊢
        rw [hGT] at rt ⊢
        clear hGT hz6
        refine ⟨hb6, ?_⟩
        simp only [Act.put, List.setIfInBounds_toArray, List.set_cons_zero, List.set_cons_succ]
        refine at_takeD (i := 5) (m' := 127) (d := some 9) (v := .agg #[.slice (some ⟨GT, 0, none⟩) 2 2, .slice (some ⟨GI, 0, none⟩) 16 16, .slice (some ⟨GS, 0, none⟩) 32 32]) ha1reg rfl (by decide) rfl rfl (y_buildKyH (wanted_free rfl) rfl rfl rfl rfl) hb6 ?_
        simp only [Act.put, List.setIfInBounds_toArray, List.set_cons_zero, List.set_cons_succ]
        refine at_one (i := 7) (m' := 255) ha1reg (by decide) rfl ?_
        refine p_rowA (cells := #[.slice (some ⟨GT, 0, none⟩) 2 2, .slice (some ⟨GI, 0, none⟩) 16 16, .slice (some ⟨GS, 0, none⟩) 32 32]) rfl rfl rfl rfl rfl rfl bk.here (by kernel_rfl) rfl (by simp [Value.oneCell']) ?_
        have hb8 := below_setRow (vs := #[.slice (some ⟨GT, 0, none⟩) 2 2, .slice (some ⟨GI, 0, none⟩) 16 16, .slice (some ⟨GS, 0, none⟩) 32 32]) hb6 hGB0
        have hBk : But GB z6 (World.setRow z6 GB #[.slice (some ⟨GT, 0, none⟩) 2 2, .slice (some ⟨GI, 0, none⟩) 16 16, .slice (some ⟨GS, 0, none⟩) 32 32]) := (But.refl _ _).setRow _
        refine ⟨hb8, ?_⟩
        refine at_done ha1reg (by decide) ?_
        refine hK1 _ _ ?_
        have nt := trs_ne rt bk
        have ni := row_neK ri bk (by decide)
        have ns := row_neK rs bk (by decide)
        exact awake_tailH _ w (hT.below (hb8)) GB _ _ _ _ _ bk.rowH (trs_but rt hBk nt) (row_butH ri (fun q _ hq => ni q hq) hBk) ti (row_butH rs (fun q _ hq => ns q hq) hBk) ts hb8
    · refine p_allocKyH (d := some 1) rfl (wanted_free rfl) rfl rfl ?_
      have hGB0 : w.heap.size ≤ (y3).heap.size := (hb3).size
      have bk := BxK.new (y3) (.slice none 0 0) (.slice none 0 0) (.slice none 0 0)
      have kz4 := keep_alloc (y3) (.cells #[.slice none 0 0, .slice none 0 0, .slice none 0 0] 25)
      try replace rt := rt.below kz4
      try replace ri := ri.below kz4
      try replace rs := rs.below kz4
      obtain ⟨GB, hGB⟩ : ∃ q : Nat, (y3).heap.size = q := ⟨_, rfl⟩
      obtain ⟨z4, hz4⟩ : ∃ z : World, z = (y3).alloc (.cells #[.slice none 0 0, .slice none 0 0, .slice none 0 0] 25) := ⟨_, rfl⟩
      have hb4 := keep_trans hb3 kz4
      try rw [← hz4] at rt
      try rw [← hz4] at ri
      try rw [← hz4] at rs
      try rw [← hz4] at bk
      rw [← hz4] at hb4 ⊢
      rw [hGB] at bk hGB0 ⊢
      clear hGB hz4
      refine ⟨hb4, ?_⟩
      simp only [Act.put, List.setIfInBounds_toArray, List.set_cons_zero, List.set_cons_succ]
      refine at_two (i := 2) (j := 4) (m1 := 79) (m2 := 91) ha1reg (by decide) rfl rfl ?_ ?_
      · refine p_trees2H (d := some 6) rfl (wanted_free rfl) rfl rfl rfl rfl ?_
        have rt := trs_twoH (z4) 2 1 3 1
        have kz5 := keep_alloc (z4) (.cells #[.int .i64 2, .int .i64 1, .int .i64 3, .int .i64 1] 45)
        try replace ri := ri.below kz5
        try replace rs := rs.below kz5
        try replace bk := bk.below kz5
        obtain ⟨GT, hGT⟩ : ∃ q : Nat, (z4).heap.size = q := ⟨_, rfl⟩
        obtain ⟨z5, hz5⟩ : ∃ z : World, z = (z4).alloc (.cells #[.int .i64 2, .int .i64 1, .int .i64 3, .int .i64 1] 45) := ⟨_, rfl⟩
        have hb5 := keep_trans hb4 kz5
        try rw [← hz5] at rt
        try rw [← hz5] at ri
        try rw [← hz5] at rs
        try rw [← hz5] at bk
        rw [← hz5] at hb5 ⊢
        rw [hGT] at rt ⊢
        clear hGT hz5
        refine ⟨hb5, ?_⟩
        simp only [Act.put, List.setIfInBounds_toArray, List.set_cons_zero, List.set_cons_succ]
        refine at_one (i := 4) (m' := 95) ha1reg (by decide) rfl ?_
        refine p_makeXH (d := some 8) (n := 32) rfl (wanted_free rfl) rfl rfl rfl rfl (by decide) ?_
        intro y6 oy6 kz6
        try replace rt := rt.below kz6
        try replace ri := ri.below kz6
        try replace rs := rs.below kz6
        try replace bk := bk.below kz6
        have rs := oy6.row
        have ts := oy6.tidy
        obtain ⟨GS, hGS⟩ : ∃ q : Nat, (z5).heap.size = q := ⟨_, rfl⟩
        have hb6 := keep_trans hb5 kz6
        rw [hGS] at rs ts ⊢
        clear hGS oy6
        refine ⟨hb6, ?_⟩
        simp only [Act.put, List.setIfInBounds_toArray, List.set_cons_zero, List.set_cons_succ]
        refine at_takeD (i := 5) (m' := 127) (d := some 9) (v := .agg #[.slice (some ⟨GT, 0, none⟩) 2 2, .slice (some ⟨GI, 0, none⟩) 16 16, .slice (some ⟨GS, 0, none⟩) 32 32]) ha1reg rfl (by decide) rfl rfl (y_buildKyH (wanted_free rfl) rfl rfl rfl rfl) hb6 ?_
        simp only [Act.put, List.setIfInBounds_toArray, List.set_cons_zero, List.set_cons_succ]
        refine at_one (i := 7) (m' := 255) ha1reg (by decide) rfl ?_
        refine p_rowA (cells := #[.slice (some ⟨GT, 0, none⟩) 2 2, .slice (some ⟨GI, 0, none⟩) 16 16, .slice (some ⟨GS, 0, none⟩) 32 32]) rfl rfl rfl rfl rfl rfl bk.here (by kernel_rfl) rfl (by simp [Value.oneCell']) ?_
        have hb8 := below_setRow (vs := #[.slice (some ⟨GT, 0, none⟩) 2 2, .slice (some ⟨GI, 0, none⟩) 16 16, .slice (some ⟨GS, 0, none⟩) 32 32]) hb6 hGB0
        have hBk : But GB y6 (World.setRow y6 GB #[.slice (some ⟨GT, 0, none⟩) 2 2, .slice (some ⟨GI, 0, none⟩) 16 16, .slice (some ⟨GS, 0, none⟩) 32 32]) := (But.refl _ _).setRow _
        refine ⟨hb8, ?_⟩
        refine at_done ha1reg (by decide) ?_
        refine hK1 _ _ ?_
        have nt := trs_ne rt bk
        have ni := row_neK ri bk (by decide)
        have ns := row_neK rs bk (by decide)
        exact awake_tailH _ w (hT.below (hb8)) GB _ _ _ _ _ bk.rowH (trs_but rt hBk nt) (row_butH ri (fun q _ hq => ni q hq) hBk) ti (row_butH rs (fun q _ hq => ns q hq) hBk) ts hb8
      · refine p_makeXH (d := some 8) (n := 32) rfl (wanted_free rfl) rfl rfl rfl rfl (by decide) ?_
        intro y5 oy5 kz5
        try replace rt := rt.below kz5
        try replace ri := ri.below kz5
        try replace rs := rs.below kz5
        try replace bk := bk.below kz5
        have rs := oy5.row
        have ts := oy5.tidy
        obtain ⟨GS, hGS⟩ : ∃ q : Nat, (z4).heap.size = q := ⟨_, rfl⟩
        have hb5 := keep_trans hb4 kz5
        rw [hGS] at rs ts ⊢
        clear hGS oy5
        refine ⟨hb5, ?_⟩
        simp only [Act.put, List.setIfInBounds_toArray, List.set_cons_zero, List.set_cons_succ]
        refine at_one (i := 2) (m' := 95) ha1reg (by decide) rfl ?_
        refine p_trees2H (d := some 6) rfl (wanted_free rfl) rfl rfl rfl rfl ?_
        have rt := trs_twoH (y5) 2 1 3 1
        have kz6 := keep_alloc (y5) (.cells #[.int .i64 2, .int .i64 1, .int .i64 3, .int .i64 1] 45)
        try replace ri := ri.below kz6
        try replace rs := rs.below kz6
        try replace bk := bk.below kz6
        obtain ⟨GT, hGT⟩ : ∃ q : Nat, (y5).heap.size = q := ⟨_, rfl⟩
        obtain ⟨z6, hz6⟩ : ∃ z : World, z = (y5).alloc (.cells #[.int .i64 2, .int .i64 1, .int .i64 3, .int .i64 1] 45) := ⟨_, rfl⟩
        have hb6 := keep_trans hb5 kz6
        try rw [← hz6] at rt
        try rw [← hz6] at ri
        try rw [← hz6] at rs
        try rw [← hz6] at bk
        rw [← hz6] at hb6 ⊢
        rw [hGT] at rt ⊢
        clear hGT hz6
        refine ⟨hb6, ?_⟩
        simp only [Act.put, List.setIfInBounds_toArray, List.set_cons_zero, List.set_cons_succ]
        refine at_takeD (i := 5) (m' := 127) (d := some 9) (v := .agg #[.slice (some ⟨GT, 0, none⟩) 2 2, .slice (some ⟨GI, 0, none⟩) 16 16, .slice (some ⟨GS, 0, none⟩) 32 32]) ha1reg rfl (by decide) rfl rfl (y_buildKyH (wanted_free rfl) rfl rfl rfl rfl) hb6 ?_
        simp only [Act.put, List.setIfInBounds_toArray, List.set_cons_zero, List.set_cons_succ]
        refine at_one (i := 7) (m' := 255) ha1reg (by decide) rfl ?_
        refine p_rowA (cells := #[.slice (some ⟨GT, 0, none⟩) 2 2, .slice (some ⟨GI, 0, none⟩) 16 16, .slice (some ⟨GS, 0, none⟩) 32 32]) rfl rfl rfl rfl rfl rfl bk.here (by kernel_rfl) rfl (by simp [Value.oneCell']) ?_
        have hb8 := below_setRow (vs := #[.slice (some ⟨GT, 0, none⟩) 2 2, .slice (some ⟨GI, 0, none⟩) 16 16, .slice (some ⟨GS, 0, none⟩) 32 32]) hb6 hGB0
        have hBk : But GB z6 (World.setRow z6 GB #[.slice (some ⟨GT, 0, none⟩) 2 2, .slice (some ⟨GI, 0, none⟩) 16 16, .slice (some ⟨GS, 0, none⟩) 32 32]) := (But.refl _ _).setRow _
        refine ⟨hb8, ?_⟩
        refine at_done ha1reg (by decide) ?_
        refine hK1 _ _ ?_
        have nt := trs_ne rt bk
        have ni := row_neK ri bk (by decide)
        have ns := row_neK rs bk (by decide)
        exact awake_tailH _ w (hT.below (hb8)) GB _ _ _ _ _ bk.rowH (trs_but rt hBk nt) (row_butH ri (fun q _ hq => ni q hq) hBk) ti (row_butH rs (fun q _ hq => ns q hq) hBk) ts hb8
  · refine p_makeXH (d := some 8) (n := 32) rfl (wanted_free rfl) rfl rfl rfl rfl (by decide) ?_
    intro y3 oy3 kz3
    try replace rt := rt.below kz3
    try replace ri := ri.below kz3
    try replace rs := rs.below kz3
    try replace bk := bk.below kz3
    have rs := oy3.row
    have ts := oy3.tidy
    obtain ⟨GS, hGS⟩ : ∃ q : Nat, (w.drew).heap.size = q := ⟨_, rfl⟩
    have hb3 := keep_trans hbd kz3
    rw [hGS] at rs ts ⊢
    clear hGS oy3
    refine ⟨hb3, ?_⟩
    simp only [Act.put, List.setIfInBounds_toArray, List.set_cons_zero, List.set_cons_succ]
    refine at_three8 (i := 2) (j := 3) (k := 6) (m1 := 23) (m2 := 27) (m3 := 83) ha1reg (by decide) rfl rfl rfl ?_ ?_ ?_
    · refine p_trees2H (d := some 6) rfl (wanted_free rfl) rfl rfl rfl rfl ?_
      have rt := trs_twoH (y3) 2 1 3 1
      have kz4 := keep_alloc (y3) (.cells #[.int .i64 2, .int .i64 1, .int .i64 3, .int .i64 1] 45)
      try replace ri := ri.below kz4
      try replace rs := rs.below kz4
      try replace bk := bk.below kz4
      obtain ⟨GT, hGT⟩ : ∃ q : Nat, (y3).heap.size = q := ⟨_, rfl⟩
      obtain ⟨z4, hz4⟩ : ∃ z : World, z = (y3).alloc (.cells #[.int .i64 2, .int .i64 1, .int .i64 3, .int .i64 1] 45) := ⟨_, rfl⟩
      have hb4 := keep_trans hb3 kz4
      try rw [← hz4] at rt
      try rw [← hz4] at ri
      try rw [← hz4] at rs
      try rw [← hz4] at bk
      rw [← hz4] at hb4 ⊢
      rw [hGT] at rt ⊢
      clear hGT hz4
      refine ⟨hb4, ?_⟩
      simp only [Act.put, List.setIfInBounds_toArray, List.set_cons_zero, List.set_cons_succ]
      refine at_two (i := 3) (j := 6) (m1 := 31) (m2 := 87) ha1reg (by decide) rfl rfl ?_ ?_
      · refine p_makeXH (d := some 7) (n := 16) rfl (wanted_free rfl) rfl rfl rfl rfl (by decide) ?_
        intro y5 oy5 kz5
        try replace rt := rt.below kz5
        try replace ri := ri.below kz5
        try replace rs := rs.below kz5
        try replace bk := bk.below kz5
        have ri := oy5.row
        have ti := oy5.tidy
        obtain ⟨GI, hGI⟩ : ∃ q : Nat, (z4).heap.size = q := ⟨_, rfl⟩
        have hb5 := keep_trans hb4 kz5
        rw [hGI] at ri ti ⊢
        clear hGI oy5
        refine ⟨hb5, ?_⟩
        simp only [Act.put, List.setIfInBounds_toArray, List.set_cons_zero, List.set_cons_succ]
        refine at_takeD (i := 5) (m' := 63) (d := some 9) (v := .agg #[.slice (some ⟨GT, 0, none⟩) 2 2, .slice (some ⟨GI, 0, none⟩) 16 16, .slice (some ⟨GS, 0, none⟩) 32 32]) ha1reg rfl (by decide) rfl rfl (y_buildKyH (wanted_free rfl) rfl rfl rfl rfl) hb5 ?_
        simp only [Act.put, List.setIfInBounds_toArray, List.set_cons_zero, List.set_cons_succ]
        refine at_one (i := 6) (m' := 127) ha1reg (by decide) rfl ?_
        refine p_allocKyH (d := some 1) rfl (wanted_free rfl) rfl rfl ?_
        have hGB0 : w.heap.size ≤ (y5).heap.size := (hb5).size
        have bk := BxK.new (y5) (.slice none 0 0) (.slice none 0 0) (.slice none 0 0)
        have kz7 := keep_alloc (y5) (.cells #[.slice none 0 0, .slice none 0 0, .slice none 0 0] 25)
        try replace rt := rt.below kz7
        try replace ri := ri.below kz7
        try replace rs := rs.below kz7
        obtain ⟨GB, hGB⟩ : ∃ q : Nat, (y5).heap.size = q := ⟨_, rfl⟩
        obtain ⟨z7, hz7⟩ : ∃ z : World, z = (y5).alloc (.cells #[.slice none 0 0, .slice none 0 0, .slice none 0 0] 25) := ⟨_, rfl⟩
        have hb7 := keep_trans hb5 kz7
        try rw [← hz7] at rt
        try rw [← hz7] at ri
        try rw [← hz7] at rs
        try rw [← hz7] at bk
        rw [← hz7] at hb7 ⊢
        rw [hGB] at bk hGB0 ⊢
        clear hGB hz7
        refine ⟨hb7, ?_⟩
        simp only [Act.put, List.setIfInBounds_toArray, List.set_cons_zero, List.set_cons_succ]
        refine at_one (i := 7) (m' := 255) ha1reg (by decide) rfl ?_
        refine p_rowA (cells := #[.slice (some ⟨GT, 0, none⟩) 2 2, .slice (some ⟨GI, 0, none⟩) 16 16, .slice (some ⟨GS, 0, none⟩) 32 32]) rfl rfl rfl rfl rfl rfl bk.here (by kernel_rfl) rfl (by simp [Value.oneCell']) ?_
        have hb8 := below_setRow (vs := #[.slice (some ⟨GT, 0, none⟩) 2 2, .slice (some ⟨GI, 0, none⟩) 16 16, .slice (some ⟨GS, 0, none⟩) 32 32]) hb7 hGB0
        have hBk : But GB z7 (World.setRow z7 GB #[.slice (some ⟨GT, 0, none⟩) 2 2, .slice (some ⟨GI, 0, none⟩) 16 16, .slice (some ⟨GS, 0, none⟩) 32 32]) := (But.refl _ _).setRow _
        refine ⟨hb8, ?_⟩
        refine at_done ha1reg (by decide) ?_
        refine hK1 _ _ ?_
        have nt := trs_ne rt bk
        have ni := row_neK ri bk (by decide)
        have ns := row_neK rs bk (by decide)
        exact awake_tailH _ w (hT.below (hb8)) GB _ _ _ _ _ bk.rowH (trs_but rt hBk nt) (row_butH ri (fun q _ hq => ni q hq) hBk) ti (row_butH rs (fun q _ hq => ns q hq) hBk) ts hb8
      · refine p_allocKyH (d := some 1) rfl (wanted_free rfl) rfl rfl ?_
        have hGB0 : w.heap.size ≤ (z4).heap.size := (hb4).size
        have bk := BxK.new (z4) (.slice none 0 0) (.slice none 0 0) (.slice none 0 0)
        have kz5 := keep_alloc (z4) (.cells #[.slice none 0 0, .slice none 0 0, .slice none 0 0] 25)
        try replace rt := rt.below kz5
        try replace ri := ri.below kz5
        try replace rs := rs.below kz5
        obtain ⟨GB, hGB⟩ : ∃ q : Nat, (z4).heap.size = q := ⟨_, rfl⟩
        obtain ⟨z5, hz5⟩ : ∃ z : World, z = (z4).alloc (.cells #[.slice none 0 0, .slice none 0 0, .slice none 0 0] 25) := ⟨_, rfl⟩
        have hb5 := keep_trans hb4 kz5
        try rw [← hz5] at rt
        try rw [← hz5] at ri
        try rw [← hz5] at rs
        try rw [← hz5] at bk
        rw [← hz5] at hb5 ⊢
        rw [hGB] at bk hGB0 ⊢
        clear hGB hz5
        refine ⟨hb5, ?_⟩
        simp only [Act.put, List.setIfInBounds_toArray, List.set_cons_zero, List.set_cons_succ]
        refine at_one (i := 3) (m' := 95) ha1reg (by decide) rfl ?_
        refine p_makeXH (d := some 7) (n := 16) rfl (wanted_free rfl) rfl rfl rfl rfl (by decide) ?_
        intro y6 oy6 kz6
        try replace rt := rt.below kz6
        try replace ri := ri.below kz6
        try replace rs := rs.below kz6
        try replace bk := bk.below kz6
        have ri := oy6.row
        have ti := oy6.tidy
        obtain ⟨GI, hGI⟩ : ∃ q : Nat, (z5).heap.size = q := ⟨_, rfl⟩
        have hb6 := keep_trans hb5 kz6
        rw [hGI] at ri ti ⊢
        clear hGI oy6
        refine ⟨hb6, ?_⟩
        simp only [Act.put, List.setIfInBounds_toArray, List.set_cons_zero, List.set_cons_succ]
        refine at_takeD (i := 5) (m' := 127) (d := some 9) (v := .agg #[.slice (some ⟨GT, 0, none⟩) 2 2, .slice (some ⟨GI, 0, none⟩) 16 16, .slice (some ⟨GS, 0, none⟩) 32 32]) ha1reg rfl (by decide) rfl rfl (y_buildKyH (wanted_free rfl) rfl rfl rfl rfl) hb6 ?_
        simp only [Act.put, List.setIfInBounds_toArray, List.set_cons_zero, List.set_cons_succ]
        refine at_one (i := 7) (m' := 255) ha1reg (by decide) rfl ?_
        refine p_rowA (cells := #[.slice (some ⟨GT, 0, none⟩) 2 2, .slice (some ⟨GI, 0, none⟩) 16 16, .slice (some ⟨GS, 0, none⟩) 32 32]) rfl rfl rfl rfl rfl rfl bk.here (by kernel_rfl) rfl (by simp [Value.oneCell']) ?_
        have hb8 := below_setRow (vs := #[.slice (some ⟨GT, 0, none⟩) 2 2, .slice (some ⟨GI, 0, none⟩) 16 16, .slice (some ⟨GS, 0, none⟩) 32 32]) hb6 hGB0
        have hBk : But GB y6 (World.setRow y6 GB #[.slice (some ⟨GT, 0, none⟩) 2 2, .slice (some ⟨GI, 0, none⟩) 16 16, .slice (some ⟨GS, 0, none⟩) 32 32]) := (But.refl _ _).setRow _
        refine ⟨hb8, ?_⟩
        refine at_done ha1reg (by decide) ?_
        refine hK1 _ _ ?_
        have nt := trs_ne rt bk
        have ni := row_neK ri bk (by decide)
        have ns := row_neK rs bk (by decide)
        exact awake_tailH _ w (hT.below (hb8)) GB _ _ _ _ _ bk.rowH (trs_but rt hBk nt) (row_butH ri (fun q _ hq => ni q hq) hBk) ti (row_butH rs (fun q _ hq => ns q hq) hBk) ts hb8
    · refine p_makeXH (d := some 7) (n := 16) rfl (wanted_free rfl) rfl rfl rfl rfl (by decide) ?_
      intro y4 oy4 kz4
      try replace rt := rt.below kz4
      try replace ri := ri.below kz4
      try replace rs := rs.below kz4
      try replace bk := bk.below kz4
      have ri := oy4.row
      have ti := oy4.tidy
      obtain ⟨GI, hGI⟩ : ∃ q : Nat, (y3).heap.size = q := ⟨_, rfl⟩
      have hb4 := keep_trans hb3 kz4
      rw [hGI] at ri ti ⊢
      clear hGI oy4
      refine ⟨hb4, ?_⟩
      simp only [Act.put, List.setIfInBounds_toArray, List.set_cons_zero, List.set_cons_succ]
      refine at_two (i := 2) (j := 6) (m1 := 31) (m2 := 91) ha1reg (by decide) rfl rfl ?_ ?_
      · refine p_trees2H (d := some 6) rfl (wanted_free rfl) rfl rfl rfl rfl ?_
        have rt := trs_twoH (y4) 2 1 3 1
        have kz5 := keep_alloc (y4) (.cells #[.int .i64 2, .int .i64 1, .int .i64 3, .int .i64 1] 45)
        try replace ri := ri.below kz5
        try replace rs := rs.below kz5
        try replace bk := bk.below kz5
        obtain ⟨GT, hGT⟩ : ∃ q : Nat, (y4).heap.size = q := ⟨_, rfl⟩
        obtain ⟨z5, hz5⟩ : ∃ z : World, z = (y4).alloc (.cells #[.int .i64 2, .int .i64 1, .int .i64 3, .int .i64 1] 45) := ⟨_, rfl⟩
        have hb5 := keep_trans hb4 kz5
        try rw [← hz5] at rt
        try rw [← hz5] at ri
        try rw [← hz5] at rs
        try rw [← hz5] at bk
        rw [← hz5] at hb5 ⊢
        rw [hGT] at rt ⊢
        clear hGT hz5
        refine ⟨hb5, ?_⟩
        simp only [Act.put, List.setIfInBounds_toArray, List.set_cons_zero, List.set_cons_succ]
        refine at_takeD (i := 5) (m' := 63) (d := some 9) (v := .agg #[.slice (some ⟨GT, 0, none⟩) 2 2, .slice (some ⟨GI, 0, none⟩) 16 16, .slice (some ⟨GS, 0, none⟩) 32 32]) ha1reg rfl (by decide) rfl rfl (y_buildKyH (wanted_free rfl) rfl rfl rfl rfl) hb5 ?_
        simp only [Act.put, List.setIfInBounds_toArray, List.set_cons_zero, List.set_cons_succ]
        refine at_one (i := 6) (m' := 127) ha1reg (by decide) rfl ?_
        refine p_allocKyH (d := some 1) rfl (wanted_free rfl) rfl rfl ?_
        have hGB0 : w.heap.size ≤ (z5).heap.size := (hb5).size
        have bk := BxK.new (z5) (.slice none 0 0) (.slice none 0 0) (.slice none 0 0)
        have kz7 := keep_alloc (z5) (.cells #[.slice none 0 0, .slice none 0 0, .slice none 0 0] 25)
        try replace rt := rt.below kz7
        try replace ri := ri.below kz7
        try replace rs := rs.below kz7
        obtain ⟨GB, hGB⟩ : ∃ q : Nat, (z5).heap.size = q := ⟨_, rfl⟩
        obtain ⟨z7, hz7⟩ : ∃ z : World, z = (z5).alloc (.cells #[.slice none 0 0, .slice none 0 0, .slice none 0 0] 25) := ⟨_, rfl⟩
        have hb7 := keep_trans hb5 kz7
        try rw [← hz7] at rt
        try rw [← hz7] at ri
        try rw [← hz7] at rs
        try rw [← hz7] at bk
        rw [← hz7] at hb7 ⊢
        rw [hGB] at bk hGB0 ⊢
        clear hGB hz7
        refine ⟨hb7, ?_⟩
        simp only [Act.put, List.setIfInBounds_toArray, List.set_cons_zero, List.set_cons_succ]
        refine at_one (i := 7) (m' := 255) ha1reg (by decide) rfl ?_
        refine p_rowA (cells := #[.slice (some ⟨GT, 0, none⟩) 2 2, .slice (some ⟨GI, 0, none⟩) 16 16, .slice (some ⟨GS, 0, none⟩) 32 32]) rfl rfl rfl rfl rfl rfl bk.here (by kernel_rfl) rfl (by simp [Value.oneCell']) ?_
        have hb8 := below_setRow (vs := #[.slice (some ⟨GT, 0, none⟩) 2 2, .slice (some ⟨GI, 0, none⟩) 16 16, .slice (some ⟨GS, 0, none⟩) 32 32]) hb7 hGB0
        have hBk : But GB z7 (World.setRow z7 GB #[.slice (some ⟨GT, 0, none⟩) 2 2, .slice (some ⟨GI, 0, none⟩) 16 16, .slice (some ⟨GS, 0, none⟩) 32 32]) := (But.refl _ _).setRow _
        refine ⟨hb8, ?_⟩
        refine at_done ha1reg (by decide) ?_
        refine hK1 _ _ ?_
        have nt := trs_ne rt bk
        have ni := row_neK ri bk (by decide)
        have ns := row_neK rs bk (by decide)
        exact awake_tailH _ w (hT.below (hb8)) GB _ _ _ _ _ bk.rowH (trs_but rt hBk nt) (row_butH ri (fun q _ hq => ni q hq) hBk) ti (row_butH rs (fun q _ hq => ns q hq) hBk) ts hb8
      · refine p_allocKyH (d := some 1) rfl (wanted_free rfl) rfl rfl ?_
        have hGB0 : w.heap.size ≤ (y4).heap.size := (hb4).size
        have bk := BxK.new (y4) (.slice none 0 0) (.slice none 0 0) (.slice none 0 0)
        have kz5 := keep_alloc (y4) (.cells #[.slice none 0 0, .slice none 0 0, .slice none 0 0] 25)
        try replace rt := rt.below kz5
        try replace ri := ri.below kz5
        try replace rs := rs.below kz5
        obtain ⟨GB, hGB⟩ : ∃ q : Nat, (y4).heap.size = q := ⟨_, rfl⟩
        obtain ⟨z5, hz5⟩ : ∃ z : World, z = (y4).alloc (.cells #[.slice none 0 0, .slice none 0 0, .slice none 0 0] 25) := ⟨_, rfl⟩
        have hb5 := keep_trans hb4 kz5
        try rw [← hz5] at rt
        try rw [← hz5] at ri
        try rw [← hz5] at rs
        try rw [← hz5] at bk
        rw [← hz5] at hb5 ⊢
        rw [hGB] at bk hGB0 ⊢
        clear hGB hz5
        refine ⟨hb5, ?_⟩
        simp only [Act.put, List.setIfInBounds_toArray, List.set_cons_zero, List.set_cons_succ]
        refine at_one (i := 2) (m' := 95) ha1reg (by decide) rfl ?_
        refine p_trees2H (d := some 6) rfl (wanted_free rfl) rfl rfl rfl rfl ?_
        have rt := trs_twoH (z5) 2 1 3 1
        have kz6 := keep_alloc (z5) (.cells #[.int .i64 2, .int .i64 1, .int .i64 3, .int .i64 1] 45)
        try replace ri := ri.below kz6
        try replace rs := rs.below kz6
        try replace bk := bk.below kz6
        obtain ⟨GT, hGT⟩ : ∃ q : Nat, (z5).heap.size = q := ⟨_, rfl⟩
        obtain ⟨z6, hz6⟩ : ∃ z : World, z = (z5).alloc (.cells #[.int .i64 2, .int .i64 1, .int .i64 3, .int .i64 1] 45) := ⟨_, rfl⟩
        have hb6 := keep_trans hb5 kz6
        try rw [← hz6] at rt
        try rw [← hz6] at ri
        try rw [← hz6] at rs
        try rw [← hz6] at bk
        rw [← hz6] at hb6 ⊢
        rw [hGT] at rt ⊢
        clear hGT hz6
        refine ⟨hb6, ?_⟩
        simp only [Act.put, List.setIfInBounds_toArray, List.set_cons_zero, List.set_cons_succ]
        refine at_takeD (i := 5) (m' := 127) (d := some 9) (v := .agg #[.slice (some ⟨GT, 0, none⟩) 2 2, .slice (some ⟨GI, 0, none⟩) 16 16, .slice (some ⟨GS, 0, none⟩) 32 32]) ha1reg rfl (by decide) rfl rfl (y_buildKyH (wanted_free rfl) rfl rfl rfl rfl) hb6 ?_
        simp only [Act.put, List.setIfInBounds_toArray, List.set_cons_zero, List.set_cons_succ]
        refine at_one (i := 7) (m' := 255) ha1reg (by decide) rfl ?_
        refine p_rowA (cells := #[.slice (some ⟨GT, 0, none⟩) 2 2, .slice (some ⟨GI, 0, none⟩) 16 16, .slice (some ⟨GS, 0, none⟩) 32 32]) rfl rfl rfl rfl rfl rfl bk.here (by kernel_rfl) rfl (by simp [Value.oneCell']) ?_
        have hb8 := below_setRow (vs := #[.slice (some ⟨GT, 0, none⟩) 2 2, .slice (some ⟨GI, 0, none⟩) 16 16, .slice (some ⟨GS, 0, none⟩) 32 32]) hb6 hGB0
        have hBk : But GB z6 (World.setRow z6 GB #[.slice (some ⟨GT, 0, none⟩) 2 2, .slice (some ⟨GI, 0, none⟩) 16 16, .slice (some ⟨GS, 0, none⟩) 32 32]) := (But.refl _ _).setRow _
        refine ⟨hb8, ?_⟩
        refine at_done ha1reg (by decide) ?_
        refine hK1 _ _ ?_
        have nt := trs_ne rt bk
        have ni := row_neK ri bk (by decide)
        have ns := row_neK rs bk (by decide)
        exact awake_tailH _ w (hT.below (hb8)) GB _ _ _ _ _ bk.rowH (trs_but rt hBk nt) (row_butH ri (fun q _ hq => ni q hq) hBk) ti (row_butH rs (fun q _ hq => ns q hq) hBk) ts hb8
    · refine p_allocKyH (d := some 1) rfl (wanted_free rfl) rfl rfl ?_
      have hGB0 : w.heap.size ≤ (y3).heap.size := (hb3).size
      have bk := BxK.new (y3) (.slice none 0 0) (.slice none 0 0) (.slice none 0 0)
      have kz4 := keep_alloc (y3) (.cells #[.slice none 0 0, .slice none 0 0, .slice none 0 0] 25)
      try replace rt := rt.below kz4
      try replace ri := ri.below kz4
      try replace rs := rs.below kz4
      obtain ⟨GB, hGB⟩ : ∃ q : Nat, (y3).heap.size = q := ⟨_, rfl⟩
      obtain ⟨z4, hz4⟩ : ∃ z : World, z = (y3).alloc (.cells #[.slice none 0 0, .slice none 0 0, .slice none 0 0] 25) := ⟨_, rfl⟩
      have hb4 := keep_trans hb3 kz4
      try rw [← hz4] at rt
      try rw [← hz4] at ri
      try rw [← hz4] at rs
      try rw [← hz4] at bk
      rw [← hz4] at hb4 ⊢
      rw [hGB] at bk hGB0 ⊢
      clear hGB hz4
      refine ⟨hb4, ?_⟩
      simp only [Act.put, List.setIfInBounds_toArray, List.set_cons_zero, List.set_cons_succ]
      refine at_two (i := 2) (j := 3) (m1 := 87) (m2 := 91) ha1reg (by decide) rfl rfl ?_ ?_
      · refine p_trees2H (d := some 6) rfl (wanted_free rfl) rfl rfl rfl rfl ?_
        have rt := trs_twoH (z4) 2 1 3 1
        have kz5 := keep_alloc (z4) (.cells #[.int .i64 2, .int .i64 1, .int .i64 3, .int .i64 1] 45)
        try replace ri := ri.below kz5
        try replace rs := rs.below kz5
        try replace bk := bk.below kz5
        obtain ⟨GT, hGT⟩ : ∃ q : Nat, (z4).heap.size = q := ⟨_, rfl⟩
        obtain ⟨z5, hz5⟩ : ∃ z : World, z = (z4).alloc (.cells #[.int .i64 2, .int .i64 1, .int .i64 3, .int .i64 1] 45) := ⟨_, rfl⟩
        have hb5 := keep_trans hb4 kz5
        try rw [← hz5] at rt
        try rw [← hz5] at ri
        try rw [← hz5] at rs
        try rw [← hz5] at bk
        rw [← hz5] at hb5 ⊢
        rw [hGT] at rt ⊢
        clear hGT hz5
        refine ⟨hb5, ?_⟩
        simp only [Act.put, List.setIfInBounds_toArray, List.set_cons_zero, List.set_cons_succ]
        refine at_one (i := 3) (m' := 95) ha1reg (by decide) rfl ?_
        refine p_makeXH (d := some 7) (n := 16) rfl (wanted_free rfl) rfl rfl rfl rfl (by decide) ?_
        intro y6 oy6 kz6
        try replace rt := rt.below kz6
        try replace ri := ri.below kz6
        try replace rs := rs.below kz6
        try replace bk := bk.below kz6
        have ri := oy6.row
        have ti := oy6.tidy
        obtain ⟨GI, hGI⟩ : ∃ q : Nat, (z5).heap.size = q := ⟨_, rfl⟩
        have hb6 := keep_trans hb5 kz6
        rw [hGI] at ri ti ⊢
        clear hGI oy6
        refine ⟨hb6, ?_⟩
        simp only [Act.put, List.setIfInBounds_toArray, List.set_cons_zero, List.set_cons_succ]
        refine at_takeD (i := 5) (m' := 127) (d := some 9) (v := .agg #[.slice (some ⟨GT, 0, none⟩) 2 2, .slice (some ⟨GI, 0, none⟩) 16 16, .slice (some ⟨GS, 0, none⟩) 32 32]) ha1reg rfl (by decide) rfl rfl (y_buildKyH (wanted_free rfl) rfl rfl rfl rfl) hb6 ?_
        simp only [Act.put, List.setIfInBounds_toArray, List.set_cons_zero, List.set_cons_succ]
        refine at_one (i := 7) (m' := 255) ha1reg (by decide) rfl ?_
        refine p_rowA (cells := #[.slice (some ⟨GT, 0, none⟩) 2 2, .slice (some ⟨GI, 0, none⟩) 16 16, .slice (some ⟨GS, 0, none⟩) 32 32]) rfl rfl rfl rfl rfl rfl bk.here (by kernel_rfl) rfl (by simp [Value.oneCell']) ?_
        have hb8 := below_setRow (vs := #[.slice (some ⟨GT, 0, none⟩) 2 2, .slice (some ⟨GI, 0, none⟩) 16 16, .slice (some ⟨GS, 0, none⟩) 32 32]) hb6 hGB0
        have hBk : But GB y6 (World.setRow y6 GB #[.slice (some ⟨GT, 0, none⟩) 2 2, .slice (some ⟨GI, 0, none⟩) 16 16, .slice (some ⟨GS, 0, none⟩) 32 32]) := (But.refl _ _).setRow _
        refine ⟨hb8, ?_⟩
        refine at_done ha1reg (by decide) ?_
        refine hK1 _ _ ?_
        have nt := trs_ne rt bk
        have ni := row_neK ri bk (by decide)
        have ns := row_neK rs bk (by decide)
        exact awake_tailH _ w (hT.below (hb8)) GB _ _ _ _ _ bk.rowH (trs_but rt hBk nt) (row_butH ri (fun q _ hq => ni q hq) hBk) ti (row_butH rs (fun q _ hq => ns q hq) hBk) ts hb8
      · refine p_makeXH (d := some 7) (n := 16) rfl (wanted_free rfl) rfl rfl rfl rfl (by decide) ?_
        intro y5 oy5 kz5
        try replace rt := rt.below kz5
        try replace ri := ri.below kz5
        try replace rs := rs.below kz5
        try replace bk := bk.below kz5
        have ri := oy5.row
        have ti := oy5.tidy
        obtain ⟨GI, hGI⟩ : ∃ q : Nat, (z4).heap.size = q := ⟨_, rfl⟩
        have hb5 := keep_trans hb4 kz5
        rw [hGI] at ri ti ⊢
        clear hGI oy5
        refine ⟨hb5, ?_⟩
        simp only [Act.put, List.setIfInBounds_toArray, List.set_cons_zero, List.set_cons_succ]
        refine at_one (i := 2) (m' := 95) ha1reg (by decide) rfl ?_
        refine p_trees2H (d := some 6) rfl (wanted_free rfl) rfl rfl rfl rfl ?_
        have rt := trs_twoH (y5) 2 1 3 1
        have kz6 := keep_alloc (y5) (.cells #[.int .i64 2, .int .i64 1, .int .i64 3, .int .i64 1] 45)
        try replace ri := ri.below kz6
        try replace rs := rs.below kz6
        try replace bk := bk.below kz6
        obtain ⟨GT, hGT⟩ : ∃ q : Nat, (y5).heap.size = q := ⟨_, rfl⟩
        obtain ⟨z6, hz6⟩ : ∃ z : World, z = (y5).alloc (.cells #[.int .i64 2, .int .i64 1, .int .i64 3, .int .i64 1] 45) := ⟨_, rfl⟩
        have hb6 := keep_trans hb5 kz6
        try rw [← hz6] at rt
        try rw [← hz6] at ri
        try rw [← hz6] at rs
        try rw [← hz6] at bk
        rw [← hz6] at hb6 ⊢
        rw [hGT] at rt ⊢
        clear hGT hz6
        refine ⟨hb6, ?_⟩
        simp only [Act.put, List.setIfInBounds_toArray, List.set_cons_zero, List.set_cons_succ]
        refine at_takeD (i := 5) (m' := 127) (d := some 9) (v := .agg #[.slice (some ⟨GT, 0, none⟩) 2 2, .slice (some ⟨GI, 0, none⟩) 16 16, .slice (some ⟨GS, 0, none⟩) 32 32]) ha1reg rfl (by decide) rfl rfl (y_buildKyH (wanted_free rfl) rfl rfl rfl rfl) hb6 ?_
        simp only [Act.put, List.setIfInBounds_toArray, List.set_cons_zero, List.set_cons_succ]
        refine at_one (i := 7) (m' := 255) ha1reg (by decide) rfl ?_
        refine p_rowA (cells := #[.slice (some ⟨GT, 0, none⟩) 2 2, .slice (some ⟨GI, 0, none⟩) 16 16, .slice (some ⟨GS, 0, none⟩) 32 32]) rfl rfl rfl rfl rfl rfl bk.here (by kernel_rfl) rfl (by simp [Value.oneCell']) ?_
        have hb8 := below_setRow (vs := #[.slice (some ⟨GT, 0, none⟩) 2 2, .slice (some ⟨GI, 0, none⟩) 16 16, .slice (some ⟨GS, 0, none⟩) 32 32]) hb6 hGB0
        have hBk : But GB z6 (World.setRow z6 GB #[.slice (some ⟨GT, 0, none⟩) 2 2, .slice (some ⟨GI, 0, none⟩) 16 16, .slice (some ⟨GS, 0, none⟩) 32 32]) := (But.refl _ _).setRow _
        refine ⟨hb8, ?_⟩
        refine at_done ha1reg (by decide) ?_
        refine hK1 _ _ ?_
        have nt := trs_ne rt bk
        have ni := row_neK ri bk (by decide)
        have ns := row_neK rs bk (by decide)
        exact awake_tailH _ w (hT.below (hb8)) GB _ _ _ _ _ bk.rowH (trs_but rt hBk nt) (row_butH ri (fun q _ hq => ni q hq) hBk) ti (row_butH rs (fun q _ hq => ns q hq) hBk) ts hb8
  · refine p_allocKyH (d := some 1) rfl (wanted_free rfl) rfl rfl ?_
    have hGB0 : w.heap.size ≤ (w.drew).heap.size := (hbd).size
    have bk := BxK.new (w.drew) (.slice none 0 0) (.slice none 0 0) (.slice none 0 0)
    have kz3 := keep_alloc (w.drew) (.cells #[.slice none 0 0, .slice none 0 0, .slice none 0 0] 25)
    try replace rt := rt.below kz3
    try replace ri := ri.below kz3
    try replace rs := rs.below kz3
    obtain ⟨GB, hGB⟩ : ∃ q : Nat, (w.drew).heap.size = q := ⟨_, rfl⟩
    obtain ⟨z3, hz3⟩ : ∃ z : World, z = (w.drew).alloc (.cells #[.slice none 0 0, .slice none 0 0, .slice none 0 0] 25) := ⟨_, rfl⟩
    have hb3 := keep_trans hbd kz3
    try rw [← hz3] at rt
    try rw [← hz3] at ri
    try rw [← hz3] at rs
    try rw [← hz3] at bk
    rw [← hz3] at hb3 ⊢
    rw [hGB] at bk hGB0 ⊢
    clear hGB hz3
    refine ⟨hb3, ?_⟩
    simp only [Act.put, List.setIfInBounds_toArray, List.set_cons_zero, List.set_cons_succ]
    refine at_three8 (i := 2) (j := 3) (k := 4) (m1 := 71) (m2 := 75) (m3 := 83) ha1reg (by decide) rfl rfl rfl ?_ ?_ ?_
    · refine p_trees2H (d := some 6) rfl (wanted_free rfl) rfl rfl rfl rfl ?_
      have rt := trs_twoH (z3) 2 1 3 1
      have kz4 := keep_alloc (z3) (.cells #[.int .i64 2, .int .i64 1, .int .i64 3, .int .i64 1] 45)
      try replace ri := ri.below kz4
      try replace rs := rs.below kz4
      try replace bk := bk.below kz4
      obtain ⟨GT, hGT⟩ : ∃ q : Nat, (z3).heap.size = q := ⟨_, rfl⟩
      obtain ⟨z4, hz4⟩ : ∃ z : World, z = (z3).alloc (.cells #[.int .i64 2, .int .i64 1, .int .i64 3, .int .i64 1] 45) := ⟨_, rfl⟩
      have hb4 := keep_trans hb3 kz4
      try rw [← hz4] at rt
      try rw [← hz4] at ri
      try rw [← hz4] at rs
      try rw [← hz4] at bk
      rw [← hz4] at hb4 ⊢
      rw [hGT] at rt ⊢
      clear hGT hz4
      refine ⟨hb4, ?_⟩
      simp only [Act.put, List.setIfInBounds_toArray, List.set_cons_zero, List.set_cons_succ]
      refine at_two (i := 3) (j := 4) (m1 := 79) (m2 := 87) ha1reg (by decide) rfl rfl ?_ ?_
      · refine p_makeXH (d := some 7) (n := 16) rfl (wanted_free rfl) rfl rfl rfl rfl (by decide) ?_
        intro y5 oy5 kz5
        try replace rt := rt.below kz5
        try replace ri := ri.below kz5
        try replace rs := rs.below kz5
        try replace bk := bk.below kz5
        have ri := oy5.row
        have ti := oy5.tidy
        obtain ⟨GI, hGI⟩ : ∃ q : Nat, (z4).heap.size = q := ⟨_, rfl⟩
        have hb5 := keep_trans hb4 kz5
        rw [hGI] at ri ti ⊢
        clear hGI oy5
        refine ⟨hb5, ?_⟩
        simp only [Act.put, List.setIfInBounds_toArray, List.set_cons_zero, List.set_cons_succ]
        refine at_one (i := 4) (m' := 95) ha1reg (by decide) rfl ?_
        refine p_makeXH (d := some 8) (n := 32) rfl (wanted_free rfl) rfl rfl rfl rfl (by decide) ?_
        intro y6 oy6 kz6
        try replace rt := rt.below kz6
        try replace ri := ri.below kz6
        try replace rs := rs.below kz6
        try replace bk := bk.below kz6
        have rs := oy6.row
        have ts := oy6.tidy
        obtain ⟨GS, hGS⟩ : ∃ q : Nat, (y5).heap.size = q := ⟨_, rfl⟩
        have hb6 := keep_trans hb5 kz6
        rw [hGS] at rs ts ⊢
        clear hGS oy6
        refine ⟨hb6, ?_⟩
        simp only [Act.put, List.setIfInBounds_toArray, List.set_cons_zero, List.set_cons_succ]
        refine at_takeD (i := 5) (m' := 127) (d := some 9) (v := .agg #[.slice (some ⟨GT, 0, none⟩) 2 2, .slice (some ⟨GI, 0, none⟩) 16 16, .slice (some ⟨GS, 0, none⟩) 32 32]) ha1reg rfl (by decide) rfl rfl (y_buildKyH (wanted_free rfl) rfl rfl rfl rfl) hb6 ?_
        simp only [Act.put, List.setIfInBounds_toArray, List.set_cons_zero, List.set_cons_succ]
        refine at_one (i := 7) (m' := 255) ha1reg (by decide) rfl ?_
        refine p_rowA (cells := #[.slice (some ⟨GT, 0, none⟩) 2 2, .slice (some ⟨GI, 0, none⟩) 16 16, .slice (some ⟨GS, 0, none⟩) 32 32]) rfl rfl rfl rfl rfl rfl bk.here (by kernel_rfl) rfl (by simp [Value.oneCell']) ?_
        have hb8 := below_setRow (vs := #[.slice (some ⟨GT, 0, none⟩) 2 2, .slice (some ⟨GI, 0, none⟩) 16 16, .slice (some ⟨GS, 0, none⟩) 32 32]) hb6 hGB0
        have hBk : But GB y6 (World.setRow y6 GB #[.slice (some ⟨GT, 0, none⟩) 2 2, .slice (some ⟨GI, 0, none⟩) 16 16, .slice (some ⟨GS, 0, none⟩) 32 32]) := (But.refl _ _).setRow _
        refine ⟨hb8, ?_⟩
        refine at_done ha1reg (by decide) ?_
        refine hK1 _ _ ?_
        have nt := trs_ne rt bk
        have ni := row_neK ri bk (by decide)
        have ns := row_neK rs bk (by decide)
        exact awake_tailH _ w (hT.below (hb8)) GB _ _ _ _ _ bk.rowH (trs_but rt hBk nt) (row_butH ri (fun q _ hq => ni q hq) hBk) ti (row_butH rs (fun q _ hq => ns q hq) hBk) ts hb8
      · refine p_makeXH (d := some 8) (n := 32) rfl (wanted_free rfl) rfl rfl rfl rfl (by decide) ?_
        intro y5 oy5 kz5
        try replace rt := rt.below kz5
        try replace ri := ri.below kz5
        try replace rs := rs.below kz5
        try replace bk := bk.below kz5
        have rs := oy5.row
        have ts := oy5.tidy
        obtain ⟨GS, hGS⟩ : ∃ q : Nat, (z4).heap.size = q := ⟨_, rfl⟩
        have hb5 := keep_trans hb4 kz5
        rw [hGS] at rs ts ⊢
        clear hGS oy5
        refine ⟨hb5, ?_⟩
        simp only [Act.put, List.setIfInBounds_toArray, List.set_cons_zero, List.set_cons_succ]
        refine at_one (i := 3) (m' := 95) ha1reg (by decide) rfl ?_
        refine p_makeXH (d := some 7) (n := 16) rfl (wanted_free rfl) rfl rfl rfl rfl (by decide) ?_
        intro y6 oy6 kz6
        try replace rt := rt.below kz6
        try replace ri := ri.below kz6
        try replace rs := rs.below kz6
        try replace bk := bk.below kz6
        have ri := oy6.row
        have ti := oy6.tidy
        obtain ⟨GI, hGI⟩ : ∃ q : Nat, (y5).heap.size = q := ⟨_, rfl⟩
        have hb6 := keep_trans hb5 kz6
        rw [hGI] at ri ti ⊢
        clear hGI oy6
        refine ⟨hb6, ?_⟩
        simp only [Act.put, List.setIfInBounds_toArray, List.set_cons_zero, List.set_cons_succ]
        refine at_takeD (i := 5) (m' := 127) (d := some 9) (v := .agg #[.slice (some ⟨GT, 0, none⟩) 2 2, .slice (some ⟨GI, 0, none⟩) 16 16, .slice (some ⟨GS, 0, none⟩) 32 32]) ha1reg rfl (by decide) rfl rfl (y_buildKyH (wanted_free rfl) rfl rfl rfl rfl) hb6 ?_
        simp only [Act.put, List.setIfInBounds_toArray, List.set_cons_zero, List.set_cons_succ]
        refine at_one (i := 7) (m' := 255) ha1reg (by decide) rfl ?_
        refine p_rowA (cells := #[.slice (some ⟨GT, 0, none⟩) 2 2, .slice (some ⟨GI, 0, none⟩) 16 16, .slice (some ⟨GS, 0, none⟩) 32 32]) rfl rfl rfl rfl rfl rfl bk.here (by kernel_rfl) rfl (by simp [Value.oneCell']) ?_
        have hb8 := below_setRow (vs := #[.slice (some ⟨GT, 0, none⟩) 2 2, .slice (some ⟨GI, 0, none⟩) 16 16, .slice (some ⟨GS, 0, none⟩) 32 32]) hb6 hGB0
        have hBk : But GB y6 (World.setRow y6 GB #[.slice (some ⟨GT, 0, none⟩) 2 2, .slice (some ⟨GI, 0, none⟩) 16 16, .slice (some ⟨GS, 0, none⟩) 32 32]) := (But.refl _ _).setRow _
        refine ⟨hb8, ?_⟩
        refine at_done ha1reg (by decide) ?_
        refine hK1 _ _ ?_
        have nt := trs_ne rt bk
        have ni := row_neK ri bk (by decide)
        have ns := row_neK rs bk (by decide)
        exact awake_tailH _ w (hT.below (hb8)) GB _ _ _ _ _ bk.rowH (trs_but rt hBk nt) (row_butH ri (fun q _ hq => ni q hq) hBk) ti (row_butH rs (fun q _ hq => ns q hq) hBk) ts hb8
    · refine p_makeXH (d := some 7) (n := 16) rfl (wanted_free rfl) rfl rfl rfl rfl (by decide) ?_
      intro y4 oy4 kz4
      try replace rt := rt.below kz4
      try replace ri := ri.below kz4
      try replace rs := rs.below kz4
      try replace bk := bk.below kz4
      have ri := oy4.row
      have ti := oy4.tidy
      obtain ⟨GI, hGI⟩ : ∃ q : Nat, (z3).heap.size = q := ⟨_, rfl⟩
      have hb4 := keep_trans hb3 kz4
      rw [hGI] at ri ti ⊢
      clear hGI oy4
      refine ⟨hb4, ?_⟩
      simp only [Act.put, List.setIfInBounds_toArray, List.set_cons_zero, List.set_cons_succ]
      refine at_two (i := 2) (j := 4) (m1 := 79) (m2 := 91) ha1reg (by decide) rfl rfl ?_ ?_
      · refine p_trees2H (d := some 6) rfl (wanted_free rfl) rfl rfl rfl rfl ?_
        have rt := trs_twoH (y4) 2 1 3 1
        have kz5 := keep_alloc (y4) (.cells #[.int .i64 2, .int .i64 1, .int .i64 3, .int .i64 1] 45)
        try replace ri := ri.below kz5
        try replace rs := rs.below kz5
        try replace bk := bk.below kz5
        obtain ⟨GT, hGT⟩ : ∃ q : Nat, (y4).heap.size = q := ⟨_, rfl⟩
        obtain ⟨z5, hz5⟩ : ∃ z : World, z = (y4).alloc (.cells #[.int .i64 2, .int .i64 1, .int .i64 3, .int .i64 1] 45) := ⟨_, rfl⟩
        have hb5 := keep_trans hb4 kz5
        try rw [← hz5] at rt
        try rw [← hz5] at ri
        try rw [← hz5] at rs
        try rw [← hz5] at bk
        rw [← hz5] at hb5 ⊢
        rw [hGT] at rt ⊢
        clear hGT hz5
        refine ⟨hb5, ?_⟩
        simp only [Act.put, List.setIfInBounds_toArray, List.set_cons_zero, List.set_cons_succ]
        refine at_one (i := 4) (m' := 95) ha1reg (by decide) rfl ?_
        refine p_makeXH (d := some 8) (n := 32) rfl (wanted_free rfl) rfl rfl rfl rfl (by decide) ?_
        intro y6 oy6 kz6
        try replace rt := rt.below kz6
        try replace ri := ri.below kz6
        try replace rs := rs.below kz6
        try replace bk := bk.below kz6
        have rs := oy6.row
        have ts := oy6.tidy
        obtain ⟨GS, hGS⟩ : ∃ q : Nat, (z5).heap.size = q := ⟨_, rfl⟩
        have hb6 := keep_trans hb5 kz6
        rw [hGS] at rs ts ⊢
        clear hGS oy6
        refine ⟨hb6, ?_⟩
        simp only [Act.put, List.setIfInBounds_toArray, List.set_cons_zero, List.set_cons_succ]
        refine at_takeD (i := 5) (m' := 127) (d := some 9) (v := .agg #[.slice (some ⟨GT, 0, none⟩) 2 2, .slice (some ⟨GI, 0, none⟩) 16 16, .slice (some ⟨GS, 0, none⟩) 32 32]) ha1reg rfl (by decide) rfl rfl (y_buildKyH (wanted_free rfl) rfl rfl rfl rfl) hb6 ?_
        simp only [Act.put, List.setIfInBounds_toArray, List.set_cons_zero, List.set_cons_succ]
        refine at_one (i := 7) (m' := 255) ha1reg (by decide) rfl ?_
        refine p_rowA (cells := #[.slice (some ⟨GT, 0, none⟩) 2 2, .slice (some ⟨GI, 0, none⟩) 16 16, .slice (some ⟨GS, 0, none⟩) 32 32]) rfl rfl rfl rfl rfl rfl bk.here (by kernel_rfl) rfl (by simp [Value.oneCell']) ?_
        have hb8 := below_setRow (vs := #[.slice (some ⟨GT, 0, none⟩) 2 2, .slice (some ⟨GI, 0, none⟩) 16 16, .slice (some ⟨GS, 0, none⟩) 32 32]) hb6 hGB0
        have hBk : But GB y6 (World.setRow y6 GB #[.slice (some ⟨GT, 0, none⟩) 2 2, .slice (some ⟨GI, 0, none⟩) 16 16, .slice (some ⟨GS, 0, none⟩) 32 32]) := (But.refl _ _).setRow _
        refine ⟨hb8, ?_⟩
        refine at_done ha1reg (by decide) ?_
        refine hK1 _ _ ?_
        have nt := trs_ne rt bk
        have ni := row_neK ri bk (by decide)
        have ns := row_neK rs bk (by decide)
        exact awake_tailH _ w (hT.below (hb8)) GB _ _ _ _ _ bk.rowH (trs_but rt hBk nt) (row_butH ri (fun q _ hq => ni q hq) hBk) ti (row_butH rs (fun q _ hq => ns q hq) hBk) ts hb8
      · refine p_makeXH (d := some 8) (n := 32) rfl (wanted_free rfl) rfl rfl rfl rfl (by decide) ?_
        intro y5 oy5 kz5
        try replace rt := rt.below kz5
        try replace ri := ri.below kz5
        try replace rs := rs.below kz5
        try replace bk := bk.below kz5
        have rs := oy5.row
        have ts := oy5.tidy
        obtain ⟨GS, hGS⟩ : ∃ q : Nat, (y4).heap.size = q := ⟨_, rfl⟩
        have hb5 := keep_trans hb4 kz5
        rw [hGS] at rs ts ⊢
        clear hGS oy5
        refine ⟨hb5, ?_⟩
        simp only [Act.put, List.setIfInBounds_toArray, List.set_cons_zero, List.set_cons_succ]
        refine at_one (i := 2) (m' := 95) ha1reg (by decide) rfl ?_
        refine p_trees2H (d := some 6) rfl (wanted_free rfl) rfl rfl rfl rfl ?_
        have rt := trs_twoH (y5) 2 1 3 1
        have kz6 := keep_alloc (y5) (.cells #[.int .i64 2, .int .i64 1, .int .i64 3, .int .i64 1] 45)
        try replace ri := ri.below kz6
        try replace rs := rs.below kz6
        try replace bk := bk.below kz6
        obtain ⟨GT, hGT⟩ : ∃ q : Nat, (y5).heap.size = q := ⟨_, rfl⟩
        obtain ⟨z6, hz6⟩ : ∃ z : World, z = (y5).alloc (.cells #[.int .i64 2, .int .i64 1, .int .i64 3, .int .i64 1] 45) := ⟨_, rfl⟩
        have hb6 := keep_trans hb5 kz6
        try rw [← hz6] at rt
        try rw [← hz6] at ri
        try rw [← hz6] at rs
        try rw [← hz6] at bk
        rw [← hz6] at hb6 ⊢
        rw [hGT] at rt ⊢
        clear hGT hz6
        refine ⟨hb6, ?_⟩
        simp only [Act.put, List.setIfInBounds_toArray, List.set_cons_zero, List.set_cons_succ]
        refine at_takeD (i := 5) (m' := 127) (d := some 9) (v := .agg #[.slice (some ⟨GT, 0, none⟩) 2 2, .slice (some ⟨GI, 0, none⟩) 16 16, .slice (some ⟨GS, 0, none⟩) 32 32]) ha1reg rfl (by decide) rfl rfl (y_buildKyH (wanted_free rfl) rfl rfl rfl rfl) hb6 ?_
        simp only [Act.put, List.setIfInBounds_toArray, List.set_cons_zero, List.set_cons_succ]
        refine at_one (i := 7) (m' := 255) ha1reg (by decide) rfl ?_
        refine p_rowA (cells := #[.slice (some ⟨GT, 0, none⟩) 2 2, .slice (some ⟨GI, 0, none⟩) 16 16, .slice (some ⟨GS, 0, none⟩) 32 32]) rfl rfl rfl rfl rfl rfl bk.here (by kernel_rfl) rfl (by simp [Value.oneCell']) ?_
        have hb8 := below_setRow (vs := #[.slice (some ⟨GT, 0, none⟩) 2 2, .slice (some ⟨GI, 0, none⟩) 16 16, .slice (some ⟨GS, 0, none⟩) 32 32]) hb6 hGB0
        have hBk : But GB z6 (World.setRow z6 GB #[.slice (some ⟨GT, 0, none⟩) 2 2, .slice (some ⟨GI, 0, none⟩) 16 16, .slice (some ⟨GS, 0, none⟩) 32 32]) := (But.refl _ _).setRow _
        refine ⟨hb8, ?_⟩
        refine at_done ha1reg (by decide) ?_
        refine hK1 _ _ ?_
        have nt := trs_ne rt bk
        have ni := row_neK ri bk (by decide)
        have ns := row_neK rs bk (by decide)
        exact awake_tailH _ w (hT.below (hb8)) GB _ _ _ _ _ bk.rowH (trs_but rt hBk nt) (row_butH ri (fun q _ hq => ni q hq) hBk) ti (row_butH rs (fun q _ hq => ns q hq) hBk) ts hb8
    · refine p_makeXH (d := some 8) (n := 32) rfl (wanted_free rfl) rfl rfl rfl rfl (by decide) ?_
      intro y4 oy4 kz4
      try replace rt := rt.below kz4
      try replace ri := ri.below kz4
      try replace rs := rs.below kz4
      try replace bk := bk.below kz4
      have rs := oy4.row
      have ts := oy4.tidy
      obtain ⟨GS, hGS⟩ : ∃ q : Nat, (z3).heap.size = q := ⟨_, rfl⟩
      have hb4 := keep_trans hb3 kz4
      rw [hGS] at rs ts ⊢
      clear hGS oy4
      refine ⟨hb4, ?_⟩
      simp only [Act.put, List.setIfInBounds_toArray, List.set_cons_zero, List.set_cons_succ]
      refine at_two (i := 2) (j := 3) (m1 := 87) (m2 := 91) ha1reg (by decide) rfl rfl ?_ ?_
      · refine p_trees2H (d := some 6) rfl (wanted_free rfl) rfl rfl rfl rfl ?_
        have rt := trs_twoH (y4) 2 1 3 1
        have kz5 := keep_alloc (y4) (.cells #[.int .i64 2, .int .i64 1, .int .i64 3, .int .i64 1] 45)
        try replace ri := ri.below kz5
        try replace rs := rs.below kz5
        try replace bk := bk.below kz5
        obtain ⟨GT, hGT⟩ : ∃ q : Nat, (y4).heap.size = q := ⟨_, rfl⟩
        obtain ⟨z5, hz5⟩ : ∃ z : World, z = (y4).alloc (.cells #[.int .i64 2, .int .i64 1, .int .i64 3, .int .i64 1] 45) := ⟨_, rfl⟩
        have hb5 := keep_trans hb4 kz5
        try rw [← hz5] at rt
        try rw [← hz5] at ri
        try rw [← hz5] at rs
        try rw [← hz5] at bk
        rw [← hz5] at hb5 ⊢
        rw [hGT] at rt ⊢
        clear hGT hz5
        refine ⟨hb5, ?_⟩
        simp only [Act.put, List.setIfInBounds_toArray, List.set_cons_zero, List.set_cons_succ]
        refine at_one (i := 3) (m' := 95) ha1reg (by decide) rfl ?_
        refine p_makeXH (d := some 7) (n := 16) rfl (wanted_free rfl) rfl rfl rfl rfl (by decide) ?_
        intro y6 oy6 kz6
        try replace rt := rt.below kz6
        try replace ri := ri.below kz6
        try replace rs := rs.below kz6
        try replace bk := bk.below kz6
        have ri := oy6.row
        have ti := oy6.tidy
        obtain ⟨GI, hGI⟩ : ∃ q : Nat, (z5).heap.size = q := ⟨_, rfl⟩
        have hb6 := keep_trans hb5 kz6
        rw [hGI] at ri ti ⊢
        clear hGI oy6
        refine ⟨hb6, ?_⟩
        simp only [Act.put, List.setIfInBounds_toArray, List.set_cons_zero, List.set_cons_succ]
        refine at_takeD (i := 5) (m' := 127) (d := some 9) (v := .agg #[.slice (some ⟨GT, 0, none⟩) 2 2, .slice (some ⟨GI, 0, none⟩) 16 16, .slice (some ⟨GS, 0, none⟩) 32 32]) ha1reg rfl (by decide) rfl rfl (y_buildKyH (wanted_free rfl) rfl rfl rfl rfl) hb6 ?_
        simp only [Act.put, List.setIfInBounds_toArray, List.set_cons_zero, List.set_cons_succ]
        refine at_one (i := 7) (m' := 255) ha1reg (by decide) rfl ?_
        refine p_rowA (cells := #[.slice (some ⟨GT, 0, none⟩) 2 2, .slice (some ⟨GI, 0, none⟩) 16 16, .slice (some ⟨GS, 0, none⟩) 32 32]) rfl rfl rfl rfl rfl rfl bk.here (by kernel_rfl) rfl (by simp [Value.oneCell']) ?_
        have hb8 := below_setRow (vs := #[.slice (some ⟨GT, 0, none⟩) 2 2, .slice (some ⟨GI, 0, none⟩) 16 16, .slice (some ⟨GS, 0, none⟩) 32 32]) hb6 hGB0
        have hBk : But GB y6 (World.setRow y6 GB #[.slice (some ⟨GT, 0, none⟩) 2 2, .slice (some ⟨GI, 0, none⟩) 16 16, .slice (some ⟨GS, 0, none⟩) 32 32]) := (But.refl _ _).setRow _
        refine ⟨hb8, ?_⟩
        refine at_done ha1reg (by decide) ?_
        refine hK1 _ _ ?_
        have nt := trs_ne rt bk
        have ni := row_neK ri bk (by decide)
        have ns := row_neK rs bk (by decide)
        exact awake_tailH _ w (hT.below (hb8)) GB _ _ _ _ _ bk.rowH (trs_but rt hBk nt) (row_butH ri (fun q _ hq => ni q hq) hBk) ti (row_butH rs (fun q _ hq => ns q hq) hBk) ts hb8
      · refine p_makeXH (d := some 7) (n := 16) rfl (wanted_free rfl) rfl rfl rfl rfl (by decide) ?_
        intro y5 oy5 kz5
        try replace rt := rt.below kz5
        try replace ri := ri.below kz5
        try replace rs := rs.below kz5
        try replace bk := bk.below kz5
        have ri := oy5.row
        have ti := oy5.tidy
        obtain ⟨GI, hGI⟩ : ∃ q : Nat, (y4).heap.size = q := ⟨_, rfl⟩
        have hb5 := keep_trans hb4 kz5
        rw [hGI] at ri ti ⊢
        clear hGI oy5
        refine ⟨hb5, ?_⟩
        simp only [Act.put, List.setIfInBounds_toArray, List.set_cons_zero, List.set_cons_succ]
        refine at_one (i := 2) (m' := 95) ha1reg (by decide) rfl ?_
        refine p_trees2H (d := some 6) rfl (wanted_free rfl) rfl rfl rfl rfl ?_
        have rt := trs_twoH (y5) 2 1 3 1
        have kz6 := keep_alloc (y5) (.cells #[.int .i64 2, .int .i64 1, .int .i64 3, .int .i64 1] 45)
        try replace ri := ri.below kz6
        try replace rs := rs.below kz6
        try replace bk := bk.below kz6
        obtain ⟨GT, hGT⟩ : ∃ q : Nat, (y5).heap.size = q := ⟨_, rfl⟩
        obtain ⟨z6, hz6⟩ : ∃ z : World, z = (y5).alloc (.cells #[.int .i64 2, .int .i64 1, .int .i64 3, .int .i64 1] 45) := ⟨_, rfl⟩
        have hb6 := keep_trans hb5 kz6
        try rw [← hz6] at rt
        try rw [← hz6] at ri
        try rw [← hz6] at rs
        try rw [← hz6] at bk
        rw [← hz6] at hb6 ⊢
        rw [hGT] at rt ⊢
        clear hGT hz6
        refine ⟨hb6, ?_⟩
        simp only [Act.put, List.setIfInBounds_toArray, List.set_cons_zero, List.set_cons_succ]
        refine at_takeD (i := 5) (m' := 127) (d := some 9) (v := .agg #[.slice (some ⟨GT, 0, none⟩) 2 2, .slice (some ⟨GI, 0, none⟩) 16 16, .slice (some ⟨GS, 0, none⟩) 32 32]) ha1reg rfl (by decide) rfl rfl (y_buildKyH (wanted_free rfl) rfl rfl rfl rfl) hb6 ?_
        simp only [Act.put, List.setIfInBounds_toArray, List.set_cons_zero, List.set_cons_succ]
        refine at_one (i := 7) (m' := 255) ha1reg (by decide) rfl ?_
        refine p_rowA (cells := #[.slice (some ⟨GT, 0, none⟩) 2 2, .slice (some ⟨GI, 0, none⟩) 16 16, .slice (some ⟨GS, 0, none⟩) 32 32]) rfl rfl rfl rfl rfl rfl bk.here (by kernel_rfl) rfl (by simp [Value.oneCell']) ?_
        have hb8 := below_setRow (vs := #[.slice (some ⟨GT, 0, none⟩) 2 2, .slice (some ⟨GI, 0, none⟩) 16 16, .slice (some ⟨GS, 0, none⟩) 32 32]) hb6 hGB0
        have hBk : But GB z6 (World.setRow z6 GB #[.slice (some ⟨GT, 0, none⟩) 2 2, .slice (some ⟨GI, 0, none⟩) 16 16, .slice (some ⟨GS, 0, none⟩) 32 32]) := (But.refl _ _).setRow _
        refine ⟨hb8, ?_⟩
        refine at_done ha1reg (by decide) ?_
        refine hK1 _ _ ?_
        have nt := trs_ne rt bk
        have ni := row_neK ri bk (by decide)
        have ns := row_neK rs bk (by decide)
        exact awake_tailH _ w (hT.below (hb8)) GB _ _ _ _ _ bk.rowH (trs_but rt hBk nt) (row_butH ri (fun q _ hq => ni q hq) hBk) ti (row_butH rs (fun q _ hq => ns q hq) hBk) ts hb8
end Go.Proofs.YtogiballdmgcpaaGreatDoor
