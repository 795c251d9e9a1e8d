/- The tag. -/
import Derived.Test.YtjeofkemfpdieaaQcF
import Derived.Test.YtjeofkemfpdieaaJTh
import Derived.Test.YtjeofkemfpdieaaHSl
import Derived.Test.YtjeofkemfpdieaaBase
import Derived.Test.YtjeofkemfpdieaaACol
import Derived.Test.YtjeofkemfpdieaaQcB
namespace Go.Proofs.Ytjeofkemfpdieaa
open Go.RowKit
set_option linter.unusedVariables false
set_option linter.unusedSimpArgs false

theorem zeroS4 : ∀ w, (zeroValue 47).run Try.prog w = .ok (.agg #[.int .u64 0, .int .u64 0, .int .u64 0, .int .u64 0]) w := fun w => by kernel_rfl
theorem pol_z16 : polB z16 = 0 := by
  have h := pP_zero
  unfold pP at h
  rw [show bbL 0 0 = z16 by decide] at h
  exact h
set_option maxHeartbeats 2000000 in
set_option maxRecDepth 100000 in
theorem bitC_any (a : Option Addr) (n c : Nat) (w : World) (hn : n ≤ 1000000) : Calls Try.prog 45 #[.slice a n c] w fun e w' => e = .returned (.int .u64 ((8 * n : Nat) : Int)) ∧ w' = w := by
  obtain ⟨M, hM⟩ : ∃ x : Nat, x = 8 * n := ⟨_, rfl⟩
  have u_n : IntKind.u64.wrap (n : Int) = (n : Int) := by rw [IntKind.wrap_u64]; omega
  have e_n : 8 * (n : Int) = (M : Int) := by omega
  have u_M : IntKind.u64.wrap (M : Int) = (M : Int) := by rw [IntKind.wrap_u64]; omega
  rw [← hM]
  clear hM hn
  go_enter Try.func45, Try.ntmps45
  go_wp2
  go_ret
  exact ⟨rfl, rfl⟩
theorem gh_three (H P Q R : List Nat) (hR : R.length = 16) {n m : Nat} (hP : P.length = 16 * n) (hQ : Q.length = 16 * m) : ghL H (P ++ Q ++ R) = ghN H (ghN H (ghN H z16 P n) Q m) R 1 := by
  unfold ghL
  rw [List.length_append, List.length_append, hP, hQ, hR, show (16 * n + 16 * m + 16) / 16 = (n + m) + 1 by omega, ghN_app (P := P ++ Q) (Q := R) (n := n + m) (by rw [List.length_append]; omega), ghN_app hP]
theorem gh_one {H x : List Nat} (hx : B16 x) (f l : Nat) : polB (ghN H x (bbL f l) 1) = mulG (polB x ^^^ pP f l) (polB H) := by
  have hb := bbL_b f l
  have := pol_step (H := H) (x := x) (L := bbL f l) (k := 0) hx hb.2 (by rw [hb.1]; decide)
  rw [this]
  have e : blkOf (bbL f l) 0 = bbL f l := by unfold blkOf; rw [Nat.mul_zero, List.drop_zero, List.take_of_length_le (by rw [hb.1]; decide)]
  rw [e]
  rfl
section
variable {P : Program} {ops : Array Oper} {Q : Exit → Act → World → Prop} {K : Act → World → Prop}
theorem p_call3Q {i : Nat} {o : Oper} {a : Act} {w : World} {f : FuncId} {x y z : Operand} {ts : Array TypeId} {u v t : Value} {d : Option Nat} (hi : ops[i]? = some o) (hg : o.guard = none) (ho : o.op = .call { callee := .value (.func f), args := #[x, y, z], argTypes := ts }) (hx : a.eval x = u) (hy : a.eval y = v) (hz : a.eval z = t) (hd : o.dst = d)
    (hf : ∀ (args : Array Value) (w : World), (callFunc f args).run P w = .ok (.enter f args) w) (h : Calls P f #[u, v, t] w fun e w' => ∃ v, e = .returned v ∧ K (a.put d v) w') : wpOp P ops Q i K a w := p_callD hi hg ho (by simp only [List.map_toArray, List.map_cons, List.map_nil, hx, hy, hz]) hd hf h
end
def tglt : List Lt := [(0, some 27, [0]), (0, some 28, [1]), (3, some 29, [27, 28]), (0, some 30, [9]), (8, some 31, [30]), (20, some 32, [31]), (36, some 33, [29, 32]), (127, some 8, [33])]
theorem tgreg : Reg (opsA (cLA (cRA (cRA (cRA (cRA (cRA (Try.f29.body.getD .skip)))))))) tglt := ⟨by kernel_rfl, by kernel_rfl⟩
/-- the sum in the tag, from where it begins -/
theorem one4Q (a b c d : Int) : (#[.int .u64 a, .int .u64 b, .int .u64 c, .int .u64 d] : Array Value).all (·.oneCell') = true := by simp [Value.oneCell']
set_option maxHeartbeats 4000000 in
set_option maxRecDepth 100000 in
theorem tag_any (T : List Nat → List Nat) (hT : ∀ s, B16 s → B16 (T s)) (nonce bs b : List Nat) (ka : Option Addr) (kn kc : Nat) (nv sv bv : Value) (w : World) (hC : Cip T (.slice ka kn kc) w) (rn : Row .u8 256 w nv nonce) (h12 : nonce.length = 12) (rs : Row .u8 256 w sv bs) (hs : bs.length ≤ 100000) (rb : Row .u8 256 w bv b) (hb : b.length ≤ 100000) :
    Calls Try.prog 29 #[.slice ka kn kc, nv, sv, bv] w fun e w' => ∃ v, e = .returned v ∧ Own 5 .u8 256 w' w.heap.size v (tagL T nonce bs b) ∧ Below w.heap.size w w' := by
  have hnu := rn.under
  have hH := hT _ z16_b
  have hN1 := hT _ (cntB_b h12 hnu 1)
  obtain ⟨H, hHe⟩ : ∃ H, T z16 = H := ⟨_, rfl⟩
  obtain ⟨T1, hT1⟩ : ∃ X, T (cntB nonce 1) = X := ⟨_, rfl⟩
  rw [hHe] at hH
  rw [hT1] at hN1
  obtain ⟨X, hX⟩ : ∃ x : Nat, bs.length = x := ⟨_, rfl⟩
  obtain ⟨Y, hY⟩ : ∃ x : Nat, b.length = x := ⟨_, rfl⟩
  have hb0 := fun (y : World) zv (hy : Below w.heap.size w y) (r : Row .u8 256 y zv z16) => hC y z16 zv hy r z16_b
  rw [hHe] at hb0
  have hn1 := fun (y : World) (hy : Below w.heap.size w y) => numb_anyQ T nonce _ nv 1 w y hC hy (rn.below hy) h12 (by decide)
  rw [hT1] at hn1
  have hrd := fun (y : World) v (r : Row .u8 256 y v H) => readQ_any H v y r hH
  have hG1b : B16 (ghN H z16 (fil0 bs) ((X + 15) / 16)) := ghN_b z16_b _
  have hf1 := fun (y : World) (B : Nat) (hy : Below w.heap.size w y) (hS : SmB y B (polB H) (polB z16)) => filled_any bs sv B H z16 z16_b y (rs.below hy) hs hS
  rw [hX] at hf1
  have hg3 := gh_three H (fil0 bs) (fil0 b) (bbL (8 * X) (8 * Y)) (bbL_b _ _).1 (n := (X + 15) / 16) (m := (Y + 15) / 16) (by rw [fil0_len, hX]) (by rw [fil0_len, hY])
  obtain ⟨G1, hG1⟩ : ∃ G, ghN H z16 (fil0 bs) ((X + 15) / 16) = G := ⟨_, rfl⟩
  rw [hG1] at hG1b hf1 hg3
  have hG2b : B16 (ghN H G1 (fil0 b) ((Y + 15) / 16)) := ghN_b hG1b _
  have hf2 := fun (y : World) (B : Nat) (hy : Below w.heap.size w y) (hS : SmB y B (polB H) (polB G1)) => filled_any b bv B H G1 hG1b y (rb.below hy) hb hS
  rw [hY] at hf2
  obtain ⟨G2, hG2⟩ : ∃ G, ghN H G1 (fil0 b) ((Y + 15) / 16) = G := ⟨_, rfl⟩
  rw [hG2] at hG2b hf2 hg3
  have ho := gh_one (H := H) hG2b (8 * X) (8 * Y)
  have hG3b : B16 (ghN H G2 (bbL (8 * X) (8 * Y)) 1) := ghN_b hG2b _
  obtain ⟨G3, hG3⟩ : ∃ G, ghN H G2 (bbL (8 * X) (8 * Y)) 1 = G := ⟨_, rfl⟩
  rw [hG3] at ho hG3b hg3
  have htg : tagL T nonce bs b = xr2 T1 G3 := by
    unfold tagL
    rw [hHe, hT1, hX, hY]
    show xr2 (ghL H (fil0 bs ++ fil0 b ++ bbL (8 * X) (8 * Y))) T1 = _
    rw [hg3, xr2_comm]
  rw [htg]
  have had := fun (y : World) (B : Nat) (hS : SmB y B (polB H) (polB G2)) => add_any B (polB H) (polB G2) (pP (8 * X) (8 * Y)) (.agg #[.int .u64 ((8 * X : Nat) : Int), .int .u64 ((8 * Y : Nat) : Int)]) y hS ⟨_, _, by omega, by omega, rfl, rfl⟩
  rw [← ho] at had
  have hby := fun (y : World) v (hv : Bk v (polB G3)) => bytes_any v _ y hv
  rw [blk_pol hG3b] at hby
  have hxr := fun (y : World) v u (r1 : Row .u8 256 y v T1) (r2 : Row .u8 256 y u G3) => xr_any v u T1 G3 y r1 r2 (by rw [hN1.1]; decide)
  rw [xrL_16 hN1.1 hG3b.1] at hxr
  rw [pol_z16] at hf1
  generalize polB H = h at *
  generalize polB G1 = g1 at *
  generalize polB G2 = g2 at *
  generalize polB G3 = g3 at *
  generalize xr2 T1 G3 = TG at *
  obtain ⟨sa, sc, rfl, _⟩ := rs.opens hX
  obtain ⟨ba, bc, rfl, _⟩ := rb.opens hY
  obtain ⟨na, nc, rfl, _⟩ := rn.opens h12
  have hc1 := fun y => bitC_any sa X sc y (by omega)
  have hc2 := fun y => bitC_any ba Y bc y (by omega)
  obtain ⟨X8, hX8⟩ : ∃ x : Nat, 8 * X = x := ⟨_, rfl⟩
  obtain ⟨Y8, hY8⟩ : ∃ x : Nat, 8 * Y = x := ⟨_, rfl⟩
  rw [hX8] at hc1 had
  rw [hY8] at hc2 had
  obtain ⟨i8, hi8, hz0, hz1, hz2⟩ := info_byte
  have hz := zeroS4
  have hmf : ∀ (fn : Fn) (first cap : Array Value) (w : World), (Instr.makeFunc fn first cap).run Try.prog w = .ok (.func fn first cap) w := fun _ _ _ _ => rfl
  clear htg hg3 ho hG1 hG2 hG3 hX8 hY8 hX hY hs hb hHe hT1 hnu h12 hC hT rn rs rb hH hG1b hG2b hG3b hN1
  go_enter Try.func29, Try.ntmps29
  go_wp2_with (first
    | (at_make; refine wpList_make_full _ rfl _ _ 22 rfl w.heap.size 5 i8 (.int .u8 0) 1 Try.underlying22 hi8 hz0 hz1 _ _ _ _ 16 rfl rfl rfl rfl (by rw [hz2]; decide) (by unfold maxLen; decide) (Nat.le_refl _) ?_; intro w1 hown hgrow; rw [made_u8] at hown; have hb1 := (Below.refl w.heap.size w).grown hgrow (Nat.le_refl _) (fun k h => by cases h); have oz : Own 5 .u8 256 w1 w.heap.size (.slice (some ⟨w.heap.size, 0, none⟩) 16 16) z16 := ⟨hown, z16_b.2⟩; clear hown hgrow)
    | (go_at_call 44; refine (hb0 _ _ hb1 oz.row).mono ?_; rintro e w2 ⟨v2, rfl, r2, n2, hb2⟩; have k2 := keep_trans hb1 hb2)
    | (go_at_call 20; refine (hrd _ _ r2).mono ?_; rintro e w3 ⟨v3, rfl, ⟨hf, hl, hf64, hl64, rfl, hfl⟩, hb3⟩; have k3 := keep_trans k2 hb3)
    | (go_at_call_of 24 (Value.slice sa X sc); have S0 : SmB (w3.alloc (.cells #[.int .u64 (hf : Int), .int .u64 (hl : Int), .int .u64 0, .int .u64 0] 47)) w3.heap.size h 0 := ⟨hf, hl, 0, 0, hf64, hl64, by decide, by decide, heap_alloc_new _ _, hfl, pP_zero⟩; refine (hf1 _ _ (keep_trans k3 (keep_alloc _ _)) S0).mono ?_; rintro e w4 ⟨⟨u4, rfl⟩, s4, t4⟩; have k4 := (keep_trans k3 (keep_alloc _ _)).trans (t4.below k3.size (keep_trans k3 (keep_alloc _ _)).size); clear S0 hf1)
    | (go_at_call_of 24 (Value.slice ba Y bc); refine (hf2 _ _ k4 s4).mono ?_; rintro e w5 ⟨⟨u5, rfl⟩, s5, t5⟩; have k5 := k4.trans (t5.below k3.size k4.size); clear hf2)
    | (go_at_call_of 45 (Value.slice sa X sc); refine (hc1 _).mono ?_; rintro e y1 ⟨rfl, hy⟩; obtain rfl := hy.symm; clear hc1)
    | (go_at_call_of 45 (Value.slice ba Y bc); refine (hc2 _).mono ?_; rintro e y2 ⟨rfl, hy⟩; obtain rfl := hy.symm; clear hc2)
    | (go_at_call 25; refine (had _ _ s5).mono ?_; rintro e w6 ⟨⟨u6, rfl⟩, s6, t6⟩; have k6 := k5.trans (t6.below k3.size k5.size))
    | fail)
  obtain ⟨q1, q2, g, m, _, _, hg64, hm64, hB6, _, hgm⟩ := s6
  have lB := (Array.getElem?_eq_some_iff.1 hB6).1
  have hbd : Below w6.heap.size w6 w6.drew := (Below.refl _ _).drew
  have hSf : ∀ y, Below w6.heap.size w6 y → y.rangeAt w3.heap.size 2 [.int .u64 (g : Int), .int .u64 (m : Int)] := fun y hy => rangeQ ((hy.block _ lB).trans hB6) 2 _ fun j x hj => by
    rcases two_at j x hj with ⟨rfl, rfl⟩ | ⟨rfl, rfl⟩ <;> rfl
  have hS0 := hSf _ hbd
  refine at_begin (ops := (opsA (cLA (cRA (cRA (cRA (cRA (cRA (Try.f29.body.getD .skip))))))))) (n := 8) (fun y => y.rangeAt w3.heap.size 2 [.int .u64 (g : Int), .int .u64 (m : Int)]) (by kernel_rfl) (by kernel_rfl) ?_
  refine at_takeD (i := 0) (m' := 1) (d := some 27) (v := .slice ka kn kc) tgreg rfl (by decide) rfl rfl (y_move rfl rfl rfl) hS0 ?_
  simp only [Act.put, List.setIfInBounds_toArray, List.set_cons_zero, List.set_cons_succ]
  refine at_takeD (i := 1) (m' := 3) (d := some 28) (v := .slice na 12 nc) tgreg rfl (by decide) rfl rfl (y_move rfl rfl rfl) hS0 ?_
  simp only [Act.put, List.setIfInBounds_toArray, List.set_cons_zero, List.set_cons_succ]
  refine at_takeD (i := 3) (m' := 11) (d := some 30) (v := .pointer (some ⟨w3.heap.size, 2, none⟩)) tgreg rfl (by decide) rfl rfl (y_fieldQ rfl rfl rfl (fS1 _)) hS0 ?_
  simp only [Act.put, List.setIfInBounds_toArray, List.set_cons_zero, List.set_cons_succ]
  refine at_takeD (i := 4) (m' := 27) (d := some 31) (v := .agg #[.int .u64 (g : Int), .int .u64 (m : Int)]) tgreg rfl (by decide) rfl rfl (y_load_row (cs := [.int .u64 (g : Int), .int .u64 (m : Int)]) rfl rfl rfl Try.underlying41 rfl (by kernel_rfl) (fun _ h => h)) hS0 ?_
  simp only [Act.put, List.setIfInBounds_toArray, List.set_cons_zero, List.set_cons_succ]
  refine at_one (i := 2) (m' := 31) tgreg (by decide) rfl ?_
  refine p_call3Q (u := .slice ka kn kc) (v := .slice na 12 nc) (t := .int .u32 1) (d := some 29) rfl rfl rfl rfl rfl rfl rfl Try.call46 ((hn1 _ (keep_trans k6 hbd)).mono ?_)
  rintro e z1 ⟨v7, rfl, r7, n7, hb7⟩
  have hz1' := keep_trans hbd hb7
  refine ⟨_, rfl, hSf _ hz1', ?_⟩
  simp only [Act.put, List.setIfInBounds_toArray, List.set_cons_zero, List.set_cons_succ]
  refine at_one (i := 5) (m' := 63) tgreg (by decide) rfl ?_
  refine p_call1 (u := .agg #[.int .u64 (g : Int), .int .u64 (m : Int)]) (d := some 32) rfl rfl rfl rfl rfl Try.call22 ((hby _ _ ⟨g, m, hg64, hm64, rfl, hgm⟩).mono ?_)
  rintro e z2 ⟨v8, rfl, o8, hb8⟩
  have hz2' := keep_trans hz1' hb8
  refine ⟨_, rfl, hSf _ hz2', ?_⟩
  simp only [Act.put, List.setIfInBounds_toArray, List.set_cons_zero, List.set_cons_succ]
  refine at_one (i := 6) (m' := 127) tgreg (by decide) rfl ?_
  refine p_call2 (u := v7) (v := v8) (d := some 33) rfl rfl rfl rfl rfl rfl Try.call42 ((hxr _ _ _ (r7.below hb8) o8.row).mono ?_)
  rintro e z3 ⟨v9, rfl, o9, hb9⟩
  have hz3' := keep_trans hz2' hb9
  refine ⟨_, rfl, hSf _ hz3', ?_⟩
  simp only [Act.put, List.setIfInBounds_toArray, List.set_cons_zero, List.set_cons_succ]
  refine at_takeD (i := 7) (m' := 255) (d := some 8) (v := v9) tgreg rfl (by decide) rfl rfl (y_assignA rfl rfl rfl) (hSf _ hz3') ?_
  simp only [Act.put, List.setIfInBounds_toArray, List.set_cons_zero, List.set_cons_succ]
  refine at_done tgreg (by decide) ?_
  go_wp2
  go_ret
  exact ⟨_, rfl, o9.mono (Nat.le_trans k6.size hz2'.size), keep_trans k6 hz3'⟩
end Go.Proofs.Ytjeofkemfpdieaa

/- A text in the stream: the whole. -/
namespace Go.Proofs.Ytjeofkemfpdieaa
open Go.RowKit Go.Shelf
set_option linter.unusedVariables false
set_option linter.unusedSimpArgs false
attribute [local go_sem] Oper.semAt_some

theorem xst_all {T : List Nat → List Nat} {nonce b : List Nat} {k : Nat} (hT : ∀ s, B16 s → B16 (T s)) (h12 : nonce.length = 12) (hu : Under 256 nonce) (h1 : b.length ≤ 16 * k + 16) (h2 : k = 0 ∨ 16 * k < b.length) : xorT b (strL T nonce (k + 1)) = xst T nonce b := by
  unfold xst
  by_cases h0 : b.length = 0
  · have e : ∀ s : List Nat, xorT b s = [] := fun s => List.eq_nil_of_length_eq_zero (by rw [xorT_len]; omega)
    rw [e, e]
  · rw [show (b.length + 15) / 16 = k + 1 by omega]
theorem str_step {T : List Nat → List Nat} {nonce b : List Nat} {k : Nat} (hT : ∀ s, B16 s → B16 (T s)) (h12 : nonce.length = 12) (hu : Under 256 nonce) (h : 16 * k ≤ b.length) : xorT b (strL T nonce k) ++ xorT (b.drop (16 * k)) (T (cntB nonce (k + 2))) = xorT b (strL T nonce (k + 1)) := by
  have hl := strL_len hT h12 hu k
  show _ = xorT b (strL T nonce k ++ T (cntB nonce (k + 2)))
  rw [xorT_app (by omega), hl]
set_option maxHeartbeats 4000000 in
set_option maxRecDepth 100000 in
theorem masked_any (T : List Nat → List Nat) (hT : ∀ s, B16 s → B16 (T s)) (nonce b : List Nat) (ka : Option Addr) (kn kc : Nat) (nv bv : Value) (w : World) (hC : Cip T (.slice ka kn kc) w) (rn : Row .u8 256 w nv nonce) (h12 : nonce.length = 12) (rb : Row .u8 256 w bv b) (hl : b.length ≤ 100000) :
    Calls Try.prog 27 #[.slice ka kn kc, nv, bv] w fun e w' => ∃ v, e = .returned v ∧ Own 5 .u8 256 w' w.heap.size v (xst T nonce b) ∧ Below w.heap.size w w' := by
  have hnu := rn.under
  obtain ⟨Z, hZ⟩ : ∃ Z, b.length = Z := ⟨_, rfl⟩
  obtain ⟨na, nc, rfl, _⟩ := rn.opens h12
  obtain ⟨ba, bc, rfl, lc1, lc2, _⟩ := rb.opens hZ
  rw [hZ] at hl
  have hgr := fun y => grow_any Z y (by omega)
  have hst := fun y => stream_make ka na kn kc 12 nc y
  have HH := hide (And.intro rn (And.intro rb (And.intro hl (And.intro lc1 lc2))))
  clear rn rb hl lc1 lc2
  refine (callsIn_wide (n := 8)).1 ?_
  refine callsIn_of_wp_marks Try.func27 rfl trivial ?_ rfl
  simp only [Try.ntmps27, List.size_toArray, List.length_cons, List.length_nil, Nat.reduceAdd, Nat.reduceSub, Array.replicate_succ, Array.replicate_zero, List.push_toArray, List.append_toArray, List.nil_append, List.cons_append]
  gi_wp2_with (first
    | (refine ⟨trivial, ?_⟩; gi_at_call 40; refine (callsIn_wide.2 (hgr _)).mono ?_; rintro e w1 ⟨v1, rfl, o1, hb1⟩; obtain ⟨a1, c1, rfl⟩ := own_sliceQ o1)
    | (refine ⟨trivial, ?_⟩; gi_at_call 41; refine (callsIn_wide.2 (hst _)).mono ?_; rintro e w2 ⟨rfl, rfl⟩)
    | fail)
  have hbA : Below w.heap.size w (((w1.alloc (.cells #[.slice a1 0 c1] 22)).alloc (.cells #[.slice ka kn kc] 22)).alloc (.cells #[.slice na 12 nc] 22)) := keep_trans (keep_trans (keep_trans (keep_trans (keep_alloc _ _) hb1) (keep_alloc _ _)) (keep_alloc _ _)) (keep_alloc _ _)
  have hsw : w.heap.size < w1.heap.size := by have := hb1.size; simp at this; omega
  have f0 : MkL w w1.heap.size (.slice ka kn kc) (.slice na 12 nc) (.slice ba Z bc) [] (((w1.alloc (.cells #[.slice a1 0 c1] 22)).alloc (.cells #[.slice ka kn kc] 22)).alloc (.cells #[.slice na 12 nc] 22)) := by
    have e : Boxed w1 w.heap.size 22 (.slice ba Z bc) := (hb1.block _ (by simp)).trans (heap_alloc_new _ _)
    have oo : Own 5 .u8 256 w1 w.heap.size (.slice a1 0 c1) [] := o1.mono (by simp)
    refine ⟨((e.alloc _).alloc _).alloc _, ⟨_, ?_, ((oo.1.alloc _).alloc _).alloc _, oo.2⟩, ?_, ?_, hbA⟩
    · have h1 : Boxed (w1.alloc (.cells #[.slice a1 0 c1] 22)) w1.heap.size 22 (.slice a1 0 c1) := heap_alloc_new _ _
      exact (h1.alloc _).alloc _
    · have h2 : Boxed ((w1.alloc (.cells #[.slice a1 0 c1] 22)).alloc (.cells #[.slice ka kn kc] 22)) (w1.heap.size + 1) 22 (.slice ka kn kc) := heap_alloc2_new _ _ _
      exact h2.alloc _
    · exact heap_alloc3_newQ _ _ _ _
  have szL : (((w1.alloc (.cells #[.slice a1 0 c1] 22)).alloc (.cells #[.slice ka kn kc] 22)).alloc (.cells #[.slice na 12 nc] 22)).heap.size = w1.heap.size + 1 + 1 + 1 := by simp
  generalize ((w1.alloc (.cells #[.slice a1 0 c1] 22)).alloc (.cells #[.slice ka kn kc] 22)).alloc (.cells #[.slice na 12 nc] 22) = WL at *
  generalize hB7 : w1.heap.size = B7 at *
  obtain ⟨N, hN⟩ : ∃ N, N = Z / 16 + 2 := ⟨_, rfl⟩
  have hsq := stream1_own 7 (by omega) (B7 + 1) (B7 + 1 + 1) T nonce (.slice ka kn kc) na nc N (by have := HH.out.2.2.1; omega) w WL hC h12 ka kn kc rfl (fun W => W.cell? ⟨B7 + 1, 0, none⟩ = some (.slice ka kn kc) ∧ W.cell? ⟨B7 + 1 + 1, 0, none⟩ = some (.slice na 12 nc) ∧ Below w.heap.size w W ∧ Row .u8 256 W (.slice na 12 nc) nonce) (fun W h => h)
  have hstep := fun k (h : 16 * k ≤ Z) => str_step (T := T) (nonce := nonce) (b := b) (k := k) hT h12 hnu (by omega)
  have hall := fun k (h1 : Z ≤ 16 * k + 16) (h2 : k = 0 ∨ 16 * k < Z) => xst_all (T := T) (nonce := nonce) (b := b) (k := k) hT h12 hnu (by omega) (by omega)
  have hlen : ∀ k, (xorT b (strL T nonce k)).length = min Z (16 * k) := fun k => by rw [xorT_len, strL_len hT h12 hnu, hZ]
  have e0 : xorT b (strL T nonce 0) = [] := List.eq_nil_of_length_eq_zero (by rw [hlen]; omega)
  rw [← e0] at f0
  clear hgr hst o1 hb1 hbA hC hT e0 hB7 h12
  obtain ⟨XX, hXX⟩ : ∃ XX, xst T nonce b = XX := ⟨_, rfl⟩
  rw [hXX] at hall
  obtain ⟨O, hO⟩ : ∃ O : Nat → List Nat, O = fun k => xorT b (strL T nonce k) := ⟨_, rfl⟩
  have hOk : ∀ k, xorT b (strL T nonce k) = O k := fun k => by rw [hO]
  simp only [hOk] at hstep hall hlen f0
  clear hOk hO
  refine range_stops (n := 8) (p := 15) rfl (enters_of Try.func53 (by kernel_rfl) rfl) hsq
    (fun k v u A C row hs hg hr => row_ownQ hs hg (fun r e => (hr r e).2))
    (fun k W => MkL w B7 (.slice ka kn kc) (.slice na 12 nc) (.slice ba Z bc) (O k) W ∧ (k = 0 ∨ 16 * k < Z) ∧ WL.heap.size ≤ W.heap.size)
    (fun k A C row hs hg hr => ⟨hs.1.own (D := WL.heap.size) (by omega) hg hr, hs.2.1, Nat.le_trans hs.2.2 hg.size⟩)
    (fun k W h => ⟨⟨h.1.bk.cell, h.1.bn.cell, h.1.bel, HH.out.1.below h.1.bel⟩, by have := h.2.1; omega⟩) ⟨f0, .inl rfl, Nat.le_refl _⟩
    (fun W => MkL w B7 (.slice ka kn kc) (.slice na 12 nc) (.slice ba Z bc) XX W ∧ WL.heap.size ≤ W.heap.size)
    (fun u A C row hs hg hr => ⟨hs.1.own (D := WL.heap.size) (by omega) hg hr, Nat.le_trans hs.2 hg.size⟩) 0
    (fun v => { tmps := #[.slice ka kn kc, .slice na 12 nc, .slice ba Z bc, undef, undef, .pointer (some ⟨w.heap.size, 0, none⟩), .slice none 0 0, .pointer (some ⟨B7, 0, none⟩), v, .slice ba Z bc, .int .i64 (Z : Int), .slice a1 0 c1, .slice ka kn kc, .slice na 12 nc, .func (.func 53) #[] #[.pointer (some ⟨B7 + 1, 0, none⟩), .pointer (some ⟨B7 + 1 + 1, 0, none⟩)], v, undef, undef, undef, undef, undef, undef, undef, undef, undef, undef, undef, undef, undef, undef], defers := [] }) ?assign ?body ?stop
  case assign =>
    intro l v W K hK
    gi_wp2
    exact hK
  case body =>
    rintro l k v W ⟨f, hk, hsz⟩ rm
    have hPl := hlen k
    have hP2 := hlen (k + 1)
    have hst := hstep k (by omega)
    have hal := fun h1 => hall k h1 hk
    obtain ⟨P, hP⟩ : ∃ P, P = 16 * k := ⟨_, rfl⟩
    have hPZ : P ≤ Z := by omega
    rw [← hP] at hst
    have hPl' : (O k).length = P := by omega
    have rB := HH.out.2.1.below f.bel
    have hZ6 : Z ≤ 1000000 := by have := HH.out.2.2.1; omega
    generalize T (cntB nonce (k + 2)) = mk at *
    have HF := hide (And.intro f (And.intro hk (And.intro hsz (And.intro rm (And.intro hPl' (And.intro rB (And.intro hst (And.intro hal (And.intro hP2 hP)))))))))
    clear f hk hsz rm hPl hPl' rB hst hal hP2 hP hstep hall hlen f0 hsq
    gi_wp2
    refine mk_reg l _ _ _ _ _ _ _ _ _ _ _ _ _ _ _ _ _ _ _ _ _ _ _ _ _ _ _ _ _ w W B7 Z bc P _ _ v ba (O k) b mk HF.out.1 (by omega) HF.out.2.2.2.2.2.1 hZ HF.out.2.2.2.1 HF.out.2.2.2.2.1 hPZ hZ6 ?_
    intro y16 y18 y19 y20 y22 y23 z fz kz
    rw [HF.out.2.2.2.2.2.2.1] at fz
    have hP2 := HF.out.2.2.2.2.2.2.2.2.1
    have hPk := HF.out.2.2.2.2.2.2.2.2.2
    have cT := fz.bt.cell
    obtain ⟨ov, hov, how⟩ := fz.bo
    obtain ⟨oa, oc, rfl, _⟩ := how.row.opens (N := (O (k + 1)).length) rfl
    have cO := hov.cell
    have kz' : KeepsFrom WL.heap.size W z := by rw [szL]; exact kz
    clear kz
    have kz := kz'
    clear kz'
    obtain ⟨M, hM⟩ : ∃ M, M = (O (k + 1)).length := ⟨_, rfl⟩
    rw [← hM] at cO
    rw [← hM] at hP2
    by_cases hend : M = Z
    · subst hend
      have fe := fz
      rw [HF.out.2.2.2.2.2.2.2.1 (by omega)] at fe
      have HZ := hide (And.intro fe (And.intro kz HF.out.2.2.1))
      clear fz fe kz hov how hP2 hPk hM
      gi_wp2
      exact ⟨rfl, HZ.out.2.1, HZ.out.1, Nat.le_trans HZ.out.2.2 HZ.out.2.1.size⟩
    · have hne : ¬ (M : Int) = (Z : Int) := by omega
      have HZ := hide (And.intro fz (And.intro kz (And.intro HF.out.2.2.1 (show 16 * (k + 1) < Z by omega))))
      clear fz kz hov how hP2 hPk hM hend
      gi_wp2
      exact ⟨HZ.out.2.1, HZ.out.1, .inr HZ.out.2.2.2, Nat.le_trans HZ.out.2.2.1 HZ.out.2.1.size⟩
  case stop =>
    rintro W ⟨f, hsz⟩ hK
    obtain ⟨ov, hov, how⟩ := f.bo
    have cO := hov.cell
    have hbel := f.bel
    obtain ⟨oa, oc, rfl⟩ := own_sliceQ how
    clear f hov hstep hall hlen f0 hsq
    gi_wp2
    refine ⟨by simp, .inl ⟨_, _, rfl, run_takeDeferred hK, ?_⟩⟩
    rw [hXX]
    exact ⟨_, results_tmp rfl _ _ _, _, rfl, ⟨ownsRow_putObj how.1 _ hK rfl, how.2⟩, hbel.grown (grownBy_putObj' _ _ _) hbel.size (fun r e => by cases e; omega)⟩
end Go.Proofs.Ytjeofkemfpdieaa

/- Contract of bits.Same. -/
namespace Go.Proofs.Ytjeofkemfpdieaa
open Go.RowKit
set_option linter.unusedVariables false

theorem xor_zero (x y : Nat) : x ^^^ y = 0 ↔ x = y := by
  constructor
  · intro h
    have h1 : x ^^^ y ^^^ y = 0 ^^^ y := by rw [h]
    rw [Nat.xor_assoc, Nat.xor_self, Nat.xor_zero, Nat.zero_xor] at h1
    exact h1
  · rintro rfl; exact Nat.xor_self _
theorem or_zero (x y : Nat) : x ||| y = 0 ↔ x = 0 ∧ y = 0 := by
  constructor
  · intro h
    have h1 : x ≤ x ||| y := Nat.left_le_or
    have h2 : y ≤ x ||| y := Nat.right_le_or
    omega
  · rintro ⟨rfl, rfl⟩; rfl

theorem step_differ (d x y : Nat) (hd : d < 256) (hx : x < 256) (hy : y < 256) : bits .or .u8 (d : Int) (bits .xor .u8 (x : Int) (y : Int)) = ((d ||| (x ^^^ y) : Nat) : Int) := by
  rw [u8_xor_nat x y hx hy, u8_or_nat d _ hd (Nat.xor_lt_two_pow (n := 8) hx hy)]

set_option maxHeartbeats 400000 in
theorem bsame_any (va vb : Value) (l m : List Nat) (w : World) (ha : Row .u8 256 w va l) (hb : Row .u8 256 w vb m) :
    Calls Try.prog 33 #[va, vb] w fun e w' => e = .returned (.bool (decide (l = m))) ∧ Below w.heap.size w w' := by
  obtain ⟨a, ca, rfl, ha1, ha2, ha3, ha4⟩ := ha
  obtain ⟨b, cb, rfl, hb1, hb2, hb3, hb4⟩ := hb
  unfold maxLen at ha2 hb2
  by_cases hlen : l.length = m.length
  · have hne : ((l.length : Int) != (m.length : Int)) = false := by simp [hlen]
    have H : Hid (l.length = m.length) := hlen
    have hle1 : l.length ≤ m.length := by omega
    have hle2 : m.length ≤ l.length := by omega
    clear hlen
    go_enter Try.func33, Try.ntmps33
    go_wp2
    go_loopw [5, 14] (fun d i wr => ∃ k n D : Nat, k ≤ l.length ∧ i = .int .i64 k ∧ d = .int .u8 D ∧ D < 256 ∧ wr = w.drewN n ∧ (D = 0 ↔ ∀ j, j < k → el l j = el m j)) (fun _ i _ => l.length - (intOf i).toNat)
    case atStart => exact ⟨0, 0, 0, Nat.zero_le _, rfl, rfl, by decide, rfl, ⟨fun _ j hj => by omega, fun _ => rfl⟩⟩
    case round =>
      obtain ⟨k, n, D, hk, rfl, rfl, hD, rfl, hall⟩ := hrel
      have HA := hide hall
      clear hall
      by_cases hlt : k < l.length
      · obtain ⟨ba, oa, rfl, hca⟩ := ha3 (by omega)
        obtain ⟨bb, ob, rfl, hcb⟩ := hb3 (by omega)
        have c1 := hca k hlt
        have c2 := hcb k (by omega)
        clear hca hcb
        have hlt2 : k < m.length := by omega
        have hx := el_lt ha4 (by decide) k
        have hy := el_lt hb4 (by decide) k
        go_wp2
        go_quiet (fail)
        go_wp2
        go_roundw
        case rel =>
          refine ⟨k + 1, _, D ||| (el l k ^^^ el m k), by omega, by go_num, vint (step_differ D _ _ hD hx hy), ?_, rfl, ?_⟩
          · exact Nat.or_lt_two_pow (n := 8) hD (Nat.xor_lt_two_pow (n := 8) hx hy)
          · rw [or_zero, xor_zero, HA.out]
            constructor
            · rintro ⟨h1, h2⟩ j hj
              by_cases hjk : j = k
              · subst hjk; exact h2
              · exact h1 j (by omega)
            · intro h
              exact ⟨fun j hj => h j (by omega), h k (by omega)⟩
        case measure => simp [intOf]; omega
      · go_wp2
        go_ret
        refine ⟨ret_bool ?_, below_drewN (Below.refl _ _) _⟩
        have hiff : D = 0 ↔ l = m := by
          rw [HA.out]
          constructor
          · intro h
            exact el_ext H.out (fun i hi => h i (by omega))
          · rintro rfl j _; rfl
        by_cases hz : l = m
        · have : D = 0 := hiff.2 hz
          simp [hz, this]
        · have : ¬ D = 0 := fun h => hz (hiff.1 h)
          simp [hz]
          omega
  · have hne : ((l.length : Int) != (m.length : Int)) = true := by simp; omega
    have hd : decide (l = m) = false := by simp; intro h; exact hlen (by rw [h])
    go_enter Try.func33, Try.ntmps33
    go_wp2
    go_ret
    exact ⟨ret_bool hd.symm, Below.refl _ _⟩
end Go.Proofs.Ytjeofkemfpdieaa

/- The document's back. -/
namespace Go.Proofs.Ytjeofkemfpdieaa
open Go.RowKit
set_option linter.unusedVariables false
set_option linter.unusedSimpArgs false

theorem unT_under : Under 256 unT := fun x hx => by
  have : ∀ c, c < 256 → el unT c < 256 := fun c h => un_lt h
  obtain ⟨i, hi, rfl⟩ := List.getElem_of_mem hx
  rw [← el_at hi]
  exact this i (by rw [unT_len] at hi; exact hi)
def bklt : List Lt := [(0, some 35, [8]), (1, some 36, [35]), (0, some 37, [5]), (6, some 38, [36, 37]), (15, some 8, [38])]
theorem list43 : ∀ l : List Value, l.length = 43 → ∃ u0 u1 u2 u3 u4 u5 u6 u7 u8 u9 u10 u11 u12 u13 u14 u15 u16 u17 u18 u19 u20 u21 u22 u23 u24 u25 u26 u27 u28 u29 u30 u31 u32 u33 u34 u35 u36 u37 u38 u39 u40 u41 u42, l = u0 :: u1 :: u2 :: u3 :: u4 :: u5 :: u6 :: u7 :: u8 :: u9 :: u10 :: u11 :: u12 :: u13 :: u14 :: u15 :: u16 :: u17 :: u18 :: u19 :: u20 :: u21 :: u22 :: u23 :: u24 :: u25 :: u26 :: u27 :: u28 :: u29 :: u30 :: u31 :: u32 :: u33 :: u34 :: u35 :: u36 :: u37 :: u38 :: u39 :: u40 :: u41 :: u42 :: []
  | u0 :: u1 :: u2 :: u3 :: u4 :: u5 :: u6 :: u7 :: u8 :: u9 :: u10 :: u11 :: u12 :: u13 :: u14 :: u15 :: u16 :: u17 :: u18 :: u19 :: u20 :: u21 :: u22 :: u23 :: u24 :: u25 :: u26 :: u27 :: u28 :: u29 :: u30 :: u31 :: u32 :: u33 :: u34 :: u35 :: u36 :: u37 :: u38 :: u39 :: u40 :: u41 :: u42 :: [], _ => ⟨u0, u1, u2, u3, u4, u5, u6, u7, u8, u9, u10, u11, u12, u13, u14, u15, u16, u17, u18, u19, u20, u21, u22, u23, u24, u25, u26, u27, u28, u29, u30, u31, u32, u33, u34, u35, u36, u37, u38, u39, u40, u41, u42, rfl⟩
section
variable {Q : Exit → Act → World → Prop}
end

/-- where the loop stands: k rounds still to go -/
def BkL (w w0 : World) (ws s : List Nat) (n : Nat) (v vr : Value) (wr : World) : Prop := ∃ (k : Nat) (S : List Nat), k ≤ n ∧ vr = .int .i64 (k : Int) ∧ B16 S ∧ bkN n ws k S = bkN n ws n s ∧ Row .u8 256 wr v S ∧ Below w0.heap.size w0 wr

end Go.Proofs.Ytjeofkemfpdieaa
