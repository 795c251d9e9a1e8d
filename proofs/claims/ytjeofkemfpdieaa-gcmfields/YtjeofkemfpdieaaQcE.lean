/- Products, sums, sealed texts: what is told. -/
import Derived.Test.YtjeofkemfpdieaaQcV
import Derived.Test.YtjeofkemfpdieaaGSt
import Derived.Test.YtjeofkemfpdieaaABl
namespace Go.Proofs.Ytjeofkemfpdieaa
open Go.RowKit
set_option linter.unusedVariables false
set_option linter.unusedSimpArgs false

set_option maxHeartbeats 2000000 in
set_option maxRecDepth 100000 in
theorem mulQ_no (a b : List Nat) (av bv : Value) (w : World) (ra : Row .u8 256 w av a) (rb : Row .u8 256 w bv b) (h : a.length ≠ 16 ∨ b.length ≠ 16) :
    Calls Try.prog 10 #[av, bv] w fun e w' => e = .returned (.slice none 0 0) ∧ w' = w := by
  obtain ⟨X, hX⟩ : ∃ x : Nat, x = a.length := ⟨_, rfl⟩
  obtain ⟨Y, hY⟩ : ∃ x : Nat, x = b.length := ⟨_, rfl⟩
  obtain ⟨aa, ac, rfl, _⟩ := ra.opens hX.symm
  obtain ⟨ba, bc, rfl, _⟩ := rb.opens hY.symm
  rw [← hX, ← hY] at h
  clear hX hY
  by_cases h1 : X = 16
  · subst h1
    have h2 : Y ≠ 16 := h.resolve_left (by decide)
    clear h
    have y_i : ¬ ((Y : Int) = 16) := by omega
    have y_b : ((Y : Int) == 16) = false := beq_eq_false_iff_ne.2 y_i
    have y_n : ((Y : Int) != 16) = true := by simp [bne, y_b]
    go_enter Try.func10, Try.ntmps10
    go_wp2
    go_ret
    exact ⟨rfl, rfl⟩
  · clear h
    have x_i : ¬ ((X : Int) = 16) := by omega
    have x_b : ((X : Int) == 16) = false := beq_eq_false_iff_ne.2 x_i
    have x_n : ((X : Int) != 16) = true := by simp [bne, x_b]
    go_enter Try.func10, Try.ntmps10
    go_wp2
    go_ret
    exact ⟨rfl, rfl⟩
set_option maxHeartbeats 2000000 in
set_option maxRecDepth 100000 in
theorem mulQ_ok (a b : List Nat) (av bv : Value) (w : World) (ra : Row .u8 256 w av a) (rb : Row .u8 256 w bv b) (ha : B16 a) (hb : B16 b) :
    Calls Try.prog 10 #[av, bv] w fun e w' => ∃ v, e = .returned v ∧ Own 5 .u8 256 w' w.heap.size v (mulP a b) ∧ Below w.heap.size w w' := by
  have h1 := readQ_any a av w ra ha
  have h2 := fun y (hy : Below w.heap.size w y) => readQ_any b bv y (rb.below hy) hb
  obtain ⟨aa, ac, rfl, _⟩ := ra.opens ha.1
  obtain ⟨ba, bc, rfl, _⟩ := rb.opens hb.1
  have h3 := fun y u v (hu : Bk u (polB a)) (hv : Bk v (polB b)) => times_any u v _ _ y hu hv
  have h4 := fun y u (hu : Bk u (mulG (polB a) (polB b))) => bytes_any u _ y hu
  have e : blkP (mulG (polB a) (polB b)) = mulP a b := rfl
  rw [e] at h4
  generalize mulG (polB a) (polB b) = M at *
  generalize polB a = A at *
  generalize polB b = B at *
  clear e ra rb ha hb
  go_enter Try.func10, Try.ntmps10
  go_wp2_with (first
    | (go_at_call 20; refine h1.mono ?_; clear h1; rintro e w1 ⟨u1, rfl, k1, hb1⟩)
    | (go_at_call 20; refine (h2 _ hb1).mono ?_; rintro e w2 ⟨u2, rfl, k2, hb2⟩; have hb12 := keep_trans hb1 hb2)
    | (go_at_call 21; refine (h3 _ _ _ k1 k2).mono ?_; rintro e w3 ⟨u3, rfl, k3, hb3⟩; have hb13 := keep_trans hb12 hb3)
    | (go_at_call 22; refine (h4 _ _ k3).mono ?_; rintro e w4 ⟨u4, rfl, o4, hb4⟩)
    | fail)
  go_ret
  exact ⟨_, rfl, o4.mono hb13.size, keep_trans hb13 hb4⟩
set_option maxHeartbeats 2000000 in
set_option maxRecDepth 100000 in
theorem ghQ_no (h b : List Nat) (hv bv : Value) (w : World) (rh : Row .u8 256 w hv h) (rb : Row .u8 256 w bv b) (hh : h.length ≠ 16 ∨ b.length % 16 ≠ 0) :
    Calls Try.prog 12 #[hv, bv] w fun e w' => e = .returned (.slice none 0 0) ∧ w' = w := by
  obtain ⟨X, hX⟩ : ∃ x : Nat, x = h.length := ⟨_, rfl⟩
  obtain ⟨Y, hY⟩ : ∃ x : Nat, x = b.length := ⟨_, rfl⟩
  obtain ⟨aa, ac, rfl, _⟩ := rh.opens hX.symm
  obtain ⟨ba, bc, rfl, _⟩ := rb.opens hY.symm
  rw [← hX, ← hY] at hh
  clear hX hY
  by_cases h1 : X = 16
  · subst h1
    have h2 : Y % 16 ≠ 0 := hh.resolve_left (by decide)
    clear hh
    obtain ⟨Q, hQ⟩ : ∃ x : Nat, x = Y % 16 := ⟨_, rfl⟩
    have e_Q : (Y : Int) % 16 = (Q : Int) := by omega
    have t_Q : (Y : Int).tmod 16 = (Q : Int) := by rw [Int.tmod_eq_emod_of_nonneg (by omega)]; exact e_Q
    have q_i : ¬ ((Q : Int) = 0) := by omega
    have q_b : ((Q : Int) == 0) = false := beq_eq_false_iff_ne.2 q_i
    have q_n : ((Q : Int) != 0) = true := by simp [bne, q_b]
    clear h2 hQ
    go_enter Try.func12, Try.ntmps12
    go_wp2
    go_ret
    exact ⟨rfl, rfl⟩
  · clear hh
    have x_i : ¬ ((X : Int) = 16) := by omega
    have x_b : ((X : Int) == 16) = false := beq_eq_false_iff_ne.2 x_i
    have x_n : ((X : Int) != 16) = true := by simp [bne, x_b]
    go_enter Try.func12, Try.ntmps12
    go_wp2
    go_ret
    exact ⟨rfl, rfl⟩
theorem fil0_whole {b : List Nat} {n : Nat} (h : b.length = 16 * n) : fil0 b = b := by
  unfold fil0
  rw [show (16 - b.length % 16) % 16 = 0 by omega, List.replicate_zero, List.append_nil]
set_option maxHeartbeats 4000000 in
set_option maxRecDepth 100000 in
theorem ghQ_ok (h b : List Nat) (hv bv : Value) (w : World) (rh : Row .u8 256 w hv h) (rb : Row .u8 256 w bv b) (hh : B16 h) (n : Nat) (hb : b.length = 16 * n) (hn : n ≤ 5000) :
    Calls Try.prog 12 #[hv, bv] w fun e w' => ∃ v, e = .returned v ∧ Own 5 .u8 256 w' w.heap.size v (ghL h b) ∧ Below w.heap.size w w' := by
  have h1 := readQ_any h hv w rh hh
  have hf := fun (y : World) (B : Nat) (hy : Below w.heap.size w y) (hS : SmB y B (polB h) (polB z16)) => filled_any b bv B h z16 z16_b y (rb.below hy) (by omega) hS
  rw [fil0_whole hb, show (b.length + 15) / 16 = n by omega] at hf
  have hG : ghL h b = ghN h z16 b n := by unfold ghL; rw [show b.length / 16 = n by omega]
  have hGb : B16 (ghN h z16 b n) := ghN_b z16_b _
  rw [hG]
  have hby := fun (y : World) v (hv : Bk v (polB (ghN h z16 b n))) => bytes_any v _ y hv
  rw [blk_pol hGb] at hby
  rw [pol_z16] at hf
  generalize polB (ghN h z16 b n) = g at *
  generalize ghN h z16 b n = G at *
  generalize polB h = H at *
  obtain ⟨ha, hc, rfl, _⟩ := rh.opens hh.1
  obtain ⟨Y, hY⟩ : ∃ Y, b.length = Y := ⟨_, rfl⟩
  obtain ⟨ba, bc, rfl, _⟩ := rb.opens hY
  have hm : (Y : Int).tmod 16 = 0 := by rw [Int.tmod_eq_emod_of_nonneg (by omega)]; omega
  have hm2 : (Y : Int) % 16 = 0 := by omega
  have hz := zeroS4
  have hmf : ∀ (fn : Fn) (first cap : Array Value) (w : World), (Instr.makeFunc fn first cap).run Try.prog w = .ok (.func fn first cap) w := fun _ _ _ _ => rfl
  clear hG hGb rh rb hh hb hn hY
  go_enter Try.func12, Try.ntmps12
  go_wp2_with (first
    | (go_at_call 20; refine h1.mono ?_; rintro e w3 ⟨v3, rfl, ⟨hf1, hl1, hf64, hl64, rfl, hfl⟩, k3⟩)
    | (go_at_call 24; have S0 : SmB (w3.alloc (.cells #[.int .u64 (hf1 : Int), .int .u64 (hl1 : Int), .int .u64 0, .int .u64 0] 47)) w3.heap.size H 0 := ⟨hf1, hl1, 0, 0, hf64, hl64, by decide, by decide, heap_alloc_new _ _, hfl, pP_zero⟩; refine (hf _ _ (keep_trans k3 (keep_alloc _ _)) S0).mono ?_; rintro e w4 ⟨⟨u4, rfl⟩, s4, t4⟩; have k4 := (keep_trans k3 (keep_alloc _ _)).trans (t4.below k3.size (keep_trans k3 (keep_alloc _ _)).size); obtain ⟨q1, q2, gg, mm, _, _, hg64, hm64, hB6, _, hgm⟩ := s4; have hrg : w4.rangeAt w3.heap.size 2 [.int .u64 (gg : Int), .int .u64 (mm : Int)] := (rangeQ hB6 2 _ fun j x hj => by rcases two_at j x hj with ⟨rfl, rfl⟩ | ⟨rfl, rfl⟩ <;> rfl))
    | (refine wpList_load_mid rfl 41 _ (by rfl) w3.heap.size 2 (by rfl) [.int .u64 (gg : Int), .int .u64 (mm : Int)] _ hrg Try.underlying41 rfl (by kernel_rfl) ?_)
    | (go_at_call 22; refine (hby _ _ ⟨gg, mm, hg64, hm64, rfl, hgm⟩).mono ?_; rintro e w5 ⟨u5, rfl, o5, hb5⟩)
    | fail)
  go_ret
  exact ⟨_, rfl, o5.mono k4.size, keep_trans k4 hb5⟩
set_option maxHeartbeats 2000000 in
set_option maxRecDepth 100000 in
theorem fitQ_key (kl nl sl : Nat) (ka na sa : Option Addr) (kc nc sc : Nat) (s : Int) (w : World) (hk : ¬ Sz3 kl) :
    Calls Try.prog 26 #[.slice ka kl kc, .slice na nl nc, .slice sa sl sc, .int .i64 s] w fun e w' => e = .returned (.int .i64 10) ∧ w' = w := by
  have h1 : ¬ ((kl : Int) = 16) := fun h => hk (.inl (by omega))
  have h2 : ¬ ((kl : Int) = 24) := fun h => hk (.inr (.inl (by omega)))
  have h3 : ¬ ((kl : Int) = 32) := fun h => hk (.inr (.inr (by omega)))
  clear hk
  go_enter Try.func26, Try.ntmps26
  go_wp2
  go_ret
  exact ⟨rfl, rfl⟩
set_option maxHeartbeats 2000000 in
set_option maxRecDepth 100000 in
theorem fitQ_nonce (kl nl sl : Nat) (ka na sa : Option Addr) (kc nc sc : Nat) (s : Int) (w : World) (hk : Sz3 kl) (hn : nl ≠ 12) :
    Calls Try.prog 26 #[.slice ka kl kc, .slice na nl nc, .slice sa sl sc, .int .i64 s] w fun e w' => e = .returned (.int .i64 14) ∧ w' = w := by
  have h1 : ¬ ((nl : Int) = 12) := by omega
  have h2 : ((nl : Int) == 12) = false := beq_eq_false_iff_ne.2 h1
  have h3 : ((nl : Int) != 12) = true := by simp [bne, h2]
  clear hn
  rcases hk with h | h | h <;> subst h
  · go_enter Try.func26, Try.ntmps26
    go_wp2
    go_ret
    exact ⟨rfl, rfl⟩
  · go_enter Try.func26, Try.ntmps26
    go_wp2
    go_ret
    exact ⟨rfl, rfl⟩
  · go_enter Try.func26, Try.ntmps26
    go_wp2
    go_ret
    exact ⟨rfl, rfl⟩
set_option maxHeartbeats 2000000 in
set_option maxRecDepth 100000 in
theorem fitQ_short (kl sl : Nat) (ka na sa : Option Addr) (kc nc sc : Nat) (s : Int) (w : World) (hk : Sz3 kl) (hs : s < 0) :
    Calls Try.prog 26 #[.slice ka kl kc, .slice na 12 nc, .slice sa sl sc, .int .i64 s] w fun e w' => e = .returned (.int .i64 14) ∧ w' = w := by
  rcases hk with h | h | h <;> subst h
  · go_enter Try.func26, Try.ntmps26
    go_wp2
    go_ret
    exact ⟨rfl, rfl⟩
  · go_enter Try.func26, Try.ntmps26
    go_wp2
    go_ret
    exact ⟨rfl, rfl⟩
  · go_enter Try.func26, Try.ntmps26
    go_wp2
    go_ret
    exact ⟨rfl, rfl⟩
set_option maxHeartbeats 2000000 in
set_option maxRecDepth 100000 in
theorem fitQ_ok (kl sl : Nat) (ka na sa : Option Addr) (kc nc sc : Nat) (s : Int) (w : World) (hk : Sz3 kl) (hs : 0 ≤ s) (hs2 : s ≤ 100000) (hl : sl ≤ 100000) :
    Calls Try.prog 26 #[.slice ka kl kc, .slice na 12 nc, .slice sa sl sc, .int .i64 s] w fun e w' => e = .returned (.int .i64 0) ∧ w' = w := by
  have h1 : ¬ s < 0 := by omega
  have h2 : ¬ 1048576 < s := by omega
  have h3 : ¬ (1048576 : Int) < (sl : Int) := by omega
  have h4 : ¬ s > 1048576 := by omega
  have h5 : ¬ (sl : Int) > 1048576 := by omega
  clear hs hs2 hl
  rcases hk with h | h | h <;> subst h
  · go_enter Try.func26, Try.ntmps26
    go_wp2
    go_ret
    exact ⟨rfl, rfl⟩
  · go_enter Try.func26, Try.ntmps26
    go_wp2
    go_ret
    exact ⟨rfl, rfl⟩
  · go_enter Try.func26, Try.ntmps26
    go_wp2
    go_ret
    exact ⟨rfl, rfl⟩
end Go.Proofs.Ytjeofkemfpdieaa

/- Sealed texts. -/
namespace Go.Proofs.Ytjeofkemfpdieaa
open Go.RowKit
set_option linter.unusedVariables false
set_option linter.unusedSimpArgs false

set_option maxHeartbeats 4000000 in
set_option maxRecDepth 100000 in
theorem seQ_of (T : List Nat → List Nat) (hT : ∀ s, B16 s → B16 (T s)) (nonce bs p : List Nat) (ka : Option Addr) (kn kc : Nat) (nv sv pv : Value) (w : World) (hC : Cip T (.slice ka kn kc) w) (hk : Sz3 kn) (rn : Row .u8 256 w nv nonce) (h12 : nonce.length = 12) (rs : Row .u8 256 w sv bs) (hs : bs.length ≤ 100000) (rp : Row .u8 256 w pv p) (hp : p.length ≤ 100000) :
    Calls Try.prog 14 #[.slice ka kn kc, nv, sv, pv] w fun e w' => ∃ v, e = .returned (.tuple #[v, .int .i64 0]) ∧ Own 5 .u8 256 w' w.heap.size v (sealL T nonce bs p) ∧ Below w.heap.size w w' := by
  have hxl := xst_len hT h12 rn.under p
  have hm := masked_any T hT nonce p ka kn kc nv pv w hC rn h12 rp hp
  have htl : (tagL T nonce bs (xst T nonce p)).length = 16 := (tagL_b hT h12 rn.under _ _).1
  have hC2 : ∀ y, Below w.heap.size w y → Cip T (.slice ka kn kc) y := fun y hy z b bv hz rb hb => hC z b bv (hy.trans (hz.mono hy.size)) rb hb
  have ht := fun y xv (hy : Below w.heap.size w y) (rx : Row .u8 256 y xv (xst T nonce p)) => tag_any T hT nonce bs (xst T nonce p) ka kn kc nv sv xv y (hC2 y hy) (rn.below hy) h12 (rs.below hy) hs rx (by omega)
  have hfe : [xst T nonce p, tagL T nonce bs (xst T nonce p)].flatten = sealL T nonce bs p := by unfold sealL; simp
  have hj := fun y lv (r : Rows2 y lv [xst T nonce p, tagL T nonce bs (xst T nonce p)]) => join_any lv _ y r (by rw [hfe]; unfold sealL; rw [List.length_append, htl]; omega)
  rw [hfe] at hj
  generalize tagL T nonce bs (xst T nonce p) = tg at *
  generalize xst T nonce p = xs at *
  generalize sealL T nonce bs p = se at *
  obtain ⟨X, hX⟩ : ∃ x : Nat, bs.length = x := ⟨_, rfl⟩
  obtain ⟨Y, hY⟩ : ∃ x : Nat, p.length = x := ⟨_, rfl⟩
  obtain ⟨sa, sc, rfl, _⟩ := rs.opens hX
  obtain ⟨ba, bc, rfl, _⟩ := rp.opens hY
  obtain ⟨na, nc, rfl, _⟩ := rn.opens h12
  rw [hY] at hxl
  have hfi := fitQ_ok kn X ka na sa kc nc sc (Y : Int) w hk (by omega) (by omega) (by omega)
  clear hfe hX hC hC2 hk hs hp rn rs rp hY hT h12
  go_enter Try.func14, Try.ntmps14
  go_wp2_with (first
    | (go_at_call 26; refine hfi.mono ?_; rintro e y1 ⟨rfl, hy⟩; obtain rfl := hy.symm)
    | (go_at_call 27; refine hm.mono ?_; rintro e w1 ⟨v1, rfl, o1, hb1⟩; obtain ⟨a1, c1, rfl, _⟩ := o1.row.opens hxl)
    | (go_at_call 29; refine (ht _ _ hb1 o1.row).mono ?_; rintro e w2 ⟨v2, rfl, o2, hb2⟩; obtain ⟨a2, c2, rfl, _⟩ := o2.row.opens htl; have hb12 := keep_trans hb1 hb2; have hr2 := rows_lit2G (o1.row.below hb2) (own_tidyG o1) o2.row (own_tidyG o2))
    | (go_at_call 28; refine (hj _ _ hr2).mono ?_; rintro e w3 ⟨v3, rfl, o3, hb3⟩; have hb13 := keep_trans (keep_trans hb12 (keep_alloc _ _)) hb3)
    | fail)
  go_ret2
  exact ⟨_, rfl, o3.mono (keep_trans hb12 (keep_alloc _ _)).size, hb13⟩
set_option maxHeartbeats 2000000 in
set_option maxRecDepth 100000 in
theorem seQ_no (ka na sa pa : Option Addr) (kn kc nn nc sn sc pn pc : Nat) (code : Int) (w : World) (hc : ¬ code = 0) (hfi : Calls Try.prog 26 #[.slice ka kn kc, .slice na nn nc, .slice sa sn sc, .int .i64 (pn : Int)] w fun e w' => e = .returned (.int .i64 code) ∧ w' = w) :
    Calls Try.prog 14 #[.slice ka kn kc, .slice na nn nc, .slice sa sn sc, .slice pa pn pc] w fun e w' => e = .returned (.tuple #[.slice none 0 0, .int .i64 code]) ∧ w' = w := by
  have h2 : (code == 0) = false := beq_eq_false_iff_ne.2 hc
  have h3 : (code != 0) = true := by simp [bne, h2]
  go_enter Try.func14, Try.ntmps14
  go_wp2_with (first
    | (go_at_call 26; refine hfi.mono ?_; rintro e y1 ⟨rfl, hy⟩; obtain rfl := hy.symm)
    | fail)
  go_ret2
  exact ⟨rfl, rfl⟩
set_option maxHeartbeats 2000000 in
set_option maxRecDepth 100000 in
theorem opQ_no (ka na sa pa : Option Addr) (kn kc nn nc sn sc pn pc : Nat) (code s : Int) (w : World) (hs : s = (pn : Int) - 16) (hpn : pn ≤ 1000000) (hc : ¬ code = 0) (hfi : Calls Try.prog 26 #[.slice ka kn kc, .slice na nn nc, .slice sa sn sc, .int .i64 s] w fun e w' => e = .returned (.int .i64 code) ∧ w' = w) :
    Calls Try.prog 16 #[.slice ka kn kc, .slice na nn nc, .slice sa sn sc, .slice pa pn pc] w fun e w' => e = .returned (.tuple #[.slice none 0 0, .int .i64 code]) ∧ w' = w := by
  have h2 : (code == 0) = false := beq_eq_false_iff_ne.2 hc
  have h3 : (code != 0) = true := by simp [bne, h2]
  have e_s : (pn : Int) - 16 = s := hs.symm
  have s_s : IntKind.i64.wrap s = s := by rw [IntKind.wrap_i64]; omega
  clear hs
  go_enter Try.func16, Try.ntmps16
  go_wp2_with (first
    | (go_at_call 26; refine hfi.mono ?_; rintro e y1 ⟨rfl, hy⟩; obtain rfl := hy.symm)
    | fail)
  go_ret2
  exact ⟨rfl, rfl⟩
section
variable {P : Program} {ops : Array Oper} {Q : Exit → Act → World → Prop} {K : Act → World → Prop}
theorem p_call4Q {i : Nat} {o : Oper} {a : Act} {w : World} {f : FuncId} {x y z q : Operand} {ts : Array TypeId} {u v t r : Value} {d : Option Nat} (hi : ops[i]? = some o) (hg : o.guard = none) (ho : o.op = .call { callee := .value (.func f), args := #[x, y, z, q], argTypes := ts }) (hx : a.eval x = u) (hy : a.eval y = v) (hz : a.eval z = t) (hq : a.eval q = r) (hd : o.dst = d)
    (hf : ∀ (args : Array Value) (w : World), (callFunc f args).run P w = .ok (.enter f args) w) (h : Calls P f #[u, v, t, r] w fun e w' => ∃ v, e = .returned v ∧ K (a.put d v) w') : wpOp P ops Q i K a w := p_callD hi hg ho (by simp only [List.map_toArray, List.map_cons, List.map_nil, hx, hy, hz, hq]) hd hf h
end
def oplt : List Lt := [(0, some 27, [3]), (0, some 28, [10]), (3, some 29, [27, 28]), (0, some 30, [0]), (0, some 31, [1]), (0, some 32, [2]), (0, some 33, [12]), (120, some 34, [30, 31, 32, 33]), (132, some 35, [29, 34]), (256, some 36, [35])]
theorem opreg : Reg (opsA (cLA (cLA (cRA (cRA (cRA (cRA (Try.f16.body.getD .skip)))))))) oplt := ⟨by kernel_rfl, by kernel_rfl⟩
set_option maxHeartbeats 4000000 in
set_option maxRecDepth 100000 in
theorem opQ_of (T : List Nat → List Nat) (hT : ∀ s, B16 s → B16 (T s)) (nonce bs c : List Nat) (ka : Option Addr) (kn kc : Nat) (nv sv cv : Value) (w : World) (hC : Cip T (.slice ka kn kc) w) (hk : Sz3 kn) (rn : Row .u8 256 w nv nonce) (h12 : nonce.length = 12) (rs : Row .u8 256 w sv bs) (hs : bs.length ≤ 100000) (rc : Row .u8 256 w cv c) (hc : c.length ≤ 100000) (h16 : 16 ≤ c.length) :
    Calls Try.prog 16 #[.slice ka kn kc, nv, sv, cv] w fun e w' => ∃ v, e = .returned (.tuple #[v, .int .i64 (opC T nonce bs c)]) ∧ Own 5 .u8 256 w' w.heap.size v (opX T nonce bs c) ∧ Below w.heap.size w w' := by
  obtain ⟨Z, hZ⟩ : ∃ x : Nat, c.length = x := ⟨_, rfl⟩
  obtain ⟨M, hM⟩ : ∃ x : Nat, Z - 16 = x := ⟨_, rfl⟩
  obtain ⟨cb, cc, rfl, lc1, lc2, _⟩ := rc.opens hZ
  have rt := rc.cut (M := M) (by omega)
  obtain ⟨A, hA, hAd⟩ := slice_from cb Z cc M (by omega) lc1
  have rA := rc.behind (F := M) (by omega) hAd
  have hC2 : ∀ y, Below w.heap.size w y → Cip T (.slice ka kn kc) y := fun y hy z b bv hz rb hb => hC z b bv (hy.trans (hz.mono hy.size)) rb hb
  have hlt : (c.take M).length = M := by rw [List.length_take]; omega
  have hm := fun y (hy : Below w.heap.size w y) => masked_any T hT nonce (c.take M) ka kn kc nv _ y (hC2 y hy) (rn.below hy) h12 (rt.below hy) (by omega)
  have ht := fun y (hy : Below w.heap.size w y) => tag_any T hT nonce bs (c.take M) ka kn kc nv sv _ y (hC2 y hy) (rn.below hy) h12 (rs.below hy) hs (rt.below hy) (by omega)
  have hsa := fun y v (hy : Below w.heap.size w y) (rv : Row .u8 256 y v (tagL T nonce bs (c.take M))) => bsame_any _ v _ _ y (rA.below hy) rv
  have hno : ¬ c.drop M = tagL T nonce bs (c.take M) → opX T nonce bs c = [] ∧ opC T nonce bs c = 17 := fun h => op_no (by unfold openO; rw [hZ, hM, if_neg (fun e => h e.symm)])
  have hye : c.drop M = tagL T nonce bs (c.take M) → opX T nonce bs c = xst T nonce (c.take M) ∧ opC T nonce bs c = 0 := fun h => op_yes (by unfold openO; rw [hZ, hM, if_pos h.symm])
  generalize tagL T nonce bs (c.take M) = tg at *
  generalize xst T nonce (c.take M) = xs at *
  generalize opX T nonce bs c = ox at *
  generalize opC T nonce bs c = oc at *
  generalize c.drop M = cd at *
  obtain ⟨X, hX⟩ : ∃ x : Nat, bs.length = x := ⟨_, rfl⟩
  obtain ⟨sa, sc, rfl, _⟩ := rs.opens hX
  obtain ⟨na, nc, rfl, _⟩ := rn.opens h12
  have hfi := fitQ_ok kn X ka na sa kc nc sc (M : Int) w hk (by omega) (by omega) (by omega)
  have e_M : (Z : Int) - 16 = (M : Int) := by omega
  have s_M : IntKind.i64.wrap (M : Int) = (M : Int) := by rw [IntKind.wrap_i64]; omega
  have z_M : (0 : Int) ≤ (M : Int) := Int.natCast_nonneg _
  have l_M : (M : Int) ≤ (cc : Int) := by omega
  have hbd : Below w.heap.size w w.drew := (Below.refl _ _).drew
  clear hC hC2 hk hs hc h16 rn rs rc rt rA hT h12 hlt hX hZ hM hAd lc2
  go_enter Try.func16, Try.ntmps16
  go_wp2_with (first
    | (go_at_call 26; refine hfi.mono ?_; rintro e y1 ⟨rfl, hy⟩; obtain rfl := hy.symm)
    | fail)
  refine at_begin (ops := (opsA (cLA (cLA (cRA (cRA (cRA (cRA (Try.f16.body.getD .skip))))))))) (n := 10) (fun _ => True) (by kernel_rfl) (by kernel_rfl) ?_
  refine at_takeD (i := 0) (m' := 1) (d := some 27) (v := .slice cb Z cc) opreg rfl (by decide) rfl rfl (y_move rfl rfl rfl) trivial ?_
  simp only [Act.put, List.setIfInBounds_toArray, List.set_cons_zero, List.set_cons_succ]
  refine at_takeD (i := 1) (m' := 3) (d := some 28) (v := .int .i64 (M : Int)) opreg rfl (by decide) rfl rfl (y_move rfl rfl rfl) trivial ?_
  simp only [Act.put, List.setIfInBounds_toArray, List.set_cons_zero, List.set_cons_succ]
  refine at_takeD (i := 2) (m' := 7) (d := some 29) (v := .slice A (Z - M) (cc - M)) opreg rfl (by decide) rfl rfl (y_sliceQ rfl rfl rfl rfl hA ⟨_, _, _, rfl⟩) trivial ?_
  simp only [Act.put, List.setIfInBounds_toArray, List.set_cons_zero, List.set_cons_succ]
  refine at_takeD (i := 3) (m' := 15) (d := some 30) (v := .slice ka kn kc) opreg rfl (by decide) rfl rfl (y_move rfl rfl rfl) trivial ?_
  simp only [Act.put, List.setIfInBounds_toArray, List.set_cons_zero, List.set_cons_succ]
  refine at_takeD (i := 4) (m' := 31) (d := some 31) (v := .slice na 12 nc) opreg rfl (by decide) rfl rfl (y_move rfl rfl rfl) trivial ?_
  simp only [Act.put, List.setIfInBounds_toArray, List.set_cons_zero, List.set_cons_succ]
  refine at_takeD (i := 5) (m' := 63) (d := some 32) (v := .slice sa X sc) opreg rfl (by decide) rfl rfl (y_move rfl rfl rfl) trivial ?_
  simp only [Act.put, List.setIfInBounds_toArray, List.set_cons_zero, List.set_cons_succ]
  refine at_takeD (i := 6) (m' := 127) (d := some 33) (v := .slice cb M cc) opreg rfl (by decide) rfl rfl (y_move rfl rfl rfl) trivial ?_
  simp only [Act.put, List.setIfInBounds_toArray, List.set_cons_zero, List.set_cons_succ]
  refine at_one (i := 7) (m' := 255) opreg (by decide) rfl ?_
  refine p_call4Q (u := .slice ka kn kc) (v := .slice na 12 nc) (t := .slice sa X sc) (r := .slice cb M cc) (d := some 34) rfl rfl rfl rfl rfl rfl rfl rfl Try.call29 ((ht _ hbd).mono ?_)
  rintro e w1 ⟨v1, rfl, o1, hb1⟩
  have k1 := keep_trans hbd hb1
  refine ⟨_, rfl, trivial, ?_⟩
  simp only [Act.put, List.setIfInBounds_toArray, List.set_cons_zero, List.set_cons_succ]
  refine at_one (i := 8) (m' := 511) opreg (by decide) rfl ?_
  refine p_call2 (u := .slice A (Z - M) (cc - M)) (v := v1) (d := some 35) rfl rfl rfl rfl rfl rfl Try.call33 ((hsa _ _ k1 o1.row).mono ?_)
  rintro e w2 ⟨rfl, hb2⟩
  have k2 := keep_trans k1 hb2
  refine ⟨_, rfl, trivial, ?_⟩
  simp only [Act.put, List.setIfInBounds_toArray, List.set_cons_zero, List.set_cons_succ]
  by_cases hq : cd = tg
  · obtain ⟨rfl, rfl⟩ := hye hq
    have hd : decide (cd = tg) = true := decide_eq_true hq
    rw [hd]
    refine at_takeD (i := 9) (m' := 1023) (d := some 36) (v := .bool false) opreg rfl (by decide) rfl rfl (y_not (b := true) rfl rfl rfl) trivial ?_
    simp only [Act.put, List.setIfInBounds_toArray, List.set_cons_zero, List.set_cons_succ]
    refine at_done opreg (by decide) ?_
    have hm2 := hm _ k2
    clear hm ht hsa hno hye
    go_wp2_with (first
      | (go_at_call 27; refine hm2.mono ?_; rintro e w3 ⟨v3, rfl, o3, hb3⟩)
      | fail)
    go_ret2
    exact ⟨_, rfl, o3.mono k2.size, keep_trans k2 hb3⟩
  · obtain ⟨rfl, rfl⟩ := hno hq
    have hd : decide (cd = tg) = false := decide_eq_false hq
    rw [hd]
    refine at_takeD (i := 9) (m' := 1023) (d := some 36) (v := .bool true) opreg rfl (by decide) rfl rfl (y_not (b := false) rfl rfl rfl) trivial ?_
    simp only [Act.put, List.setIfInBounds_toArray, List.set_cons_zero, List.set_cons_succ]
    refine at_done opreg (by decide) ?_
    clear hm ht hsa hno hye
    go_wp2
    go_ret2
    exact ⟨_, rfl, ⟨World.ownsRow_nil _ _ _ _, fun x hx => by simp at hx⟩, k2⟩
end Go.Proofs.Ytjeofkemfpdieaa

/- Where the document's Mul, Ghash, Seal and Open refuse. -/
namespace Go.Proofs.Ytjeofkemfpdieaa
open Go.RowKit
set_option linter.unusedVariables false
set_option linter.unusedSimpArgs false

set_option maxHeartbeats 2000000 in
set_option maxRecDepth 100000 in
theorem rmulG_no (a b : List Nat) (av bv : Value) (w : World) (ra : Row .u8 256 w av a) (rb : Row .u8 256 w bv b) (h : a.length ≠ 16 ∨ b.length ≠ 16) :
    Calls Try.prog 11 #[av, bv] w fun e w' => e = .returned (.slice none 0 0) ∧ w' = w := by
  obtain ⟨X, hX⟩ : ∃ x : Nat, x = a.length := ⟨_, rfl⟩
  obtain ⟨Y, hY⟩ : ∃ x : Nat, x = b.length := ⟨_, rfl⟩
  obtain ⟨aa, ac, rfl, _⟩ := ra.opens hX.symm
  obtain ⟨ba, bc, rfl, _⟩ := rb.opens hY.symm
  rw [← hX, ← hY] at h
  clear hX hY
  by_cases h1 : X = 16
  · subst h1
    have h2 : Y ≠ 16 := h.resolve_left (by decide)
    clear h
    have y_i : ¬ ((Y : Int) = 16) := by omega
    have y_b : ((Y : Int) == 16) = false := beq_eq_false_iff_ne.2 y_i
    have y_n : ((Y : Int) != 16) = true := by simp [bne, y_b]
    go_enter Try.func11, Try.ntmps11
    go_wp2
    go_ret
    exact ⟨rfl, rfl⟩
  · clear h
    have x_i : ¬ ((X : Int) = 16) := by omega
    have x_b : ((X : Int) == 16) = false := beq_eq_false_iff_ne.2 x_i
    have x_n : ((X : Int) != 16) = true := by simp [bne, x_b]
    go_enter Try.func11, Try.ntmps11
    go_wp2
    go_ret
    exact ⟨rfl, rfl⟩
set_option maxHeartbeats 2000000 in
set_option maxRecDepth 100000 in
theorem rgh_no (h b : List Nat) (hv bv : Value) (w : World) (rh : Row .u8 256 w hv h) (rb : Row .u8 256 w bv b) (hh : h.length ≠ 16 ∨ b.length % 16 ≠ 0) :
    Calls Try.prog 13 #[hv, bv] w fun e w' => e = .returned (.slice none 0 0) ∧ w' = w := by
  obtain ⟨X, hX⟩ : ∃ x : Nat, x = h.length := ⟨_, rfl⟩
  obtain ⟨Y, hY⟩ : ∃ x : Nat, x = b.length := ⟨_, rfl⟩
  obtain ⟨aa, ac, rfl, _⟩ := rh.opens hX.symm
  obtain ⟨ba, bc, rfl, _⟩ := rb.opens hY.symm
  rw [← hX, ← hY] at hh
  clear hX hY
  by_cases h1 : X = 16
  · subst h1
    have h2 : Y % 16 ≠ 0 := hh.resolve_left (by decide)
    clear hh
    obtain ⟨Q, hQ⟩ : ∃ x : Nat, x = Y % 16 := ⟨_, rfl⟩
    have e_Q : (Y : Int) % 16 = (Q : Int) := by omega
    have t_Q : (Y : Int).tmod 16 = (Q : Int) := by rw [Int.tmod_eq_emod_of_nonneg (by omega)]; exact e_Q
    have q_i : ¬ ((Q : Int) = 0) := by omega
    have q_b : ((Q : Int) == 0) = false := beq_eq_false_iff_ne.2 q_i
    have q_n : ((Q : Int) != 0) = true := by simp [bne, q_b]
    clear h2 hQ
    go_enter Try.func13, Try.ntmps13
    go_wp2
    go_ret
    exact ⟨rfl, rfl⟩
  · clear hh
    have x_i : ¬ ((X : Int) = 16) := by omega
    have x_b : ((X : Int) == 16) = false := beq_eq_false_iff_ne.2 x_i
    have x_n : ((X : Int) != 16) = true := by simp [bne, x_b]
    go_enter Try.func13, Try.ntmps13
    go_wp2
    go_ret
    exact ⟨rfl, rfl⟩
set_option maxHeartbeats 2000000 in
set_option maxRecDepth 100000 in
theorem rse_key (key : List Nat) (kv nv sv pv : Value) (w : World) (rk : Row .u8 256 w kv key) (hk : ¬ SzK key) :
    Calls Try.prog 15 #[kv, nv, sv, pv] w fun e w' => e = .returned (.tuple #[.slice none 0 0, .int .i64 10]) ∧ Below w.heap.size w w' := by
  have hzd : decide (key.length = 16 ∨ key.length = 24 ∨ key.length = 32) = false := decide_eq_false hk
  have hsz := rsz_any key kv w rk
  rw [hzd] at hsz
  clear hzd hk rk
  go_enter Try.func15, Try.ntmps15
  go_wp2_with (first | (go_at_call 30; refine hsz.mono ?_; rintro e yy ⟨rfl, hy⟩; obtain rfl := hy.symm) | fail)
  go_ret2
  exact ⟨rfl, Below.refl _ _⟩
set_option maxHeartbeats 2000000 in
set_option maxRecDepth 100000 in
theorem rse_size (key nonce : List Nat) (kv nv sv pv : Value) (w : World) (rk : Row .u8 256 w kv key) (rn : Row .u8 256 w nv nonce) (hk : SzK key) (hn : nonce.length ≠ 12) :
    Calls Try.prog 15 #[kv, nv, sv, pv] w fun e w' => e = .returned (.tuple #[.slice none 0 0, .int .i64 14]) ∧ Below w.heap.size w w' := by
  have hzd : decide (key.length = 16 ∨ key.length = 24 ∨ key.length = 32) = true := decide_eq_true hk
  have hsz := rsz_any key kv w rk
  rw [hzd] at hsz
  obtain ⟨X, hX⟩ : ∃ x : Nat, x = nonce.length := ⟨_, rfl⟩
  obtain ⟨na, nc, rfl, _⟩ := rn.opens hX.symm
  have x_i : ¬ ((X : Int) = 12) := by omega
  have x_b : ((X : Int) == 12) = false := beq_eq_false_iff_ne.2 x_i
  have x_n : ((X : Int) != 12) = true := by simp [bne, x_b]
  clear hzd hk rk hX hn
  go_enter Try.func15, Try.ntmps15
  go_wp2_with (first | (go_at_call 30; refine hsz.mono ?_; rintro e yy ⟨rfl, hy⟩; obtain rfl := hy.symm) | fail)
  go_ret2
  exact ⟨rfl, Below.refl _ _⟩
set_option maxHeartbeats 2000000 in
set_option maxRecDepth 100000 in
theorem rop_key (key : List Nat) (kv nv sv pv : Value) (w : World) (rk : Row .u8 256 w kv key) (hk : ¬ SzK key) :
    Calls Try.prog 17 #[kv, nv, sv, pv] w fun e w' => e = .returned (.tuple #[.slice none 0 0, .int .i64 10]) ∧ Below w.heap.size w w' := by
  have hzd : decide (key.length = 16 ∨ key.length = 24 ∨ key.length = 32) = false := decide_eq_false hk
  have hsz := rsz_any key kv w rk
  rw [hzd] at hsz
  clear hzd hk rk
  go_enter Try.func17, Try.ntmps17
  go_wp2_with (first | (go_at_call 30; refine hsz.mono ?_; rintro e yy ⟨rfl, hy⟩; obtain rfl := hy.symm) | fail)
  go_ret2
  exact ⟨rfl, Below.refl _ _⟩
set_option maxHeartbeats 2000000 in
set_option maxRecDepth 100000 in
theorem rop_size (key nonce : List Nat) (kv nv sv pv : Value) (w : World) (rk : Row .u8 256 w kv key) (rn : Row .u8 256 w nv nonce) (hk : SzK key) (hn : nonce.length ≠ 12) :
    Calls Try.prog 17 #[kv, nv, sv, pv] w fun e w' => e = .returned (.tuple #[.slice none 0 0, .int .i64 14]) ∧ Below w.heap.size w w' := by
  have hzd : decide (key.length = 16 ∨ key.length = 24 ∨ key.length = 32) = true := decide_eq_true hk
  have hsz := rsz_any key kv w rk
  rw [hzd] at hsz
  obtain ⟨X, hX⟩ : ∃ x : Nat, x = nonce.length := ⟨_, rfl⟩
  obtain ⟨na, nc, rfl, _⟩ := rn.opens hX.symm
  have x_i : ¬ ((X : Int) = 12) := by omega
  have x_b : ((X : Int) == 12) = false := beq_eq_false_iff_ne.2 x_i
  have x_n : ((X : Int) != 12) = true := by simp [bne, x_b]
  clear hzd hk rk hX hn
  go_enter Try.func17, Try.ntmps17
  go_wp2_with (first | (go_at_call 30; refine hsz.mono ?_; rintro e yy ⟨rfl, hy⟩; obtain rfl := hy.symm) | fail)
  go_ret2
  exact ⟨rfl, Below.refl _ _⟩
set_option maxHeartbeats 2000000 in
set_option maxRecDepth 100000 in
theorem rop_short (key nonce c : List Nat) (kv nv sv cv : Value) (w : World) (rk : Row .u8 256 w kv key) (rn : Row .u8 256 w nv nonce) (rc : Row .u8 256 w cv c) (hk : SzK key) (hn : nonce.length = 12) (hc : c.length < 16) :
    Calls Try.prog 17 #[kv, nv, sv, cv] w fun e w' => e = .returned (.tuple #[.slice none 0 0, .int .i64 14]) ∧ Below w.heap.size w w' := by
  have hzd : decide (key.length = 16 ∨ key.length = 24 ∨ key.length = 32) = true := decide_eq_true hk
  have hsz := rsz_any key kv w rk
  rw [hzd] at hsz
  obtain ⟨na, nc, rfl, _⟩ := rn.opens hn
  obtain ⟨Y, hY⟩ : ∃ x : Nat, x = c.length := ⟨_, rfl⟩
  obtain ⟨ca, cc, rfl, _⟩ := rc.opens hY.symm
  have i_1 : (Y : Int) < 16 := by omega
  clear hzd hk rk hY hn hc
  go_enter Try.func17, Try.ntmps17
  go_wp2_with (first | (go_at_call 30; refine hsz.mono ?_; rintro e yy ⟨rfl, hy⟩; obtain rfl := hy.symm) | fail)
  go_ret2
  exact ⟨rfl, Below.refl _ _⟩
end Go.Proofs.Ytjeofkemfpdieaa
