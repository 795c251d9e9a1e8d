/- The code's filling, unfilled. -/
import Derived.Test.YteiknfcegchbcaaYRep
import Derived.Test.YteiknfcegchbcaaAesW
import Derived.Test.YteiknfcegchbcaaAEch
import Derived.Test.YteiknfcegchbcaaJBs
import Derived.Test.YteiknfcegchbcaaABl
namespace Go.Proofs.Yteiknfcegchbcaa
open Go.RowKit
set_option linter.unusedVariables false
set_option linter.unusedSimpArgs false

set_option maxHeartbeats 2000000 in
set_option maxRecDepth 100000 in
theorem mul_small (N : Nat) (h1 : 1 ≤ N) (h2 : N ≤ 16) (y : World) : Calls Try.prog 62 #[.int .u64 1, .int .u64 (N : Int)] y fun e y' => e = .returned (.tuple #[.int .u64 0, .int .u64 (N : Int)]) ∧ y' = y := by
  have h16 : N = 1 ∨ N = 2 ∨ N = 3 ∨ N = 4 ∨ N = 5 ∨ N = 6 ∨ N = 7 ∨ N = 8 ∨ N = 9 ∨ N = 10 ∨ N = 11 ∨ N = 12 ∨ N = 13 ∨ N = 14 ∨ N = 15 ∨ N = 16 := by omega
  clear h1 h2
  rcases h16 with h | h | h | h | h | h | h | h | h | h | h | h | h | h | h | h <;> subst h <;>
  · go_enter Try.func62, Try.ntmps62
    go_wp2
    go_ret2
    exact ⟨rfl, rfl⟩
set_option maxHeartbeats 2000000 in
set_option maxRecDepth 100000 in
theorem filling_any (N : Nat) (h1 : 1 ≤ N) (h2 : N ≤ 16) (w : World) :
    Calls Try.prog 34 #[.int .i64 (N : Int)] w fun e w' => ∃ v, e = .returned v ∧ Row .u8 256 w' v (List.replicate N N) ∧ New w.heap.size v ∧ Below w.heap.size w w' := by
  have hlit : Row .u8 256 (w.alloc (.cells #[.int .u8 (N : Int)] 5)) (.slice (some ⟨w.heap.size, 0, none⟩) 1 1) [N] := lit_row .u8 256 w [N] 5 (Under.one (by omega)) (by show 1 ≤ maxLen; decide)
  have hb0 := keep_alloc w (.cells #[.int .u8 (N : Int)] 5)
  have hrep := rep_of _ N N _ hlit (by omega) (by omega) (fun y => mul_small N h1 h2 y)
  have s_8 : IntKind.u8.wrap (N : Int) = (N : Int) := by rw [IntKind.wrap_u8]; omega
  clear hlit
  go_enter Try.func34, Try.ntmps34
  go_wp2_with (first | (go_at_call 54; refine hrep.mono ?_; rintro e w1 ⟨v1, rfl, r1, n1, hb1⟩) | fail)
  go_ret
  exact ⟨_, rfl, r1, n1.mono hb0.size, keep_trans hb0 hb1⟩
theorem tidy_nilA : Tidy (.slice none 0 0) := fun n c e => by cases e; exact ⟨rfl, rfl⟩
theorem own_tidyA {e : TypeId} {k : IntKind} {m : Nat} {w : World} {B : Nat} {v : Value} {l : List Nat} (h : Own e k m w B v l) : Tidy v := by
  rcases h.1.2 with ⟨rfl, _⟩ | ⟨g, cap, cur, rfl, _⟩
  · exact tidy_nilA
  · intro n c e
    cases e
theorem rows_lit1A {w : World} {u : Value} {a : List Nat} (hu : Row .u8 256 w u a) (tu : Tidy u) : Rows2 (w.alloc (.cells #[u] 22)) (.slice (some ⟨w.heap.size, 0, none⟩) 1 1) [a] := by
  refine ⟨_, 1, rfl, Nat.le_refl _, by unfold maxLen; decide, fun _ => ⟨_, _, rfl, fun i hi => ?_⟩⟩
  have hb := keep_alloc w (.cells #[u] 22)
  match i, hi with
  | 0, _ => exact ⟨u, by rw [World.cell?_alloc_at _ _ _ _ rfl]; rfl, hu.below hb, tu⟩
set_option maxHeartbeats 4000000 in
set_option maxRecDepth 100000 in
theorem unfilled_any (X : List Nat) (v : Value) (w : World) (rX : Row .u8 256 w v X) (h16 : 16 ≤ X.length) (hb6 : X.length ≤ 100000) :
    Calls Try.prog 38 #[v] w fun e w' => ∃ v', e = .returned (.tuple #[v', .int .i64 (unpC X)]) ∧ Row .u8 256 w' v' (unpX X) ∧ New w.heap.size v' ∧ Below w.heap.size w w' ∧ Tidy v' := by
  have hU := rX.under
  obtain ⟨Z, hZ⟩ : ∃ x : Nat, x = X.length := ⟨_, rfl⟩
  obtain ⟨xa, xc, rfl, lo1, lo2, go3⟩ := rX.opens hZ.symm
  obtain ⟨Xb, Xo, rfl, hcX⟩ := go3 (by omega)
  obtain ⟨Z1, hZ1'⟩ : ∃ x : Nat, x = Z - 1 := ⟨_, rfl⟩
  have e_Z1 : (Z : Int) - 1 = (Z1 : Int) := by omega
  have s_Z1 : IntKind.i64.wrap (Z1 : Int) = (Z1 : Int) := by rw [IntKind.wrap_i64]; omega
  have l_Z1 : (Z1 : Int) < (Z : Int) := by omega
  have cZ := hcX Z1 (by omega)
  have hno := unpO_no (X := X)
  have hyes := unpO_yes (X := X)
  rw [← hZ, ← hZ1'] at hno hyes
  have hx := el_lt hU (by decide) Z1
  have hmid := fun (i : Nat) (hi : i ≤ Z) => rX.mid (i := i) (j := Z) hi (by omega)
  have hcut := fun M (hM : M ≤ X.length) => rX.cut hM
  have htk : ∀ i, i ≤ Z → (X.drop i).take (Z - i) = X.drop i := fun i hi => List.take_of_length_le (by rw [List.length_drop]; omega)
  have HH := hide (And.intro hno (And.intro hyes (And.intro hmid (And.intro hcut (And.intro htk hZ)))))
  clear hno hyes hmid hcut htk rX go3 hcX hZ1'
  generalize el X Z1 = n0 at *
  have s_n0 : IntKind.i64.wrap (n0 : Int) = (n0 : Int) := by rw [IntKind.wrap_i64]; omega
  have HZ6 : Hid (16 ≤ Z ∧ Z ≤ 100000) := hide (by omega)
  clear h16 hb6 hZ
  by_cases hA : 1 ≤ n0 ∧ n0 ≤ 16
  · obtain ⟨hA1, hA2⟩ := hA
    have i_1 : ¬ ((n0 : Int) < 1) := by omega
    have i_2 : ¬ ((16 : Int) < (n0 : Int)) := by omega
    obtain ⟨S, hS⟩ : ∃ x : Nat, x = Z - n0 := ⟨_, rfl⟩
    have hZ6 := HZ6.out
    have e_S : (Z : Int) - (n0 : Int) = (S : Int) := by omega
    have s_S : IntKind.i64.wrap (S : Int) = (S : Int) := by rw [IntKind.wrap_i64]; omega
    have z_S : (0 : Int) ≤ (S : Int) := Int.natCast_nonneg _
    have l_SZ : (S : Int) ≤ (Z : Int) := by omega
    have l_Sc : (S : Int) ≤ (xc : Int) := by omega
    have n_S : ¬ xc = S := by omega
    have HS : Hid (S = Z - n0 ∧ S ≤ Z) := hide ⟨hS, by omega⟩
    have d_ZS : Z - S = n0 := by omega
    clear hS hZ6
    have hfl := fun y => filling_any n0 hA1 hA2 y
    have hbd : Below w.heap.size w w.drew := (Below.refl _ _).drew
    have rT := (HH.out.2.2.1 S HS.out.2).below hbd
    rw [HH.out.2.2.2.2.1 S HS.out.2, d_ZS] at rT
    by_cases hD : X.drop S = List.replicate n0 n0
    · go_enter Try.func38, Try.ntmps38
      go_wp2
      go_region_with (first
        | (go_at_call 34; refine (hfl _).mono ?_; rintro e w1 ⟨v1, rfl, r1, _, hb1⟩; have hsm := bsame_any _ _ _ _ w1 (rT.below hb1) r1; rw [decide_eq_true hD] at hsm)
        | (go_at_call 57; refine hsm.mono ?_; rintro e w2 ⟨rfl, hb2⟩)
        | fail)
      all_goals
        have hb12 := keep_trans (un_drew hb1) hb2
        have rC := (HH.out.2.2.2.1 S (by have := HH.out.2.2.2.2.2; have := HS.out.2; omega)).below hb12
        have hj := join_any _ [X.take S] _ (rows_lit1A rC (tidy_atA _ _ _)) (by simp; have := HZ6.out; have := HS.out.2; omega)
        rw [show [X.take S].flatten = X.take S by simp] at hj
        go_wp2_with (first | (go_at_call 33; refine hj.mono ?_; rintro e w3 ⟨v3, rfl, o3, hb3⟩) | fail)
        go_ret2
        have hY := HH.out.2.1 ⟨hA1, hA2, by rw [← HS.out.1]; exact hD⟩
        rw [← HS.out.1] at hY
        obtain ⟨u1, u2⟩ := unp_yes hY
        rw [u1, u2]
        have hb4 := keep_trans hb12 (keep_alloc w2 (.cells #[.slice (some ⟨Xb, Xo, none⟩) S xc] 22))
        exact ⟨_, rfl, o3.row, (o3.mono hb4.size).new, keep_trans hb4 hb3, own_tidyA o3⟩
    · go_enter Try.func38, Try.ntmps38
      go_wp2
      go_region_with (first
        | (go_at_call 34; refine (hfl _).mono ?_; rintro e w1 ⟨v1, rfl, r1, _, hb1⟩; have hsm := bsame_any _ _ _ _ w1 (rT.below hb1) r1; rw [decide_eq_false hD] at hsm)
        | (go_at_call 57; refine hsm.mono ?_; rintro e w2 ⟨rfl, hb2⟩)
        | fail)
      all_goals
        have hb12 := keep_trans (un_drew hb1) hb2
        go_wp2_with fail
        go_ret2
        have hN : unpO X = none := HH.out.1 (fun h => hD (by rw [HS.out.1]; exact h.2.2))
        obtain ⟨u1, u2⟩ := unp_no hN
        rw [u1, u2]
        exact ⟨_, rfl, Row.nil _ _ _, New.nil _ _ _, hb12, tidy_nilA⟩
  · have hN : unpO X = none := HH.out.1 (fun h => hA ⟨h.1, h.2.1⟩)
    obtain ⟨u1, u2⟩ := unp_no hN
    have HU1 := hide (And.intro u1 u2)
    clear u1 u2 hN
    by_cases hA0 : 1 ≤ n0
    · have i_1 : ¬ ((n0 : Int) < 1) := by omega
      have i_2 : (16 : Int) < (n0 : Int) := by omega
      clear hA
      go_enter Try.func38, Try.ntmps38
      go_wp2
      go_ret2
      rw [HU1.out.1, HU1.out.2]
      exact ⟨_, rfl, Row.nil _ _ _, New.nil _ _ _, Below.refl _ _, tidy_nilA⟩
    · have i_1 : (n0 : Int) < 1 := by omega
      clear hA
      go_enter Try.func38, Try.ntmps38
      go_wp2
      go_ret2
      rw [HU1.out.1, HU1.out.2]
      exact ⟨_, rfl, Row.nil _ _ _, New.nil _ _ _, Below.refl _ _, tidy_nilA⟩
end Go.Proofs.Yteiknfcegchbcaa

/- Chain and Unchain: what both loops share. -/
namespace Go.Proofs.Yteiknfcegchbcaa
open Go.RowKit Go.Shelf
set_option linter.unusedVariables false
set_option linter.unusedSimpArgs false
attribute [local go_sem] Oper.semAt_some

set_option maxHeartbeats 2000000 in
set_option maxRecDepth 100000 in
theorem blocks_any (xb xo xc Z : Nat) (w : World) :
    Calls Try.prog 35 #[.slice (some ⟨xb, xo, none⟩) Z xc] w fun e w' => e = .returned (.func (.func 55) #[] #[.pointer (some ⟨w.heap.size, 0, none⟩)]) ∧ w' = w.alloc (.cells #[.slice (some ⟨xb, xo, none⟩) Z xc] 22) := by
  go_enter Try.func35, Try.ntmps35
  go_wp2
  go_ret
  exact ⟨rfl, rfl⟩
section
variable (h : Nat → List Nat → List Nat × List Nat) (f : List Nat)
/-- a step: the block that came last, and what is out -/
def stp (s : List Nat × List Nat) (i : Nat) : List Nat × List Nat := ((h i s.1).1, s.2 ++ (h i s.1).2)
def stG {N : Nat} (pre : List (Fin N)) : List Nat × List Nat := pre.foldl (fun s x => stp h s x.1) (f, [])
theorem stG_snoc {N : Nat} (pre : List (Fin N)) (x : Fin N) : stG h f (pre ++ [x]) = stp h (stG h f pre) x.1 := by
  unfold stG
  rw [List.foldl_append]
  rfl
end
section
variable {h : Nat → List Nat → List Nat × List Nat} {f : List Nat} {N : Nat}
theorem stG_b (hf : B16 f) (hh : ∀ i l, i < N → B16 l → B16 (h i l).1 ∧ B16 (h i l).2) (pre : List (Fin N)) : B16 (stG h f pre).1 ∧ (stG h f pre).2.length = 16 * pre.length ∧ Under 256 (stG h f pre).2 := by
  have key : ∀ (pre : List (Fin N)) (s : List Nat × List Nat), B16 s.1 → Under 256 s.2 → B16 (pre.foldl (fun s x => stp h s x.1) s).1 ∧ (pre.foldl (fun s x => stp h s x.1) s).2.length = s.2.length + 16 * pre.length ∧ Under 256 (pre.foldl (fun s x => stp h s x.1) s).2 := by
    intro pre
    induction pre with
    | nil => intro s h1 h2; exact ⟨h1, by simp, h2⟩
    | cons x pre ih =>
      intro s h1 h2
      obtain ⟨g1, g2⟩ := hh x.1 s.1 x.2 h1
      obtain ⟨k1, k2, k3⟩ := ih (stp h s x.1) g1 (Under.append h2 g2.2)
      refine ⟨k1, k2.trans ?_, k3⟩
      show (s.2 ++ (h x.1 s.1).2).length + _ = _
      rw [List.length_append, g2.1, List.length_cons]
      omega
  obtain ⟨k1, k2, k3⟩ := key pre (f, []) hf (fun x hx => by cases hx)
  exact ⟨k1, k2.trans (Nat.zero_add _), k3⟩
end
/-- Chain's step and Unchain's -/
def hC (T : List Nat → List Nat) (L : List Nat) (i : Nat) (l : List Nat) : List Nat × List Nat := (T (xr2 (blkOf L i) l), T (xr2 (blkOf L i) l))
def hU (B : List Nat → List Nat) (L : List Nat) (i : Nat) (l : List Nat) : List Nat × List Nat := (blkOf L i, xr2 (B (blkOf L i)) l)
theorem stC_is (T : List Nat → List Nat) (f L : List Nat) {N : Nat} : ∀ k, k ≤ N → stG (hC T L) f (finL N k) = (lastC T f L k, outC T f L k)
  | 0, _ => rfl
  | k + 1, hk => by rw [finL_next (by omega), stG_snoc, stC_is T f L k (by omega)]; rfl
theorem stU_is (B : List Nat → List Nat) (f L : List Nat) {N : Nat} : ∀ k, k ≤ N → stG (hU B L) f (finL N k) = (prevU f L k, outU B f L k)
  | 0, _ => rfl
  | k + 1, hk => by rw [finL_next (by omega), stG_snoc, stU_is B f L k (by omega)]; rfl
theorem hC_b {T : List Nat → List Nat} {L : List Nat} {N : Nat} (hT : ∀ s, B16 s → B16 (T s)) (hu : Under 256 L) (hL : L.length = 16 * N) (i : Nat) (l : List Nat) (hi : i < N) (hl : B16 l) : B16 (hC T L i l).1 ∧ B16 (hC T L i l).2 :=
  have := hT _ (xr2_b (blkOf_b (i := i) hu (by omega)) hl)
  ⟨this, this⟩
theorem hU_b {B : List Nat → List Nat} {L : List Nat} {N : Nat} (hB : ∀ s, B16 s → B16 (B s)) (hu : Under 256 L) (hL : L.length = 16 * N) (i : Nat) (l : List Nat) (hi : i < N) (hl : B16 l) : B16 (hU B L i l).1 ∧ B16 (hU B L i l).2 :=
  ⟨blkOf_b hu (by omega), xr2_b (hB _ (blkOf_b hu (by omega))) hl⟩
/-- where a loop stands with n bytes out -/
structure LpI (w3 : World) (Bo Bc Ba g C : Nat) (tc : TypeId) (cv : Value) (R : World → Prop) (last out : List Nat) (n : Nat) (W : World) : Prop where
  box : Boxed W Bo 22 (.slice (some ⟨g, 0, none⟩) n C)
  row : W.ownsRow w3.heap.size 5 1 (.slice (some ⟨g, 0, none⟩) n C) n (vals .u8 out)
  cph : Boxed W Bc tc cv
  rdy : R W
  ahd : Lies .u32 40 W Ba (sw last)
  bel : Below w3.heap.size w3 W
/-- a fact that stands where no cells are turned -/
def Own1 (R : World → Prop) : Prop := ∀ A B row, R A → A.grownBy B row → (∀ r, row = some r → ∃ o : Obj, A.heap[r]? = some o ∧ o.isCells = false) → R B
theorem cells_kept {A B : World} {row : Option Nat} (hg : A.grownBy B row) (hr : ∀ r, row = some r → ∃ o : Obj, A.heap[r]? = some o ∧ o.isCells = false) {k : Nat} {cs : Array Value} {t : TypeId} {fz : Nat × Nat} (h : A.heap[k]? = some (.cells cs t fz)) : B.heap[k]? = some (.cells cs t fz) := by
  refine (hg.block k (Array.getElem?_eq_some_iff.1 h).1 fun e => ?_).trans h
  obtain ⟨o, ho, hc⟩ := hr k e.symm
  rw [h] at ho
  cases ho
  cases hc
theorem Cph.keep {A B : World} {g n : Nat} {ws T : List Nat} (h : Cph A g n ws T) (k : B.heap[g]? = some (.cells (cl n ws T).toArray 66 (0, 0))) : Cph B g n ws T := ⟨k, h.lw, h.lt⟩
theorem Ready.own (v : Value) (key : List Nat) : Own1 (fun W => Ready W v key) := by
  rintro A B row ⟨g, k, ws, h1, h2, h3, h4, h5, h6⟩ hg hr
  exact ⟨g, k, ws, h1, h2, h3, h4, h5.keep (cells_kept hg hr h5.here), h6⟩
theorem Ready.but {A B : World} {v : Value} {key : List Nat} {q : Nat} {cs : Array Value} {t : TypeId} (h : Ready A v key) (hb : But q A B) (hq : A.heap[q]? = some (.cells cs t (0, 0))) (ht : t ≠ 66) : Ready B v key := by
  obtain ⟨g, k, ws, h1, h2, h3, h4, h5, h6⟩ := h
  refine ⟨g, k, ws, h1, h2, h3, h4, h5.but hb ?_, h6⟩
  rintro rfl
  rw [h5.here] at hq
  cases hq
  exact ht rfl
theorem own_butA {w w' : World} {base : Nat} {e : TypeId} {size : Nat} {g q c : Nat} {n : Nat} {xs : List Value} (h : w.ownsRow base e size (.slice (some ⟨g, 0, none⟩) n c) n xs) (hb : But q w w') (hn : g ≠ q) : w'.ownsRow base e size (.slice (some ⟨g, 0, none⟩) n c) n xs :=
  h.kept (row := some q) ⟨hb.os, hb.tape, hb.output, hb.size, fun k hk hne => hb.block k hk fun e => hne (by rw [e])⟩ (.inr fun e => hn (by cases e; rfl))
/-- what stands where blocks of other types are turned -/
structure Stays (tc : TypeId) (R : World → Prop) : Prop where
  own : Own1 R
  below : ∀ A B, R A → Below A.heap.size A B → R B
  but : ∀ A B q cs t, R A → But q A B → A.heap[q]? = some (.cells cs t (0, 0)) → (t = 5 ∨ t = 22 ∨ t = 40) → R B
theorem Ready.stays (v : Value) (key : List Nat) : Stays 41 (fun W => Ready W v key) :=
  ⟨Ready.own v key, fun A B h hb => h.below hb, fun A B q cs t h hb hq ht => h.but hb hq (by rcases ht with rfl | rfl | rfl <;> decide)⟩
theorem ReadyB.stays (v : Value) (key : List Nat) : Stays 52 (fun W => ReadyB W v key) := by
  refine ⟨?_, fun A B h hb => h.below hb, ?_⟩
  · rintro A B row ⟨d, g, k, ws, h1, h2, h3, h4, h7, h5, h6⟩ hg hr
    exact ⟨d, g, k, ws, h1, h2, h3, h4, ⟨cells_kept hg hr h7.here⟩, h5.keep (cells_kept hg hr h5.here), h6⟩
  · rintro A B q cs t ⟨d, g, k, ws, h1, h2, h3, h4, h7, h5, h6⟩ hb hq ht
    refine ⟨d, g, k, ws, h1, h2, h3, h4, ⟨(hb.block d h7.old ?_).trans h7.here⟩, h5.but hb ?_, h6⟩
    · rintro rfl
      rw [h7.here] at hq
      cases hq
      rcases ht with ht | ht | ht <;> exact absurd ht (by decide)
    · rintro rfl
      rw [h5.here] at hq
      cases hq
      rcases ht with ht | ht | ht <;> exact absurd ht (by decide)
theorem Row.own1 (k : IntKind) (m : Nat) (v : Value) (l : List Nat) : Own1 (fun W => Row k m W v l) := by
  rintro A B row ⟨a, cap, he, h1, h2, h3, h4⟩ hg hr
  refine ⟨a, cap, he, h1, h2, fun hl => ?_, h4⟩
  obtain ⟨b, off, ha, hc⟩ := h3 hl
  refine ⟨b, off, ha, fun i hi => hg.cell (hc i hi) fun e => ?_⟩
  obtain ⟨o, ho, ho2⟩ := hr b e.symm
  have := hc i hi
  unfold World.cell? at this
  simp only [ho] at this
  cases o <;> simp_all [Obj.isCells]
section
variable {w3 : World} {Bo Bc Ba g C : Nat} {tc : TypeId} {cv : Value} {R : World → Prop} {last out : List Nat} {n : Nat} {W W' : World}
theorem LpI.own (hR : Stays tc R) {D : Nat} (hD : w3.heap.size ≤ D) {row : Option Nat} (h : LpI w3 Bo Bc Ba g C tc cv R last out n W) (hg : W.grownBy W' row) (hr : ∀ r, row = some r → D ≤ r ∧ ∃ o : Obj, W.heap[r]? = some o ∧ o.isCells = false) : LpI w3 Bo Bc Ba g C tc cv R last out n W' := by
  have hr2 := fun r e => (hr r e).2
  refine ⟨cells_kept hg hr2 h.box, h.row.kept hg (.inr fun e => ?_), cells_kept hg hr2 h.cph, hR.own _ _ _ h.rdy hg hr2, cells_kept hg hr2 h.ahd, h.bel.grown hg h.bel.size fun r e => ?_⟩
  · obtain ⟨o, ho, hc⟩ := hr2 g e.symm
    rcases h.row.2 with ⟨e2, _⟩ | ⟨g', cap, cur, hv, hb, hg2, _⟩
    · cases e2
    · cases hv
      rw [hg2] at ho
      cases ho
      cases hc
  · have := (hr r e).1
    omega
theorem LpI.below (hR : Stays tc R) (h : LpI w3 Bo Bc Ba g C tc cv R last out n W) (hb : Below W.heap.size W W') : LpI w3 Bo Bc Ba g C tc cv R last out n W' :=
  ⟨(hb.block _ h.box.lt).trans h.box, own_belowA h.row hb, (hb.block _ h.cph.lt).trans h.cph, hR.below _ _ h.rdy hb, h.ahd.below hb, h.bel.trans (hb.mono h.bel.size)⟩
/-- which blocks the loop's are -/
structure Bks (w3 : World) (Bo Bc Ba g : Nat) : Prop where
  h1 : w3.heap.size ≤ g
  h2 : g < Bo
  h3 : Bo < Bc
  h4 : Bc < Ba
theorem LpI.ahead (hR : Stays tc R) (hB : Bks w3 Bo Bc Ba g) (h : LpI w3 Bo Bc Ba g C tc cv R last out n W) (hb : But Ba W W') {new : List Nat} (hn : Lies .u32 40 W' Ba (sw new)) : LpI w3 Bo Bc Ba g C tc cv R new out n W' := by
  obtain ⟨h1, h2, h3, h4⟩ := hB
  exact ⟨(hb.block _ h.box.lt (by omega)).trans h.box, own_butA h.row hb (by omega), (hb.block _ h.cph.lt (by omega)).trans h.cph, hR.but _ _ _ _ _ h.rdy hb h.ahd (.inr (.inr rfl)), hn, h.bel.trans (hb.below (by omega) h.bel.size)⟩
theorem LpI.ontoB (hR : Stays tc R) (hB : Bks w3 Bo Bc Ba g) (h : LpI w3 Bo Bc Ba g C tc cv R last out n W) (hb : But g W W') {n' : Nat} {out' : List Nat} (hn : W'.ownsRow w3.heap.size 5 1 (.slice (some ⟨g, 0, none⟩) n' C) n' (vals .u8 out')) : LpI w3 Bo Bc Ba g C tc cv R last out' n' (W'.setCell ⟨Bo, 0, none⟩ (.slice (some ⟨g, 0, none⟩) n' C)) := by
  obtain ⟨h1, h2, h3, h4⟩ := hB
  have bx : Boxed W' Bo 22 (.slice (some ⟨g, 0, none⟩) n C) := (hb.block _ h.box.lt (by omega)).trans h.box
  have b2 : But Bo W' (W'.setCell ⟨Bo, 0, none⟩ (.slice (some ⟨g, 0, none⟩) n' C)) := (But.refl _ _).setCell 0 _
  obtain ⟨cs, hcs⟩ : ∃ cs, W.heap[g]? = some (.cells cs 5 (0, 0)) := by
    rcases h.row.2 with ⟨e2, _⟩ | ⟨g', cap, cur, hv, hb, hg2, _⟩
    · cases e2
    · cases hv
      exact ⟨_, hg2⟩
  have c1 : Boxed W' Bc tc cv := (hb.block _ h.cph.lt (by omega)).trans h.cph
  have a1 := h.ahd.but hb (by omega)
  have b3 := h.bel.trans (hb.below h1 h.bel.size)
  exact ⟨bx.set _, own_butA hn b2 (by omega), (b2.block _ c1.lt (by omega)).trans c1, hR.but _ _ _ _ _ (hR.but _ _ _ _ _ h.rdy hb hcs (.inl rfl)) b2 bx (.inr (.inl rfl)), a1.but b2 (by omega), b3.trans (b2.below (by omega) b3.size)⟩
theorem kept_below {lo : Nat} (hb : Below W.heap.size W W') : Kept lo W W' := ⟨hb.size, fun k _ h2 => hb.block k h2⟩
theorem kept_but {lo q : Nat} (hb : But q W W') (hq : q < lo) : Kept lo W W' := ⟨hb.size, fun k h1 h2 => hb.block k h2 (by omega)⟩
/-- where a loop begins -/
theorem LpI.start {w5 : World} (f : List Nat) (b : Boxed w5 Bo 22 (.slice (some ⟨g, 0, none⟩) 0 C)) (r : w5.ownsRow w3.heap.size 5 1 (.slice (some ⟨g, 0, none⟩) 0 C) 0 (vals .u8 [])) (hR : Stays tc R) (y : R w5) (hb : Below w3.heap.size w3 w5) (tv : Value) (WL : World)
    (hWL : WL = ((w5.alloc (.cells #[cv] tc)).alloc (.cells #[.int .u32 (el (sw f) 0), .int .u32 (el (sw f) 1), .int .u32 (el (sw f) 2), .int .u32 (el (sw f) 3)] 40)).alloc (.cells #[tv] 22)) :
    LpI w3 Bo w5.heap.size (w5.heap.size + 1) g C tc cv R f [] 0 WL ∧ Boxed WL (w5.heap.size + 1 + 1) 22 tv ∧ WL.heap.size = w5.heap.size + 3 ∧ Below w5.heap.size w5 WL := by
  have hL : Below w5.heap.size w5 WL := by rw [hWL]; exact keep_trans (keep_trans (keep_alloc _ _) (keep_alloc _ _)) (keep_alloc _ _)
  have c0 := Boxed.new w5 tc cv
  have a0 := Lies.new .u32 40 (w5.alloc (.cells #[cv] tc)) (sw f)
  have t0 := Boxed.new ((w5.alloc (.cells #[cv] tc)).alloc (.cells #[.int .u32 (el (sw f) 0), .int .u32 (el (sw f) 1), .int .u32 (el (sw f) 2), .int .u32 (el (sw f) 3)] 40)) 22 tv
  rw [arr4 .u32 (sw f) rfl, World.size_alloc] at a0
  rw [World.size_alloc, World.size_alloc] at t0
  refine ⟨⟨(hL.block _ b.lt).trans b, own_belowA r hL, ?_, hR.below _ _ y hL, ?_, hb.trans (hL.mono hb.size)⟩, by rw [hWL]; exact t0, by rw [hWL]; simp, hL⟩
  · rw [hWL]; exact (c0.alloc _).alloc _
  · rw [hWL]; exact a0.alloc _
end
end Go.Proofs.Yteiknfcegchbcaa
