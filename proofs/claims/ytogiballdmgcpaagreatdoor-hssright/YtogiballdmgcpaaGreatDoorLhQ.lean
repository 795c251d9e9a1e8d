/- Trees of trees, the program's own: Sign. -/
import Derived.Test.YtogiballdmgcpaaGreatDoorLhP
namespace Go.Proofs.YtogiballdmgcpaaGreatDoor
open Go.RowKit Go.Shelf
set_option linter.unusedVariables false
set_option linter.unusedSimpArgs false
attribute [local go_sem] Oper.semAt_some

/-- where Sign's loop stands, but for the slice of texts -/
structure SgA (w : World) (A B2 n : Nat) (Off : Nat → Prop) (ts : List (Int × Int)) (vc id seed : List Nat) (i : Nat) (W : World) : Prop where
  ba : (i = 0 → BxH W A (.int .i64 0) (.int .i64 0) (.slice none 0 0) (.slice none 0 0) (.int .u32 0)) ∧ ∀ p, i = p + 1 → ∃ iv sv, BxH W A (.int .i64 (trA ts p).1) (.int .i64 (trA ts p).2) iv sv (.int .u32 (el vc p : Nat)) ∧ LvT vc id seed p W iv sv ∧ (∀ q, iv.ownBlock = some q → Off q) ∧ ∀ q, sv.ownBlock = some q → Off q
  bq : Boxed W B2 26 (.int .u64 (n : Int))
  bel : Below w.heap.size w W
/-- where Sign's loop stands -/
structure SgI (w : World) (P A B2 n : Nat) (Off : Nat → Prop) (ts : List (Int × Int)) (vc id seed : List Nat) (i : Nat) (vo : Value) (W : World) : Prop where
  bp : Boxed W P 48 vo
  gr : GrH W w.heap.size Off vo (hsO ts vc id seed (i - 1))
  a : SgA w A B2 n Off ts vc id seed i W
theorem LvT.ownH {vc id seed : List Nat} {i : Nat} {A B : World} {iv sv : Value} (h : LvT vc id seed i A iv sv) {row : Option Nat} (hg : A.grownBy B row) (hr : ∀ r, row = some r → ∃ o : Obj, A.heap[r]? = some o ∧ o.isCells = false) : LvT vc id seed i B iv sv := ⟨row_ownL h.ri hg hr, h.ti, row_ownL h.rs hg hr, h.ts⟩
theorem SgA.own {w W W' : World} {A B2 n i D : Nat} {Off : Nat → Prop} {ts : List (Int × Int)} {vc id seed : List Nat} (q : SgA w A B2 n Off ts vc id seed i W) (hD : w.heap.size ≤ D) {row : Option Nat} (hg : W.grownBy W' row) (hr : ∀ r, row = some r → D ≤ r ∧ ∃ o : Obj, W.heap[r]? = some o ∧ o.isCells = false) : SgA w A B2 n Off ts vc id seed i W' := by
  have hr2 := fun r e => (hr r e).2
  refine ⟨⟨fun h => ⟨cells_keptL hg hr2 (q.ba.1 h).here⟩, fun p hp => ?_⟩, cells_keptL hg hr2 q.bq, q.bel.grown hg q.bel.size fun r e => by have := (hr r e).1; omega⟩
  obtain ⟨iv, sv, h1, h2, h3, h4⟩ := q.ba.2 p hp
  exact ⟨iv, sv, ⟨cells_keptL hg hr2 h1.here⟩, h2.ownH hg hr2, h3, h4⟩
theorem SgI.own {w W W' : World} {P A B2 n i D : Nat} {Off : Nat → Prop} {ts : List (Int × Int)} {vc id seed : List Nat} {vo : Value} (q : SgI w P A B2 n Off ts vc id seed i vo W) (hD : w.heap.size ≤ D) {row : Option Nat} (hg : W.grownBy W' row) (hr : ∀ r, row = some r → D ≤ r ∧ ∃ o : Obj, W.heap[r]? = some o ∧ o.isCells = false) : SgI w P A B2 n Off ts vc id seed i vo W' := by
  have hr2 := fun r e => (hr r e).2
  exact ⟨cells_keptL hg hr2 q.bp, q.gr.own hg hr2, q.a.own hD hg hr⟩
theorem SgA.but {w W W' : World} {A B2 n i k : Nat} {Off : Nat → Prop} {ts : List (Int × Int)} {vc id seed : List Nat} (q : SgA w A B2 n Off ts vc id seed i W) (hb : But k W W') (h1 : A ≠ k) (h2 : B2 ≠ k) (h3 : ¬ Off k) (h4 : w.heap.size ≤ k) : SgA w A B2 n Off ts vc id seed i W' := by
  refine ⟨⟨fun h => (q.ba.1 h).but hb h1, fun p hp => ?_⟩, boxed_butL q.bq hb h2, q.bel.trans (hb.below h4 q.bel.size)⟩
  obtain ⟨iv, sv, e1, e2, e3, e4⟩ := q.ba.2 p hp
  exact ⟨iv, sv, e1.but hb h1, e2.but hb (fun q hq (e : q = k) => h3 (by rw [← e]; exact e3 q hq)) (fun q hq (e : q = k) => h3 (by rw [← e]; exact e4 q hq)), e3, e4⟩
theorem SgI.but {w W W' : World} {P A B2 n i k : Nat} {Off : Nat → Prop} {ts : List (Int × Int)} {vc id seed : List Nat} {vo : Value} (q : SgI w P A B2 n Off ts vc id seed i vo W) (hb : But k W W') (h0 : P ≠ k) (h1 : A ≠ k) (h2 : B2 ≠ k) (h3 : ¬ Off k) (h4 : w.heap.size ≤ k) : SgI w P A B2 n Off ts vc id seed i vo W' :=
  ⟨boxed_butL q.bp hb h0, q.gr.but hb h3, q.a.but hb h1 h2 h3 h4⟩
theorem grow_heapH {y z : World} {row : Option Nat} {k : Nat} {o : Obj} (hg : y.grownBy z row) (h : y.heap[k]? = some o) (hk : some k ≠ row) : z.heap[k]? = some o := (hg.block _ (Array.getElem?_eq_some_iff.1 h).1 hk).trans h
/-- what two texts more and a new level above leave -/
theorem sg_step {w W y w6 : World} {P A B2 n D D0 Z p : Nat} {Off : Nat → Prop} {ts : List (Int × Int)} {vc id seed : List Nat} {vo vn iv sv : Value} (lp : SgI w P A B2 n Off ts vc id seed (p + 1) vo W) (hb : Below W.heap.size W y) (hg : y.grownBy w6 vo.ownBlock) (hG : GrH w6 w.heap.size Off vn (hsO ts vc id seed (p + 1)))
    (bz : BxH W Z (.int .i64 (trA ts (p + 1)).1) (.int .i64 (trA ts (p + 1)).2) iv sv (.int .u32 (el vc (p + 1) : Nat))) (hLT : LvT vc id seed (p + 1) W iv sv) (hoi : ∀ q, iv.ownBlock = some q → Off q) (hos : ∀ q, sv.ownBlock = some q → Off q) (hiv : ∀ q, iv.ownBlock = some q → some q ≠ vo.ownBlock) (hsv : ∀ q, sv.ownBlock = some q → some q ≠ vo.ownBlock)
    (hOP : ¬ Off P) (hOA : ¬ Off A) (hPA : P ≠ A) (hPB : P ≠ B2) (hAB : A ≠ B2) (hwP : w.heap.size ≤ P) (hwA : w.heap.size ≤ A) (hZP : Z ≠ P) (hPD : P < D) (hAD : A < D) (hDD : D ≤ D0) (hvD : ∀ q, vo.ownBlock = some q → q < D0 ∧ (q < D ∨ D + 3 ≤ q)) (hvw : ∀ q, vo.ownBlock = some q → w.heap.size ≤ q) :
    BxH (w6.setCell ⟨P, 0, none⟩ vn) Z (.int .i64 (trA ts (p + 1)).1) (.int .i64 (trA ts (p + 1)).2) iv sv (.int .u32 (el vc (p + 1) : Nat)) ∧
    SgI w P A B2 n Off ts vc id seed (p + 2) vn ((w6.setCell ⟨P, 0, none⟩ vn).setRow A #[.int .i64 (trA ts (p + 1)).1, .int .i64 (trA ts (p + 1)).2, iv, sv, .int .u32 (el vc (p + 1) : Nat)]) ∧
    Kept D0 W ((w6.setCell ⟨P, 0, none⟩ vn).setRow A #[.int .i64 (trA ts (p + 1)).1, .int .i64 (trA ts (p + 1)).2, iv, sv, .int .u32 (el vc (p + 1) : Nat)]) ∧
    (∀ k, D ≤ k → k < D + 3 → k < W.heap.size → ((w6.setCell ⟨P, 0, none⟩ vn).setRow A #[.int .i64 (trA ts (p + 1)).1, .int .i64 (trA ts (p + 1)).2, iv, sv, .int .u32 (el vc (p + 1) : Nat)]).heap[k]? = W.heap[k]?) := by
  obtain ⟨us, hown, _⟩ := lp.gr.ex
  have hne : ∀ {k : Nat} {cs : Array Value} {t : TypeId} {fz : Nat × Nat}, W.heap[k]? = some (.cells cs t fz) → t ≠ 23 → some k ≠ vo.ownBlock := fun h ht e => own_neH hown h ht _ e.symm rfl
  obtain ⟨iv1, sv1, bA, _⟩ := lp.a.ba.2 p rfl
  have kz : w6.heap[Z]? = some (.cells #[.int .i64 (trA ts (p + 1)).1, .int .i64 (trA ts (p + 1)).2, iv, sv, .int .u32 (el vc (p + 1) : Nat)] 54 (0, 0)) := grow_heapH hg ((bz.below hb).here) (hne bz.here (by decide))
  have kA : w6.heap[A]? = some (.cells #[.int .i64 (trA ts p).1, .int .i64 (trA ts p).2, iv1, sv1, .int .u32 (el vc p : Nat)] 54 (0, 0)) := grow_heapH hg ((bA.below hb).here) (hne bA.here (by decide))
  have kP : w6.heap[P]? = some (.cells #[vo] 48 (0, 0)) := grow_heapH hg (boxed_belowL lp.bp hb) (hne lp.bp (by decide))
  have kB : w6.heap[B2]? = some (.cells #[.int .u64 (n : Int)] 26 (0, 0)) := grow_heapH hg (boxed_belowL lp.a.bq hb) (hne lp.a.bq (by decide))
  have hLT6 : LvT vc id seed (p + 1) w6 iv sv := ⟨row_grownT (hLT.ri.below hb) hg hiv, hLT.ti, row_grownT (hLT.rs.below hb) hg hsv, hLT.ts⟩
  have hB7 : But P w6 (w6.setCell ⟨P, 0, none⟩ vn) := (But.refl P w6).setCell 0 vn
  generalize hw7 : w6.setCell ⟨P, 0, none⟩ vn = w7 at *
  have b7z : BxH w7 Z (.int .i64 (trA ts (p + 1)).1) (.int .i64 (trA ts (p + 1)).2) iv sv (.int .u32 (el vc (p + 1) : Nat)) := BxH.but ⟨kz⟩ hB7 hZP
  have b7A : BxH w7 A (.int .i64 (trA ts p).1) (.int .i64 (trA ts p).2) iv1 sv1 (.int .u32 (el vc p : Nat)) := BxH.but ⟨kA⟩ hB7 (fun e => hPA e.symm)
  have k7P : Boxed w7 P 48 vn := by
    rw [← hw7]
    exact set_hereH vn kP
  have k7B : Boxed w7 B2 26 (.int .u64 (n : Int)) := boxed_butL kB hB7 (fun e => hPB e.symm)
  have hG7 := hG.but hB7 hOP
  have hLT7 := hLT6.but hB7 (fun q hq (e : q = P) => hOP (by rw [← e]; exact hoi q hq)) (fun q hq (e : q = P) => hOP (by rw [← e]; exact hos q hq))
  have hbel6 : Below w.heap.size w w6 := (lp.a.bel.trans (hb.mono lp.a.bel.size)).grown hg (lp.a.bel.trans (hb.mono lp.a.bel.size)).size (fun q hq => hvw q hq)
  have hbel7 : Below w.heap.size w w7 := hbel6.trans (hB7.below hwP hbel6.size)
  have b8 := b7A.row (a' := .int .i64 (trA ts (p + 1)).1) (b' := .int .i64 (trA ts (p + 1)).2) (c' := iv) (d' := sv) (e' := .int .u32 (el vc (p + 1) : Nat))
  have hB8 : But A w7 (w7.setRow A #[.int .i64 (trA ts (p + 1)).1, .int .i64 (trA ts (p + 1)).2, iv, sv, .int .u32 (el vc (p + 1) : Nat)]) := (But.refl A w7).setRow _
  have hkk : ∀ k, k < W.heap.size → k ≠ P → k ≠ A → some k ≠ vo.ownBlock → (w7.setRow A #[.int .i64 (trA ts (p + 1)).1, .int .i64 (trA ts (p + 1)).2, iv, sv, .int .u32 (el vc (p + 1) : Nat)]).heap[k]? = W.heap[k]? := fun k h1 h2 h3 h4 => by
    have s1 := hb.size
    have s2 := hg.size
    have s3 := hB7.size
    rw [hB8.block k (by omega) h3, hB7.block k (by omega) h2, hg.block k (by omega) h4, hb.block k h1]
  refine ⟨b7z, ⟨boxed_butL k7P hB8 hPA, hG7.but hB8 hOA, ⟨⟨fun h => by omega, fun p2 hp2 => ?_⟩, boxed_butL k7B hB8 (fun e => hAB e.symm), hbel7.trans (hB8.below hwA hbel7.size)⟩⟩, ⟨?_, fun k h1 h2 => ?_⟩, fun k h1 h2 h3 => ?_⟩
  · obtain rfl : p2 = p + 1 := by omega
    exact ⟨iv, sv, b8, hLT7.but hB8 (fun q hq (e : q = A) => hOA (by rw [← e]; exact hoi q hq)) (fun q hq (e : q = A) => hOA (by rw [← e]; exact hos q hq)), hoi, hos⟩
  · have s1 := hb.size
    have s2 := hg.size
    have s3 := hB7.size
    have s4 := hB8.size
    omega
  · exact hkk k h2 (by omega) (by omega) (fun e => by have := (hvD k e.symm).1; omega)
  · exact hkk k h3 (by omega) (by omega) (fun e => by have := (hvD k e.symm).2; omega)
def hq11lt : List Lt := [(0, some 36, [9]), (0, some 37, [10]), (0, some 38, [13]), (6, some 39, [37, 38]), (0, some 40, [13]), (24, some 41, [39, 40]), (41, some 42, [36, 41]), (127, none, [9, 42])]
theorem hq11reg : Reg (opsA (cRA (cCT (cRA (cLA (cBA (cFA (cBA (cRA (cLA (cRA (cRA (cRA (cRA (Tryz.f11.body.getD .skip))))))))))))))) hq11lt := ⟨by kernel_rfl, by kernel_rfl⟩
def hq13lt : List Lt := [(0, some 44, [9]), (0, some 45, [10]), (0, some 46, [2]), (6, some 47, [45, 46]), (8, some 48, [47]), (25, some 49, [44, 48]), (32, some 50, [49]), (127, some 6, [50]), (255, some 7, [])]
theorem hq13reg : Reg (opsA (cLA (cRA (cRA (cRA (cRA (cRA (Tryz.f11.body.getD .skip)))))))) hq13lt := ⟨by kernel_rfl, by kernel_rfl⟩
/-- a block that holds no cells is no part of a slice of the call's own -/
theorem own_notH {W : World} {B k n : Nat} {e : TypeId} {v : Value} {xs : List Value} {d : Option (List Deferred)} (h : W.ownsRow B e 1 v n xs) (hk : W.heap[k]? = some (.deferred d)) : ∀ q, v.ownBlock = some q → q ≠ k := by
  intro q hq he
  subst he
  rcases h.2 with ⟨rfl, _⟩ | ⟨g, cap, cur, rfl, _, h5, _⟩
  · cases hq
  · have : g = q := by simpa [Value.ownBlock] using hq
    subst this
    rw [h5] at hk
    cases hk
/-- what the worlds of Sign's last region share -/
def SgB (P A : Nat) (vo a b c d e : Value) (W : World) : Prop := Boxed W P 48 vo ∧ BxH W A a b c d e
theorem SgB.step {P A : Nat} {vo a b c d e : Value} {W W' : World} (h : SgB P A vo a b c d e W) (hb : Below W.heap.size W W') : SgB P A vo a b c d e W' := ⟨boxed_belowL h.1 hb, h.2.below hb⟩
theorem Own.keptH {A B : World} {row : Option Nat} {base m : Nat} {k : IntKind} {e : TypeId} {v : Value} {l : List Nat} (h : Own e k m A base v l) (hg : A.grownBy B row) (hr : ∀ r, row = some r → ∃ o : Obj, A.heap[r]? = some o ∧ o.isCells = false) : Own e k m B base v l := ⟨owns_keptH h.1 hg hr, h.2⟩
set_option maxHeartbeats 8000000 in
set_option maxRecDepth 100000 in
theorem csgnH_ok (ts : List (Int × Int)) (tv iv0 sv0 xv : Value) (id seed text : List Nat) (n : Nat) (w : World) (ht : TrS w tv ts) (ri : Row .u8 256 w iv0 id) (ti : Tidy iv0) (rs : Row .u8 256 w sv0 seed) (tis : Tidy sv0) (rx : Row .u8 256 w xv text) (tx : Tidy xv) (hT : Roots w) (htl : text.length ≤ 10000) (hK : FitK ts id.length seed.length) (hn : n < lvN ts) :
    Calls Tryz.prog 11 #[.agg #[tv, iv0, sv0], .int .u64 (n : Int), xv] w fun e w' => ∃ v, e = .returned (.tuple #[v, .int .i64 0]) ∧ Own 5 .u8 256 w' w.heap.size v (hsSig ts (vecF ts n) id seed text) ∧ Below w.heap.size w w' := by
  have hid := hK.2.2.2.2.1
  have hsd := hK.2.2.2.2.2
  have hn60 : n < 18446744073709551616 := by have := lvN_lt hK.2.2.2.1; omega
  have hE0 : vcE ts 16 32 n = 0 := by unfold vcE; rw [if_neg (by rw [hid, hsd] at hK; simpa using hK), if_neg (by omega)]
  obtain ⟨ia, ic, rfl, _⟩ := ri.opens hid
  obtain ⟨sa, sc, rfl, _⟩ := rs.opens hsd
  obtain ⟨xa, xc, rfl, _⟩ := rx.opens rfl
  have hha := fun y (h : Below w.heap.size w y) => chasK_any ts tv ia sa 16 ic 32 sc n y (ht.below h) hn60
  rw [hE0] at hha
  have hlv := fun y => levels_any tv ia sa 16 ic 32 sc n y (by obtain ⟨a, c, h, _⟩ := ht; exact ⟨_, _, _, h⟩)
  have hIT := fun (m B1 B2 : Nat) (w0 : World) (V : World → Prop) (hm : 2 ≤ m) hV b1 hB2 => lv1_own m hm B1 B2 n ts tv (.slice ia 16 ic) (.slice sa 32 sc) id seed w w0 V ht hK ri ti rs tis hT hn60 hV b1 hB2
  have hvu := fun i (h : i < ts.length) => vecF_el (ts := ts) (i := i) n h
  obtain ⟨ta, tc, rfl, t1, t2, tcell⟩ := ht
  obtain ⟨N, hN⟩ : ∃ N, ts.length = N := ⟨_, rfl⟩
  have hN8 : 1 ≤ N ∧ N ≤ 8 := ⟨by have := hK.1; omega, by have := hK.2.1; omega⟩
  rw [hN] at hha hlv hIT
  rw [hN]
  obtain ⟨vc, hvc⟩ : ∃ v, v = vecF ts n := ⟨_, rfl⟩
  rw [← hvc] at hvu hIT ⊢
  have b0 := BxK.new w (.slice ta N tc) (.slice ia 16 ic) (.slice sa 32 sc)
  have hb0 := keep_alloc w (.cells #[.slice ta N tc, .slice ia 16 ic, .slice sa 32 sc] 25)
  have hc0 := b0.c0
  obtain ⟨N1, hN1⟩ : ∃ x : Nat, N - 1 = x := ⟨_, rfl⟩
  have e_N : (N : Int) - 1 = (N1 : Int) := by omega
  have s_N : IntKind.i64.wrap (N1 : Int) = (N1 : Int) := by rw [IntKind.wrap_i64]; omega
  have s_N2 : IntKind.u64.wrap (N1 : Int) = (N1 : Int) := by rw [IntKind.wrap_u64]; omega
  have h4 := fun y => cbe4 N1 y (by omega)
  generalize hTL : text.length = TL at *
  have HX := hide (And.intro hK (And.intro hN (And.intro hN1 (And.intro hvu (And.intro hN8 (And.intro hid (And.intro hsd (And.intro ri (And.intro ti (And.intro rs (And.intro tis (And.intro rx (And.intro tx (And.intro hT (And.intro htl hTL)))))))))))))))
  clear hK hn hn60 hE0 hvc tcell ri ti rs tis rx tx hT htl hTL hN t1 t2 hid hsd hvu hN8 hN1
  refine (callsIn_wide (n := 8)).1 (callsIn_of_wp_marks Tryz.func11 rfl trivial (wpIn_wide.2 ?_) rfl)
  simp only [Tryz.ntmps11, List.size_toArray, List.length_cons, List.length_nil, Nat.reduceAdd, Nat.reduceSub, Array.replicate_succ, Array.replicate_zero, List.push_toArray, List.append_toArray, List.nil_append, List.cons_append]
  go_wp2_with (first
    | (refine wpList_load_row rfl 25 _ (by rfl) w.heap.size (by rfl) _ _ _ _ b0.here Tryz.underlying25 rfl (by kernel_rfl) ?_)
    | (go_at_call 25; refine (hha _ hb0).mono ?_; rintro e w1 ⟨rfl, g1⟩; have b1 := b0.below g1; have k1 := keep_trans hb0 g1; have q0 := b1.c0; clear b0 hc0)
    | (go_at_call 21; refine (h4 _).mono ?_; rintro e w2 ⟨v2, rfl, o2, g2⟩; obtain ⟨a2, c2, rfl, _⟩ := o2.row.opens (be4_len N1); have b3 := (((b1.below g2).below (keep_alloc w2 (.cells #[.slice a2 4 c2] 23))).below (keep_alloc _ (.cells #[.slice (some ⟨w2.heap.size, 0, none⟩) 1 1] 48))).below (keep_alloc _ (.cells #[.int .i64 0, .int .i64 0, .slice none 0 0, .slice none 0 0, .int .u32 0] 54)))
    | (refine wpList_load_row rfl 25 _ (by rfl) w.heap.size (by rfl) _ _ _ _ b3.here Tryz.underlying25 rfl (by kernel_rfl) ?_)
    | (go_at_call 26; refine (hlv _).mono ?_; rintro e w4 ⟨rfl, rfl⟩)
    | fail)
  have hkk := keep_trans k1 g2
  have hw2 : w.heap.size < w2.heap.size := Nat.lt_of_lt_of_le b1.lt g2.size
  obtain ⟨G2, hG2⟩ : ∃ G, w2.heap.size = G := ⟨_, rfl⟩
  obtain ⟨PB, hPB⟩ : ∃ P, G2 + 1 = P := ⟨_, rfl⟩
  obtain ⟨AB, hAB⟩ : ∃ A, PB + 1 = A := ⟨_, rfl⟩
  obtain ⟨Off, hOff⟩ : ∃ Off : Nat → Prop, Off = fun q => q ≠ PB ∧ q ≠ AB ∧ q ≠ AB + 1 + 1 ∧ (q < AB + 3 ∨ AB + 6 ≤ q) := ⟨_, rfl⟩
  obtain ⟨x1, hx1⟩ : ∃ W, W = w2.alloc (.cells #[.slice a2 4 c2] 23) := ⟨_, rfl⟩
  obtain ⟨x2, hx2⟩ : ∃ W, W = x1.alloc (.cells #[.slice (some ⟨G2, 0, none⟩) 1 1] 48) := ⟨_, rfl⟩
  obtain ⟨x3, hx3⟩ : ∃ W, W = x2.alloc (.cells #[.int .i64 0, .int .i64 0, .slice none 0 0, .slice none 0 0, .int .u32 0] 54) := ⟨_, rfl⟩
  obtain ⟨x4, hx4⟩ : ∃ W, W = x3.alloc (.cells #[.slice ta N tc, .slice ia 16 ic, .slice sa 32 sc] 25) := ⟨_, rfl⟩
  obtain ⟨w4, hw4⟩ : ∃ W, W = x4.alloc (.cells #[.int .u64 (n : Int)] 26) := ⟨_, rfl⟩
  have s1 : x1.heap.size = PB := by rw [hx1]; simp [hG2, hPB]
  have s2 : x2.heap.size = AB := by rw [hx2]; simp [s1, hAB]
  have s3 : x3.heap.size = AB + 1 := by rw [hx3]; simp [s2]
  have s4 : x4.heap.size = AB + 1 + 1 := by rw [hx4]; simp [s3]
  have sz4 : w4.heap.size = AB + 3 := by rw [hw4]; simp [s4]
  have j1 : Below w2.heap.size w2 x1 := by rw [hx1]; exact keep_alloc _ _
  have j2 : Below x1.heap.size x1 x2 := by rw [hx2]; exact keep_alloc _ _
  have j3 : Below x2.heap.size x2 x3 := by rw [hx3]; exact keep_alloc _ _
  have j4 : Below x3.heap.size x3 x4 := by rw [hx4]; exact keep_alloc _ _
  have j5 : Below x4.heap.size x4 w4 := by rw [hw4]; exact keep_alloc _ _
  have bel4 : Below w.heap.size w w4 := keep_trans hkk (keep_trans j1 (keep_trans j2 (keep_trans j3 (keep_trans j4 j5))))
  have bP4 : Boxed w4 PB 48 (.slice (some ⟨G2, 0, none⟩) 1 1) := by
    have := Boxed.new x1 48 (.slice (some ⟨G2, 0, none⟩) 1 1)
    rw [← hx2, s1] at this
    exact boxed_belowL this (keep_trans j3 (keep_trans j4 j5))
  have bA4 : BxH w4 AB (.int .i64 0) (.int .i64 0) (.slice none 0 0) (.slice none 0 0) (.int .u32 0) := by
    have := BxH.new x2 (.int .i64 0) (.int .i64 0) (.slice none 0 0) (.slice none 0 0) (.int .u32 0)
    rw [← hx3, s2] at this
    exact this.below (keep_trans j4 j5)
  have bk4 : BxK w4 (AB + 1) (.slice ta N tc) (.slice ia 16 ic) (.slice sa 32 sc) := by
    have := BxK.new x3 (.slice ta N tc) (.slice ia 16 ic) (.slice sa 32 sc)
    rw [← hx4, s3] at this
    exact this.below j5
  have bq4 : Boxed w4 (AB + 1 + 1) 26 (.int .u64 (n : Int)) := by
    have := Boxed.new x4 26 (.int .u64 (n : Int))
    rw [← hw4, s4] at this
    exact this
  have gr4 : GrH w4 w.heap.size Off (.slice (some ⟨G2, 0, none⟩) 1 1) (hsO ts vc id seed 0) := by
    have hl : hsO ts vc id seed 0 = [be4 N1] := by show [be4 (ts.length - 1)] = _; rw [HX.out.2.1, HX.out.2.2.1]
    rw [hl]
    have h0 : GrH x1 w.heap.size Off (.slice (some ⟨G2, 0, none⟩) 1 1) [be4 N1] := by
      refine ⟨⟨[.slice a2 4 c2], ?_, Texts.one (o2.row.below j1) (own_tidyG o2), fun u hu q hq => ?_, fun u hu q hq => ?_⟩, fun q hq => ?_⟩
      · have := World.ownsRow_lit (base := w.heap.size) (e := 23) (size := 1) w2 #[.slice a2 4 c2] 1 (by omega) (by decide) rfl
        rw [← hx1, hG2] at this
        exact this
      · have e : u = .slice a2 4 c2 := by simpa using hu
        subst e
        have h1 := o2.row.old (by rw [be4_len]; decide) hq
        refine ⟨by omega, fun e => ?_⟩
        have : G2 = q := by simpa [Value.ownBlock] using e
        omega
      · have e : u = .slice a2 4 c2 := by simpa using hu
        subst e
        have h1 := o2.row.old (by rw [be4_len]; decide) hq
        rw [hOff]
        exact ⟨by omega, by omega, by omega, by omega⟩
      · have : G2 = q := by simpa [Value.ownBlock] using hq
        rw [hOff]
        exact ⟨by omega, by omega, by omega, by omega⟩
    exact h0.below (keep_trans j2 (keep_trans j3 (keep_trans j4 j5)))
  have hI4 : SgI w PB AB (AB + 1 + 1) n Off ts vc id seed 0 (.slice (some ⟨G2, 0, none⟩) 1 1) w4 := ⟨bP4, gr4, ⟨⟨fun _ => bA4, fun p hp => by omega⟩, bq4, bel4⟩⟩
  have hwz : w.heap.size ≤ w4.heap.size := bel4.size
  have hown4 := hIT 7 (AB + 1) (AB + 1 + 1) w4 (fun W => Below w.heap.size w W ∧ Boxed W (AB + 1 + 1) 26 (.int .u64 (n : Int))) (by decide) (fun W h => h) bk4 (by omega)
  have hOP : ¬ Off PB := by rw [hOff]; exact fun h => h.1 rfl
  have hOA : ¬ Off AB := by rw [hOff]; exact fun h => h.2.1 rfl
  have hOL : ¬ Off (w4.heap.size + 2) := by rw [hOff, sz4]; exact fun h => by have := h.2.2.2; omega
  have hOn : ∀ q, w4.heap.size + 3 ≤ q → Off q := fun q hq => by rw [hOff]; exact ⟨by omega, by omega, by omega, by omega⟩
  have hOo : ∀ q, q < w.heap.size → Off q := fun q hq => by rw [hOff]; exact ⟨by omega, by omega, by omega, by omega⟩
  have hOd : ∀ q, Off q → q < w4.heap.size ∨ w4.heap.size + 3 ≤ q := fun q hq => by rw [hOff] at hq; have := hq.2.2.2; omega
  have hPw : w.heap.size ≤ PB := by omega
  have hAw : w.heap.size ≤ AB := by omega
  have hPA : PB ≠ AB := by omega
  have hPB2 : PB ≠ AB + 1 + 1 := by omega
  have hAB2 : AB ≠ AB + 1 + 1 := by omega
  have hPD : PB < w4.heap.size := by omega
  have hAD : AB < w4.heap.size := by omega
  have hBD : AB + 1 + 1 < w4.heap.size := by omega
  rw [hG2, hPB, hAB, ← hx1, ← hx2, ← hx3, ← hx4, ← hw4]
  clear hx1 hx2 hx3 hx4 hw4 s1 s2 s3 s4 j1 j2 j3 j4 j5 bP4 bA4 bk4 bq4 gr4 bel4 hOff b1 b3 k1 g1 g2 o2 hkk q0 hha hlv hIT h4 hG2 hPB hAB hw2 sz4
  refine wpIn_wide.1 (range_rel (n := 8) rfl (enters_of Tryz.func49 (by kernel_rfl) rfl) hown4 (fun i D vs W h => by obtain ⟨iv, sv, rfl, _⟩ := h; rfl)
    (fun i W => (∃ vo, SgI w PB AB (AB + 1 + 1) n Off ts vc id seed i vo W) ∧ w4.heap.size ≤ W.heap.size ∧ (0 < i → w4.heap.size + 3 ≤ W.heap.size))
    (fun i A B row hs hg hr => by
      obtain ⟨⟨vo, h1⟩, h2, h3⟩ := hs
      exact ⟨⟨vo, h1.own (D := w4.heap.size) hwz hg hr⟩, Nat.le_trans h2 hg.size, fun h => Nat.le_trans (h3 h) hg.size⟩) (fun i W h => by obtain ⟨⟨vo, h1⟩, _⟩ := h; exact ⟨h1.a.bel, h1.a.bq⟩) ⟨⟨_, hI4⟩, Nat.le_refl _, fun h => by omega⟩
    (fun i D0 vs a' W => ∃ (Z : Nat) (vo iv sv : Value), a' = { tmps := #[.agg #[.slice ta N tc, .slice ia 16 ic, .slice sa 32 sc], .int .u64 (n : Int), .slice xa TL xc, .pointer (some ⟨w.heap.size, 0, none⟩), undef, undef, .slice none 0 0, .int .i64 0, .int .i64 0, .pointer (some ⟨PB, 0, none⟩), .pointer (some ⟨AB, 0, none⟩), .int .i64 (i : Int), .pointer (some ⟨Z, 0, none⟩), undef, .agg #[.slice ta N tc, .slice ia 16 ic, .slice sa 32 sc], .int .u64 (n : Int), .int .i64 0, .int .i64 0, .bool false, undef, .pointer (some ⟨w.heap.size, 0, none⟩), .slice ta N tc, .int .i64 (N : Int), .int .i64 (N1 : Int), .int .u64 (N1 : Int), .slice a2 4 c2, .slice (some ⟨G2, 0, none⟩) 1 1, .agg #[.slice ta N tc, .slice ia 16 ic, .slice sa 32 sc], .int .u64 (n : Int), .func (.func 49) #[] #[.pointer (some ⟨AB + 1, 0, none⟩), .pointer (some ⟨AB + 1 + 1, 0, none⟩)], .int .i64 (i : Int), .agg #[.int .i64 (trA ts i).1, .int .i64 (trA ts i).2, iv, sv, .int .u32 (el vc i : Nat)], undef, undef, undef, undef, undef, undef, undef, undef, undef, undef, undef, undef, undef, undef, undef, undef, undef, undef, undef], defers := [] } ∧ BxH W Z (.int .i64 (trA ts i).1) (.int .i64 (trA ts i).2) iv sv (.int .u32 (el vc i : Nat)) ∧ SgI w PB AB (AB + 1 + 1) n Off ts vc id seed i vo W ∧ LvT vc id seed i W iv sv ∧ (∀ q, iv.ownBlock = some q → Off q ∧ (q < w.heap.size ∨ D0 ≤ q)) ∧ (∀ q, sv.ownBlock = some q → Off q ∧ (q < w.heap.size ∨ D0 ≤ q)) ∧ (∀ q, vo.ownBlock = some q → q < D0) ∧ w4.heap.size + 3 ≤ W.heap.size ∧ w4.heap.size ≤ D0 ∧ w4.heap.size + 3 ≤ Z)
    (fun i D0 vs a' u A B row hs hg hr => by
      obtain ⟨Z, vo, iv, sv, h1, h2, h3, h4, h5, h6, h7, h8, h9, h10⟩ := hs
      have hr2 := fun r e => (hr r e).2
      exact ⟨Z, vo, iv, sv, h1, ⟨cells_keptL hg hr2 h2.here⟩, h3.own (D := w4.heap.size) hwz hg hr, h4.ownH hg hr2, h5, h6, h7, Nat.le_trans h8 hg.size, h9, h10⟩) ?assign ?body ?done)
  case assign =>
    rintro l i vs W0 W K ⟨⟨vo, lp⟩, hsz, hs3⟩ hbt hs0 hs1 hlt ⟨iv, sv, rfl, hLT, hwho⟩ hK
    have hvD : ∀ q, vo.ownBlock = some q → q < W0.heap.size := fun q hq => by
      obtain ⟨us, h1, _⟩ := lp.gr.ex
      exact (h1.lt q hq).2
    have lpW := lp.but hbt (by omega) (by omega) (by omega) hOL (by omega)
    have hoi : ∀ q, iv.ownBlock = some q → Off q ∧ (q < w.heap.size ∨ W0.heap.size ≤ q) := fun q hq => by
      rcases hwho with ⟨_, rfl, rfl⟩ | ⟨h0, n1, n2⟩
      · have := HX.out.2.2.2.2.2.2.2.1.old (by have := HX.out.2.2.2.2.2.1; omega) hq
        exact ⟨hOo q this, .inl this⟩
      · have := n1 q hq
        exact ⟨hOn q (by have := hs3 h0; omega), .inr this⟩
    have hos : ∀ q, sv.ownBlock = some q → Off q ∧ (q < w.heap.size ∨ W0.heap.size ≤ q) := fun q hq => by
      rcases hwho with ⟨_, rfl, rfl⟩ | ⟨h0, n1, n2⟩
      · have := HX.out.2.2.2.2.2.2.2.2.2.1.old (by have := HX.out.2.2.2.2.2.2.1; omega) hq
        exact ⟨hOo q this, .inl this⟩
      · have := n2 q hq
        exact ⟨hOn q (by have := hs3 h0; omega), .inr this⟩
    obtain ⟨ja, jc, rfl, _⟩ := hLT.ri.opens rfl
    obtain ⟨ka, kc, rfl, _⟩ := hLT.rs.opens rfl
    gi_wp2
    refine hK _ _ (keep_alloc _ _) ⟨W.heap.size, vo, _, _, rfl, BxH.new W _ _ _ _ _, lpW.own (D := w4.heap.size) hwz (grown_belowH (keep_alloc _ _)) (fun r e => by cases e), hLT.below (keep_alloc _ _), hoi, hos, hvD, Nat.le_trans hs1 (keep_alloc W _).size, by omega, hs1⟩
  case body =>
    rintro l i D0 vs a' W ⟨Z, vo, iv, sv, rfl, bz, lp, hLT, hoi, hos, hvD, hs3, hD0, hZ⟩ hlt
    obtain ⟨hK, hN, hN1, hvu, hN8, hid, hsd, ri, ti, rs, tis, rx, tx, hT, htl, hTL⟩ := HX.out
    have hst := stH_len (vs := vc) hid hsd
    obtain ⟨ja, jc, rfl, _⟩ := hLT.ri.opens (hst i).1
    obtain ⟨ka, kc, rfl, _⟩ := hLT.rs.opens (hst i).2
    have hgi := hK.2.2.1 _ (trA_mem (ts := ts) (i := i) (by omega))
    have kw := lp.a.bel
    by_cases hi0 : i = 0
    · have hgn : ¬ ((i : Int) > 0) := by omega
      have hgn' : ¬ ((0 : Int) < (i : Int)) := by omega
      have hgn2 : (i : Int) ≤ 0 := by omega
      have bA := lp.a.ba.1 hi0
      have HQ := hide (And.intro lp (And.intro hLT (And.intro hi0 (And.intro hoi (And.intro hos (And.intro hs3 (And.intro hD0 (And.intro hlt bA))))))))
      clear hK hN hN1 hvu hN8 hid hsd ri ti rs tis rx tx hT htl hTL hst hgi kw lp hLT hi0 hoi hos hvD hs3 hD0 hZ hlt
      gi_wp2_with (first
        | (refine wpListIn_rowH (fun _ => trivial) rfl 54 _ rfl Z 0 rfl [.int .i64 (trA ts i).1, .int .i64 (trA ts i).2, .slice ja 16 jc, .slice ka 32 kc, .int .u32 (el vc i : Nat)] _ bz.range Tryz.underlying54 rfl (by kernel_rfl) ?_; clear bz)
        | (refine wpListIn_storeH (fun _ => trivial) rfl 54 _ _ rfl AB #[.int .i64 (trA ts i).1, .int .i64 (trA ts i).2, .slice ja 16 jc, .slice ka 32 kc, .int .u32 (el vc i : Nat)] rfl rfl _ _ bA.here (by kernel_rfl) rfl (by simp [Value.oneCell']) ?_; clear bA)
        | fail)
      obtain ⟨lp, hLT, hi0, hoi, hos, hs3, hD0, hlt, bA⟩ := HQ.out
      have hB : But AB W (W.setRow AB #[.int .i64 (trA ts i).1, .int .i64 (trA ts i).2, .slice ja 16 jc, .slice ka 32 kc, .int .u32 (el vc i : Nat)]) := (But.refl AB W).setRow _
      have hgr : GrH (W.setRow AB #[.int .i64 (trA ts i).1, .int .i64 (trA ts i).2, .slice ja 16 jc, .slice ka 32 kc, .int .u32 (el vc i : Nat)]) w.heap.size Off vo (hsO ts vc id seed (i + 1 - 1)) := by
        have := lp.gr.but hB hOA
        rw [hi0] at this ⊢
        exact this
      refine ⟨⟨hB.size, fun k h1 h2 => hB.block k h2 (by omega)⟩, fun k h1 h2 => hB.block k (by omega) (by omega), ⟨vo, boxed_butL lp.bp hB hPA, hgr, ⟨⟨fun h => by omega, fun p2 hp2 => ?_⟩, boxed_butL lp.a.bq hB (fun e => hAB2 e.symm), lp.a.bel.trans (hB.below hAw lp.a.bel.size)⟩⟩, Nat.le_trans (by omega) hB.size, Nat.le_trans hs3 hB.size⟩
      obtain rfl : p2 = i := by omega
      exact ⟨_, _, bA.row, hLT.but hB (fun q hq (e : q = AB) => hOA (by rw [← e]; exact (hoi q hq).1)) (fun q hq (e : q = AB) => hOA (by rw [← e]; exact (hos q hq).1)), fun q hq => (hoi q hq).1, fun q hq => (hos q hq).1⟩
    · obtain ⟨p, hp1⟩ : ∃ p, i = p + 1 := ⟨i - 1, by omega⟩
      subst hp1
      have hgn : ((p + 1 : Nat) : Int) > 0 := by omega
      have hgn' : (0 : Int) < ((p + 1 : Nat) : Int) := by omega
      have hgn2 : ¬ (((p + 1 : Nat) : Int) ≤ 0) := by omega
      obtain ⟨iv1, sv1, bA, hLT1, ho1, ho2⟩ := lp.a.ba.2 p rfl
      have hgp := hK.2.2.1 _ (trA_mem (ts := ts) (i := p) (by omega))
      have hkey := fun y (k : Below W.heap.size W y) => chkey hgi (stH vc id seed (p + 1)).1 (stH vc id seed (p + 1)).2 (.slice ja 16 jc) (.slice ka 32 kc) (el vc (p + 1) : Nat) y (hT.below (kw.trans (k.mono kw.size))) (hLT.ri.below k) hLT.ti (hLT.rs.below k) hLT.ts (hst (p + 1)).1 (hst (p + 1)).2
      have hp56 := pubG_len (trA ts (p + 1)) (stH vc id seed (p + 1)).1 (stH vc id seed (p + 1)).2 (hst (p + 1)).1
      have hsg := fun y (k : Below W.heap.size W y) pv r t => chsign hgp (stH vc id seed p).1 (stH vc id seed p).2 (pubG (trA ts (p + 1)) (stH vc id seed (p + 1)).1 (stH vc id seed (p + 1)).2) (el vc p) iv1 sv1 pv y (hT.below (kw.trans (k.mono kw.size))) (hLT1.ri.below k) hLT1.ti (hLT1.rs.below k) hLT1.ts r t (hst p).1 (hst p).2 (by omega) (hvu p (by omega))
      have hsl0 : 0 < (sigG (trA ts p) (stH vc id seed p).1 (stH vc id seed p).2 (el vc p) (pubG (trA ts (p + 1)) (stH vc id seed (p + 1)).1 (stH vc id seed (p + 1)).2)).length := by rw [sigG_len]; omega
      have hnx : hsO ts vc id seed p ++ [sigG (trA ts p) (stH vc id seed p).1 (stH vc id seed p).2 (el vc p) (pubG (trA ts (p + 1)) (stH vc id seed (p + 1)).1 (stH vc id seed (p + 1)).2), pubG (trA ts (p + 1)) (stH vc id seed (p + 1)).1 (stH vc id seed (p + 1)).2] = hsO ts vc id seed (p + 1) := rfl
      have hOl := hsO_len ts vc id seed p
      have hgr := lp.gr
      rw [show p + 1 - 1 = p from rfl] at hgr
      generalize pubG (trA ts (p + 1)) (stH vc id seed (p + 1)).1 (stH vc id seed (p + 1)).2 = PK at *
      generalize sigG (trA ts p) (stH vc id seed p).1 (stH vc id seed p).2 (el vc p) PK = SG at *
      obtain ⟨SL, hSL⟩ : ∃ x, SG.length = x := ⟨_, rfl⟩
      obtain ⟨OL, hOLn⟩ : ∃ x, (hsO ts vc id seed p).length = x := ⟨_, rfl⟩
      obtain ⟨la, lc, rfl, _⟩ := hLT1.ri.opens (hst p).1
      obtain ⟨ma, mc, rfl, _⟩ := hLT1.rs.opens (hst p).2
      obtain ⟨oa, oc, rfl⟩ := hgr.gr.slice
      rw [hOLn] at hgr hvD lp
      have cP := lp.bp.cell
      have bP := lp.bp
      have hvW : ∀ q, (Value.slice oa OL oc).ownBlock = some q → w.heap.size ≤ q ∧ q < W.heap.size := fun q hq => by
        obtain ⟨us, h1, _⟩ := hgr.ex
        exact h1.lt q hq
      have hvO := hgr.off
      obtain ⟨i0, hi0', hz0, hz1, hz2⟩ := info_text
      have HQ := hide (And.intro lp (And.intro hLT (And.intro hoi (And.intro hos (And.intro hs3 (And.intro hD0 (And.intro hlt (And.intro hnx (And.intro hvD (And.intro hZ hOl))))))))))
      have hOLs : OL ≤ 100000 := by omega
      have hws : w.heap.size ≤ W.heap.size := kw.size
      have hOnW : ∀ q, W.heap.size ≤ q → Off q := fun q hq => hOn q (by omega)
      have HG := hide hgr
      clear hK hN hN1 hvu hN8 hid hsd ri ti rs tis rx tx hT htl hTL hst hgi kw lp hLT hi0 hoi hos hvD hs3 hD0 hlt hgp hnx hLT1 ho1 ho2 hOl hgr
      have bz0 := bz
      gi_wp2_with (first
        | (refine wpListIn_rowH (fun _ => trivial) rfl 54 _ rfl Z 0 rfl [.int .i64 (trA ts (p + 1)).1, .int .i64 (trA ts (p + 1)).2, .slice ja 16 jc, .slice ka 32 kc, .int .u32 (el vc (p + 1) : Nat)] _ bz.range Tryz.underlying54 rfl (by kernel_rfl) ?_; clear bz)
        | (refine ⟨trivial, ?_⟩; gi_at_call 22; refine (callsIn_wide.2 (hkey _ (Below.refl _ _))).mono ?_; rintro e y1 ⟨kv, rfl, ok, g1⟩; obtain ⟨qa, qc, rfl, hqq⟩ := ok.row.opens hp56; clear hqq)
        | fail)
      have rk := ok.row
      have tk := ok.tidy
      have nk : New W.heap.size (.slice qa 56 qc) := ok.new
      have kd : Below y1.heap.size y1 y1.drew := (Below.refl _ _).drew
      have kb := keep_trans g1 kd
      replace rk := rk.below kd
      have hbd := (bA.below g1).below kd
      clear bA ok
      rename_i K11 hK11
      refine at_begin_in (ops := opsA (cRA (cCT (cRA (cLA (cBA (cFA (cBA (cRA (cLA (cRA (cRA (cRA (cRA (Tryz.f11.body.getD .skip))))))))))))))) (k := 8) (fun y => BxH y AB (.int .i64 (trA ts p).1) (.int .i64 (trA ts p).2) (.slice la 16 lc) (.slice ma 32 mc) (.int .u32 (el vc p : Nat))) (by kernel_rfl) (by kernel_rfl) (by kernel_rfl) ?_
      refine at_takeD (i := 1) (m' := 2) (d := some 37) (v := .agg #[.int .i64 (trA ts p).1, .int .i64 (trA ts p).2, .slice la 16 lc, .slice ma 32 mc, .int .u32 (el vc p : Nat)]) hq11reg rfl (by decide) rfl rfl (y_rowG (cs := [.int .i64 (trA ts p).1, .int .i64 (trA ts p).2, .slice la 16 lc, .slice ma 32 mc, .int .u32 (el vc p : Nat)]) (wanted_free rfl) rfl rfl Tryz.underlying54 rfl (by kernel_rfl) (fun _ h => h.range)) hbd ?_
      simp only [Act.put, List.setIfInBounds_toArray, List.set_cons_zero, List.set_cons_succ]
      refine at_takeD (i := 2) (m' := 6) (d := some 38) (v := .slice qa 56 qc) hq11reg rfl (by decide) rfl rfl (y_moveG (wanted_free rfl) rfl rfl) hbd ?_
      simp only [Act.put, List.setIfInBounds_toArray, List.set_cons_zero, List.set_cons_succ]
      refine at_takeD (i := 4) (m' := 22) (d := some 40) (v := .slice qa 56 qc) hq11reg rfl (by decide) rfl rfl (y_moveG (wanted_free rfl) rfl rfl) hbd ?_
      simp only [Act.put, List.setIfInBounds_toArray, List.set_cons_zero, List.set_cons_succ]
      refine at_two (i := 0) (j := 3) (m1 := 23) (m2 := 30) hq11reg (by decide) rfl rfl ?_ ?_
      · refine p_loadBoxH (d := some 36) rfl (wanted_free rfl) rfl rfl rfl (keep_cell cP kb) Tryz.underlying48 rfl ?_
        have hb4 := hbd
        refine ⟨hb4, ?_⟩
        simp only [Act.put, List.setIfInBounds_toArray, List.set_cons_zero, List.set_cons_succ]
        refine at_one (i := 3) (m' := 31) hq11reg (by decide) rfl ?_
        refine p_callG (args := #[.agg #[.int .i64 (trA ts p).1, .int .i64 (trA ts p).2, .slice la 16 lc, .slice ma 32 mc, .int .u32 (el vc p : Nat)], .slice qa 56 qc]) (d := some 39) rfl (wanted_free rfl) rfl (by simp only [List.map_toArray, List.map_cons, List.map_nil]; rfl) rfl Tryz.call27 ((hsg y1.drew kb _ rk tk).mono ?_)
        rintro e y5 ⟨sv9, rfl, os, g5⟩
        have ns9 : New W.heap.size sv9 := New.mono os.new kb.size
        replace kb := keep_trans kb g5
        replace rk := rk.below g5
        have rs9 := os.row
        have ts9 := os.tidy
        obtain ⟨ga, gc, rfl, _⟩ := os.row.opens hSL
        have hb5 := BxH.below hb4 g5
        refine ⟨_, rfl, hb5, ?_⟩
        simp only [Act.put, List.setIfInBounds_toArray, List.set_cons_zero, List.set_cons_succ]
        refine at_one (i := 5) (m' := 63) hq11reg (by decide) rfl ?_
        refine p_build2G (d := some 41) rfl (wanted_free rfl) rfl rfl rfl rfl Tryz.underlying48 hi0' hz1 hz0 ?_
        have hc9 := cells_two_new (y5) (.slice ga SL gc) (.slice qa 56 qc) 23
        have kz6 := keep_alloc (y5) (.cells #[.slice ga SL gc, .slice qa 56 qc] 23)
        replace rk := rk.below kz6
        replace rs9 := rs9.below kz6
        replace kb := keep_trans kb kz6
        have hb6 := BxH.below hb5 kz6
        obtain ⟨Gq, hGq⟩ : ∃ q : Nat, (y5).heap.size = q := ⟨_, rfl⟩
        obtain ⟨z6, hz6⟩ : ∃ z : World, z = (y5).alloc (.cells #[.slice ga SL gc, .slice qa 56 qc] 23) := ⟨_, rfl⟩
        rw [← hz6] at rk rs9 kb hb6 hc9 ⊢
        rw [hGq] at hc9 ⊢
        clear hz6 hGq kz6
        refine ⟨hb6, ?_⟩
        simp only [Act.put, List.setIfInBounds_toArray, List.set_cons_zero, List.set_cons_succ]
        refine at_one (i := 6) (m' := 127) hq11reg (by decide) rfl ?_
        refine p_push2H (d := some 42) rfl (wanted_free rfl) rfl rfl rfl (HG.out.below kb) rfl hc9 rs9 ts9 (fun q hq => ⟨rs9.old hsl0 hq, fun e => by have h1 := ns9 q hq; have h2 := (hvW q e).2; omega⟩) (fun q hq => hOnW q (ns9 q hq)) rk tk (fun q hq => ⟨rk.old (by rw [hp56]; decide) hq, fun e => by have h1 := nk q hq; have h2 := (hvW q e).2; omega⟩) (fun q hq => hOnW q (nk q hq)) (hOnW _ kb.size) (Nat.le_trans hws kb.size) (by rw [hOLn]; exact hOLs) ?_
        intro g6 cap6 w6 hG6 hg6
        rw [hOLn] at hG6 ⊢
        have bp6 : Boxed w6 PB 48 (.slice oa OL oc) := grow_heapH hg6 (boxed_belowL bP kb) (fun e => hOP (hvO _ e.symm))
        have hb7 : BxH w6 AB _ _ _ _ _ := ⟨grow_heapH hg6 (hb6).here (fun e => hOA (hvO _ e.symm))⟩
        refine ⟨hb7, ?_⟩
        simp only [Act.put, List.setIfInBounds_toArray, List.set_cons_zero, List.set_cons_succ]
        refine at_one (i := 7) (m' := 255) hq11reg (by decide) rfl ?_
        refine p_store_plain (P := Tryz.prog) rfl rfl rfl rfl rfl rfl Tryz.underlying48 rfl (by kernel_rfl) (by rw [bp6.cell]; rfl) bp6.frozen ?_
        have hb8 := BxH.but hb7 ((But.refl PB w6).setCell 0 (.slice (some ⟨g6, 0, none⟩) (OL + 2) cap6)) (fun e => hPA e.symm)
        refine ⟨hb8, ?_⟩
        refine at_done hq11reg (by decide) ?_
        refine hK11 _ _ ?_
        obtain ⟨lp, hLT, hoi, hos, hs3, hD0, hlt, hnx, hvD, hZ, hOl⟩ := HQ.out
        rw [hnx] at hG6
        obtain ⟨bz7, lp8, kp8, kd8⟩ := sg_step (D := w4.heap.size) (D0 := D0) lp kb hg6 hG6 bz0 hLT (fun q hq => (hoi q hq).1) (fun q hq => (hos q hq).1) (fun q hq e => by have h1 := (hoi q hq).2; have h2 := (hvW q e.symm).1; have h3 := hvD q e.symm; omega) (fun q hq e => by have h1 := (hos q hq).2; have h2 := (hvW q e.symm).1; have h3 := hvD q e.symm; omega) hOP hOA hPA hPB2 hAB2 hPw hAw (by omega) hPD hAD hD0 (fun q hq => ⟨hvD q hq, hOd q (hvO q hq)⟩) (fun q hq => (hvW q hq).1)
        have bA7 := hb8
        have HF := hide (And.intro lp8 (And.intro kp8 kd8))
        clear lp8 kp8 kd8 lp hLT hoi hos hnx hvD hZ hOl hG6 hg6 kb rk rs9 hc9 bp6 bz0
        gi_wp2_with (first
          | (refine wpListIn_rowH (fun _ => trivial) rfl 54 _ rfl Z 0 rfl [.int .i64 (trA ts (p + 1)).1, .int .i64 (trA ts (p + 1)).2, .slice ja 16 jc, .slice ka 32 kc, .int .u32 (el vc (p + 1) : Nat)] _ bz7.range Tryz.underlying54 rfl (by kernel_rfl) ?_; clear bz7)
          | (refine wpListIn_storeH (fun _ => trivial) rfl 54 _ _ rfl AB #[.int .i64 (trA ts (p + 1)).1, .int .i64 (trA ts (p + 1)).2, .slice ja 16 jc, .slice ka 32 kc, .int .u32 (el vc (p + 1) : Nat)] rfl rfl _ _ bA7.here (by kernel_rfl) rfl (by simp [Value.oneCell']) ?_; clear bA7)
          | fail)
        exact ⟨HF.out.2.1, fun k h1 h2 => HF.out.2.2 k h1 h2 (by omega), ⟨_, HF.out.1⟩, Nat.le_trans (by omega) HF.out.2.1.size, fun _ => Nat.le_trans hs3 HF.out.2.1.size⟩
      · refine p_callG (args := #[.agg #[.int .i64 (trA ts p).1, .int .i64 (trA ts p).2, .slice la 16 lc, .slice ma 32 mc, .int .u32 (el vc p : Nat)], .slice qa 56 qc]) (d := some 39) rfl (wanted_free rfl) rfl (by simp only [List.map_toArray, List.map_cons, List.map_nil]; rfl) rfl Tryz.call27 ((hsg y1.drew kb _ rk tk).mono ?_)
        rintro e y4 ⟨sv9, rfl, os, g4⟩
        have ns9 : New W.heap.size sv9 := New.mono os.new kb.size
        replace kb := keep_trans kb g4
        replace rk := rk.below g4
        have rs9 := os.row
        have ts9 := os.tidy
        obtain ⟨ga, gc, rfl, _⟩ := os.row.opens hSL
        have hb4 := BxH.below hbd g4
        refine ⟨_, rfl, hb4, ?_⟩
        simp only [Act.put, List.setIfInBounds_toArray, List.set_cons_zero, List.set_cons_succ]
        refine at_two (i := 0) (j := 5) (m1 := 31) (m2 := 62) hq11reg (by decide) rfl rfl ?_ ?_
        · refine p_loadBoxH (d := some 36) rfl (wanted_free rfl) rfl rfl rfl (keep_cell cP kb) Tryz.underlying48 rfl ?_
          have hb5 := hb4
          refine ⟨hb5, ?_⟩
          simp only [Act.put, List.setIfInBounds_toArray, List.set_cons_zero, List.set_cons_succ]
          refine at_one (i := 5) (m' := 63) hq11reg (by decide) rfl ?_
          refine p_build2G (d := some 41) rfl (wanted_free rfl) rfl rfl rfl rfl Tryz.underlying48 hi0' hz1 hz0 ?_
          have hc9 := cells_two_new (y4) (.slice ga SL gc) (.slice qa 56 qc) 23
          have kz6 := keep_alloc (y4) (.cells #[.slice ga SL gc, .slice qa 56 qc] 23)
          replace rk := rk.below kz6
          replace rs9 := rs9.below kz6
          replace kb := keep_trans kb kz6
          have hb6 := BxH.below hb5 kz6
          obtain ⟨Gq, hGq⟩ : ∃ q : Nat, (y4).heap.size = q := ⟨_, rfl⟩
          obtain ⟨z6, hz6⟩ : ∃ z : World, z = (y4).alloc (.cells #[.slice ga SL gc, .slice qa 56 qc] 23) := ⟨_, rfl⟩
          rw [← hz6] at rk rs9 kb hb6 hc9 ⊢
          rw [hGq] at hc9 ⊢
          clear hz6 hGq kz6
          refine ⟨hb6, ?_⟩
          simp only [Act.put, List.setIfInBounds_toArray, List.set_cons_zero, List.set_cons_succ]
          refine at_one (i := 6) (m' := 127) hq11reg (by decide) rfl ?_
          refine p_push2H (d := some 42) rfl (wanted_free rfl) rfl rfl rfl (HG.out.below kb) rfl hc9 rs9 ts9 (fun q hq => ⟨rs9.old hsl0 hq, fun e => by have h1 := ns9 q hq; have h2 := (hvW q e).2; omega⟩) (fun q hq => hOnW q (ns9 q hq)) rk tk (fun q hq => ⟨rk.old (by rw [hp56]; decide) hq, fun e => by have h1 := nk q hq; have h2 := (hvW q e).2; omega⟩) (fun q hq => hOnW q (nk q hq)) (hOnW _ kb.size) (Nat.le_trans hws kb.size) (by rw [hOLn]; exact hOLs) ?_
          intro g6 cap6 w6 hG6 hg6
          rw [hOLn] at hG6 ⊢
          have bp6 : Boxed w6 PB 48 (.slice oa OL oc) := grow_heapH hg6 (boxed_belowL bP kb) (fun e => hOP (hvO _ e.symm))
          have hb7 : BxH w6 AB _ _ _ _ _ := ⟨grow_heapH hg6 (hb6).here (fun e => hOA (hvO _ e.symm))⟩
          refine ⟨hb7, ?_⟩
          simp only [Act.put, List.setIfInBounds_toArray, List.set_cons_zero, List.set_cons_succ]
          refine at_one (i := 7) (m' := 255) hq11reg (by decide) rfl ?_
          refine p_store_plain (P := Tryz.prog) rfl rfl rfl rfl rfl rfl Tryz.underlying48 rfl (by kernel_rfl) (by rw [bp6.cell]; rfl) bp6.frozen ?_
          have hb8 := BxH.but hb7 ((But.refl PB w6).setCell 0 (.slice (some ⟨g6, 0, none⟩) (OL + 2) cap6)) (fun e => hPA e.symm)
          refine ⟨hb8, ?_⟩
          refine at_done hq11reg (by decide) ?_
          refine hK11 _ _ ?_
          obtain ⟨lp, hLT, hoi, hos, hs3, hD0, hlt, hnx, hvD, hZ, hOl⟩ := HQ.out
          rw [hnx] at hG6
          obtain ⟨bz7, lp8, kp8, kd8⟩ := sg_step (D := w4.heap.size) (D0 := D0) lp kb hg6 hG6 bz0 hLT (fun q hq => (hoi q hq).1) (fun q hq => (hos q hq).1) (fun q hq e => by have h1 := (hoi q hq).2; have h2 := (hvW q e.symm).1; have h3 := hvD q e.symm; omega) (fun q hq e => by have h1 := (hos q hq).2; have h2 := (hvW q e.symm).1; have h3 := hvD q e.symm; omega) hOP hOA hPA hPB2 hAB2 hPw hAw (by omega) hPD hAD hD0 (fun q hq => ⟨hvD q hq, hOd q (hvO q hq)⟩) (fun q hq => (hvW q hq).1)
          have bA7 := hb8
          have HF := hide (And.intro lp8 (And.intro kp8 kd8))
          clear lp8 kp8 kd8 lp hLT hoi hos hnx hvD hZ hOl hG6 hg6 kb rk rs9 hc9 bp6 bz0
          gi_wp2_with (first
            | (refine wpListIn_rowH (fun _ => trivial) rfl 54 _ rfl Z 0 rfl [.int .i64 (trA ts (p + 1)).1, .int .i64 (trA ts (p + 1)).2, .slice ja 16 jc, .slice ka 32 kc, .int .u32 (el vc (p + 1) : Nat)] _ bz7.range Tryz.underlying54 rfl (by kernel_rfl) ?_; clear bz7)
            | (refine wpListIn_storeH (fun _ => trivial) rfl 54 _ _ rfl AB #[.int .i64 (trA ts (p + 1)).1, .int .i64 (trA ts (p + 1)).2, .slice ja 16 jc, .slice ka 32 kc, .int .u32 (el vc (p + 1) : Nat)] rfl rfl _ _ bA7.here (by kernel_rfl) rfl (by simp [Value.oneCell']) ?_; clear bA7)
            | fail)
          exact ⟨HF.out.2.1, fun k h1 h2 => HF.out.2.2 k h1 h2 (by omega), ⟨_, HF.out.1⟩, Nat.le_trans (by omega) HF.out.2.1.size, fun _ => Nat.le_trans hs3 HF.out.2.1.size⟩
        · refine p_build2G (d := some 41) rfl (wanted_free rfl) rfl rfl rfl rfl Tryz.underlying48 hi0' hz1 hz0 ?_
          have hc9 := cells_two_new (y4) (.slice ga SL gc) (.slice qa 56 qc) 23
          have kz5 := keep_alloc (y4) (.cells #[.slice ga SL gc, .slice qa 56 qc] 23)
          replace rk := rk.below kz5
          replace rs9 := rs9.below kz5
          replace kb := keep_trans kb kz5
          have hb5 := BxH.below hb4 kz5
          obtain ⟨Gq, hGq⟩ : ∃ q : Nat, (y4).heap.size = q := ⟨_, rfl⟩
          obtain ⟨z5, hz5⟩ : ∃ z : World, z = (y4).alloc (.cells #[.slice ga SL gc, .slice qa 56 qc] 23) := ⟨_, rfl⟩
          rw [← hz5] at rk rs9 kb hb5 hc9 ⊢
          rw [hGq] at hc9 ⊢
          clear hz5 hGq kz5
          refine ⟨hb5, ?_⟩
          simp only [Act.put, List.setIfInBounds_toArray, List.set_cons_zero, List.set_cons_succ]
          refine at_one (i := 0) (m' := 63) hq11reg (by decide) rfl ?_
          refine p_loadBoxH (d := some 36) rfl (wanted_free rfl) rfl rfl rfl (keep_cell cP kb) Tryz.underlying48 rfl ?_
          have hb6 := hb5
          refine ⟨hb6, ?_⟩
          simp only [Act.put, List.setIfInBounds_toArray, List.set_cons_zero, List.set_cons_succ]
          refine at_one (i := 6) (m' := 127) hq11reg (by decide) rfl ?_
          refine p_push2H (d := some 42) rfl (wanted_free rfl) rfl rfl rfl (HG.out.below kb) rfl hc9 rs9 ts9 (fun q hq => ⟨rs9.old hsl0 hq, fun e => by have h1 := ns9 q hq; have h2 := (hvW q e).2; omega⟩) (fun q hq => hOnW q (ns9 q hq)) rk tk (fun q hq => ⟨rk.old (by rw [hp56]; decide) hq, fun e => by have h1 := nk q hq; have h2 := (hvW q e).2; omega⟩) (fun q hq => hOnW q (nk q hq)) (hOnW _ kb.size) (Nat.le_trans hws kb.size) (by rw [hOLn]; exact hOLs) ?_
          intro g6 cap6 w6 hG6 hg6
          rw [hOLn] at hG6 ⊢
          have bp6 : Boxed w6 PB 48 (.slice oa OL oc) := grow_heapH hg6 (boxed_belowL bP kb) (fun e => hOP (hvO _ e.symm))
          have hb7 : BxH w6 AB _ _ _ _ _ := ⟨grow_heapH hg6 (hb6).here (fun e => hOA (hvO _ e.symm))⟩
          refine ⟨hb7, ?_⟩
          simp only [Act.put, List.setIfInBounds_toArray, List.set_cons_zero, List.set_cons_succ]
          refine at_one (i := 7) (m' := 255) hq11reg (by decide) rfl ?_
          refine p_store_plain (P := Tryz.prog) rfl rfl rfl rfl rfl rfl Tryz.underlying48 rfl (by kernel_rfl) (by rw [bp6.cell]; rfl) bp6.frozen ?_
          have hb8 := BxH.but hb7 ((But.refl PB w6).setCell 0 (.slice (some ⟨g6, 0, none⟩) (OL + 2) cap6)) (fun e => hPA e.symm)
          refine ⟨hb8, ?_⟩
          refine at_done hq11reg (by decide) ?_
          refine hK11 _ _ ?_
          obtain ⟨lp, hLT, hoi, hos, hs3, hD0, hlt, hnx, hvD, hZ, hOl⟩ := HQ.out
          rw [hnx] at hG6
          obtain ⟨bz7, lp8, kp8, kd8⟩ := sg_step (D := w4.heap.size) (D0 := D0) lp kb hg6 hG6 bz0 hLT (fun q hq => (hoi q hq).1) (fun q hq => (hos q hq).1) (fun q hq e => by have h1 := (hoi q hq).2; have h2 := (hvW q e.symm).1; have h3 := hvD q e.symm; omega) (fun q hq e => by have h1 := (hos q hq).2; have h2 := (hvW q e.symm).1; have h3 := hvD q e.symm; omega) hOP hOA hPA hPB2 hAB2 hPw hAw (by omega) hPD hAD hD0 (fun q hq => ⟨hvD q hq, hOd q (hvO q hq)⟩) (fun q hq => (hvW q hq).1)
          have bA7 := hb8
          have HF := hide (And.intro lp8 (And.intro kp8 kd8))
          clear lp8 kp8 kd8 lp hLT hoi hos hnx hvD hZ hOl hG6 hg6 kb rk rs9 hc9 bp6 bz0
          gi_wp2_with (first
            | (refine wpListIn_rowH (fun _ => trivial) rfl 54 _ rfl Z 0 rfl [.int .i64 (trA ts (p + 1)).1, .int .i64 (trA ts (p + 1)).2, .slice ja 16 jc, .slice ka 32 kc, .int .u32 (el vc (p + 1) : Nat)] _ bz7.range Tryz.underlying54 rfl (by kernel_rfl) ?_; clear bz7)
            | (refine wpListIn_storeH (fun _ => trivial) rfl 54 _ _ rfl AB #[.int .i64 (trA ts (p + 1)).1, .int .i64 (trA ts (p + 1)).2, .slice ja 16 jc, .slice ka 32 kc, .int .u32 (el vc (p + 1) : Nat)] rfl rfl _ _ bA7.here (by kernel_rfl) rfl (by simp [Value.oneCell']) ?_; clear bA7)
            | fail)
          exact ⟨HF.out.2.1, fun k h1 h2 => HF.out.2.2 k h1 h2 (by omega), ⟨_, HF.out.1⟩, Nat.le_trans (by omega) HF.out.2.1.size, fun _ => Nat.le_trans hs3 HF.out.2.1.size⟩
  case done =>
    rintro W ⟨⟨vo, lp⟩, hsz, hs3⟩ hK
    obtain ⟨hKf, hN, hN1, hvu, hN8, hid, hsd, ri, ti, rs, tis, rx, tx, hT, htl, hTL⟩ := HX.out
    have hst := stH_len (vs := vc) hid hsd
    have hNN : N = N1 + 1 := by omega
    subst hNN
    obtain ⟨iv1, sv1, bA, hLT1, ho1, ho2⟩ := lp.a.ba.2 N1 rfl
    have hgp := hKf.2.2.1 _ (trA_mem (ts := ts) (i := N1) (by omega))
    have kw := lp.a.bel
    have hsg := fun y (k : Below W.heap.size W y) => chsign hgp (stH vc id seed N1).1 (stH vc id seed N1).2 text (el vc N1) iv1 sv1 (.slice xa TL xc) y (hT.below (kw.trans (k.mono kw.size))) (hLT1.ri.below k) hLT1.ti (hLT1.rs.below k) hLT1.ts (rx.below (kw.trans (k.mono kw.size))) tx (hst N1).1 (hst N1).2 (by omega) (hvu N1 (by omega))
    have hsl0 : 0 < (sigG (trA ts N1) (stH vc id seed N1).1 (stH vc id seed N1).2 (el vc N1) text).length := by rw [sigG_len]; omega
    have hsl9 := sigG_le hgp (stH vc id seed N1).1 (stH vc id seed N1).2 (el vc N1) text
    have hfl := hsO_flat hKf.2.2.1 vc hid hsd N1 (by omega)
    have hfin : (hsO ts vc id seed N1 ++ [sigG (trA ts N1) (stH vc id seed N1).1 (stH vc id seed N1).2 (el vc N1) text]).flatten = hsSig ts vc id seed text := by unfold hsSig; rw [hN]; rfl
    have hgr := lp.gr.gr
    rw [show N1 + 1 - 1 = N1 from rfl] at hgr
    have hOl := hsO_len ts vc id seed N1
    generalize sigG (trA ts N1) (stH vc id seed N1).1 (stH vc id seed N1).2 (el vc N1) text = SG at *
    have hj := fun y v (r : Rows2 y v (hsO ts vc id seed N1 ++ [SG])) => join_any v _ y r (by rw [List.flatten_append, List.length_append]; simp only [List.flatten_cons, List.flatten_nil, List.append_nil]; omega)
    rw [hfin] at hj
    obtain ⟨RS, hRS⟩ : ∃ R, R = hsSig ts vc id seed text := ⟨_, rfl⟩
    rw [← hRS] at hj
    obtain ⟨SL, hSL⟩ : ∃ x, SG.length = x := ⟨_, rfl⟩
    obtain ⟨RL, hRL⟩ : ∃ x, RS.length = x := ⟨_, rfl⟩
    obtain ⟨OL, hOLn⟩ : ∃ x, (hsO ts vc id seed N1).length = x := ⟨_, rfl⟩
    obtain ⟨la, lc, rfl, _⟩ := hLT1.ri.opens (hst N1).1
    obtain ⟨ma, mc, rfl, _⟩ := hLT1.rs.opens (hst N1).2
    obtain ⟨oa, oc, rfl⟩ := hgr.slice
    rw [hOLn] at hgr lp
    have hvW : ∀ q, (Value.slice oa OL oc).ownBlock = some q → w.heap.size ≤ q ∧ q < W.heap.size := fun q hq => by
      obtain ⟨us, h1, _⟩ := hgr.ex
      exact h1.lt q hq
    have hvO := lp.gr.off
    have hnP : some PB ≠ (Value.slice oa OL oc).ownBlock := fun e => hOP (hvO _ e.symm)
    have hnA : some AB ≠ (Value.slice oa OL oc).ownBlock := fun e => hOA (hvO _ e.symm)
    have hnD : some w4.heap.size ≠ (Value.slice oa OL oc).ownBlock := fun e => by
      obtain ⟨us, h1, _⟩ := hgr.ex
      exact own_notH h1 hK _ e.symm rfl
    obtain ⟨i0, hi0', hz0, hz1, hz2⟩ := info_text
    have hOLs : OL ≤ 100000 := by omega
    have hws : w.heap.size ≤ W.heap.size := kw.size
    have hDW := (Array.getElem?_eq_some_iff.1 hK).1
    have hB0 : SgB PB AB (.slice oa OL oc) (.int .i64 (trA ts N1).1) (.int .i64 (trA ts N1).2) (.slice la 16 lc) (.slice ma 32 mc) (.int .u32 (el vc N1 : Nat)) W := ⟨lp.bp, bA⟩
    clear hKf hN hvu hN8 hid hsd ri ti rs tis rx tx hT htl hTL hst hgp hfin hfl hsl9 hOl lp bA hLT1 ho1 ho2 hN1 hs3
    go_wp2
    have kb : Below W.heap.size W W.drew := (Below.refl _ _).drew
    have hbd := hB0.step kb
    refine at_begin (ops := opsA (cLA (cRA (cRA (cRA (cRA (cRA (Tryz.f11.body.getD .skip)))))))) (n := 9) (fun y => SgB PB AB (.slice oa OL oc) (.int .i64 (trA ts N1).1) (.int .i64 (trA ts N1).2) (.slice la 16 lc) (.slice ma 32 mc) (.int .u32 (el vc N1 : Nat)) y) (by kernel_rfl) (by kernel_rfl) ?_
    refine at_takeD (i := 0) (m' := 1) (d := some 44) (v := .slice oa OL oc) hq13reg rfl (by decide) rfl rfl (y_plainG (wanted_free rfl) rfl rfl Tryz.underlying48 rfl (fun _ h => h.1.cell)) hbd ?_
    simp only [Act.put, List.setIfInBounds_toArray, List.set_cons_zero, List.set_cons_succ]
    refine at_takeD (i := 1) (m' := 3) (d := some 45) (v := .agg #[.int .i64 (trA ts N1).1, .int .i64 (trA ts N1).2, .slice la 16 lc, .slice ma 32 mc, .int .u32 (el vc N1 : Nat)]) hq13reg rfl (by decide) rfl rfl (y_rowG (cs := [.int .i64 (trA ts N1).1, .int .i64 (trA ts N1).2, .slice la 16 lc, .slice ma 32 mc, .int .u32 (el vc N1 : Nat)]) (wanted_free rfl) rfl rfl Tryz.underlying54 rfl (by kernel_rfl) (fun _ h => h.2.range)) hbd ?_
    simp only [Act.put, List.setIfInBounds_toArray, List.set_cons_zero, List.set_cons_succ]
    refine at_takeD (i := 2) (m' := 7) (d := some 46) (v := .slice xa TL xc) hq13reg rfl (by decide) rfl rfl (y_moveG (wanted_free rfl) rfl rfl) hbd ?_
    simp only [Act.put, List.setIfInBounds_toArray, List.set_cons_zero, List.set_cons_succ]
    refine at_one (i := 3) (m' := 15) hq13reg (by decide) rfl ?_
    refine p_callG (args := #[.agg #[.int .i64 (trA ts N1).1, .int .i64 (trA ts N1).2, .slice la 16 lc, .slice ma 32 mc, .int .u32 (el vc N1 : Nat)], .slice xa TL xc]) (d := some 47) rfl (wanted_free rfl) rfl (by simp only [List.map_toArray, List.map_cons, List.map_nil]; rfl) rfl Tryz.call27 ((hsg W.drew kb).mono ?_)
    rintro e y4 ⟨sv9, rfl, os, g4⟩
    have ns9 : New W.heap.size sv9 := New.mono os.new kb.size
    replace kb := keep_trans kb g4
    have rs9 := os.row
    have ts9 := os.tidy
    obtain ⟨ga, gc, rfl, _⟩ := os.row.opens hSL
    have hb4 := SgB.step hbd g4
    refine ⟨_, rfl, hb4, ?_⟩
    simp only [Act.put, List.setIfInBounds_toArray, List.set_cons_zero, List.set_cons_succ]
    refine at_one (i := 4) (m' := 31) hq13reg (by decide) rfl ?_
    refine p_b1 (d := some 48) rfl (wanted_free rfl) rfl rfl rfl Tryz.underlying48 hi0' hz1 hz0 ?_
    have hc9 := cell_row1H (y4) (.slice ga SL gc) 23
    have kz5 := keep_alloc (y4) (.cells #[.slice ga SL gc] 23)
    replace rs9 := rs9.below kz5
    replace kb := keep_trans kb kz5
    have hb5 := SgB.step hb4 kz5
    obtain ⟨Gq, hGq⟩ : ∃ q : Nat, (y4).heap.size = q := ⟨_, rfl⟩
    obtain ⟨z5, hz5⟩ : ∃ z : World, z = (y4).alloc (.cells #[.slice ga SL gc] 23) := ⟨_, rfl⟩
    rw [← hz5] at rs9 kb hb5 hc9 ⊢
    rw [hGq] at hc9 ⊢
    clear hz5 hGq kz5
    refine ⟨hb5, ?_⟩
    simp only [Act.put, List.setIfInBounds_toArray, List.set_cons_zero, List.set_cons_succ]
    refine at_one (i := 5) (m' := 63) hq13reg (by decide) rfl ?_
    refine p_push1H (d := some 49) rfl (wanted_free rfl) rfl rfl rfl (hgr.below kb) rfl hc9 rs9 ts9 (fun q hq => ⟨rs9.old hsl0 hq, fun e => by have h1 := ns9 q hq; have h2 := (hvW q e).2; omega⟩) (Nat.le_trans hws kb.size) (by rw [hOLn]; exact hOLs) ?_
    intro g6 cap6 w6 hG6 hg6
    rw [hOLn] at hG6 ⊢
    have kD6 : w6.heap[w4.heap.size]? = some (.deferred (some [])) := grow_heapH hg6 ((kb.block _ hDW).trans hK) hnD
    have kw6 : Below w.heap.size w w6 := (kw.trans (kb.mono kw.size)).grown hg6 (kw.trans (kb.mono kw.size)).size (fun q hq => (hvW q hq).1)
    have hb6 : SgB PB AB _ _ _ _ _ _ w6 := ⟨grow_heapH hg6 (hb5).1 hnP, ⟨grow_heapH hg6 (hb5).2.here hnA⟩⟩
    refine ⟨hb6, ?_⟩
    simp only [Act.put, List.setIfInBounds_toArray, List.set_cons_zero, List.set_cons_succ]
    refine at_one (i := 6) (m' := 127) hq13reg (by decide) rfl ?_
    refine p_callG (args := #[.slice (some ⟨g6, 0, none⟩) (OL + 1) cap6]) (d := some 50) rfl (wanted_free rfl) rfl (by simp only [List.map_toArray, List.map_cons, List.map_nil]; rfl) rfl Tryz.call20 ((hj w6 _ hG6.rows).mono ?_)
    rintro e y7 ⟨jv, rfl, oj, g7⟩
    have kD7 := (g7.block _ (Array.getElem?_eq_some_iff.1 kD6).1).trans kD6
    have kw7 := kw6.trans (g7.mono kw6.size)
    obtain ⟨ra, rc, rfl, _⟩ := oj.row.opens hRL
    have hb7 := SgB.step hb6 g7
    refine ⟨_, rfl, hb7, ?_⟩
    simp only [Act.put, List.setIfInBounds_toArray, List.set_cons_zero, List.set_cons_succ]
    refine at_takeD (i := 7) (m' := 255) (d := some 6) (v := .slice ra RL rc) hq13reg rfl (by decide) rfl rfl (y_assignG (wanted_free rfl) rfl rfl) hb7 ?_
    simp only [Act.put, List.setIfInBounds_toArray, List.set_cons_zero, List.set_cons_succ]
    refine at_takeD (i := 8) (m' := 511) (d := some 7) (v := .int .i64 0) hq13reg rfl (by decide) rfl rfl (y_assignG (wanted_free rfl) rfl rfl) hb7 ?_
    simp only [Act.put, List.setIfInBounds_toArray, List.set_cons_zero, List.set_cons_succ]
    refine at_done hq13reg (by decide) ?_
    go_wp2
    have hgp2 := grownBy_putObj' y7 w4.heap.size (.deferred none)
    refine ⟨by simp, .inl ⟨_, _, rfl, run_takeDeferred kD7, ?_⟩⟩
    exact ⟨_, results_tmp2 rfl _ _ _, .slice ra RL rc, rfl, by rw [← hRS]; exact (oj.mono (by have := kw6.size; omega)).keptH hgp2 (fun r e => by cases e; exact ⟨_, kD7, rfl⟩), kw7.grown hgp2 kw7.size (fun q hq => by cases hq; exact hwz)⟩
end Go.Proofs.YtogiballdmgcpaaGreatDoor
