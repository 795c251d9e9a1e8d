/- tape's own Parts: a method that is handed about. -/
import Derived.Test.YtiedkpfpaeecfaaConv
namespace Go.Proofs.Ytiedkpfpaeecfaa
open Go.RowKit
set_option linter.unusedVariables false
set_option linter.unusedSimpArgs false

theorem own_butR {w w' : World} {base B n : Nat} {e : TypeId} {u v0 v1 : Value} {xs : List Value} (h : w.ownsRow base e 1 u n xs) (he : e ≠ 46) (bx : BxR w B v0 v1) (hb : But B w w') : w'.ownsRow base e 1 u n xs := by
  refine h.kept (row := some B) ⟨hb.os, hb.tape, hb.output, hb.size, fun k hk hne => hb.block k hk fun e => hne (by rw [e])⟩ ?_
  rcases h.2 with ⟨rfl, _⟩ | ⟨g, cap, cur, rfl, _, hg1, _⟩
  · exact .inl rfl
  · refine .inr fun e0 => ?_
    have e2 : g = B := by simpa [Value.ownBlock] using e0
    subst e2
    rw [bx.here] at hg1
    simp at hg1
    exact he hg1.2.symm
theorem OwnT.butR {w w' : World} {us : List Value} {l : List (List Nat)} {B : Nat} {v0 v1 : Value} (h : OwnT w us l) (bx : BxR w B v0 v1) (hb : But B w w') : OwnT w' us l :=
  ⟨h.1, fun i hi => by obtain ⟨u, hu, ho⟩ := h.2 i hi; exact ⟨u, hu, own_butR ho.1 (by decide) bx hb, ho.2⟩⟩
theorem BxR.grown {W W' : World} {B : Nat} {v0 v1 : Value} {row : Option Nat} (h : BxR W B v0 v1) (hg : W.grownBy W' row) (hn : some B ≠ row) : BxR W' B v0 v1 := ⟨(hg.block B h.lt hn).trans h.here⟩
theorem But.grown {g : Nat} {w w1 w2 : World} {row : Option Nat} (h : But g w w1) (hg : w1.grownBy w2 row) (hr : ∀ q, row = some q → w.heap.size ≤ q) : But g w w2 :=
  ⟨hg.os.trans h.os, hg.tape.trans h.tape, hg.output.trans h.output, Nat.le_trans h.size hg.size, fun k hk hne => (hg.block k (Nat.lt_of_lt_of_le hk h.size) (fun e => by have := hr k e.symm; omega)).trans (h.block k hk hne)⟩
/-- where the loop stands -/
structure TeI (w : World) (B : Nat) (l : List Nat) (v : Value) (x : Int) (ks : List Int) (i : Nat) (us : List Value) (vo : Value) (wr : World) : Prop where
  le : i ≤ ks.length
  good : ptC l.length x (ks.take i) = 0
  bx : BxR wr B v (.int .i64 (ptA x (ks.take i)))
  own : wr.ownsRow w.heap.size 22 1 vo i us
  txt : OwnT wr us (ptL l x (ks.take i))
  but : But B w wr
def TeL (w : World) (B : Nat) (l : List Nat) (v : Value) (x : Int) (ks : List Int) (vo vi : Value) (wr : World) : Prop := ∃ (i : Nat) (us : List Value), vi = .int .i64 (i : Int) ∧ TeI w B l v x ks i us vo wr
set_option maxHeartbeats 8000000 in
set_option maxRecDepth 100000 in
theorem teach_any (l : List Nat) (v kv : Value) (x : Int) (ks : List Int) (B : Nat) (w0 w : World) (hv : Row .u8 256 w0 v l) (tv : Tidy v) (hll : l.length ≤ 1000000) (hk : RowI w0 kv ks) (hn : ks.length ≤ 100000) (hw0 : w0.heap.size ≤ B) (hb0 : Below w0.heap.size w0 w) (bx : BxR w B v (.int .i64 x)) :
    Calls Try.prog 21 #[.func (.func 19) #[.pointer (some ⟨B, 0, none⟩)] #[], kv] w fun e w' => But B w w' ∧ ((ptC l.length x ks ≠ 0 ∧ e = .returned (.tuple #[.slice none 0 0, .int .i64 (ptC l.length x ks)])) ∨
      (ptC l.length x ks = 0 ∧ ∃ u us, e = .returned (.tuple #[u, .int .i64 0]) ∧ w'.ownsRow w.heap.size 22 1 u ks.length us ∧ OwnT w' us (ptL l x ks) ∧ BxR w' B v (.int .i64 (ptA x ks)))) := by
  have hv' := hv
  obtain ⟨a, c, rfl, lc1, lc2, _⟩ := hv'.opens rfl
  clear hv'
  obtain ⟨ka, kc, hke, kl1, kl2, kcell, kr⟩ := hk
  subst hke
  generalize hN : ks.length = N at *
  have H0 : Hid (TeL w B l (.slice a l.length c) x ks (.slice none 0 0) (.int .i64 0) w) := hide ⟨0, [], rfl, Nat.zero_le _, rfl, bx, World.ownsRow_nil _ _ _ _, OwnT.nil _, But.refl _ _⟩
  have hBw := bx.lt
  have HV := hide (And.intro hv (And.intro tv (And.intro kcell (And.intro kr (And.intro hN (And.intro hw0 hb0))))))
  clear hv tv kcell kr bx hw0 hb0
  generalize hn1 : l.length = n at *
  go_enter Try.func21, Try.ntmps21
  go_wp2
  go_loopw [6, 13] (fun vo vi wr => TeL w B l (.slice a n c) x ks vo vi wr) (fun _ vi _ => N - (intOf vi).toNat)
  case atStart => exact H0.out
  case round =>
    obtain ⟨i, us, rfl, P⟩ := hrel
    obtain ⟨oa, oc, rfl⟩ : ∃ oa oc, u6 = .slice oa i oc := own_sliceA P.own
    clear H0
    obtain ⟨hv, tv, kcell, kr, hN, hw0, hb0⟩ := HV.out
    by_cases hlt : i < N
    · obtain ⟨kb, ko, rfl, hkc⟩ := kcell (by omega)
      obtain ⟨k, hkk⟩ : ∃ k, k = ks.getD i 0 := ⟨_, rfl⟩
      have ck := hkc i hlt
      rw [← hkk] at ck
      obtain ⟨y, hy⟩ : ∃ y, y = ptA x (ks.take i) := ⟨_, rfl⟩
      have b7 := P.bx
      rw [← hy] at b7
      have hpb : Below w0.heap.size w0 wr := hb0.trans (P.but.below hw0 hb0.size)
      have htk := ttake_any l (.slice a n c) y k B w0 wr hv tv (by omega) hw0 hpb b7
      rw [hn1] at htk
      obtain ⟨y2, hy2⟩ : ∃ y2, y2 = tkY n y k := ⟨_, rfl⟩
      obtain ⟨cd, hcd⟩ : ∃ cd, cd = tkC n y k := ⟨_, rfl⟩
      rw [← hy2, ← hcd] at htk
      have htake : ks.take (i + 1) = ks.take i ++ [k] := by
        rw [hkk, List.take_succ_eq_append_getElem (by omega)]
        simp [List.getD, List.getElem?_eq_getElem (show i < ks.length by omega)]
      have hks : ks = ks.take i ++ k :: ks.drop (i + 1) := by
        rw [hkk]
        conv => lhs; rw [← List.take_append_drop i ks, List.drop_eq_getElem_cons (by omega)]
        simp [List.getD, List.getElem?_eq_getElem (show i < ks.length by omega)]
      have ckr : wr.cell? ⟨kb, ko + i, none⟩ = some (.int .i64 k) := by rw [hpb.cell (p := ⟨kb, ko + i, none⟩) (World.block_lt_of_cell? _ _ ck)]; exact ck
      have hli : (i : Int) < (N : Int) := by omega
      obtain ⟨i0, hi, hz0, hz1, hz2⟩ := info_text
      obtain ⟨Q, hQ⟩ : ∃ x : Nat, x = i + 1 := ⟨_, rfl⟩
      have e_Q : (i : Int) + 1 = (Q : Int) := by omega
      have s_Q : IntKind.i64.wrap (Q : Int) = (Q : Int) := by rw [IntKind.wrap_i64]; omega
      have HQ := hide (And.intro hkk (And.intro hy (And.intro hy2 (And.intro hcd (And.intro htake (And.intro hks (And.intro hN (And.intro hn1 hQ))))))))
      have HP := hide (And.intro P b7)
      have hsl : ∀ (z : World) (q : Nat) (u : Value), (cd = 0 → Own 5 .u8 256 z q u (tkL l y k)) → (cd ≠ 0 → u = .slice none 0 0) → ∃ ua um uc, u = .slice ua um uc := fun z q u h1 h2 => by
        by_cases h : cd = 0
        · obtain ⟨_, _, rfl⟩ := own_sliceA (h1 h).1
          exact ⟨_, _, _, rfl⟩
        · exact ⟨_, _, _, h2 h⟩
      clear hkk hy hy2 hcd htake hks hN hn1 hQ P hv tv kcell kr hkc ck b7 hw0 hb0 hpb
      by_cases hc0 : cd = 0
      · subst hc0
        go_wp2_with (first
          | (refine htk.mono ?_; rintro e W1 ⟨u, rfl, hu1, hu2, bxF, hbF⟩; obtain ⟨ua, um, uc, rfl⟩ := hsl _ _ u hu1 hu2; have ho1 := own_butR HP.out.1.own (by decide) HP.out.1.bx hbF)
          | (refine wpList_append_rows _ rfl _ _ 32 32 22 rfl Try.underlying32 w.heap.size 22 i0 (.slice none 0 0) 24 Try.underlying32 hi hz0 hz1 hz2 rfl _ i us rfl (ho1.alloc _) (some ⟨W1.heap.size, 0, none⟩) 1 1 [.slice ua um uc] rfl rfl (fun _ => ⟨_, _, rfl, fun jj uu h => by
              have : jj = 0 := by have := (List.getElem?_eq_some_iff.1 h).1; simp at this; exact this
              subst this
              rw [World.cell?_alloc_at _ _ _ _ (by simp)]; simpa using h⟩) (fun uu hu => by simp at hu; rw [hu]; rfl) (by unfold maxLen; omega) (by omega) (by rw [World.size_alloc]; have h1 := HP.out.1.but.size; have h2 := hbF.size; omega) ?_; intro v7 w7 how7 hg7)
          | fail)
        obtain ⟨P, b7⟩ := HP.out
        obtain ⟨hkk, hy, hy2, hcd, htake, hks, hN, hn1, hQ⟩ := HQ.out
        have hlw : ∀ q, (Value.slice oa i oc).ownBlock = some q → w.heap.size ≤ q := fun q hq => (P.own.lt q hq).1
        have hbA := keep_alloc W1 (.cells #[.slice ua um uc] 22)
        have g7 := BxR.grown (bxF.below hbA) hg7 (fun e => by have := hlw _ e.symm; omega)
        have ot1 := ((P.txt.butR P.bx hbF).below hbA).snoc (Own.mono ⟨own_belowA (hu1 (by trivial)).1 hbA, (hu1 (by trivial)).2⟩ (Nat.zero_le _))
        have ot2 := ot1.grown (ho1.alloc _) hg7
        have hyy : y2 = ptA x (ks.take i ++ [k]) := by
          rw [ptA_snoc, ← hy, hy2]
          unfold tkY
          rw [if_pos hcd.symm]
        have hk0 : tkC l.length y k = 0 := by rw [hn1, ← hcd]
        refine ⟨⟨Q, us ++ [.slice ua um uc], rfl, ?_⟩, by simp [intOf]; omega⟩
        rw [hQ]
        refine ⟨by omega, ?_, ?_, how7, ?_, ?_⟩
        · rw [htake, ptC_snoc _ _ _ _ P.good, ← hy]; exact hk0
        · rw [htake, ← hyy]; exact g7
        · rw [htake, ptL_snoc, ← hy]; exact ot2
        · exact ((P.but.trans hbF).alloc _).grown hg7 hlw
      · have hcb : (cd != 0) = true := by simp [hc0]
        go_wp2_with (first
          | (refine htk.mono ?_; rintro e W1 ⟨u, rfl, hu1, hu2, bxF, hbF⟩; obtain ⟨ua, um, uc, rfl⟩ := hsl _ _ u hu1 hu2)
          | fail)
        go_ret2
        obtain ⟨P, b7⟩ := HP.out
        obtain ⟨hkk, hy, hy2, hcd, htake, hks, hN, hn1, hQ⟩ := HQ.out
        have hfin : ptC n x ks = cd := by
          rw [hks, ← hn1, ptC_bad l.length (ks.take i) x k (ks.drop (i + 1)) P.good (by rw [hn1, ← hy, ← hcd]; exact hc0), hn1, ← hy, ← hcd]
        exact ⟨P.but.trans hbF, .inl ⟨by rw [hfin]; exact hc0, by rw [hfin]; rfl⟩⟩
    · obtain rfl : i = N := by have := P.le; omega
      have hge : ¬ ((i : Int) < (i : Int)) := by omega
      have ht : ks.take i = ks := List.take_of_length_le (by omega)
      have HP := hide (And.intro P (And.intro ht (And.intro hN hn1)))
      clear P ht hN hn1 hv tv kcell kr
      go_wp2
      go_ret2
      obtain ⟨P, ht, hN, hn1⟩ := HP.out
      have hg := P.good
      have hp := P.txt
      have hb := P.bx
      rw [ht] at hg hp hb
      exact ⟨P.but, .inr ⟨by rw [← hn1]; exact hg, _, rfl, us, P.own, hp, hb⟩⟩
theorem OwnT.bx2 {z : World} {us : List Value} {l : List (List Nat)} {Z : Nat} {v0 v1 u0 u1 : Value} (h : OwnT z us l) (hz : Bx2 z Z v0 v1) : OwnT ((z.setCell ⟨Z, 0, none⟩ u0).setCell ⟨Z, 1, none⟩ u1) us l :=
  ⟨h.1, fun i hi => by obtain ⟨u, hu, ho⟩ := h.2 i hi; exact ⟨u, hu, own_bx2 ho hz⟩⟩
theorem ownsRow_base {w : World} {B B' n : Nat} {e : TypeId} {v : Value} {xs : List Value} (h : w.ownsRow B e 1 v n xs) (hB : B' ≤ B) : w.ownsRow B' e 1 v n xs := by
  obtain ⟨h1, h2⟩ := h
  refine ⟨h1, ?_⟩
  rcases h2 with h2 | ⟨g, cap, cur, rfl, h3, h4⟩
  · exact .inl h2
  · exact .inr ⟨g, cap, cur, rfl, by omega, h4⟩
/-- parts: nothing beside an error -/
def ptY (n : Nat) (x : Int) (ks : List Int) : Int := if ptC n x ks = 0 then ptA x ks else x
def ptB (l : List Nat) (x : Int) (ks : List Int) : List (List Nat) := if ptC l.length x ks = 0 then ptL l x ks else []
set_option maxHeartbeats 8000000 in
set_option maxRecDepth 100000 in
theorem tParts_any (l : List Nat) (v kv : Value) (x : Int) (ks : List Int) (w : World) (hv : Row .u8 256 w v l) (tv : Tidy v) (hll : l.length ≤ 1000000) (hk : RowI w kv ks) (hn : ks.length ≤ 100000) :
    Calls Try.prog 8 #[.agg #[v, .int .i64 x], kv] w fun e w' => ∃ u p, e = .returned (.tuple #[.agg #[u, .int .i64 (ptY l.length x ks)], p, .int .i64 (ptC l.length x ks)]) ∧ Own 5 .u8 256 w' w.heap.size u l ∧ Rows2 w' p (ptB l x ks) ∧ Below w.heap.size w w' := by
  have hmf : ∀ (fn : Fn) (first cap : Array Value) (w : World), (Instr.makeFunc fn first cap).run Try.prog w = .ok (.func fn first cap) w := fun _ _ _ _ => rfl
  have hv' := hv
  obtain ⟨a, c, rfl, _⟩ := hv'.opens rfl
  clear hv'
  obtain ⟨n, hl⟩ : ∃ n, l.length = n := ⟨_, rfl⟩
  have hea := fun (y : World) (B : Nat) (hB : w.heap.size ≤ B) (hb : Below w.heap.size w y) (bx : BxR y B (.slice a n c) (.int .i64 x)) => teach_any l (.slice a n c) kv x ks B w y (by rw [← hl]; exact hv) (by rw [← hl]; exact tv) hll hk hn hB hb bx
  obtain ⟨ka, kc, hke, _⟩ := hk
  subst hke
  obtain ⟨N, hN⟩ : ∃ N, ks.length = N := ⟨_, rfl⟩
  have HY : Hid ((ptC n x ks = 0 → ptY n x ks = ptA x ks ∧ ptB l x ks = ptL l x ks) ∧ (ptC n x ks ≠ 0 → ptY n x ks = x ∧ ptB l x ks = [])) := hide ⟨fun h => ⟨if_pos h, by unfold ptB; rw [hl]; exact if_pos h⟩, fun h => ⟨if_neg h, by unfold ptB; rw [hl]; exact if_neg h⟩⟩
  rw [hl] at hv tv hea ⊢
  have HH := hide (And.intro hv (And.intro tv (And.intro hll (And.intro hl (And.intro hN (ptL_len l ks x))))))
  rw [hN] at hea ⊢
  obtain ⟨b0, z0, r0, hbw⟩ := three_bx w (.slice a n c) (.int .i64 x) (.slice none 0 0) (.int .i64 0)
  generalize ptB l x ks = PB at *
  generalize ptY n x ks = PY at *
  generalize ptA x ks = PA at *
  generalize ptL l x ks = PL at *
  generalize ptC n x ks = C at *
  clear hN hn hv tv hll
  by_cases hC : C = 0
  · subst hC
    replace hea := fun (y : World) (B : Nat) (hB : w.heap.size ≤ B) (hb : Below w.heap.size w y) (bx : BxR y B (.slice a n c) (.int .i64 x)) => (hea y B hB hb bx).mono (R' := fun e w' => But B y w' ∧ ∃ u us, e = .returned (.tuple #[u, .int .i64 0]) ∧ w'.ownsRow y.heap.size 22 1 u N us ∧ OwnT w' us PL ∧ BxR w' B (.slice a n c) (.int .i64 PA)) (fun e w' h => by
      obtain ⟨h1, ⟨h2, _⟩ | ⟨_, h2⟩⟩ := h
      · exact absurd rfl h2
      · exact ⟨h1, h2⟩)
    rw [(HY.out.1 rfl).1, (HY.out.1 rfl).2]
    clear HY
    go_enter Try.func8, Try.ntmps8
    go_wp2_with (first
      | (go_at_call 21; refine (hea _ (w.heap.size + 1 + 1) (by omega) hbw r0).mono ?_; rintro e w1 ⟨hb1, u, us, rfl, hu1, hu2, r1⟩; have z1 := z0.but hb1 (by omega); have hbw1 := hbw.trans (hb1.below (by omega) hbw.size); have c0 := r1.c0; have c1 := r1.c1)
      | (go_at_call 20; refine (tcop_any l _ PA w1 (HH.out.1.below hbw1) HH.out.2.1 HH.out.2.2.1).mono ?_; rintro e w2 ⟨u2, rfl, ou2, hb2⟩; have z2 := z1.below hb2; have d0 := z2.c0; have d1 := z2.c1; have e0 := z2.f0; have e1 := z2.f1; obtain ⟨ua, uc, rfl⟩ := own_sliceA ou2.1; rw [hl] at ou2)
      | fail)
    refine bodyPost_ret ((z2.set _ (.int .i64 PA)).load rfl rfl _ rfl) rfl ?_
    have hbZ := keep_trans hbw1 hb2
    have hbt := but_set2 w2 (w.heap.size + 1) (.slice ua n uc) (.int .i64 PA)
    have hbF := hbZ.trans (hbt.below (by omega) hbZ.size)
    refine ⟨_, _, rfl, own_bx2 (ou2.mono hbw1.size) z2, ?_, hbF⟩
    refine ((hu2.below hb2).bx2 z2).texts.rows2 (B := w.heap.size + 2) ?_
    have hlen := HH.out.2.2.2.2
    rw [hlen.2, hlen.1]
    exact own_set2 (ownsRow_base (own_belowA hu1 hb2) (by rw [World.size_alloc, World.size_alloc, World.size_alloc]; omega)) (by omega)
  · have hcb : (C != 0) = true := by simp [hC]
    replace hea := fun (y : World) (B : Nat) (hB : w.heap.size ≤ B) (hb : Below w.heap.size w y) (bx : BxR y B (.slice a n c) (.int .i64 x)) => (hea y B hB hb bx).mono (R' := fun e w' => But B y w' ∧ e = .returned (.tuple #[.slice none 0 0, .int .i64 C])) (fun e w' h => by
      obtain ⟨h1, ⟨_, h2⟩ | ⟨h2, _⟩⟩ := h
      · exact ⟨h1, h2⟩
      · exact absurd h2 hC)
    rw [(HY.out.2 hC).1, (HY.out.2 hC).2]
    clear HY
    go_enter Try.func8, Try.ntmps8
    go_wp2_with (first
      | (go_at_call 21; refine (hea _ (w.heap.size + 1 + 1) (by omega) hbw r0).mono ?_; rintro e w1 ⟨hb1, rfl⟩; have z1 := z0.but hb1 (by omega); have y1 := b0.but hb1 (by omega); have hbw1 := hbw.trans (hb1.below (by omega) hbw.size); have c0 := y1.c0; have c1 := y1.c1)
      | (go_at_call 20; refine (tcop_any l _ x w1 (HH.out.1.below hbw1) HH.out.2.1 HH.out.2.2.1).mono ?_; rintro e w2 ⟨u2, rfl, ou2, hb2⟩; have z2 := z1.below hb2; have d0 := z2.c0; have d1 := z2.c1; have e0 := z2.f0; have e1 := z2.f1; obtain ⟨ua, uc, rfl⟩ := own_sliceA ou2.1; rw [hl] at ou2)
      | fail)
    refine bodyPost_ret ((z2.set _ (.int .i64 x)).load rfl rfl _ rfl) rfl ?_
    have hbZ := keep_trans hbw1 hb2
    have hbt := but_set2 w2 (w.heap.size + 1) (.slice ua n uc) (.int .i64 x)
    have hbF := hbZ.trans (hbt.below (by omega) hbZ.size)
    refine ⟨_, _, rfl, own_bx2 (ou2.mono hbw1.size) z2, ⟨none, 0, rfl, Nat.le_refl _, Nat.zero_le _, fun h => absurd h (by simp)⟩, hbF⟩
end Go.Proofs.Ytiedkpfpaeecfaa
