/- Values as a set: the document's Set. -/
import Derived.Test.YtlddpjcacnahmaaGreatDoorVSet
import Derived.Test.YtlddpjcacnahmaaGreatDoorVMem
namespace Go.Proofs.YtlddpjcacnahmaaGreatDoor
open Go.RowKit Go.Deep
set_option linter.unusedVariables false
set_option linter.unusedSimpArgs false

theorem Texts.takes {w : World} {us : List Value} {l : List (List Nat)} (h : Texts w us l) (k : Nat) : Texts w (us.take k) (l.take k) := by
  refine ⟨by rw [List.length_take, List.length_take, h.1], fun i hi => ?_⟩
  rw [List.length_take] at hi
  obtain ⟨u, hu, hr⟩ := h.2 i (by omega)
  have e : tx (l.take k) i = tx l i := by unfold tx; rw [List.getElem?_take, if_pos (by omega)]
  exact ⟨u, by rw [List.getElem?_take, if_pos (by omega)]; exact hu, by rw [e]; exact hr⟩
theorem Texts.drops {w : World} {us : List Value} {l : List (List Nat)} (h : Texts w us l) (k : Nat) : Texts w (us.drop k) (l.drop k) := by
  refine ⟨by rw [List.length_drop, List.length_drop, h.1], fun i hi => ?_⟩
  rw [List.length_drop] at hi
  obtain ⟨u, hu, hr⟩ := h.2 (k + i) (by omega)
  have e : tx (l.drop k) i = tx l (k + i) := by unfold tx; rw [List.getElem?_drop]
  exact ⟨u, by rw [List.getElem?_drop]; exact hu, by rw [e]; exact hr⟩
/-- the cells of a row's head, of its end, in a later world -/
theorem news_head {w wr : World} {us : List Value} {b off k m : Nat} (h : ∀ j u, us[j]? = some u → w.cell? ⟨b, off + j, none⟩ = some u) (hb : Below w.heap.size w wr) :
    0 < m → ∃ b' off', some (⟨b, off, none⟩ : Addr) = some ⟨b', off', none⟩ ∧ ∀ j u, (us.take k)[j]? = some u → wr.cell? ⟨b', off' + j, none⟩ = some u := by
  intro _
  refine ⟨b, off, rfl, fun j u hj => ?_⟩
  have hj' : us[j]? = some u := by
    rw [List.getElem?_take] at hj
    split at hj
    · exact hj
    · cases hj
  exact Below.cells hb (h j u hj')
theorem news_tail {w wr : World} {us : List Value} {b off k m : Nat} (h : ∀ j u, us[j]? = some u → w.cell? ⟨b, off + j, none⟩ = some u) (hb : Below w.heap.size w wr) :
    0 < m → ∃ b' off', some (⟨b, off + k, none⟩ : Addr) = some ⟨b', off', none⟩ ∧ ∀ j u, (us.drop k)[j]? = some u → wr.cell? ⟨b', off' + j, none⟩ = some u := by
  intro _
  refine ⟨b, off + k, rfl, fun j u hj => ?_⟩
  rw [List.getElem?_drop] at hj
  have c := h _ u hj
  rw [← Nat.add_assoc] at c
  exact Below.cells hb c
theorem below_rows {B : Nat} {w wr w' : World} {e : TypeId} {s : Nat} {v : Value} {k : Nat} {xs : List Value} (hb : Below B w wr) (hs : B ≤ wr.heap.size) (how : wr.ownsRow B e s v k xs) (hg : wr.grownBy w' v.ownBlock) : Below B w w' :=
  hb.grown hg hs (fun k h => (how.lt k h).1)
theorem allS_append {g : Nd → Option (List Nat)} : ∀ {a b : List Nd} {s t : List (List Nat)}, allS g a = some s → allS g b = some t → allS g (a ++ b) = some (s ++ t)
  | [], b, s, t, h, h' => by rw [allS] at h; obtain rfl := Option.some.inj h; exact h'
  | x :: a, b, s, t, h, h' => by
    rw [allS] at h
    cases hx : g x with
    | none => rw [hx] at h; cases h
    | some y =>
      rw [hx] at h
      cases hk : allS g a with
      | none => rw [hk] at h; cases h
      | some ys =>
        rw [hk] at h
        obtain rfl := Option.some.inj h
        have ih := allS_append hk h'
        rw [List.cons_append, List.cons_append, allS, hx]
        simp only
        rw [ih]
theorem allS_split {g : Nd → Option (List Nat)} : ∀ (k : Nat) {a : List Nd} {s : List (List Nat)}, allS g a = some s → allS g (a.take k) = some (s.take k) ∧ allS g (a.drop k) = some (s.drop k)
  | 0, a, s, h => ⟨by simp [allS], by simpa using h⟩
  | k + 1, [], s, h => by rw [allS] at h; obtain rfl := Option.some.inj h; simp [allS]
  | k + 1, x :: a, s, h => by
    rw [allS] at h
    cases hx : g x with
    | none => rw [hx] at h; cases h
    | some y =>
      rw [hx] at h
      cases hk : allS g a with
      | none => rw [hk] at h; cases h
      | some ys =>
        rw [hk] at h
        obtain rfl := Option.some.inj h
        obtain ⟨h1, h2⟩ := allS_split k hk
        refine ⟨?_, by simpa using h2⟩
        rw [List.take_succ_cons, List.take_succ_cons, allS, hx]
        simp only
        rw [h1]
theorem allS_one {g : Nd → Option (List Nat)} {x : Nd} {b : List Nat} (h : g x = some b) : allS g [x] = some [b] := by rw [allS, h]; simp [allS]
/-- a value is laid among those of a set -/
def layN (xs : List Nd) (x : Nd) (k : Nat) : List Nd := xs.take k ++ [x] ++ xs.drop k
/-- the values of a set so far, and their texts -/
def SetQ (FB : Int → List Nat → Bool) (ks : List Nd) (i : Nat) (ts : List (List Nat)) (xs : List Nd) : Prop :=
  ts.length = i ∧ xs.length = i ∧ allS (bytesD FB) xs = some ts ∧ SortedL ts ∧ ∃ us, allS (bytesD FB) (ks.take i) = some us ∧ ts.Perm us
theorem SetQ.nil (FB : Int → List Nat → Bool) (ks : List Nd) : SetQ FB ks 0 [] [] := ⟨rfl, rfl, rfl, List.Pairwise.nil, [], by rw [List.take_zero]; rfl, List.Perm.refl _⟩
theorem SetQ.step {FB : Int → List Nat → Bool} {ks : List Nd} {i k : Nat} {ts : List (List Nat)} {xs : List Nd} {b : List Nat} (h : SetQ FB ks i ts xs) (hi : i < ks.length) (hb : bytesD FB (kx ks i) = some b) (hk : upTo b ts = k) : SetQ FB ks (i + 1) (layL ts b) (layN xs (kx ks i) k) := by
  obtain ⟨h1, h2, h3, h4, us, h5, h6⟩ := h
  have hkl : k ≤ ts.length := by rw [← hk]; exact upTo_le b ts
  have e : layL ts b = ts.take k ++ [b] ++ ts.drop k := by unfold layL; rw [hk]; simp
  obtain ⟨s1, s2⟩ := allS_split k h3
  refine ⟨by rw [e]; simp; omega, by unfold layN; simp; omega, ?_, lay_sorted b ts h4, us ++ [b], ?_, ?_⟩
  · rw [e]
    exact allS_append (allS_append s1 (allS_one hb)) s2
  · rw [take_kx hi]
    exact allS_append h5 (allS_one hb)
  · exact (lay_perm b ts).trans ((List.Perm.cons b h6).trans (List.perm_append_singleton b us).symm)
theorem SetQ.done {FB : Int → List Nat → Bool} {ks : List Nd} {ts : List (List Nat)} {xs : List Nd} (h : SetQ FB ks ks.length ts xs) : SetR FB ks xs := by
  obtain ⟨h1, h2, h3, h4, us, h5, h6⟩ := h
  rw [List.take_length] at h5
  exact ⟨ts, us, h3, h4, h5, h6⟩
/-- in memory -/
def SetI (P d : Nat) (vt vo : Value) (ts : List (List Nat)) (xs : List Nd) (w : World) : Prop := Rows2 w vt ts ∧ KidsAt (NdIn (fun q => q ≠ P) w d) w vo xs ∧ Tidy vo ∧ (ts.length = 0 → vt = .slice none 0 0 ∧ vo = .slice none 0 0) ∧ ValIn (fun q => q ≠ P) vo
theorem Rows2.keep {w w' : World} {v : Value} {ls : List (List Nat)} (h : Rows2 w v ls) (hb : Below w.heap.size w w') : Rows2 w' v ls := by
  obtain ⟨a, cap, rfl, h1, h2, h3⟩ := h
  refine ⟨a, cap, rfl, h1, h2, fun hl => ?_⟩
  obtain ⟨b, off, rfl, hc⟩ := h3 hl
  refine ⟨b, off, rfl, fun i hi => ?_⟩
  obtain ⟨u, hu, hr, ht⟩ := hc i hi
  exact ⟨u, Below.cells hb hu, hr.below hb, ht⟩
theorem SetI.keep {P d : Nat} {vt vo : Value} {ts : List (List Nat)} {xs : List Nd} {w w' : World} (h : SetI P d vt vo ts xs w) (hb : Below w.heap.size w w') : SetI P d vt vo ts xs w' := ⟨h.1.keep hb, kids_turn h.2.1 h.2.2.2.2 (fun b hs hl => ⟨hb.block b hl, hs⟩), h.2.2.1, h.2.2.2.1, h.2.2.2.2⟩
/-- behind the six appends -/
theorem set_laid {P d k i : Nat} {wi w5 w8 : World} {ts : List (List Nat)} {xs : List Nd} {us cs : List Value} {vb v3 v6 c0 c1 c2 : Value} {b : List Nat} {x : Nd} (hts : ts.length = i) (hxs : xs.length = i) (hk : k ≤ i) (hu : upTo b ts = k)
    (hT : Texts wi us ts) (hr : Row .u8 256 wi vb b) (htd : Tidy vb) (hC : Trip (fun q => q ≠ P) wi d cs xs) (hx : NdIn (fun q => q ≠ P) wi d c0 c1 c2 x) (hP : P < wi.heap.size)
    (ho5 : w5.ownsRow wi.heap.size 22 1 v3 (k + 1 + (i - k)) (us.take k ++ [vb] ++ us.drop k)) (hb5 : Below wi.heap.size wi w5) (hb8 : Below w5.heap.size w5 w8)
    (ho8 : w8.ownsRow w5.heap.size 28 3 v6 (k + 1 + (i - k)) (cs.take (k * 3) ++ [c0, c1, c2] ++ cs.drop (k * 3))) : SetI P d v3 v6 (layL ts b) (layN xs x k) w8 := by
  have hbw := keep_trans hb5 hb8
  have e : layL ts b = ts.take k ++ [b] ++ ts.drop k := by unfold layL; rw [hu]; simp
  have hl : (ts.take k ++ [b] ++ ts.drop k).length = k + 1 + (i - k) := by simp; omega
  have hl' : (layN xs x k).length = k + 1 + (i - k) := by unfold layN; simp; omega
  refine ⟨?_, ?_, own_tidys ho8, fun h => by rw [e, hl] at h; omega, fun q _ hq => by have := (ho8.lt q hq).1; have := hb5.size; omega⟩
  · rw [e]
    exact ((((hT.takes k).append (Texts.one hr htd)).append (hT.drops k)).below hbw).rows2 (by rw [hl]; exact own_kept ho5 hb8)
  · have htr : Trip (fun q => q ≠ P) wi d _ (layN xs x k) := ((hC.take k).append (Trip.one hx)).append (hC.drop k)
    have htr8 := htr.map (fun _ _ _ _ hn => hn.turn (w' := w8) (T := fun q => q ≠ P) (fun q hq hl => ⟨hbw.block q hl, hq⟩))
    exact htr8.kids (by rw [hl']; exact ho8)

/-- what is told: no value, or a set, which may share its values' memory -/
def SetF (FB : Int → List Nat → Bool) (ks : List Nd) (w : World) (e : Ending) (w' : World) : Prop :=
  ((allS (bytesD FB) ks = none ∧ e = .returned (.tuple #[.agg #[.int .i64 0, .slice none 0 0, .slice none 0 0], .int .i64 1])) ∨
   ∃ out d a n c, SetR FB ks out ∧ e = .returned (.tuple #[.agg #[.int .i64 49, .slice none 0 0, .slice a n c], .int .i64 0]) ∧ NdAt w' d (.int .i64 49) (.slice none 0 0) (.slice a n c) (.mk 49 [] out)) ∧ Below w.heap.size w w'

set_option maxRecDepth 100000 in
set_option maxHeartbeats 8000000 in
theorem rset_any (FB : Int → List Nat → Bool) (hFB : FBok FB) (d : Nat) (v : Value) (ks : List Nd) (w : World) (hk : KidsAt (NdAt w d) w v ks) (hs : ∀ i, i < ks.length → szF d (kx ks i) ≤ 10000) (hl : ks.length ≤ 12) :
    Calls Tryz.prog 36 #[v] w fun e w' => SetF FB ks w e w' := by
  have hb0 := keep_alloc w (.cells #[.int .i64 0, .slice none 0 0, .slice none 0 0] 28)
  obtain ⟨iN, hiN, hN0, hN1, hN2⟩ := info_node
  obtain ⟨iT, hiT, hT0, hT1, hT2⟩ := info_text
  obtain ⟨a, cap, rfl, g1, g2, g3⟩ := hk
  unfold maxLen at g2
  generalize hNN : ks.length = N at *
  have HNN := hide hNN
  have HS := hide hs
  clear hs hNN
  go_enter Tryz.func36, Tryz.ntmps36
  go_wp2_with fail
  go_loopw [4, 5, 6] (fun vo vt i wr => ∃ (n : Nat) (ts : List (List Nat)) (xs : List Nd), n ≤ N ∧ i = .int .i64 n ∧ Hid (SetQ FB ks n ts xs) ∧ Hid (SetI w.heap.size d vt vo ts xs wr) ∧ Below (w.heap.size + 1) (w.alloc (.cells #[.int .i64 0, .slice none 0 0, .slice none 0 0] 28)) wr) (fun _ _ i _ => N - (intOf i).toNat)
  case atStart => exact ⟨0, [], [], Nat.zero_le _, rfl, hide (SetQ.nil _ _), hide ⟨⟨none, 0, rfl, Nat.le_refl _, Nat.zero_le _, fun h => by simp at h⟩, nil_kids _ _, nil_tidy, fun _ => ⟨rfl, rfl⟩, fun q hq => by simp [lenV] at hq⟩, by have := Below.refl (w.heap.size + 1) (w.alloc (.cells #[.int .i64 0, .slice none 0 0, .slice none 0 0] 28)); exact this⟩
  case round =>
    obtain ⟨n, ts, xs, hn, rfl, HQ, HI, hbr⟩ := hrel
    have hsr := hbr.size
    rw [World.size_alloc] at hsr
    have hbw : Below w.heap.size w wr := hb0.trans (hbr.mono (by omega))
    by_cases hlt : n < N
    · obtain ⟨bk, ok, rfl, hck⟩ := g3 (by omega)
      obtain ⟨x0, x1, x2, xc, xn⟩ := hck n hlt
      obtain ⟨xc0, xc1, xc2⟩ := xc.below hbw
      have hbo := rbytes_der FB hFB d _ _ _ (kx ks n) wr (NdAt.below hbw _ _ _ _ _ xn) (HS.out n hlt)
      obtain ⟨t, a1, n1, p1, a2, n2, p2, rfl, rfl, rfl⟩ := (NdAt.inOld _ _ _ _ _ xn).forms
      have HXN := hide xn
      clear hck xc xn
      go_wp2_with fail
      refine hbo.mono ?_
      rintro e w2 ⟨⟨l, v2, hl2, rfl, hr2, ht2⟩ | ⟨hl2, rfl⟩, hb2⟩
      · have hbw2 := keep_trans hbw hb2
        have hbr2 := hbr.trans (hb2.mono hsr)
        have HI2 := hide (HI.out.keep hb2)
        have xc0 := Below.cells hb2 xc0
        have xc1 := Below.cells hb2 xc1
        have xc2 := Below.cells hb2 xc2
        have HL2 := hide hl2
        have HR2 := hide (And.intro hr2 ht2)
        obtain ⟨va, vc, rfl⟩ := hr2.sl
        generalize hLL : l.length = L at *
        have HXI : Hid (NdIn (fun q => q ≠ w.heap.size) w d (.int .i64 t) (.slice a1 n1 p1) (.slice a2 n2 p2) (kx ks n)) := hide (NdIn.mono (fun q hq _ => by omega) _ _ _ _ _ (NdAt.inOld _ _ _ _ _ HXN.out))
        obtain ⟨us, ta, tc, ht1, hu1, hu2, hT, htc⟩ := HI2.out.1.texts
        obtain ⟨cs, na, nc, hn1, hv1, hv2, hC, hnc⟩ := kids_trip HI2.out.2.1
        rw [HQ.out.1] at ht1 hu1 htc
        rw [HQ.out.2.1] at hn1 hv1 hnc
        subst ht1
        subst hn1
        have hul : us.length = n := by rw [hT.1]; exact HQ.out.1
        have hcl : cs.length = n * 3 := by rw [hC.1, HQ.out.2.1]
        have hones := hT.cells
        have honec := hC.cells
        have HT := hide hT
        have HC := hide hC
        have HUL := hide hul
        have HCL := hide hcl
        have hsz2 : w.heap.size < w2.heap.size := by have := hb2.size; omega
        clear hbo hl2 hr2 ht2 hT hC hul hcl hLL
        go_wp2_with fail
        go_loopw [9] (fun v wi => ∃ k : Nat, k ≤ n ∧ v = .int .i64 k ∧ Hid (∀ j, j < k → lessL l (tx ts j) = false) ∧ Below w2.heap.size w2 wi) (fun v _ => n - (intOf v).toNat)
        case atStart => exact ⟨0, Nat.zero_le _, rfl, hide (fun j hj => by omega), Below.refl _ _⟩
        case round =>
          obtain ⟨k, hk, rfl, HA, hbi⟩ := hrel
          by_cases hkn : k < n
          · obtain ⟨tb, tO, rfl, htcc⟩ := htc (by omega)
            obtain ⟨nb, no, rfl, hncc⟩ := hnc (by omega)
            obtain ⟨u, hu, hur, hut⟩ := HT.out.2 k (by rw [HQ.out.1]; exact hkn)
            have c1 := Below.cells hbi (htcc k u hu)
            have hcall := rless_any (.slice va L vc) u l (tx ts k) wr (HR2.out.1.below hbi) (hur.below hbi)
            obtain ⟨ua, uc, rfl⟩ := hur.sl
            generalize (tx ts k).length = un at *
            have hkt : ¬ tc = k := by omega
            have hkt' : ¬ k = tc := by omega
            have hkc : ¬ nc = k := by omega
            have hkc' : ¬ k = nc := by omega
            clear hu hur hut
            cases hd : lessL l (tx ts k) with
            | true =>
              rw [hd] at hcall
              have HU : Hid (upTo l ts = k) := hide (upTo_is HA.out (.inr ⟨by rw [HQ.out.1]; exact hkn, hd⟩))
              clear hd
              go_wp2_with fail
              refine hcall.mono ?_
              rintro e w3a ⟨rfl, hdr⟩
              have hbi := keep_trans hbi (Drew.below hdr)
              clear hcall hdr c1
              go_wp2_with (first
                | (at_builtin; refine wpList_append_rowsK _ rfl _ _ 26 rfl w5.heap.size 28 iN (.agg #[.int .i64 0, .slice none 0 0, .slice none 0 0]) 3 56 Tryz.underlying26 hiN hN0 hN1 hN2 rfl (by decide) _ _ _ rfl how7 (some ⟨nb, no + k * 3, none⟩) (n - k) (nc - k) (cs.drop (k * 3)) rfl (by rw [List.length_drop, HCL.out]; omega) (news_tail hncc hb27) (fun y hy => honec y (List.mem_of_mem_drop hy)) (by unfold maxLen; omega) (by omega) hs7 ?_; intro v8 w8 how8 hg8; have hb8 := below_rows hb7 hs7 how7 hg8)
                | (at_builtin; refine wpList_append_rowsK _ rfl _ _ 26 rfl w5.heap.size 28 iN (.agg #[.int .i64 0, .slice none 0 0, .slice none 0 0]) 3 56 Tryz.underlying26 hiN hN0 hN1 hN2 rfl (by decide) _ _ _ rfl (how6.alloc _) (some ⟨w6.heap.size, 0, none⟩) 1 1 [.int .i64 t, .slice a1 n1 p1, .slice a2 n2 p2] rfl rfl (fun _ => ⟨_, _, rfl, fun j u hj => by have := cells_new3 w6 _ _ _ 28 rfl j u hj; rwa [Addr.add_lit] at this⟩) (by simp [Value.oneCell']) (by unfold maxLen; omega) (by omega) (by simp; omega) ?_; intro v7 w7 how7 hg7; have hb7 := below_rows (hb6.alloc hs6 _) (by simp; omega) (how6.alloc _) hg7; have hs7 := hb7.size; have hb27 := keep_trans hb25 hb7)
                | (at_builtin; refine wpList_append_rowsK _ rfl _ _ 26 rfl w5.heap.size 28 iN (.agg #[.int .i64 0, .slice none 0 0, .slice none 0 0]) 3 56 Tryz.underlying26 hiN hN0 hN1 hN2 rfl (by decide) _ _ _ rfl (World.ownsRow_nil _ _ _ _) (some ⟨nb, no, none⟩) k nc (cs.take (k * 3)) rfl (by rw [List.length_take, HCL.out]; omega) (news_head hncc hb25) (fun y hy => honec y (List.mem_of_mem_take hy)) (by unfold maxLen; simp; omega) (by simp; omega) (Nat.le_refl _) ?_; intro v6 w6 how6 hg6; rw [List.nil_append, Nat.zero_add] at how6; have hb6 := below_rows (Below.refl w5.heap.size w5) (Nat.le_refl _) (World.ownsRow_nil w5 w5.heap.size 28 3) hg6; have hs6 := hb6.size; have hb26 := keep_trans hb25 hb6; have z0 := Below.cells hb26 xc0; have z1 := Below.cells hb26 xc1; have z2 := Below.cells hb26 xc2)
                | (at_builtin; refine wpList_append_rows _ rfl _ _ 112 112 22 rfl Tryz.underlying112 w3a.heap.size 22 iT (.slice none 0 0) 24 Tryz.underlying112 hiT hT0 hT1 hT2 rfl _ _ _ rfl how4 (some ⟨tb, tO + k, none⟩) (n - k) (tc - k) (us.drop k) rfl (by rw [List.length_drop, HUL.out]) (news_tail htcc (keep_trans hbi hb4)) (fun y hy => hones y (List.mem_of_mem_drop hy)) (by unfold maxLen; omega) (by omega) hs4 ?_; intro v5 w5 how5 hg5; have hb5 := below_rows hb4 hs4 how4 hg5; have hs5 := hb5.size; have hb25 := keep_trans hbi hb5)
                | (at_builtin; refine wpList_append_rows _ rfl _ _ 112 112 22 rfl Tryz.underlying112 w3a.heap.size 22 iT (.slice none 0 0) 24 Tryz.underlying112 hiT hT0 hT1 hT2 rfl _ _ _ rfl (how3.alloc _) (some ⟨w3.heap.size, 0, none⟩) 1 1 [.slice va L vc] rfl rfl (fun _ => ⟨_, _, rfl, cells_new1 w3 _ _⟩) (by simp [Value.oneCell']) (by unfold maxLen; omega) (by omega) (by simp; omega) ?_; intro v4 w4 how4 hg4; have hb4 := below_rows (hb3.alloc hs3 _) (by simp; omega) (how3.alloc _) hg4; have hs4 := hb4.size)
                | (at_builtin; refine wpList_append_rows _ rfl _ _ 112 112 22 rfl Tryz.underlying112 w3a.heap.size 22 iT (.slice none 0 0) 24 Tryz.underlying112 hiT hT0 hT1 hT2 rfl _ _ _ rfl (World.ownsRow_nil _ _ _ _) (some ⟨tb, tO, none⟩) k tc (us.take k) rfl (by rw [List.length_take, HUL.out]; omega) (news_head htcc hbi) (fun y hy => hones y (List.mem_of_mem_take hy)) (by unfold maxLen; simp; omega) (by simp; omega) (Nat.le_refl _) ?_; intro v3 w3 how3 hg3; rw [List.nil_append, Nat.zero_add] at how3; have hb3 := below_rows (Below.refl w3a.heap.size w3a) (Nat.le_refl _) (World.ownsRow_nil w3a w3a.heap.size 22 1) hg3; have hs3 := hb3.size)
                | fail)
              all_goals
                have HSI : Hid (SetI w.heap.size d v5 v8 (layL ts l) (layN xs (kx ks n) k) w8) := hide (set_laid HQ.out.1 HQ.out.2.1 (by omega) HU.out (HT.out.below hbi) (HR2.out.1.below hbi) HR2.out.2 (HC.out.map (fun _ _ _ _ hn => hn.turn (w' := w3a) (T := fun q => q ≠ w.heap.size) (fun q hq hl => ⟨hbi.block q hl, hq⟩))) (HXI.out.turn (fun q hq hl => ⟨(hbi.block q (by omega)).trans (hbw2.block q hl), hq⟩)) (by have := hbi.size; omega) (how5) hb5 hb8 (how8))
                have HSQ : Hid (SetQ FB ks (n + 1) (layL ts l) (layN xs (kx ks n) k)) := hide (HQ.out.step (by rw [HNN.out]; exact hlt) HL2.out HU.out)
                have hbR := hbr2.trans ((keep_trans hb25 hb8).mono (by omega))
                clear how3 how4 how5 how6 how7 how8 hg3 hg4 hg5 hg6 hg7 hg8
                first
                  | exact ⟨⟨n + 1, layL ts l, layN xs (kx ks n) k, by omega, by go_num, HSQ, HSI, hbR⟩, by simp [intOf]; omega⟩
                  | (go_roundw
                     case rel => exact ⟨n + 1, layL ts l, layN xs (kx ks n) k, by omega, by go_num, HSQ, HSI, hbR⟩
                     case measure => simp [intOf]; omega)
            | false =>
              rw [hd] at hcall
              have HA' : Hid (∀ j, j < k + 1 → lessL l (tx ts j) = false) := hide (fun j hj => by
                by_cases hjk : j = k
                · subst hjk; exact hd
                · exact HA.out j (by omega))
              clear hd
              go_wp2_with fail
              refine hcall.mono ?_
              rintro e w3a ⟨rfl, hdr⟩
              have hbi := keep_trans hbi (Drew.below hdr)
              clear hcall hdr c1
              go_wp2_with fail
              first
                | exact ⟨⟨k + 1, by omega, by go_num, HA', hbi⟩, by simp [intOf]; omega⟩
                | (go_roundw
                   case rel => exact ⟨k + 1, by omega, by go_num, HA', hbi⟩
                   case measure => simp [intOf]; omega)
          · have hkn' : k = n := by omega
            subst hkn'
            have HU : Hid (upTo l ts = k) := hide (upTo_is HA.out (.inl (HQ.out.1).symm))
            by_cases hn0 : 0 < k
            · obtain ⟨tb, tO, rfl, htcc⟩ := htc hn0
              obtain ⟨nb, no, rfl, hncc⟩ := hnc hn0
              go_wp2_with (first
                | (at_builtin; refine wpList_append_rowsK _ rfl _ _ 26 rfl w5.heap.size 28 iN (.agg #[.int .i64 0, .slice none 0 0, .slice none 0 0]) 3 56 Tryz.underlying26 hiN hN0 hN1 hN2 rfl (by decide) _ _ _ rfl how7 _ 0 _ ([]) rfl rfl (fun h => absurd h (by omega)) (fun y hy => by cases hy) (by unfold maxLen; omega) (by omega) hs7 ?_; intro v8 w8 how8 hg8; have hb8 := below_rows hb7 hs7 how7 hg8)
                | (at_builtin; refine wpList_append_rowsK _ rfl _ _ 26 rfl w5.heap.size 28 iN (.agg #[.int .i64 0, .slice none 0 0, .slice none 0 0]) 3 56 Tryz.underlying26 hiN hN0 hN1 hN2 rfl (by decide) _ _ _ rfl (how6.alloc _) (some ⟨w6.heap.size, 0, none⟩) 1 1 [.int .i64 t, .slice a1 n1 p1, .slice a2 n2 p2] rfl rfl (fun _ => ⟨_, _, rfl, fun j u hj => by have := cells_new3 w6 _ _ _ 28 rfl j u hj; rwa [Addr.add_lit] at this⟩) (by simp [Value.oneCell']) (by unfold maxLen; omega) (by omega) (by simp; omega) ?_; intro v7 w7 how7 hg7; have hb7 := below_rows (hb6.alloc hs6 _) (by simp; omega) (how6.alloc _) hg7; have hs7 := hb7.size; have hb27 := keep_trans hb25 hb7)
                | (at_builtin; refine wpList_append_rowsK _ rfl _ _ 26 rfl w5.heap.size 28 iN (.agg #[.int .i64 0, .slice none 0 0, .slice none 0 0]) 3 56 Tryz.underlying26 hiN hN0 hN1 hN2 rfl (by decide) _ _ _ rfl (World.ownsRow_nil _ _ _ _) (some ⟨nb, no, none⟩) k nc (cs.take (k * 3)) rfl (by rw [List.length_take, HCL.out]; omega) (news_head hncc hb25) (fun y hy => honec y (List.mem_of_mem_take hy)) (by unfold maxLen; simp; omega) (by simp; omega) (Nat.le_refl _) ?_; intro v6 w6 how6 hg6; rw [List.nil_append, Nat.zero_add] at how6; have hb6 := below_rows (Below.refl w5.heap.size w5) (Nat.le_refl _) (World.ownsRow_nil w5 w5.heap.size 28 3) hg6; have hs6 := hb6.size; have hb26 := keep_trans hb25 hb6; have z0 := Below.cells hb26 xc0; have z1 := Below.cells hb26 xc1; have z2 := Below.cells hb26 xc2)
                | (at_builtin; refine wpList_append_rows _ rfl _ _ 112 112 22 rfl Tryz.underlying112 wr.heap.size 22 iT (.slice none 0 0) 24 Tryz.underlying112 hiT hT0 hT1 hT2 rfl _ _ _ rfl how4 _ 0 _ ([]) rfl rfl (fun h => absurd h (by omega)) (fun y hy => by cases hy) (by unfold maxLen; omega) (by omega) hs4 ?_; intro v5 w5 how5 hg5; have hb5 := below_rows hb4 hs4 how4 hg5; have hs5 := hb5.size; have hb25 := keep_trans hbi hb5)
                | (at_builtin; refine wpList_append_rows _ rfl _ _ 112 112 22 rfl Tryz.underlying112 wr.heap.size 22 iT (.slice none 0 0) 24 Tryz.underlying112 hiT hT0 hT1 hT2 rfl _ _ _ rfl (how3.alloc _) (some ⟨w3.heap.size, 0, none⟩) 1 1 [.slice va L vc] rfl rfl (fun _ => ⟨_, _, rfl, cells_new1 w3 _ _⟩) (by simp [Value.oneCell']) (by unfold maxLen; omega) (by omega) (by simp; omega) ?_; intro v4 w4 how4 hg4; have hb4 := below_rows (hb3.alloc hs3 _) (by simp; omega) (how3.alloc _) hg4; have hs4 := hb4.size)
                | (at_builtin; refine wpList_append_rows _ rfl _ _ 112 112 22 rfl Tryz.underlying112 wr.heap.size 22 iT (.slice none 0 0) 24 Tryz.underlying112 hiT hT0 hT1 hT2 rfl _ _ _ rfl (World.ownsRow_nil _ _ _ _) (some ⟨tb, tO, none⟩) k tc (us.take k) rfl (by rw [List.length_take, HUL.out]; omega) (news_head htcc hbi) (fun y hy => hones y (List.mem_of_mem_take hy)) (by unfold maxLen; simp; omega) (by simp; omega) (Nat.le_refl _) ?_; intro v3 w3 how3 hg3; rw [List.nil_append, Nat.zero_add] at how3; have hb3 := below_rows (Below.refl wr.heap.size wr) (Nat.le_refl _) (World.ownsRow_nil wr wr.heap.size 22 1) hg3; have hs3 := hb3.size)
                | fail)
              all_goals
                have HSI : Hid (SetI w.heap.size d v5 v8 (layL ts l) (layN xs (kx ks k) k) w8) := hide (set_laid HQ.out.1 HQ.out.2.1 (by omega) HU.out (HT.out.below hbi) (HR2.out.1.below hbi) HR2.out.2 (HC.out.map (fun _ _ _ _ hn => hn.turn (w' := wr) (T := fun q => q ≠ w.heap.size) (fun q hq hl => ⟨hbi.block q hl, hq⟩))) (HXI.out.turn (fun q hq hl => ⟨(hbi.block q (by omega)).trans (hbw2.block q hl), hq⟩)) (by have := hbi.size; omega) (by rw [show k - k = 0 by omega, show us.drop k = [] from List.drop_eq_nil_of_le (by rw [HUL.out]; exact Nat.le_refl _)]; exact how5) hb5 hb8 (by rw [show k - k = 0 by omega, show cs.drop (k * 3) = [] from List.drop_eq_nil_of_le (by rw [HCL.out]; exact Nat.le_refl _)]; exact how8))
                have HSQ : Hid (SetQ FB ks (k + 1) (layL ts l) (layN xs (kx ks k) k)) := hide (HQ.out.step (by rw [HNN.out]; exact hlt) HL2.out HU.out)
                have hbR := hbr2.trans ((keep_trans hb25 hb8).mono (by omega))
                clear how3 how4 how5 how6 how7 how8 hg3 hg4 hg5 hg6 hg7 hg8
                first
                  | exact ⟨⟨k + 1, layL ts l, layN xs (kx ks k) k, by omega, by go_num, HSQ, HSI, hbR⟩, by simp [intOf]; omega⟩
                  | (go_roundw
                     case rel => exact ⟨k + 1, layL ts l, layN xs (kx ks k) k, by omega, by go_num, HSQ, HSI, hbR⟩
                     case measure => simp [intOf]; omega)
            · have hk0 : k = 0 := by omega
              subst hk0
              obtain ⟨e1, e2⟩ := HI2.out.2.2.2.1 HQ.out.1
              obtain ⟨rfl, _, rfl⟩ := Value.slice.inj e1
              obtain ⟨rfl, _, rfl⟩ := Value.slice.inj e2
              clear e1 e2 htc hnc
              rw [Nat.zero_mul, Nat.add_zero] at xc0 xc1 xc2
              go_wp2_with (first
                | (at_builtin; refine wpList_append_rowsK _ rfl _ _ 26 rfl w5.heap.size 28 iN (.agg #[.int .i64 0, .slice none 0 0, .slice none 0 0]) 3 56 Tryz.underlying26 hiN hN0 hN1 hN2 rfl (by decide) _ _ _ rfl how7 none 0 _ ([]) rfl rfl (fun h => absurd h (by omega)) (fun y hy => by cases hy) (by unfold maxLen; omega) (by omega) hs7 ?_; intro v8 w8 how8 hg8; have hb8 := below_rows hb7 hs7 how7 hg8)
                | (at_builtin; refine wpList_append_rowsK _ rfl _ _ 26 rfl w5.heap.size 28 iN (.agg #[.int .i64 0, .slice none 0 0, .slice none 0 0]) 3 56 Tryz.underlying26 hiN hN0 hN1 hN2 rfl (by decide) _ _ _ rfl (how6.alloc _) (some ⟨w6.heap.size, 0, none⟩) 1 1 [.int .i64 t, .slice a1 n1 p1, .slice a2 n2 p2] rfl rfl (fun _ => ⟨_, _, rfl, fun j u hj => by have := cells_new3 w6 _ _ _ 28 rfl j u hj; rwa [Addr.add_lit] at this⟩) (by simp [Value.oneCell']) (by unfold maxLen; omega) (by omega) (by simp; omega) ?_; intro v7 w7 how7 hg7; have hb7 := below_rows (hb6.alloc hs6 _) (by simp; omega) (how6.alloc _) hg7; have hs7 := hb7.size; have hb27 := keep_trans hb25 hb7)
                | (at_builtin; refine wpList_append_rowsK _ rfl _ _ 26 rfl w5.heap.size 28 iN (.agg #[.int .i64 0, .slice none 0 0, .slice none 0 0]) 3 56 Tryz.underlying26 hiN hN0 hN1 hN2 rfl (by decide) _ _ _ rfl (World.ownsRow_nil _ _ _ _) none 0 _ ([]) rfl rfl (fun h => absurd h (by omega)) (fun y hy => by cases hy) (by decide) (by decide) (Nat.le_refl _) ?_; intro v6 w6 how6 hg6; rw [List.nil_append, Nat.zero_add] at how6; have hb6 := below_rows (Below.refl w5.heap.size w5) (Nat.le_refl _) (World.ownsRow_nil w5 w5.heap.size 28 3) hg6; have hs6 := hb6.size; have hb26 := keep_trans hb25 hb6; have z0 := Below.cells hb26 xc0; have z1 := Below.cells hb26 xc1; have z2 := Below.cells hb26 xc2)
                | (at_builtin; refine wpList_append_rows _ rfl _ _ 112 112 22 rfl Tryz.underlying112 wr.heap.size 22 iT (.slice none 0 0) 24 Tryz.underlying112 hiT hT0 hT1 hT2 rfl _ _ _ rfl how4 none 0 _ ([]) rfl rfl (fun h => absurd h (by omega)) (fun y hy => by cases hy) (by unfold maxLen; omega) (by omega) hs4 ?_; intro v5 w5 how5 hg5; have hb5 := below_rows hb4 hs4 how4 hg5; have hs5 := hb5.size; have hb25 := keep_trans hbi hb5)
                | (at_builtin; refine wpList_append_rows _ rfl _ _ 112 112 22 rfl Tryz.underlying112 wr.heap.size 22 iT (.slice none 0 0) 24 Tryz.underlying112 hiT hT0 hT1 hT2 rfl _ _ _ rfl (how3.alloc _) (some ⟨w3.heap.size, 0, none⟩) 1 1 [.slice va L vc] rfl rfl (fun _ => ⟨_, _, rfl, cells_new1 w3 _ _⟩) (by simp [Value.oneCell']) (by unfold maxLen; omega) (by omega) (by simp; omega) ?_; intro v4 w4 how4 hg4; have hb4 := below_rows (hb3.alloc hs3 _) (by simp; omega) (how3.alloc _) hg4; have hs4 := hb4.size)
                | (at_builtin; refine wpList_append_rows _ rfl _ _ 112 112 22 rfl Tryz.underlying112 wr.heap.size 22 iT (.slice none 0 0) 24 Tryz.underlying112 hiT hT0 hT1 hT2 rfl _ _ _ rfl (World.ownsRow_nil _ _ _ _) none 0 _ ([]) rfl rfl (fun h => absurd h (by omega)) (fun y hy => by cases hy) (by decide) (by decide) (Nat.le_refl _) ?_; intro v3 w3 how3 hg3; rw [List.nil_append, Nat.zero_add] at how3; have hb3 := below_rows (Below.refl wr.heap.size wr) (Nat.le_refl _) (World.ownsRow_nil wr wr.heap.size 22 1) hg3; have hs3 := hb3.size)
                | fail)
              all_goals
                have HSI : Hid (SetI w.heap.size d v5 v8 (layL ts l) (layN xs (kx ks 0) 0) w8) := hide (set_laid HQ.out.1 HQ.out.2.1 (by omega) HU.out (HT.out.below hbi) (HR2.out.1.below hbi) HR2.out.2 (HC.out.map (fun _ _ _ _ hn => hn.turn (w' := wr) (T := fun q => q ≠ w.heap.size) (fun q hq hl => ⟨hbi.block q hl, hq⟩))) (HXI.out.turn (fun q hq hl => ⟨(hbi.block q (by omega)).trans (hbw2.block q hl), hq⟩)) (by have := hbi.size; omega) (by rw [show us.take 0 = [] from rfl, show us.drop 0 = [] from List.eq_nil_of_length_eq_zero HUL.out]; exact how5) hb5 hb8 (by rw [show cs.take (0 * 3) = [] from rfl, show cs.drop (0 * 3) = [] from List.eq_nil_of_length_eq_zero HCL.out]; exact how8))
                have HSQ : Hid (SetQ FB ks (0 + 1) (layL ts l) (layN xs (kx ks 0) 0)) := hide (HQ.out.step (by rw [HNN.out]; exact hlt) HL2.out HU.out)
                have hbR := hbr2.trans ((keep_trans hb25 hb8).mono (by omega))
                clear how3 how4 how5 how6 how7 how8 hg3 hg4 hg5 hg6 hg7 hg8
                first
                  | exact ⟨⟨0 + 1, layL ts l, layN xs (kx ks 0) 0, by omega, by go_num, HSQ, HSI, hbR⟩, by simp [intOf]; omega⟩
                  | (go_roundw
                     case rel => exact ⟨0 + 1, layL ts l, layN xs (kx ks 0) 0, by omega, by go_num, HSQ, HSI, hbR⟩
                     case measure => simp [intOf]; omega)
      · have HL : Hid (allS (bytesD FB) ks = none) := hide (allS_bad (by rw [HNN.out]; exact hlt) hl2)
        have hbr2 := hbr.trans (hb2.mono hsr)
        have hS2 := res_cell w w2 hbr2
        have hbW : Below w.heap.size w w2 := keep_trans hbw hb2
        obtain ⟨y0, y1, y2, z0, z1, z2⟩ := cells3 hS2
        clear hbo hl2
        go_wp2_with fail
        obtain ⟨s0, s1, s2, _⟩ := cells3 (set3 hS2 (.int .i64 0) (.slice none 0 0) (.slice none 0 0))
        exact bodyPost_ret (v := .tuple #[.agg #[.int .i64 0, .slice none 0 0, .slice none 0 0], .int .i64 1]) (by simp [results, Tryz.results36, go_sem, s0, s1, s2]) rfl ⟨.inl ⟨HL.out, rfl⟩, below3 hbW (Nat.le_refl _) _ _ _⟩
    · have hnN : n = N := by omega
      subst hnN
      have HR : Hid (SetR FB ks xs) := hide (by have h := HQ.out; rw [← HNN.out] at h; exact h.done)
      obtain ⟨na, nc, rfl⟩ : ∃ a c, u4 = .slice a xs.length c := by obtain ⟨a, c, h, _⟩ := HI.out.2.1; exact ⟨a, c, h⟩
      have hS2 := res_cell w wr hbr
      obtain ⟨y0, y1, y2, z0, z1, z2⟩ := cells3 hS2
      generalize hXL : xs.length = XL at *
      clear hXL
      go_wp2_with fail
      obtain ⟨s0, s1, s2, _⟩ := cells3 (set3 hS2 (.int .i64 49) (.slice none 0 0) (.slice na XL nc))
      have hk8 := kids_turn (w' := (((wr.setCell ⟨w.heap.size, 0, none⟩ (.int .i64 49)).setCell ⟨w.heap.size, 1, none⟩ (.slice none 0 0)).setCell ⟨w.heap.size, 2, none⟩ (.slice na XL nc))) (T := fun q => q ≠ w.heap.size) HI.out.2.1 HI.out.2.2.2.2 (fun b hb hl => ⟨by rw [heap_setCell_other _ _ _ _ (by show b ≠ w.heap.size; omega), heap_setCell_other _ _ _ _ (by show b ≠ w.heap.size; omega), heap_setCell_other _ _ _ _ (by show b ≠ w.heap.size; omega)], hb⟩)
      exact bodyPost_ret (v := .tuple #[.agg #[.int .i64 49, .slice none 0 0, .slice na XL nc], .int .i64 0]) (by simp [results, Tryz.results36, go_sem, s0, s1, s2]) rfl ⟨.inr ⟨xs, d + 1, na, XL, nc, HR.out, rfl, rfl, by unfold I64; omega, nil_row _, nil_tidy, HI.out.2.2.1, kids_at hk8⟩, below3 hbw (Nat.le_refl _) _ _ _⟩
end Go.Proofs.YtlddpjcacnahmaaGreatDoor
