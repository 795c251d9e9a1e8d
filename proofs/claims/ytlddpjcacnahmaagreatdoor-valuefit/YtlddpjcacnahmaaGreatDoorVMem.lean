/- The members of a set: membersOf. -/
import Derived.Test.YtlddpjcacnahmaaGreatDoorVKid
import Derived.Test.YtlddpjcacnahmaaGreatDoorEWVl
namespace Go.Proofs.YtlddpjcacnahmaaGreatDoor
open Go.RowKit Go.Deep
set_option linter.unusedVariables false
set_option linter.unusedSimpArgs false

/-- what Bytes tells, in new memory -/
def BytO (r : Option (List Nat)) (w : World) (e : Ending) (w' : World) : Prop :=
  ((∃ l v, r = some l ∧ e = .returned (.tuple #[v, .int .i64 0]) ∧ Own 5 .u8 256 w' w.heap.size v l) ∨ (r = none ∧ e = .returned (.tuple #[.slice none 0 0, .int .i64 1]))) ∧ Below w.heap.size w w'
set_option maxHeartbeats 2000000 in
set_option maxRecDepth 100000 in
theorem bytes_own (FB : Int → List Nat → Bool) (hFB : FBok FB) (d : Nat) (c0 c1 c2 : Value) (x : Nd) (w : World) (hn : NdAt w d c0 c1 c2 x) (hs : szF d x ≤ 10000) (hT : UTabs w) :
    Calls Tryz.prog 86 #[.agg #[c0, c1, c2]] w fun e w' => BytO (bytesD FB x) w e w' := by
  rw [bytes_small hn hs]
  obtain ⟨tt, a1, n1, p1, a2, n2, p2, rfl, rfl, rfl⟩ := (NdAt.inOld _ _ _ _ _ hn).forms
  go_enter Tryz.func86, Tryz.ntmps86
  go_wp2_with fail
  have hb0 : Below w.heap.size w ((w.alloc (.cells #[.int .i64 tt, .slice a1 n1 p1, .slice a2 n2 p2] 28)).alloc (.cells #[.int .i64 1048576] 141)) := keep_trans (keep_alloc _ _) (keep_alloc _ _)
  have hsw : ((w.alloc (.cells #[.int .i64 tt, .slice a1 n1 p1, .slice a2 n2 p2] 28)).alloc (.cells #[.int .i64 1048576] 141)).heap.size = w.heap.size + 2 := by rw [World.size_alloc, World.size_alloc]
  have hwb : WB ((w.alloc (.cells #[.int .i64 tt, .slice a1 n1 p1, .slice a2 n2 p2] 28)).alloc (.cells #[.int .i64 1048576] 141)) (w.heap.size + 1) 1048576 := by
    unfold WB
    have := heap_alloc_new (w.alloc (.cells #[.int .i64 tt, .slice a1 n1 p1, .slice a2 n2 p2] 28)) (.cells #[.int .i64 1048576] 141)
    rwa [World.size_alloc] at this
  have hn1 := (NdAt.inOld _ _ _ _ _ hn).turn (w' := ((w.alloc (.cells #[.int .i64 tt, .slice a1 n1 p1, .slice a2 n2 p2] 28)).alloc (.cells #[.int .i64 1048576] 141))) (T := fun k => k < w.heap.size) (fun b hb hl => ⟨hb0.block b hl, hb⟩)
  have hT1 := hT.below hb0
  generalize (w.alloc (.cells #[.int .i64 tt, .slice a1 n1 p1, .slice a2 n2 p2] 28)).alloc (.cells #[.int .i64 1048576] 141) = W at *
  refine (wvalue_any FB hFB 32 d w.heap.size (w.heap.size + 1) 1 _ _ _ x 1048576 W hn1 hwb (by omega) hT.low (by omega) hs (by omega) (by omega) hT1).mono ?_
  rintro e w1 ⟨⟨l, v, hl, rfl, ho⟩ | ⟨hl, rfl⟩, _, ht1⟩
  · obtain ⟨va, vc, rfl⟩ := own_slice ho.1
    have hbf : Below w.heap.size w w1 := hb0.trans (ht1.1.mono (by omega))
    have HL := hide hl
    have HR := hide (Own.mono ho (show w.heap.size ≤ W.heap.size by omega))
    clear hl ho
    go_wp2_with fail
    go_ret2
    exact ⟨.inl ⟨l, _, HL.out, rfl, HR.out⟩, hbf⟩
  · have hbf : Below w.heap.size w w1 := hb0.trans (ht1.1.mono (by omega))
    have HL := hide hl
    clear hl
    go_wp2_with fail
    go_ret2
    exact ⟨.inr ⟨HL.out, rfl⟩, hbf⟩

/-- the cells of members -/
def cellsP (ps : List Pm) : List Value := ps.flatMap fun p => [p.1.t, p.1.c0, p.1.c1, p.1.c2]
theorem cellsP_snoc (ps : List Pm) (p : Pm) : cellsP (ps ++ [p]) = cellsP ps ++ [p.1.t, p.1.c0, p.1.c1, p.1.c2] := by simp [cellsP]
theorem cellsP_len (ps : List Pm) : (cellsP ps).length = ps.length * 4 := by
  induction ps with
  | nil => rfl
  | cons p ps ih => simp only [cellsP, List.flatMap_cons, List.length_append, List.length_cons, List.length_nil] at *; omega
theorem cellsP_at : ∀ (ps : List Pm) (i : Nat), i < ps.length → (cellsP ps)[i * 4]? = some (px ps i).1.t ∧ (cellsP ps)[i * 4 + 1]? = some (px ps i).1.c0 ∧ (cellsP ps)[i * 4 + 2]? = some (px ps i).1.c1 ∧ (cellsP ps)[i * 4 + 3]? = some (px ps i).1.c2
  | [], i, h => by simp at h
  | p :: ps, 0, h => ⟨rfl, rfl, rfl, rfl⟩
  | p :: ps, i + 1, h => by
    have ih := cellsP_at ps i (by simpa using h)
    have e : cellsP (p :: ps) = [p.1.t, p.1.c0, p.1.c1, p.1.c2] ++ cellsP ps := by simp [cellsP]
    have ex : px (p :: ps) (i + 1) = px ps i := by unfold px; simp
    have key : ∀ j, (cellsP (p :: ps))[(i + 1) * 4 + j]? = (cellsP ps)[i * 4 + j]? := by
      intro j
      rw [e, List.getElem?_append_right (by simp; omega)]
      congr 1
      simp
      omega
    rw [ex]
    exact ⟨by have := key 0; rw [Nat.add_zero, Nat.add_zero] at this; rw [this]; exact ih.1, by rw [key 1]; exact ih.2.1, by rw [key 2]; exact ih.2.2.1, by rw [key 3]; exact ih.2.2.2⟩
theorem own_mrow {w : World} {B g N : Nat} {ps : List Pm} (h : w.ownsRow B 108 4 (.slice (some ⟨g, 0, none⟩) ps.length N) ps.length (cellsP ps)) : Mrow w g ps := by
  obtain ⟨h1, ⟨he, _⟩ | ⟨g', cap, cur, he, h3, h4, h5, h6, h7, h8⟩⟩ := h
  · cases he
  · obtain ⟨e1, _, _⟩ := Value.slice.inj he
    obtain rfl : g = g' := by simpa using e1
    refine ⟨cur, h4, fun i hi => ?_⟩
    obtain ⟨k0, k1, k2, k3⟩ := cellsP_at ps i hi
    have key : ∀ j u, j < ps.length * 4 → (cellsP ps)[j]? = some u → cur[j]? = some u := by
      intro j u hj hu
      rw [← hu, ← h8, List.getElem?_take, if_pos hj]
      simp
    exact ⟨key _ _ (by omega) k0, key _ _ (by omega) k1, key _ _ (by omega) k2, key _ _ (by omega) k3⟩
theorem Tryz.infoM : (Tryz.prog.info? 108).map (fun i => (i.zero, i.size, i.bytes)) = some (some (.agg #[.slice none 0 0, .int .i64 0, .slice none 0 0, .slice none 0 0]), 4, 80) := by kernel_rfl
theorem info_mem : ∃ i, Tryz.prog.info? 108 = some i ∧ i.zero = some (.agg #[.slice none 0 0, .int .i64 0, .slice none 0 0, .slice none 0 0]) ∧ i.size = 4 ∧ i.bytes = 80 := by
  have h := Tryz.infoM
  obtain ⟨i, hi, he⟩ := Option.map_eq_some_iff.1 h
  simp only [Prod.mk.injEq] at he
  exact ⟨i, hi, he.1, he.2.1, he.2.2⟩
/-- members whose texts are their values' bytes -/
def Mine (FB : Int → List Nat → Bool) (ps : List Pm) : Prop := ∀ p ∈ ps, bytesD FB p.2.2 = some p.2.1
def vals2 (ps : List Pm) : List Nd := ps.map (fun p => p.2.2)
theorem mine_all {FB : Int → List Nat → Bool} : ∀ {ps : List Pm}, Mine FB ps → allS (bytesD FB) (vals2 ps) = some (keys ps)
  | [], _ => rfl
  | p :: ps, h => by
    have ih := mine_all (FB := FB) (ps := ps) (fun q hq => h q (List.mem_cons_of_mem _ hq))
    have h0 := h p (List.mem_cons_self ..)
    show allS (bytesD FB) (p.2.2 :: vals2 ps) = some (p.2.1 :: keys ps)
    rw [allS, h0]
    simp only
    rw [ih]
/-- what is told of the members -/
def MemE (FB : Int → List Nat → Bool) (d : Nat) (ks : List Nd) (w : World) (e : Ending) (w' : World) : Prop :=
  ((allS (bytesD FB) ks = none ∧ e = .returned (.tuple #[.slice none 0 0, .bool false])) ∨
   (∃ ps, e = .returned (.tuple #[.slice (some ⟨w.heap.size, 0, none⟩) ks.length ks.length, .bool true]) ∧ vals2 ps = ks ∧ Mine FB ps ∧ Mrow w' w.heap.size ps ∧ ∀ p ∈ ps, MbOk w.heap.size w' d p)) ∧ Below w.heap.size w w'
theorem MbOk.turn {g d : Nat} {w w' : World} {p : Pm} (h : MbOk g w d p) (hb : ∀ b, b ≠ g → b < w.heap.size → w'.heap[b]? = w.heap[b]?) : MbOk g w' d p :=
  ⟨h.1.otherIn h.2.2.1 (fun b hs hl => hb b hs hl), h.2.1, h.2.2.1, NdIn.other (fun b hs hl => hb b hs hl) _ _ _ _ _ h.2.2.2⟩
/-- the values of a set, in order -/
def SetR (FB : Int → List Nat → Bool) (ks out : List Nd) : Prop := ∃ ts us, allS (bytesD FB) out = some ts ∧ SortedL ts ∧ allS (bytesD FB) ks = some us ∧ ts.Perm us
theorem SetR.one {FB : Int → List Nat → Bool} {ks p q : List Nd} (h : SetR FB ks p) (h' : SetR FB ks q) : p = q := by
  obtain ⟨ts, us, h1, h2, h3, h4⟩ := h
  obtain ⟨ts', us', k1, k2, k3, k4⟩ := h'
  rw [h3] at k3
  obtain rfl := Option.some.inj k3
  have e := sorted_uniq ts ts' h2 k2 (h4.trans k4.symm)
  subst e
  exact all_one p q ts h1 k1
theorem perm_mine {FB : Int → List Nat → Bool} {ps qs : List Pm} (h : ps.Perm qs) (hm : Mine FB qs) : Mine FB ps := fun p hp => hm p (h.subset hp)
theorem perm_keys {ps qs : List Pm} (h : ps.Perm qs) : (keys ps).Perm (keys qs) := h.map _
theorem perm_vals {ps qs : List Pm} (h : ps.Perm qs) : (vals2 ps).Perm (vals2 qs) := h.map _
theorem perm_sum (f : Nd → Nat) {l m : List Nd} (h : l.Perm m) : (l.map f).sum = (m.map f).sum := by
  induction h with
  | nil => rfl
  | cons x _ ih => simp only [List.map_cons, List.sum_cons, ih]
  | swap x y l => simp only [List.map_cons, List.sum_cons]; omega
  | trans _ _ h1 h2 => rw [h1, h2]
theorem set_of {FB : Int → List Nat → Bool} {ps qs : List Pm} (h : ps.Perm qs) (hm : Mine FB qs) (hs : SortedL (keys ps)) : SetR FB (vals2 qs) (vals2 ps) :=
  ⟨keys ps, keys qs, mine_all (perm_mine h hm), hs, mine_all hm, perm_keys h⟩
end Go.Proofs.YtlddpjcacnahmaaGreatDoor

/- The members of a set: membersOf, walked. -/
namespace Go.Proofs.YtlddpjcacnahmaaGreatDoor
open Go.RowKit Go.Deep
set_option linter.unusedVariables false
set_option linter.unusedSimpArgs false

theorem cells_new4 (w : World) (c0 c1 c2 c3 : Value) (t : TypeId) {H : Nat} (hH : w.heap.size = H) : ∀ j u, [c0, c1, c2, c3][j]? = some u → (w.alloc (.cells #[c0, c1, c2, c3] t)).cell? ((⟨H, 0, none⟩ : Addr).add j) = some u := by
  subst hH
  intro j u hj
  have h : (w.alloc (.cells #[c0, c1, c2, c3] t)).heap[w.heap.size]? = some (.cells #[c0, c1, c2, c3] t) := heap_alloc_new w _
  rw [Addr.add_lit, Nat.zero_add]
  rw [cell_at' h, ← hj]
  simp

set_option maxRecDepth 100000 in
set_option maxHeartbeats 8000000 in
theorem members_any (FB : Int → List Nat → Bool) (hFB : FBok FB) (d : Nat) (v : Value) (ks : List Nd) (w : World) (hk : KidsAt (NdAt w d) w v ks) (hs : ∀ i, i < ks.length → szF d (kx ks i) ≤ 10000) (hl : ks.length ≤ 1000) (hT : UTabs w) :
    Calls Tryz.prog 74 #[v] w fun e w' => MemE FB d ks w e w' := by
  obtain ⟨a, cap, rfl, g1, g2, g3⟩ := hk
  unfold maxLen at g2
  obtain ⟨iM, hiM, hM0, hM1, hM2⟩ := info_mem
  generalize hNN : ks.length = N at *
  have HNN := hide hNN
  have HS := hide hs
  clear hs hNN
  go_enter Tryz.func74, Tryz.ntmps74
  go_wp2_with (first | (at_make; refine wpList_make_own _ rfl _ _ 103 rfl w.heap.size 108 iM (.agg #[.slice none 0 0, .int .i64 0, .slice none 0 0, .slice none 0 0]) 4 Tryz.underlying103 hiM hM0 hM1 _ _ _ N rfl rfl rfl (by rw [hM2]; omega) (by unfold maxLen; omega) (Nat.le_refl _) ?_; intro w1 hown hgrow) | fail)
  have hb1 : Below w.heap.size w w1 := (Below.refl _ _).grown hgrow (Nat.le_refl _) (fun k h => by cases h)
  have hs1 : w.heap.size < w1.heap.size := (hown.lt w.heap.size rfl).2
  clear hgrow
  go_loopw [4, 14] (fun v i wr => ∃ (k : Nat) (ps : List Pm), k ≤ N ∧ i = .int .i64 k ∧ v = .slice (some ⟨w.heap.size, 0, none⟩) k N ∧ Hid (ps.length = k ∧ vals2 ps = ks.take k ∧ Mine FB ps ∧ ∀ p ∈ ps, MbOk w.heap.size wr d p) ∧ wr.ownsRow w.heap.size 108 4 (.slice (some ⟨w.heap.size, 0, none⟩) k N) k (cellsP ps) ∧ Below w.heap.size w wr ∧ w.heap.size < wr.heap.size) (fun _ i _ => N - (intOf i).toNat)
  case atStart => exact ⟨0, [], Nat.zero_le _, rfl, rfl, hide ⟨rfl, by rw [List.take_zero]; rfl, fun p hp => by simp at hp, fun p hp => by simp at hp⟩, hown, hb1, hs1⟩
  case round =>
    clear hown hb1 hs1
    obtain ⟨k, ps, hk, rfl, rfl, HPS, how, hbr, hsr⟩ := hrel
    by_cases hlt : k < N
    · obtain ⟨bk, ok, rfl, hck⟩ := g3 (by omega)
      obtain ⟨x0, x1, x2, xc, xn⟩ := hck k hlt
      obtain ⟨xc0, xc1, xc2⟩ := xc.below hbr
      obtain ⟨t, a1, n1, p1, a2, n2, p2, rfl, rfl, rfl⟩ := (NdAt.inOld _ _ _ _ _ xn).forms
      have hszx := HS.out k hlt
      have hW := keep_alloc wr (.cells #[.int .i64 t, .slice a1 n1 p1, .slice a2 n2 p2] 28)
      have hbW := keep_trans hbr hW
      have hbo := bytes_own FB hFB d _ _ _ (kx ks k) _ (NdAt.below hbW _ _ _ _ _ xn) hszx (hT.below hbW)
      obtain ⟨y0, y1, y2⟩ := box_cell wr (.int .i64 t) (.slice a1 n1 p1) (.slice a2 n2 p2) 28
      have hinX := NdAt.inOld _ _ _ _ _ xn
      have HXN := hide hinX
      clear hck xc hinX xn
      go_wp2_with fail
      refine hbo.mono ?_
      rintro e w2 ⟨⟨l, v2, hl2, rfl, ho2⟩ | ⟨hl2, rfl⟩, hb2⟩
      · rw [World.size_alloc] at hb2 ho2
        have hb2' : Below (wr.alloc (.cells #[.int .i64 t, .slice a1 n1 p1, .slice a2 n2 p2] 28)).heap.size (wr.alloc (.cells #[.int .i64 t, .slice a1 n1 p1, .slice a2 n2 p2] 28)) w2 := by rw [World.size_alloc]; exact hb2
        have y0 := Below.cells hb2' y0
        have y1 := Below.cells hb2' y1
        have y2 := Below.cells hb2' y2
        have hb2w : Below wr.heap.size wr w2 := keep_trans hW hb2'
        have how2 := own_keptK how hb2w
        have hs2 := hb2w.size
        have HL2 := hide hl2
        have HO2 := hide ho2
        obtain ⟨va, vc, rfl⟩ := own_slice ho2.1
        generalize hLL : l.length = L at *
        have HLL := hide hLL
        clear hbo hl2 ho2 hb2 hLL
        go_wp2_with (first | (at_builtin; refine wpList_append_fits _ rfl _ _ 103 rfl w.heap.size 108 iM 4 Tryz.underlying103 hiM hM1 w.heap.size k N (cellsP ps) rfl (how2.alloc _) ⟨w2.heap.size, 0, none⟩ 1 1 [.slice va L vc, .int .i64 t, .slice a1 n1 p1, .slice a2 n2 p2] rfl rfl (cells_new4 w2 _ _ _ _ _ rfl) (by simp [Value.oneCell']) (by omega) ?_; intro w3 how3 hg3) | fail)
        have hblk : ∀ b, b ≠ w.heap.size → b < w2.heap.size → w3.heap[b]? = w2.heap[b]? := fun b hb hl => (hg3.block b (by rw [World.size_alloc]; omega) (fun e => hb (Option.some.inj e))).trans (heap_alloc_old _ _ hl)
        have hb3 : Below w.heap.size w w3 := ((keep_trans hbr hb2w).alloc (by omega) _).grown hg3 (by simp; omega) (fun q hq => by have := Option.some.inj hq; omega)
        have hs3 : w.heap.size < w3.heap.size := (how3.lt w.heap.size rfl).2
        obtain ⟨hp1, hp2, hp3, hp4⟩ := HPS.out
        have hnew : MbOk w.heap.size w3 d ((⟨.slice va L vc, .int .i64 t, .slice a1 n1 p1, .slice a2 n2 p2⟩ : Mb), (l, kx ks k)) := by
          have ho := HO2.out
          refine ⟨ho.row.otherIn (S := fun q => q ≠ w.heap.size) (fun q _ hq => by have := (ho.1.lt q hq).1; omega) hblk, own_tidy ho.1, fun q _ hq => by have := (ho.1.lt q hq).1; omega, ?_⟩
          exact HXN.out.turn (fun q hq hl => ⟨(hblk q (by omega) (by omega)).trans ((hb2w.block q (by omega)).trans (hbr.block q hq)), by omega⟩)
        have HP3 : Hid ((ps ++ [((⟨.slice va L vc, .int .i64 t, .slice a1 n1 p1, .slice a2 n2 p2⟩ : Mb), (l, kx ks k))]).length = k + 1 ∧ vals2 (ps ++ [((⟨.slice va L vc, .int .i64 t, .slice a1 n1 p1, .slice a2 n2 p2⟩ : Mb), (l, kx ks k))]) = ks.take (k + 1) ∧ Mine FB (ps ++ [((⟨.slice va L vc, .int .i64 t, .slice a1 n1 p1, .slice a2 n2 p2⟩ : Mb), (l, kx ks k))]) ∧ ∀ p ∈ (ps ++ [((⟨.slice va L vc, .int .i64 t, .slice a1 n1 p1, .slice a2 n2 p2⟩ : Mb), (l, kx ks k))]), MbOk w.heap.size w3 d p) := hide (by
          refine ⟨by rw [List.length_append]; simp [hp1], ?_, ?_, ?_⟩
          · rw [take_kx (by rw [HNN.out]; exact hlt), ← hp2]; simp [vals2]
          · intro p hp
            rcases List.mem_append.1 hp with h | h
            · exact hp3 p h
            · rw [List.mem_singleton] at h; rw [h]; exact HL2.out
          · intro p hp
            rcases List.mem_append.1 hp with h | h
            · exact (hp4 p h).turn (fun b hb hl => (hblk b hb (by omega)).trans (hb2w.block b hl))
            · rw [List.mem_singleton] at h; rw [h]; exact hnew)
        have HO3 : Hid (w3.ownsRow w.heap.size 108 4 (.slice (some ⟨w.heap.size, 0, none⟩) (k + 1) N) (k + 1) (cellsP (ps ++ [((⟨.slice va L vc, .int .i64 t, .slice a1 n1 p1, .slice a2 n2 p2⟩ : Mb), (l, kx ks k))]))) := hide (by rw [cellsP_snoc]; exact how3)
        clear how3 how2 hg3 hblk hnew hp1 hp2 hp3 hp4 y0 y1 y2
        go_roundw
        case rel => exact ⟨k + 1, _, by omega, by go_num, rfl, HP3, HO3.out, hb3, hs3⟩
        case measure => simp [intOf]; omega
      · have HL : Hid (allS (bytesD FB) ks = none) := hide (allS_bad (by rw [HNN.out]; exact hlt) hl2)
        have hb2' : Below (wr.alloc (.cells #[.int .i64 t, .slice a1 n1 p1, .slice a2 n2 p2] 28)).heap.size (wr.alloc (.cells #[.int .i64 t, .slice a1 n1 p1, .slice a2 n2 p2] 28)) w2 := hb2
        clear hbo hl2 hb2
        go_wp2_with fail
        go_ret2
        exact ⟨.inl ⟨HL.out, rfl⟩, keep_trans hbW hb2'⟩
    · have hkN : k = N := by omega
      subst hkN
      have HM : Hid (Mrow wr w.heap.size ps ∧ vals2 ps = ks) := hide (by
        have h1 := HPS.out.1
        have h2 := HPS.out.2.1
        rw [← HNN.out, List.take_length] at h2
        rw [← h1] at how
        exact ⟨own_mrow how, h2⟩)
      clear how
      go_wp2_with fail
      go_ret2
      exact ⟨.inr ⟨ps, by rw [HNN.out]; rfl, HM.out.2, HPS.out.2.2.1, HM.out.1, HPS.out.2.2.2⟩, hbr⟩
end Go.Proofs.YtlddpjcacnahmaaGreatDoor
