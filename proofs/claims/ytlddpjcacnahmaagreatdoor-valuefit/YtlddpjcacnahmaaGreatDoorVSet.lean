/- Values as a set: value's Set. -/
import Derived.Test.YtlddpjcacnahmaaGreatDoorVMem
import Derived.Test.YtlddpjcacnahmaaGreatDoorVIns
import Derived.Test.YtlddpjcacnahmaaGreatDoorVSig
import Derived.Test.YtlddpjcacnahmaaGreatDoorVCop
import Derived.Test.YtlddpjcacnahmaaGreatDoorEWCt
namespace Go.Proofs.YtlddpjcacnahmaaGreatDoor
open Go.RowKit Go.Deep
set_option linter.unusedVariables false
set_option linter.unusedSimpArgs false

/-- a set is told, in new memory -/
def SetE (FB : Int → List Nat → Bool) (ks : List Nd) (w : World) (e : Ending) (w' : World) : Prop :=
  (allS (bytesD FB) ks = none ∧ NodT nd0 1 w e w') ∨ ∃ out, SetR FB ks out ∧ NodT (.mk 49 [] out) 0 w e w'
theorem cells4 {w : World} {p : Nat} {c0 c1 c2 c3 : Value} {t : TypeId} (h : w.heap[p]? = some (.cells #[c0, c1, c2, c3] t)) : w.cell? ⟨p, 0, none⟩ = some c0 ∧ w.cell? ⟨p, 1, none⟩ = some c1 ∧ w.cell? ⟨p, 2, none⟩ = some c2 ∧ w.cell? ⟨p, 3, none⟩ = some c3 :=
  ⟨by rw [cell_at' h]; rfl, by rw [cell_at' h]; rfl, by rw [cell_at' h]; rfl, by rw [cell_at' h]; rfl⟩
theorem vals2_len (ps : List Pm) : (vals2 ps).length = ps.length := by simp [vals2]
theorem kx_vals {ps : List Pm} {i : Nat} (h : i < ps.length) : kx (vals2 ps) i = (px ps i).2.2 := by
  rw [kx_at (by rw [vals2_len]; exact h), px_at h]; simp [vals2]

set_option maxRecDepth 100000 in
set_option maxHeartbeats 8000000 in
theorem set_any (FB : Int → List Nat → Bool) (hFB : FBok FB) (d : Nat) (v : Value) (ks : List Nd) (w : World) (hk : KidsAt (NdAt w d) w v ks) (hs : ∀ i, i < ks.length → szF d (kx ks i) ≤ 10000) (hsum : (ks.map (szF d)).sum ≤ 100000) (hl : ks.length ≤ 12) (hT : UTabs w) :
    Calls Tryz.prog 35 #[v] w fun e w' => SetE FB ks w e w' := by
  have hb0 := keep_alloc w (.cells #[.int .i64 0, .slice none 0 0, .slice none 0 0] 28)
  have hmem := members_any FB hFB d v ks _ (kids_below hk hb0) hs (by omega) (hT.below hb0)
  obtain ⟨iN, hiN, hN0, hN1, hN2⟩ := info_node
  go_enter Tryz.func35, Tryz.ntmps35
  go_wp2_with fail
  refine hmem.mono ?_
  rintro e w1 ⟨⟨hno, rfl⟩ | ⟨ps0, rfl, hv0, hmine, hmr, hok⟩, hb1⟩
  · rw [World.size_alloc] at hb1
    have hS1 := res_cell w w1 hb1
    have hbW : Below w.heap.size w w1 := hb0.trans (hb1.mono (by omega))
    obtain ⟨y0, y1, y2, z0, z1, z2⟩ := cells3 hS1
    have HNO := hide hno
    clear hmem hno
    go_wp2_with fail
    obtain ⟨s0, s1, s2, _⟩ := cells3 (set3 hS1 (.int .i64 0) (.slice none 0 0) (.slice none 0 0))
    exact bodyPost_ret (v := .tuple #[.agg #[.int .i64 0, .slice none 0 0, .slice none 0 0], .int .i64 1]) (by simp [results, Tryz.results35, go_sem, s0, s1, s2]) rfl (.inl ⟨HNO.out, ⟨1, _, _, _, rfl, in_nd0 _ _⟩, below3 hbW (Nat.le_refl _) _ _ _⟩)
  · rw [World.size_alloc] at hb1 hmr hok
    have hp0 : ps0.length = ks.length := by rw [← hv0, vals2_len]
    have hsrt := sort_any (w.heap.size + 1) ks.length d ks.length w1 ps0 w1 hp0 hok hmr (Alt.refl _ _ _) hl (Nat.le_refl _) (by omega)
    have hs1 := hmr.lt
    have HV0 := hide hv0
    have HM0 := hide (And.intro hmine (And.intro hok hp0))
    rw [World.size_alloc]
    generalize hNN : ks.length = N at *
    clear hmem hv0 hmine hmr hok hp0
    go_wp2_with fail
    refine hsrt.mono ?_
    rintro e w2 ⟨rfl, ps, hperm, hsorted, hmr2, ha2⟩
    have hpl : ps.length = N := by rw [hperm.length_eq]; exact HM0.out.2.2
    have hok2 : ∀ p ∈ ps, MbOk (w.heap.size + 1) w2 d p := fun p hp => (HM0.out.2.1 p (hperm.subset hp)).turn (fun b hb hl => ha2.block b hl hb hb)
    have hsz2 := ha2.size
    have HPS := hide (And.intro hperm (And.intro hsorted hpl))
    have HOK := hide hok2
    have hb2 : Below (w.heap.size + 1) (w.alloc (.cells #[.int .i64 0, .slice none 0 0, .slice none 0 0] 28)) w2 := hb1.trans (ha2.below (Nat.le_refl _) (Nat.le_refl _) (by omega))
    clear hsrt hperm hsorted hok2 ha2 hb1 hpl
    go_wp2_with (first | (at_make; refine wpList_make_own _ rfl _ _ 26 rfl w2.heap.size 28 iN (.agg #[.int .i64 0, .slice none 0 0, .slice none 0 0]) 3 Tryz.underlying26 hiN hN0 hN1 _ _ _ N rfl rfl rfl (by rw [hN2]; omega) (by unfold maxLen; omega) (Nat.le_refl _) ?_; intro w3 hown hgrow) | fail)
    have hb3 : Below w2.heap.size w2 w3 := (Below.refl _ _).grown hgrow (Nat.le_refl _) (fun k h => by cases h)
    have hs3 : w2.heap.size < w3.heap.size := (hown.lt w2.heap.size rfl).2
    clear hgrow
    go_loopw [6, 24] (fun v i wr => ∃ (k : Nat) (cs : List Value), k ≤ N ∧ i = .int .i64 k ∧ v = .slice (some ⟨w2.heap.size, 0, none⟩) k N ∧ Hid (Trip (fun q => q < w2.heap.size) wr d cs ((vals2 ps).take k)) ∧ wr.ownsRow w2.heap.size 28 3 (.slice (some ⟨w2.heap.size, 0, none⟩) k N) k cs ∧ Below w2.heap.size w2 wr ∧ w2.heap.size < wr.heap.size) (fun _ i _ => N - (intOf i).toNat)
    case atStart => exact ⟨0, [], Nat.zero_le _, rfl, rfl, hide (Trip.nil _ _ _), hown, hb3, hs3⟩
    case round =>
      clear hown hb3 hs3
      obtain ⟨k, cs, hkN, rfl, rfl, HTR, how, hbr, hsr⟩ := hrel
      by_cases hlt : k < N
      · have hkp : k < ps.length := by rw [HPS.out.2.2]; exact hlt
        have hokk := HOK.out _ (px_mem hkp)
        have hmw : Mrow wr (w.heap.size + 1) ps := hmr2.other (hbr.block _ hmr2.lt)
        obtain ⟨q0, q1, q2, q3⟩ := hmw.cell hkp
        obtain ⟨ta, tn, tc, t, a1, n1, p1, a2, n2, p2, f0, f1, f2, f3⟩ := hokk.forms
        have hnd : NdIn (fun q => q < w2.heap.size) w2 d (.int .i64 t) (.slice a1 n1 p1) (.slice a2 n2 p2) (kx (vals2 ps) k) := by
          rw [kx_vals hkp, ← f1, ← f2, ← f3]
          exact NdAt.inOld _ _ _ _ _ (NdIn.at _ _ _ _ _ hokk.2.2.2)
        rw [f0] at q0
        rw [f1] at q1
        rw [f2] at q2
        rw [f3] at q3
        obtain ⟨c0, c1, c2, c3⟩ := cells4 (heap_alloc_new wr (.cells #[.slice ta tn tc, .int .i64 t, .slice a1 n1 p1, .slice a2 n2 p2] 108))
        have how1 := how.alloc (.cells #[.slice ta tn tc, .int .i64 t, .slice a1 n1 p1, .slice a2 n2 p2] 108)
        have HND := hide hnd
        have hs1' : (wr.alloc (.cells #[.slice ta tn tc, .int .i64 t, .slice a1 n1 p1, .slice a2 n2 p2] 108)).heap.size = wr.heap.size + 1 := World.size_alloc _ _
        clear hokk hmw f0 f1 f2 f3 hnd
        go_wp2_with (first | (at_builtin; refine wpList_append_fits _ rfl _ _ 26 rfl w2.heap.size 28 iN 3 Tryz.underlying26 hiN hN1 w2.heap.size k N cs rfl (how1.alloc _) ⟨wr.heap.size + 1, 0, none⟩ 1 1 [.int .i64 t, .slice a1 n1 p1, .slice a2 n2 p2] rfl rfl (cells_new3 _ _ _ _ _ hs1') (by simp [Value.oneCell']) (by omega) ?_; intro w4 how4 hg4) | fail)
        have hblk : ∀ b, b < w2.heap.size → w4.heap[b]? = wr.heap[b]? := fun b hb => (hg4.block b (by rw [World.size_alloc, World.size_alloc]; omega) (fun e => by have := Option.some.inj e; omega)).trans ((heap_alloc_old _ _ (by rw [World.size_alloc]; omega)).trans (heap_alloc_old _ _ (by omega)))
        have hb4 : Below w2.heap.size w2 w4 := ((hbr.alloc (by omega) _).alloc (by rw [World.size_alloc]; omega) _).grown hg4 (by rw [World.size_alloc, World.size_alloc]; omega) (fun q hq => by have := Option.some.inj hq; omega)
        have hs4 : w2.heap.size < w4.heap.size := (how4.lt w2.heap.size rfl).2
        have HT4 : Hid (Trip (fun q => q < w2.heap.size) w4 d (cs ++ [.int .i64 t, .slice a1 n1 p1, .slice a2 n2 p2]) ((vals2 ps).take (k + 1))) := hide (by
          rw [take_kx (by rw [vals2_len]; exact hkp)]
          exact (HTR.out.map (fun _ _ _ _ hn => hn.turn (fun b hb _ => ⟨hblk b hb, hb⟩))).snoc (HND.out.turn (fun b hb _ => ⟨(hblk b hb).trans (hbr.block b hb), hb⟩)))
        have HO4 := hide how4
        clear how4 how1 hg4 hblk c0 c1 c2 c3 hs1' q0 q1 q2 q3
        go_roundw
        case rel => exact ⟨k + 1, _, by omega, by go_num, rfl, HT4, HO4.out, hb4, hs4⟩
        case measure => simp [intOf]; omega
      · have hkN' : k = N := by omega
        subst hkN'
        have htk : (vals2 ps).take k = vals2 ps := List.take_of_length_le (by rw [vals2_len, HPS.out.2.2]; exact Nat.le_refl _)
        have htr := HTR.out
        rw [htk] at htr
        have hvl : (vals2 ps).length = k := by rw [vals2_len]; exact HPS.out.2.2
        have hkids : KidsAt (NdAt wr d) wr (.slice (some ⟨w2.heap.size, 0, none⟩) k k) (vals2 ps) := kids_at (htr.kids (by rw [hvl]; exact how))
        have hsm : ((vals2 ps).map (szF d)).sum ≤ 100000 := by rw [perm_sum (szF d) (perm_vals HPS.out.1), HV0.out]; exact hsum
        have hbx := (box_any 49 d _ (vals2 ps) wr (by unfold I64; omega) hkids hsm).mono (fun _ _ h => h.at)
        have HR : Hid (SetR FB ks (vals2 ps)) := hide (by rw [← HV0.out]; exact set_of HPS.out.1 HM0.out.1 HPS.out.2.1)
        clear htr htk hkids how hvl
        go_wp2_with fail
        refine hbx.mono ?_
        rintro e w5 ⟨d5, t5, a1, n1, p1, a2, n2, p2, rfl, hn5, hb5⟩
        have hbr5 : Below (w.heap.size + 1) (w.alloc (.cells #[.int .i64 0, .slice none 0 0, .slice none 0 0] 28)) w5 := (hb2.trans (hbr.mono (by omega))).trans (hb5.mono (by omega))
        have hS5 := res_cell w w5 hbr5
        have hbW : Below w.heap.size w w5 := hb0.trans (hbr5.mono (by omega))
        obtain ⟨y0, y1, y2, z0, z1, z2⟩ := cells3 hS5
        clear hbx
        go_wp2_with fail
        obtain ⟨s0, s1, s2, _⟩ := cells3 (set3 hS5 (.int .i64 t5) (.slice a1 n1 p1) (.slice a2 n2 p2))
        have hn6 : NdIn (fun q => w.heap.size + 1 ≤ q) w5 d5 (.int .i64 t5) (.slice a1 n1 p1) (.slice a2 n2 p2) (.mk 49 [] (vals2 ps)) := hn5.turn (fun b hb hl => ⟨rfl, by omega⟩)
        exact bodyPost_ret (v := .tuple #[.agg #[.int .i64 t5, .slice a1 n1 p1, .slice a2 n2 p2], .int .i64 0]) (by simp [results, Tryz.results35, go_sem, s0, s1, s2]) rfl (.inr ⟨vals2 ps, HR.out, ⟨d5, _, _, _, rfl, hn6.set3⟩, below3 hbW (Nat.le_refl _) _ _ _⟩)
end Go.Proofs.YtlddpjcacnahmaaGreatDoor

/- An append of a slice whatever it is, of elements of more cells; parts of rows of values. -/
namespace Go.Proofs.YtlddpjcacnahmaaGreatDoor
open Go.RowKit Go.Deep
set_option linter.unusedVariables false
set_option linter.unusedSimpArgs false

theorem run_append_rowsK {P : Program} (w : World) (t ty : TypeId)
    (base : Nat) (e : TypeId) (i : TypeInfo) (z : Value) (size bytes : Nat) (ht : P.underlying t = some (.slice e)) (hi : P.info? e = some i) (hz : i.zero = some z)
    (hsize : i.size = size) (hby : i.bytes = bytes) (hzs : z.cells.size = size) (hs0 : 0 < size) (v : Value) (n : Nat) (xs : List Value) (hown : w.ownsRow base e size v n xs)
    (ad : Option Addr) (m c : Nat) (news : List Value) (hl : news.length = m * size)
    (hnews : 0 < m → ∃ b off, ad = some ⟨b, off, none⟩ ∧ ∀ j u, news[j]? = some u → w.cell? ⟨b, off + j, none⟩ = some u) (h1 : ∀ u ∈ news, u.oneCell' = true)
    (h63 : n + m ≤ maxLen) (hbytes : (n + m) * bytes ≤ 140737488355328) (hbase : base ≤ w.heap.size) :
    ∃ v' w', (Builtin.append_ #[t, t] ty #[v, .slice ad m c]).run P w = .ok v' w' ∧ w'.ownsRow base e size v' (n + m) (xs ++ news) ∧ w.grownBy w' v.ownBlock := by
  cases ad with
  | none =>
    have hm : m = 0 := by
      rcases Nat.eq_zero_or_pos m with h0 | h0
      · exact h0
      · obtain ⟨_, _, h2, _⟩ := hnews h0; cases h2
    subst hm
    have hn0 : news = [] := List.eq_nil_of_length_eq_zero (by rw [hl, Nat.zero_mul])
    subst hn0
    exact ⟨v, w, run_append_none2 (P := P) w base t t ty e e i size ht ht hi v n c xs hown, by rw [List.append_nil]; exact hown, grown_refl _ _⟩
  | some x0 =>
    obtain ⟨v', w', hr, h2, h3, _⟩ := run_append_own (P := P) w base t ty e i z size bytes ht hi hz hsize hby hzs hs0 v n xs hown x0 m c news hl (by
      intro j u hj
      have hj' : j < news.length := (List.getElem?_eq_some_iff.1 hj).1
      have hm : 0 < m := by
        rcases Nat.eq_zero_or_pos m with h0 | h0
        · rw [h0, Nat.zero_mul] at hl; omega
        · exact h0
      obtain ⟨b, off, h2, h3⟩ := hnews hm
      obtain rfl := Option.some.inj h2
      rw [Addr.add_lit]
      exact h3 j u hj) h1 h63 hbytes hbase
    exact ⟨v', w', hr, h2, h3⟩
theorem wpList_append_rowsK {P : Program} (w : World) {ops : Array Oper} {rest : List Oper} {o : Oper} {a : Act} {Q : Exit → Act → World → Prop} (hgd : o.guard = none) (s x : Operand) (t : TypeId)
    (ho : o.op = .call { callee := .builtin .append, args := #[s, x], argTypes := #[t, t] })
    (base : Nat) (e : TypeId) (i : TypeInfo) (z : Value) (size bytes : Nat) (ht : P.underlying t = some (.slice e)) (hi : P.info? e = some i) (hz : i.zero = some z)
    (hsize : i.size = size) (hby : i.bytes = bytes) (hzs : z.cells.size = size) (hs0 : 0 < size)
    (v : Value) (n : Nat) (xs : List Value) (hs : a.eval s = v) (hown : w.ownsRow base e size v n xs)
    (ad : Option Addr) (m c : Nat) (news : List Value) (hx : a.eval x = .slice ad m c) (hl : news.length = m * size)
    (hnews : 0 < m → ∃ b off, ad = some ⟨b, off, none⟩ ∧ ∀ j u, news[j]? = some u → w.cell? ⟨b, off + j, none⟩ = some u) (h1 : ∀ u ∈ news, u.oneCell' = true)
    (h63 : n + m ≤ maxLen) (hbytes : (n + m) * bytes ≤ 140737488355328) (hbase : base ≤ w.heap.size)
    (h : ∀ v' w', w'.ownsRow base e size v' (n + m) (xs ++ news) → w.grownBy w' v.ownBlock → wpList P ops Q rest (a.put o.dst v') w') : wpList P ops Q (o :: rest) a w :=
  wpList_plain hgd fun K hK => by
    obtain ⟨v', w', hr, h2, h3⟩ := run_append_rowsK (P := P) w t o.type base e i z size bytes ht hi hz hsize hby hzs hs0 v n xs hown ad m c news hl hnews h1 h63 hbytes hbase
    unfold Oper.wp execOp
    simp only [ho, resolve, invoke, builtin, Sem.run_bind, Sem.run_pure, Result.andThen_ok, List.map_toArray, List.map_cons, List.map_nil, hs, hx, hr]
    exact hK _ _ (h v' w' h2 h3)

theorem Trip.take {S : Nat → Prop} {w : World} {d : Nat} {cs : List Value} {ks : List Nd} (h : Trip S w d cs ks) (k : Nat) : Trip S w d (cs.take (k * 3)) (ks.take k) := by
  refine ⟨by rw [List.length_take, List.length_take, h.1]; omega, fun i hi => ?_⟩
  rw [List.length_take] at hi
  obtain ⟨c0, c1, c2, e0, e1, e2, hn⟩ := h.2 i (by omega)
  have e : kx (ks.take k) i = kx ks i := by unfold kx; rw [List.getElem?_take, if_pos (by omega)]
  exact ⟨c0, c1, c2, by rw [List.getElem?_take, if_pos (by omega)]; exact e0, by rw [List.getElem?_take, if_pos (by omega)]; exact e1, by rw [List.getElem?_take, if_pos (by omega)]; exact e2, by rw [e]; exact hn⟩
theorem Trip.drop {S : Nat → Prop} {w : World} {d : Nat} {cs : List Value} {ks : List Nd} (h : Trip S w d cs ks) (k : Nat) : Trip S w d (cs.drop (k * 3)) (ks.drop k) := by
  refine ⟨by rw [List.length_drop, List.length_drop, h.1]; omega, fun i hi => ?_⟩
  rw [List.length_drop] at hi
  obtain ⟨c0, c1, c2, e0, e1, e2, hn⟩ := h.2 (k + i) (by omega)
  have e : kx (ks.drop k) i = kx ks (k + i) := by unfold kx; rw [List.getElem?_drop]
  exact ⟨c0, c1, c2, by rw [List.getElem?_drop, show k * 3 + i * 3 = (k + i) * 3 by omega]; exact e0, by rw [List.getElem?_drop, show k * 3 + (i * 3 + 1) = (k + i) * 3 + 1 by omega]; exact e1, by rw [List.getElem?_drop, show k * 3 + (i * 3 + 2) = (k + i) * 3 + 2 by omega]; exact e2, by rw [e]; exact hn⟩
theorem Trip.append {S : Nat → Prop} {w : World} {d : Nat} {cs es : List Value} {ks ms : List Nd} (h : Trip S w d cs ks) (h' : Trip S w d es ms) : Trip S w d (cs ++ es) (ks ++ ms) := by
  refine ⟨by rw [List.length_append, List.length_append, h.1, h'.1]; omega, fun i hi => ?_⟩
  rw [List.length_append] at hi
  by_cases hl : i < ks.length
  · obtain ⟨c0, c1, c2, e0, e1, e2, hn⟩ := h.2 i hl
    have hc := h.1
    have e : kx (ks ++ ms) i = kx ks i := by unfold kx; rw [List.getElem?_append_left hl]
    exact ⟨c0, c1, c2, by rw [List.getElem?_append_left (by omega)]; exact e0, by rw [List.getElem?_append_left (by omega)]; exact e1, by rw [List.getElem?_append_left (by omega)]; exact e2, by rw [e]; exact hn⟩
  · obtain ⟨c0, c1, c2, e0, e1, e2, hn⟩ := h'.2 (i - ks.length) (by omega)
    have hc := h.1
    have e : kx (ks ++ ms) i = kx ms (i - ks.length) := by unfold kx; rw [List.getElem?_append_right (by omega)]
    exact ⟨c0, c1, c2, by rw [List.getElem?_append_right (by omega), hc, show i * 3 - ks.length * 3 = (i - ks.length) * 3 by omega]; exact e0, by rw [List.getElem?_append_right (by omega), hc, show i * 3 + 1 - ks.length * 3 = (i - ks.length) * 3 + 1 by omega]; exact e1, by rw [List.getElem?_append_right (by omega), hc, show i * 3 + 2 - ks.length * 3 = (i - ks.length) * 3 + 2 by omega]; exact e2, by rw [e]; exact hn⟩
theorem Trip.one {S : Nat → Prop} {w : World} {d : Nat} {c0 c1 c2 : Value} {x : Nd} (h : NdIn S w d c0 c1 c2 x) : Trip S w d [c0, c1, c2] [x] := by
  have := (Trip.nil S w d).snoc h
  exact this
theorem Trip.cells {S : Nat → Prop} {w : World} {d : Nat} {cs : List Value} {ks : List Nd} (h : Trip S w d cs ks) : ∀ u ∈ cs, u.oneCell' = true := by
  intro u hu
  obtain ⟨j, hj, rfl⟩ := List.getElem_of_mem hu
  have hc := h.1
  obtain ⟨c0, c1, c2, e0, e1, e2, hn⟩ := h.2 (j / 3) (by omega)
  obtain ⟨t, a1, n1, p1, a2, n2, p2, rfl, rfl, rfl⟩ := hn.forms
  rcases (by omega : j = j / 3 * 3 ∨ j = j / 3 * 3 + 1 ∨ j = j / 3 * 3 + 2) with h | h | h
  · rw [← h, List.getElem?_eq_getElem hj] at e0; rw [Option.some.inj e0]; rfl
  · rw [← h, List.getElem?_eq_getElem hj] at e1; rw [Option.some.inj e1]; rfl
  · rw [← h, List.getElem?_eq_getElem hj] at e2; rw [Option.some.inj e2]; rfl
/-- a slice of values, as the cells that it holds -/
theorem kids_trip {S : Nat → Prop} {w : World} {d : Nat} {v : Value} {ks : List Nd} (h : KidsAt (NdIn S w d) w v ks) : ∃ cs a cap, v = .slice a ks.length cap ∧ ks.length ≤ cap ∧ cap ≤ 9223372036854775807 ∧ Trip S w d cs ks ∧
    (0 < ks.length → ∃ b off, a = some ⟨b, off, none⟩ ∧ ∀ j u, cs[j]? = some u → w.cell? ⟨b, off + j, none⟩ = some u) := by
  obtain ⟨a, cap, rfl, h1, h2, h3⟩ := h
  unfold maxLen at h2
  by_cases hl : 0 < ks.length
  · obtain ⟨b, off, rfl, hc⟩ := h3 hl
    have hcell : ∀ j, j < ks.length * 3 → ∃ u, w.cell? ⟨b, off + j, none⟩ = some u := by
      intro j hj
      obtain ⟨c0, c1, c2, hc3, _⟩ := hc (j / 3) (by omega)
      rcases (by omega : j = j / 3 * 3 ∨ j = j / 3 * 3 + 1 ∨ j = j / 3 * 3 + 2) with h | h | h
      · exact ⟨c0, by rw [h]; exact hc3.1⟩
      · exact ⟨c1, by rw [h, ← Nat.add_assoc]; exact hc3.2.1⟩
      · exact ⟨c2, by rw [h, ← Nat.add_assoc]; exact hc3.2.2⟩
    have : Inhabited Value := ⟨undef⟩
    obtain ⟨f, hf⟩ := choose_lt (α := Value) hcell
    have hget : ∀ j, j < ks.length * 3 → ((List.range (ks.length * 3)).map f)[j]? = some (f j) := fun j hj => by simp [hj]
    refine ⟨(List.range (ks.length * 3)).map f, _, cap, rfl, h1, by omega, ⟨by simp, fun i hi => ?_⟩, fun _ => ⟨b, off, rfl, fun j u hj => ?_⟩⟩
    · obtain ⟨c0, c1, c2, hc3, hn⟩ := hc i hi
      have g0 := hf (i * 3) (by omega)
      have g1 := hf (i * 3 + 1) (by omega)
      have g2 := hf (i * 3 + 2) (by omega)
      rw [hc3.1] at g0
      rw [← Nat.add_assoc, hc3.2.1] at g1
      rw [← Nat.add_assoc, hc3.2.2] at g2
      refine ⟨c0, c1, c2, by rw [hget _ (by omega), ← Option.some.inj g0], by rw [hget _ (by omega), ← Option.some.inj g1], by rw [hget _ (by omega), ← Option.some.inj g2], hn⟩
    · have hj' : j < ks.length * 3 := by have := (List.getElem?_eq_some_iff.1 hj).1; simpa using this
      rw [hget j hj'] at hj
      rw [← Option.some.inj hj]
      exact hf j hj'
  · have h0 : ks = [] := by cases ks with | nil => rfl | cons x l => simp at hl
    subst h0
    exact ⟨[], a, cap, rfl, h1, by omega, Trip.nil _ _ _, fun h => by simp at h⟩
end Go.Proofs.YtlddpjcacnahmaaGreatDoor
