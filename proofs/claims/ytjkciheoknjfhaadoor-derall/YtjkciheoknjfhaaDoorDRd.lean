/- The value that bytes begin with: the document's read. -/
import Derived.Test.YtjkciheoknjfhaaDoorApp2
import Derived.Test.YtjkciheoknjfhaaDoorETag
import Derived.Test.YtjkciheoknjfhaaDoorDFit
import Derived.Test.YtjkciheoknjfhaaDoorNum
import Derived.Deep.DeepCutAuto
namespace Go.Proofs.YtjkciheoknjfhaaDoor
open Go.RowKit Go.Deep
set_option linter.unusedVariables false

/-- a node of nothing -/
def nod0 : Value := .agg #[.int .i64 0, .slice none 0 0, .slice none 0 0]
/-- what read tells -/
def ReadE (FB : Int → List Nat → Bool) (deep B0 : Nat) (b : List Nat) (w : World) (e : Ending) (w' : World) : Prop :=
  ((∃ er, rd FB deep b = .err er ∧ 0 < er ∧ e = .returned (.tuple #[nod0, .int .i64 0, .int .i64 (er : Nat)])) ∨
   (∃ x m d c0 c1 c2, rd FB deep b = .ok (x, m) ∧ e = .returned (.tuple #[.agg #[c0, c1, c2], .int .i64 (m : Nat), .int .i64 0]) ∧ NdIn (fun k => k < B0 ∨ w.heap.size ≤ k) w' d c0 c1 c2 x)) ∧ Below w.heap.size w w'
theorem ReadE.no {FB : Int → List Nat → Bool} {deep B0 er : Nat} {b : List Nat} {w w' : World} (h : rd FB deep b = .err er) (hb : Below w.heap.size w w') (h0 : 0 < er := by decide) : ReadE FB deep B0 b w (.returned (.tuple #[nod0, .int .i64 0, .int .i64 (er : Nat)])) w' := ⟨.inl ⟨er, h, h0, rfl⟩, hb⟩

theorem set3 {w : World} {p : Nat} {c0 c1 c2 : Value} {t : TypeId} (h : w.heap[p]? = some (.cells #[c0, c1, c2] t)) (v0 v1 v2 : Value) :
    (((w.setCell ⟨p, 0, none⟩ v0).setCell ⟨p, 1, none⟩ v1).setCell ⟨p, 2, none⟩ v2).heap[p]? = some (.cells #[v0, v1, v2] t) := by
  rw [heap_setCell_same _ _ _ _ _ _ (heap_setCell_same _ _ _ _ _ _ (heap_setCell_same _ _ _ _ _ _ h))]
  rfl
theorem below3 {B : Nat} {a w : World} (h : Below B a w) {p : Nat} (hp : B ≤ p) (v0 v1 v2 : Value) : Below B a (((w.setCell ⟨p, 0, none⟩ v0).setCell ⟨p, 1, none⟩ v1).setCell ⟨p, 2, none⟩ v2) :=
  ((h.setCell (by exact hp) _).setCell (by exact hp) _).setCell (by exact hp) _
theorem cells3 {w : World} {p : Nat} {c0 c1 c2 : Value} {t : TypeId} (h : w.heap[p]? = some (.cells #[c0, c1, c2] t)) : w.cell? ⟨p, 0, none⟩ = some c0 ∧ w.cell? ⟨p, 1, none⟩ = some c1 ∧ w.cell? ⟨p, 2, none⟩ = some c2 ∧ w.frozen? ⟨p, 0, none⟩ = false ∧ w.frozen? ⟨p, 1, none⟩ = false ∧ w.frozen? ⟨p, 2, none⟩ = false :=
  ⟨by rw [cell_at' h]; rfl, by rw [cell_at' h]; rfl, by rw [cell_at' h]; rfl, frozen_of_row w _ 0 _ _ h, frozen_of_row w _ 1 _ _ h, frozen_of_row w _ 2 _ _ h⟩
theorem lenD_zero {b : List Nat} (h : (lenD b).2 = 0) : (lenD b).1 = 0 := by
  unfold lenD at *
  split
  · rfl
  · rename_i h0
    rw [if_neg h0] at h
    split
    · rename_i h1; rw [if_pos h1] at h; simp at h
    · rename_i h1
      rw [if_neg h1] at h
      split
      · rfl
      · rename_i h2
        rw [if_neg h2] at h
        split
        · rfl
        · rename_i h3; rw [if_neg h3] at h; simp at h
theorem row_empty (k : IntKind) (m : Nat) (w : World) (a : Option Addr) (cap : Nat) (h : cap ≤ maxLen) : Row k m w (.slice a 0 cap) [] := ⟨a, cap, rfl, Nat.zero_le _, h, fun h => by simp at h, fun x hx => by simp at hx⟩

set_option maxRecDepth 100000 in
set_option maxHeartbeats 8000000 in
theorem rread_in (FB : Int → List Nat → Bool) (hFB : FBok FB) (B0 : Nat) : ∀ (deep : Nat) (v : Value) (b : List Nat) (w : World), Row .u8 256 w v b → ValIn (fun k => k < B0) v → b.length ≤ 1000000 → deep ≤ 100 → B0 ≤ w.heap.size →
    Calls Tryd.prog 22 #[v, .int .i64 deep] w fun e w' => ReadE FB deep B0 b w e w' := by
  intro deep
  induction deep with
  | zero =>
    intro v b w h hv hl hd hB
    obtain ⟨a, cap, rfl, _⟩ := h
    go_enter Tryd.func22, Tryd.ntmps22
    go_wp2_with fail
    exact bodyPost_ret (v := .tuple #[nod0, .int .i64 0, .int .i64 3]) (by simp [results, Tryd.results22, go_sem, nod0]) rfl (ReadE.no (er := 3) (by rw [rd]) (keep_alloc _ _))
  | succ deep ih =>
    intro v b w h hv hl hd hB
    have h' := h
    have hu := h.under
    obtain ⟨a, cap, rfl, g1, g2, g3, g4⟩ := h
    unfold maxLen at g2
    have hdi : ((deep : Int) + 1 == 0) = false := beq_eq_false_iff_ne.2 (by omega)
    have hbw : Below w.heap.size w (w.alloc (.cells #[.int .i64 0, .slice none 0 0, .slice none 0 0] 26)) := keep_alloc _ _
    cases b with
    | nil =>
      go_enter Tryd.func22, Tryd.ntmps22
      go_wp2_with fail
      exact bodyPost_ret (v := .tuple #[nod0, .int .i64 0, .int .i64 1]) (by simp [results, Tryd.results22, go_sem, nod0]) rfl (ReadE.no (er := 1) (by rw [rd]) hbw)
    | cons t r =>
      obtain ⟨bl, off, rfl, hc⟩ := g3 (by simp)
      have ht := hu t (by simp)
      have hu' : Under 256 r := fun x hx => hu x (by simp [hx])
      have c0 : w.cell? ⟨bl, off, none⟩ = some (.int .u8 (t : Int)) := hc 0 (by simp)
      have hlt0 := World.block_lt_of_cell? w _ c0
      have hbl : bl < B0 := hv bl (by simp [lenV]) rfl
      have hrt := h'.part (i := 1) (j := (t :: r).length) (by simp) (Nat.le_refl _)
      rw [List.take_of_length_le (Nat.le_refl _), List.drop_one, List.tail_cons] at hrt
      generalize hR : (t :: r).length = R at *
      have hRr : R = r.length + 1 := by rw [← hR]; rfl
      have HRr := hide hRr
      have htag := rtagged_any (t : Int) (w.alloc (.cells #[.int .i64 0, .slice none 0 0, .slice none 0 0] 26))
      have c0' := Below.cells hbw c0
      have h0i : ((R : Int) == 0) = false := beq_eq_false_iff_ne.2 (by omega)
      have hp : 0 < R := by omega
      clear hRr
      cases ht1 : taggedB (t : Int) with
      | false =>
        rw [ht1] at htag
        have HR : Hid (rd FB (deep + 1) (t :: r) = .err 4) := hide (by rw [rd, if_pos ht1])
        clear hc g3 hR
        go_enter Tryd.func22, Tryd.ntmps22
        go_wp2_with fail
        refine htag.mono ?_
        rintro e w1 ⟨rfl, rfl⟩
        go_wp2_with fail
        exact bodyPost_ret (v := .tuple #[nod0, .int .i64 0, .int .i64 4]) (by simp [results, Tryd.results22, go_sem, nod0]) rfl (ReadE.no (er := 4) HR.out hbw)
      | true =>
        rw [ht1] at htag
        clear hc g3 hR
        have HT1 := hide ht1
        clear ht1
        by_cases hcap : cap = 1
        · subst hcap
          have hr0 : r = [] := List.eq_nil_of_length_eq_zero (by have := HRr.out; omega)
          subst hr0
          have hR1 : R = 1 := HRr.out
          subst hR1
          have hlen := rlength_any (.slice (some ⟨bl, off, none⟩) 0 0) [] (w.alloc (.cells #[.int .i64 0, .slice none 0 0, .slice none 0 0] 26)) ⟨_, 0, rfl, Nat.le_refl _, Nat.zero_le _, fun h => by simp at h, fun x hx => by simp at hx⟩ (by simp)
          have HR : Hid (rd FB (deep + 1) [t] = .err 1) := hide (by rw [rd, if_neg (by rw [HT1.out]; decide), if_pos (.inl (by decide))])
          go_enter Tryd.func22, Tryd.ntmps22
          go_wp2_with fail
          refine htag.mono ?_
          rintro e w1 ⟨rfl, rfl⟩
          clear htag
          go_wp2_with fail
          refine hlen.mono ?_
          rintro e w2 ⟨rfl, rfl⟩
          clear hlen
          go_wp2_with fail
          exact bodyPost_ret (v := .tuple #[nod0, .int .i64 0, .int .i64 1]) (by simp [results, Tryd.results22, go_sem, nod0]) rfl (ReadE.no (er := 1) HR.out hbw)
        · have hcap1 : 1 < cap := by omega
          have hcap2 : ¬ cap - 1 = 0 := by omega
          have hcap3 : ¬ (cap : Int) - 1 = 0 := by omega
          have hlen := rlength_any (.slice (some ⟨bl, off + 1, none⟩) (R - 1) (cap - 1)) r (w.alloc (.cells #[.int .i64 0, .slice none 0 0, .slice none 0 0] 26)) (hrt.below hbw) (by have := HRr.out; omega)
          have hlenD : (lenD r).1 < 16777216 ∧ (lenD r).2 ≤ r.length := by
            by_cases hk : (lenD r).2 = 0
            · exact ⟨by rw [lenD_zero hk]; decide, by omega⟩
            · have := len_enc hu' (n := (lenD r).1) (k := (lenD r).2) rfl hk
              exact ⟨this.2.1, this.2.2⟩
          generalize hn : (lenD r).1 = n at *
          generalize hk : (lenD r).2 = k at *
          have HNK : Hid ((lenD r).1 = n ∧ (lenD r).2 = k) := hide ⟨hn, hk⟩
          clear hn hk
          go_enter Tryd.func22, Tryd.ntmps22
          go_wp2_with fail
          refine htag.mono ?_
          rintro e w1 ⟨rfl, rfl⟩
          clear htag
          go_wp2_with fail
          refine hlen.mono ?_
          rintro e w2 ⟨rfl, rfl⟩
          rw [HNK.out.1, HNK.out.2]
          clear hlen
          have hRk : k + 1 ≤ R := by have := HRr.out; omega
          by_cases hk0 : k = 0
          · subst hk0
            have HR : Hid (rd FB (deep + 1) (t :: r) = .err 1) := hide (by rw [rd, if_neg (by rw [HT1.out]; decide), if_pos (.inl HNK.out.2)])
            go_wp2_with fail
            exact bodyPost_ret (v := .tuple #[nod0, .int .i64 0, .int .i64 1]) (by simp [results, Tryd.results22, go_sem, nod0]) rfl (ReadE.no (er := 1) HR.out hbw)
          · have hk0i : ((k : Int) == 0) = false := beq_eq_false_iff_ne.2 (by omega)
            by_cases hgt : r.length - k < n
            · have hgti : (R : Int) - 1 - (k : Int) < (n : Int) := by have := HRr.out; omega
              have HR : Hid (rd FB (deep + 1) (t :: r) = .err 1) := hide (by rw [rd, if_neg (by rw [HT1.out]; decide), if_pos (.inr (by rw [HNK.out.1, HNK.out.2]; exact hgt))])
              clear hgt
              go_wp2_with fail
              exact bodyPost_ret (v := .tuple #[nod0, .int .i64 0, .int .i64 1]) (by simp [results, Tryd.results22, go_sem, nod0]) rfl (ReadE.no (er := 1) HR.out hbw)
            · have hgti : ¬ (R : Int) - 1 - (k : Int) < (n : Int) := by have := HRr.out; omega
              have hgtd : decide ((R : Int) - 1 - (k : Int) < (n : Int)) = false := decide_eq_false hgti
              have hfit : 1 + k + n ≤ R := by have := HRr.out; omega
              have hcn : 1 + k + n ≤ cap := by have := HRr.out; omega
              have HG : Hid (¬ ((lenD r).2 = 0 ∨ r.length - (lenD r).2 < (lenD r).1)) := hide (by rw [HNK.out.1, HNK.out.2]; omega)
              have HROW : Hid (Row .u8 256 w (.slice (some ⟨bl, off + (1 + k), none⟩) n (cap - (1 + k))) ((r.drop k).take n)) := hide (by
                have h1 := h'.part (i := 1 + k) (j := 1 + k + n) (by omega) (by have := HRr.out; simp; omega)
                rw [show 1 + k + n - (1 + k) = n by omega, show ((t :: r).take (1 + k + n)).drop (1 + k) = (r.drop k).take n by rw [List.drop_take, show 1 + k + n - (1 + k) = n by omega, show 1 + k = k + 1 by omega, List.drop_succ_cons]] at h1
                exact h1)
              go_upto_region 12 with fail
              go_cut [11] (fun v wx => (∃ ia ic, v = .slice ia n ic ∧ Tidy (.slice ia n ic) ∧ Row .u8 256 wx (.slice ia n ic) ((r.drop k).take n) ∧ ValIn (fun q => q < B0) (.slice ia n ic)) ∧ wx = w.alloc (.cells #[.int .i64 0, .slice none 0 0, .slice none 0 0] 26))
              case first =>
                by_cases hck : cap = 1 + k
                · have hck' : 1 + k = cap := hck.symm
                  have hn0 : n = 0 := by omega
                  clear hck
                  subst hn0
                  go_wp2_with fail
                  go_meet
                  exact ⟨⟨_, _, rfl, (fun a c he => by simp at he), by rw [List.take_zero]; exact row_empty _ _ _ _ _ (by unfold maxLen; omega), fun q hq => by simp [lenV] at hq⟩, rfl⟩
                · have HW := hide (HROW.out.below hbw)
                  have HV := hide hbl
                  go_wp2_with fail
                  go_meet
                  exact ⟨⟨_, _, by rw [show 1 + k + n - (1 + k) = n by omega], (fun a c he => by simp at he), HW.out, fun q _ hq => by
                    have e : bl = q := by simpa [Value.ownBlock] using hq
                    rw [← e]; exact HV.out⟩, rfl⟩
              case rest =>
                obtain ⟨⟨ia, ic, rfl, hti, hins, hvin⟩, hwc⟩ := hcut
                have hres : wc.heap[w.heap.size]? = some (.cells #[.int .i64 0, .slice none 0 0, .slice none 0 0] 26) := by rw [hwc]; exact heap_alloc_new w _
                have hbwc : Below w.heap.size w wc := by rw [hwc]; exact hbw
                have hszc : wc.heap.size = w.heap.size + 1 := by rw [hwc, World.size_alloc]
                clear hwc hbw c0 c0' hrt h' HROW hgti hgtd hcap2 hcap3
                have hil : ((r.drop k).take n).length = n := by have := HRr.out; simp; omega
                generalize hI : (r.drop k).take n = I at *
                have hbox := rboxed_any (t : Int) wc
                cases hbx : boxedB (t : Int) with
                | false =>
                  rw [hbx] at hbox
                  have hft := rfitb_any FB hFB (t : Int) (.slice ia n ic) I wc hins (by rw [hil]; have := HRr.out; omega)
                  cases hf : FB (t : Int) I with
                  | false =>
                    rw [hf] at hft
                    have HR : Hid (rd FB (deep + 1) (t :: r) = .err 5) := hide (by rw [rd, if_neg (by rw [HT1.out]; decide), if_neg HG.out, if_pos hbx, HNK.out.1, HNK.out.2, hI, if_pos hf])
                    clear hf
                    go_wp2_with fail
                    refine hbox.mono ?_
                    rintro e w2 ⟨rfl, rfl⟩
                    go_wp2_with fail
                    refine hft.mono ?_
                    rintro e w3 ⟨rfl, hb3⟩
                    have hr3 : w3.heap[w.heap.size]? = _ := (hb3.block w.heap.size (by omega)).trans hres
                    clear hft hbox
                    obtain ⟨r0, r1, r2, f0, f1, f2⟩ := cells3 hr3
                    go_wp2_with fail
                    obtain ⟨s0, s1, s2, _⟩ := cells3 (set3 hr3 (.int .i64 0) (.slice none 0 0) (.slice none 0 0))
                    exact bodyPost_ret (v := .tuple #[nod0, .int .i64 0, .int .i64 5]) (by simp [results, Tryd.results22, go_sem, nod0, s0, s1, s2]) rfl (ReadE.no (er := 5) HR.out (below3 (keep_trans hbwc hb3) (Nat.le_refl _) _ _ _))
                  | true =>
                    rw [hf] at hft
                    have HR : Hid (rd FB (deep + 1) (t :: r) = .ok (.mk (t : Int) I [], 1 + k + n)) := hide (by rw [rd, if_neg (by rw [HT1.out]; decide), if_neg HG.out, if_pos hbx, HNK.out.1, HNK.out.2, hI, if_neg (by rw [hf]; decide)])
                    clear hf
                    go_wp2_with fail
                    refine hbox.mono ?_
                    rintro e w2 ⟨rfl, rfl⟩
                    go_wp2_with fail
                    refine hft.mono ?_
                    rintro e w3 ⟨rfl, hb3⟩
                    have hr3 : w3.heap[w.heap.size]? = _ := (hb3.block w.heap.size (by omega)).trans hres
                    have hin3 := hins.below hb3
                    clear hft hbox
                    obtain ⟨r0, r1, r2, f0, f1, f2⟩ := cells3 hr3
                    go_wp2_with fail
                    obtain ⟨s0, s1, s2, _⟩ := cells3 (set3 hr3 (.int .i64 t) (.slice ia n ic) (.slice none 0 0))
                    have hbel := below3 (keep_trans hbwc hb3) (Nat.le_refl w.heap.size) (.int .i64 t) (.slice ia n ic) (.slice none 0 0)
                    have hnd : NdIn (fun q => q < B0 ∨ w.heap.size ≤ q) (((w3.setCell ⟨w.heap.size, 0, none⟩ (.int .i64 t)).setCell ⟨w.heap.size, 1, none⟩ (.slice ia n ic)).setCell ⟨w.heap.size, 2, none⟩ (.slice none 0 0)) 1 (.int .i64 t) (.slice ia n ic) (.slice none 0 0) (.mk (t : Int) I []) :=
                      ⟨rfl, by unfold I64; omega, hin3.otherIn hvin (fun q hq _ => by rw [heap_setCell_other _ _ _ _ (by show q ≠ w.heap.size; omega), heap_setCell_other _ _ _ _ (by show q ≠ w.heap.size; omega), heap_setCell_other _ _ _ _ (by show q ≠ w.heap.size; omega)]), hti, fun a c he => (by simp at he; omega), fun q h1 h2 => .inl (hvin q h1 h2), fun q h1 h2 => (by simp [lenV] at h1), none, 0, rfl, Nat.le_refl _, Nat.zero_le _, fun h => (by simp at h)⟩
                    exact bodyPost_ret (v := .tuple #[.agg #[.int .i64 t, .slice ia n ic, .slice none 0 0], .int .i64 ((1 + k + n : Nat) : Int), .int .i64 0]) (by simp [results, Tryd.results22, go_sem, s0, s1, s2]) rfl ⟨.inr ⟨_, _, 1, _, _, _, HR.out, rfl, hnd⟩, hbel⟩
                | true =>
                  rw [hbx] at hbox
                  go_wp2_with fail
                  refine hbox.mono ?_
                  rintro e w2 ⟨rfl, rfl⟩
                  clear hbox
                  obtain ⟨r0, r1, r2, f0, f1, f2⟩ := cells3 hres
                  go_wp2_with fail
                  have HBX := hide hbx
                  have HI := hide hI
                  have hIu : Under 256 I := fun x hx => hu' x (List.mem_of_mem_drop (List.mem_of_mem_take (by rw [hI]; exact hx)))
                  have HIU := hide hIu
                  clear hbx hI r0 r1 r2 f0 f1 f2 hlt0 hbl hv hIu hk0i h0i hdi
                  generalize hP : w.heap.size = P at *
                  go_loopw [11, 13] (fun vi tv wr => ∃ (J : List Nat) (ja : Option Addr) (jc : Nat) (kv : Value) (xs : List (Nd × List Nat)) (f : Nat), vi = .slice ja J.length jc ∧ Row .u8 256 wr (.slice ja J.length jc) J ∧ ValIn (fun q => q < B0) (.slice ja J.length jc) ∧ Hid (J.length ≤ f ∧ rdk (rd FB deep) n I = preR xs (rdk (rd FB deep) f J)) ∧ xs.length + J.length ≤ n ∧
                    wr.heap[P]? = some (.cells #[.int .i64 0, .slice none 0 0, .slice none 0 0] 26) ∧ wr.heap[P + 1]? = some (.cells #[.int .i64 t, .slice none 0 0, kv] 26) ∧ KidN B0 (P + 2) wr kv tv (xs.map (·.1)) ∧ KidT B0 (P + 2) wr tv (xs.map (·.2)) ∧ Below P w wr ∧ P + 2 ≤ wr.heap.size) (fun vi _ _ => lenV vi)
                  case atStart =>
                    refine ⟨I, ia, ic, .slice none 0 0, [], n, by rw [hil], by rw [hil]; exact hins.below (keep_alloc _ _), by rw [hil]; exact hvin, hide ⟨by omega, (preR_nil _).symm⟩, by simp [hil], ?_, ?_, KidN.nil _ _ _ _, KidT.nil _ _ _, ?_, ?_⟩
                    · rw [heap_alloc_old _ _ (by omega)]; exact hres
                    · rw [← hszc]; exact heap_alloc_new _ _
                    · exact hbwc.alloc (by omega) _
                    · rw [World.size_alloc]; omega
                  case round =>
                    obtain ⟨J, ja, jc, kv, xs, f, rfl, hrow, hvj, HF, hxn, hr0, hr1, hkn, hkt, hbr, hsz⟩ := hrel
                    have hksl : (xs.map (fun y => y.1)).length ≤ 1000000 ∧ (xs.map (fun y => y.2)).length ≤ 1000000 := by rw [List.length_map, List.length_map]; omega
                    generalize hks : xs.map (fun y => y.1) = ks at *
                    generalize hts : xs.map (fun y => y.2) = ts at *
                    have HKS := hide hks
                    have HTS := hide hts
                    clear hks hts
                    by_cases hlt : 0 < J.length
                    · have hih := ih _ J wr hrow hvj (by omega) (by omega) (by omega)
                      have hrow' := hrow
                      have HJU := hide hrow.under
                      generalize hJL : J.length = JL at *
                      have HJL := hide hJL
                      clear hJL
                      go_wp2_with fail
                      refine hih.mono ?_
                      rintro e w3 ⟨⟨er, her, hpos, rfl⟩ | ⟨x, m, d, c0, c1, c2, hok, rfl, hnd⟩, hb3⟩
                      · have hei : ((er : Int) == 0) = false := beq_eq_false_iff_ne.2 (by omega)
                        have hr3 : (w3.alloc (.cells #[.int .i64 0, .slice none 0 0, .slice none 0 0] 26)).heap[P]? = _ := (heap_alloc_old _ _ (by have := hb3.size; omega)).trans ((hb3.block P (by omega)).trans hr0)
                        obtain ⟨r0, r1, r2, f0, f1, f2⟩ := cells3 hr3
                        clear hih
                        unfold nod0
                        have HR : Hid (rd FB (deep + 1) (t :: r) = .err er) := hide (by
                          rw [rd, if_neg (by rw [HT1.out]; decide), if_neg HG.out, if_neg (by rw [HBX.out]; decide), HNK.out.1, HNK.out.2, HI.out, HF.out.2, rdk_err (by rw [HJL.out]; exact hlt) (by rw [HJL.out]; exact HF.out.1) her]
                          rfl)
                        go_wp2_with fail
                        obtain ⟨s0, s1, s2, _⟩ := cells3 (set3 hr3 (.int .i64 0) (.slice none 0 0) (.slice none 0 0))
                        subst hP
                        exact bodyPost_ret (v := .tuple #[nod0, .int .i64 0, .int .i64 er]) (by simp [results, Tryd.results22, go_sem, nod0, s0, s1, s2]) rfl (ReadE.no (er := er) HR.out (below3 ((keep_trans hbr hb3).alloc (Nat.le_trans hbr.size hb3.size) _) (Nat.le_refl _) _ _ _) hpos)
                      · obtain ⟨tt, a1, n1, p1, a2, n2, p2, rfl, rfl, rfl⟩ := hnd.forms
                        obtain ⟨hm2, hmJ, _⟩ := rd_reads FB deep J x m HJU.out (by rw [HJL.out]; omega) hok
                        rw [HJL.out] at hmJ
                        obtain ⟨f', HF'⟩ : ∃ f', Hid ((J.drop m).length ≤ f' ∧ rdk (rd FB deep) n I = preR (xs ++ [(x, J.take m)]) (rdk (rd FB deep) f' (J.drop m))) := by
                          obtain ⟨f', h1, h2⟩ := rdk_ok (by rw [HJL.out]; exact hlt) (by rw [HJL.out]; exact HF.out.1) hok (by omega)
                          exact ⟨f', hide ⟨h1, by rw [HF.out.2, h2, preR_pre]⟩⟩
                        obtain ⟨hkl, htl⟩ := hksl
                        have hbW : Below P w (w3.alloc (.cells #[.int .i64 tt, .slice a1 n1 p1, .slice a2 n2 p2] 26)) := by
                          subst hP
                          exact (keep_trans hbr hb3).alloc (Nat.le_trans hbr.size hb3.size) _
                        have hs3 : wr.heap.size ≤ w3.heap.size := hb3.size
                        have hkvl : ∀ q, kv.ownBlock = some q → q < wr.heap.size := by
                          obtain ⟨_, _, h1, _⟩ := hkn
                          exact fun q hq => (h1.lt q hq).2
                        have htvl : ∀ q, u13.ownBlock = some q → P + 2 ≤ q ∧ q < wr.heap.size := by
                          obtain ⟨_, h1, _⟩ := hkt
                          exact fun q hq => h1.lt q hq
                        have hkn3 := (hkn.other (fun q hq hl => hb3.block q hl)).other (w' := w3.alloc (.cells #[.int .i64 tt, .slice a1 n1 p1, .slice a2 n2 p2] 26)) (fun q _ hl => heap_alloc_old _ _ hl)
                        have hkt3 := (hkt.other (fun q hq hl => hb3.block q hl)).other (w' := w3.alloc (.cells #[.int .i64 tt, .slice a1 n1 p1, .slice a2 n2 p2] 26)) (fun q _ hl => heap_alloc_old _ _ hl)
                        have hnd3 := hnd.turn (w' := w3.alloc (.cells #[.int .i64 tt, .slice a1 n1 p1, .slice a2 n2 p2] 26)) (fun b hs hl => ⟨heap_alloc_old _ _ hl, hs⟩)
                        have hr03 : (w3.alloc (.cells #[.int .i64 tt, .slice a1 n1 p1, .slice a2 n2 p2] 26)).heap[P]? = _ := (heap_alloc_old _ _ (by omega)).trans ((hb3.block P (by omega)).trans hr0)
                        have hr13 : (w3.alloc (.cells #[.int .i64 tt, .slice a1 n1 p1, .slice a2 n2 p2] 26)).heap[P + 1]? = _ := (heap_alloc_old _ _ (by omega)).trans ((hb3.block (P + 1) (by omega)).trans hr1)
                        have hrx3 : (w3.alloc (.cells #[.int .i64 tt, .slice a1 n1 p1, .slice a2 n2 p2] 26)).heap[w3.heap.size]? = _ := heap_alloc_new _ _
                        have hrow3 := (hrow.below hb3).below (keep_alloc w3 (.cells #[.int .i64 tt, .slice a1 n1 p1, .slice a2 n2 p2] 26))
                        clear hih
                        go_upto_region 23 with fail
                        generalize hW : w3.alloc (.cells #[.int .i64 tt, .slice a1 n1 p1, .slice a2 n2 p2] 26) = W at *
                        have hWs : W.heap.size = w3.heap.size + 1 := by rw [← hW, World.size_alloc]
                        obtain ⟨d0, cs, how, htr⟩ := hkn3
                        obtain ⟨o0, o1, o2, q0, q1, q2⟩ := cells3 hr13
                        obtain ⟨y0, y1, y2, z0, z1, z2⟩ := cells3 hrx3
                        obtain ⟨iN, hiN, hN0, hN1, hN2⟩ := info_node
                        have how' := how.alloc (.cells #[.int .i64 tt, .slice a1 n1 p1, .slice a2 n2 p2] 26)
                        have hr13' : (W.alloc (.cells #[.int .i64 tt, .slice a1 n1 p1, .slice a2 n2 p2] 26)).heap[P + 1]? = _ := (heap_alloc_old _ _ (by omega)).trans hr13
                        have hund := Tryd.underlying24
                        go_upto_region 24 with (first
                          | (at_builtin; refine wpList_append_lies _ rfl _ _ 24 rfl (P + 2) 26 iN (.agg #[.int .i64 0, .slice none 0 0, .slice none 0 0]) 3 56 Tryd.underlying24 hiN hN0 hN1 hN2 rfl (by decide) kv _ cs rfl how' _ 1 1 [.int .i64 tt, .slice a1 n1 p1, .slice a2 n2 p2] rfl rfl (by first | exact cells_new3 W _ _ _ _ rfl | exact cells_new3 W _ _ _ _ hWs) (by simp [Value.oneCell']) (by decide) (by unfold maxLen; omega) (by omega) (by simp; omega) _ rfl ?_; intro g cap4 w4 how4 hg4 hlie4 hlt4; have hr14 : w4.heap[P + 1]? = _ := (hg4.block (P + 1) (by rw [World.size_alloc]; omega) (fun e => by have := (how.lt _ e.symm).1; omega)).trans hr13'; obtain ⟨x0, x1, x2, v0, v1, v2⟩ := cells3 hr14)
                          | fail)
                        have hkn4 := KidN.snoc how htr hnd3 (by omega) (by omega) hkvl htvl how4 hg4 hlie4
                        have hkt4 := hkt3.beside (by omega) how hg4
                        have hold4 : ∀ q, q < P + 2 → q < W.heap.size → w4.heap[q]? = W.heap[q]? := fun q h1 h2 => (hg4.block q (by rw [World.size_alloc]; omega) (fun e => by have := (how.lt _ e.symm).1; omega)).trans (heap_alloc_old _ _ h2)
                        have hr04 := (hold4 P (by omega) (by omega)).trans hr03
                        have hrow4 := hrow3.otherIn hvj (fun b hb hl => hold4 b (by omega) hl)
                        have hbr4 : Below P w w4 := (hbW.alloc (by omega) _).grown hg4 (by simp; omega) (fun x hx => by have := (how.lt x hx).1; omega)
                        have hot4 : ∀ q, q < B0 ∨ P + 2 ≤ q → q < w4.heap.size → (w4.setCell ⟨P + 1, 2, none⟩ (.slice (some ⟨g, 0, none⟩) (ks.length + 1) cap4)).heap[q]? = w4.heap[q]? := fun q hq _ => heap_setCell_other _ _ _ _ (by show q ≠ P + 1; omega)
                        have hkn5 := hkn4.other hot4
                        have hkt5 := hkt4.other hot4
                        have hrow5 := hrow4.otherIn hvj (fun b hb hl => hot4 b (.inl hb) hl)
                        have hr05 : (w4.setCell ⟨P + 1, 2, none⟩ (.slice (some ⟨g, 0, none⟩) (ks.length + 1) cap4)).heap[P]? = _ := (heap_setCell_other _ _ _ _ (by show P ≠ P + 1; omega)).trans hr04
                        have hr15 : (w4.setCell ⟨P + 1, 2, none⟩ (.slice (some ⟨g, 0, none⟩) (ks.length + 1) cap4)).heap[P + 1]? = some (.cells #[.int .i64 t, .slice none 0 0, .slice (some ⟨g, 0, none⟩) (ks.length + 1) cap4] 26) := by
                          rw [heap_setCell_same _ _ _ _ _ _ hr14]; rfl
                        have hbr5 : Below P w (w4.setCell ⟨P + 1, 2, none⟩ (.slice (some ⟨g, 0, none⟩) (ks.length + 1) cap4)) := hbr4.setCell (by show P ≤ P + 1; omega) _
                        generalize hw5 : w4.setCell ⟨P + 1, 2, none⟩ (.slice (some ⟨g, 0, none⟩) (ks.length + 1) cap4) = w5 at *
                        have hs5 : P + 1 < w5.heap.size := (Array.getElem?_eq_some_iff.1 hr15).1
                        clear hw5 hot4 hr04 hrow4 hbr4 hkn4 hkt4 hold4 how4 hg4 hlie4 hlt4 hr14 x0 x1 x2 v0 v1 v2 hr13' how' iN hiN hN0 hN1 hN2 y0 y1 y2 z0 z1 z2 o0 o1 o2 q0 q1 q2 how htr hW hWs hr03 hr13 hrx3 hrow3 hnd3 hkt3 hkvl htvl hbW
                        obtain ⟨us, hot, htt, huv⟩ := hkt5
                        have hrow5' := hrow5
                        obtain ⟨ja', jc', he, k1, k2, k3, k4⟩ := hrow5'
                        simp at he
                        obtain ⟨rfl, _, rfl⟩ := he
                        obtain ⟨jb, jo, rfl, hjc⟩ := k3 (by rw [HJL.out]; exact hlt)
                        have hpc : Row .u8 256 w5 (.slice (some ⟨jb, jo, none⟩) m jc) (J.take m) := hrow5.part (i := 0) (j := m) (Nat.zero_le _) (by rw [HJL.out]; exact hmJ)
                        have hrs : Row .u8 256 w5 (.slice (some ⟨jb, jo + m, none⟩) (JL - m) (jc - m)) (J.drop m) := by
                          have h1 := hrow5.part (i := m) (j := JL) hmJ (by rw [HJL.out]; exact Nat.le_refl _)
                          rwa [List.take_of_length_le (by rw [HJL.out]; exact Nat.le_refl _)] at h1
                        have hjb : jb < B0 := hvj jb hlt rfl
                        obtain ⟨iT, hiT, hT0, hT1, hT2⟩ := info_text
                        have hot' := hot.alloc (.cells #[.slice (some ⟨jb, jo, none⟩) m jc] 22)
                        have hJc : JL ≤ jc := by rw [← HJL.out]; exact k1
                        have hmc : m ≤ jc := by omega
                        have hjc0 : ¬ jc = 0 := by omega
                        have hm0 : ¬ m = 0 := by omega
                        clear k1 k3 k4 hjc
                        unfold maxLen at k2
                        go_upto_region 25 with (first
                          | (at_builtin; refine wpList_append_lies _ rfl _ _ 60 rfl (P + 2) 22 iT (.slice none 0 0) 1 24 Tryd.underlying60 hiT hT0 hT1 hT2 rfl (by decide) u13 _ us rfl hot' _ 1 1 [.slice (some ⟨jb, jo, none⟩) m jc] rfl rfl (cells_new w5 _ _) (by simp [Value.oneCell']) (by decide) (by unfold maxLen; omega) (by omega) (by simp; omega) _ rfl ?_; intro g6 cap6 w6 how6 hg6 hlie6 hlt6)
                          | fail)
                        have hkn6 : KidN B0 (P + 2) w6 (.slice (some ⟨g, 0, none⟩) (ks.length + 1) cap4) (.slice (some ⟨g6, 0, none⟩) (ts.length + 1) cap6) (ks ++ [x]) := hkn5.beside (by omega) hot hg6 hlie6
                        have hkt6 : KidT B0 (P + 2) w6 (.slice (some ⟨g6, 0, none⟩) (ts.length + 1) cap6) (ts ++ [J.take m]) := KidT.snoc hot htt huv (by omega) hpc (fun a c he => by simp at he) (fun q _ hq => by
                          have e : jb = q := by simpa [Value.ownBlock] using hq
                          rw [← e]; exact hjb) how6 hg6
                        have hold6 : ∀ q, q < P + 2 → q < w5.heap.size → w6.heap[q]? = w5.heap[q]? := fun q h1 h2 => (hg6.block q (by rw [World.size_alloc]; omega) (fun e => by have := (hot.lt _ e.symm).1; omega)).trans (heap_alloc_old _ _ h2)
                        have hr06 := (hold6 P (by omega) (by omega)).trans hr05
                        have hr16 := (hold6 (P + 1) (by omega) (by omega)).trans hr15
                        have hbr6 : Below P w w6 := (hbr5.alloc (by omega) _).grown hg6 (by simp; omega) (fun x hx => by have := (hot.lt x hx).1; omega)
                        have hs6 : P + 1 < w6.heap.size := (Array.getElem?_eq_some_iff.1 hr16).1
                        have hks' : (xs ++ [(x, J.take m)]).map (fun y => y.1) = ks ++ [x] := by rw [List.map_append, HKS.out]; rfl
                        have hts' : (xs ++ [(x, J.take m)]).map (fun y => y.2) = ts ++ [J.take m] := by rw [List.map_append, HTS.out]; rfl
                        rw [← hks'] at hkn6
                        rw [← hts'] at hkt6
                        have HKN := hide hkn6
                        have HKT := hide hkt6
                        have HRS := hide hrs
                        have HO := hide hold6
                        clear hkn6 hkt6 hks' hts' hrs hold6 how6 hg6 hlie6 hlt6 hpc hot hot' htt huv hrow5 hkn5 hr05 hr15 hbr5
                        by_cases hjm : jc = m
                        · have hjm' : m = jc := hjm.symm
                          have hJm : J.length = m := by omega
                          clear hjm
                          subst hjm'
                          go_wp2_with fail
                          have hdr : J.drop m = [] := List.drop_eq_nil_of_le (by omega)
                          have HF2 := HF'
                          rw [hdr] at HF2
                          refine ⟨⟨[], _, _, _, xs ++ [(x, J.take m)], f', rfl, row_empty _ _ _ _ _ (Nat.zero_le _), fun q hq => by simp [lenV] at hq, HF2, by simp; omega, hr06, hr16, HKN.out, HKT.out, hbr6, by omega⟩, by simp [lenV]; omega⟩
                        · have hjm' : ¬ m = jc := fun e => hjm e.symm
                          go_wp2_with fail
                          have hdl : (J.drop m).length = J.length - m := List.length_drop
                          have hvd : ValIn (fun q => q < B0) (.slice (some ⟨jb, jo + m, none⟩) (J.length - m) (jc - m)) := fun q _ hq => by
                            have e : jb = q := by simpa [Value.ownBlock] using hq
                            rw [← e]; exact hjb
                          have hrw := HRS.out
                          rw [← HJL.out] at hrw
                          have hrw6 := hrw.otherIn hvd (fun b hb hl => HO.out b (by omega) hl)
                          refine ⟨⟨J.drop m, some ⟨jb, jo + m, none⟩, jc - m, _, xs ++ [(x, J.take m)], f', by rw [hdl], by rw [hdl]; exact hrw6, by rw [hdl]; exact hvd, HF', by rw [hdl]; simp; omega, hr06, hr16, HKN.out, HKT.out, hbr6, by omega⟩, by simp [lenV]; omega⟩
                    · have hJ0 : J = [] := List.eq_nil_of_length_eq_zero (by omega)
                      subst hJ0
                      have HK : Hid (rdk (rd FB deep) n I = .ok xs) := hide (by
                        rw [HF.out.2, rdk_nil]
                        show Res.ok (xs ++ []) = _
                        rw [List.append_nil])
                      obtain ⟨ka, kc, rfl⟩ : ∃ a c, kv = .slice a ks.length c := by
                        obtain ⟨_, _, h1, _⟩ := hkn
                        exact own_slices h1
                      obtain ⟨dN, hN⟩ := hkn.node (C := P + 1) (by omega) (t : Int) (by unfold I64; omega)
                      by_cases h49 : t = 49
                      · have h49i : ((t : Int) == 49) = true := beq_iff_eq.2 (by omega)
                        have hsrt := rsorted_any u13 ts wr hkt.rows
                        cases hso : sortedB ts with
                        | false =>
                          rw [hso] at hsrt
                          have HR : Hid (rd FB (deep + 1) (t :: r) = .err 6) := hide (by
                            rw [rd, if_neg (by rw [HT1.out]; decide), if_neg HG.out, if_neg (by rw [HBX.out]; decide), HNK.out.1, HNK.out.2, HI.out, HK.out]
                            dsimp only
                            rw [HTS.out, if_pos ⟨h49, hso⟩])
                          clear hso
                          go_wp2_with fail
                          refine hsrt.mono ?_
                          rintro e w4 ⟨rfl, hd4⟩
                          have hb4 := hd4.below
                          have hr4 : w4.heap[P]? = _ := (hb4.block P (by omega)).trans hr0
                          obtain ⟨r0, r1, r2, f0, f1, f2⟩ := cells3 hr4
                          have hbX : Below P w w4 := by subst hP; exact keep_trans hbr hb4
                          clear hsrt
                          go_wp2_with fail
                          obtain ⟨s0, s1, s2, _⟩ := cells3 (set3 hr4 (.int .i64 0) (.slice none 0 0) (.slice none 0 0))
                          have hbel := below3 hbX (Nat.le_refl P) (.int .i64 0) (.slice none 0 0) (.slice none 0 0)
                          subst hP
                          exact bodyPost_ret (v := .tuple #[nod0, .int .i64 0, .int .i64 6]) (by simp [results, Tryd.results22, go_sem, nod0, s0, s1, s2]) rfl (ReadE.no (er := 6) HR.out hbel)
                        | true =>
                          rw [hso] at hsrt
                          have ht49 : (t : Int) = 49 := by omega
                          rw [ht49] at hN hr1
                          have HR : Hid (rd FB (deep + 1) (t :: r) = .ok (.mk 49 [] ks, 1 + k + n)) := hide (by
                            rw [rd, if_neg (by rw [HT1.out]; decide), if_neg HG.out, if_neg (by rw [HBX.out]; decide), HNK.out.1, HNK.out.2, HI.out, HK.out]
                            dsimp only
                            rw [HTS.out, if_neg (by rw [hso]; simp), HKS.out, ht49])
                          clear hso
                          go_wp2_with fail
                          refine hsrt.mono ?_
                          rintro e w4 ⟨rfl, hd4⟩
                          have hb4 := hd4.below
                          clear hsrt
                          have hr4 : w4.heap[P]? = _ := (hb4.block P (by omega)).trans hr0
                          have hr5 : w4.heap[P + 1]? = _ := (hb4.block (P + 1) (by omega)).trans hr1
                          obtain ⟨r0, r1, r2, f0, f1, f2⟩ := cells3 hr4
                          obtain ⟨o0, o1, o2, q0, q1, q2⟩ := cells3 hr5
                          have hbX : Below P w w4 := by subst hP; exact keep_trans hbr hb4
                          have hNX := hN.turn (w' := (((w4.setCell ⟨P, 0, none⟩ (.int .i64 49)).setCell ⟨P, 1, none⟩ (.slice none 0 0)).setCell ⟨P, 2, none⟩ (.slice ka ks.length kc))) (T := fun q => q < B0 ∨ P ≤ q) (fun b hs hl => ⟨by rw [heap_setCell_other _ _ _ _ (by show b ≠ P; omega), heap_setCell_other _ _ _ _ (by show b ≠ P; omega), heap_setCell_other _ _ _ _ (by show b ≠ P; omega)]; try exact hb4.block b hl, by omega⟩)
                          go_wp2_with fail
                          obtain ⟨s0, s1, s2, _⟩ := cells3 (set3 hr4 (.int .i64 49) (.slice none 0 0) (.slice ka ks.length kc))
                          have hbel := below3 hbX (Nat.le_refl P) (.int .i64 49) (.slice none 0 0) (.slice ka ks.length kc)
                          subst hP
                          exact bodyPost_ret (v := .tuple #[.agg #[.int .i64 49, .slice none 0 0, .slice ka ks.length kc], .int .i64 ((1 + k + n : Nat) : Int), .int .i64 0]) (by simp [results, Tryd.results22, go_sem, s0, s1, s2]) rfl ⟨.inr ⟨_, _, dN, _, _, _, HR.out, rfl, hNX⟩, hbel⟩
                      · have h49i : ((t : Int) == 49) = false := beq_eq_false_iff_ne.2 (by omega)
                        have HR : Hid (rd FB (deep + 1) (t :: r) = .ok (.mk (t : Int) [] ks, 1 + k + n)) := hide (by
                          rw [rd, if_neg (by rw [HT1.out]; decide), if_neg HG.out, if_neg (by rw [HBX.out]; decide), HNK.out.1, HNK.out.2, HI.out, HK.out]
                          dsimp only
                          rw [if_neg (fun h => h49 h.1), HKS.out])
                        have hb4 : Below wr.heap.size wr wr := Below.refl _ _
                        have hr4 : wr.heap[P]? = _ := (hb4.block P (by omega)).trans hr0
                        have hr5 : wr.heap[P + 1]? = _ := (hb4.block (P + 1) (by omega)).trans hr1
                        obtain ⟨r0, r1, r2, f0, f1, f2⟩ := cells3 hr4
                        obtain ⟨o0, o1, o2, q0, q1, q2⟩ := cells3 hr5
                        have hbX : Below P w wr := by subst hP; exact keep_trans hbr hb4
                        have hNX := hN.turn (w' := (((wr.setCell ⟨P, 0, none⟩ (.int .i64 t)).setCell ⟨P, 1, none⟩ (.slice none 0 0)).setCell ⟨P, 2, none⟩ (.slice ka ks.length kc))) (T := fun q => q < B0 ∨ P ≤ q) (fun b hs hl => ⟨by rw [heap_setCell_other _ _ _ _ (by show b ≠ P; omega), heap_setCell_other _ _ _ _ (by show b ≠ P; omega), heap_setCell_other _ _ _ _ (by show b ≠ P; omega)]; try exact hb4.block b hl, by omega⟩)
                        go_wp2_with fail
                        obtain ⟨s0, s1, s2, _⟩ := cells3 (set3 hr4 (.int .i64 t) (.slice none 0 0) (.slice ka ks.length kc))
                        have hbel := below3 hbX (Nat.le_refl P) (.int .i64 t) (.slice none 0 0) (.slice ka ks.length kc)
                        subst hP
                        exact bodyPost_ret (v := .tuple #[.agg #[.int .i64 t, .slice none 0 0, .slice ka ks.length kc], .int .i64 ((1 + k + n : Nat) : Int), .int .i64 0]) (by simp [results, Tryd.results22, go_sem, s0, s1, s2]) rfl ⟨.inr ⟨_, _, dN, _, _, _, HR.out, rfl, hNX⟩, hbel⟩
end Go.Proofs.YtjkciheoknjfhaaDoor
