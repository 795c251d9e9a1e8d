/- The number that bytes are by twos' complement: signed; the document's IntOf. -/
import Derived.Test.YtlddpjcacnahmaaGreatDoorVROf
import Derived.Test.YtlddpjcacnahmaaGreatDoorBe
import Derived.Test.YtlddpjcacnahmaaGreatDoorVCop
namespace Go.Proofs.YtlddpjcacnahmaaGreatDoor
open Go.RowKit Go.Deep
set_option linter.unusedVariables false
set_option linter.unusedSimpArgs false

theorem tcV_num (l : List Nat) (h0 : 0 < l.length) (hu : Under 256 l) : tcV l = if 128 * 256 ^ (l.length - 1) ≤ numV l then (numV l : Int) - (256 : Int) ^ l.length else (numV l : Int) := by
  match l, h0 with
  | x :: l, _ =>
    have d1 := numV_lt l (fun z hz => hu z (List.mem_cons_of_mem _ hz))
    have hx : x < 256 := hu x (List.mem_cons_self ..)
    rw [tcV, List.length_cons, Nat.add_sub_cancel]
    have e : numV (x :: l) = x * 256 ^ l.length + numV l := by rw [numV]
    generalize 256 ^ l.length = p at *
    by_cases h : 128 ≤ x
    · have h1 : 128 * p ≤ x * p := Nat.mul_le_mul_right p h
      rw [if_pos h, if_pos (by omega)]
    · have h1 : x * p ≤ 127 * p := Nat.mul_le_mul_right p (by omega)
      rw [if_neg h, if_neg (by omega)]
      omega
theorem first_num (l : List Nat) (h0 : 0 < l.length) (hu : Under 256 l) : 128 ≤ el l 0 ↔ 128 * 256 ^ (l.length - 1) ≤ numV l := by
  match l, h0 with
  | x :: l, _ =>
    have d1 := numV_lt l (fun z hz => hu z (List.mem_cons_of_mem _ hz))
    rw [List.length_cons, Nat.add_sub_cancel]
    have e : numV (x :: l) = x * 256 ^ l.length + numV l := by rw [numV]
    have e0 : el (x :: l) 0 = x := rfl
    rw [e0]
    generalize 256 ^ l.length = p at *
    constructor
    · intro h
      have h1 : 128 * p ≤ x * p := Nat.mul_le_mul_right p h
      omega
    · intro h
      apply Nat.le_of_not_lt
      intro h'
      have h1 : x * p ≤ 127 * p := Nat.mul_le_mul_right p (by omega)
      omega
theorem numL_small {l : List Nat} (hu : Under 256 l) (h8 : l.length ≤ 8) : numL l = numV l ∧ numV l < 256 ^ l.length := by
  have h1 := numV_lt l hu
  refine ⟨?_, h1⟩
  rw [numL_is]
  exact Nat.mod_eq_of_lt (Nat.lt_of_lt_of_le h1 (Nat.pow_le_pow_right (by decide) h8))

set_option maxRecDepth 100000 in
set_option maxHeartbeats 2000000 in
theorem signed_any (v : Value) (l : List Nat) (w : World) (h : Row .u8 256 w v l) (h0 : 0 < l.length) (h8 : l.length ≤ 8) :
    Calls Tryz.prog 60 #[v] w fun e w' => e = .returned (.int .i64 (tcV l)) ∧ w' = w := by
  have hnum := num_any v l w h
  obtain ⟨e1, e2⟩ := numL_small h.under h8
  have e3 := tcV_num l h0 h.under
  rw [e1] at hnum
  obtain ⟨a, c, rfl, _⟩ := h
  generalize tcV l = T at *
  generalize numV l = N at *
  clear e1
  generalize l.length = L at *
  rcases (by omega : L = 1 ∨ L = 2 ∨ L = 3 ∨ L = 4 ∨ L = 5 ∨ L = 6 ∨ L = 7 ∨ L = 8) with rfl | rfl | rfl | rfl | rfl | rfl | rfl | rfl
  all_goals
    simp at e2 e3
    have HT := hide e3
    clear e3
    go_enter Tryz.func60, Tryz.ntmps60
    go_wp2_with fail
    refine hnum.mono ?_
    rintro e w1 ⟨rfl, rfl⟩
    clear hnum
    go_wp2_with fail
    go_ret
    refine ⟨ret_int ?_, rfl⟩
    rw [HT.out]
    unfold wrap64
    split <;> omega

/-- the number that a value is, and what is wrong with it -/
def ioV (FB : Int → List Nat → Bool) (x : Nd) : Int := if (byO FB 2 x).length ≤ 8 then tcV (byO FB 2 x) else 0
def ioR (FB : Int → List Nat → Bool) (x : Nd) : Int := if (byO FB 2 x).length ≤ 8 then codN FB 2 x else 8
def NofE (FB : Int → List Nat → Bool) (x : Nd) (w : World) (e : Ending) (w' : World) : Prop := e = .returned (.tuple #[.int .i64 (ioV FB x), .int .i64 (ioR FB x)]) ∧ Below w.heap.size w w'
theorem io_no {FB : Int → List Nat → Bool} {t : Int} {b : List Nat} {ks : List Nd} (h : codN FB 2 (.mk t b ks) ≠ 0) : ioV FB (.mk t b ks) = 0 ∧ ioR FB (.mk t b ks) = codN FB 2 (.mk t b ks) := by
  unfold ioV ioR
  rw [byO_no h, if_pos (by simp), if_pos (by simp)]
  exact ⟨rfl, rfl⟩
theorem io_long {FB : Int → List Nat → Bool} {t : Int} {b : List Nat} {ks : List Nd} (h : codN FB 2 (.mk t b ks) = 0) (hl : 8 < b.length) : ioV FB (.mk t b ks) = 0 ∧ ioR FB (.mk t b ks) = 8 := by
  unfold ioV ioR
  rw [byO_ok h, if_neg (by omega), if_neg (by omega)]
  exact ⟨rfl, rfl⟩
theorem io_ok {FB : Int → List Nat → Bool} {t : Int} {b : List Nat} {ks : List Nd} (h : codN FB 2 (.mk t b ks) = 0) (hl : b.length ≤ 8) : ioV FB (.mk t b ks) = tcV b ∧ ioR FB (.mk t b ks) = 0 := by
  unfold ioV ioR
  rw [byO_ok h, if_pos hl, if_pos hl]
  exact ⟨rfl, h⟩
theorem ret_int2 {k k' : IntKind} {a b c d : Int} (h : a = b) (h' : c = d) : Ending.returned (.tuple #[.int k a, .int k' c]) = .returned (.tuple #[.int k b, .int k' d]) := by rw [h, h']
theorem intF_pos {l : List Nat} (h : intF l) : 0 < l.length := by
  match l, h with
  | _ :: _, _ => simp

set_option maxRecDepth 100000 in
set_option maxHeartbeats 4000000 in
theorem rintOf_any (FB : Int → List Nat → Bool) (hFB : FBok FB) (d : Nat) (c0 c1 c2 : Value) (x : Nd) (w : World) (hn : NdAt w d c0 c1 c2 x) (hl : szF d x ≤ 10000) :
    Calls Tryz.prog 23 #[.agg #[c0, c1, c2]] w fun e w' => NofE FB x w e w' := by
  obtain ⟨t, a1, n1, p1, a2, n2, p2, b, ks, rfl, rfl, rfl, rfl, hb, hrb⟩ := hn.open hl
  have hb0 := keep_alloc w (.cells #[.int .i64 t, .slice a1 n1 p1, .slice a2 n2 p2] 28)
  obtain ⟨x0, x1, x2⟩ := box_cell w (.int .i64 t) (.slice a1 n1 p1) (.slice a2 n2 p2) 28
  have hp := rplain_any FB hFB 2 t d a1 a2 n1 p1 n2 p2 b ks _ (NdAt.below hb0 _ _ _ _ _ hn) (by omega)
  go_enter Tryz.func23, Tryz.ntmps23
  go_wp2_with fail
  refine hp.mono ?_
  rintro e w1 ⟨⟨hc, rfl⟩ | ⟨hc, rfl⟩, hb1⟩
  · have HC := hide hc
    have hF := (fb_int hFB b).1 (cod_zero hc).2.2
    have h0 := intF_pos hF
    have hr1 := hrb.below (keep_trans hb0 hb1)
    have hnum := rnum_any _ b w1 hr1
    have hu := hrb.under
    obtain ⟨b', c', he, g1, g2, g3, g4⟩ := hr1
    obtain ⟨rfl, rfl, rfl⟩ := Value.slice.inj he
    unfold maxLen at g2
    obtain ⟨bl, off, rfl, hcc⟩ := g3 h0
    have hc0 := hcc 0 h0
    rw [Nat.add_zero] at hc0
    have hbW := keep_trans hb0 hb1
    clear hp hc he g3 g4 hcc hF hrb hn
    by_cases h8 : 8 < b.length
    · obtain ⟨i1, i2⟩ := io_long HC.out h8
      have HI := hide (And.intro i1 i2)
      have h8i : (8 : Int) < (b.length : Int) := by omega
      clear i1 i2 hc0
      go_wp2_with fail
      go_ret2
      exact ⟨by rw [HI.out.1, HI.out.2]; rfl, hbW⟩
    · obtain ⟨i1, i2⟩ := io_ok HC.out (by omega)
      obtain ⟨e1, e2⟩ := numL_small hu (by omega)
      have e3 := tcV_num b h0 hu
      have e4 := first_num b h0 hu
      rw [e1] at hnum
      have HI := hide (And.intro i1 i2)
      clear i1 i2 e1 x0 x1 x2
      generalize tcV b = T at *
      generalize numV b = N at *
      generalize el b 0 = B0 at *
      generalize b.length = L at *
      rcases (by omega : L = 1 ∨ L = 2 ∨ L = 3 ∨ L = 4 ∨ L = 5 ∨ L = 6 ∨ L = 7 ∨ L = 8) with rfl | rfl | rfl | rfl | rfl | rfl | rfl | rfl
      all_goals
        simp at e2 e3 e4
        by_cases hB : 128 ≤ B0
        all_goals
          have hBi : decide (128 ≤ B0) = _ := rfl
          have HT := hide e3
          have H4 := hide e4
          clear e3 e4 hBi
          go_wp2_with fail
          refine hnum.mono ?_
          rintro e w2 ⟨rfl, rfl⟩
          go_wp2_with fail
          go_ret2
          refine ⟨ret_int2 ?_ HI.out.2.symm, hbW⟩
          rw [HI.out.1, HT.out]
          have h4 := H4.out
          try unfold wrap64
          split <;> omega
  · have HC := hide hc
    obtain ⟨i1, i2⟩ := io_no hc
    have HI := hide (And.intro i1 i2)
    have hci : (codN FB 2 (.mk t b ks) != 0) = true := by simpa using hc
    clear hp hc i1 i2
    go_wp2_with fail
    go_ret2
    exact ⟨by rw [HI.out.1, HI.out.2]; rfl, keep_trans hb0 hb1⟩
end Go.Proofs.YtlddpjcacnahmaaGreatDoor

/- Values of parts: box, Seq, Box. -/
namespace Go.Proofs.YtlddpjcacnahmaaGreatDoor
open Go.RowKit Go.Deep
set_option linter.unusedVariables false
set_option linter.unusedSimpArgs false

theorem in_box {S : Nat → Prop} {w : World} {v : Value} {ks : List Nd} {t : Int} {d : Nat} (ht : I64 t) (hv : Tidy v) (hs : ValIn S v) (h : KidsAt (NdIn S w d) w v ks) : NdIn S w (d + 1) (.int .i64 t) (.slice none 0 0) v (.mk t [] ks) :=
  ⟨rfl, ht, nil_row w, nil_tidy, hv, fun q hq => by simp [lenV] at hq, hs, h⟩

set_option maxRecDepth 100000 in
set_option maxHeartbeats 2000000 in
theorem box_any (t : Int) (d : Nat) (v : Value) (ks : List Nd) (w : World) (ht : I64 t) (hk : KidsAt (NdAt w d) w v ks) (hs : (ks.map (szF d)).sum ≤ 100000) :
    Calls Tryz.prog 77 #[.int .i64 t, v] w fun e w' => NodE (.mk t [] ks) w e w' := by
  have hb0 := keep_alloc w (.cells #[.int .i64 0, .slice none 0 0, .slice none 0 0] 28)
  have hc := copies_any d v ks _ (kids_below hk hb0) hs
  obtain ⟨ka, kc, rfl⟩ : ∃ a c, v = .slice a ks.length c := by obtain ⟨a, c, h, _⟩ := hk; exact ⟨a, c, h⟩
  go_enter Tryz.func77, Tryz.ntmps77
  go_wp2_with fail
  refine hc.mono ?_
  rintro e w1 ⟨⟨d1, v1, rfl, htd, hvi, hk1⟩, hb1⟩
  rw [World.size_alloc] at hb1 hvi hk1
  obtain ⟨a1, c1, rfl⟩ : ∃ a c, v1 = .slice a ks.length c := by obtain ⟨a, c, h, _⟩ := hk1; exact ⟨a, c, h⟩
  have hS := res_cell w w1 hb1
  obtain ⟨y0, y1, y2, z0, z1, z2⟩ := cells3 hS
  have hbW : Below w.heap.size w w1 := hb0.trans (hb1.mono (by omega))
  clear hc
  go_wp2_with fail
  obtain ⟨s0, s1, s2, _⟩ := cells3 (set3 hS (.int .i64 t) (.slice none 0 0) (.slice a1 ks.length c1))
  exact bodyPost_ret (v := .agg #[.int .i64 t, .slice none 0 0, .slice a1 ks.length c1]) (by simp [results, Tryz.results77, go_sem, s0, s1, s2]) rfl ⟨⟨d1 + 1, _, _, _, rfl, (in_box ht htd hvi hk1).set3⟩, below3 hbW (Nat.le_refl _) _ _ _⟩

set_option maxRecDepth 100000 in
set_option maxHeartbeats 2000000 in
theorem seq_any (d : Nat) (v : Value) (ks : List Nd) (w : World) (hk : KidsAt (NdAt w d) w v ks) (hs : (ks.map (szF d)).sum ≤ 100000) :
    Calls Tryz.prog 43 #[v] w fun e w' => NodE (.mk 48 [] ks) w e w' := by
  have hb0 := keep_alloc w (.cells #[.int .i64 0, .slice none 0 0, .slice none 0 0] 28)
  have hc := (box_any 48 d v ks _ (by unfold I64; omega) (kids_below hk hb0) hs).mono (fun _ _ h => h.at)
  rw [World.size_alloc] at hc
  go_enter Tryz.func43, Tryz.ntmps43
  go_wp2_with fail
  refine hc.mono ?_
  rintro e w1 ⟨d, t, a1, n1, p1, a2, n2, p2, rfl, hn, hb1⟩
  have hS := res_cell w w1 hb1
  obtain ⟨y0, y1, y2, z0, z1, z2⟩ := cells3 hS
  clear hc
  go_wp2_with fail
  obtain ⟨s0, s1, s2, _⟩ := cells3 (set3 hS (.int .i64 t) (.slice a1 n1 p1) (.slice a2 n2 p2))
  exact bodyPost_ret (v := .agg #[.int .i64 t, .slice a1 n1 p1, .slice a2 n2 p2]) (by simp [results, Tryz.results43, go_sem, s0, s1, s2]) rfl ⟨⟨d, _, _, _, rfl, hn.set3⟩, below3 (keep_trans hb0 (by rw [World.size_alloc]; exact hb1)) (Nat.le_refl _) _ _ _⟩

set_option maxRecDepth 100000 in
set_option maxHeartbeats 2000000 in
theorem vbox_any (k : Int) (d : Nat) (v : Value) (ks : List Nd) (w : World) (hI : I64 k) (hk : KidsAt (NdAt w d) w v ks) (hs : (ks.map (szF d)).sum ≤ 100000) :
    Calls Tryz.prog 39 #[.int .i64 k, v] w fun e w' => NodT (numN k (.mk (160 + k) [] ks)) (numR k) w e w' := by
  have hb0 := keep_alloc w (.cells #[.int .i64 0, .slice none 0 0, .slice none 0 0] 28)
  have hi := isNumber_any k (w.alloc (.cells #[.int .i64 0, .slice none 0 0, .slice none 0 0] 28))
  have hS0 := heap_alloc_new w (.cells #[.int .i64 0, .slice none 0 0, .slice none 0 0] 28)
  unfold numN numR I64 at *
  by_cases hn : 0 ≤ k ∧ k ≤ 30
  · rw [decide_eq_true hn] at hi
    rw [if_pos hn, if_pos hn]
    obtain ⟨h1, h2⟩ := hn
    have hc := (box_any (160 + k) d v ks _ (by unfold I64; omega) (kids_below hk hb0) hs).mono (fun _ _ h => h.at)
    rw [World.size_alloc] at hc
    go_enter Tryz.func39, Tryz.ntmps39
    go_wp2_with fail
    refine hi.mono ?_
    rintro e w0 ⟨rfl, rfl⟩
    go_wp2_with fail
    refine hc.mono ?_
    rintro e w1 ⟨d, t, a1, n1, p1, a2, n2, p2, rfl, hn, hb1⟩
    have hS := res_cell w w1 hb1
    obtain ⟨y0, y1, y2, z0, z1, z2⟩ := cells3 hS
    clear hc hi
    go_wp2_with fail
    obtain ⟨s0, s1, s2, _⟩ := cells3 (set3 hS (.int .i64 t) (.slice a1 n1 p1) (.slice a2 n2 p2))
    exact bodyPost_ret (v := .tuple #[.agg #[.int .i64 t, .slice a1 n1 p1, .slice a2 n2 p2], .int .i64 0]) (by simp [results, Tryz.results39, go_sem, s0, s1, s2]) rfl ⟨⟨d, _, _, _, rfl, hn.set3⟩, below3 (keep_trans hb0 (by rw [World.size_alloc]; exact hb1)) (Nat.le_refl _) _ _ _⟩
  · rw [decide_eq_false hn] at hi
    rw [if_neg hn, if_neg hn]
    clear hn
    obtain ⟨y0, y1, y2, z0, z1, z2⟩ := cells3 hS0
    go_enter Tryz.func39, Tryz.ntmps39
    go_wp2_with fail
    refine hi.mono ?_
    rintro e w0 ⟨rfl, rfl⟩
    clear hi
    go_wp2_with fail
    obtain ⟨s0, s1, s2, _⟩ := cells3 (set3 hS0 (.int .i64 0) (.slice none 0 0) (.slice none 0 0))
    exact bodyPost_ret (v := .tuple #[.agg #[.int .i64 0, .slice none 0 0, .slice none 0 0], .int .i64 8]) (by simp [results, Tryz.results39, go_sem, s0, s1, s2]) rfl ⟨⟨1, _, _, _, rfl, in_nd0 _ _⟩, keep_alloc w _⟩
end Go.Proofs.YtlddpjcacnahmaaGreatDoor
