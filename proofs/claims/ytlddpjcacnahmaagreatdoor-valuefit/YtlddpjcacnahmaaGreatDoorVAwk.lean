/- The chapter's examples: awake. -/
import Derived.Test.YtlddpjcacnahmaaGreatDoorESam
namespace Go.Proofs.YtlddpjcacnahmaaGreatDoor
open Go.RowKit Go.Deep
set_option linter.unusedVariables false
set_option linter.unusedSimpArgs false

theorem fb_1 {FB : Int → List Nat → Bool} (hFB : FBok FB) (x : Nat) : FB 2 [x] = true := (fb_int hFB [x]).2 trivial
theorem by_1 {FB : Int → List Nat → Bool} (hFB : FBok FB) (x : Nat) : bytesD FB (.mk 2 [x] []) = some [2, 1, x] := by
  have h : wrD FB 32 (.mk 2 [x] []) = some [2, 1, x] := by
    rw [wrD, if_neg (by decide), if_pos (by decide), if_neg (by rw [fb_1 hFB x]; simp)]
    rfl
  unfold bytesD
  rw [h]
  rfl
theorem set_two {FB : Int → List Nat → Bool} (hFB : FBok FB) : SetR FB [.mk 2 [2] [], .mk 2 [1] []] [.mk 2 [1] [], .mk 2 [2] []] := by
  refine ⟨[[2, 1, 1], [2, 1, 2]], [[2, 1, 2], [2, 1, 1]], ?_, ?_, ?_, List.Perm.swap _ _ _⟩
  · rw [allS, by_1 hFB]; simp only; rw [allS_one (by_1 hFB 2)]
  · exact List.Pairwise.cons (fun y hy => by rw [List.mem_singleton] at hy; subst hy; decide) (List.Pairwise.cons (fun y hy => by simp at hy) List.Pairwise.nil)
  · rw [allS, by_1 hFB]; simp only; rw [allS_one (by_1 hFB 1)]
theorem two_kids {w : World} {d d' : Nat} {c0 c1 c2 e0 e1 e2 : Value} {x y : Nd} (hx : NdAt w d c0 c1 c2 x) (hy : NdAt w d' e0 e1 e2 y) (D : Nat) (h1 : d ≤ D) (h2 : d' ≤ D) :
    KidsAt (NdAt (w.alloc (.cells #[c0, c1, c2, e0, e1, e2] 28)) D) (w.alloc (.cells #[c0, c1, c2, e0, e1, e2] 28)) (.slice (some ⟨w.heap.size, 0, none⟩) 2 2) [x, y] := by
  have hb := keep_alloc w (.cells #[c0, c1, c2, e0, e1, e2] 28)
  have hg : (w.alloc (.cells #[c0, c1, c2, e0, e1, e2] 28)).heap[w.heap.size]? = some (.cells #[c0, c1, c2, e0, e1, e2] 28) := heap_alloc_new w _
  refine ⟨_, _, rfl, Nat.le_refl _, by decide, fun _ => ⟨_, _, rfl, fun i hi => ?_⟩⟩
  have hi' : i = 0 ∨ i = 1 := by simp at hi; omega
  rcases hi' with rfl | rfl
  · exact ⟨c0, c1, c2, ⟨by rw [cell_at' hg]; rfl, by rw [cell_at' hg]; rfl, by rw [cell_at' hg]; rfl⟩, (NdAt.below hb _ _ _ _ _ hx).le h1⟩
  · exact ⟨e0, e1, e2, ⟨by rw [cell_at' hg]; rfl, by rw [cell_at' hg]; rfl, by rw [cell_at' hg]; rfl⟩, (NdAt.below hb _ _ _ _ _ hy).le h2⟩
theorem awk_keep {P b o : Nat} {v k0 k1 k2 : Value} {a c : World} (hb : Below a.heap.size a c) (h : a.cell? ⟨P, 2, none⟩ = some v ∧ a.cell? ⟨b, o, none⟩ = some k0 ∧ a.cell? ⟨b, o + 1, none⟩ = some k1 ∧ a.cell? ⟨b, o + 2, none⟩ = some k2) :
    c.cell? ⟨P, 2, none⟩ = some v ∧ c.cell? ⟨b, o, none⟩ = some k0 ∧ c.cell? ⟨b, o + 1, none⟩ = some k1 ∧ c.cell? ⟨b, o + 2, none⟩ = some k2 :=
  ⟨Below.cells hb h.1, Below.cells hb h.2.1, Below.cells hb h.2.2.1, Below.cells hb h.2.2.2⟩
theorem lit_a (w : World) : Row .u8 256 (w.alloc (.cells #[.int .u8 0, .int .u8 128] 5)) (.slice (some ⟨w.heap.size, 0, none⟩) 2 2) [0, 128] := lit_row .u8 256 w [0, 128] 5 (dec_under (by decide)) (by decide)
theorem lit_b (w : World) : Row .u8 256 (w.alloc (.cells #[.int .u8 255] 5)) (.slice (some ⟨w.heap.size, 0, none⟩) 1 1) [255] := lit_row .u8 256 w [255] 5 (dec_under (by decide)) (by decide)
theorem run_field (t : Int) (a b : Option Addr) (n p m q : Nat) (w : World) : (Instr.field 28 (.agg #[.int .i64 t, .slice a n p, .slice b m q]) 1).run Tryz.prog w = .ok (.slice a n p) w := by kernel_rfl
theorem NdIn.row {S : Nat → Prop} {w : World} {d : Nat} {c0 c1 c2 : Value} {t : Int} {b : List Nat} {ks : List Nd} (h : NdIn S w d c0 c1 c2 (.mk t b ks)) : Row .u8 256 w c1 b := by
  cases d with
  | zero => exact h.elim
  | succ d => exact h.2.2.1
theorem NdIn.kids {S : Nat → Prop} {w : World} {d : Nat} {c0 c1 c2 : Value} {t : Int} {b : List Nat} {ks : List Nd} (h : NdIn S w d c0 c1 c2 (.mk t b ks)) : ∃ d', KidsAt (NdIn S w d') w c2 ks := by
  cases d with
  | zero => exact h.elim
  | succ d => exact ⟨d, h.2.2.2.2.2.2.2⟩

set_option maxRecDepth 100000 in
set_option maxHeartbeats 8000000 in
theorem vawake_any (w : World) (hT : UTabs w) : Calls Tryz.prog 8 #[] w fun e w' => e = .returned (.bool true) ∧ Below w.heap.size w w' := by
  obtain ⟨FB, hFB⟩ := exists_FB
  have hnull := (null_any w).mono (fun _ _ h => h.at)
  go_enter Tryz.func8, Tryz.ntmps8
  go_wp2_with fail
  refine hnull.mono ?_
  rintro e w1 ⟨d1, t1, a1, n1, p1, b1, m1, q1, rfl, hn1, hb1⟩
  have hio := intOf_any FB hFB d1 _ _ _ _ w1 (NdIn.at _ _ _ _ _ hn1) (by have := szF_leaf d1 5 []; simp at this; omega) (hT.below hb1)
  have hcd : codN FB 2 (.mk 5 [] []) = 4 := cod_tag (by decide)
  unfold NofE at hio
  rw [(io_no (by rw [hcd]; decide)).1, (io_no (by rw [hcd]; decide)).2, hcd] at hio
  clear hnull hcd
  go_wp2_with fail
  refine hio.mono ?_
  rintro e w2 ⟨rfl, hb2⟩
  have hbw2 := keep_trans hb1 hb2
  have h2 := (int_is int_2 w2 (by unfold I64; omega)).mono (fun _ _ h => h.at)
  clear hio hn1
  go_wp2_with fail
  refine h2.mono ?_
  rintro e w3 ⟨d3, t3, a3, n3, p3, b3, m3, q3, rfl, hn3, hb3⟩
  have hbw3 := keep_trans hbw2 hb3
  have h1 := (int_is int_1 w3 (by unfold I64; omega)).mono (fun _ _ h => h.at)
  clear h2
  go_wp2_with fail
  refine h1.mono ?_
  rintro e w4 ⟨d4, t4, a4, n4, p4, b4, m4, q4, rfl, hn4, hb4⟩
  have hbw4 := keep_trans hbw3 hb4
  have hk := two_kids (NdAt.below hb4 _ _ _ _ _ (NdIn.at _ _ _ _ _ hn3)) (NdIn.at _ _ _ _ _ hn4) (max d3 d4) (Nat.le_max_left _ _) (Nat.le_max_right _ _)
  have hbw5 := keep_trans hbw4 (keep_alloc w4 (.cells #[.int .i64 t3, .slice a3 n3 p3, .slice b3 m3 q3, .int .i64 t4, .slice a4 n4 p4, .slice b4 m4 q4] 28))
  have hset := set_any FB hFB (max d3 d4) _ _ _ hk (fun i hi => by
    have hi' : i = 0 ∨ i = 1 := by simp at hi; omega
    rcases hi' with rfl | rfl
    · exact Nat.le_trans (szF_leaf (max d3 d4) 2 [2]) (by simp)
    · exact Nat.le_trans (szF_leaf (max d3 d4) 2 [1]) (by simp)) (by
    have e1 := szF_leaf (max d3 d4) 2 [2]
    have e2 := szF_leaf (max d3 d4) 2 [1]
    simp at e1 e2 ⊢
    omega) (by simp) (hT.below hbw5)
  clear h1 hk hn3 hn4
  go_wp2_with fail
  refine hset.mono ?_
  rintro e w6 (⟨hno, _⟩ | ⟨out, hR, hN⟩)
  · obtain ⟨_, us, _, _, h3, _⟩ := set_two hFB
    rw [hno] at h3
    cases h3
  · obtain rfl := SetR.one hR (set_two hFB)
    obtain ⟨d6, t6, a6, n6, p6, b6, m6, q6, rfl, hn6, hb6⟩ := hN.at
    obtain ⟨dk, hkk⟩ := hn6.kids
    obtain ⟨ka, kc, he, -, -, hk3⟩ := hkk
    obtain ⟨rfl, rfl, rfl⟩ := Value.slice.inj he
    obtain ⟨kb, ko, rfl, hkc⟩ := hk3 (by simp)
    obtain ⟨k0, k1, k2, kcell, knd⟩ := hkc 0 (by simp)
    obtain ⟨tk, ak, nk, pk, bk, mk, qk, rfl, rfl, rfl⟩ := knd.forms
    rw [Nat.zero_mul, Nat.add_zero] at kcell
    have hbw6 := keep_trans hbw5 hb6
    have hbA := keep_alloc w6 (.cells #[.int .i64 t6, .slice a6 n6 p6, .slice (some ⟨kb, ko, none⟩) ([.mk 2 [1] [], .mk 2 [2] []] : List Nd).length q6] 28)
    obtain ⟨-, -, y2⟩ := box_cell w6 (.int .i64 t6) (.slice a6 n6 p6) (.slice (some ⟨kb, ko, none⟩) ([.mk 2 [1] [], .mk 2 [2] []] : List Nd).length q6) 28
    obtain ⟨z0, z1, z2⟩ := kcell.below hbA
    have hnk : NdAt (w6.alloc (.cells #[.int .i64 t6, .slice a6 n6 p6, .slice (some ⟨kb, ko, none⟩) ([.mk 2 [1] [], .mk 2 [2] []] : List Nd).length q6] 28)) dk (.int .i64 tk) (.slice ak nk pk) (.slice bk mk qk) (.mk 2 [1] []) := NdAt.below hbA _ _ _ _ _ (NdIn.at _ _ _ _ _ knd)
    have hbw7 := keep_trans hbw6 hbA
    have hlen2 : ([.mk 2 [1] [], .mk 2 [2] []] : List Nd).length = 2 := rfl
    rw [hlen2] at *
    clear hset hR hN hn6 he hk3 hkc kcell knd hbA hlen2
    go_wp2_with fail
    generalize w6.alloc (.cells #[.int .i64 t6, .slice a6 n6 p6, .slice (some ⟨kb, ko, none⟩) 2 q6] 28) = W7 at *
    have hfld := run_field
    have hbd : Below W7.heap.size W7 W7.drew := (Below.refl _ _).drew
    have hbw8 := keep_trans hbw7 hbd
    have HB8 := hide hbw8
    have HBD := hide hbd
    have HNK := hide hnk
    have y2' : W7.cell? ⟨w6.heap.size, 2, none⟩ = some (.slice (some ⟨kb, ko, none⟩) 2 q6) := y2
    clear hb1 hb2 hbw2 hb3 hbw3 hb4 hbw4 hbw5 hb6 hbw6 hbw7 hbw8 hbd hnk hT hFB y2
    go_region_held3 (fun w' => w'.cell? ⟨w6.heap.size, 2, none⟩ = some (.slice (some ⟨kb, ko, none⟩) 2 q6) ∧ w'.cell? ⟨kb, ko, none⟩ = some (.int .i64 tk) ∧ w'.cell? ⟨kb, ko + 1, none⟩ = some (.slice ak nk pk) ∧ w'.cell? ⟨kb, ko + 2, none⟩ = some (.slice bk mk qk))
      (first
        | exact awk_keep hb14 (by assumption)
        | exact awk_keep hb13 (by assumption)
        | exact awk_keep hb12 (by assumption)
        | exact awk_keep hb11 (by assumption)
        | exact awk_keep hb10 (by assumption)
        | exact awk_keep hb9 (by assumption)
        | exact awk_keep (keep_alloc _ _) (by assumption)
        | exact ⟨y2', z0, z1, z2⟩)
      (first
        | (go_at_call 15; refine hsm.mono ?_; clear hsm hn13; rintro e w14 ⟨rfl, hb14⟩)
        | (go_at_call_of 16 (#[Value.int .i64 1]); refine ((int_is int_1 w12 (by unfold I64; omega)).mono (fun _ _ h => h.at)).mono ?_; rintro e w13 ⟨d13, t13, a13, n13, p13, b13, m13, q13, rfl, hn13, hb13⟩; have hsm := (rsame_der (NdAt.below (keep_trans HBD.out (keep_trans hbx12 hb13)) _ _ _ _ _ HNK.out) (NdIn.at _ _ _ _ _ hn13)).mono (fun _ _ h => SameE.true h rfl))
        | (go_at_call_of 32 (#[Value.slice a11 n11 p11, Value.slice (some ⟨w11.heap.size, 0, none⟩) 1 1]); refine (rsame_true _ _ [255] _ (hn11.row.below (keep_alloc w11 _)) (lit_b w11)).mono ?_; rintro e w12 ⟨rfl, hb12⟩; have hbx12 := keep_trans hbx11 (keep_trans (keep_alloc w11 _) hb12))
        | (go_at_call_of 32 (#[Value.slice a11 n11 p11, Value.slice (some ⟨w10.heap.size, 0, none⟩) 1 1]); refine (rsame_true _ _ [255] w11 hn11.row ((lit_b w10).below hb11)).mono ?_; rintro e w12 ⟨rfl, hb12⟩; have hbx12 := keep_trans hbx11 hb12)
        | (go_at_call_of 32 (#[Value.slice a9 n9 p9, Value.slice (some ⟨w9.heap.size, 0, none⟩) 2 2]); refine (rsame_true _ _ [0, 128] _ (hn9.row.below (keep_alloc w9 _)) (lit_a w9)).mono ?_; rintro e w10 ⟨rfl, hb10⟩; have hbx10 := keep_trans hbx9 (keep_trans (keep_alloc w9 _) hb10))
        | (go_at_call_of 32 (#[Value.slice a9 n9 p9, Value.slice (some ⟨W7.heap.size, 0, none⟩) 2 2]); refine (rsame_true _ _ [0, 128] w9 hn9.row ((lit_a W7.drew).below hb9)).mono ?_; rintro e w10 ⟨rfl, hb10⟩; have hbx10 := keep_trans hbx9 hb10)
        | (go_at_call_of 16 (#[Value.int .i64 128]); refine ((int_is int_128 _ (by unfold I64; omega)).mono (fun _ _ h => h.at)).mono ?_; rintro e w9 ⟨d9, t9, a9, n9, p9, b9, m9, q9, rfl, hn9, hb9⟩; have hbx9 : Below W7.drew.heap.size W7.drew w9 := (by first | exact hb9 | exact keep_trans (keep_alloc W7.drew _) hb9))
        | (go_at_call 16; refine ((int_is int_m1 _ (by unfold I64; omega)).mono (fun _ _ h => h.at)).mono ?_; rintro e w11 ⟨d11, t11, a11, n11, p11, b11, m11, q11, rfl, hn11, hb11⟩; have hbx11 : Below W7.drew.heap.size W7.drew w11 := (by first | exact keep_trans hbx10 hb11 | exact keep_trans hbx10 (keep_trans (keep_alloc w10 _) hb11)))
        | fail)
    all_goals (go_wp2_with fail; go_ret; exact ⟨rfl, keep_trans HB8.out (keep_trans hbx12 (keep_trans hb13 hb14))⟩)
end Go.Proofs.YtlddpjcacnahmaaGreatDoor
