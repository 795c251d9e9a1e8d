/- The document's sums of blocks, and what fills up. -/
import Derived.Test.YtjeofkemfpdieaaAApp
import Derived.Test.YtjeofkemfpdieaaWrM
import Derived.Test.YtjeofkemfpdieaaYXor
import Derived.Test.YtjeofkemfpdieaaHKit
import Derived.Test.YtjeofkemfpdieaaBe
import Derived.Test.YtjeofkemfpdieaaBase
import Derived.Deep.Slices
namespace Go.Proofs.Ytjeofkemfpdieaa
open Go.RowKit
set_option linter.unusedVariables false
set_option linter.unusedSimpArgs false

theorem xrL_16 {a b : List Nat} (ha : a.length = 16) (hb : b.length = 16) : xrL a b = xr2 a b := by unfold xrL xr2 of16; rw [ha, hb]; rfl
theorem rows_lit2G {w : World} {u v : Value} {a b : List Nat} (hu : Row .u8 256 w u a) (tu : Tidy u) (hv : Row .u8 256 w v b) (tv : Tidy v) : Rows2 (w.alloc (.cells #[u, v] 22)) (.slice (some ⟨w.heap.size, 0, none⟩) 2 2) [a, b] := by
  refine ⟨_, 2, rfl, Nat.le_refl _, by unfold maxLen; decide, fun _ => ⟨_, _, rfl, fun i hi => ?_⟩⟩
  have hb := keep_alloc w (.cells #[u, v] 22)
  match i, hi with
  | 0, _ => exact ⟨u, by rw [World.cell?_alloc_at _ _ _ _ rfl]; rfl, hu.below hb, tu⟩
  | 1, _ => exact ⟨v, by rw [World.cell?_alloc_at _ _ _ _ rfl]; rfl, hv.below hb, tv⟩
theorem rows_lit3G {w : World} {u v x : Value} {a b c : List Nat} (hu : Row .u8 256 w u a) (tu : Tidy u) (hv : Row .u8 256 w v b) (tv : Tidy v) (hx : Row .u8 256 w x c) (tx' : Tidy x) : Rows2 (w.alloc (.cells #[u, v, x] 22)) (.slice (some ⟨w.heap.size, 0, none⟩) 3 3) [a, b, c] := by
  refine ⟨_, 3, rfl, Nat.le_refl _, by unfold maxLen; decide, fun _ => ⟨_, _, rfl, fun i hi => ?_⟩⟩
  have hb := keep_alloc w (.cells #[u, v, x] 22)
  match i, hi with
  | 0, _ => exact ⟨u, by rw [World.cell?_alloc_at _ _ _ _ rfl]; rfl, hu.below hb, tu⟩
  | 1, _ => exact ⟨v, by rw [World.cell?_alloc_at _ _ _ _ rfl]; rfl, hv.below hb, tv⟩
  | 2, _ => exact ⟨x, by rw [World.cell?_alloc_at _ _ _ _ rfl]; rfl, hx.below hb, tx'⟩
def GhL (w : World) (h b : List Nat) (n : Nat) (vx vi : Value) (wr : World) : Prop := ∃ k : Nat, k ≤ n ∧ vi = .int .i64 ((16 * k : Nat) : Int) ∧ Own 5 .u8 256 wr w.heap.size vx (ghN h z16 b k) ∧ Below w.heap.size w wr
theorem own_bel12 {e : TypeId} {k : IntKind} {m : Nat} {w w' : World} {B : Nat} {v : Value} {l : List Nat} (h : Own e k m w B v l) (hb : Below w.heap.size w w') : Own e k m w' B v l := ⟨own_belowA h.1 hb, h.2⟩
set_option maxHeartbeats 10000000 in
set_option maxRecDepth 100000 in
theorem rgh_ok (h b : List Nat) (hv bv : Value) (w : World) (rh : Row .u8 256 w hv h) (rb : Row .u8 256 w bv b) (hh : B16 h) (n : Nat) (hb : b.length = 16 * n) (hn : n ≤ 100000) :
    Calls Try.prog 13 #[hv, bv] w fun e w' => ∃ v, e = .returned v ∧ Own 5 .u8 256 w' w.heap.size v (ghL h b) ∧ Below w.heap.size w w' := by
  obtain ⟨i0, hi, hz0, hz1, hz2⟩ := info_parts Try.info5
  obtain ⟨ha, hc, rfl, _⟩ := rh.opens hh.1
  obtain ⟨Z, hZ⟩ : ∃ x : Nat, x = b.length := ⟨_, rfl⟩
  obtain ⟨ba, bc, rfl, lc1, lc2, hop⟩ := rb.opens hZ.symm
  have e_16 : (Z : Int) % 16 = 0 := by omega
  have t_16 : (Z : Int).tmod 16 = 0 := by rw [Int.tmod_eq_emod_of_nonneg (by omega)]; exact e_16
  have hbU := rb.under
  have hgl : ghL h b = ghN h z16 b n := by unfold ghL; rw [hb, Nat.mul_div_cancel_left _ (by decide)]
  rw [hgl]
  have HN := hide (And.intro (hZ.trans hb) (And.intro hn (And.intro hbU hop)))
  have HR := hide (And.intro rh (And.intro rb hb))
  clear hb hZ hn hbU hop hgl rh rb
  go_enter Try.func13, Try.ntmps13
  go_wp2_with (first | (at_make; refine wpList_make_full _ rfl _ _ 22 rfl w.heap.size 5 i0 (.int .u8 0) 1 Try.underlying22 hi hz0 hz1 _ _ _ _ 16 rfl rfl rfl rfl (by rw [hz2]; decide) (by unfold maxLen; decide) (Nat.le_refl _) ?_; intro w1 hown hgrow) | fail)
  rw [made_u8] at hown
  have hb1 := (Below.refl w.heap.size w).grown hgrow (Nat.le_refl _) (fun k h => by cases h)
  have H0 : Hid (GhL w h b n (.slice (some ⟨w.heap.size, 0, none⟩) 16 16) (.int .i64 0) w1) := hide ⟨0, Nat.zero_le _, rfl, ⟨hown, z16_b.2⟩, hb1⟩
  clear hown hgrow hb1
  go_loopw [5, 6] (fun vx vi wr => GhL w h b n vx vi wr) (fun _ vi _ => 16 * n - (intOf vi).toNat)
  case atStart => exact H0.out
  case round =>
    obtain ⟨k, hk, rfl, ox, hbr⟩ := hrel
    clear H0
    rename World => wr
    obtain ⟨hZn, hn, hbU, hop⟩ := HN.out
    obtain ⟨rh, rb, hbl⟩ := HR.out
    obtain ⟨P, hP⟩ : ∃ x : Nat, x = 16 * k := ⟨_, rfl⟩
    rw [← hP]
    by_cases hlt : k < n
    · have hli : (P : Int) < (Z : Int) := by omega
      obtain ⟨bb, bo, rfl, _⟩ := hop (by omega)
      obtain ⟨Q, hQ⟩ : ∃ x : Nat, x = P + 16 := ⟨_, rfl⟩
      have e_Q : (P : Int) + 16 = (Q : Int) := by omega
      have s_Q : IntKind.i64.wrap (Q : Int) = (Q : Int) := by rw [IntKind.wrap_i64]; omega
      have z_P : (0 : Int) ≤ (P : Int) := Int.natCast_nonneg _
      have l_PQ : (P : Int) ≤ (Q : Int) := by omega
      have l_Qc : (Q : Int) ≤ (bc : Int) := by omega
      have n_c : ¬ bc = P := by omega
      have d_QP : Q - P = 16 := by omega
      have rS := (rb.below hbr).mid (i := P) (j := Q) (by omega) (by omega)
      rw [d_QP, show (b.drop P).take 16 = blkOf b k by unfold blkOf; rw [hP]] at rS
      have hbk : B16 (blkOf b k) := blkOf_b hbU (by omega)
      have hgb : B16 (ghN h z16 b k) := ghN_b z16_b k
      have hxr := rxr_any _ _ _ _ wr ox.row rS (by rw [hgb.1]; decide)
      rw [xrL_16 hgb.1 hbk.1] at hxr
      have hXB := xr2_b hgb hbk
      have hml := fun y v (r1 : Row .u8 256 y v (xr2 (ghN h z16 b k) (blkOf b k))) (r2 : Row .u8 256 y (.slice ha 16 hc) h) => rmulG_ok _ h v _ y r1 r2 hXB hh
      have hnx : mulP (xr2 (ghN h z16 b k) (blkOf b k)) h = ghN h z16 b (k + 1) := rfl
      rw [hnx] at hml
      have rhw := rh.below hbr
      have HE := hide (And.intro hbr (And.intro hP (And.intro hQ (And.intro hlt hn))))
      generalize xr2 (ghN h z16 b k) (blkOf b k) = X at *
      clear hgb hbk rS hnx hXB hbr hP hQ hlt hn hZn hbU hop rh rb hbl hk
      go_wp2_with (first
        | (go_at_call 18; refine hxr.mono ?_; rintro e y1 ⟨v1, rfl, o1, hb1⟩)
        | (go_at_call 11; refine (hml _ v1 o1.row (rhw.below hb1)).mono ?_; rintro e y2 ⟨v2, rfl, o2, hb2⟩)
        | fail)
      obtain ⟨hbr, hP, hQ, hlt, hn⟩ := HE.out
      have hb12 := keep_trans hb1 hb2
      exact ⟨⟨k + 1, by omega, vint (by omega), o2.mono (by have := hbr.size; have := hb1.size; omega), hbr.trans (hb12.mono hbr.size)⟩, by simp [intOf]; omega⟩
    · have hge : ¬ ((P : Int) < (Z : Int)) := by omega
      obtain rfl : k = n := by omega
      have HE := hide (And.intro ox hbr)
      clear ox hbr hP hlt hn hZn hbU hop rh rb hbl hk
      go_wp2
      go_ret
      exact ⟨_, rfl, HE.out.1, HE.out.2⟩
set_option maxHeartbeats 4000000 in
set_option maxRecDepth 100000 in
theorem rfil_any (b : List Nat) (bv : Value) (w : World) (rb : Row .u8 256 w bv b) (tb : Tidy bv) (hl : b.length ≤ 100000) :
    Calls Try.prog 49 #[bv] w fun e w' => ∃ v, e = .returned v ∧ Own 5 .u8 256 w' w.heap.size v (fil0 b) ∧ Below w.heap.size w w' := by
  obtain ⟨i0, hi, hz0, hz1, hz2⟩ := info_parts Try.info5
  obtain ⟨Z, hZ⟩ : ∃ x : Nat, x = b.length := ⟨_, rfl⟩
  obtain ⟨ba, bc, rfl, lc1, lc2, hop⟩ := rb.opens hZ.symm
  obtain ⟨Q, hQ⟩ : ∃ x : Nat, x = Z % 16 := ⟨_, rfl⟩
  obtain ⟨M, hM⟩ : ∃ x : Nat, x = 16 - Q := ⟨_, rfl⟩
  obtain ⟨R, hR⟩ : ∃ x : Nat, x = M % 16 := ⟨_, rfl⟩
  have e_Q : (Z : Int) % 16 = (Q : Int) := by omega
  have t_Q : (Z : Int).tmod 16 = (Q : Int) := by rw [Int.tmod_eq_emod_of_nonneg (by omega)]; exact e_Q
  have e_M : (16 : Int) - (Q : Int) = (M : Int) := by omega
  have s_M : IntKind.i64.wrap (M : Int) = (M : Int) := by rw [IntKind.wrap_i64]; omega
  have e_R : (M : Int) % 16 = (R : Int) := by omega
  have t_R : (M : Int).tmod 16 = (R : Int) := by rw [Int.tmod_eq_emod_of_nonneg (by omega)]; exact e_R
  have hf : fil0 b = b ++ List.replicate R 0 := by unfold fil0; rw [hR, hM, hQ, hZ]
  rw [hf]
  have hR16 : R ≤ 16 := by omega
  have hZl : b.length + R ≤ 1000000 := by omega
  clear hf hQ hM hR hZ hl hop
  go_enter Try.func49, Try.ntmps49
  go_wp2_with (first
    | (at_make; refine wpList_make_full _ rfl _ _ 22 rfl w.heap.size 5 i0 (.int .u8 0) 1 Try.underlying22 hi hz0 hz1 _ _ _ _ R rfl rfl rfl rfl (by rw [hz2]; omega) (by unfold maxLen; omega) (Nat.le_refl _) ?_; intro w1 hown hgrow; rw [made_u8] at hown; have hb1 := (Below.refl w.heap.size w).grown hgrow (Nat.le_refl _) (fun k h => by cases h); have oz : Own 5 .u8 256 w1 w.heap.size (.slice (some ⟨w.heap.size, 0, none⟩) R R) (List.replicate R 0) := ⟨by rw [List.length_replicate]; exact hown, Under.replicate 256 R (by decide)⟩; have hr2 := rows_lit2G (rb.below hb1) tb oz.row (tidy_atA _ _ _); have hj := rjoin_any _ _ _ hr2 (by simp; omega))
    | (go_at_call 19; refine hj.mono ?_; rintro e y2 ⟨v2, rfl, o2, hb2⟩)
    | fail)
  go_ret
  rw [show [b, List.replicate R 0].flatten = b ++ List.replicate R 0 by simp] at o2
  have hb12 := keep_trans hb1 (keep_trans (keep_alloc _ _) hb2)
  exact ⟨_, rfl, o2.mono (by have := hb1.size; have := (keep_alloc w1 (.cells #[.slice ba Z bc, .slice (some ⟨w.heap.size, 0, none⟩) R R] 22)).size; omega), hb12⟩
end Go.Proofs.Ytjeofkemfpdieaa

/- The document's tag. -/
namespace Go.Proofs.Ytjeofkemfpdieaa
open Go.RowKit
set_option linter.unusedVariables false
set_option linter.unusedSimpArgs false

theorem rbe8G (a : Nat) (w : World) (ha : a < 18446744073709551616) :
    Calls Try.prog 47 #[.int .u64 (a : Int), .int .i64 8] w fun e w' => ∃ v, e = .returned v ∧ Own 5 .u8 256 w' w.heap.size v (be8 a) ∧ Below w.heap.size w w' := by
  have := rbe_any a 8 w ha (by decide) (by decide)
  rw [show leS a 8 = leL a 8 by unfold leS; rw [if_neg (by decide)]; rfl] at this
  exact this
theorem own_tidyG {e : TypeId} {k : IntKind} {m : Nat} {w : World} {B : Nat} {v : Value} {l : List Nat} (h : Own e k m w B v l) : Tidy v := by
  rcases h.1.2 with ⟨rfl, _⟩ | ⟨g, cap, cur, rfl, _⟩
  · intro n c e; cases e; exact ⟨rfl, rfl⟩
  · intro n c e; cases e
set_option maxHeartbeats 10000000 in
set_option maxRecDepth 100000 in
theorem rtag_ok (h one bs b : List Nat) (hv ov sv bv : Value) (w : World) (rh : Row .u8 256 w hv h) (ro : Row .u8 256 w ov one) (rs : Row .u8 256 w sv bs) (rb : Row .u8 256 w bv b) (hh : B16 h) (ho : B16 one) (ts : Tidy sv) (tb : Tidy bv) (hs : bs.length ≤ 100000) (hb : b.length ≤ 100000) :
    Calls Try.prog 32 #[hv, ov, sv, bv] w fun e w' => ∃ v, e = .returned v ∧ Own 5 .u8 256 w' w.heap.size v (xr2 (ghL h (fil0 bs ++ fil0 b ++ (be8 (8 * bs.length) ++ be8 (8 * b.length)))) one) ∧ Below w.heap.size w w' := by
  obtain ⟨X, hX⟩ : ∃ x : Nat, x = bs.length := ⟨_, rfl⟩
  obtain ⟨Y, hY⟩ : ∃ x : Nat, x = b.length := ⟨_, rfl⟩
  obtain ⟨sa, sc, rfl, l1, l2, _⟩ := rs.opens hX.symm
  obtain ⟨ba, bc, rfl, l3, l4, _⟩ := rb.opens hY.symm
  obtain ⟨X8, hX8⟩ : ∃ x : Nat, x = 8 * X := ⟨_, rfl⟩
  obtain ⟨Y8, hY8⟩ : ∃ x : Nat, x = 8 * Y := ⟨_, rfl⟩
  have u_X : IntKind.u64.wrap (X : Int) = (X : Int) := by rw [IntKind.wrap_u64]; omega
  have u_Y : IntKind.u64.wrap (Y : Int) = (Y : Int) := by rw [IntKind.wrap_u64]; omega
  have e_X : 8 * (X : Int) = (X8 : Int) := by omega
  have e_Y : 8 * (Y : Int) = (Y8 : Int) := by omega
  have u_X8 : IntKind.u64.wrap (X8 : Int) = (X8 : Int) := by rw [IntKind.wrap_u64]; omega
  have u_Y8 : IntKind.u64.wrap (Y8 : Int) = (Y8 : Int) := by rw [IntKind.wrap_u64]; omega
  have hbeX := fun y => rbe8G X8 y (by omega)
  have hbeY := fun y => rbe8G Y8 y (by omega)
  have hfs := fun y (r : Row .u8 256 y (.slice sa X sc) bs) => rfil_any bs _ y r ts hs
  have hfb := fun y (r : Row .u8 256 y (.slice ba Y bc) b) => rfil_any b _ y r tb hb
  have hls := fil0_len bs
  have hlb := fil0_len b
  obtain ⟨L, hL⟩ : ∃ l, l = fil0 bs ++ fil0 b ++ (be8 X8 ++ be8 Y8) := ⟨_, rfl⟩
  obtain ⟨n, hn⟩ : ∃ x : Nat, x = (bs.length + 15) / 16 + (b.length + 15) / 16 + 1 := ⟨_, rfl⟩
  have hLl : L.length = 16 * n := by rw [hL, List.length_append, List.length_append, List.length_append, hls, hlb, be8_len, be8_len]; omega
  have hgh := fun y v (r1 : Row .u8 256 y hv h) (r2 : Row .u8 256 y v L) => rgh_ok h L hv v y r1 r2 hh n hLl (by omega)
  have hgb : B16 (ghL h L) := ghN_b z16_b _
  have hxr := fun y v (r1 : Row .u8 256 y v (ghL h L)) (r2 : Row .u8 256 y ov one) => rxr_any v ov _ one y r1 r2 (by rw [hgb.1]; decide)
  rw [xrL_16 hgb.1 ho.1] at hxr
  rw [← hX, ← hY, ← hX8, ← hY8, ← hL]
  have hj6 : (fil0 bs).length ≤ 200000 ∧ (fil0 b).length ≤ 200000 := by omega
  have HL := hide (And.intro hL (And.intro hj6 hgb))
  clear hX hY hX8 hY8 hL hn hLl hls hlb hj6 hgb hs hb
  generalize ghL h L = G at *
  go_enter Try.func32, Try.ntmps32
  go_wp2_with (first
    | (go_at_call_of 47 (Value.int IntKind.u64 (X8 : Int)); refine (hbeX _).mono ?_; rintro e y1 ⟨v1, rfl, o1, b1⟩)
    | (go_at_call_of 47 (Value.int IntKind.u64 (Y8 : Int)); refine (hbeY _).mono ?_; rintro e y2 ⟨v2, rfl, o2, b2⟩; have k2 := keep_trans b1 b2; have q1 := own_belowA o1.1 b2; rw [be8_len] at q1)
    | (at_builtin; refine wpList_appA rfl _ _ rfl w.heap.size _ _ 8 _ (be8 Y8) rfl q1 rfl o2.row (own_tidyG o2) (by decide) (by rw [be8_len]; decide) k2.size ?_; intro v3 y3 o3 g3; rw [be8_len] at o3; have k3 := k2.grown g3 k2.size (fun k hk => (q1.lt k hk).1); have o3' : Own 5 .u8 256 y3 w.heap.size v3 (be8 X8 ++ be8 Y8) := ⟨by rw [List.length_append, be8_len, be8_len]; exact o3, Under.append (be8_under _) (be8_under _)⟩; obtain ⟨a3, c3, rfl⟩ := own_sliceA o3)
    | (go_at_call_of 49 (Value.slice sa X sc); refine (hfs _ (rs.below k3)).mono ?_; rintro e y4 ⟨v4, rfl, o4, b4⟩; have k4 := keep_trans k3 b4; obtain ⟨a4, c4, rfl⟩ := own_sliceA o4.1)
    | (go_at_call_of 49 (Value.slice ba Y bc); refine (hfb _ (rb.below k4)).mono ?_; rintro e y5 ⟨v5, rfl, o5, b5⟩; have k5 := keep_trans k4 b5; obtain ⟨a5, c5, rfl⟩ := own_sliceA o5.1; have hr3 := rows_lit3G (o4.row.below b5) (own_tidyG o4) o5.row (own_tidyG o5) (o3'.row.below (keep_trans b4 b5)) (own_tidyG o3'); have hj := rjoin_any _ _ _ hr3 (by have := HL.out.2.1; simp only [List.flatten_cons, List.flatten_nil, List.append_nil, List.length_append, be8_len]; omega))
    | (go_at_call 19; refine hj.mono ?_; rintro e y6 ⟨v6, rfl, o6, b6⟩; have k6 := keep_trans k5 (keep_trans (keep_alloc _ _) b6); have r6 := o6.row; rw [show [fil0 bs, fil0 b, be8 X8 ++ be8 Y8].flatten = L by rw [HL.out.1]; simp] at r6)
    | (go_at_call 13; refine (hgh _ _ (rh.below k6) r6).mono ?_; rintro e y7 ⟨v7, rfl, o7, b7⟩; have k7 := keep_trans k6 b7)
    | (go_at_call 18; refine (hxr _ _ o7.row (ro.below k7)).mono ?_; rintro e y8 ⟨v8, rfl, o8, b8⟩)
    | fail)
  go_ret
  exact ⟨_, rfl, o8.mono k7.size, keep_trans k7 b8⟩
end Go.Proofs.Ytjeofkemfpdieaa

/- An append whose second argument is a slice of another named type. -/
namespace Go.Proofs.Ytjeofkemfpdieaa
open Go.RowKit
set_option linter.unusedVariables false

theorem append_types {P : Program} (w : World) (t tx ty e e' : TypeId) (ht : P.underlying t = some (.slice e)) (hx : P.underlying tx = some (.slice e')) (v x : Value) :
    (Builtin.append_ #[t, tx] ty #[v, x]).run P w = (Builtin.append_ #[t, t] ty #[v, x]).run P w := by
  unfold Builtin.append_
  simp only [List.getElem?_toArray, List.getElem?_cons_zero, List.getElem?_cons_succ, Sem.run_bind, run_underlying ht, Result.andThen_ok]
  cases v <;> try rfl
  simp only [Sem.run_bind]
  cases (sizeOf e).run P w
  · simp only [Result.andThen, run_underlying ht, run_underlying hx]
  all_goals rfl

theorem wpList_append_own2 {P : Program} (w : World) {ops : Array Oper} {rest : List Oper} {o : Oper} {a : Act} {Q : Exit → Act → World → Prop} (hgd : o.guard = none) (s x : Operand) (t tx e' : TypeId)
    (ho : o.op = .call { callee := .builtin .append, args := #[s, x], argTypes := #[t, tx] }) (htx : P.underlying tx = some (.slice e'))
    (base : Nat) (e : TypeId) (i : TypeInfo) (z : Value) (size bytes : Nat) (ht : P.underlying t = some (.slice e)) (hi : P.info? e = some i) (hz : i.zero = some z)
    (hsize : i.size = size) (hby : i.bytes = bytes) (hzs : z.cells.size = size) (hsz : 0 < size)
    (v : Value) (n : Nat) (xs : List Value) (hs : a.eval s = v) (hown : w.ownsRow base e size v n xs)
    (ad : Addr) (m c : Nat) (news : List Value) (hx : a.eval x = .slice (some ad) m c) (hl : news.length = m * size) (hnews : ∀ j u, news[j]? = some u → w.cell? (ad.add j) = some u) (h1 : ∀ u ∈ news, u.oneCell' = true)
    (h63 : n + m ≤ maxLen) (hbytes : (n + m) * bytes ≤ 140737488355328) (hbase : base ≤ w.heap.size)
    (h : ∀ v' w', w'.ownsRow base e size v' (n + m) (xs ++ news) → w.grownBy w' v.ownBlock → (v' = .slice none 0 0 ↔ v = .slice none 0 0 ∧ m = 0) → wpList P ops Q rest (a.put o.dst v') w') : wpList P ops Q (o :: rest) a w :=
  wpList_plain hgd fun _ hK => by
    obtain ⟨v', w', hr, h2, h3, h4⟩ := run_append_own (P := P) w base t o.type e i z size bytes ht hi hz hsize hby hzs hsz v n xs hown ad m c news hl hnews h1 h63 hbytes hbase
    rw [← append_types w t tx o.type e e' ht htx] at hr
    unfold Oper.wp execOp
    simp only [ho, resolve, invoke, builtin, Sem.run_bind, Sem.run_pure, Result.andThen_ok, List.map_toArray, List.map_cons, List.map_nil, hs, hx, hr]
    exact hK _ _ (h v' w' h2 h3 h4)
end Go.Proofs.Ytjeofkemfpdieaa

/- An append of a slice whatever it is (nil, empty or not); texts one behind the other. -/
namespace Go.Proofs.Ytjeofkemfpdieaa
open Go.RowKit Go.Deep
set_option linter.unusedVariables false

theorem run_append_none2 {P : Program} (w : World) (base : Nat) (t tx ty e e' : TypeId) (i : TypeInfo) (size : Nat) (ht : P.underlying t = some (.slice e)) (htx : P.underlying tx = some (.slice e')) (hi : P.info? e = some i)
    (v : Value) (n c : Nat) (xs : List Value) (hown : w.ownsRow base e size v n xs) : (Builtin.append_ #[t, tx] ty #[v, .slice none 0 c]).run P w = .ok v w := by
  rw [append_types w t tx ty e e' ht htx]
  rcases hown.2 with ⟨rfl, rfl⟩ | ⟨g, cap, cur, rfl, _, _, hnc, _⟩
  · simp [Builtin.append_, run_underlying ht, sizeOf, typeInfo, hi, Builtin.lenOf, Builtin.firstCells]
  · simp [Builtin.append_, run_underlying ht, sizeOf, typeInfo, hi, Builtin.lenOf, Builtin.firstCells, hnc, storeCells]
theorem grown_refl (w : World) (r : Option Nat) : w.grownBy w r := ⟨rfl, rfl, rfl, Nat.le_refl _, fun _ _ _ => rfl⟩

theorem run_append_rows {P : Program} (w : World) (t tx ty e' : TypeId) (htx : P.underlying tx = some (.slice e'))
    (base : Nat) (e : TypeId) (i : TypeInfo) (z : Value) (bytes : Nat) (ht : P.underlying t = some (.slice e)) (hi : P.info? e = some i) (hz : i.zero = some z)
    (hsize : i.size = 1) (hby : i.bytes = bytes) (hzs : z.cells.size = 1) (v : Value) (n : Nat) (xs : List Value) (hown : w.ownsRow base e 1 v n xs)
    (ad : Option Addr) (m c : Nat) (news : List Value) (hl : news.length = m)
    (hnews : 0 < m → ∃ b off, ad = some ⟨b, off, none⟩ ∧ ∀ j u, news[j]? = some u → w.cell? ⟨b, off + j, none⟩ = some u) (h1 : ∀ u ∈ news, u.oneCell' = true)
    (h63 : n + m ≤ maxLen) (hbytes : (n + m) * bytes ≤ 140737488355328) (hbase : base ≤ w.heap.size) :
    ∃ v' w', (Builtin.append_ #[t, tx] ty #[v, .slice ad m c]).run P w = .ok v' w' ∧ w'.ownsRow base e 1 v' (n + m) (xs ++ news) ∧ w.grownBy w' v.ownBlock := by
  cases ad with
  | none =>
    have hm : m = 0 := by
      rcases Nat.eq_zero_or_pos m with h0 | h0
      · exact h0
      · obtain ⟨_, _, h2, _⟩ := hnews h0; cases h2
    subst hm
    have hn0 : news = [] := List.eq_nil_of_length_eq_zero hl
    subst hn0
    exact ⟨v, w, run_append_none2 (P := P) w base t tx ty e e' i 1 ht htx hi v n c xs hown, by rw [List.append_nil]; exact hown, grown_refl _ _⟩
  | some x0 =>
    obtain ⟨v', w', hr, h2, h3, _⟩ := run_append_own (P := P) w base t ty e i z 1 bytes ht hi hz hsize hby hzs (by decide) v n xs hown x0 m c news (by rw [hl, Nat.mul_one]) (by
      intro j u hj
      have hj' : j < news.length := (List.getElem?_eq_some_iff.1 hj).1
      obtain ⟨b, off, h2, h3⟩ := hnews (by omega)
      obtain rfl := Option.some.inj h2
      rw [Addr.add_lit]
      exact h3 j u hj) h1 h63 hbytes hbase
    rw [← append_types w t tx ty e e' ht htx] at hr
    exact ⟨v', w', hr, h2, h3⟩
theorem wp_append_rows {P : Program} (w : World) {o : Oper} {a : Act} {K : Act → World → Prop} {Q : Exit → Act → World → Prop} (s x : Operand) (t tx e' : TypeId)
    (ho : o.op = .call { callee := .builtin .append, args := #[s, x], argTypes := #[t, tx] }) (htx : P.underlying tx = some (.slice e'))
    (base : Nat) (e : TypeId) (i : TypeInfo) (z : Value) (bytes : Nat) (ht : P.underlying t = some (.slice e)) (hi : P.info? e = some i) (hz : i.zero = some z)
    (hsize : i.size = 1) (hby : i.bytes = bytes) (hzs : z.cells.size = 1)
    (v : Value) (n : Nat) (xs : List Value) (hs : a.eval s = v) (hown : w.ownsRow base e 1 v n xs)
    (ad : Option Addr) (m c : Nat) (news : List Value) (hx : a.eval x = .slice ad m c) (hl : news.length = m)
    (hnews : 0 < m → ∃ b off, ad = some ⟨b, off, none⟩ ∧ ∀ j u, news[j]? = some u → w.cell? ⟨b, off + j, none⟩ = some u) (h1 : ∀ u ∈ news, u.oneCell' = true)
    (h63 : n + m ≤ maxLen) (hbytes : (n + m) * bytes ≤ 140737488355328) (hbase : base ≤ w.heap.size)
    (h : ∀ v' w', w'.ownsRow base e 1 v' (n + m) (xs ++ news) → w.grownBy w' v.ownBlock → K (a.put o.dst v') w') : o.wp P a w K Q := by
  obtain ⟨v', w', hr, h2, h3⟩ := run_append_rows (P := P) w t tx o.type e' htx base e i z bytes ht hi hz hsize hby hzs v n xs hown ad m c news hl hnews h1 h63 hbytes hbase
  unfold Oper.wp execOp
  simp only [ho, resolve, invoke, builtin, Sem.run_bind, Sem.run_pure, Result.andThen_ok, List.map_toArray, List.map_cons, List.map_nil, hs, hx, hr]
  exact h v' w' h2 h3
/-- an append to a row of the call's own, whatever is appended: elements of one cell each -/
theorem wpList_append_rows {P : Program} (w : World) {ops : Array Oper} {rest : List Oper} {o : Oper} {a : Act} {Q : Exit → Act → World → Prop} (hgd : o.guard = none) (s x : Operand) (t tx e' : TypeId)
    (ho : o.op = .call { callee := .builtin .append, args := #[s, x], argTypes := #[t, tx] }) (htx : P.underlying tx = some (.slice e'))
    (base : Nat) (e : TypeId) (i : TypeInfo) (z : Value) (bytes : Nat) (ht : P.underlying t = some (.slice e)) (hi : P.info? e = some i) (hz : i.zero = some z)
    (hsize : i.size = 1) (hby : i.bytes = bytes) (hzs : z.cells.size = 1)
    (v : Value) (n : Nat) (xs : List Value) (hs : a.eval s = v) (hown : w.ownsRow base e 1 v n xs)
    (ad : Option Addr) (m c : Nat) (news : List Value) (hx : a.eval x = .slice ad m c) (hl : news.length = m)
    (hnews : 0 < m → ∃ b off, ad = some ⟨b, off, none⟩ ∧ ∀ j u, news[j]? = some u → w.cell? ⟨b, off + j, none⟩ = some u) (h1 : ∀ u ∈ news, u.oneCell' = true)
    (h63 : n + m ≤ maxLen) (hbytes : (n + m) * bytes ≤ 140737488355328) (hbase : base ≤ w.heap.size)
    (h : ∀ v' w', w'.ownsRow base e 1 v' (n + m) (xs ++ news) → w.grownBy w' v.ownBlock → wpList P ops Q rest (a.put o.dst v') w') : wpList P ops Q (o :: rest) a w :=
  wpList_plain hgd fun _ hK => wp_append_rows w s x t tx e' ho htx base e i z bytes ht hi hz hsize hby hzs v n xs hs hown ad m c news hx hl hnews h1 h63 hbytes hbase fun v' w' k1 k2 => hK _ _ (h v' w' k1 k2)
/-- the same as a step of a region that draws its order -/
theorem step_append_rows {P : Program} (w : World) {ops : Array Oper} {o : Oper} {a : Act} {K : Act → World → Prop} {Q : Exit → Act → World → Prop} {E : Prop} (hgd : o.guard = none) (s x : Operand) (t tx e' : TypeId)
    (ho : o.op = .call { callee := .builtin .append, args := #[s, x], argTypes := #[t, tx] }) (htx : P.underlying tx = some (.slice e'))
    (base : Nat) (e : TypeId) (i : TypeInfo) (z : Value) (bytes : Nat) (ht : P.underlying t = some (.slice e)) (hi : P.info? e = some i) (hz : i.zero = some z)
    (hsize : i.size = 1) (hby : i.bytes = bytes) (hzs : z.cells.size = 1)
    (v : Value) (n : Nat) (xs : List Value) (hs : a.eval s = v) (hown : w.ownsRow base e 1 v n xs)
    (ad : Option Addr) (m c : Nat) (news : List Value) (hx : a.eval x = .slice ad m c) (hl : news.length = m)
    (hnews : 0 < m → ∃ b off, ad = some ⟨b, off, none⟩ ∧ ∀ j u, news[j]? = some u → w.cell? ⟨b, off + j, none⟩ = some u) (h1 : ∀ u ∈ news, u.oneCell' = true)
    (h63 : n + m ≤ maxLen) (hbytes : (n + m) * bytes ≤ 140737488355328) (hbase : base ≤ w.heap.size)
    (h : ∀ v' w', w'.ownsRow base e 1 v' (n + m) (xs ++ news) → w.grownBy w' v.ownBlock → K (a.put o.dst v') w') :
    if Region.wanted o (yielded ops a.tmps) = true then Oper.wp P o a w K Q else E := by
  have hw : Region.wanted o (yielded ops a.tmps) = true := by simp [Region.wanted, hgd]
  rw [if_pos hw]
  exact wp_append_rows w s x t tx e' ho htx base e i z bytes ht hi hz hsize hby hzs v n xs hs hown ad m c news hx hl hnews h1 h63 hbytes hbase h

theorem Try.infoT : (Try.prog.info? 22).map (fun i => (i.zero, i.size, i.bytes)) = some (some (.slice none 0 0), 1, 24) := by kernel_rfl
theorem info_text : ∃ i, Try.prog.info? 22 = some i ∧ i.zero = some (.slice none 0 0) ∧ i.size = 1 ∧ i.bytes = 24 := by
  have h := Try.infoT
  obtain ⟨i, hi, he⟩ := Option.map_eq_some_iff.1 h
  simp only [Prod.mk.injEq] at he
  exact ⟨i, hi, he.1, he.2.1, he.2.2⟩
theorem info_byte : ∃ i, Try.prog.info? 5 = some i ∧ i.zero = some (.int .u8 0) ∧ i.size = 1 ∧ i.bytes = 1 := by
  have h := Try.info5
  obtain ⟨i, hi, he⟩ := Option.map_eq_some_iff.1 h
  simp only [Prod.mk.injEq] at he
  exact ⟨i, hi, he.1, he.2.1, he.2.2⟩

/-- values that are texts of the world w -/
def Texts (w : World) (us : List Value) (l : List (List Nat)) : Prop := us.length = l.length ∧ ∀ i, i < l.length → ∃ u, us[i]? = some u ∧ Row .u8 256 w u (tx l i) ∧ Tidy u
theorem Texts.nil (w : World) : Texts w [] [] := ⟨rfl, fun i hi => by simp at hi⟩
theorem Texts.append {w : World} {us vs : List Value} {l m : List (List Nat)} (h : Texts w us l) (k : Texts w vs m) : Texts w (us ++ vs) (l ++ m) := by
  refine ⟨by rw [List.length_append, List.length_append, h.1, k.1], fun i hi => ?_⟩
  rw [List.length_append] at hi
  by_cases hl : i < l.length
  · obtain ⟨u, hu, hr⟩ := h.2 i hl
    refine ⟨u, by rw [List.getElem?_append_left (by rw [h.1]; exact hl)]; exact hu, ?_⟩
    have e : tx (l ++ m) i = tx l i := by unfold tx; rw [List.getElem?_append_left hl]
    rw [e]; exact hr
  · obtain ⟨u, hu, hr⟩ := k.2 (i - l.length) (by omega)
    refine ⟨u, by rw [List.getElem?_append_right (by rw [h.1]; omega), h.1]; exact hu, ?_⟩
    have e : tx (l ++ m) i = tx m (i - l.length) := by unfold tx; rw [List.getElem?_append_right (by omega)]
    rw [e]; exact hr
theorem Texts.one {w : World} {u : Value} {x : List Nat} (h : Row .u8 256 w u x) (ht : Tidy u) : Texts w [u] [x] := by
  refine ⟨rfl, fun i hi => ?_⟩
  have : i = 0 := by simp at hi; omega
  subst this
  exact ⟨u, rfl, h, ht⟩
theorem Texts.below {w w' : World} {us : List Value} {l : List (List Nat)} (h : Texts w us l) (hb : Below w.heap.size w w') : Texts w' us l :=
  ⟨h.1, fun i hi => by obtain ⟨u, hu, hr, ht⟩ := h.2 i hi; exact ⟨u, hu, hr.below hb, ht⟩⟩
theorem Row.one {k : IntKind} {m : Nat} {w : World} {u : Value} {l : List Nat} (h : Row k m w u l) : u.oneCell' = true := by
  obtain ⟨a, c, rfl, _⟩ := h
  rfl
theorem Texts.cells {w : World} {us : List Value} {l : List (List Nat)} (h : Texts w us l) : ∀ u ∈ us, u.oneCell' = true := by
  intro u hu
  obtain ⟨i, hi, rfl⟩ := List.getElem_of_mem hu
  obtain ⟨u', hu', hr, _⟩ := h.2 i (by rw [← h.1]; exact hi)
  rw [List.getElem?_eq_getElem hi] at hu'
  obtain rfl := Option.some.inj hu'
  exact hr.one
/-- a slice of texts, as the values that it holds -/
theorem Rows2.texts {w : World} {v : Value} {l : List (List Nat)} (h : Rows2 w v l) : ∃ us a cap, v = .slice a l.length cap ∧ l.length ≤ cap ∧ cap ≤ 9223372036854775807 ∧ Texts w us l ∧
    (0 < l.length → ∃ b off, a = some ⟨b, off, none⟩ ∧ ∀ j u, us[j]? = some u → w.cell? ⟨b, off + j, none⟩ = some u) := by
  obtain ⟨a, cap, rfl, h1, h2, h3⟩ := h
  unfold maxLen at h2
  by_cases hl : 0 < l.length
  · obtain ⟨b, off, rfl, hc⟩ := h3 hl
    have : Inhabited Value := ⟨undef⟩
    obtain ⟨f, hf⟩ := choose_lt (α := Value) hc
    refine ⟨(List.range l.length).map f, _, cap, rfl, h1, by omega, ⟨by simp, fun i hi => ⟨f i, by simp [hi], (hf i hi).2.1, (hf i hi).2.2⟩⟩, fun _ => ⟨b, off, rfl, fun j u hj => ?_⟩⟩
    have hj' : j < l.length := by have := (List.getElem?_eq_some_iff.1 hj).1; simpa using this
    simp [hj'] at hj
    subst hj
    exact (hf j hj').1
  · have h0 : l = [] := by cases l with | nil => rfl | cons x l => simp at hl
    subst h0
    exact ⟨[], a, cap, rfl, h1, by omega, Texts.nil _, fun h => by simp at h⟩
/-- a row of the call's own that holds texts -/
theorem Texts.rows2 {w : World} {B : Nat} {v : Value} {us : List Value} {l : List (List Nat)} (h : Texts w us l) (ho : w.ownsRow B 22 1 v l.length us) : Rows2 w v l := by
  have ho' := ho
  obtain ⟨h1, ⟨rfl, h2⟩ | ⟨g, cap, cur, rfl, h3, h4, h5, h6, h7, h8⟩⟩ := ho
  · exact ⟨none, 0, by rw [h2], by omega, Nat.zero_le _, fun hl => by omega⟩
  · refine ⟨_, cap, rfl, h5, h6, fun hl => ⟨g, 0, rfl, fun i hi => ?_⟩⟩
    obtain ⟨u, hu, hr⟩ := h.2 i hi
    refine ⟨u, ?_, hr⟩
    rw [Nat.zero_add, ho'.cellAt i (by omega)]
    exact hu
end Go.Proofs.Ytjeofkemfpdieaa
