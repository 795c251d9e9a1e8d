/- The document's stream. -/
import Derived.Test.YtjeofkemfpdieaaABl
import Derived.Test.YtjeofkemfpdieaaBase
namespace Go.Proofs.Ytjeofkemfpdieaa
open Go.RowKit
set_option linter.unusedVariables false
set_option linter.unusedSimpArgs false

/-- the blocks that are asked for: that of 0, and those of the numbers up to k -/
def cnts (nonce : List Nat) : Nat → List (List Nat)
  | 0 => [z16]
  | k + 1 => cnts nonce k ++ [cntB nonce (k + 1)]
theorem cnts_len (nonce : List Nat) : ∀ k, (cnts nonce k).length = k + 1
  | 0 => rfl
  | k + 1 => by show (cnts nonce k ++ [_]).length = _; rw [List.length_append, cnts_len nonce k]; rfl
theorem tx_left {l m : List (List Nat)} {i : Nat} (h : i < l.length) : tx (l ++ m) i = tx l i := by unfold tx; rw [List.getElem?_append_left h]
theorem tx_last (l : List (List Nat)) (x : List Nat) : tx (l ++ [x]) l.length = x := by unfold tx; rw [List.getElem?_append_right (Nat.le_refl _), Nat.sub_self]; rfl
theorem cnts_b {nonce : List Nat} (h : nonce.length = 12) (hu : Under 256 nonce) : ∀ k i, i < (cnts nonce k).length → B16 (tx (cnts nonce k) i)
  | 0, i, hi => by
    have : i = 0 := by simp [cnts] at hi; exact hi
    subst this
    exact z16_b
  | k + 1, i, hi => by
    have hl := cnts_len nonce k
    have hi' : i < (cnts nonce k).length + 1 := by have := hi; rw [cnts_len] at this; omega
    show B16 (tx (cnts nonce k ++ [cntB nonce (k + 1)]) i)
    by_cases e : i < (cnts nonce k).length
    · rw [tx_left e]; exact cnts_b h hu k i e
    · obtain rfl : i = (cnts nonce k).length := by omega
      rw [tx_last]; exact cntB_b h hu _
theorem tx_map1 {T : List Nat → List Nat} {l : List (List Nat)} {i : Nat} (h : i < l.length) : tx (l.map T) i = T (tx l i) := by unfold tx; rw [List.getElem?_map, List.getElem?_eq_getElem h]; rfl
theorem cnts_0 (nonce : List Nat) : ∀ k, tx (cnts nonce k) 0 = z16
  | 0 => rfl
  | k + 1 => by show tx (cnts nonce k ++ [_]) 0 = _; rw [tx_left (by rw [cnts_len]; omega), cnts_0 nonce k]
theorem cnts_1 (nonce : List Nat) : ∀ k, tx (cnts nonce (k + 1)) 1 = cntB nonce 1
  | 0 => rfl
  | k + 1 => by show tx (cnts nonce (k + 1) ++ [_]) 1 = _; rw [tx_left (by rw [cnts_len]; omega), cnts_1 nonce k]
theorem cnts_str (T : List Nat → List Nat) (nonce : List Nat) : ∀ n, (((cnts nonce (n + 1)).map T).drop 2).flatten = strL T nonce n
  | 0 => rfl
  | n + 1 => by
    show (((cnts nonce (n + 1) ++ [cntB nonce (n + 2)]).map T).drop 2).flatten = strL T nonce n ++ T (cntB nonce (n + 2))
    rw [List.map_append, List.drop_append_of_le_length (by rw [List.length_map, cnts_len]; omega), List.flatten_append, cnts_str T nonce n]
    simp
theorem Rows2.drop2 {w : World} {b o n c : Nat} {ls : List (List Nat)} (h : Rows2 w (.slice (some ⟨b, o, none⟩) n c) ls) (hn : 2 ≤ n) : Rows2 w (.slice (some ⟨b, o + 2, none⟩) (n - 2) (c - 2)) (ls.drop 2) := by
  obtain ⟨a, cap, he, h1, h2, h3⟩ := h
  simp only [Value.slice.injEq] at he
  obtain ⟨rfl, hl, rfl⟩ := he
  refine ⟨_, _, by rw [List.length_drop, hl], by rw [List.length_drop]; omega, by omega, fun hp => ⟨_, _, rfl, fun i hi => ?_⟩⟩
  rw [List.length_drop] at hp hi
  obtain ⟨b', o', he, hc⟩ := h3 (by omega)
  simp only [Option.some.injEq, Addr.mk.injEq] at he
  obtain ⟨rfl, rfl, _⟩ := he
  obtain ⟨u, hu, hr⟩ := hc (2 + i) (by omega)
  refine ⟨u, by rw [Nat.add_assoc]; exact hu, ?_⟩
  have e : tx (ls.drop 2) i = tx ls (2 + i) := by unfold tx; rw [List.getElem?_drop]
  rw [e]; exact hr
theorem rbe4 (a : Nat) (w : World) (ha : a < 18446744073709551616) :
    Calls Try.prog 47 #[.int .u64 (a : Int), .int .i64 4] w fun e w' => ∃ v, e = .returned v ∧ Own 5 .u8 256 w' w.heap.size v (leL a 4).reverse ∧ Below w.heap.size w w' := by
  have := rbe_any a 4 w ha (by decide) (by decide)
  rw [show leS a 4 = leL a 4 by unfold leS; rw [if_neg (by decide)]; rfl] at this
  exact this
def SrL (w : World) (nonce : List Nat) (n : Nat) (vl vi : Value) (wr : World) : Prop := ∃ (k : Nat) (us : List Value), k ≤ n + 1 ∧ vi = .int .i64 (k : Int) ∧ wr.ownsRow w.heap.size 22 1 vl (k + 1) us ∧ OwnT wr us (cnts nonce k) ∧ Below w.heap.size w wr
set_option maxHeartbeats 10000000 in
set_option maxRecDepth 100000 in
theorem rstr_ok (key nonce b : List Nat) (kv nv bv : Value) (w : World) (rk : Row .u8 256 w kv key) (rn : Row .u8 256 w nv nonce) (rb : Row .u8 256 w bv b) (hk : SzK key) (h12 : nonce.length = 12) (hb : b.length ≤ 100000) :
    Calls Try.prog 31 #[kv, nv, bv] w fun e w' => ∃ v h o, e = .returned (.tuple #[v, h, o]) ∧ Own 5 .u8 256 w' w.heap.size v (xst (blkA key) nonce b) ∧ Row .u8 256 w' h (blkA key z16) ∧ Row .u8 256 w' o (blkA key (cntB nonce 1)) ∧ Below w.heap.size w w' := by
  obtain ⟨i0, hi, hz0, hz1, hz2⟩ := info_parts Try.info5
  have hnU := rn.under
  have hkU := rk.under
  have tn := row_tidyA rn (by omega)
  obtain ⟨na, nc, rfl, _⟩ := rn.opens h12
  obtain ⟨Z, hZ⟩ : ∃ x : Nat, x = b.length := ⟨_, rfl⟩
  obtain ⟨ba, bc, rfl, _⟩ := rb.opens hZ.symm
  obtain ⟨Z15, hZ15⟩ : ∃ x : Nat, x = Z + 15 := ⟨_, rfl⟩
  obtain ⟨n, hn⟩ : ∃ x : Nat, x = Z15 / 16 := ⟨_, rfl⟩
  have e_15 : (Z : Int) + 15 = (Z15 : Int) := by omega
  have s_15 : IntKind.i64.wrap (Z15 : Int) = (Z15 : Int) := by rw [IntKind.wrap_i64]; omega
  have e_n : (Z15 : Int) / 16 = (n : Int) := by omega
  have t_n : (Z15 : Int).tdiv 16 = (n : Int) := by rw [Int.tdiv_eq_ediv_of_nonneg (by omega)]; exact e_n
  have s_n : IntKind.i64.wrap (n : Int) = (n : Int) := by rw [IntKind.wrap_i64]; omega
  have hT : ∀ s, B16 s → B16 (blkA key s) := fun s h => blkA_b hkU h
  have hmn := fun y ls lv (r1 : Row .u8 256 y kv key) (r2 : Rows2 y lv ls) (h1 : ∀ i, i < ls.length → B16 (tx ls i)) (h2 : ls.length ≤ 100000) => rmany_ok key ls kv lv y r1 r2 hk h1 h2
  have hx : xst (blkA key) nonce b = xrL b (strL (blkA key) nonce n) := by unfold xst; rw [show (b.length + 15) / 16 = n by omega]; rfl
  rw [hx]
  have hsl := strL_len hT h12 hnU n
  have HN := hide (And.intro hn (And.intro hZ (And.intro hZ15 (And.intro hb (And.intro h12 (And.intro hnU hsl))))))
  have HM := hide (And.intro hmn (And.intro rk (And.intro rn (And.intro rb tn))))
  clear hn hZ hZ15 hb hx h12 hnU hkU hk hsl hmn rk rn rb hT
  generalize blkA key = T at *
  go_enter Try.func31, Try.ntmps31
  go_wp2_with (first | (at_make; refine wpList_make_full _ rfl _ _ 22 rfl w.heap.size 5 i0 (.int .u8 0) 1 Try.underlying22 hi hz0 hz1 _ _ _ _ 16 rfl rfl rfl rfl (by rw [hz2]; decide) (by unfold maxLen; decide) (Nat.le_refl _) ?_; intro w1 hown hgrow) | fail)
  rw [made_u8] at hown
  have hb1 := (Below.refl w.heap.size w).grown hgrow (Nat.le_refl _) (fun k h => by cases h)
  have oz : Own 5 .u8 256 w1 w.heap.size (.slice (some ⟨w.heap.size, 0, none⟩) 16 16) z16 := ⟨hown, z16_b.2⟩
  have hlit := World.ownsRow_lit (base := w.heap.size) (e := 22) (size := 1) w1 #[.slice (some ⟨w.heap.size, 0, none⟩) 16 16] 1 hb1.size (by unfold maxLen; decide) rfl
  have H0 : Hid (SrL w nonce n (.slice (some ⟨w1.heap.size, 0, none⟩) 1 1) (.int .i64 0) (w1.alloc (.cells #[.slice (some ⟨w.heap.size, 0, none⟩) 16 16] 22))) := hide ⟨0, [.slice (some ⟨w.heap.size, 0, none⟩) 16 16], Nat.zero_le _, rfl, hlit, (OwnT.nil _).snoc ⟨own_belowA (oz.mono (Nat.zero_le _)).1 (keep_alloc _ _), oz.2⟩, keep_trans hb1 (keep_alloc _ _)⟩
  clear hown hgrow hb1 oz hlit
  generalize w1.alloc (.cells #[.slice (some ⟨w.heap.size, 0, none⟩) 16 16] 22) = w2 at *
  go_loopw [9, 10] (fun vl vi wr => SrL w nonce n vl vi wr) (fun _ vi _ => n + 1 - (intOf vi).toNat)
  case atStart => exact H0.out
  case round =>
    obtain ⟨k, us, hk, rfl, how, hot, hbr⟩ := hrel
    clear H0
    rename World => wr
    obtain ⟨hn, hZ, hZ15, hb, h12, hnU, hsl⟩ := HN.out
    obtain ⟨hmn, rk, rn, rb, tn⟩ := HM.out
    obtain ⟨oa, oc, rfl⟩ := own_sliceA how
    by_cases hlt : k ≤ n
    · have hli : (k : Int) ≤ (n : Int) := by omega
      obtain ⟨k1, hk1⟩ : ∃ x : Nat, x = k + 1 := ⟨_, rfl⟩
      have e_k1 : (k : Int) + 1 = (k1 : Int) := by omega
      have s_k1 : IntKind.i64.wrap (k1 : Int) = (k1 : Int) := by rw [IntKind.wrap_i64]; omega
      have u_k1 : IntKind.u64.wrap (k1 : Int) = (k1 : Int) := by rw [IntKind.wrap_u64]; omega
      have hbe := fun y => rbe4 k1 y (by omega)
      have rnw := rn.below hbr
      obtain ⟨i1, gi, gz0, gz1, gz2⟩ := info_text
      have hcn : cnts nonce (k + 1) = cnts nonce k ++ [cntB nonce k1] := by rw [hk1]; rfl
      have hjl : (nonce ++ (leL k1 4).reverse).length ≤ 2000000 := by rw [List.length_append, List.length_reverse, leL_length]; omega
      have HX := hide (And.intro how (And.intro hot (And.intro hbr (And.intro hcn (And.intro hk1 (And.intro hlt (And.intro hn (And.intro hZ (And.intro hZ15 hb)))))))))
      have HJL := hide hjl
      rw [← hk1] at how ⊢
      have HOW := hide how
      clear how hot hbr hcn hk1 hlt hn hZ hZ15 hb h12 hnU hsl hmn rk rn rb hk hjl
      go_wp2_with (first
        | (go_at_call 47; refine (hbe _).mono ?_; rintro e y1 ⟨v1, rfl, o1, b1⟩; obtain ⟨a1, c1, rfl⟩ := own_sliceA o1.1; have hr2 := rows_lit2G (rnw.below b1) tn o1.row (own_tidyG o1); have hj := rjoin_any _ _ _ hr2 (by simp only [List.flatten_cons, List.flatten_nil, List.append_nil]; exact HJL.out))
        | (go_at_call 19; refine hj.mono ?_; rintro e y2 ⟨v2, rfl, o2, b2⟩; have k2 := keep_trans b1 (keep_trans (keep_alloc _ _) b2); rw [show [nonce, (leL k1 4).reverse].flatten = cntB nonce k1 by unfold cntB; simp] at o2; obtain ⟨a2, c2, rfl⟩ := own_sliceA o2.1; have b3 := keep_trans k2 (keep_alloc y2 (.cells #[.slice a2 (cntB nonce k1).length c2] 22)); have how3 := own_belowA HOW.out b3; have hsz3 : w.heap.size ≤ (y2.alloc (.cells #[.slice a2 (cntB nonce k1).length c2] 22)).heap.size := Nat.le_trans HX.out.2.2.1.size b3.size)
        | (at_builtin; refine wpList_append_rows _ rfl _ _ 37 37 22 rfl Try.underlying37 w.heap.size 22 i1 (.slice none 0 0) 24 Try.underlying37 gi gz0 gz1 gz2 rfl _ _ _ rfl how3 (some ⟨y2.heap.size, 0, none⟩) 1 1 [.slice a2 (cntB nonce k1).length c2] rfl rfl (fun _ => ⟨_, _, rfl, fun jj uu h => by
              have : jj = 0 := by have := (List.getElem?_eq_some_iff.1 h).1; simp at this; exact this
              subst this
              rw [World.cell?_alloc_at _ _ _ _ rfl]; simpa using h⟩) (fun uu hu => by simp at hu; rw [hu]; rfl) (by unfold maxLen; have := HX.out; omega) (by have := HX.out; omega) hsz3 ?_; intro v4 y4 how4 hg4)
        | fail)
      obtain ⟨_, hot, hbr, hcn, hk1, hlt, _⟩ := HX.out
      have hbz := (hbr.trans (b3.mono hbr.size)).grown hg4 hsz3 (fun k h => (how3.lt k h).1)
      refine ⟨⟨k + 1, us ++ [.slice a2 (cntB nonce k1).length c2], by omega, vint (by omega), by rw [← hk1]; exact how4, ?_, hbz⟩, by simp [intOf]; omega⟩
      rw [hcn]
      exact ((hot.below b3).snoc ⟨own_belowA (o2.mono (Nat.zero_le _)).1 (keep_alloc _ _), o2.2⟩).grown how3 hg4
    · have hge : ¬ ((k : Int) ≤ (n : Int)) := by omega
      obtain rfl : k = n + 1 := by omega
      have hlen := cnts_len nonce (n + 1)
      have rl : Rows2 wr (.slice oa (n + 1 + 1) oc) (cnts nonce (n + 1)) := hot.texts.rows2 (by rw [hlen]; exact how)
      have hm := hmn wr (cnts nonce (n + 1)) _ (rk.below hbr) rl (cnts_b h12 hnU (n + 1)) (by rw [hlen]; omega)
      rw [hlen] at hm
      have hcs := cnts_str T nonce n
      have hc0 := cnts_0 nonce (n + 1)
      have hc1 := cnts_1 nonce n
      have hml : ((cnts nonce (n + 1)).map T).length = n + 2 := by rw [List.length_map, hlen]
      have HX := hide (And.intro hbr (And.intro hcs (And.intro hc0 (And.intro hc1 (And.intro hml (And.intro hlen (And.intro rb (And.intro hsl (And.intro hn (And.intro hb (And.intro hZ hZ15)))))))))))
      clear how hot hbr hn hZ hZ15 hb h12 hnU hsl hmn rk rn rb rl hcs hc0 hc1 hml hlen hk hlt
      obtain ⟨n2, hn2⟩ : ∃ x : Nat, x = n + 1 + 1 := ⟨_, rfl⟩
      rw [← hn2] at hm ⊢
      have HN2 := hide hn2
      clear hn2
      go_wp2_with (first
        | (go_at_call 48; refine hm.mono ?_; rintro e y1 ⟨v1, rfl, us1, B1, hB1, how1, hot1, b1⟩)
        | fail)
      obtain ⟨hbr, hcs, hc0, hc1, hml, hlen, rb, hsl, hn, hb, hZ, hZ15⟩ := HX.out
      have hn2 := HN2.out
      obtain ⟨g1, c1, rfl, hgB⟩ : ∃ g1 c1, v1 = .slice (some ⟨g1, 0, none⟩) n2 c1 ∧ B1 ≤ g1 := by
        rcases how1.2 with ⟨_, h0⟩ | ⟨g, cap, cur, hv, hb, _⟩
        · omega
        · exact ⟨g, cap, hv, hb⟩
      have rl1 : Rows2 y1 (.slice (some ⟨g1, 0, none⟩) n2 c1) ((cnts nonce (n + 1)).map T) := hot1.texts.rows2 (by rw [hml, show n + 2 = n2 by omega]; exact how1)
      have rl1' := rl1
      obtain ⟨_, _, he, m1, m2, h3⟩ := rl1'
      simp only [Value.slice.injEq] at he
      obtain ⟨rfl, hl1, rfl⟩ := he
      rw [hml] at m1 h3
      obtain ⟨b', o', he, hcc⟩ := h3 (by omega)
      simp only [Option.some.injEq, Addr.mk.injEq] at he
      obtain ⟨rfl, rfl, _⟩ := he
      obtain ⟨u0, cu0, ru0, _⟩ := hcc 0 (by omega)
      obtain ⟨u1, cu1, ru1, _⟩ := hcc 1 (by omega)
      rw [tx_map1 (by rw [hlen]; omega), hc0] at ru0
      rw [tx_map1 (by rw [hlen]; omega), hc1] at ru1
      rw [Nat.zero_add] at cu0 cu1
      have rd := rl1.drop2 (by omega)
      have hfl : (((cnts nonce (n + 1)).map T).drop 2).flatten.length ≤ 2000000 := by rw [hcs, hsl]; omega
      have hbd : Below y1.heap.size y1 y1.drew := (Below.refl _ _).drew
      have hj := fun vv (r : Rows2 y1.drew vv (((cnts nonce (n + 1)).map T).drop 2)) => rjoin_any vv _ y1.drew r hfl
      rw [hcs] at hj
      have l_2n : (2 : Int) ≤ (n2 : Int) := by omega
      have l_nc : (n2 : Int) ≤ (c1 : Int) := by omega
      have z_0 : (0 : Int) < (n2 : Int) := by omega
      have z_1 : (1 : Int) < (n2 : Int) := by omega
      have hbw1 := hbr.trans (b1.mono hbr.size)
      have rb1 := rb.below hbw1
      have hxr := fun y v (h1 : Below y1.heap.size y1 y) (r : Row .u8 256 y v (strL T nonce n)) => rxr_any _ v _ _ y (rb1.below h1) r (by omega)
      have hkeep0 := fun y (h : Below y1.heap.size y1 y) => keep_cell cu0 h
      have hkeep1 := fun y (h : Below y1.heap.size y1 y) => keep_cell cu1 h
      have HF := hide (And.intro ru0 (And.intro ru1 (And.intro hbw1 rd)))
      have hds : n = 0 → ((cnts nonce (n + 1)).map T).drop 2 = [] := fun e => List.eq_nil_of_length_eq_zero (by rw [List.length_drop, hml]; omega)
      have HD := hide hds
      obtain ⟨u0a, u0c, rfl, _⟩ := ru0.opens rfl
      obtain ⟨u1a, u1c, rfl, _⟩ := ru1.opens rfl
      have HC := hide (And.intro m1 (And.intro m2 hn2))
      clear hbr hcs hc0 hc1 hml hlen rb hsl hn hb hZ hZ15 hn2 how1 hot1 rl1 h3 hcc ru0 ru1 rd hfl hbw1 rb1 hds m1 m2 hl1 hgB hB1 b1
      by_cases hcc : c1 = 2
      · obtain ⟨m1, m2, hn2⟩ := HC.out
        obtain rfl : n2 = 2 := by omega
        obtain rfl : n = 0 := by omega
        subst hcc
        go_region_with (first
          | (go_at_call 19; refine (hj _ ?_).mono ?_; (rw [HD.out rfl]; exact ⟨_, _, rfl, by decide, by unfold maxLen; decide, fun h => absurd h (by decide)⟩); rintro e y2 ⟨v2, rfl, o2, b2⟩; have b2' := un_drew b2; have cu0' := hkeep0 _ b2'; have cu1' := hkeep1 _ b2')
          | (go_at_call 18; refine (hxr _ v2 b2' o2.row).mono ?_; rintro e y3 ⟨v3, rfl, o3, b3⟩; have b3' := keep_trans b2' b3; have cu0'' := hkeep0 _ b3'; have cu1'' := hkeep1 _ b3')
          | fail)
        all_goals
          go_wp2
          go_ret3
          have hbF := HF.out.2.2.1
          exact ⟨_, _, _, rfl, o3.mono (by have := hbF.size; have := b2'.size; omega), HF.out.1.below b3', HF.out.2.1.below b3', hbF.trans (b3'.mono hbF.size)⟩
      · have hj1 := hj (.slice (some ⟨g1, 0 + 2, none⟩) (n2 - 2) (c1 - 2)) (HF.out.2.2.2.below hbd)
        rw [Nat.zero_add] at hj1
        go_region_with (first
          | (go_at_call 19; refine hj1.mono ?_; rintro e y2 ⟨v2, rfl, o2, b2⟩; have b2' := un_drew b2; have cu0' := hkeep0 _ b2'; have cu1' := hkeep1 _ b2')
          | (go_at_call 18; refine (hxr _ v2 b2' o2.row).mono ?_; rintro e y3 ⟨v3, rfl, o3, b3⟩; have b3' := keep_trans b2' b3; have cu0'' := hkeep0 _ b3'; have cu1'' := hkeep1 _ b3')
          | fail)
        all_goals
          go_wp2
          go_ret3
          have hbF := HF.out.2.2.1
          exact ⟨_, _, _, rfl, o3.mono (by have := hbF.size; have := b2'.size; omega), HF.out.1.below b3', HF.out.2.1.below b3', hbF.trans (b3'.mono hbF.size)⟩
end Go.Proofs.Ytjeofkemfpdieaa

/- The document's Seal and Open. -/
namespace Go.Proofs.Ytjeofkemfpdieaa
open Go.RowKit
set_option linter.unusedVariables false
set_option linter.unusedSimpArgs false

/-- what is told of a sealed text -/
def opX (T : List Nat → List Nat) (nonce bs c : List Nat) : List Nat := (openO T nonce bs c).getD []
def opC (T : List Nat → List Nat) (nonce bs c : List Nat) : Int := if (openO T nonce bs c).isSome then 0 else 17
theorem op_no {T : List Nat → List Nat} {nonce bs c : List Nat} (h : openO T nonce bs c = none) : opX T nonce bs c = [] ∧ opC T nonce bs c = 17 := by unfold opX opC; rw [h]; exact ⟨rfl, rfl⟩
theorem op_yes {T : List Nat → List Nat} {nonce bs c p : List Nat} (h : openO T nonce bs c = some p) : opX T nonce bs c = p ∧ opC T nonce bs c = 0 := by unfold opX opC; rw [h]; exact ⟨rfl, rfl⟩
set_option maxHeartbeats 10000000 in
set_option maxRecDepth 100000 in
theorem rse_ok (key nonce bs p : List Nat) (kv nv sv pv : Value) (w : World) (rk : Row .u8 256 w kv key) (rn : Row .u8 256 w nv nonce) (rs : Row .u8 256 w sv bs) (rp : Row .u8 256 w pv p) (ts : Tidy sv) (hk : SzK key) (h12 : nonce.length = 12) (hs : bs.length ≤ 100000) (hp : p.length ≤ 100000) :
    Calls Try.prog 15 #[kv, nv, sv, pv] w fun e w' => ∃ v, e = .returned (.tuple #[v, .int .i64 0]) ∧ Own 5 .u8 256 w' w.heap.size v (sealL (blkA key) nonce bs p) ∧ Below w.heap.size w w' := by
  have hzd : decide (key.length = 16 ∨ key.length = 24 ∨ key.length = 32) = true := decide_eq_true hk
  have hsz := rsz_any key kv w rk
  rw [hzd] at hsz
  have hT : ∀ s, B16 s → B16 (blkA key s) := fun s h => blkA_b rk.under h
  have hst := rstr_ok key nonce p kv nv pv w rk rn rp hk h12 hp
  have hxl := xst_len hT h12 rn.under p
  have htg := fun y hv ov bv (r1 : Row .u8 256 y hv (blkA key z16)) (r2 : Row .u8 256 y ov (blkA key (cntB nonce 1))) (r3 : Row .u8 256 y sv bs) (r4 : Row .u8 256 y bv (xst (blkA key) nonce p)) (tb : Tidy bv) => rtag_ok _ _ bs _ hv ov sv bv y r1 r2 r3 r4 (hT _ z16_b) (hT _ (cntB_b h12 rn.under 1)) ts tb hs (by rw [hxl]; exact hp)
  have hse : sealL (blkA key) nonce bs p = xst (blkA key) nonce p ++ tagL (blkA key) nonce bs (xst (blkA key) nonce p) := rfl
  have htl := tagL_b hT h12 rn.under bs (xst (blkA key) nonce p)
  rw [hse]
  obtain ⟨na, nc, rfl, _⟩ := rn.opens h12
  obtain ⟨X, hX⟩ : ∃ x : Nat, x = bs.length := ⟨_, rfl⟩
  obtain ⟨Y, hY⟩ : ∃ x : Nat, x = p.length := ⟨_, rfl⟩
  obtain ⟨sa, sc, rfl, _⟩ := rs.opens hX.symm
  obtain ⟨pa, pc, rfl, _⟩ := rp.opens hY.symm
  have i_1 : ¬ ((1048576 : Int) < (X : Int)) := by omega
  have i_2 : ¬ ((1048576 : Int) < (Y : Int)) := by omega
  have htq : tagL (blkA key) nonce bs (xst (blkA key) nonce p) = xr2 (ghL (blkA key z16) (fil0 bs ++ fil0 (xst (blkA key) nonce p) ++ (be8 (8 * bs.length) ++ be8 (8 * (xst (blkA key) nonce p).length)))) (blkA key (cntB nonce 1)) := rfl
  rw [← htq] at htg
  have HX := hide (And.intro hxl (And.intro htl hp))
  clear hzd hk hT hse h12 hs hp hX hY hxl htl htq
  generalize tagL (blkA key) nonce bs (xst (blkA key) nonce p) = TG at *
  generalize xst (blkA key) nonce p = XS at *
  go_enter Try.func15, Try.ntmps15
  go_wp2_with (first
    | (go_at_call 30; refine hsz.mono ?_; rintro e yy ⟨rfl, hy⟩; obtain rfl := hy.symm)
    | (go_at_call 31; refine hst.mono ?_; rintro e y1 ⟨v1, h1, o1, rfl, ow1, rh1, ro1, b1⟩)
    | (go_at_call 32; refine (htg _ _ _ _ rh1 ro1 (rs.below b1) ow1.row (own_tidyG ow1)).mono ?_; rintro e y2 ⟨v2, rfl, ow2, b2⟩; have q1 := own_belowA ow1.1 b2; have k2 := keep_trans b1 b2)
    | (at_builtin; refine wpList_appA rfl _ _ rfl w.heap.size _ _ XS.length _ TG rfl q1 rfl ow2.row (own_tidyG ow2) (by rw [HX.out.1]; have := HX.out.2.2; omega) (by rw [HX.out.2.1.1]; decide) k2.size ?_; intro v3 y3 how3 hg3)
    | fail)
  go_ret2
  have k3 := k2.grown hg3 k2.size (fun k h => (q1.lt k h).1)
  exact ⟨_, rfl, ⟨by rw [List.length_append]; exact how3, Under.append ow1.2 HX.out.2.1.2⟩, k3⟩
set_option maxHeartbeats 10000000 in
set_option maxRecDepth 100000 in
theorem rop_ok (key nonce bs c : List Nat) (kv nv sv cv : Value) (w : World) (rk : Row .u8 256 w kv key) (rn : Row .u8 256 w nv nonce) (rs : Row .u8 256 w sv bs) (rc : Row .u8 256 w cv c) (ts : Tidy sv) (hk : SzK key) (h12 : nonce.length = 12) (hs : bs.length ≤ 100000) (hc : c.length ≤ 100000) (h16 : 16 ≤ c.length) :
    Calls Try.prog 17 #[kv, nv, sv, cv] w fun e w' => ∃ v, e = .returned (.tuple #[v, .int .i64 (opC (blkA key) nonce bs c)]) ∧ Row .u8 256 w' v (opX (blkA key) nonce bs c) ∧ New w.heap.size v ∧ Below w.heap.size w w' := by
  have hzd : decide (key.length = 16 ∨ key.length = 24 ∨ key.length = 32) = true := decide_eq_true hk
  have hsz := rsz_any key kv w rk
  rw [hzd] at hsz
  have hT : ∀ s, B16 s → B16 (blkA key s) := fun s h => blkA_b rk.under h
  obtain ⟨X, hX⟩ : ∃ x : Nat, x = bs.length := ⟨_, rfl⟩
  obtain ⟨Y, hY⟩ : ∃ x : Nat, x = c.length := ⟨_, rfl⟩
  obtain ⟨Q, hQ⟩ : ∃ x : Nat, x = Y - 16 := ⟨_, rfl⟩
  obtain ⟨ca, cc, rfl, l1, l2, hop⟩ := rc.opens hY.symm
  obtain ⟨cb, co, rfl, _⟩ := hop (by omega)
  have rt := rc.cut (M := Q) (by omega)
  have rd := rc.mid (i := Q) (j := Y) (by omega) (by omega)
  rw [show Y - Q = 16 by omega, show (c.drop Q).take 16 = c.drop Q from List.take_of_length_le (by rw [List.length_drop]; omega)] at rd
  have hst := rstr_ok key nonce (c.take Q) kv nv _ w rk rn rt hk h12 (by rw [List.length_take]; omega)
  have htg := fun y hv ov (r1 : Row .u8 256 y hv (blkA key z16)) (r2 : Row .u8 256 y ov (blkA key (cntB nonce 1))) (r3 : Row .u8 256 y sv bs) (r4 : Row .u8 256 y (.slice (some ⟨cb, co, none⟩) Q cc) (c.take Q)) => rtag_ok _ _ bs _ hv ov sv _ y r1 r2 r3 r4 (hT _ z16_b) (hT _ (cntB_b h12 rn.under 1)) ts (tidy_atA _ _ _) hs (by rw [List.length_take]; omega)
  have htq : tagL (blkA key) nonce bs (c.take Q) = xr2 (ghL (blkA key z16) (fil0 bs ++ fil0 (c.take Q) ++ (be8 (8 * bs.length) ++ be8 (8 * (c.take Q).length)))) (blkA key (cntB nonce 1)) := rfl
  rw [← htq] at htg
  have htl := tagL_b hT h12 rn.under bs (c.take Q)
  have hoO : openO (blkA key) nonce bs c = if tagL (blkA key) nonce bs (c.take Q) = c.drop Q then some (xst (blkA key) nonce (c.take Q)) else none := by unfold openO; rw [← hY, ← hQ]
  obtain ⟨na, nc, rfl, _⟩ := rn.opens h12
  obtain ⟨sa, sc, rfl, _⟩ := rs.opens hX.symm
  have i_16 : ¬ ((Y : Int) < 16) := by omega
  have i_1 : ¬ ((1048576 : Int) < (X : Int)) := by omega
  have i_2 : ¬ ((1048592 : Int) < (Y : Int)) := by omega
  have e_Q : (Y : Int) - 16 = (Q : Int) := by omega
  have s_Q : IntKind.i64.wrap (Q : Int) = (Q : Int) := by rw [IntKind.wrap_i64]; omega
  have z_Q : (0 : Int) ≤ (Q : Int) := Int.natCast_nonneg _
  have l_QY : (Q : Int) ≤ (Y : Int) := by omega
  have l_Qc : (Q : Int) ≤ (cc : Int) := by omega
  have l_Yc : (Y : Int) ≤ (cc : Int) := by omega
  have n_c : ¬ cc = Q := by omega
  have d_YQ : Y - Q = 16 := by omega
  have hsm := fun y v (r1 : Row .u8 256 y v (tagL (blkA key) nonce bs (c.take Q))) (r2 : Row .u8 256 y (.slice (some ⟨cb, co + Q, none⟩) 16 (cc - Q)) (c.drop Q)) => rsame_b v _ _ _ y r1 r2
  have HX := hide (And.intro hoO (And.intro rd (And.intro rt rs)))
  clear hzd hk hT h12 hs hc h16 hX hY hQ htq htl hoO rc hop
  by_cases hE : tagL (blkA key) nonce bs (c.take Q) = c.drop Q
  · have hO : openO (blkA key) nonce bs c = some (xst (blkA key) nonce (c.take Q)) := by rw [HX.out.1, if_pos hE]
    obtain ⟨u1, u2⟩ := op_yes hO
    rw [u1, u2]
    rw [decide_eq_true hE] at hsm
    clear hO u1 u2
    generalize tagL (blkA key) nonce bs (c.take Q) = TG at *
    go_enter Try.func17, Try.ntmps17
    go_wp2_with (first
      | (go_at_call 30; refine hsz.mono ?_; rintro e yy ⟨rfl, hy⟩; obtain rfl := hy.symm)
      | (go_at_call 31; refine hst.mono ?_; rintro e y1 ⟨v1, h1, o1, rfl, ow1, rh1, ro1, b1⟩; have bd1 : Below y1.heap.size y1 y1.drew := (Below.refl _ _).drew)
      | fail)
    go_region_with (first
      | (go_at_call 32; refine (htg _ _ _ (rh1.below bd1) (ro1.below bd1) ((HX.out.2.2.2.below b1).below bd1) ((HX.out.2.2.1.below b1).below bd1)).mono ?_; rintro e y2 ⟨v2, rfl, ow2, b2⟩; have k2 := keep_trans b1 (un_drew b2))
      | (go_at_call 9; refine (hsm _ _ ow2.row (HX.out.2.1.below k2)).mono ?_; rintro e y3 ⟨rfl, b3⟩)
      | fail)
    all_goals
      go_wp2
      go_ret2
      have k3 := keep_trans k2 b3
      exact ⟨_, rfl, ow1.row.below (keep_trans (un_drew b2) b3), ow1.new, k3⟩
  · have hO : openO (blkA key) nonce bs c = none := by rw [HX.out.1, if_neg hE]
    obtain ⟨u1, u2⟩ := op_no hO
    rw [u1, u2]
    rw [decide_eq_false hE] at hsm
    clear hO u1 u2
    generalize tagL (blkA key) nonce bs (c.take Q) = TG at *
    go_enter Try.func17, Try.ntmps17
    go_wp2_with (first
      | (go_at_call 30; refine hsz.mono ?_; rintro e yy ⟨rfl, hy⟩; obtain rfl := hy.symm)
      | (go_at_call 31; refine hst.mono ?_; rintro e y1 ⟨v1, h1, o1, rfl, ow1, rh1, ro1, b1⟩; have bd1 : Below y1.heap.size y1 y1.drew := (Below.refl _ _).drew)
      | fail)
    go_region_with (first
      | (go_at_call 32; refine (htg _ _ _ (rh1.below bd1) (ro1.below bd1) ((HX.out.2.2.2.below b1).below bd1) ((HX.out.2.2.1.below b1).below bd1)).mono ?_; rintro e y2 ⟨v2, rfl, ow2, b2⟩; have k2 := keep_trans b1 (un_drew b2))
      | (go_at_call 9; refine (hsm _ _ ow2.row (HX.out.2.1.below k2)).mono ?_; rintro e y3 ⟨rfl, b3⟩)
      | fail)
    all_goals
      go_wp2
      go_ret2
      have k3 := keep_trans k2 b3
      exact ⟨_, rfl, Row.nil _ _ _, New.nil _ _ _, k3⟩
end Go.Proofs.Ytjeofkemfpdieaa
