/- The document's Unwrap. -/
import Derived.Test.YtjnlkihhmenfnaaWRc
import Derived.Test.YtjnlkihhmenfnaaABl
import Derived.Test.YtjnlkihhmenfnaaWrM
import Derived.KernelRfl
namespace Go.Proofs.Ytjnlkihhmenfnaa
open Go.RowKit
set_option linter.unusedVariables false
set_option linter.unusedSimpArgs false

set_option maxHeartbeats 20000000 in
set_option maxRecDepth 100000 in
theorem rux_ok (kek key : List Nat) (kv pv : Value) (w : World) (rk : Row .u8 256 w kv kek) (rp : Row .u8 256 w pv key) (hk : SzK kek) (n : Nat) (hl : key.length = 8 * n + 8) (hn2 : 2 ≤ n) (hn : n ≤ 512) :
    Calls Try.prog 9 #[kv, pv] w fun e w' => ∃ v, e = .returned (.tuple #[v, .int .i64 (uwC (bakA kek) key)]) ∧ Row .u8 256 w' v (uwX (bakA kek) key) ∧ New w.heap.size v ∧ Below w.heap.size w w' := by
  have hzd : decide (kek.length = 16 ∨ kek.length = 24 ∨ kek.length = 32) = true := decide_eq_true hk
  have hsz := rsz_any kek kv w rk
  rw [hzd] at hsz
  have hkU := rk.under
  have hpU := rp.under
  have hT : ∀ s, B16 s → B16 (bakA kek s) := fun s h => bakA_b hkU h
  have hblk := fun y bv b (r1 : Row .u8 256 y kv kek) (r2 : Row .u8 256 y bv b) (hb : b.length = 16) => rbak_ok kek b kv bv y r1 r2 hk hb
  obtain ⟨Y, hY⟩ : ∃ x : Nat, x = key.length := ⟨_, rfl⟩
  obtain ⟨Z, hZ⟩ : ∃ x : Nat, x = 8 * n := ⟨_, rfl⟩
  obtain ⟨pa, pc, rfl, l5, l6, hop⟩ := rp.opens hY.symm
  obtain ⟨pb, po, rfl, _⟩ := hop (by omega)
  have i_24 : ¬ ((Y : Int) < 24) := by omega
  have i_41 : ¬ ((4104 : Int) < (Y : Int)) := by omega
  have e_8 : (Y : Int) % 8 = 0 := by omega
  have t_8 : (Y : Int).tmod 8 = 0 := by rw [Int.tmod_eq_emod_of_nonneg (by omega)]; exact e_8
  have l_8p : (8 : Int) ≤ (pc : Int) := by omega
  have l_8Y : (8 : Int) ≤ (Y : Int) := by omega
  have l_Yp : (Y : Int) ≤ (pc : Int) := by omega
  have n_8p : ¬ pc = 8 := by omega
  have d_Y8 : Y - 8 = Z := by omega
  have e_n : (Z : Int) / 8 = (n : Int) := by omega
  have t_n : (Z : Int).tdiv 8 = (n : Int) := by rw [Int.tdiv_eq_ediv_of_nonneg (by omega)]; exact e_n
  have s_n : IntKind.i64.wrap (n : Int) = (n : Int) := by rw [IntKind.wrap_i64]; omega
  have rh := rp.cut (M := 8) (by omega)
  have rt := rp.mid (i := 8) (j := Y) (by omega) (by omega)
  rw [d_Y8, show (key.drop 8).take Z = key.drop 8 from List.take_of_length_le (by rw [List.length_drop]; omega)] at rt
  generalize hTT : bakA kek = T at *
  obtain ⟨S, hS⟩ : ∃ S : Nat → Nat × List Nat, S = unD T n (6 * n) (numL (key.take 8), key.drop 8) := ⟨_, rfl⟩
  have hst : ∀ t, St n (S t) := fun t => by rw [hS]; exact unD_st (by omega) hT (wrp_st hl hpU) t
  have hss : ∀ d, S (d + 1) = unS T n (6 * n - 1 - d) (S d) := fun t => by rw [hS]; rfl
  have hs0 : S 0 = (numL (key.take 8), key.drop 8) := by rw [hS]; rfl
  have hsw : unwS T key = S (6 * n) := by rw [hS, unD_all]; unfold unwS; rw [show key.length / 8 - 1 = n by omega]
  have hnil : w.ownsRow w.heap.size 5 1 (.slice none 0 0) 0 (vals .u8 []) := ⟨rfl, .inl ⟨rfl, rfl⟩⟩
  have hZn : (key.drop 8).length = Z := by rw [List.length_drop]; omega
  have HN := hide (And.intro hl (And.intro hn2 (And.intro hn hZ)))
  have HS := hide (And.intro hst (And.intro hss (And.intro hs0 hsw)))
  have HT := hide (And.intro hT (And.intro hblk rk))
  have hZ6 : Z ≤ 1000000 := by omega
  obtain ⟨n1, hn1⟩ : ∃ x : Nat, x = n - 1 := ⟨_, rfl⟩
  have e_n1 : (n : Int) - 1 = (n1 : Int) := by omega
  have s_n1 : IntKind.i64.wrap (n1 : Int) = (n1 : Int) := by rw [IntKind.wrap_i64]; omega
  have HN1 := hide hn1
  clear hzd hk hl hn2 hn hZ hst hss hs0 hsw hT hblk hkU hpU hTT hS rk hY hop hn1
  go_enter Try.func9, Try.ntmps9
  go_wp2_with (first
    | (go_at_call 18; refine hsz.mono ?_; rintro e yy ⟨rfl, hy⟩; obtain rfl := hy.symm)
    | (go_at_call 22; refine (rnum_any _ _ _ rh).mono ?_; rintro e yy ⟨rfl, hy⟩; obtain rfl := hy.symm)
    | (at_builtin; refine wpList_appA rfl _ _ rfl w.heap.size _ _ 0 [] (key.drop 8) rfl hnil rfl rt (tidy_atA _ _ _) (by decide) (by omega) (Nat.le_refl _) ?_; intro v1 w1 how hg1; rw [Nat.zero_add, List.nil_append, hZn] at how; have hb1 := below_append' (Below.refl _ _) (Nat.le_refl _) hnil hg1; obtain ⟨g, cap, rfl, hgB, hgl, hZc, hcm, _⟩ := own_at how (by have := HN.out; omega) hZn)
    | fail)
  unfold maxLen at hcm
  have H0 : Hid (UjL w g Z cap n S (.int .u64 (numL (key.take 8) : Int)) (.int .i64 5) w1) := hide ⟨0, 5, by decide, by decide, rfl, by rw [Nat.mul_zero, HS.out.2.2.1], ⟨by rw [Nat.mul_zero, HS.out.2.2.1]; exact how, hb1⟩⟩
  have HG := hide (And.intro hgB (And.intro hgl (And.intro hZc hcm)))
  clear how hg1 hb1 hnil hgB hgl hcm hZc
  go_loopw [6, 9] (fun va vj wr => UjL w g Z cap n S va vj wr) (fun _ vj _ => (intOf vj + 1).toNat)
  case atStart => exact H0.out
  case round =>
    obtain ⟨jj, x, hj, hx, rfl, rfl, hp⟩ := hrel
    clear H0
    by_cases hlt : jj < 6
    · obtain ⟨j, hjx⟩ : ∃ y : Nat, x = (y : Int) := ⟨(5 - jj), by omega⟩
      subst hjx
      have hli : (0 : Int) ≤ (j : Int) := Int.natCast_nonneg _
      rename World => wo
      have H0 : Hid (UiL w g Z cap n jj S (.int .u64 ((S (n * jj)).1 : Int)) (.int .i64 (n1 : Int)) wo) := hide ⟨0, _, Nat.zero_le _, by omega, rfl, rfl, hp⟩
      have hjj : j = 5 - jj := by omega
      obtain ⟨xj, hxj⟩ : ∃ y : Int, y = (j : Int) - 1 := ⟨_, rfl⟩
      have e_xj : (j : Int) - 1 = xj := hxj.symm
      have s_xj : IntKind.i64.wrap xj = xj := by rw [IntKind.wrap_i64]; omega
      have HX := hide (And.intro hx (And.intro hjj (And.intro hxj hlt)))
      clear hp hx hjj hxj hj hlt
      go_wp2
      go_loopw [6, 10] (fun va vi wr => UiL w g Z cap n jj S va vi wr) (fun _ vi _ => (intOf vi + 1).toNat)
      case atStart => exact H0.out
      case round =>
        obtain ⟨ii, x, hi, hx, rfl, rfl, hp⟩ := hrel
        clear H0
        by_cases hin : ii < n
        · obtain ⟨hl, hn2, hn, hZ⟩ := HN.out
          obtain ⟨hxx, hjj, hxj, hlt⟩ := HX.out
          obtain ⟨i, hix⟩ : ∃ y : Nat, x = (y : Int) := ⟨n - 1 - ii, by omega⟩
          subst hix
          have hii : (0 : Int) ≤ (i : Int) := Int.natCast_nonneg _
          have hiN : i < n := by omega
          obtain ⟨xi, hxi⟩ : ∃ y : Int, y = (i : Int) - 1 := ⟨_, rfl⟩
          have e_xi : (i : Int) - 1 = xi := hxi.symm
          have s_xi : IntKind.i64.wrap xi = xi := by rw [IntKind.wrap_i64]; omega
          obtain ⟨hgB, hgl, hZc, hcm⟩ := HG.out
          obtain ⟨m, hm⟩ : ∃ x : Nat, x = n * j := ⟨_, rfl⟩
          obtain ⟨mm, hmm⟩ : ∃ x : Nat, x = n * jj := ⟨_, rfl⟩
          have hm5 : m + mm = 5 * n := by
            rw [hm, hmm, ← Nat.mul_add, show j + jj = 5 by omega, Nat.mul_comm]
          obtain ⟨t, ht⟩ : ∃ x : Nat, x = m + i := ⟨_, rfl⟩
          obtain ⟨d, hd⟩ : ∃ x : Nat, x = mm + ii := ⟨_, rfl⟩
          have htd : 6 * n - 1 - d = t := by omega
          have htn : t % n = i := by rw [ht, hm, Nat.mul_add_mod, Nat.mod_eq_of_lt hiN]
          have hst := HS.out.1 d
          have hss := HS.out.2.1 d
          rw [htd] at hss
          rw [← hmm, ← hd] at hp ⊢
          have hbk := hst.blk ((S d).1 ^^^ (t + 1)) (t := t) (by omega)
          rw [htn] at hbk
          obtain ⟨b, hb⟩ : ∃ b, b = T (be8 ((S d).1 ^^^ (t + 1)) ++ seg (S d).2 i) := ⟨_, rfl⟩
          have hbB : B16 b := by rw [hb]; exact HT.out.1 _ hbk
          have hs1 : S (d + 1) = (numL (b.take 8), putS (S d).2 i (b.drop 8)) := by rw [hss]; unfold unS; rw [htn, ← hb]
          have hrl := hst.len
          have ha := hst.num
          have hru := hst.und
          obtain ⟨hown, hbel⟩ := hp
          have rR : Row .u8 256 _ _ (S d).2 := Own.row (e := 5) (B := w.heap.size) ⟨by rw [hrl, show 8 * n = Z by omega]; exact hown, hru⟩
          rename World => wi
          have rS0 := rR.mid (i := 8 * i) (j := 8 * i + 8) (by omega) (by omega)
          rw [Nat.zero_add, show 8 * i + 8 - 8 * i = 8 by omega, show ((S d).2.drop (8 * i)).take 8 = seg (S d).2 i from rfl] at rS0
          generalize S d = s at *
          obtain ⟨a, r⟩ := s
          dsimp only at *
          have hbe := fun y => rbe8 (a ^^^ (t + 1)) y (xor64 ha (by omega))
          obtain ⟨i8, hi8⟩ : ∃ x : Nat, x = 8 * i := ⟨_, rfl⟩
          obtain ⟨j8, hj8⟩ : ∃ x : Nat, x = i8 + 8 := ⟨_, rfl⟩
          rw [← hi8] at rS0
          have e_i8 : 8 * (i : Int) = (i8 : Int) := by omega
          have s_i8 : IntKind.i64.wrap (i8 : Int) = (i8 : Int) := by rw [IntKind.wrap_i64]; omega
          have e_j8 : (i8 : Int) + 8 = (j8 : Int) := by omega
          have s_j8 : IntKind.i64.wrap (j8 : Int) = (j8 : Int) := by rw [IntKind.wrap_i64]; omega
          have z_i8 : (0 : Int) ≤ (i8 : Int) := Int.natCast_nonneg _
          have l_ij : (i8 : Int) ≤ (j8 : Int) := by omega
          have l_jc : (j8 : Int) ≤ (cap : Int) := by omega
          have n_c : ¬ cap = i8 := by omega
          have d_ji : j8 - i8 = 8 := by omega
          have e_m : (n : Int) * (j : Int) = (m : Int) := by rw [hm, Int.natCast_mul]
          have s_m : IntKind.i64.wrap (m : Int) = (m : Int) := by rw [IntKind.wrap_i64]; omega
          have e_t : (m : Int) + (i : Int) = (t : Int) := by omega
          have s_t : IntKind.i64.wrap (t : Int) = (t : Int) := by rw [IntKind.wrap_i64]; omega
          obtain ⟨t1, ht1⟩ : ∃ x : Nat, x = t + 1 := ⟨_, rfl⟩
          have e_t1 : (t : Int) + 1 = (t1 : Int) := by omega
          have s_t1 : IntKind.i64.wrap (t1 : Int) = (t1 : Int) := by rw [IntKind.wrap_i64]; omega
          have u_t1 : IntKind.u64.wrap (t1 : Int) = (t1 : Int) := by rw [IntKind.wrap_u64]; omega
          have x_t1 := u64_xor_nat a t1 ha (by omega)
          rw [← ht1] at hbe hb hbk
          generalize a ^^^ t1 = a1 at *
          have HB := hide (And.intro hb (And.intro hs1 (And.intro hbk (And.intro hrl (And.intro hru htn)))))
          have HI := hide (And.intro hi8 (And.intro hj8 (And.intro hmm (And.intro hd (And.intro hx (And.intro hxi hin))))))
          have HO := hide (And.intro hown (And.intro hbel (And.intro rR hbB)))
          have HGG := hide (And.intro hgB (And.intro hgl (And.intro hZc hcm)))
          have HNN := hide (And.intro hl (And.intro hn2 (And.intro hn hZ)))
          have hblk := HT.out.2.1
          have rkw := HT.out.2.2.below hbel
          have HIN := hide hiN
          clear hb hs1 hbk hrl hru htn hi8 hj8 hm ht ht1 hm5 hown hbel rR hbB hst hss hgB hgl hZc hcm hl hn2 hn hZ ha hin hi hlt hjj hxj hxi hx hxx hmm hd htd hiN
          go_wp2
          go_region_with (first
            | (go_at_call 21; refine (hbe _).mono ?_; rintro e y1 ⟨v1, rfl, o1, hb1⟩; have hb1' := un_drew hb1; obtain ⟨gb, cb, rfl, _⟩ := own_at o1.1 (by rw [be8_len]; decide) rfl; have rb1 := o1.row; rw [be8_len] at rb1; have hr2 := rows_lit2R rb1 (tidy_atA _ _ _) (rS0.below hb1') (tidy_atA _ _ _); have hj := rjoin_any _ _ _ hr2 (by simp only [List.flatten_cons, List.flatten_nil, List.append_nil]; rw [HB.out.2.2.1.1]; decide))
            | (go_at_call 20; refine hj.mono ?_; rintro e y2 ⟨v2, rfl, o2, hb2⟩; have hb12 := keep_trans (keep_trans hb1' (keep_alloc _ _)) hb2; have r2 := o2.row; simp only [List.flatten_cons, List.flatten_nil, List.append_nil] at r2)
            | (go_at_call 26; refine (hblk _ _ _ (rkw.below hb12) r2 HB.out.2.2.1.1).mono ?_; rintro e y3 ⟨v3, rfl, r3, n3, hb3⟩; rw [← HB.out.1] at r3; obtain ⟨ba, bc, rfl, lc1, lc2, hop⟩ := r3.opens HO.out.2.2.2.1; obtain ⟨bb, bo, rfl, hcb⟩ := hop (by decide))
            | fail)
          have hb13 := keep_trans hb12 hb3
          have l_8c : (8 : Int) ≤ (bc : Int) := by omega
          have rN := r3.cut (M := 8) (by rw [HO.out.2.2.2.1]; decide)
          have nbb : w.heap.size ≤ bb ∧ g ≠ bb := by
            have h1 : y2.heap.size ≤ bb := n3 bb rfl
            have h2 := (HO.out.1.lt g rfl).2
            have h3 := hb12.size
            have h4 := HO.out.2.1.size
            exact ⟨by omega, by omega⟩
          have K0 : Hid (WkL w y3 g Z cap i r b (.int .i64 0) y3) := hide ⟨0, by decide, rfl, own_belowA HO.out.1 hb13, But.refl _ _⟩
          have HBK := hide (And.intro hb13 (And.intro nbb hcb))
          clear hop hj hr2 o1 o2 hb1 hb2 hb3 hb1' hb12 rb1 r2 nbb hcb r3 n3
          go_wp2_with (first
            | (go_at_call 22; refine (rnum_any _ _ _ rN).mono ?_; rintro e yy ⟨rfl, hy⟩; obtain rfl := hy.symm)
            | fail)
          have HRN := hide rN
          clear rN
          go_loopw [13] (fun vk wr => WkL w y3 g Z cap i r b vk wr) (fun vk _ => 8 - (intOf vk).toNat)
          case atStart => exact K0.out
          case round =>
            obtain ⟨k, hk8, rfl, how, hbt⟩ := hrel
            clear K0
            obtain ⟨hi8, hj8, hmm, hd, hx, hxi, hin⟩ := HI.out
            have hiN := HIN.out
            obtain ⟨hl, hn2, hn, hZ⟩ := HNN.out
            obtain ⟨hb0, hs1, hbk, hrl, hru, htn⟩ := HB.out
            rename World => wk
            by_cases hlk : k < 8
            · have hlki : (k : Int) < 8 := by omega
              obtain ⟨o, ho⟩ : ∃ x : Nat, x = i8 + k := ⟨_, rfl⟩
              obtain ⟨q, hq⟩ : ∃ x : Nat, x = 8 + k := ⟨_, rfl⟩
              have e_o : (i8 : Int) + (k : Int) = (o : Int) := by omega
              have s_o : IntKind.i64.wrap (o : Int) = (o : Int) := by rw [IntKind.wrap_i64]; omega
              have e_q : 8 + (k : Int) = (q : Int) := by omega
              have s_q : IntKind.i64.wrap (q : Int) = (q : Int) := by rw [IntKind.wrap_i64]; omega
              have l_q : (q : Int) < 16 := by omega
              have l_o : (o : Int) < (Z : Int) := by omega
              have z_o : (0 : Int) ≤ (o : Int) := Int.natCast_nonneg _
              have z_q : (0 : Int) ≤ (q : Int) := Int.natCast_nonneg _
              have c1 := But.cell (HBK.out.2.2 q (by omega)) hbt (by show bb ≠ g; exact fun e => HBK.out.2.1.2 e.symm)
              have c2 : wk.cell? ⟨g, o, none⟩ = some (.int .u8 (el (putK r i b k) o)) := by
                rw [how.cellAt o (by omega), vals_get _ _ _ (by rw [putK_len]; omega)]
              have c3 := how.frozenAt o
              have hset := own_setW how o (el b q)
              rw [show (putK r i b k).set o (el b q) = putK r i b (k + 1) by rw [ho, hq, hi8]; rfl] at hset
              have HSET := hide (And.intro hset (And.intro (hbt.setCell o (.int .u8 (el b q))) (And.intro hlk hk8)))
              clear hset how hbt hlk hk8 ho hq hi8 hj8 hmm hd hx hxi hin hiN hl hn2 hn hZ hb0 hs1 hbk hrl hru htn
              go_wp2
              exact ⟨⟨k + 1, by have := HSET.out.2.2.1; omega, by go_num, HSET.out.1, HSET.out.2.1⟩, by have := HSET.out.2.2.1; simp [intOf]; omega⟩
            · obtain rfl : k = 8 := by omega
              rw [putK_all (by omega) HO.out.2.2.2.1] at how
              have hbw := HO.out.2.1.trans ((HBK.out.1.mono HO.out.2.1.size).trans ((hbt.below (B := w.heap.size) (by have := HGG.out; omega) (by have := HBK.out.1.size; have := HO.out.2.1.size; omega))))
              have hti : mm + (ii + 1) = d + 1 := by omega
              have HE := hide (And.intro how (And.intro hbw (And.intro hs1 hti)))
              clear how hbw hs1 hti hi8 hj8 hmm hd hx hxi hin hiN hl hn2 hn hZ hb0 hbk hrl hru htn hbt
              go_wp2
              refine ⟨⟨ii + 1, xi, by have := HI.out; omega, by have := HI.out; omega, rfl, ?_, ?_⟩, by have := HI.out; simp [intOf]; omega⟩
              · rw [← HI.out.2.2.1, HE.out.2.2.2, HE.out.2.2.1]
              · rw [← HI.out.2.2.1, HE.out.2.2.2, HE.out.2.2.1]
                exact ⟨HE.out.1, HE.out.2.1⟩
        · obtain rfl : ii = n := by omega
          have hge : ¬ ((0 : Int) ≤ x) := by omega
          have hge2 : x < 0 := by omega
          have HP := hide hp
          have HQ := hide hx
          clear hp hx
          go_wp2
          exact ⟨⟨jj + 1, xj, by have := HX.out; omega, by have := HX.out; omega, rfl, by rw [Nat.mul_succ], by rw [Nat.mul_succ]; exact HP.out⟩, by have := HX.out; simp [intOf]; omega⟩
    · obtain rfl : jj = 6 := by omega
      have hge : ¬ ((0 : Int) ≤ x) := by omega
      have hge2 : x < 0 := by omega
      rename World => wo
      obtain ⟨hl, hn2, hn, hZ⟩ := HN.out
      have hst := HS.out.1 (n * 6)
      have hsw := HS.out.2.2.2
      rw [show 6 * n = n * 6 by omega] at hsw
      obtain ⟨hown, hbel⟩ := hp
      have ow : Own 5 .u8 256 wo w.heap.size (.slice (some ⟨g, 0, none⟩) Z cap) (S (n * 6)).2 := ⟨by rw [hst.len, show 8 * n = Z by omega]; exact hown, hst.und⟩
      generalize S (n * 6) = s at *
      obtain ⟨a, r⟩ := s
      dsimp only at *
      have ha := hst.num
      by_cases hm : a = markW
      · have hO : unwO T key = some r := by unfold unwO; rw [hsw, if_pos hm]
        obtain ⟨u1, u2⟩ := uw_yes hO
        subst hm
        have HU := hide (And.intro u1 (And.intro u2 hbel))
        clear hl hn2 hn hZ hst hsw hown hO u1 u2 hbel hx ha
        unfold markW
        go_wp2
        go_ret2
        rw [HU.out.1, HU.out.2.1]
        exact ⟨_, rfl, ow.row, ow.new, HU.out.2.2⟩
      · have hO : unwO T key = none := by unfold unwO; rw [hsw, if_neg hm]
        obtain ⟨u1, u2⟩ := uw_no hO
        have hm2 : ¬ ((a : Int) = 12008468691120727718) := by unfold markW at hm; omega
        have hm3 : ((a : Int) == 12008468691120727718) = false := beq_eq_false_iff_ne.2 hm2
        have HU := hide (And.intro u1 (And.intro u2 hbel))
        clear hl hn2 hn hZ hst hsw hown hO u1 u2 hbel hx hm ha
        go_wp2
        go_ret2
        rw [HU.out.1, HU.out.2.1]
        exact ⟨_, rfl, Row.nil _ _ _, New.nil _ _ _, HU.out.2.2⟩
end Go.Proofs.Ytjnlkihhmenfnaa

/- Where the document's Wrap and Unwrap refuse. -/
namespace Go.Proofs.Ytjnlkihhmenfnaa
open Go.RowKit
set_option linter.unusedVariables false
set_option linter.unusedSimpArgs false

set_option maxHeartbeats 2000000 in
set_option maxRecDepth 100000 in
theorem rwr_key (kek p : List Nat) (kv pv : Value) (w : World) (rk : Row .u8 256 w kv kek) (hk : ¬ SzK kek) :
    Calls Try.prog 7 #[kv, pv] w fun e w' => e = .returned (.tuple #[.slice none 0 0, .int .i64 10]) ∧ Below w.heap.size w w' := by
  have hzd : decide (kek.length = 16 ∨ kek.length = 24 ∨ kek.length = 32) = false := decide_eq_false hk
  have hsz := rsz_any kek kv w rk
  rw [hzd] at hsz
  clear hzd hk rk
  go_enter Try.func7, Try.ntmps7
  go_wp2_with (first | (go_at_call 18; refine hsz.mono ?_; rintro e yy ⟨rfl, hy⟩; obtain rfl := hy.symm) | fail)
  go_ret2
  exact ⟨rfl, Below.refl _ _⟩
set_option maxHeartbeats 2000000 in
set_option maxRecDepth 100000 in
theorem rwr_size (kek p : List Nat) (kv pv : Value) (w : World) (rk : Row .u8 256 w kv kek) (rp : Row .u8 256 w pv p) (hk : SzK kek) (hp : p.length < 16 ∨ 4096 < p.length ∨ p.length % 8 ≠ 0) :
    Calls Try.prog 7 #[kv, pv] w fun e w' => e = .returned (.tuple #[.slice none 0 0, .int .i64 14]) ∧ Below w.heap.size w w' := by
  have hzd : decide (kek.length = 16 ∨ kek.length = 24 ∨ kek.length = 32) = true := decide_eq_true hk
  have hsz := rsz_any kek kv w rk
  rw [hzd] at hsz
  obtain ⟨Z, hZ⟩ : ∃ x : Nat, x = p.length := ⟨_, rfl⟩
  obtain ⟨pa, pc, rfl, _⟩ := rp.opens hZ.symm
  rw [← hZ] at hp
  clear hzd hk rk hZ
  by_cases h1 : Z < 16
  · have i1 : (Z : Int) < 16 := by omega
    clear hp
    go_enter Try.func7, Try.ntmps7
    go_wp2_with (first | (go_at_call 18; refine hsz.mono ?_; rintro e yy ⟨rfl, hy⟩; obtain rfl := hy.symm) | fail)
    go_ret2
    exact ⟨rfl, Below.refl _ _⟩
  have i1 : ¬ ((Z : Int) < 16) := by omega
  by_cases h2 : 4096 < Z
  · have i2 : (4096 : Int) < (Z : Int) := by omega
    clear hp
    go_enter Try.func7, Try.ntmps7
    go_wp2_with (first | (go_at_call 18; refine hsz.mono ?_; rintro e yy ⟨rfl, hy⟩; obtain rfl := hy.symm) | fail)
    go_ret2
    exact ⟨rfl, Below.refl _ _⟩
  have i2 : ¬ ((4096 : Int) < (Z : Int)) := by omega
  obtain ⟨Q, hQ⟩ : ∃ x : Nat, x = Z % 8 := ⟨_, rfl⟩
  have e_Q : (Z : Int) % 8 = (Q : Int) := by omega
  have t_Q : (Z : Int).tmod 8 = (Q : Int) := by rw [Int.tmod_eq_emod_of_nonneg (by omega)]; exact e_Q
  have z_Q : ¬ ((Q : Int) = 0) := by omega
  have z_Qb : ((Q : Int) == 0) = false := beq_eq_false_iff_ne.2 z_Q
  have z_Qn : ((Q : Int) != 0) = true := by simp [bne, z_Qb]
  clear hp hQ h1 h2
  go_enter Try.func7, Try.ntmps7
  go_wp2_with (first | (go_at_call 18; refine hsz.mono ?_; rintro e yy ⟨rfl, hy⟩; obtain rfl := hy.symm) | fail)
  go_ret2
  exact ⟨rfl, Below.refl _ _⟩
set_option maxHeartbeats 2000000 in
set_option maxRecDepth 100000 in
theorem rux_key (kek p : List Nat) (kv pv : Value) (w : World) (rk : Row .u8 256 w kv kek) (hk : ¬ SzK kek) :
    Calls Try.prog 9 #[kv, pv] w fun e w' => e = .returned (.tuple #[.slice none 0 0, .int .i64 10]) ∧ Below w.heap.size w w' := by
  have hzd : decide (kek.length = 16 ∨ kek.length = 24 ∨ kek.length = 32) = false := decide_eq_false hk
  have hsz := rsz_any kek kv w rk
  rw [hzd] at hsz
  clear hzd hk rk
  go_enter Try.func9, Try.ntmps9
  go_wp2_with (first | (go_at_call 18; refine hsz.mono ?_; rintro e yy ⟨rfl, hy⟩; obtain rfl := hy.symm) | fail)
  go_ret2
  exact ⟨rfl, Below.refl _ _⟩
set_option maxHeartbeats 2000000 in
set_option maxRecDepth 100000 in
theorem rux_size (kek p : List Nat) (kv pv : Value) (w : World) (rk : Row .u8 256 w kv kek) (rp : Row .u8 256 w pv p) (hk : SzK kek) (hp : p.length < 24 ∨ 4104 < p.length ∨ p.length % 8 ≠ 0) :
    Calls Try.prog 9 #[kv, pv] w fun e w' => e = .returned (.tuple #[.slice none 0 0, .int .i64 14]) ∧ Below w.heap.size w w' := by
  have hzd : decide (kek.length = 16 ∨ kek.length = 24 ∨ kek.length = 32) = true := decide_eq_true hk
  have hsz := rsz_any kek kv w rk
  rw [hzd] at hsz
  obtain ⟨Z, hZ⟩ : ∃ x : Nat, x = p.length := ⟨_, rfl⟩
  obtain ⟨pa, pc, rfl, _⟩ := rp.opens hZ.symm
  rw [← hZ] at hp
  clear hzd hk rk hZ
  by_cases h1 : Z < 24
  · have i1 : (Z : Int) < 24 := by omega
    clear hp
    go_enter Try.func9, Try.ntmps9
    go_wp2_with (first | (go_at_call 18; refine hsz.mono ?_; rintro e yy ⟨rfl, hy⟩; obtain rfl := hy.symm) | fail)
    go_ret2
    exact ⟨rfl, Below.refl _ _⟩
  have i1 : ¬ ((Z : Int) < 24) := by omega
  by_cases h2 : 4104 < Z
  · have i2 : (4104 : Int) < (Z : Int) := by omega
    clear hp
    go_enter Try.func9, Try.ntmps9
    go_wp2_with (first | (go_at_call 18; refine hsz.mono ?_; rintro e yy ⟨rfl, hy⟩; obtain rfl := hy.symm) | fail)
    go_ret2
    exact ⟨rfl, Below.refl _ _⟩
  have i2 : ¬ ((4104 : Int) < (Z : Int)) := by omega
  obtain ⟨Q, hQ⟩ : ∃ x : Nat, x = Z % 8 := ⟨_, rfl⟩
  have e_Q : (Z : Int) % 8 = (Q : Int) := by omega
  have t_Q : (Z : Int).tmod 8 = (Q : Int) := by rw [Int.tmod_eq_emod_of_nonneg (by omega)]; exact e_Q
  have z_Q : ¬ ((Q : Int) = 0) := by omega
  have z_Qb : ((Q : Int) == 0) = false := beq_eq_false_iff_ne.2 z_Q
  have z_Qn : ((Q : Int) != 0) = true := by simp [bne, z_Qb]
  clear hp hQ h1 h2
  go_enter Try.func9, Try.ntmps9
  go_wp2_with (first | (go_at_call 18; refine hsz.mono ?_; rintro e yy ⟨rfl, hy⟩; obtain rfl := hy.symm) | fail)
  go_ret2
  exact ⟨rfl, Below.refl _ _⟩
end Go.Proofs.Ytjnlkihhmenfnaa

/- Chapter 11's second example, by the kernel. -/
namespace Go.Proofs.Ytjnlkihhmenfnaa
set_option linter.unusedVariables false
set_option maxRecDepth 1000000

def ksZ : List Nat := [0, 0, 0, 0, 0, 0, 0, 0, 0, 0, 0, 0, 0, 0, 0, 0, 98, 99, 99, 99, 98, 99, 99, 99, 98, 99, 99, 99, 98, 99, 99, 99, 155, 152, 152, 201, 249, 251, 251, 170, 155, 152, 152, 201, 249, 251, 251, 170, 144, 151, 52, 80, 105, 108, 207, 250, 242, 244, 87, 51, 11, 15, 172, 153, 238, 6, 218, 123, 135, 106, 21, 129, 117, 158, 66, 178, 126, 145, 238, 43, 127, 46, 43, 136, 248, 68, 62, 9, 141, 218, 124, 187, 243, 75, 146, 144, 236, 97, 75, 133, 20, 37, 117, 140, 153, 255, 9, 55, 106, 180, 155, 167, 33, 117, 23, 135, 53, 80, 98, 11, 172, 175, 107, 60, 198, 27, 240, 155, 14, 249, 3, 51, 59, 169, 97, 56, 151, 6, 10, 4, 81, 29, 250, 159, 177, 212, 216, 226, 138, 125, 185, 218, 29, 123, 179, 222, 76, 102, 73, 65, 180, 239, 91, 203, 62, 146, 226, 17, 35, 233, 81, 207, 111, 143, 24, 142]
def utZ : List Nat := [82, 9, 106, 213, 48, 54, 165, 56, 191, 64, 163, 158, 129, 243, 215, 251, 124, 227, 57, 130, 155, 47, 255, 135, 52, 142, 67, 68, 196, 222, 233, 203, 84, 123, 148, 50, 166, 194, 35, 61, 238, 76, 149, 11, 66, 250, 195, 78, 8, 46, 161, 102, 40, 217, 36, 178, 118, 91, 162, 73, 109, 139, 209, 37, 114, 248, 246, 100, 134, 104, 152, 22, 212, 164, 92, 204, 93, 101, 182, 146, 108, 112, 72, 80, 253, 237, 185, 218, 94, 21, 70, 87, 167, 141, 157, 132, 144, 216, 171, 0, 140, 188, 211, 10, 247, 228, 88, 5, 184, 179, 69, 6, 208, 44, 30, 143, 202, 63, 15, 2, 193, 175, 189, 3, 1, 19, 138, 107, 58, 145, 17, 65, 79, 103, 220, 234, 151, 242, 207, 206, 240, 180, 230, 115, 150, 172, 116, 34, 231, 173, 53, 133, 226, 249, 55, 232, 28, 117, 223, 110, 71, 241, 26, 113, 29, 41, 197, 137, 111, 183, 98, 14, 170, 24, 190, 27, 252, 86, 62, 75, 198, 210, 121, 32, 154, 219, 192, 254, 120, 205, 90, 244, 31, 221, 168, 51, 136, 7, 199, 49, 177, 18, 16, 89, 39, 128, 236, 95, 96, 81, 127, 169, 25, 181, 74, 13, 45, 229, 122, 159, 147, 201, 156, 239, 160, 224, 59, 77, 174, 42, 245, 176, 200, 235, 187, 60, 131, 83, 153, 97, 23, 43, 4, 126, 186, 119, 214, 38, 225, 105, 20, 99, 85, 33, 12, 125]
theorem ksZ_is : keysL (List.replicate 16 0) = ksZ := of_decide_eq_true (by kernel_rfl)
theorem utZ_is : unT = utZ := of_decide_eq_true (by kernel_rfl)
/-- a block back, over whatever table -/
def bkG (U : List Nat) (n : Nat) (w : List Nat) : Nat → List Nat → List Nat
  | 0, s => keyAt w 0 s
  | r + 1, s => bkG U n w r (eachL U (rowsR (if r + 1 < n then colsL 14 11 13 9 (keyAt w (r + 1) s) else keyAt w (r + 1) s)))
theorem bkG_is (n : Nat) (w : List Nat) : ∀ r s, bkN n w r s = bkG unT n w r s
  | 0, s => rfl
  | r + 1, s => by
    show bkN n w r (stepB n w (r + 1) s) = _
    rw [bkG_is n w r]
    rfl
theorem bakZ (s : List Nat) : bakA (List.replicate 16 0) s = bkG utZ 10 ksZ 10 s := by
  unfold bakA
  rw [ksZ_is, bkG_is, utZ_is]
  rfl
theorem unw_ex : unwO (bakA (List.replicate 16 0)) (List.replicate 24 0) = none := by
  have h : bakA (List.replicate 16 0) = bkG utZ 10 ksZ 10 := funext bakZ
  rw [h]
  have hd : decide ((unwS (bkG utZ 10 ksZ 10) (List.replicate 24 0)).1 = markW) = false := by kernel_rfl
  unfold unwO
  rw [if_neg (of_decide_eq_false hd)]
end Go.Proofs.Ytjnlkihhmenfnaa
