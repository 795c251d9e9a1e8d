/- Wrapped keys: the document's words for its loops. -/
import Derived.Test.YtjnlkihhmenfnaaABl
import Derived.Test.YtjnlkihhmenfnaaWrM
import Derived.Test.YtjnlkihhmenfnaaRJoin
import Derived.Test.YtjnlkihhmenfnaaJMv
namespace Go.Proofs.Ytjnlkihhmenfnaa
open Go.RowKit
set_option linter.unusedVariables false
set_option linter.unusedSimpArgs false

/-- a word of a text overwritten, up to k bytes -/
def putK (r : List Nat) (i : Nat) (b : List Nat) : Nat → List Nat
  | 0 => r
  | k + 1 => (putK r i b k).set (8 * i + k) (el b (8 + k))
theorem putK_len (r : List Nat) (i : Nat) (b : List Nat) : ∀ k, (putK r i b k).length = r.length
  | 0 => rfl
  | k + 1 => by show ((putK r i b k).set _ _).length = _; rw [List.length_set, putK_len r i b k]
theorem putK_is {r b : List Nat} {i : Nat} (h : 8 * i + 8 ≤ r.length) (hb : b.length = 16) : ∀ k, k ≤ 8 → putK r i b k = r.take (8 * i) ++ ((b.drop 8).take k ++ r.drop (8 * i + k))
  | 0, _ => by rw [List.take_zero, List.nil_append, Nat.add_zero, List.take_append_drop]; rfl
  | k + 1, hk => by
    show (putK r i b k).set (8 * i + k) (el b (8 + k)) = _
    have e1 : (r.take (8 * i)).length = 8 * i := by rw [List.length_take]; omega
    have e2 : ((b.drop 8).take k).length = k := by rw [List.length_take, List.length_drop]; omega
    rw [putK_is h hb k (by omega), List.set_append_right _ _ (by omega), e1, Nat.add_sub_cancel_left, List.set_append_right _ _ (by omega), e2, Nat.sub_self, drop_el (l := r) (k := 8 * i + k) (by omega), List.set_cons_zero, take_el (l := b.drop 8) (by rw [List.length_drop]; omega), el_drop, List.append_assoc]
    rfl
theorem putK_all {r b : List Nat} {i : Nat} (h : 8 * i + 8 ≤ r.length) (hb : b.length = 16) : putK r i b 8 = putS r i (b.drop 8) := by
  rw [putK_is h hb 8 (Nat.le_refl _), List.take_of_length_le (l := b.drop 8) (by rw [List.length_drop]; omega)]
  unfold putS
  rw [List.append_assoc]
theorem rows_lit2R {w : World} {u v : Value} {a b : List Nat} (hu : Row .u8 256 w u a) (tu : Tidy u) (hv : Row .u8 256 w v b) (tv : Tidy v) : Rows2 (w.alloc (.cells #[u, v] 22)) (.slice (some ⟨w.heap.size, 0, none⟩) 2 2) [a, b] := by
  refine ⟨_, 2, rfl, Nat.le_refl _, by unfold maxLen; decide, fun _ => ⟨_, _, rfl, fun i hi => ?_⟩⟩
  have hb := keep_alloc w (.cells #[u, v] 22)
  match i, hi with
  | 0, _ => exact ⟨u, by rw [World.cell?_alloc_at _ _ _ _ rfl]; rfl, hu.below hb, tu⟩
  | 1, _ => exact ⟨v, by rw [World.cell?_alloc_at _ _ _ _ rfl]; rfl, hv.below hb, tv⟩
theorem leS_8W (n : Nat) : leS n 8 = leL n 8 := by unfold leS; rw [if_neg (by decide)]; rfl
theorem rbe8 (a : Nat) (w : World) (ha : a < 18446744073709551616) :
    Calls Try.prog 21 #[.int .u64 (a : Int), .int .i64 8] w fun e w' => ∃ v, e = .returned v ∧ Own 5 .u8 256 w' w.heap.size v (be8 a) ∧ Below w.heap.size w w' := by
  have := rbe_any a 8 w ha (by decide) (by decide)
  rw [leS_8W] at this
  exact this
/-- a row of the call's own with a number turned -/
theorem own_setW {w : World} {base g n cap : Nat} {l : List Nat} (h : w.ownsRow base 5 1 (.slice (some ⟨g, 0, none⟩) n cap) n (vals .u8 l)) (j x : Nat) : (w.setCell ⟨g, j, none⟩ (.int .u8 (x : Int))).ownsRow base 5 1 (.slice (some ⟨g, 0, none⟩) n cap) n (vals .u8 (l.set j x)) := by
  have := (h.stored j (.int .u8 (x : Int))).1
  rw [vals_set] at this
  exact this
/-- where the loops stand: behind t steps; behind k bytes of a word -/
structure WpL (w : World) (g Z cap : Nat) (s : Nat × List Nat) (wr : World) : Prop where
  own : wr.ownsRow w.heap.size 5 1 (.slice (some ⟨g, 0, none⟩) Z cap) Z (vals .u8 s.2)
  bel : Below w.heap.size w wr
def WjL (w : World) (g Z cap n : Nat) (S : Nat → Nat × List Nat) (va vj : Value) (wr : World) : Prop := ∃ j : Nat, j ≤ 6 ∧ vj = .int .i64 (j : Int) ∧ va = .int .u64 ((S (n * j)).1 : Int) ∧ WpL w g Z cap (S (n * j)) wr
def WiL (w : World) (g Z cap n j : Nat) (S : Nat → Nat × List Nat) (va vi : Value) (wr : World) : Prop := ∃ i : Nat, i ≤ n ∧ vi = .int .i64 (i : Int) ∧ va = .int .u64 ((S (n * j + i)).1 : Int) ∧ WpL w g Z cap (S (n * j + i)) wr
def WkL (w y : World) (g Z cap i : Nat) (r b : List Nat) (vk : Value) (wr : World) : Prop := ∃ k : Nat, k ≤ 8 ∧ vk = .int .i64 (k : Int) ∧ wr.ownsRow w.heap.size 5 1 (.slice (some ⟨g, 0, none⟩) Z cap) Z (vals .u8 (putK r i b k)) ∧ But g y wr
def UjL (w : World) (g Z cap n : Nat) (S : Nat → Nat × List Nat) (va vj : Value) (wr : World) : Prop := ∃ (j : Nat) (x : Int), j ≤ 6 ∧ x = 5 - (j : Int) ∧ vj = .int .i64 x ∧ va = .int .u64 ((S (n * j)).1 : Int) ∧ WpL w g Z cap (S (n * j)) wr
def UiL (w : World) (g Z cap n j : Nat) (S : Nat → Nat × List Nat) (va vi : Value) (wr : World) : Prop := ∃ (i : Nat) (x : Int), i ≤ n ∧ x = (n : Int) - 1 - (i : Int) ∧ vi = .int .i64 x ∧ va = .int .u64 ((S (n * j + i)).1 : Int) ∧ WpL w g Z cap (S (n * j + i)) wr
end Go.Proofs.Ytjnlkihhmenfnaa

/- The document's Wrap. -/
namespace Go.Proofs.Ytjnlkihhmenfnaa
open Go.RowKit
set_option linter.unusedVariables false
set_option linter.unusedSimpArgs false

set_option maxHeartbeats 20000000 in
set_option maxRecDepth 100000 in
theorem rwr_ok (kek key : List Nat) (kv pv : Value) (w : World) (rk : Row .u8 256 w kv kek) (rp : Row .u8 256 w pv key) (hk : SzK kek) (n : Nat) (hl : key.length = 8 * n) (hn2 : 2 ≤ n) (hn : n ≤ 512) :
    Calls Try.prog 7 #[kv, pv] w fun e w' => ∃ v, e = .returned (.tuple #[v, .int .i64 0]) ∧ Row .u8 256 w' v (wrapL (blkA kek) key) ∧ New w.heap.size v ∧ Below w.heap.size w w' := by
  have hzd : decide (kek.length = 16 ∨ kek.length = 24 ∨ kek.length = 32) = true := decide_eq_true hk
  have hsz := rsz_any kek kv w rk
  rw [hzd] at hsz
  have hkU := rk.under
  have hpU := rp.under
  have hT : ∀ s, B16 s → B16 (blkA kek s) := fun s h => blkA_b hkU h
  have hblk := fun y bv b (r1 : Row .u8 256 y kv kek) (r2 : Row .u8 256 y bv b) (hb : b.length = 16) => rblk_ok kek b kv bv y r1 r2 hk hb
  have tp := row_tidyA rp (by omega)
  obtain ⟨Z, hZ⟩ : ∃ x : Nat, x = key.length := ⟨_, rfl⟩
  obtain ⟨pa, pc, rfl, l5, l6, _⟩ := rp.opens hZ.symm
  have i_16 : ¬ ((Z : Int) < 16) := by omega
  have i_40 : ¬ ((4096 : Int) < (Z : Int)) := by omega
  have e_8 : (Z : Int) % 8 = 0 := by omega
  have t_8 : (Z : Int).tmod 8 = 0 := by rw [Int.tmod_eq_emod_of_nonneg (by omega)]; exact e_8
  have e_n : (Z : Int) / 8 = (n : Int) := by omega
  have t_n : (Z : Int).tdiv 8 = (n : Int) := by rw [Int.tdiv_eq_ediv_of_nonneg (by omega)]; exact e_n
  have s_n : IntKind.i64.wrap (n : Int) = (n : Int) := by rw [IntKind.wrap_i64]; omega
  generalize hTT : blkA kek = T at *
  obtain ⟨S, hS⟩ : ∃ S : Nat → Nat × List Nat, S = fun t => wrN T n t (markW, key) := ⟨_, rfl⟩
  have hst : ∀ t, t ≤ 6 * n → St n (S t) := fun t ht => by rw [hS]; exact wrN_st (by omega) hT (key_st hl hpU) t (by omega)
  have hss : ∀ t, S (t + 1) = wrS T n t (S t) := fun t => by rw [hS]; rfl
  have hs0 : S 0 = (markW, key) := by rw [hS]; rfl
  have hsw : wrapL T key = be8 (S (6 * n)).1 ++ (S (6 * n)).2 := by rw [hS]; unfold wrapL; rw [show key.length / 8 = n by omega]
  have hnil : w.ownsRow w.heap.size 5 1 (.slice none 0 0) 0 (vals .u8 []) := ⟨rfl, .inl ⟨rfl, rfl⟩⟩
  have HN := hide (And.intro hl (And.intro hn2 (And.intro hn hZ)))
  have HS := hide (And.intro hst (And.intro hss (And.intro hs0 hsw)))
  have HT := hide (And.intro hT (And.intro hblk rk))
  have hZn : key.length = Z := hZ.symm
  have hZ6 : Z ≤ 1000000 := by omega
  clear hzd hk hl hn2 hn hZ hst hss hs0 hsw hT hblk hkU hpU hTT hS rk
  go_enter Try.func7, Try.ntmps7
  go_wp2_with (first
    | (go_at_call 18; refine hsz.mono ?_; rintro e yy ⟨rfl, hy⟩; obtain rfl := hy.symm)
    | (at_builtin; refine wpList_appA rfl _ _ rfl w.heap.size _ _ 0 [] key rfl hnil rfl rp tp (by decide) (by omega) (Nat.le_refl _) ?_; intro v1 w1 how hg1; rw [Nat.zero_add, List.nil_append, hZn] at how)
    | fail)
  have hb1 := below_append' (Below.refl _ _) (Nat.le_refl _) hnil hg1
  obtain ⟨g, cap, rfl, hgB, hgl, hZc, hcm, _⟩ := own_at how (by have := HN.out; omega) hZn
  unfold maxLen at hcm
  have H0 : Hid (WjL w g Z cap n S (.int .u64 12008468691120727718) (.int .i64 0) w1) := hide ⟨0, by decide, rfl, by rw [Nat.mul_zero, HS.out.2.2.1]; rfl, ⟨by rw [Nat.mul_zero, HS.out.2.2.1]; exact how, hb1⟩⟩
  have HG := hide (And.intro hgB (And.intro hgl (And.intro hZc hcm)))
  clear how hg1 hb1 hnil hgB hgl hcm hZc
  go_loopw [7, 9] (fun va vj wr => WjL w g Z cap n S va vj wr) (fun _ vj _ => 6 - (intOf vj).toNat)
  case atStart => exact H0.out
  case round =>
    obtain ⟨j, hj, rfl, rfl, hp⟩ := hrel
    clear H0
    by_cases hlt : j < 6
    · have hli : (j : Int) < 6 := by omega
      rename World => wo
      have H0 : Hid (WiL w g Z cap n j S (.int .u64 ((S (n * j)).1 : Int)) (.int .i64 0) wo) := hide ⟨0, Nat.zero_le _, rfl, rfl, hp⟩
      clear hp
      go_wp2
      go_loopw [7, 10] (fun va vi wr => WiL w g Z cap n j S va vi wr) (fun _ vi _ => n - (intOf vi).toNat)
      case atStart => exact H0.out
      case round =>
        obtain ⟨i, hi, rfl, rfl, hp⟩ := hrel
        clear H0
        by_cases hin : i < n
        · have hii : (i : Int) < (n : Int) := by omega
          obtain ⟨hl, hn2, hn, hZ⟩ := HN.out
          obtain ⟨hgB, hgl, hZc, hcm⟩ := HG.out
          obtain ⟨m, hm⟩ : ∃ x : Nat, x = n * j := ⟨_, rfl⟩
          have hm5 : m + n ≤ 6 * n := by
            have : n * (j + 1) ≤ n * 6 := Nat.mul_le_mul_left n (by omega)
            rw [Nat.mul_succ, ← hm] at this
            omega
          obtain ⟨t, ht⟩ : ∃ x : Nat, x = m + i := ⟨_, rfl⟩
          have htn : t % n = i := by rw [ht, hm, Nat.mul_add_mod, Nat.mod_eq_of_lt hin]
          have hst := HS.out.1 t (by omega)
          have hss := HS.out.2.1 t
          rw [← hm, ← ht] at hp ⊢
          have hbk := hst.blk (S t).1 (t := t) (by omega)
          rw [htn] at hbk
          obtain ⟨b, hb⟩ : ∃ b, b = T (be8 (S t).1 ++ seg (S t).2 i) := ⟨_, rfl⟩
          have hbB : B16 b := by rw [hb]; exact HT.out.1 _ hbk
          have hs1 : S (t + 1) = (numL (b.take 8) ^^^ (t + 1), putS (S t).2 i (b.drop 8)) := by rw [hss]; unfold wrS; rw [htn, ← hb]
          have hrl := hst.len
          have ha := hst.num
          have hru := hst.und
          obtain ⟨hown, hbel⟩ := hp
          have rR : Row .u8 256 _ _ (S t).2 := Own.row (e := 5) (B := w.heap.size) ⟨by rw [hrl, show 8 * n = Z by omega]; exact hown, hru⟩
          rename World => wi
          have rS0 := rR.mid (i := 8 * i) (j := 8 * i + 8) (by omega) (by omega)
          rw [Nat.zero_add, show 8 * i + 8 - 8 * i = 8 by omega, show ((S t).2.drop (8 * i)).take 8 = seg (S t).2 i from rfl] at rS0
          generalize S t = s at *
          obtain ⟨a, r⟩ := s
          dsimp only at *
          have hbe := fun y => rbe8 a y ha
          obtain ⟨i8, hi8⟩ : ∃ x : Nat, x = 8 * i := ⟨_, rfl⟩
          obtain ⟨j8, hj8⟩ : ∃ x : Nat, x = i8 + 8 := ⟨_, rfl⟩
          rw [← hi8] at rS0
          have e_i8 : 8 * (i : Int) = (i8 : Int) := by omega
          have s_i8 : IntKind.i64.wrap (i8 : Int) = (i8 : Int) := by rw [IntKind.wrap_i64]; omega
          have e_j8 : (i8 : Int) + 8 = (j8 : Int) := by omega
          have s_j8 : IntKind.i64.wrap (j8 : Int) = (j8 : Int) := by rw [IntKind.wrap_i64]; omega
          have z_i8 : (0 : Int) ≤ (i8 : Int) := Int.natCast_nonneg _
          have l_ij : (i8 : Int) ≤ (j8 : Int) := by omega
          have l_jc : (j8 : Int) ≤ (cap : Int) := by omega
          have n_c : ¬ cap = i8 := by omega
          have d_ji : j8 - i8 = 8 := by omega
          have e_m : (n : Int) * (j : Int) = (m : Int) := by rw [hm, Int.natCast_mul]
          have s_m : IntKind.i64.wrap (m : Int) = (m : Int) := by rw [IntKind.wrap_i64]; omega
          have e_t : (m : Int) + (i : Int) = (t : Int) := by omega
          have s_t : IntKind.i64.wrap (t : Int) = (t : Int) := by rw [IntKind.wrap_i64]; omega
          obtain ⟨t1, ht1⟩ : ∃ x : Nat, x = t + 1 := ⟨_, rfl⟩
          have e_t1 : (t : Int) + 1 = (t1 : Int) := by omega
          have s_t1 : IntKind.i64.wrap (t1 : Int) = (t1 : Int) := by rw [IntKind.wrap_i64]; omega
          have u_t1 : IntKind.u64.wrap (t1 : Int) = (t1 : Int) := by rw [IntKind.wrap_u64]; omega
          have x_t1 := u64_xor_nat (numL (b.take 8)) t1 (numL_lt _) (by omega)
          rw [← ht1] at hs1
          have HB := hide (And.intro hb (And.intro hs1 (And.intro hbk (And.intro hrl (And.intro hru htn)))))
          have HI := hide (And.intro hi8 (And.intro hj8 (And.intro hm (And.intro ht (And.intro hm5 ht1)))))
          have HO := hide (And.intro hown (And.intro hbel (And.intro rR hbB)))
          have HGG := hide (And.intro hgB (And.intro hgl (And.intro hZc hcm)))
          have HNN := hide (And.intro hl (And.intro hn2 (And.intro hn hZ)))
          have hblk := HT.out.2.1
          have rkw := HT.out.2.2.below hbel
          clear hb hs1 hbk hrl hru htn hi8 hj8 hm ht ht1 hm5 hown hbel rR hbB hst hss hgB hgl hZc hcm hl hn2 hn hZ ha hin hi hlt hj
          go_wp2
          go_region_with (first
            | (go_at_call 21; refine (hbe _).mono ?_; rintro e y1 ⟨v1, rfl, o1, hb1⟩; have hb1' := un_drew hb1; obtain ⟨gb, cb, rfl, _⟩ := own_at o1.1 (by rw [be8_len]; decide) rfl; have rb1 := o1.row; rw [be8_len] at rb1; have hr2 := rows_lit2R rb1 (tidy_atA _ _ _) (rS0.below hb1') (tidy_atA _ _ _); have hj := rjoin_any _ _ _ hr2 (by simp only [List.flatten_cons, List.flatten_nil, List.append_nil]; rw [HB.out.2.2.1.1]; decide))
            | (go_at_call 20; refine hj.mono ?_; rintro e y2 ⟨v2, rfl, o2, hb2⟩; have hb12 := keep_trans (keep_trans hb1' (keep_alloc _ _)) hb2; have r2 := o2.row; simp only [List.flatten_cons, List.flatten_nil, List.append_nil] at r2)
            | (go_at_call 19; refine (hblk _ _ _ (rkw.below hb12) r2 HB.out.2.2.1.1).mono ?_; rintro e y3 ⟨v3, rfl, r3, n3, hb3⟩; rw [← HB.out.1] at r3; obtain ⟨ba, bc, rfl, lc1, lc2, hop⟩ := r3.opens HO.out.2.2.2.1; obtain ⟨bb, bo, rfl, hcb⟩ := hop (by decide))
            | fail)
          have hb13 := keep_trans hb12 hb3
          have l_8c : (8 : Int) ≤ (bc : Int) := by omega
          have rN := r3.cut (M := 8) (by rw [HO.out.2.2.2.1]; decide)
          have nbb : w.heap.size ≤ bb ∧ g ≠ bb := by
            have h1 : y2.heap.size ≤ bb := n3 bb rfl
            have h2 := (HO.out.1.lt g rfl).2
            have h3 := hb12.size
            have h4 := HO.out.2.1.size
            exact ⟨by omega, by omega⟩
          have K0 : Hid (WkL w y3 g Z cap i r b (.int .i64 0) y3) := hide ⟨0, by decide, rfl, own_belowA HO.out.1 hb13, But.refl _ _⟩
          have HBK := hide (And.intro hb13 (And.intro nbb hcb))
          clear hop hj hr2 o1 o2 hb1 hb2 hb3 hb1' hb12 rb1 r2 nbb hcb r3 n3
          go_wp2_with (first
            | (go_at_call 22; refine (rnum_any _ _ _ rN).mono ?_; rintro e yy ⟨rfl, hy⟩; obtain rfl := hy.symm)
            | fail)
          have HRN := hide rN
          clear rN
          go_loopw [13] (fun vk wr => WkL w y3 g Z cap i r b vk wr) (fun vk _ => 8 - (intOf vk).toNat)
          case atStart => exact K0.out
          case round =>
            obtain ⟨k, hk8, rfl, how, hbt⟩ := hrel
            clear K0
            obtain ⟨hi8, hj8, hm, ht, hm5, ht1⟩ := HI.out
            obtain ⟨hl, hn2, hn, hZ⟩ := HNN.out
            obtain ⟨hb0, hs1, hbk, hrl, hru, htn⟩ := HB.out
            rename World => wk
            by_cases hlk : k < 8
            · have hlki : (k : Int) < 8 := by omega
              obtain ⟨o, ho⟩ : ∃ x : Nat, x = i8 + k := ⟨_, rfl⟩
              obtain ⟨q, hq⟩ : ∃ x : Nat, x = 8 + k := ⟨_, rfl⟩
              have e_o : (i8 : Int) + (k : Int) = (o : Int) := by omega
              have s_o : IntKind.i64.wrap (o : Int) = (o : Int) := by rw [IntKind.wrap_i64]; omega
              have e_q : 8 + (k : Int) = (q : Int) := by omega
              have s_q : IntKind.i64.wrap (q : Int) = (q : Int) := by rw [IntKind.wrap_i64]; omega
              have l_q : (q : Int) < 16 := by omega
              have l_o : (o : Int) < (Z : Int) := by omega
              have z_o : (0 : Int) ≤ (o : Int) := Int.natCast_nonneg _
              have z_q : (0 : Int) ≤ (q : Int) := Int.natCast_nonneg _
              have c1 := But.cell (HBK.out.2.2 q (by omega)) hbt (by show bb ≠ g; exact fun e => HBK.out.2.1.2 e.symm)
              have c2 : wk.cell? ⟨g, o, none⟩ = some (.int .u8 (el (putK r i b k) o)) := by
                rw [how.cellAt o (by omega), vals_get _ _ _ (by rw [putK_len]; omega)]
              have c3 := how.frozenAt o
              have hset := own_setW how o (el b q)
              rw [show (putK r i b k).set o (el b q) = putK r i b (k + 1) by rw [ho, hq, hi8]; rfl] at hset
              have HSET := hide (And.intro hset (And.intro (hbt.setCell o (.int .u8 (el b q))) (And.intro hlk hk8)))
              clear hset how hbt hlk hk8 ho hq hi8 hj8 hm ht hm5 ht1 hl hn2 hn hZ hb0 hs1 hbk hrl hru htn
              go_wp2
              exact ⟨⟨k + 1, by have := HSET.out.2.2.1; omega, by go_num, HSET.out.1, HSET.out.2.1⟩, by have := HSET.out.2.2.1; simp [intOf]; omega⟩
            · obtain rfl : k = 8 := by omega
              rw [putK_all (by omega) HO.out.2.2.2.1] at how
              have hbw := HO.out.2.1.trans ((HBK.out.1.mono HO.out.2.1.size).trans ((hbt.below (B := w.heap.size) (by have := HGG.out; omega) (by have := HBK.out.1.size; have := HO.out.2.1.size; omega))))
              have hti : m + (i + 1) = t1 := by omega
              have HE := hide (And.intro how (And.intro hbw (And.intro hs1 (And.intro hti hii))))
              clear how hbw hs1 hti hi8 hj8 hm ht hm5 ht1 hl hn2 hn hZ hb0 hbk hrl hru htn hbt
              go_wp2
              refine ⟨⟨i + 1, by have := HE.out.2.2.2.2; omega, by go_num, ?_, ?_⟩, by have := HE.out.2.2.2.2; simp [intOf]; omega⟩
              · rw [← HI.out.2.2.1, HE.out.2.2.2.1, HE.out.2.2.1]
              · rw [← HI.out.2.2.1, HE.out.2.2.2.1, HE.out.2.2.1]
                exact ⟨HE.out.1, HE.out.2.1⟩
        · have hge : ¬ ((i : Int) < (n : Int)) := by omega
          obtain rfl : i = n := by omega
          have HP := hide hp
          have HJ := hide hlt
          clear hp hlt
          go_wp2
          exact ⟨⟨j + 1, by have := HJ.out; omega, by go_num, by rw [Nat.mul_succ], by rw [Nat.mul_succ]; exact HP.out⟩, by have := HJ.out; simp [intOf]; omega⟩
    · have hge : ¬ ((j : Int) < 6) := by omega
      obtain rfl : j = 6 := by omega
      rename World => wo
      obtain ⟨hl, hn2, hn, hZ⟩ := HN.out
      have hst := HS.out.1 (n * 6) (by omega)
      have hsw := HS.out.2.2.2
      rw [show 6 * n = n * 6 by omega] at hsw
      obtain ⟨hown, hbel⟩ := hp
      have rR : Row .u8 256 wo _ (S (n * 6)).2 := Own.row (e := 5) (B := w.heap.size) ⟨by rw [hst.len, show 8 * n = Z by omega]; exact hown, hst.und⟩
      have hrl : (S (n * 6)).2.length = Z := by rw [hst.len]; omega
      have hbe := fun y => rbe8 (S (n * 6)).1 y hst.num
      have hau : Under 256 (be8 (S (n * 6)).1 ++ (S (n * 6)).2) := Under.append (be8_under _) hst.und
      generalize S (n * 6) = s at *
      obtain ⟨a, r⟩ := s
      dsimp only at *
      have HW := hide (And.intro hau (And.intro hrl (And.intro hbel hsw)))
      clear hl hn2 hn hZ hst hsw hown hau hrl hbel hge
      go_wp2_with (first
        | (go_at_call 21; refine (hbe _).mono ?_; rintro e y1 ⟨v1, rfl, o1, hb1⟩)
        | (at_builtin; refine wpList_appA rfl _ _ rfl wo.heap.size _ _ 8 _ r rfl (by have := o1.1; rw [be8_len] at this; exact this) rfl (rR.below hb1) (tidy_atA _ _ _) (by decide) (by rw [HW.out.2.1]; omega) hb1.size ?_; intro v2 w2 how2 hg2)
        | fail)
      go_ret2
      have hbw := HW.out.2.2.1
      have hb2 := hb1.grown hg2 hb1.size (fun k h => by have := (o1.1.lt k h).1; exact this)
      rw [HW.out.2.2.2]
      have ow : Own 5 .u8 256 w2 wo.heap.size v2 (be8 a ++ r) := ⟨by rw [List.length_append, be8_len]; exact how2, HW.out.1⟩
      exact ⟨_, rfl, ow.row, (ow.mono hbw.size).new, keep_trans hbw hb2⟩
end Go.Proofs.Ytjnlkihhmenfnaa
