/- Contract of apostilleref01.Join. -/
import Derived.Test.YtjnlkihhmenfnaaBase
import Derived.Test.YtjnlkihhmenfnaaTex
import Derived.Laws.AppendOwnNone
import Derived.Test.YtjnlkihhmenfnaaWrM
import Derived.Test.YtjnlkihhmenfnaaJRo
import Derived.Test.YtjnlkihhmenfnaaJTh
namespace Go.Proofs.Ytjnlkihhmenfnaa
open Go.RowKit
set_option linter.unusedVariables false

set_option maxHeartbeats 2000000 in
theorem rjoin_any (va : Value) (ls : List (List Nat)) (w : World) (ha : Rows2 w va ls) (hs : ls.flatten.length ≤ 2000000) :
    Calls Try.prog 20 #[va] w fun e w' => ∃ v, e = .returned v ∧ Own 5 .u8 256 w' w.heap.size v ls.flatten ∧ Below w.heap.size w w' := by
  have hu := ha.under
  have ha' := ha
  obtain ⟨a, ca, rfl, ha1, ha2, ha3⟩ := ha
  unfold maxLen at ha2
  obtain ⟨i0, hi, hz0, hz1, hz2⟩ := info_parts Try.info5
  go_enter Try.func20, Try.ntmps20
  go_wp2
  go_loopw [3, 4] (fun v i wr => ∃ k : Nat, k ≤ ls.length ∧ i = .int .i64 k ∧ wr.ownsRow w.heap.size 5 1 v (ls.take k).flatten.length (vals .u8 (ls.take k).flatten) ∧ Below w.heap.size w wr) (fun _ i _ => ls.length - (intOf i).toNat)
  case atStart => exact ⟨0, Nat.zero_le _, rfl, World.ownsRow_nil _ _ _ _, Below.refl _ _⟩
  case round =>
    obtain ⟨k, hk, rfl, how, hbr⟩ := hrel
    by_cases hlt : k < ls.length
    · have hf := flat_succ hlt
      have hle := flat_le ls (k + 1)
      rw [hf, List.length_append] at hle
      obtain ⟨a2, ca2, he, _, _, h3⟩ := ha'.below hbr
      obtain ⟨rfl, rfl⟩ : a = a2 ∧ ca = ca2 := by simpa using he
      obtain ⟨b, off, rfl, hc⟩ := h3 (by omega)
      obtain ⟨u, c1, ⟨au, cu, rfl, hu1, hu2, hu3, hu4⟩, htidy⟩ := hc k hlt
      clear hc h3 he ha3
      have hsz := hbr.size
      have HF := hide hf
      clear hf
      generalize hM : (ls.take k).flatten = M at *
      have HM := hide hM
      clear hM
      generalize hT : tx ls k = T at *
      have HT := hide hT
      clear hT
      cases au with
      | none =>
        obtain ⟨h0, rfl⟩ := htidy _ _ rfl
        have hT0 : T = [] := List.eq_nil_of_length_eq_zero h0
        subst hT0
        go_wp2_with (first | (at_builtin; refine wpList_append_own_none rfl _ _ 22 rfl w.heap.size 5 i0 1 Try.underlying22 hi _ _ _ rfl how rfl ?_) | fail)
        go_roundw
        case rel => exact ⟨k + 1, by omega, by go_num, by rw [HF.out, List.append_nil]; exact how, hbr⟩
        case measure => simp [intOf]; omega
      | some x =>
        go_wp2_with (first | (at_builtin; refine wpList_append_own _ rfl _ _ 22 rfl w.heap.size 5 i0 (.int .u8 0) 1 1 Try.underlying22 hi hz0 hz1 hz2 rfl (by decide) _ _ _ rfl how x T.length cu (vals .u8 T) rfl (by rw [vals_length, Nat.mul_one]) (cells_news hu3) (vals_one _ _) (by unfold maxLen; omega) (by omega) hsz ?_; intro v' w3 how' hgrow _) | fail)
        have hb3 := below_append' hbr hsz how hgrow
        clear how hgrow hbr
        go_roundw
        case rel => exact ⟨k + 1, by omega, by go_num, by rw [HF.out, List.length_append, vals_append]; exact how', hb3⟩
        case measure => simp [intOf]; omega
    · go_wp2
      go_ret
      rw [List.take_of_length_le (by omega)] at how
      exact ⟨_, rfl, ⟨how, hu⟩, hbr⟩
end Go.Proofs.Ytjnlkihhmenfnaa

/- Contracts of bits.Join, apostilleref01.Join. -/
namespace Go.Proofs.Ytjnlkihhmenfnaa
open Go.RowKit
set_option linter.unusedVariables false

set_option maxHeartbeats 1000000 in
theorem join_any (va : Value) (ls : List (List Nat)) (w : World) (ha : Rows2 w va ls) (hs : ls.flatten.length ≤ 1000000) :
    Calls Try.prog 16 #[va] w fun e w' => ∃ v, e = .returned v ∧ Own 5 .u8 256 w' w.heap.size v ls.flatten ∧ Below w.heap.size w w' := by
  have hu := ha.under
  have ha' := ha
  obtain ⟨a, ca, rfl, ha1, ha2, ha3⟩ := ha
  unfold maxLen at ha2
  obtain ⟨i0, hi, hz0, hz1, hz2⟩ := info_parts Try.info5
  go_enter Try.func16, Try.ntmps16
  go_wp2
  go_loop [3, 11] (fun s i => ∃ k : Nat, k ≤ ls.length ∧ i = .int .i64 k ∧ s = .int .i64 ((ls.take k).flatten.length : Nat)) (fun _ i => ls.length - (intOf i).toNat)
  case atStart => exact ⟨0, Nat.zero_le _, rfl, rfl⟩
  case round =>
    obtain ⟨k, hk, rfl, rfl⟩ := hrel
    by_cases hlt : k < ls.length
    · have hf := flat_succ hlt
      have hle := flat_le ls (k + 1)
      rw [hf, List.length_append] at hle
      obtain ⟨b, off, rfl, hc⟩ := ha3 (by omega)
      obtain ⟨u, c1, ⟨au, cu, rfl, hu1, hu2, hu3, hu4⟩, htidy⟩ := hc k hlt
      clear hc ha3
      have HF := hide hf
      clear hf
      generalize hM : (ls.take k).flatten.length = M at *
      have HM := hide hM
      clear hM
      generalize hT : (tx ls k).length = T at *
      have HT := hide hT
      clear hT
      go_wp2
      go_round
      case rel => exact ⟨k + 1, by omega, by go_num, vint (by rw [HF.out, List.length_append, HM.out, HT.out]; simp)⟩
      case measure => simp [intOf]; omega
    · have hkl : k = ls.length := by omega
      subst hkl
      rw [List.take_of_length_le (Nat.le_refl _)]
      generalize hM : ls.flatten.length = M at *
      have HM := hide hM
      clear hM
      go_wp2_with fail
      refine (room8_any M _ (by omega)).mono ?_
      rintro e w1 ⟨v, rfl, ⟨ho, _⟩, hb⟩
      go_wp2
      go_loopw [6, 24] (fun v i wr => ∃ k : Nat, k ≤ ls.length ∧ i = .int .i64 k ∧ wr.ownsRow w.heap.size 5 1 v (ls.take k).flatten.length (vals .u8 (ls.take k).flatten) ∧ Below w.heap.size w wr) (fun _ i _ => ls.length - (intOf i).toNat)
      case atStart => exact ⟨0, Nat.zero_le _, rfl, ho, hb⟩
      case round =>
        obtain ⟨k, hk, rfl, how, hbr⟩ := hrel
        clear ho hb
        by_cases hlt : k < ls.length
        · have hf := flat_succ hlt
          have hle := flat_le ls (k + 1)
          rw [hf, List.length_append, HM.out] at hle
          obtain ⟨a2, ca2, he, _, _, h3⟩ := ha'.below hbr
          obtain ⟨rfl, rfl⟩ : a = a2 ∧ ca = ca2 := by simpa using he
          obtain ⟨b, off, rfl, hc⟩ := h3 (by omega)
          obtain ⟨u, c1, ⟨au, cu, rfl, hu1, hu2, hu3, hu4⟩, htidy⟩ := hc k hlt
          clear hc h3 he ha3
          have hsz := hbr.size
          have HF := hide hf
          clear hf
          generalize hM2 : (ls.take k).flatten = M2 at *
          have HM2 := hide hM2
          clear hM2
          generalize hT : tx ls k = T at *
          have HT := hide hT
          clear hT
          cases au with
          | none =>
            obtain ⟨h0, rfl⟩ := htidy _ _ rfl
            have hT0 : T = [] := List.eq_nil_of_length_eq_zero h0
            subst hT0
            go_wp2_with (first | (at_builtin; refine wpList_append_own_none rfl _ _ 22 rfl w.heap.size 5 i0 1 Try.underlying22 hi _ _ _ rfl how rfl ?_) | fail)
            go_roundw
            case rel => exact ⟨k + 1, by omega, by go_num, by rw [HF.out, List.append_nil]; exact how, hbr⟩
            case measure => simp [intOf]; omega
          | some x =>
            go_wp2_with (first | (at_builtin; refine wpList_append_own _ rfl _ _ 22 rfl w.heap.size 5 i0 (.int .u8 0) 1 1 Try.underlying22 hi hz0 hz1 hz2 rfl (by decide) _ _ _ rfl how x T.length cu (vals .u8 T) rfl (by rw [vals_length, Nat.mul_one]) (cells_news hu3) (vals_one _ _) (by unfold maxLen; omega) (by omega) hsz ?_; intro v' w3 how' hgrow _) | fail)
            have hb3 := below_append' hbr hsz how hgrow
            clear how hgrow hbr
            go_roundw
            case rel => exact ⟨k + 1, by omega, by go_num, by rw [HF.out, List.length_append, vals_append]; exact how', hb3⟩
            case measure => simp [intOf]; omega
        · go_wp2
          go_ret
          rw [List.take_of_length_le (by omega)] at how
          exact ⟨_, rfl, ⟨how, hu⟩, hbr⟩
end Go.Proofs.Ytjnlkihhmenfnaa

/- Contract of bits.Same. -/
namespace Go.Proofs.Ytjnlkihhmenfnaa
open Go.RowKit
set_option linter.unusedVariables false

theorem xor_zero (x y : Nat) : x ^^^ y = 0 ↔ x = y := by
  constructor
  · intro h
    have h1 : x ^^^ y ^^^ y = 0 ^^^ y := by rw [h]
    rw [Nat.xor_assoc, Nat.xor_self, Nat.xor_zero, Nat.zero_xor] at h1
    exact h1
  · rintro rfl; exact Nat.xor_self _
theorem or_zero (x y : Nat) : x ||| y = 0 ↔ x = 0 ∧ y = 0 := by
  constructor
  · intro h
    have h1 : x ≤ x ||| y := Nat.left_le_or
    have h2 : y ≤ x ||| y := Nat.right_le_or
    omega
  · rintro ⟨rfl, rfl⟩; rfl

theorem step_differ (d x y : Nat) (hd : d < 256) (hx : x < 256) (hy : y < 256) : bits .or .u8 (d : Int) (bits .xor .u8 (x : Int) (y : Int)) = ((d ||| (x ^^^ y) : Nat) : Int) := by
  rw [u8_xor_nat x y hx hy, u8_or_nat d _ hd (Nat.xor_lt_two_pow (n := 8) hx hy)]

set_option maxHeartbeats 400000 in
theorem bsame_any (va vb : Value) (l m : List Nat) (w : World) (ha : Row .u8 256 w va l) (hb : Row .u8 256 w vb m) :
    Calls Try.prog 25 #[va, vb] w fun e w' => e = .returned (.bool (decide (l = m))) ∧ Below w.heap.size w w' := by
  obtain ⟨a, ca, rfl, ha1, ha2, ha3, ha4⟩ := ha
  obtain ⟨b, cb, rfl, hb1, hb2, hb3, hb4⟩ := hb
  unfold maxLen at ha2 hb2
  by_cases hlen : l.length = m.length
  · have hne : ((l.length : Int) != (m.length : Int)) = false := by simp [hlen]
    have H : Hid (l.length = m.length) := hlen
    have hle1 : l.length ≤ m.length := by omega
    have hle2 : m.length ≤ l.length := by omega
    clear hlen
    go_enter Try.func25, Try.ntmps25
    go_wp2
    go_loopw [5, 14] (fun d i wr => ∃ k n D : Nat, k ≤ l.length ∧ i = .int .i64 k ∧ d = .int .u8 D ∧ D < 256 ∧ wr = w.drewN n ∧ (D = 0 ↔ ∀ j, j < k → el l j = el m j)) (fun _ i _ => l.length - (intOf i).toNat)
    case atStart => exact ⟨0, 0, 0, Nat.zero_le _, rfl, rfl, by decide, rfl, ⟨fun _ j hj => by omega, fun _ => rfl⟩⟩
    case round =>
      obtain ⟨k, n, D, hk, rfl, rfl, hD, rfl, hall⟩ := hrel
      have HA := hide hall
      clear hall
      by_cases hlt : k < l.length
      · obtain ⟨ba, oa, rfl, hca⟩ := ha3 (by omega)
        obtain ⟨bb, ob, rfl, hcb⟩ := hb3 (by omega)
        have c1 := hca k hlt
        have c2 := hcb k (by omega)
        clear hca hcb
        have hlt2 : k < m.length := by omega
        have hx := el_lt ha4 (by decide) k
        have hy := el_lt hb4 (by decide) k
        go_wp2
        go_quiet (fail)
        go_wp2
        go_roundw
        case rel =>
          refine ⟨k + 1, _, D ||| (el l k ^^^ el m k), by omega, by go_num, vint (step_differ D _ _ hD hx hy), ?_, rfl, ?_⟩
          · exact Nat.or_lt_two_pow (n := 8) hD (Nat.xor_lt_two_pow (n := 8) hx hy)
          · rw [or_zero, xor_zero, HA.out]
            constructor
            · rintro ⟨h1, h2⟩ j hj
              by_cases hjk : j = k
              · subst hjk; exact h2
              · exact h1 j (by omega)
            · intro h
              exact ⟨fun j hj => h j (by omega), h k (by omega)⟩
        case measure => simp [intOf]; omega
      · go_wp2
        go_ret
        refine ⟨ret_bool ?_, below_drewN (Below.refl _ _) _⟩
        have hiff : D = 0 ↔ l = m := by
          rw [HA.out]
          constructor
          · intro h
            exact el_ext H.out (fun i hi => h i (by omega))
          · rintro rfl j _; rfl
        by_cases hz : l = m
        · have : D = 0 := hiff.2 hz
          simp [hz, this]
        · have : ¬ D = 0 := fun h => hz (hiff.1 h)
          simp [hz]
          omega
  · have hne : ((l.length : Int) != (m.length : Int)) = true := by simp; omega
    have hd : decide (l = m) = false := by simp; intro h; exact hlen (by rw [h])
    go_enter Try.func25, Try.ntmps25
    go_wp2
    go_ret
    exact ⟨ret_bool hd.symm, Below.refl _ _⟩
end Go.Proofs.Ytjnlkihhmenfnaa

/- Wrapped keys: where the code's loops stand; its results, which lie in boxes; where it refuses. -/
namespace Go.Proofs.Ytjnlkihhmenfnaa
open Go.RowKit Go.Shelf
set_option linter.unusedVariables false
set_option linter.unusedSimpArgs false

theorem loadVar_plain {P : Program} (w : World) (B : Nat) (ty t : TypeId) (v : Value) (d : TypeDesc) (h : Boxed w B t v) (hu : P.underlying ty = some d) (hd : (match d with | .struct _ | .array _ _ => true | _ => false) = false) : (loadVar ty ⟨B, 0, none⟩).run P w = .ok v w := by
  have hc := h.cell
  cases d <;> simp_all [loadVar, isAgg, run_underlying hu, go_sem]
theorem results_cells2 {P : Program} {fn : Func} {p q : Tmp} {t u : TypeId} (h : fn.results = #[.cell p t, .cell q u]) (tmps : Array Value) (w : World) (Bp Bq : Nat) (vp vq : Value)
    (hp : tmps.getD p undef = .pointer (some ⟨Bp, 0, none⟩)) (hq : tmps.getD q undef = .pointer (some ⟨Bq, 0, none⟩))
    (lp : (loadVar t ⟨Bp, 0, none⟩).run P w = .ok vp w) (lq : (loadVar u ⟨Bq, 0, none⟩).run P w = .ok vq w) : (results fn tmps).run P w = .ok (.tuple #[vp, vq]) w := by
  have hp' : tmps[p]?.getD undef = .pointer (some ⟨Bp, 0, none⟩) := by simpa using hp
  have hq' : tmps[q]?.getD undef = .pointer (some ⟨Bq, 0, none⟩) := by simpa using hq
  simp [results, h, hp', hq', asAddr, lp, lq]
theorem seg_put_ne {r v : List Nat} {i j : Nat} (h : 8 * i + 8 ≤ r.length) (hv : v.length = 8) (hne : j ≠ i) : seg (putS r i v) j = seg r j := by
  unfold seg putS
  have e1 : (r.take (8 * i)).length = 8 * i := by rw [List.length_take]; omega
  rcases Nat.lt_or_gt_of_ne hne with hlt | hgt
  · rw [List.append_assoc, List.drop_append_of_le_length (by omega), List.take_append_of_le_length (by rw [List.length_drop]; omega), List.drop_take, List.take_take, Nat.min_eq_left (by omega)]
  · rw [List.drop_append, show (r.take (8 * i) ++ v).drop (8 * j) = [] from List.drop_eq_nil_of_le (by rw [List.length_append]; omega), List.nil_append, List.length_append, e1, hv, List.drop_drop, show 8 * i + 8 + (8 * j - (8 * i + 8)) = 8 * j by omega]
/-- the words of a text -/
def segs (r : List Nat) (n : Nat) : List (List Nat) := (List.range n).map (seg r)
theorem segs_len (r : List Nat) (n : Nat) : (segs r n).length = n := by simp [segs]
theorem segs_tx {r : List Nat} {n i : Nat} (hi : i < n) : tx (segs r n) i = seg r i := by simp [tx, segs, hi]
theorem segs_flat (r : List Nat) : ∀ n, (segs r n).flatten = r.take (8 * n)
  | 0 => rfl
  | n + 1 => by
    have : segs r (n + 1) = segs r n ++ [seg r n] := by simp [segs, List.range_succ]
    rw [this, List.flatten_append, segs_flat r n]
    unfold seg
    rw [show 8 * (n + 1) = 8 * n + 8 by omega, List.take_add]
    simp
theorem enc8_at (xb xo N i : Nat) (hi : i < N) : (enc8L xb xo N)[i]? = some (enc8 xb xo i) := by
  have key : ∀ k, k ≤ N → ∀ i, i < k → (finL N k)[i]? = if h : i < N then some ⟨i, h⟩ else none := by
    intro k
    induction k with
    | zero => intro _ i hi; omega
    | succ k ih =>
      intro hk i hi
      rw [finL_next (by omega)]
      by_cases e : i < k
      · rw [List.getElem?_append_left (by rw [finL_len k (by omega)]; exact e)]; exact ih (by omega) i e
      · obtain rfl : i = k := by omega
        rw [List.getElem?_append_right (by rw [finL_len _ (by omega)]; exact Nat.le_refl _), finL_len _ (by omega), Nat.sub_self, dif_pos (by omega)]; rfl
  unfold enc8L
  rw [List.getElem?_map, key N (Nat.le_refl _) i hi, dif_pos hi]
  rfl
/-- whose block is neither of two -/
def Off (Ba g : Nat) (v : Value) : Prop := ∀ q, v.ownBlock = some q → q ≠ Ba ∧ q ≠ g
theorem off_new {Ba g B : Nat} {v : Value} (h : New B v) (h1 : Ba < B) (h2 : g < B) : Off Ba g v := fun q hq => by have := h q hq; omega
theorem off_old {Ba g : Nat} {w : World} {v : Value} {l : List Nat} (h : Row .u8 256 w v l) (hl : 0 < l.length) (h1 : w.heap.size ≤ Ba) (h2 : w.heap.size ≤ g) : Off Ba g v := fun q hq => by have := h.old hl hq; omega
theorem row_own8 {A B : World} {row : Option Nat} {v : Value} {l : List Nat} (h : Row .u8 256 A v l) (hg : A.grownBy B row) (hr : ∀ r, row = some r → ∃ o : Obj, A.heap[r]? = some o ∧ o.isCells = false) : Row .u8 256 B v l := by
  obtain ⟨a, cap, he, h1, h2, h3, h4⟩ := h
  refine ⟨a, cap, he, h1, h2, fun hl => ?_, h4⟩
  obtain ⟨b, off, ha, hc⟩ := h3 hl
  refine ⟨b, off, ha, fun i hi => hg.cell (hc i hi) fun e => ?_⟩
  obtain ⟨o, ho, ho2⟩ := hr b e.symm
  have := hc i hi
  unfold World.cell? at this
  simp only [ho] at this
  cases o <;> simp_all [Obj.isCells]
theorem row_set8 {W : World} {v u : Value} {l : List Nat} {q j : Nat} (h : Row .u8 256 W v l) (ho : v.ownBlock ≠ some q) : Row .u8 256 (W.setCell ⟨q, j, none⟩ u) v l :=
  h.but (g := q) (fun _ q' hq' e => ho (by rw [hq', e])) ((But.refl q W).setCell j u)
/-- which blocks a loop's are -/
structure Bk8 (w : World) (Bk B4 B5 Ba Bw Bl g : Nat) : Prop where
  k0 : w.heap.size ≤ Bk
  r0 : w.heap.size ≤ B4
  e0 : w.heap.size ≤ B5
  a0 : w.heap.size ≤ Ba
  g0 : w.heap.size ≤ g
  ak : Ba ≠ Bk
  a4 : Ba ≠ B4
  a5 : Ba ≠ B5
  aw : Ba ≠ Bw
  al : Ba ≠ Bl
  ag : Ba ≠ g
  gk : g ≠ Bk
  g4 : g ≠ B4
  g5 : g ≠ B5
  gw : g ≠ Bw
  gl : g ≠ Bl
/-- where a loop stands -/
structure LpW (w : World) (Bk B4 B5 Ba Bw Bl g C n : Nat) (kv : Value) (s : Nat × List Nat) (W : World) : Prop where
  bk : Boxed W Bk 22 kv
  b4 : Boxed W B4 22 (.slice none 0 0)
  b5 : Boxed W B5 24 (.int .i64 0)
  bw : Boxed W Bw 34 (.slice (some ⟨g, 0, none⟩) n C)
  bl : Boxed W Bl 34 (.slice (some ⟨g, 0, none⟩) n C)
  ba : ∃ av, Boxed W Ba 22 av ∧ Row .u8 256 W av (be8 s.1) ∧ Off Ba g av
  row : ∃ us, W.ownsRow w.heap.size 22 1 (.slice (some ⟨g, 0, none⟩) n C) n us ∧ ∀ i, i < n → ∃ u, us[i]? = some u ∧ Row .u8 256 W u (seg s.2 i) ∧ Off Ba g u
  bel : Below w.heap.size w W
section
variable {w : World} {Bk B4 B5 Ba Bw Bl g C n : Nat} {kv : Value} {s : Nat × List Nat} {W W' : World}
theorem LpW.own {D : Nat} (hD : w.heap.size ≤ D) {row : Option Nat} (h : LpW w Bk B4 B5 Ba Bw Bl g C n kv s W) (hg : W.grownBy W' row) (hr : ∀ r, row = some r → D ≤ r ∧ ∃ o : Obj, W.heap[r]? = some o ∧ o.isCells = false) : LpW w Bk B4 B5 Ba Bw Bl g C n kv s W' := by
  have hr2 := fun r e => (hr r e).2
  obtain ⟨av, a1, a2, a3⟩ := h.ba
  obtain ⟨us, u1, u2⟩ := h.row
  refine ⟨cells_kept8 hg hr2 h.bk, cells_kept8 hg hr2 h.b4, cells_kept8 hg hr2 h.b5, cells_kept8 hg hr2 h.bw, cells_kept8 hg hr2 h.bl, ⟨av, cells_kept8 hg hr2 a1, row_own8 a2 hg hr2, a3⟩, ⟨us, owns_kept8 u1 hg hr2, fun i hi => ?_⟩, h.bel.grown hg h.bel.size fun r e => by have := (hr r e).1; omega⟩
  obtain ⟨u, v1, v2, v3⟩ := u2 i hi
  exact ⟨u, v1, row_own8 v2 hg hr2, v3⟩
theorem LpW.below (h : LpW w Bk B4 B5 Ba Bw Bl g C n kv s W) (hb : Below W.heap.size W W') : LpW w Bk B4 B5 Ba Bw Bl g C n kv s W' :=
  h.own (D := w.heap.size) (Nat.le_refl _) (row := none) (grown_below8 hb) (fun r e => by cases e)
/-- a word read -/
theorem LpW.word (h : LpW w Bk B4 B5 Ba Bw Bl g C n kv s W) {i : Nat} (hi : i < n) : ∃ u, W.cell? ⟨g, i, none⟩ = some u ∧ Row .u8 256 W u (seg s.2 i) ∧ Off Ba g u := by
  obtain ⟨us, u1, u2⟩ := h.row
  obtain ⟨u, v1, v2, v3⟩ := u2 i hi
  exact ⟨u, by rw [u1.cellAt i (by omega)]; exact v1, v2, v3⟩
/-- a step: A and a word turned -/
theorem LpW.step (hB : Bk8 w Bk B4 B5 Ba Bw Bl g) (h : LpW w Bk B4 B5 Ba Bw Bl g C n kv s W) (hl : s.2.length = 8 * n) {i a : Nat} (hi : i < n) {av u : Value} {v : List Nat} (hv : v.length = 8) (ra : Row .u8 256 W av (be8 a)) (oa : Off Ba g av) (ru : Row .u8 256 W u v) (ou : Off Ba g u) :
    LpW w Bk B4 B5 Ba Bw Bl g C n kv (a, putS s.2 i v) ((W.setCell ⟨Ba, 0, none⟩ av).setCell ⟨g, i, none⟩ u) := by
  obtain ⟨av0, a1, a2, a3⟩ := h.ba
  obtain ⟨us, u1, u2⟩ := h.row
  have hA : But Ba W (W.setCell ⟨Ba, 0, none⟩ av) := (But.refl _ _).setCell 0 av
  generalize hW1 : W.setCell ⟨Ba, 0, none⟩ av = W1 at *
  have hG : But g W1 (W1.setCell ⟨g, i, none⟩ u) := (But.refl _ _).setCell i u
  have bx : ∀ {B : Nat} {t : TypeId} {x : Value}, Boxed W B t x → Ba ≠ B → g ≠ B → Boxed (W1.setCell ⟨g, i, none⟩ u) B t x := fun hb h1 h2 => by
    have c1 : Boxed W1 _ _ _ := (hA.block _ hb.lt (Ne.symm h1)).trans hb
    exact (hG.block _ c1.lt (Ne.symm h2)).trans c1
  have rr : ∀ {x : Value} {l : List Nat}, Row .u8 256 W x l → Off Ba g x → Row .u8 256 (W1.setCell ⟨g, i, none⟩ u) x l := fun hr ho => by
    have c1 := hr.but (fun _ q hq => (ho q hq).1) hA
    exact c1.but (fun _ q hq => (ho q hq).2) hG
  have u1' : W1.ownsRow w.heap.size 22 1 (.slice (some ⟨g, 0, none⟩) n C) n us :=
    u1.kept (row := some Ba) ⟨hA.os, hA.tape, hA.output, hA.size, fun k hk hne => hA.block k hk fun e => hne (by rw [e])⟩ (.inr fun e => hB.ag (by cases e; rfl))
  have hlu : us.length = n := by have := u1.1; simpa using this
  refine ⟨bx h.bk hB.ak hB.gk, bx h.b4 hB.a4 hB.g4, bx h.b5 hB.a5 hB.g5, bx h.bw hB.aw hB.gw, bx h.bl hB.al hB.gl, ⟨av, ?_, rr ra oa, oa⟩, ⟨us.set i u, (u1'.stored i u).1, fun j hj => ?_⟩, ?_⟩
  · have c1 : Boxed W1 Ba 22 av := by rw [← hW1]; exact a1.set av
    exact (hG.block _ c1.lt hB.ag).trans c1
  · by_cases e : j = i
    · subst e
      exact ⟨u, by rw [List.getElem?_set_self (by omega)], by rw [show seg (a, putS s.2 j v).2 j = v from seg_put (by omega) hv]; exact rr ru ou, ou⟩
    · obtain ⟨x, v1, v2, v3⟩ := u2 j hj
      exact ⟨x, by rw [List.getElem?_set_ne (Ne.symm e)]; exact v1, by rw [show seg (a, putS s.2 i v).2 j = seg s.2 j from seg_put_ne (by omega) hv e]; exact rr v2 v3, v3⟩
  · exact (h.bel.trans (hA.below hB.a0 h.bel.size)).trans (hG.below hB.g0 (h.bel.trans (hA.below hB.a0 h.bel.size)).size)
/-- all words, as texts -/
theorem LpW.rows (h : LpW w Bk B4 B5 Ba Bw Bl g C n kv s W) (hl : s.2.length = 8 * n) : Rows2 W (.slice (some ⟨g, 0, none⟩) n C) (segs s.2 n) := by
  obtain ⟨us, u1, u2⟩ := h.row
  have ht : Texts W us (segs s.2 n) := by
    refine ⟨by rw [segs_len]; have := u1.1; simpa using this, fun i hi => ?_⟩
    rw [segs_len] at hi
    obtain ⟨u, v1, v2, v3⟩ := u2 i hi
    refine ⟨u, v1, by rw [segs_tx hi]; exact v2, ?_⟩
    obtain ⟨a, c, rfl, _, _, g3⟩ := v2.opens rfl
    rw [seg_len (by omega)] at g3
    obtain ⟨b, o, rfl, _⟩ := g3 (by decide)
    intro n c e
    cases e
  exact ht.rows2 (B := w.heap.size) (by rw [segs_len]; exact u1)
end
theorem tidy_8 {W : World} {v : Value} {l : List Nat} (h : Row .u8 256 W v l) (hl : l.length = 8) : Tidy v := by
  obtain ⟨a, c, rfl, _, _, g3⟩ := h.opens hl
  obtain ⟨b, o, rfl, _⟩ := g3 (by decide)
  intro n c e
  cases e
theorem rows_lit2C {w : World} {u v : Value} {a b : List Nat} (hu : Row .u8 256 w u a) (tu : Tidy u) (hv : Row .u8 256 w v b) (tv : Tidy v) : Rows2 (w.alloc (.cells #[u, v] 22)) (.slice (some ⟨w.heap.size, 0, none⟩) 2 2) [a, b] := by
  refine ⟨_, 2, rfl, Nat.le_refl _, by unfold maxLen; decide, fun _ => ⟨_, _, rfl, fun i hi => ?_⟩⟩
  have hb := keep_alloc w (.cells #[u, v] 22)
  match i, hi with
  | 0, _ => exact ⟨u, by rw [World.cell?_alloc_at _ _ _ _ rfl]; rfl, hu.below hb, tu⟩
  | 1, _ => exact ⟨v, by rw [World.cell?_alloc_at _ _ _ _ rfl]; rfl, hv.below hb, tv⟩
theorem LpW.start {w W : World} {Bk B4 B5 Ba Bw Bl g C n xb xo : Nat} {kv av : Value} {a : Nat} {r : List Nat} {xc : Nat} (h1 : Boxed W Bk 22 kv) (h2 : Boxed W B4 22 (.slice none 0 0)) (h3 : Boxed W B5 24 (.int .i64 0))
    (h4 : Boxed W Bw 34 (.slice (some ⟨g, 0, none⟩) n C)) (h5 : Boxed W Bl 34 (.slice (some ⟨g, 0, none⟩) n C)) (h6 : Boxed W Ba 22 av) (h7 : Row .u8 256 W av (be8 a)) (h8 : Off Ba g av)
    (h9 : W.ownsRow w.heap.size 22 1 (.slice (some ⟨g, 0, none⟩) n C) n (enc8L xb xo n)) (hb : Below w.heap.size w W) (rr : Row .u8 256 w (.slice (some ⟨xb, xo, none⟩) (8 * n) xc) r) (hB : Bk8 w Bk B4 B5 Ba Bw Bl g) : LpW w Bk B4 B5 Ba Bw Bl g C n kv (a, r) W := by
  refine ⟨h1, h2, h3, h4, h5, ⟨av, h6, h7, h8⟩, ⟨_, h9, fun i hi => ?_⟩, hb⟩
  have hrl : r.length = 8 * n := by
    obtain ⟨_, _, he, _⟩ := rr
    simp at he
    omega
  have rm := rr.mid (i := 8 * i) (j := 8 * i + 8) (by omega) (by omega)
  rw [show 8 * i + 8 - 8 * i = 8 by omega] at rm
  have rc : Row .u8 256 w (enc8 xb xo i) (seg r i) := by
    obtain ⟨a', cap, he, g1, g2, g3, g4⟩ := rm
    simp at he
    obtain ⟨rfl, hln, rfl⟩ := he
    exact ⟨_, 8, by unfold enc8; rw [show (seg r i).length = 8 from seg_len (by omega)], by rw [show (seg r i).length = 8 from seg_len (by omega)]; exact Nat.le_refl _, by unfold maxLen; decide, g3, g4⟩
  exact ⟨_, enc8_at xb xo n i hi, rc.below hb, off_old rc (by rw [seg_len (by omega)]; decide) hB.a0 hB.g0⟩
end Go.Proofs.Ytjnlkihhmenfnaa
