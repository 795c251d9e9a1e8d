/- Contracts of bits.Join, apostilleref01.Join. -/
import Derived.Test.YtbcgjbohhaihcaaSmall
import Derived.Test.YtbcgjbohhaihcaaDig
import Derived.Laws.AppendOwnNone
namespace Go.Proofs.Ytbcgjbohhaihcaa
open Go.RowKit
set_option linter.unusedVariables false

/-- the text at a place of a list of texts -/
def tx (ls : List (List Nat)) (i : Nat) : List Nat := ls[i]?.getD []

/-- a slice without an address is nil -/
def Tidy (v : Value) : Prop := ∀ n c, v = .slice none n c → n = 0 ∧ c = 0

/-- v is a slice of texts, which are ls -/
def Rows2 (w : World) (v : Value) (ls : List (List Nat)) : Prop :=
  ∃ a cap, v = .slice a ls.length cap ∧ ls.length ≤ cap ∧ cap ≤ maxLen ∧
    (0 < ls.length → ∃ b off, a = some ⟨b, off, none⟩ ∧ ∀ i, i < ls.length → ∃ u, w.cell? ⟨b, off + i, none⟩ = some u ∧ Row .u8 256 w u (tx ls i) ∧ Tidy u)

theorem Rows2.below {w w' : World} {v : Value} {ls : List (List Nat)} (h : Rows2 w v ls) (hb : Below w.heap.size w w') : Rows2 w' v ls := by
  obtain ⟨a, cap, rfl, h1, h2, h3⟩ := h
  refine ⟨a, cap, rfl, h1, h2, fun hl => ?_⟩
  obtain ⟨b, off, rfl, hc⟩ := h3 hl
  refine ⟨b, off, rfl, fun i hi => ?_⟩
  obtain ⟨u, hu, hr, ht⟩ := hc i hi
  have h5 := World.block_lt_of_cell? w _ hu
  exact ⟨u, by rw [hb.cell (p := ⟨b, off + i, none⟩) h5]; exact hu, hr.below hb, ht⟩

/-- how many bytes the first texts have -/
def sumL (ls : List (List Nat)) : Nat := ls.flatten.length

theorem take_tx {ls : List (List Nat)} {k : Nat} (h : k < ls.length) : ls.take (k + 1) = ls.take k ++ [tx ls k] := by
  rw [List.take_succ_eq_append_getElem h]; unfold tx; rw [List.getElem?_eq_getElem h]; rfl
theorem flat_succ {ls : List (List Nat)} {k : Nat} (h : k < ls.length) : (ls.take (k + 1)).flatten = (ls.take k).flatten ++ tx ls k := by
  rw [take_tx h]; simp
theorem flat_le (ls : List (List Nat)) (k : Nat) : (ls.take k).flatten.length ≤ ls.flatten.length := by
  have : ls.flatten = (ls.take k).flatten ++ (ls.drop k).flatten := by rw [← List.flatten_append, List.take_append_drop]
  rw [this]; simp

theorem cells_news {w : World} {k : IntKind} {x : Addr} {l : List Nat} (h : Cells k w (some x) l) : ∀ j u, (vals k l)[j]? = some u → w.cell? (x.add j) = some u := by
  intro j u hj
  have hl : j < l.length := by
    have := (List.getElem?_eq_some_iff.1 hj).1
    rwa [vals_length] at this
  obtain ⟨b, off, he, hc⟩ := h (by omega)
  obtain rfl := Option.some.inj he
  rw [Addr.add_lit, hc j hl, ← vals_get k l j hl]
  exact hj

theorem under_flat (ls : List (List Nat)) (h : ∀ i, i < ls.length → Under 256 (tx ls i)) : Under 256 ls.flatten := by
  intro x hx
  obtain ⟨l, hl, hxl⟩ := List.mem_flatten.1 hx
  obtain ⟨i, hi, rfl⟩ := List.getElem_of_mem hl
  have := h i hi
  unfold tx at this
  rw [List.getElem?_eq_getElem hi] at this
  exact this x hxl

theorem Rows2.under {w : World} {v : Value} {ls : List (List Nat)} (h : Rows2 w v ls) : Under 256 ls.flatten := by
  obtain ⟨a, cap, rfl, h1, h2, h3⟩ := h
  apply under_flat
  intro i hi
  obtain ⟨b, off, rfl, hc⟩ := h3 (by omega)
  obtain ⟨u, _, ⟨_, _, _, _, _, _, h6⟩, _⟩ := hc i hi
  exact h6

set_option maxHeartbeats 1000000 in
theorem rjoin_any (va : Value) (ls : List (List Nat)) (w : World) (ha : Rows2 w va ls) (hs : ls.flatten.length ≤ 1000000) :
    Calls Try.prog 22 #[va] w fun e w' => ∃ v, e = .returned v ∧ Own 5 .u8 256 w' w.heap.size v ls.flatten ∧ Below w.heap.size w w' := by
  have hu := ha.under
  have ha' := ha
  obtain ⟨a, ca, rfl, ha1, ha2, ha3⟩ := ha
  unfold maxLen at ha2
  obtain ⟨i0, hi, hz0, hz1, hz2⟩ := info_parts Try.info5
  go_enter Try.func22, Try.ntmps22
  go_wp2
  go_loopw [3, 4] (fun v i wr => ∃ k : Nat, k ≤ ls.length ∧ i = .int .i64 k ∧ wr.ownsRow w.heap.size 5 1 v (ls.take k).flatten.length (vals .u8 (ls.take k).flatten) ∧ Below w.heap.size w wr) (fun _ i _ => ls.length - (intOf i).toNat)
  case atStart => exact ⟨0, Nat.zero_le _, rfl, World.ownsRow_nil _ _ _ _, Below.refl _ _⟩
  case round =>
    obtain ⟨k, hk, rfl, how, hbr⟩ := hrel
    by_cases hlt : k < ls.length
    · have hf := flat_succ hlt
      have hle := flat_le ls (k + 1)
      rw [hf, List.length_append] at hle
      obtain ⟨a2, ca2, he, _, _, h3⟩ := ha'.below hbr
      obtain ⟨rfl, rfl⟩ : a = a2 ∧ ca = ca2 := by simpa using he
      obtain ⟨b, off, rfl, hc⟩ := h3 (by omega)
      obtain ⟨u, c1, ⟨au, cu, rfl, hu1, hu2, hu3, hu4⟩, htidy⟩ := hc k hlt
      clear hc h3 he ha3
      have hsz := hbr.size
      have HF := hide hf
      clear hf
      generalize hM : (ls.take k).flatten = M at *
      have HM := hide hM
      clear hM
      generalize hT : tx ls k = T at *
      have HT := hide hT
      clear hT
      cases au with
      | none =>
        obtain ⟨h0, rfl⟩ := htidy _ _ rfl
        have hT0 : T = [] := List.eq_nil_of_length_eq_zero h0
        subst hT0
        go_wp2_with (first | (at_builtin; refine wpList_append_own_none rfl _ _ 23 rfl w.heap.size 5 i0 1 Try.underlying23 hi _ _ _ rfl how rfl ?_) | fail)
        go_roundw
        case rel => exact ⟨k + 1, by omega, by go_num, by rw [HF.out, List.append_nil]; exact how, hbr⟩
        case measure => simp [intOf]; omega
      | some x =>
        go_wp2_with (first | (at_builtin; refine wpList_append_own _ rfl _ _ 23 rfl w.heap.size 5 i0 (.int .u8 0) 1 1 Try.underlying23 hi hz0 hz1 hz2 rfl (by decide) _ _ _ rfl how x T.length cu (vals .u8 T) rfl (by rw [vals_length, Nat.mul_one]) (cells_news hu3) (vals_one _ _) (by unfold maxLen; omega) (by omega) hsz ?_; intro v' w3 how' hgrow _) | fail)
        have hb3 := below_append' hbr hsz how hgrow
        clear how hgrow hbr
        go_roundw
        case rel => exact ⟨k + 1, by omega, by go_num, by rw [HF.out, List.length_append, vals_append]; exact how', hb3⟩
        case measure => simp [intOf]; omega
    · go_wp2
      go_ret
      rw [List.take_of_length_le (by omega)] at how
      exact ⟨_, rfl, ⟨how, hu⟩, hbr⟩

set_option maxHeartbeats 1000000 in
theorem join_any (va : Value) (ls : List (List Nat)) (w : World) (ha : Rows2 w va ls) (hs : ls.flatten.length ≤ 1000000) :
    Calls Try.prog 21 #[va] w fun e w' => ∃ v, e = .returned v ∧ Own 5 .u8 256 w' w.heap.size v ls.flatten ∧ Below w.heap.size w w' := by
  have hu := ha.under
  have ha' := ha
  obtain ⟨a, ca, rfl, ha1, ha2, ha3⟩ := ha
  unfold maxLen at ha2
  obtain ⟨i0, hi, hz0, hz1, hz2⟩ := info_parts Try.info5
  go_enter Try.func21, Try.ntmps21
  go_wp2
  go_loop [3, 11] (fun s i => ∃ k : Nat, k ≤ ls.length ∧ i = .int .i64 k ∧ s = .int .i64 ((ls.take k).flatten.length : Nat)) (fun _ i => ls.length - (intOf i).toNat)
  case atStart => exact ⟨0, Nat.zero_le _, rfl, rfl⟩
  case round =>
    obtain ⟨k, hk, rfl, rfl⟩ := hrel
    by_cases hlt : k < ls.length
    · have hf := flat_succ hlt
      have hle := flat_le ls (k + 1)
      rw [hf, List.length_append] at hle
      obtain ⟨b, off, rfl, hc⟩ := ha3 (by omega)
      obtain ⟨u, c1, ⟨au, cu, rfl, hu1, hu2, hu3, hu4⟩, htidy⟩ := hc k hlt
      clear hc ha3
      have HF := hide hf
      clear hf
      generalize hM : (ls.take k).flatten.length = M at *
      have HM := hide hM
      clear hM
      generalize hT : (tx ls k).length = T at *
      have HT := hide hT
      clear hT
      go_wp2
      go_round
      case rel => exact ⟨k + 1, by omega, by go_num, vint (by rw [HF.out, List.length_append, HM.out, HT.out]; simp)⟩
      case measure => simp [intOf]; omega
    · have hkl : k = ls.length := by omega
      subst hkl
      rw [List.take_of_length_le (Nat.le_refl _)]
      generalize hM : ls.flatten.length = M at *
      have HM := hide hM
      clear hM
      go_wp2_with fail
      refine (room8_any M _ (by omega)).mono ?_
      rintro e w1 ⟨v, rfl, ⟨ho, _⟩, hb⟩
      go_wp2
      go_loopw [6, 24] (fun v i wr => ∃ k : Nat, k ≤ ls.length ∧ i = .int .i64 k ∧ wr.ownsRow w.heap.size 5 1 v (ls.take k).flatten.length (vals .u8 (ls.take k).flatten) ∧ Below w.heap.size w wr) (fun _ i _ => ls.length - (intOf i).toNat)
      case atStart => exact ⟨0, Nat.zero_le _, rfl, ho, hb⟩
      case round =>
        obtain ⟨k, hk, rfl, how, hbr⟩ := hrel
        clear ho hb
        by_cases hlt : k < ls.length
        · have hf := flat_succ hlt
          have hle := flat_le ls (k + 1)
          rw [hf, List.length_append, HM.out] at hle
          obtain ⟨a2, ca2, he, _, _, h3⟩ := ha'.below hbr
          obtain ⟨rfl, rfl⟩ : a = a2 ∧ ca = ca2 := by simpa using he
          obtain ⟨b, off, rfl, hc⟩ := h3 (by omega)
          obtain ⟨u, c1, ⟨au, cu, rfl, hu1, hu2, hu3, hu4⟩, htidy⟩ := hc k hlt
          clear hc h3 he ha3
          have hsz := hbr.size
          have HF := hide hf
          clear hf
          generalize hM2 : (ls.take k).flatten = M2 at *
          have HM2 := hide hM2
          clear hM2
          generalize hT : tx ls k = T at *
          have HT := hide hT
          clear hT
          cases au with
          | none =>
            obtain ⟨h0, rfl⟩ := htidy _ _ rfl
            have hT0 : T = [] := List.eq_nil_of_length_eq_zero h0
            subst hT0
            go_wp2_with (first | (at_builtin; refine wpList_append_own_none rfl _ _ 23 rfl w.heap.size 5 i0 1 Try.underlying23 hi _ _ _ rfl how rfl ?_) | fail)
            go_roundw
            case rel => exact ⟨k + 1, by omega, by go_num, by rw [HF.out, List.append_nil]; exact how, hbr⟩
            case measure => simp [intOf]; omega
          | some x =>
            go_wp2_with (first | (at_builtin; refine wpList_append_own _ rfl _ _ 23 rfl w.heap.size 5 i0 (.int .u8 0) 1 1 Try.underlying23 hi hz0 hz1 hz2 rfl (by decide) _ _ _ rfl how x T.length cu (vals .u8 T) rfl (by rw [vals_length, Nat.mul_one]) (cells_news hu3) (vals_one _ _) (by unfold maxLen; omega) (by omega) hsz ?_; intro v' w3 how' hgrow _) | fail)
            have hb3 := below_append' hbr hsz how hgrow
            clear how hgrow hbr
            go_roundw
            case rel => exact ⟨k + 1, by omega, by go_num, by rw [HF.out, List.length_append, vals_append]; exact how', hb3⟩
            case measure => simp [intOf]; omega
        · go_wp2
          go_ret
          rw [List.take_of_length_le (by omega)] at how
          exact ⟨_, rfl, ⟨how, hu⟩, hbr⟩
end Go.Proofs.Ytbcgjbohhaihcaa
