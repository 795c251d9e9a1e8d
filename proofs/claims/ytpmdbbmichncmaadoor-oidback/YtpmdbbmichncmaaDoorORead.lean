/- Contract of oid.Read. -/
import Derived.Test.YtpmdbbmichncmaaDoorOTxM
namespace Go.Proofs.YtpmdbbmichncmaaDoor
open Go.RowKit
set_option linter.unusedVariables false

theorem split_sub (sep : List UInt8) : ∀ (k : Nat) (l p : List UInt8), p ∈ Lib.splitK sep 0 k l → p.length ≤ l.length
  | 0, l, p, h => by simp [Lib.splitK] at h; subst h; exact Nat.le_refl _
  | k + 1, l, p, h => by
    unfold Lib.splitK at h
    split at h
    · simp at h; subst h; exact Nat.le_refl _
    · rcases List.mem_cons.1 h with rfl | h
      · simp; omega
      · have := split_sub sep k _ p h; simp at this; omega

theorem split_any (l : List UInt8) (w : World) (hl : l.length ≤ 1000000) (hV : Vars w) :
    Calls Tryd.prog 26 #[str l, .string ⟨#[46]⟩, .int .i64 21] w fun e w' => ∃ (ps : List ByteArray) (N : Nat), Hid (ps.map (·.data.toList) = partsS l) ∧
      e = .returned (.slice (some ⟨w.heap.size, 0, none⟩) ps.length N) ∧ ps.length ≤ N ∧ N ≤ 21 ∧ (∀ j, j < ps.length → w'.cell? ⟨w.heap.size, j, none⟩ = some (.string (ps[j]?.getD ByteArray.empty))) ∧ Below w.heap.size w w' := by
  obtain ⟨m, hm⟩ := hV.mx
  have hsz : (⟨l.toArray⟩ : ByteArray).size = l.length := by simp [ByteArray.size]
  refine (Tryd.strings_SplitN ⟨l.toArray⟩ ⟨#[46]⟩ 21 m w (by rw [hsz]; omega) hm (by decide) (by decide) (by decide)).mono ?_
  rintro e w1 ⟨rfl, rfl⟩
  have hle := Lib.splitB_length_le ⟨#[46]⟩ 0 (min 21 ((⟨l.toArray⟩ : ByteArray).size + 1) - 1) ⟨l.toArray⟩
  refine ⟨Lib.splitB ⟨#[46]⟩ 0 (min 21 ((⟨l.toArray⟩ : ByteArray).size + 1) - 1) ⟨l.toArray⟩, min 21 ((⟨l.toArray⟩ : ByteArray).size + 1), hide ?_, rfl, by omega, by omega, ?_, keep_alloc _ _⟩
  · rw [Lib.splitB_data]
    unfold partsS
    rw [hsz]
    rfl
  · intro j hj
    rw [World.cell?_alloc_at _ _ _ _ rfl]
    simp only [Lib.cellsOf, List.getElem?_toArray]
    rw [List.getElem?_append_left (by simpa using hj)]
    simp [hj]

theorem parse_world {w w' : World} {e : TypeId} {s : ByteArray} (h : w' = w ∨ w' = Lib.bytesWorld w e s) : Below w.heap.size w w' := by
  rcases h with rfl | rfl
  · exact Below.refl _ _
  · exact Lib.bytesWorld_below _ _ _
theorem parts_drop {ps : List ByteArray} {qs : List (List UInt8)} {k : Nat} (h : ps.map (·.data.toList) = qs) (hk : k < ps.length) : qs.drop k = (ps[k]).data.toList :: qs.drop (k + 1) := by
  subst h
  rw [List.drop_eq_getElem_cons (by simpa using hk)]
  simp
theorem nums_dead {p : List UInt8} {r : List (List UInt8)} (h : num1 p = none) : numsOf (p :: r) = none := by rw [numsOf, h]; rfl
theorem nums_go {p : List UInt8} {r : List (List UInt8)} {u : Nat} (h : num1 p = some u) : numsOf (p :: r) = (numsOf r).map (u :: ·) := by rw [numsOf, h]; rfl
theorem readO_none {l : List UInt8} (h : numsOf (partsS l) = none) : readO l = none := by unfold readO; rw [h]; rfl
theorem readO_some {l : List UInt8} {o : List Nat} (h : numsOf (partsS l) = some o) : readO l = if fitB o = true ∧ textS o = l then some o else none := by unfold readO; rw [h]; rfl

set_option maxRecDepth 100000 in
set_option maxHeartbeats 4000000 in
theorem read_any (l : List UInt8) (w : World) (hl : l.length ≤ 1000000) (hV : Vars w) :
    Calls Tryd.prog 16 #[str l] w fun e w' => Told .i64 1 (readO l) w' e ∧ Below w.heap.size w w' := by
  obtain ⟨i0, hi, hz0, hz1, hz2⟩ := info_parts Tryd.info41
  go_enter Tryd.func16, Tryd.ntmps16
  go_wp2_with (first | (go_at_call 26; refine (split_any l _ hl hV).mono ?_; rintro e w1 ⟨ps, N, HP, rfl, hpN, hN, hcell, hb1⟩) | fail)
  have hs1 := hb1.size
  go_loopw [4, 12] (fun vo vi wr => ∃ (k : Nat) (acc : List Nat), k ≤ ps.length ∧ vi = .int .i64 k ∧ Hid (numsOf (partsS l) = (numsOf ((partsS l).drop k)).map (acc ++ ·)) ∧ acc.length = k ∧ Hid (Under 4294967296 acc) ∧
      wr.ownsRow w1.heap.size 41 1 vo k (vals .u32 acc) ∧ Below w1.heap.size w1 wr) (fun _ i _ => ps.length - (intOf i).toNat)
  case atStart => exact ⟨0, [], Nat.zero_le _, rfl, hide (by rw [List.drop_zero]; cases numsOf (partsS l) <;> rfl), rfl, hide (fun x hx => by simp at hx), World.ownsRow_nil _ _ _ _, Below.refl _ _⟩
  case round =>
    obtain ⟨k, acc, hk, rfl, HD, hal, HU, how, hbr⟩ := hrel
    have HAL := hide hal
    clear hal
    have hsz := hbr.size
    have hro : Row .u32 4294967296 wr _ acc := Own.row (e := 41) (B := w1.heap.size) ⟨by rw [HAL.out]; exact how, HU.out⟩
    have hbw : Below w.heap.size w wr := hb1.trans (hbr.mono hs1)
    by_cases hlt : k < ps.length
    · have ck : wr.cell? ⟨w.heap.size, k, none⟩ = some (.string (ps[k]?.getD ByteArray.empty)) := by
        rw [hbr.cell (p := ⟨w.heap.size, k, none⟩) (World.block_lt_of_cell? w1 _ (hcell k hlt))]; exact hcell k hlt
      have hpk : ps[k]?.getD ByteArray.empty = ps[k] := by rw [List.getElem?_eq_getElem hlt]; rfl
      have hlen : (partsS l).length = ps.length := by rw [← HP.out]; exact List.length_map _
      have hpd : (partsS l).drop k = (ps[k]).data.toList :: (partsS l).drop (k + 1) := parts_drop HP.out hlt
      have hsz3 : (ps[k]).size ≤ 1000000 := by
        have h1 : (ps[k]).data.toList ∈ partsS l := by rw [← HP.out]; exact List.mem_map_of_mem (List.getElem_mem hlt)
        have h2 := split_sub _ _ _ _ h1
        have h3 : (ps[k]).size = (ps[k]).data.toList.length := ba_size _
        omega
      rw [hpk] at ck
      generalize ps[k] = p at *
      have HPD := hide hpd
      clear hpd hpk hlen
      have hVr := hV.below hbw
      cases hpu : Lib.parseUintB 32 p.data.toList
      · rename_i u
        have hu := parse_lt hpu
        have HN : Hid (numsOf (partsS l) = (numsOf ((partsS l).drop (k + 1))).map ((acc ++ [u]) ++ ·)) := hide (by
          rw [HD.out, HPD.out, nums_go (u := u) (by unfold num1; rw [hpu])]
          cases numsOf ((partsS l).drop (k + 1)) with
          | none => rfl
          | some r => simp only [Option.map_some, List.append_assoc, List.cons_append, List.nil_append])
        have HU2 : Hid (Under 4294967296 (acc ++ [u])) := hide (HU.out.append (Under.one hu))
        have hcall := Tryd.strconv_ParseUint_10_at32_ok p (by omega) u hpu wr
        obtain ⟨ad, co, hvo, _, _, _, _⟩ := hro
        subst hvo
        go_wp2_with (first
          | (go_at_call 27; refine hcall.mono ?_; rintro e w5 ⟨rfl, hw5⟩; have hb5 := parse_world hw5; have how5 := own_kept how hb5; have hsz5 := hb5.size; clear hw5)
          | (at_builtin; refine wpList_append_own _ rfl _ _ 23 rfl w1.heap.size 41 i0 (.int .u32 0) 1 4 Tryd.underlying23 hi hz0 hz1 hz2 rfl (by decide) _ _ _ rfl (how5.alloc _) ⟨w5.heap.size, 0, none⟩ 1 1 (vals .u32 [u]) rfl rfl (app_cells w5 .u32 u _ _ rfl) (vals_one _ _) (by unfold maxLen; omega) (by omega) (by simp; omega) ?_; intro v6 w6 how6 hgrow6 _; have hb6 := below_append (hbr.trans (hb5.mono hsz)) (by omega) how5 _ hgrow6)
          | fail)
        rw [← vals_append] at how6
        exact ⟨⟨k + 1, acc ++ [u], by omega, by simp, HN, by rw [List.length_append, HAL.out]; rfl, HU2, how6, hb6⟩, by simp [intOf]; omega⟩
      · have HN : Hid (readO l = none) := hide (readO_none (by rw [HD.out, HPD.out, nums_dead (by unfold num1; rw [hpu])]; rfl))
        obtain ⟨tp, pv, hvar⟩ := hVr.syn
        have hcall : Calls Tryd.prog 27 #[.string p, .int .i64 10, .int .i64 32] wr fun e w' => ∃ N, e = .returned (.tuple #[.int .u64 0, .iface 70 (.pointer (some ⟨N, 0, none⟩))]) ∧ Below wr.heap.size wr w' :=
          (Any.strconv_ParseUint_10_at32_syntax_var Tryd.laysPu14 p (by omega) hpu tp pv wr hvar).mono fun e w' ⟨N, h1, _, _, h2⟩ => ⟨N, h1, h2⟩
        go_wp2_with (first
          | (go_at_call 27; refine hcall.mono ?_; rintro e w5 ⟨NN, rfl, hb5⟩)
          | fail)
        go_ret2
        exact ⟨Told.none HN.out, keep_trans hbw hb5⟩
      · have HN : Hid (readO l = none) := hide (readO_none (by rw [HD.out, HPD.out, nums_dead (by unfold num1; rw [hpu])]; rfl))
        obtain ⟨tp, pv, hvar⟩ := hVr.rng
        have hcall : Calls Tryd.prog 27 #[.string p, .int .i64 10, .int .i64 32] wr fun e w' => ∃ N, e = .returned (.tuple #[.int .u64 4294967295, .iface 70 (.pointer (some ⟨N, 0, none⟩))]) ∧ Below wr.heap.size wr w' :=
          (Any.strconv_ParseUint_10_at32_range_var Tryd.laysPu14 p (by omega) hpu tp pv wr hvar).mono fun e w' ⟨N, h1, _, _, h2⟩ => ⟨N, h1, h2⟩
        go_wp2_with (first
          | (go_at_call 27; refine hcall.mono ?_; rintro e w5 ⟨NN, rfl, hb5⟩)
          | fail)
        go_ret2
        exact ⟨Told.none HN.out, keep_trans hbw hb5⟩
    · have hlen : (partsS l).length = ps.length := by rw [← HP.out]; exact List.length_map _
      have hA : numsOf (partsS l) = some acc := by
        rw [HD.out, List.drop_of_length_le (by omega)]
        simp only [numsOf, Option.map_some, List.append_nil]
      have hRS := readO_some hA
      have hfit := fit_any _ acc wr hro
      obtain ⟨ad, co, hvo, _, _, _, _⟩ := id hro
      subst hvo
      cases hf : fitB acc with
      | false =>
        rw [hf] at hfit hRS
        have HN : Hid (readO l = none) := hide (by rw [hRS]; simp)
        clear hRS hA
        go_wp2_with (first | (go_at_call 10; refine hfit.mono ?_; rintro e w5 ⟨rfl, rfl⟩) | fail)
        go_ret2
        exact ⟨Told.none HN.out, hbw⟩
      | true =>
        rw [hf] at hfit hRS
        have htx := text_any _ acc wr hro (hV.below hbw)
        by_cases hT : textS acc = l
        · have HN : Hid (readO l = some acc) := hide (by rw [hRS, hT]; simp)
          clear hRS hA
          rw [hT] at htx
          go_wp2_with (first
            | (go_at_call 10; refine hfit.mono ?_; rintro e w5 ⟨rfl, rfl⟩)
            | (go_at_call 18; refine htx.mono ?_; rintro e w6 ⟨rfl, hb6⟩)
            | fail)
          go_ret2
          exact ⟨⟨_, by rw [HN.out]; rfl, by rw [HN.out]; exact hro.below hb6⟩, keep_trans hbw hb6⟩
        · have HN : Hid (readO l = none) := hide (by rw [hRS]; simp [hT])
          clear hRS hA
          have hne : (textS acc == l) = false := beq_eq_false_iff_ne.2 hT
          generalize textS acc = T at *
          go_wp2_with (first
            | (go_at_call 10; refine hfit.mono ?_; rintro e w5 ⟨rfl, rfl⟩)
            | (go_at_call 18; refine htx.mono ?_; rintro e w6 ⟨rfl, hb6⟩)
            | fail)
          go_ret2
          exact ⟨Told.none HN.out, keep_trans hbw hb6⟩
end Go.Proofs.YtpmdbbmichncmaaDoor
