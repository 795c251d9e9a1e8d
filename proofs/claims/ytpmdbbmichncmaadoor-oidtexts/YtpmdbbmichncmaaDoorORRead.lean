/- Contract of apostilleref02.Read. -/
import Derived.Test.YtpmdbbmichncmaaDoorONum
namespace Go.Proofs.YtpmdbbmichncmaaDoor
open Go.RowKit
set_option linter.unusedVariables false

/-- what the document's reader reads, sign by sign -/
def rdR (o : List Nat) (cur : List UInt8) : List UInt8 → Option (List Nat)
  | [] => (numS cur).bind fun n => if o.length = 20 then none else some (o ++ [n])
  | c :: r => if c = ch 46 then (numS cur).bind fun n => if o.length = 20 then none else rdR (o ++ [n]) [] r else rdR o (cur ++ [c]) r
def readR (l : List UInt8) : Option (List Nat) := (rdR [] [] l).bind fun o => if fitB o = true then some o else none

theorem rd_sound (l : List UInt8) : ∀ (o p : List Nat) (cur : List UInt8), rdR o cur l = some p → ∃ q, q ≠ [] ∧ p = o ++ q ∧ joinF q = cur ++ l ∧ Under 4294967296 q := by
  induction l with
  | nil =>
    intro o p cur h
    obtain ⟨n, hn, h2⟩ := Option.bind_eq_some_iff.1 h
    obtain ⟨h3, h4⟩ := numS_iff.1 hn
    split at h2
    · cases h2
    · cases h2
      exact ⟨[n], by simp, rfl, by rw [h4]; simp [joinF], Under.one (by omega)⟩
  | cons c r ih =>
    intro o p cur h
    unfold rdR at h
    split at h
    · rename_i hc
      obtain ⟨n, hn, h2⟩ := Option.bind_eq_some_iff.1 h
      obtain ⟨h3, h4⟩ := numS_iff.1 hn
      split at h2
      · cases h2
      · obtain ⟨q, hq, rfl, hj, hu⟩ := ih _ _ _ h2
        refine ⟨n :: q, by simp, by simp, ?_, ?_⟩
        · rw [joinF_cons hq, hj, hc, h4]; rfl
        · exact Under.append (a := [n]) (Under.one (by omega)) hu
    · obtain ⟨q, hq, rfl, hj, hu⟩ := ih _ _ _ h
      exact ⟨q, hq, rfl, by rw [hj]; simp, hu⟩

theorem split_uniq (x : UInt8) (p : List UInt8) : ∀ (p' s s' : List UInt8), (∀ c ∈ p, c ≠ x) → (∀ c ∈ p', c ≠ x) → p ++ x :: s = p' ++ x :: s' → p = p' ∧ s = s' := by
  induction p with
  | nil =>
    intro p' s s' _ h2 h
    cases p' with
    | nil => exact ⟨rfl, (List.cons.inj h).2⟩
    | cons c p' => exact absurd (List.cons.inj h).1.symm (h2 c (by simp))
  | cons c p ih =>
    intro p' s s' h1 h2 h
    cases p' with
    | nil => exact absurd (List.cons.inj h).1 (h1 c (by simp))
    | cons d p' =>
      obtain ⟨e, h⟩ := List.cons.inj h
      obtain ⟨e2, e3⟩ := ih p' s s' (fun y hy => h1 y (by simp [hy])) (fun y hy => h2 y (by simp [hy])) h
      exact ⟨by rw [e, e2], e3⟩

theorem rd_complete (l : List UInt8) : ∀ (o q : List Nat) (cur : List UInt8), q ≠ [] → Clean cur → Under 4294967296 q → o.length + q.length ≤ 20 → joinF q = cur ++ l → rdR o cur l = some (o ++ q) := by
  induction l with
  | nil =>
    intro o q cur hq hc hu hl hj
    rw [List.append_nil] at hj
    match q, hq with
    | [a], _ =>
      have ha := hu a (by simp)
      unfold rdR
      rw [numS_iff.2 ⟨by omega, hj.symm⟩]
      show (if o.length = 20 then none else some (o ++ [a])) = _
      rw [if_neg (by simp at hl; omega)]
    | a :: b :: r, _ =>
      exfalso
      rw [joinF_cons (by simp)] at hj
      exact hc (ch 46) (by rw [← hj]; simp) rfl
  | cons c r ih =>
    intro o q cur hq hc hu hl hj
    unfold rdR
    by_cases h46 : c = ch 46
    · rw [if_pos h46]
      subst h46
      match q, hq with
      | [a], _ =>
        exfalso
        exact dg_clean a (ch 46) (by show ch 46 ∈ joinF [a]; rw [hj]; simp) rfl
      | a :: b :: q', _ =>
        have ha := hu a (by simp)
        rw [joinF_cons (by simp)] at hj
        obtain ⟨h1, h2⟩ := split_uniq (ch 46) _ _ _ _ (dg_clean a) hc hj
        rw [numS_iff.2 ⟨by omega, h1.symm⟩]
        show (if o.length = 20 then none else rdR (o ++ [a]) [] r) = _
        rw [if_neg (by simp at hl; omega), ih (o ++ [a]) (b :: q') [] (by simp) (fun x hx => by simp at hx) (fun x hx => hu x (by simp at hx ⊢; exact .inr hx)) (by simp at hl ⊢; omega) h2]
        simp
    · rw [if_neg h46]
      exact ih o q (cur ++ [c]) hq (fun x hx => by
        rcases List.mem_append.1 hx with h | h
        · exact hc x h
        · simp at h; subst h; exact h46) hu hl (by rw [hj]; simp)

theorem readR_iff {l : List UInt8} {o : List Nat} (hu : Under 4294967296 o) : readR l = some o ↔ (fitB o = true ∧ textS o = l) := by
  unfold readR
  constructor
  · intro h
    obtain ⟨q, hq, h2⟩ := Option.bind_eq_some_iff.1 h
    split at h2
    · rename_i hf
      cases h2
      obtain ⟨p, _, hp, hj, _⟩ := rd_sound l [] o [] hq
      rw [List.nil_append] at hp
      subst hp
      exact ⟨hf, by rw [text_join hf, hj]; rfl⟩
    · cases h2
  · rintro ⟨h1, h2⟩
    rw [text_join h1] at h2
    obtain ⟨a, b, r, rfl, hr, _⟩ := fit_two h1
    rw [rd_complete l [] (a :: b :: r) [] (by simp) (fun x hx => by simp at hx) hu (by simp; omega) (by rw [h2]; rfl)]
    show (if fitB (a :: b :: r) = true then some (a :: b :: r) else none) = _
    rw [if_pos h1]
theorem readR_eq (l : List UInt8) : readR l = readO l := by
  cases h : readO l with
  | some o =>
    have hu := readO_under h
    exact (readR_iff hu).2 ((readO_iff hu).1 h)
  | none =>
    cases h2 : readR l with
    | none => rfl
    | some o =>
      have hu : Under 4294967296 o := by
        unfold readR at h2
        obtain ⟨q, hq, h3⟩ := Option.bind_eq_some_iff.1 h2
        split at h3
        · cases h3
          obtain ⟨p, _, hp, _, hpu⟩ := rd_sound l [] o [] hq
          rw [List.nil_append] at hp
          subst hp
          exact hpu
        · cases h3
      have := (readO_iff hu).2 ((readR_iff hu).1 h2)
      rw [h] at this
      cases this

theorem rd_go {o : List Nat} {cur r : List UInt8} {c : UInt8} (h : c ≠ ch 46) : rdR o cur (c :: r) = rdR o (cur ++ [c]) r := by
  conv => lhs; unfold rdR
  rw [if_neg h]
theorem rd_dot {o : List Nat} {cur r : List UInt8} {n : Nat} (hn : numS cur = some n) (hl : o.length ≠ 20) : rdR o cur (ch 46 :: r) = rdR (o ++ [n]) [] r := by
  conv => lhs; unfold rdR
  rw [if_pos rfl, hn]
  show (if o.length = 20 then none else rdR (o ++ [n]) [] r) = _
  rw [if_neg hl]
theorem rd_end {o : List Nat} {cur : List UInt8} {n : Nat} (hn : numS cur = some n) (hl : o.length ≠ 20) : rdR o cur [] = some (o ++ [n]) := by
  unfold rdR
  rw [hn]
  show (if o.length = 20 then none else some (o ++ [n])) = _
  rw [if_neg hl]
theorem rd_dead {o : List Nat} {cur l : List UInt8} (hl : l = [] ∨ ∃ r, l = ch 46 :: r) (h : numS cur = none ∨ o.length = 20) : rdR o cur l = none := by
  rcases hl with rfl | ⟨r, rfl⟩
  · unfold rdR
    rcases h with h | h
    · rw [h]; rfl
    · cases numS cur with
      | none => rfl
      | some n => show (if o.length = 20 then none else some (o ++ [n])) = _; rw [if_pos h]
  · unfold rdR
    rw [if_pos rfl]
    rcases h with h | h
    · rw [h]; rfl
    · cases numS cur with
      | none => rfl
      | some n => show (if o.length = 20 then none else rdR (o ++ [n]) [] r) = _; rw [if_pos h]
theorem readR_none {l : List UInt8} (h : rdR [] [] l = none) : readR l = none := by unfold readR; rw [h]; rfl
theorem readR_some {l : List UInt8} {o : List Nat} (h : rdR [] [] l = some o) : readR l = if fitB o = true then some o else none := by unfold readR; rw [h]; rfl

/-- where the loop stands: in the text, or behind it -/
def Stands (l : List UInt8) (k f : Nat) (acc : List Nat) : Prop :=
  (k ≤ l.length ∧ f ≤ k ∧ rdR [] [] l = rdR acc ((l.take k).drop f) (l.drop k)) ∨ (k = l.length + 1 ∧ rdR [] [] l = some acc)

set_option maxRecDepth 100000 in
set_option maxHeartbeats 4000000 in
theorem rread_any (l : List UInt8) (w : World) (hl : l.length ≤ 1000000) :
    Calls Tryd.prog 17 #[str l] w fun e w' => Told .i64 1 (readR l) w' e ∧ Below w.heap.size w w' := by
  obtain ⟨i0, hi, hz0, hz1, hz2⟩ := info_parts Tryd.info41
  go_enter Tryd.func17, Tryd.ntmps17
  go_wp2
  go_loopw [4, 5, 6] (fun vo vf vi wr => ∃ (k f : Nat) (acc : List Nat), k ≤ l.length + 1 ∧ f ≤ k ∧ vi = .int .i64 k ∧ vf = .int .i64 f ∧ Hid (Stands l k f acc) ∧ acc.length ≤ 20 ∧ Hid (Under 4294967296 acc) ∧
      wr.ownsRow w.heap.size 41 1 vo acc.length (vals .u32 acc) ∧ Below w.heap.size w wr) (fun _ _ i _ => l.length + 1 - (intOf i).toNat)
  case atStart => exact ⟨0, 0, [], by omega, by omega, rfl, rfl, hide (.inl ⟨by omega, by omega, by simp⟩), by simp, hide (fun x hx => by simp at hx), World.ownsRow_nil _ _ _ _, Below.refl _ _⟩
  case round =>
    obtain ⟨k, f, acc, hk, hfk, rfl, rfl, HS, hal, HU, how, hbr⟩ := hrel
    have hsz := hbr.size
    have hro : Row .u32 4294967296 wr _ acc := Own.row (e := 41) (B := w.heap.size) ⟨how, HU.out⟩
    obtain ⟨ad, co, hvo, _, _, _, _⟩ := id hro
    subst hvo
    by_cases hend : k ≤ l.length
    · have hS : rdR [] [] l = rdR acc ((l.take k).drop f) (l.drop k) := by
        rcases HS.out with ⟨_, _, h⟩ | ⟨h, _⟩
        · exact h
        · omega
      by_cases hgo : ∃ h : k < l.length, l[k] ≠ ch 46
      · obtain ⟨hlt, hne⟩ := hgo
        have HS2 : Hid (Stands l (k + 1) f acc) := hide (.inl ⟨by omega, by omega, by rw [hS, List.drop_eq_getElem_cons hlt, rd_go hne, cut_snoc hfk hlt]⟩)
        obtain ⟨c, hc⟩ : ∃ c, (⟨l.toArray⟩ : ByteArray)[k]'(by simpa [ByteArray.size] using hlt) = c := ⟨_, rfl⟩
        have hcn : ((c.toNat : Int) == 46) = false := by
          apply beq_eq_false_iff_ne.2
          intro e
          apply hne
          show (⟨l.toArray⟩ : ByteArray)[k]'(by simpa [ByteArray.size] using hlt) = _
          rw [hc]
          apply UInt8.toNat_inj.1
          rw [ch_nat (by decide)]
          omega
        clear hS hne
        go_wp2
        exact ⟨⟨k + 1, f, acc, by omega, by omega, by simp, rfl, HS2, hal, HU, how, hbr⟩, by simp [intOf]; omega⟩
      · have hdr : l.drop k = [] ∨ ∃ r, l.drop k = ch 46 :: r := by
          by_cases hlt : k < l.length
          · right
            refine ⟨l.drop (k + 1), ?_⟩
            rw [List.drop_eq_getElem_cons hlt]
            congr 1
            exact Classical.byContradiction fun h => hgo ⟨hlt, h⟩
          · left
            exact List.drop_of_length_le (by omega)
        have hcall := rnumber_any ((l.take k).drop f) wr (by have := cut_len (l := l) (f := f) (k := k); omega)
        have hsub := sub_eq l f k
        have HDead : Hid ((numS ((l.take k).drop f) = none ∨ acc.length = 20) → readR l = none) := hide (fun h => readR_none (by rw [hS]; exact rd_dead hdr h))
        have HGo : Hid (∀ u, numS ((l.take k).drop f) = some u → acc.length ≠ 20 → Stands l (k + 1) (k + 1) (acc ++ [u])) := hide (fun u hn h20 => by
          by_cases hlt : k < l.length
          · refine .inl ⟨by omega, by omega, ?_⟩
            have h46 : l[k] = ch 46 := Classical.byContradiction fun h => hgo ⟨hlt, h⟩
            have e1 : (l.take (k + 1)).drop (k + 1) = [] := List.drop_of_length_le (by rw [List.length_take]; omega)
            rw [hS, List.drop_eq_getElem_cons hlt, h46, rd_dot hn h20, e1]
          · refine .inr ⟨by omega, ?_⟩
            have e2 : l.drop k = [] := List.drop_of_length_le (by omega)
            rw [hS, e2, rd_end hn h20])
        have f0 : (0 : Int) ≤ (f : Int) := by omega
        have f1 : (f : Int) ≤ (k : Int) := by omega
        have f2 : (k : Int) ≤ (l.length : Int) := by omega
        have hcc : (∃ h : k < l.length, ((l[k].toNat : Int) == 46) = true) ∨ ¬ k < l.length := by
          by_cases hlt : k < l.length
          · left
            refine ⟨hlt, ?_⟩
            have h46 : l[k] = ch 46 := Classical.byContradiction fun h => hgo ⟨hlt, h⟩
            rw [h46, ch_nat (by decide)]
            rfl
          · exact .inr hlt
        clear hS hdr hgo
        generalize (l.take k).drop f = cur at *
        rcases hcc with ⟨hlt, h46⟩ | hge
        · obtain ⟨c, hc⟩ : ∃ c, (⟨l.toArray⟩ : ByteArray)[k]'(by simpa [ByteArray.size] using hlt) = c := ⟨_, rfl⟩
          have hcn : ((c.toNat : Int) == 46) = true := by rw [← hc]; exact h46
          clear h46
          go_wp2_with fail
          refine hcall.mono ?_
          rintro e w5 ⟨⟨u, ok, rfl, hcase⟩, hb5⟩
          have hbw := keep_trans hbr hb5
          have how5 := own_kept how hb5
          have hsz5 := hb5.size
          rcases hcase with ⟨rfl, hn, hu⟩ | ⟨rfl, hn⟩
          · by_cases h20 : acc.length = 20
            · have HN : Hid (readR l = none) := hide (HDead.out (.inr h20))
              have h20' : ((acc.length : Int) == 20) = true := by rw [h20]; rfl
              have H20 := hide h20
              clear h20
              go_wp2
              go_ret2
              exact ⟨Told.none HN.out, hbw⟩
            · have HS2 : Hid (Stands l (k + 1) (k + 1) (acc ++ [u])) := hide (HGo.out u hn h20)
              have HU2 : Hid (Under 4294967296 (acc ++ [u])) := hide (HU.out.append (Under.one hu))
              have h20' : ((acc.length : Int) == 20) = false := beq_eq_false_iff_ne.2 (by omega)
              have hal' : acc.length + 1 ≤ 20 := by omega
              go_wp2_with (first
                | (at_builtin; refine wpList_append_own _ rfl _ _ 23 rfl w.heap.size 41 i0 (.int .u32 0) 1 4 Tryd.underlying23 hi hz0 hz1 hz2 rfl (by decide) _ _ _ rfl (how5.alloc _) ⟨w5.heap.size, 0, none⟩ 1 1 (vals .u32 [u]) rfl rfl (app_cells w5 .u32 u _ _ rfl) (vals_one _ _) (by unfold maxLen; omega) (by omega) (by simp; omega) ?_; intro v6 w6 how6 hgrow6 _; have hb6 := below_append (hbr.trans (hb5.mono hsz)) (by omega) how5 _ hgrow6)
                | fail)
              rw [← vals_append] at how6
              exact ⟨⟨k + 1, k + 1, acc ++ [u], by omega, by omega, by simp, by simp, HS2, by rw [List.length_append]; exact hal', HU2, by rw [List.length_append]; exact how6, hb6⟩, by simp [intOf]; omega⟩
          · have HN : Hid (readR l = none) := hide (HDead.out (.inl hn))
            go_wp2
            go_ret2
            exact ⟨Told.none HN.out, hbw⟩
        · go_wp2_with fail
          refine hcall.mono ?_
          rintro e w5 ⟨⟨u, ok, rfl, hcase⟩, hb5⟩
          have hbw := keep_trans hbr hb5
          have how5 := own_kept how hb5
          have hsz5 := hb5.size
          rcases hcase with ⟨rfl, hn, hu⟩ | ⟨rfl, hn⟩
          · by_cases h20 : acc.length = 20
            · have HN : Hid (readR l = none) := hide (HDead.out (.inr h20))
              have h20' : ((acc.length : Int) == 20) = true := by rw [h20]; rfl
              have H20 := hide h20
              clear h20
              go_wp2
              go_ret2
              exact ⟨Told.none HN.out, hbw⟩
            · have HS2 : Hid (Stands l (k + 1) (k + 1) (acc ++ [u])) := hide (HGo.out u hn h20)
              have HU2 : Hid (Under 4294967296 (acc ++ [u])) := hide (HU.out.append (Under.one hu))
              have h20' : ((acc.length : Int) == 20) = false := beq_eq_false_iff_ne.2 (by omega)
              have hal' : acc.length + 1 ≤ 20 := by omega
              go_wp2_with (first
                | (at_builtin; refine wpList_append_own _ rfl _ _ 23 rfl w.heap.size 41 i0 (.int .u32 0) 1 4 Tryd.underlying23 hi hz0 hz1 hz2 rfl (by decide) _ _ _ rfl (how5.alloc _) ⟨w5.heap.size, 0, none⟩ 1 1 (vals .u32 [u]) rfl rfl (app_cells w5 .u32 u _ _ rfl) (vals_one _ _) (by unfold maxLen; omega) (by omega) (by simp; omega) ?_; intro v6 w6 how6 hgrow6 _; have hb6 := below_append (hbr.trans (hb5.mono hsz)) (by omega) how5 _ hgrow6)
                | fail)
              rw [← vals_append] at how6
              exact ⟨⟨k + 1, k + 1, acc ++ [u], by omega, by omega, by simp, by simp, HS2, by rw [List.length_append]; exact hal', HU2, by rw [List.length_append]; exact how6, hb6⟩, by simp [intOf]; omega⟩
          · have HN : Hid (readR l = none) := hide (HDead.out (.inl hn))
            go_wp2
            go_ret2
            exact ⟨Told.none HN.out, hbw⟩
    · have hS : rdR [] [] l = some acc := by
        rcases HS.out with ⟨h, _⟩ | ⟨_, h⟩
        · omega
        · exact h
      have hRS := readR_some hS
      have hfit := rfit_any _ acc wr hro
      clear hS
      cases hf : fitB acc with
      | false =>
        rw [hf] at hfit hRS
        have HN : Hid (readR l = none) := hide (by rw [hRS]; rfl)
        clear hRS
        go_wp2_with (first | (go_at_call 11; refine hfit.mono ?_; rintro e w5 ⟨rfl, rfl⟩) | fail)
        go_ret2
        exact ⟨Told.none HN.out, hbr⟩
      | true =>
        rw [hf] at hfit hRS
        have HN : Hid (readR l = some acc) := hide (by rw [hRS]; rfl)
        clear hRS
        go_wp2_with (first | (go_at_call 11; refine hfit.mono ?_; rintro e w5 ⟨rfl, rfl⟩) | fail)
        go_ret2
        exact ⟨⟨_, by rw [HN.out]; rfl, by rw [HN.out]; exact hro⟩, hbr⟩
end Go.Proofs.YtpmdbbmichncmaaDoor
