/- The document's own: Sort, Merge. -/
import Derived.Test.YtcddoognlhpaaaaPRef
import Derived.Test.YtcddoognlhpaaaaPSor
namespace Go.Proofs.Ytcddoognlhpaaaa
open Go.RowKit Go.Deep
set_option linter.unusedVariables false

set_option maxHeartbeats 1000000 in
theorem rsort_any (v : Value) (l : List (List Nat)) (w : World) (h : Rows2 w v l) (hl : l.length ≤ 1000000) :
    Calls Try.prog 12 #[v] w fun e w' => Tells2 w (sortL l) e w' := by
  obtain ⟨a, cap, rfl, h1, h2, h3⟩ := h.opens
  go_enter Try.func12, Try.ntmps12
  go_wp2
  go_loopw [3, 4] (fun vo i wr => ∃ k : Nat, k ≤ l.length ∧ i = .int .i64 k ∧ Hid (Rows2 wr vo (sortL (l.take k))) ∧ Below w.heap.size w wr) (fun _ i _ => l.length - (intOf i).toNat)
  case atStart => exact ⟨0, Nat.zero_le _, rfl, hide (rnil _), Below.refl _ _⟩
  case round =>
    obtain ⟨k, hk, rfl, HR, hb⟩ := hrel
    by_cases hlt : k < l.length
    · obtain ⟨b, off, rfl, hc⟩ := (h.below hb).all (by omega)
      obtain ⟨u, c1, r1, t1⟩ := hc k hlt
      have hcall := rlay_any u3 u (sortL (l.take k)) (tx l k) wr HR.out r1 t1 (by rw [sort_len, List.length_take]; omega)
      rw [← sort_snoc, ← take_tx hlt] at hcall
      clear hc r1 t1 HR
      go_wp2_with fail
      refine hcall.mono ?_
      rintro e w1 ⟨o, rfl, hr1, hb1⟩
      have HR1 := hide hr1
      have hb2 := keep_trans hb hb1
      clear hcall hr1 hb1 hb
      go_wp2
      go_roundw
      case rel => exact ⟨k + 1, by omega, by go_num, HR1, hb2⟩
      case measure => simp [intOf]; omega
    · have hr := HR.out
      rw [List.take_of_length_le (by omega)] at hr
      have HR1 := hide hr
      clear hr HR
      go_wp2
      go_ret
      exact ⟨_, rfl, HR1.out, hb⟩

set_option maxHeartbeats 2000000 in
theorem rmerge_any (va vb : Value) (a b : List (List Nat)) (w : World) (ha : Rows2 w va a) (hb : Rows2 w vb b) (hl : a.length + b.length ≤ 1000000) :
    Calls Try.prog 18 #[va, vb] w fun e w' => Tells2 w (mergeL a b) e w' := by
  have hsa := rsorted_any va a w ha
  cases hda : sortedB a with
  | false =>
    have HM : Hid (mergeL a b = []) := hide (by unfold mergeL; rw [if_neg (fun h => by rw [hda] at h; cases h.1)])
    rw [hda] at hsa
    clear hda
    go_enter Try.func18, Try.ntmps18
    go_wp2_with fail
    refine hsa.mono ?_
    rintro e w1 ⟨rfl, hd1⟩
    go_wp2
    go_ret
    exact ⟨_, rfl, by rw [HM.out]; exact rnil _, hd1.below⟩
  | true =>
    rw [hda] at hsa
    cases hdb : sortedB b with
    | false =>
      have HM : Hid (mergeL a b = []) := hide (by unfold mergeL; rw [if_neg (fun h => by rw [hdb] at h; cases h.2)])
      clear hda
      go_enter Try.func18, Try.ntmps18
      go_wp2_with fail
      refine hsa.mono ?_
      rintro e w1 ⟨rfl, hd1⟩
      have hsb := rsorted_any vb b w1 (hd1.rows hb)
      rw [hdb] at hsb
      clear hdb hsa
      go_wp2_with fail
      refine hsb.mono ?_
      rintro e w2 ⟨rfl, hd2⟩
      go_wp2
      go_ret
      exact ⟨_, rfl, by rw [HM.out]; exact rnil _, keep_trans hd1.below hd2.below⟩
    | true =>
      have HM : Hid (mergeL a b = sortL (a ++ b)) := hide (by unfold mergeL; rw [if_pos ⟨hda, hdb⟩])
      clear hda
      obtain ⟨i1, hj, hy0, hy1, hy2⟩ := info_text
      obtain ⟨us, aa, ca, rfl, _, _, hTa, hna⟩ := ha.texts
      obtain ⟨vs, ab, cb, rfl, _, _, hTb, hnb⟩ := hb.texts
      have hla := hTa.1
      have hlb := hTb.1
      have h1a := hTa.cells
      have h1b := hTb.cells
      have HT := hide (hTa.append hTb)
      clear hTa hTb
      go_enter Try.func18, Try.ntmps18
      go_wp2_with fail
      refine hsa.mono ?_
      rintro e w1 ⟨rfl, hd1⟩
      have hsb := rsorted_any _ b w1 (hd1.rows hb)
      rw [hdb] at hsb
      clear hdb hsa
      go_wp2_with fail
      refine hsb.mono ?_
      rintro e w2 ⟨rfl, hd2⟩
      have hb2 := keep_trans hd1.below hd2.below
      have hsz2 := hb2.size
      clear ha hb hsb
      go_wp2_with (first
        | (at_builtin; refine wpList_append_rows _ rfl _ _ 22 22 25 rfl Try.underlying22 w.heap.size 25 i1 (.slice none 0 0) 24 Try.underlying22 hj hy0 hy1 hy2 rfl (.slice none 0 0) 0 [] rfl (World.ownsRow_nil _ _ _ _) aa a.length ca us rfl hla (news_below hna hb2) h1a (by unfold maxLen; omega) (by omega) hsz2 ?_; intro v3 w3 how3 hg3; have hb3 := below_append' hb2 hsz2 (World.ownsRow_nil _ _ 25 _) hg3; have hsz3 := hb3.size; rw [Nat.zero_add, List.nil_append] at how3)
        | (at_builtin; refine wpList_append_rows _ rfl _ _ 22 22 25 rfl Try.underlying22 w.heap.size 25 i1 (.slice none 0 0) 24 Try.underlying22 hj hy0 hy1 hy2 rfl v3 a.length us rfl how3 ab b.length cb vs rfl hlb (news_below hnb hb3) h1b (by unfold maxLen; omega) (by omega) hsz3 ?_; intro v4 w4 how4 hg4; have hb4 := below_append' hb3 hsz3 how3 hg4)
        | fail)
      have hr4 : Rows2 w4 v4 (a ++ b) := (HT.out.below hb4).rows2 (by rw [List.length_append]; exact how4)
      refine (rsort_any v4 (a ++ b) w4 hr4 (by rw [List.length_append]; exact hl)).mono ?_
      rintro e w5 ⟨o, rfl, h6, h7⟩
      clear how3 how4 hg3 hg4 hr4
      go_wp2
      go_ret
      exact ⟨o, rfl, by rw [HM.out]; exact h6, keep_trans hb4 h7⟩
end Go.Proofs.Ytcddoognlhpaaaa
