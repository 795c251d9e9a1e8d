/- Texts as strings; the chapter's examples: awake. -/
import Derived.Test.YtcddoognlhpaaaaPRSo
import Derived.Lib.SlBytesConst
namespace Go.Proofs.Ytcddoognlhpaaaa
open Go.RowKit Go.Deep
set_option linter.unusedVariables false

theorem conv_row {w : World} {u : Value} {l : List Nat} (h : Row .u8 256 w u l) : (convert 25 9 u).run Try.prog w = .ok (.string ⟨(bts l).toArray⟩) w := by
  have hu := h.under
  obtain ⟨a, cap, rfl, h1, h2, h3, h4⟩ := h
  cases a with
  | none =>
    have hl0 : l = [] := by
      cases l with
      | nil => rfl
      | cons x l => obtain ⟨_, _, h', _⟩ := h3 (by simp); cases h'
    subst hl0
    rfl
  | some x =>
    have hl : (bts l).length = l.length := by simp [bts]
    rw [← hl]
    refine run_convert_bytes_back (P := Try.prog) _ 25 9 5 x cap (bts l) Try.underlying25 Try.underlying5 Try.underlying9 ?_
    intro j hj
    rw [hl] at hj
    obtain ⟨b, off, hx, hc⟩ := h3 (by omega)
    obtain rfl := Option.some.inj hx
    rw [Addr.add_lit, hc j hj, el_at hj]
    simp only [bts, List.getElem_map]
    rw [ch_nat (hu _ (List.getElem_mem hj))]
theorem lit_rows2 (w : World) (vs : List Value) (l : List (List Nat)) (n : Nat) (hn : n = l.length) (h : Texts w vs l) (hm : l.length ≤ maxLen) : Rows2 (w.alloc (.cells vs.toArray 25)) (.slice (some ⟨w.heap.size, 0, none⟩) n n) l := by
  subst hn
  refine (h.below (keep_alloc _ _)).rows2 (B := 0) ?_
  have := World.ownsRow_lit (base := 0) (e := 25) (size := 1) w vs.toArray l.length (Nat.zero_le _) hm (by simp [h.1])
  simpa using this
theorem lit_rowF (w : World) (l : List Nat) (t : TypeId) (fr : Nat × Nat) (hu : Under 256 l) (hl : l.length ≤ maxLen) :
    Row .u8 256 (w.alloc (.cells (vals .u8 l).toArray t fr)) (.slice (some ⟨w.heap.size, 0, none⟩) l.length l.length) l := by
  refine ⟨_, _, rfl, Nat.le_refl _, hl, fun _ => ⟨_, _, rfl, fun i hi => ?_⟩, hu⟩
  have h : (w.alloc (.cells (vals .u8 l).toArray t fr)).heap[w.heap.size]? = some (.cells (vals .u8 l).toArray t fr) := heap_alloc_new w _
  rw [World.cell?]
  simp only [h]
  rw [Nat.zero_add]
  simpa using vals_get .u8 l i hi
theorem tidy_some (A : Addr) (n c : Nat) : Tidy (.slice (some A) n c) := fun _ _ h => by cases h
theorem awk_sort : sortL [[98], [], [97, 98]] = [[], [97, 98], [98]] := by decide
theorem awk_texts (w : World) (w2 : World) (hw : w2 = (w.alloc (.cells #[.int .u8 98] 5 (1, 2))).alloc (.cells #[.int .u8 97, .int .u8 98] 5 (2, 3))) :
    Texts w2 [.slice (some ⟨w.heap.size, 0, none⟩) 1 1, .slice none 0 0, .slice (some ⟨w.heap.size + 1, 0, none⟩) 2 2] [[98], [], [97, 98]] := by
  subst hw
  have h1 : Row .u8 256 _ _ [98] := (lit_rowF w [98] 5 (1, 2) (dec_under (by decide)) (by decide)).below (keep_alloc _ (.cells #[.int .u8 97, .int .u8 98] 5 (2, 3)))
  have h2 : Row .u8 256 _ _ [97, 98] := lit_rowF (w.alloc (.cells #[.int .u8 98] 5 (1, 2))) [97, 98] 5 (2, 3) (dec_under (by decide)) (by decide)
  rw [World.size_alloc] at h2
  have t := ((Texts.one h1 (tidy_some _ _ _)).append (Texts.one (Row.nil .u8 256 _) (fun _ _ h => by simp at h; omega))).append (Texts.one h2 (tidy_some _ _ _))
  exact t
theorem awk_two (w : World) : Rows2 (((w.alloc (.cells #[.int .u8 1] 5)).alloc (.cells #[.int .u8 1] 5)).alloc (.cells #[.slice (some ⟨w.heap.size, 0, none⟩) 1 1, .slice (some ⟨w.heap.size + 1, 0, none⟩) 1 1] 25)) (.slice (some ⟨w.heap.size + 1 + 1, 0, none⟩) 2 2) [[1], [1]] := by
  have h1 : Row .u8 256 _ _ [1] := (lit_row .u8 256 w [1] 5 (dec_under (by decide)) (by decide)).below (keep_alloc _ (.cells #[.int .u8 1] 5))
  have h2 : Row .u8 256 _ _ [1] := lit_row .u8 256 (w.alloc (.cells #[.int .u8 1] 5)) [1] 5 (dec_under (by decide)) (by decide)
  rw [World.size_alloc] at h2
  have t := (Texts.one h1 (tidy_some _ _ _)).append (Texts.one h2 (tidy_some _ _ _))
  have r := lit_rows2 _ _ _ 2 rfl t (by decide)
  rw [World.size_alloc, World.size_alloc] at r
  exact r

theorem awk_in (w : World) : Rows2 (((w.alloc (.cells #[.int .u8 98] 5 (1, 2))).alloc (.cells #[.int .u8 97, .int .u8 98] 5 (2, 3))).alloc (.cells #[.slice (some ⟨w.heap.size, 0, none⟩) 1 1, .slice none 0 0, .slice (some ⟨w.heap.size + 1, 0, none⟩) 2 2] 25)) (.slice (some ⟨w.heap.size + 1 + 1, 0, none⟩) 3 3) [[98], [], [97, 98]] := by
  have r := lit_rows2 _ _ _ 3 rfl (awk_texts w _ rfl) (by decide)
  rw [World.size_alloc, World.size_alloc] at r
  exact r
/-- the chapter's example, sorted: what is read of it -/
theorem awk_out {w : World} {o : Value} (h : Rows2 w o [[], [97, 98], [98]]) : ∃ b off cap u0 c0 u1 u2, o = .slice (some ⟨b, off, none⟩) 3 cap ∧ w.cell? ⟨b, off, none⟩ = some (.slice u0 0 c0) ∧ w.cell? ⟨b, off + 1, none⟩ = some u1 ∧ w.cell? ⟨b, off + 2, none⟩ = some u2 ∧ Row .u8 256 w u1 [97, 98] ∧ Row .u8 256 w u2 [98] := by
  obtain ⟨a, cap, rfl, _, _, h3⟩ := h
  obtain ⟨b, off, rfl, hc⟩ := h3 (by decide)
  obtain ⟨v0, e0, r0, _⟩ := hc 0 (by decide)
  obtain ⟨v1, e1, r1, _⟩ := hc 1 (by decide)
  obtain ⟨v2, e2, r2, _⟩ := hc 2 (by decide)
  obtain ⟨u0, c0, rfl, _⟩ := r0
  exact ⟨b, off, cap, u0, c0, v1, v2, rfl, e0, e1, e2, r1, r2⟩

set_option maxHeartbeats 2000000 in
theorem awake_any (w : World) : Calls Try.prog 7 #[] w fun e w' => e = .returned (.bool true) ∧ Below w.heap.size w w' := by
  have hcv1 := Lib.run_convert_bytes_const (P := Try.prog) w 25 5 #[.int .u8 98] 1 1 Try.underlying25 Try.underlying5
  have hcv2 := Lib.run_convert_bytes_const (P := Try.prog) (w.alloc (.cells #[.int .u8 98] 5 (1, 2))) 25 5 #[.int .u8 97, .int .u8 98] 2 2 Try.underlying25 Try.underlying5
  rw [World.size_alloc] at hcv2
  have hsort := sort_any _ _ _ (awk_in w) (by decide) (fun t ht => by
    have : t.length ≤ 2 := by
      have h : ∀ t ∈ ([[98], [], [97, 98]] : List (List Nat)), t.length ≤ 2 := by decide
      exact h t ht
    omega)
  go_enter Try.func7, Try.ntmps7
  go_wp2_with fail
  refine hsort.mono ?_
  rintro e w4 ⟨o, rfl, h6, h7⟩
  rw [awk_sort] at h6
  have hb4 : Below w.heap.size w w4 := keep_trans (keep_trans (keep_trans (keep_alloc w _) (keep_alloc _ _)) (keep_alloc _ _)) h7
  clear hcv1 hcv2 hsort h7
  have hb5 : Below w4.heap.size w4 (((w4.alloc (.cells #[.int .u8 1] 5)).alloc (.cells #[.int .u8 1] 5)).alloc (.cells #[.slice (some ⟨w4.heap.size, 0, none⟩) 1 1, .slice (some ⟨w4.heap.size + 1, 0, none⟩) 1 1] 25)) := keep_trans (keep_trans (keep_alloc w4 _) (keep_alloc _ _)) (keep_alloc _ _)
  have htwo := awk_two w4
  obtain ⟨b, off, cap, u0, c0, u1, u2, rfl, e0, e1, e2, r1, r2⟩ := awk_out (h6.below hb5)
  have v1 := conv_row r1
  have v2 := conv_row r2
  have hstrict := strict_any _ _ _ htwo
  rw [show strictB [[1], [1]] = false by decide] at hstrict
  rw [show (⟨(bts [97, 98]).toArray⟩ : ByteArray) = ⟨#[97, 98]⟩ from rfl] at v1
  rw [show (⟨(bts [98]).toArray⟩ : ByteArray) = ⟨#[98]⟩ from rfl] at v2
  go_wp2_with fail
  refine hstrict.mono ?_
  rintro e w5 ⟨rfl, hd5⟩
  have hsorted := sorted_any _ _ _ (hd5.rows htwo)
  rw [show sortedB [[1], [1]] = true by decide] at hsorted
  have hb6 := keep_trans hb4 (keep_trans hb5 hd5.below)
  clear v1 v2 e0 e1 e2 r1 r2 hstrict htwo hb5 hb4 hd5
  go_wp2_with fail
  refine hsorted.mono ?_
  rintro e w6 ⟨rfl, hd6⟩
  go_wp2
  go_ret
  exact ⟨rfl, keep_trans hb6 hd6.below⟩
end Go.Proofs.Ytcddoognlhpaaaa
