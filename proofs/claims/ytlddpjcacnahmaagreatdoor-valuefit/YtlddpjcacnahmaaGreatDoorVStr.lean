/- Texts of characters, identifiers and times as values. -/
import Derived.Test.YtlddpjcacnahmaaGreatDoorVLea
import Derived.Test.YtlddpjcacnahmaaGreatDoorEWVl
import Derived.Test.YtlddpjcacnahmaaGreatDoorSDof
import Derived.Test.YtlddpjcacnahmaaGreatDoorEPar
namespace Go.Proofs.YtlddpjcacnahmaaGreatDoor
open Go.RowKit Go.Deep
set_option linter.unusedVariables false
set_option linter.unusedSimpArgs false

/-- a text's bytes as numbers -/
def nb (l : List UInt8) : List Nat := l.map (·.toNat)
theorem nb_len (l : List UInt8) : (nb l).length = l.length := by simp [nb]
theorem nb_under (l : List UInt8) : Under 256 (nb l) := by
  intro x hx
  obtain ⟨c, _, rfl⟩ := List.mem_map.1 hx
  exact c.toNat_lt
theorem bts_nb (l : List UInt8) : bts (nb l) = l := by
  unfold bts nb
  rw [List.map_map]
  conv => rhs; rw [← List.map_id l]
  exact List.map_congr_left (fun c _ => by simp [ch])
theorem nb_bts {b : List Nat} (h : Under 256 b) : nb (bts b) = b := by
  unfold bts nb
  rw [List.map_map]
  conv => rhs; rw [← List.map_id b]
  exact List.map_congr_left (fun x hx => by simp only [Function.comp, id]; exact ch_nat (h x hx))
/-- a text's bytes in a new block -/
theorem to_row (w : World) (l : List UInt8) (hl : l.length ≤ 1000000) : ∃ cap w', (convert 9 22 (str l)).run Tryz.prog w = .ok (.slice (some ⟨w.heap.size, 0, none⟩) l.length cap) w' ∧ Row .u8 256 w' (.slice (some ⟨w.heap.size, 0, none⟩) l.length cap) (nb l) ∧ w.grownBy w' none := by
  have h := run_bytes_of_string (P := Tryz.prog) w 9 22 5 ⟨l.toArray⟩ Tryz.underlying9 Tryz.underlying22 Tryz.underlying5
  have hs : (⟨l.toArray⟩ : ByteArray).size = l.length := by simp [ByteArray.size]
  have hge := grownCap_ge w (⟨l.toArray⟩ : ByteArray).size 0 5
  have hle := grownCap_le_maxLen w (⟨l.toArray⟩ : ByteArray).size 0 5 (by rw [hs]; unfold maxLen; omega)
  refine ⟨_, _, h, ⟨_, _, by rw [nb_len], by rw [nb_len]; omega, hle, fun hp => ⟨_, _, rfl, fun j hj => ?_⟩, nb_under l⟩, ?_⟩
  · rw [nb_len] at hj
    rw [Nat.zero_add, show w.heap.size = w.drew.heap.size from rfl, World.cell?_alloc_mark]
    rw [bytesRow_at _ _ j (by simpa using hj), el_at (by rw [nb_len]; exact hj)]
    simp [nb]
  · exact World.grownBy.trans (⟨rfl, rfl, rfl, Nat.le_refl _, fun _ _ _ => rfl⟩ : w.grownBy w.drew none) (World.grownBy_alloc _ _ _)
/-- a value of bytes is fit just if they fit -/
theorem leaf_fit (FB : Int → List Nat → Bool) {t : Int} {b : List Nat} (ht : plainB t = true) (hl : b.length ≤ 10000) : (bytesD FB (.mk t b [])).isSome = FB t b := by
  have hbx : boxedB t = false := by
    cases hx : boxedB t with
    | false => rfl
    | true => rw [plain_unboxed hx] at ht; cases ht
  have htg : taggedB t = true := by rw [tagged_or, ht]; rfl
  have h1 := lenE_len b.length
  have hw : wrD FB 32 (.mk t b []) = if FB t b = false then none else some (t.toNat :: lenE b.length ++ b) := by
    rw [wrD, if_neg (by rw [htg]; decide), if_pos hbx]
    cases hf : FB t b with
    | false => rw [if_pos (.inr (.inr rfl)), if_pos rfl]
    | true => rw [if_neg (by simp; omega), if_neg (by decide)]
  unfold bytesD
  rw [hw]
  cases hf : FB t b with
  | false => rfl
  | true =>
    rw [if_neg (by decide)]
    simp only
    rw [if_neg (by simp only [List.cons_append, List.length_cons, List.length_append]; omega)]
    rfl
theorem szF_leaf (d : Nat) (t : Int) (b : List Nat) : szF d (.mk t b []) ≤ b.length + 1 := by
  cases d with
  | zero => rw [szF]; omega
  | succ d => rw [szF]; simp; omega
theorem I64.mk {t : Int} (h1 : 0 ≤ t) (h2 : t ≤ 1000) : I64 t := by unfold I64; omega

set_option maxRecDepth 100000 in
set_option maxHeartbeats 2000000 in
theorem utf8_any (FB : Int → List Nat → Bool) (hFB : FBok FB) (l : List UInt8) (w : World) (hl : l.length ≤ 5000) (hT : UTabs w) :
    Calls Tryz.prog 9 #[str l] w fun e w' => NodT (madeN (FB 12 (nb l)) (.mk 12 (nb l) [])) (madeR (FB 12 (nb l))) w e w' := by
  have hb0 := keep_alloc w (.cells #[.int .i64 0, .slice none 0 0, .slice none 0 0] 28)
  obtain ⟨cap, w1, hcv, hrow, hg1⟩ := to_row (w.alloc (.cells #[.int .i64 0, .slice none 0 0, .slice none 0 0] 28)) l (by omega)
  have hb1 : Below (w.heap.size + 1) (w.alloc (.cells #[.int .i64 0, .slice none 0 0, .slice none 0 0] 28)) w1 := by
    have := (Below.refl (w.alloc (.cells #[.int .i64 0, .slice none 0 0, .slice none 0 0] 28)).heap.size _).grown hg1 (Nat.le_refl _) (fun k h => by cases h)
    rwa [World.size_alloc] at this
  have hs1 := hb1.size
  rw [World.size_alloc] at hs1
  rw [World.size_alloc] at hcv hrow
  have hlf := (leaf_any 12 _ (nb l) w1 (I64.mk (by omega) (by omega)) hrow (by rw [nb_len]; omega)).mono (fun _ _ h => h.at)
  have hfit := leaf_fit FB (t := 12) (b := nb l) (by decide) (by rw [nb_len]; omega)
  unfold madeN madeR
  cases hf : FB 12 (nb l)
  all_goals
    go_enter Tryz.func9, Tryz.ntmps9
    go_wp2_with fail
    refine hlf.mono ?_
    rintro e w2 ⟨d, t, a1, n1, p1, a2, n2, p2, rfl, hn, hb2⟩
    clear hlf hcv hrow hg1
    have hb12 : Below (w.heap.size + 1) (w.alloc (.cells #[.int .i64 0, .slice none 0 0, .slice none 0 0] 28)) w2 := hb1.trans (hb2.mono hs1)
    have hS2 := res_cell w w2 hb12
    have hs2 := hb12.size
    rw [World.size_alloc] at hs2
    have hb2a := keep_alloc w2 (.cells #[.int .i64 t, .slice a1 n1 p1, .slice a2 n2 p2] 28)
    have hbW : Below w.heap.size w w2 := hb0.trans (hb12.mono (by omega))
    have hT3 := (hT.below hbW).below hb2a
    obtain ⟨x0, x1, x2⟩ := box_cell w2 (.int .i64 t) (.slice a1 n1 p1) (.slice a2 n2 p2) 28
    have hfd := fit_der FB hFB d _ _ _ _ _ (NdAt.below hb2a _ _ _ _ _ (NdIn.at _ _ _ _ _ hn)) (by
      refine Nat.le_trans (szF_leaf d 12 (nb l)) ?_
      rw [nb_len]; omega) hT3
    rw [hfit] at hfd
    rw [hf] at hfd
    clear hf hfit
  · go_wp2_with fail
    refine hfd.mono ?_
    rintro e w3 ⟨rfl, hb3⟩
    clear hfd
    have hS3 : w3.heap[w.heap.size]? = _ := (hb3.block _ (by rw [World.size_alloc]; omega)).trans ((heap_alloc_old _ _ (by omega)).trans hS2)
    obtain ⟨y0, y1, y2, z0, z1, z2⟩ := cells3 hS3
    go_wp2_with fail
    obtain ⟨s0, s1, s2, _⟩ := cells3 (set3 hS3 (.int .i64 0) (.slice none 0 0) (.slice none 0 0))
    exact bodyPost_ret (v := .tuple #[.agg #[.int .i64 0, .slice none 0 0, .slice none 0 0], .int .i64 5]) (by simp [results, Tryz.results9, go_sem, s0, s1, s2]) rfl ⟨⟨1, _, _, _, rfl, in_nd0 _ _⟩, below3 (keep_trans hbW (keep_trans hb2a hb3)) (Nat.le_refl _) _ _ _⟩
  · go_wp2_with fail
    refine hfd.mono ?_
    rintro e w3 ⟨rfl, hb3⟩
    clear hfd
    have hS3 : w3.heap[w.heap.size]? = _ := (hb3.block _ (by rw [World.size_alloc]; omega)).trans ((heap_alloc_old _ _ (by omega)).trans hS2)
    have x0 := Below.cells hb3 x0
    have x1 := Below.cells hb3 x1
    have x2 := Below.cells hb3 x2
    obtain ⟨y0, y1, y2, z0, z1, z2⟩ := cells3 hS3
    go_wp2_with fail
    obtain ⟨s0, s1, s2, _⟩ := cells3 (set3 hS3 (.int .i64 t) (.slice a1 n1 p1) (.slice a2 n2 p2))
    have hn3 : NdIn (fun q => w.heap.size + 1 ≤ q) w3 d (.int .i64 t) (.slice a1 n1 p1) (.slice a2 n2 p2) (.mk 12 (nb l) []) := hn.turn (fun b hb hl => ⟨(hb3.block b (by rw [World.size_alloc]; omega)).trans (heap_alloc_old _ _ hl), by omega⟩)
    exact bodyPost_ret (v := .tuple #[.agg #[.int .i64 t, .slice a1 n1 p1, .slice a2 n2 p2], .int .i64 0]) (by simp [results, Tryz.results9, go_sem, s0, s1, s2]) rfl ⟨⟨d, _, _, _, rfl, hn3.set3⟩, below3 (keep_trans hbW (keep_trans hb2a hb3)) (Nat.le_refl _) _ _ _⟩
end Go.Proofs.YtlddpjcacnahmaaGreatDoor

/- The document's Utf8, Id, Time; value's Id, Time. -/
namespace Go.Proofs.YtlddpjcacnahmaaGreatDoor
open Go.RowKit Go.Deep
set_option linter.unusedVariables false
set_option linter.unusedSimpArgs false

theorem madeC_t (v : Value) : madeC true v = v := rfl
theorem madeC_f (v : Value) : madeC false v = .agg #[.int .i64 0, .slice none 0 0, .slice none 0 0] := rfl
theorem madeR_t : madeR true = 0 := rfl
theorem madeR_f : madeR false = 5 := rfl
theorem madeN_t (x : Nd) : madeN true x = x := rfl
theorem madeN_f (x : Nd) : madeN false x = nd0 := rfl
/-- an identifier is fit just if its bytes are an identifier's -/
theorem fit_oid {FB : Int → List Nat → Bool} (hFB : FBok FB) {o : List Nat} (hu : Under 4294967296 o) : FB 6 (bytesS o) = fitB o := by
  have hub : Under 256 (bytesS o) := by
    cases hf : fitB o with
    | false => rw [bytes_none hf]; intro x hx; simp at hx
    | true => rw [bytes_some hf]; exact flat_under _
  have h : FitP 6 (bytesS o) ↔ fitB o = true := by
    rw [fitp_6, parR_eq hub]
    constructor
    · intro h
      cases hf : fitB o with
      | true => rfl
      | false =>
        rw [bytes_none hf] at h
        exact absurd h (by decide)
    · intro hf
      rw [(parO_iff hu).2 ⟨hf, rfl⟩]
      rfl
  exact (hFB.is h).symm
theorem bytesS_len {o : List Nat} (hu : Under 4294967296 o) : (bytesS o).length ≤ 100 := by
  cases hf : fitB o with
  | false => rw [bytes_none hf]; simp
  | true => rw [← flatTo_full hf (Nat.le_refl _)]; exact flatTo_len hu hf _
/-- a time's text is a time's just if there is one -/
theorem fit_tim {FB : Int → List Nat → Bool} (hFB : FBok FB) {t : Int} {l : List UInt8} (h : TextT t l) : FB 24 (nb l) = decide (l ≠ []) := by
  have hh : FitP 24 (nb l) ↔ decide (l ≠ []) = true := by
    rw [fitp_24, bts_nb, decide_eq_true_iff]
    rcases h with ⟨_, rfl⟩ | ⟨y, m, d, s, hM, _, rfl⟩
    · constructor
      · rintro ⟨y, m, d, s, _, e⟩
        have := congrArg List.length e
        rw [txt_len] at this
        simp at this
      · intro e; exact absurd rfl e
    · constructor
      · intro _ e
        have := congrArg List.length e
        rw [txt_len] at this
        simp at this
      · intro _; exact ⟨y, m, d, s, hM, rfl⟩
  exact (hFB.is hh).symm
theorem text_ex (t : Int) : ∃ l, TextT t l := by
  by_cases h1 : t < -62135596800
  · exact ⟨[], .inl ⟨.inl h1, rfl⟩⟩
  by_cases h2 : 253402300799 < t
  · exact ⟨[], .inl ⟨.inr h2, rfl⟩⟩
  obtain ⟨y, m, d, s, hM, rfl⟩ := tim_ex (t := t) (by omega) (by omega)
  exact ⟨_, .inr ⟨y, m, d, s, hM, rfl, rfl⟩⟩

set_option maxRecDepth 100000 in
set_option maxHeartbeats 2000000 in
theorem rutf8_any (FB : Int → List Nat → Bool) (hFB : FBok FB) (l : List UInt8) (w : World) (hl : l.length ≤ 5000) :
    Calls Tryz.prog 10 #[str l] w fun e w' => NodT (madeN (FB 12 (nb l)) (.mk 12 (nb l) [])) (madeR (FB 12 (nb l))) w e w' := by
  have hb0 := keep_alloc w (.cells #[.int .i64 0, .slice none 0 0, .slice none 0 0] 28)
  obtain ⟨cap, w1, hcv, hrow, hg1⟩ := to_row (w.alloc (.cells #[.int .i64 0, .slice none 0 0, .slice none 0 0] 28)) l (by omega)
  have hb1 : Below (w.heap.size + 1) (w.alloc (.cells #[.int .i64 0, .slice none 0 0, .slice none 0 0] 28)) w1 := by
    have := (Below.refl (w.alloc (.cells #[.int .i64 0, .slice none 0 0, .slice none 0 0] 28)).heap.size _).grown hg1 (Nat.le_refl _) (fun k h => by cases h)
    rwa [World.size_alloc] at this
  have hs1 := hb1.size
  rw [World.size_alloc] at hs1
  rw [World.size_alloc] at hcv hrow
  have hm := rmade_any FB hFB 12 _ (nb l) w1 hrow (by rw [nb_len]; omega)
  cases hf : FB 12 (nb l)
  all_goals
    rw [hf] at hm
    clear hf
    first | rw [madeN_t, madeR_t] | rw [madeN_f, madeR_f]
    first | rw [madeC_t, madeR_t] at hm | rw [madeC_f, madeR_f] at hm
    go_enter Tryz.func10, Tryz.ntmps10
    go_wp2_with fail
    refine hm.mono ?_
    rintro e w2 ⟨rfl, hb2⟩
    clear hm hcv hg1
    have hb12 : Below (w.heap.size + 1) (w.alloc (.cells #[.int .i64 0, .slice none 0 0, .slice none 0 0] 28)) w2 := hb1.trans (hb2.mono hs1)
    have hS2 := res_cell w w2 hb12
    have hbW : Below w.heap.size w w2 := hb0.trans (hb12.mono (by omega))
    have hrow2 := hrow.below hb2
    obtain ⟨y0, y1, y2, z0, z1, z2⟩ := cells3 hS2
    clear hrow
    go_wp2_with fail
  · obtain ⟨s0, s1, s2, _⟩ := cells3 (set3 hS2 (.int .i64 0) (.slice none 0 0) (.slice none 0 0))
    exact bodyPost_ret (v := .tuple #[.agg #[.int .i64 0, .slice none 0 0, .slice none 0 0], .int .i64 5]) (by simp [results, Tryz.results10, go_sem, s0, s1, s2]) rfl ⟨⟨1, _, _, _, rfl, in_nd0 _ _⟩, below3 hbW (Nat.le_refl _) _ _ _⟩
  · obtain ⟨s0, s1, s2, _⟩ := cells3 (set3 hS2 (.int .i64 12) (.slice (some ⟨w.heap.size + 1, 0, none⟩) l.length cap) (.slice none 0 0))
    exact bodyPost_ret (v := .tuple #[.agg #[.int .i64 12, .slice (some ⟨w.heap.size + 1, 0, none⟩) l.length cap, .slice none 0 0], .int .i64 0]) (by simp [results, Tryz.results10, go_sem, s0, s1, s2]) rfl ⟨⟨1, _, _, _, rfl, (in_leaf (I64.mk (by omega) (by omega)) hrow2 (fun a c he => by simp at he) (in_at (Nat.le_refl _))).set3⟩, below3 hbW (Nat.le_refl _) _ _ _⟩

set_option maxRecDepth 100000 in
set_option maxHeartbeats 2000000 in
theorem id_any (v : Value) (o : List Nat) (w : World) (h : Row .u32 4294967296 w v o) :
    Calls Tryz.prog 11 #[v] w fun e w' => NodT (madeN (fitB o) (.mk 6 (bytesS o) [])) (madeR (fitB o)) w e w' := by
  have hb0 := keep_alloc w (.cells #[.int .i64 0, .slice none 0 0, .slice none 0 0] 28)
  have hlen := bytesS_len h.under
  have hfa := fit_any v o _ (h.below hb0)
  have hby := bytes_any v o _ (h.below hb0)
  rw [World.size_alloc] at hby
  have hS0 := heap_alloc_new w (.cells #[.int .i64 0, .slice none 0 0, .slice none 0 0] 28)
  obtain ⟨a, cap, rfl, _⟩ := h
  cases hf : fitB o
  · rw [hf] at hfa
    rw [madeN_f, madeR_f]
    obtain ⟨y0, y1, y2, z0, z1, z2⟩ := cells3 hS0
    clear hf hby
    go_enter Tryz.func11, Tryz.ntmps11
    go_wp2_with fail
    refine hfa.mono ?_
    rintro e w0 ⟨rfl, rfl⟩
    clear hfa
    go_wp2_with fail
    obtain ⟨s0, s1, s2, _⟩ := cells3 (set3 hS0 (.int .i64 0) (.slice none 0 0) (.slice none 0 0))
    exact bodyPost_ret (v := .tuple #[.agg #[.int .i64 0, .slice none 0 0, .slice none 0 0], .int .i64 5]) (by simp [results, Tryz.results11, go_sem, s0, s1, s2]) rfl ⟨⟨1, _, _, _, rfl, in_nd0 _ _⟩, keep_alloc w _⟩
  · rw [hf] at hfa
    rw [madeN_t, madeR_t]
    clear hf
    go_enter Tryz.func11, Tryz.ntmps11
    go_wp2_with fail
    refine hfa.mono ?_
    rintro e w0 ⟨rfl, rfl⟩
    clear hfa
    go_wp2_with fail
    refine hby.mono ?_
    rintro e w1 ⟨v1, rfl, ho1, hb1⟩
    have hs1 := hb1.size
    rw [World.size_alloc] at hs1
    have hlf := (leaf_any 6 v1 (bytesS o) w1 (I64.mk (by omega) (by omega)) ho1.row (by omega)).mono (fun _ _ h => h.at)
    obtain ⟨va, vc, rfl⟩ := own_slice ho1.1
    clear hby
    go_wp2_with fail
    refine hlf.mono ?_
    rintro e w2 ⟨d, t, a1, n1, p1, a2, n2, p2, rfl, hn, hb2⟩
    have hb12 : Below (w.heap.size + 1) (w.alloc (.cells #[.int .i64 0, .slice none 0 0, .slice none 0 0] 28)) w2 := hb1.trans (hb2.mono hs1)
    have hS2 := res_cell w w2 hb12
    have hbW : Below w.heap.size w w2 := hb0.trans (hb12.mono (by omega))
    obtain ⟨y0, y1, y2, z0, z1, z2⟩ := cells3 hS2
    clear hlf
    go_wp2_with fail
    obtain ⟨s0, s1, s2, _⟩ := cells3 (set3 hS2 (.int .i64 t) (.slice a1 n1 p1) (.slice a2 n2 p2))
    have hn2 : NdIn (fun q => w.heap.size + 1 ≤ q) w2 d (.int .i64 t) (.slice a1 n1 p1) (.slice a2 n2 p2) (.mk 6 (bytesS o) []) := hn.turn (fun b hb hl => ⟨rfl, by omega⟩)
    exact bodyPost_ret (v := .tuple #[.agg #[.int .i64 t, .slice a1 n1 p1, .slice a2 n2 p2], .int .i64 0]) (by simp [results, Tryz.results11, go_sem, s0, s1, s2]) rfl ⟨⟨d, _, _, _, rfl, hn2.set3⟩, below3 hbW (Nat.le_refl _) _ _ _⟩

set_option maxRecDepth 100000 in
set_option maxHeartbeats 2000000 in
theorem rid_any (FB : Int → List Nat → Bool) (hFB : FBok FB) (v : Value) (o : List Nat) (w : World) (h : Row .u32 4294967296 w v o) :
    Calls Tryz.prog 12 #[v] w fun e w' => NodT (madeN (fitB o) (.mk 6 (bytesS o) [])) (madeR (fitB o)) w e w' := by
  have hb0 := keep_alloc w (.cells #[.int .i64 0, .slice none 0 0, .slice none 0 0] 28)
  have hlen := bytesS_len h.under
  have hfo := fit_oid hFB h.under
  have hby := rbytes_any v o _ (h.below hb0)
  rw [World.size_alloc] at hby
  obtain ⟨a, cap, rfl, _⟩ := h
  cases hf : fitB o
  all_goals
    rw [hf] at hfo
    clear hf
    first | rw [madeN_t, madeR_t] | rw [madeN_f, madeR_f]
    go_enter Tryz.func12, Tryz.ntmps12
    go_wp2_with fail
    refine hby.mono ?_
    rintro e w1 ⟨v1, rfl, ho1, hb1⟩
    have hs1 := hb1.size
    rw [World.size_alloc] at hs1
    have hm := rmade_any FB hFB 6 v1 (bytesS o) w1 ho1.row (by omega)
    rw [hfo] at hm
    first | rw [madeC_t, madeR_t] at hm | rw [madeC_f, madeR_f] at hm
    obtain ⟨va, vc, rfl⟩ := own_slice ho1.1
    clear hby hfo
    go_wp2_with fail
    refine hm.mono ?_
    rintro e w2 ⟨rfl, hb2⟩
    have hb12 : Below (w.heap.size + 1) (w.alloc (.cells #[.int .i64 0, .slice none 0 0, .slice none 0 0] 28)) w2 := hb1.trans (hb2.mono hs1)
    have hS2 := res_cell w w2 hb12
    have hbW : Below w.heap.size w w2 := hb0.trans (hb12.mono (by omega))
    have hrow2 := ho1.row.below hb2
    obtain ⟨y0, y1, y2, z0, z1, z2⟩ := cells3 hS2
    clear hm
    go_wp2_with fail
  · obtain ⟨s0, s1, s2, _⟩ := cells3 (set3 hS2 (.int .i64 0) (.slice none 0 0) (.slice none 0 0))
    exact bodyPost_ret (v := .tuple #[.agg #[.int .i64 0, .slice none 0 0, .slice none 0 0], .int .i64 5]) (by simp [results, Tryz.results12, go_sem, s0, s1, s2]) rfl ⟨⟨1, _, _, _, rfl, in_nd0 _ _⟩, below3 hbW (Nat.le_refl _) _ _ _⟩
  · obtain ⟨s0, s1, s2, _⟩ := cells3 (set3 hS2 (.int .i64 6) (.slice va (bytesS o).length vc) (.slice none 0 0))
    exact bodyPost_ret (v := .tuple #[.agg #[.int .i64 6, .slice va (bytesS o).length vc, .slice none 0 0], .int .i64 0]) (by simp [results, Tryz.results12, go_sem, s0, s1, s2]) rfl ⟨⟨1, _, _, _, rfl, (in_leaf (I64.mk (by omega) (by omega)) hrow2 (own_tidy ho1.1) (own_in ho1.1 (fun q hq => hq))).set3⟩, below3 hbW (Nat.le_refl _) _ _ _⟩
end Go.Proofs.YtlddpjcacnahmaaGreatDoor

/- Times as values. -/
namespace Go.Proofs.YtlddpjcacnahmaaGreatDoor
open Go.RowKit Go.Deep
set_option linter.unusedVariables false
set_option linter.unusedSimpArgs false

set_option maxRecDepth 100000 in
set_option maxHeartbeats 2000000 in
theorem rtime_any (FB : Int → List Nat → Bool) (hFB : FBok FB) (t : Int) (l : List UInt8) (w : World) (hT : TextT t l) :
    Calls Tryz.prog 14 #[.int .i64 t] w fun e w' => NodT (madeN (decide (l ≠ [])) (.mk 24 (nb l) [])) (madeR (decide (l ≠ []))) w e w' := by
  have hb0 := keep_alloc w (.cells #[.int .i64 0, .slice none 0 0, .slice none 0 0] 28)
  have hlen := hT.len_le
  have hfo := fit_tim hFB hT
  have hby := srtext_any t (w.alloc (.cells #[.int .i64 0, .slice none 0 0, .slice none 0 0] 28))
  rw [World.size_alloc] at hby
  have HT := hide hT
  clear hT
  cases hf : decide (l ≠ [])
  all_goals
    rw [hf] at hfo
    clear hf
    first | rw [madeN_t, madeR_t] | rw [madeN_f, madeR_f]
    go_enter Tryz.func14, Tryz.ntmps14
    go_wp2_with fail
    refine hby.mono ?_
    rintro e w1 ⟨l', rfl, hT', hb1⟩
    obtain rfl := TextT.same HT.out hT'
    have hs1 := hb1.size
    rw [World.size_alloc] at hs1
    obtain ⟨cap, w2, hcv, hrow, hg2⟩ := to_row w1 l (by omega)
    have hb2 : Below w1.heap.size w1 w2 := (Below.refl _ _).grown hg2 (Nat.le_refl _) (fun k h => by cases h)
    have hm := rmade_any FB hFB 24 _ (nb l) w2 hrow (by rw [nb_len]; omega)
    rw [hfo] at hm
    first | rw [madeC_t, madeR_t] at hm | rw [madeC_f, madeR_f] at hm
    clear hby hfo hg2 hT'
    go_wp2_with fail
    refine hm.mono ?_
    rintro e w3 ⟨rfl, hb3⟩
    have hb13 : Below (w.heap.size + 1) (w.alloc (.cells #[.int .i64 0, .slice none 0 0, .slice none 0 0] 28)) w3 := hb1.trans ((keep_trans hb2 hb3).mono hs1)
    have hS3 := res_cell w w3 hb13
    have hbW : Below w.heap.size w w3 := hb0.trans (hb13.mono (by omega))
    have hrow3 := hrow.below hb3
    obtain ⟨y0, y1, y2, z0, z1, z2⟩ := cells3 hS3
    clear hm hcv hrow
    go_wp2_with fail
  · obtain ⟨s0, s1, s2, _⟩ := cells3 (set3 hS3 (.int .i64 0) (.slice none 0 0) (.slice none 0 0))
    exact bodyPost_ret (v := .tuple #[.agg #[.int .i64 0, .slice none 0 0, .slice none 0 0], .int .i64 5]) (by simp [results, Tryz.results14, go_sem, s0, s1, s2]) rfl ⟨⟨1, _, _, _, rfl, in_nd0 _ _⟩, below3 hbW (Nat.le_refl _) _ _ _⟩
  · obtain ⟨s0, s1, s2, _⟩ := cells3 (set3 hS3 (.int .i64 24) (.slice (some ⟨w1.heap.size, 0, none⟩) l.length cap) (.slice none 0 0))
    exact bodyPost_ret (v := .tuple #[.agg #[.int .i64 24, .slice (some ⟨w1.heap.size, 0, none⟩) l.length cap, .slice none 0 0], .int .i64 0]) (by simp [results, Tryz.results14, go_sem, s0, s1, s2]) rfl ⟨⟨1, _, _, _, rfl, (in_leaf (I64.mk (by omega) (by omega)) hrow3 (fun a c he => by simp at he) (in_at hs1)).set3⟩, below3 hbW (Nat.le_refl _) _ _ _⟩

set_option maxRecDepth 100000 in
set_option maxHeartbeats 2000000 in
theorem time_any (t : Int) (l : List UInt8) (w : World) (hT : TextT t l) :
    Calls Tryz.prog 13 #[.int .i64 t] w fun e w' => NodT (madeN (decide (l ≠ [])) (.mk 24 (nb l) [])) (madeR (decide (l ≠ []))) w e w' := by
  have hb0 := keep_alloc w (.cells #[.int .i64 0, .slice none 0 0, .slice none 0 0] 28)
  have hlen := hT.len_le
  have hby := stext_any t (w.alloc (.cells #[.int .i64 0, .slice none 0 0, .slice none 0 0] 28))
  rw [World.size_alloc] at hby
  have HT := hide hT
  clear hT
  by_cases hne : l = []
  · have HNE := hide hne
    rw [decide_eq_false (not_not_intro hne), madeN_f, madeR_f]
    clear hne
    go_enter Tryz.func13, Tryz.ntmps13
    go_wp2_with fail
    refine hby.mono ?_
    rintro e w1 ⟨l', rfl, hT', hb1⟩
    obtain rfl := TextT.same HT.out hT'
    have hS1 := res_cell w w1 hb1
    have hbW : Below w.heap.size w w1 := hb0.trans (hb1.mono (by omega))
    obtain ⟨y0, y1, y2, z0, z1, z2⟩ := cells3 hS1
    rw [HNE.out]
    clear hby hT'
    go_wp2_with fail
    obtain ⟨s0, s1, s2, _⟩ := cells3 (set3 hS1 (.int .i64 0) (.slice none 0 0) (.slice none 0 0))
    exact bodyPost_ret (v := .tuple #[.agg #[.int .i64 0, .slice none 0 0, .slice none 0 0], .int .i64 5]) (by simp [results, Tryz.results13, go_sem, s0, s1, s2]) rfl ⟨⟨1, _, _, _, rfl, in_nd0 _ _⟩, below3 hbW (Nat.le_refl _) _ _ _⟩
  · have hq : (l == []) = false := by simpa using hne
    rw [decide_eq_true hne, madeN_t, madeR_t]
    go_enter Tryz.func13, Tryz.ntmps13
    go_wp2_with fail
    refine hby.mono ?_
    rintro e w1 ⟨l', rfl, hT', hb1⟩
    obtain rfl := TextT.same HT.out hT'
    have hs1 := hb1.size
    rw [World.size_alloc] at hs1
    obtain ⟨cap, w2, hcv, hrow, hg2⟩ := to_row w1 l (by omega)
    have hb2 : Below w1.heap.size w1 w2 := (Below.refl _ _).grown hg2 (Nat.le_refl _) (fun k h => by cases h)
    have hlf := (leaf_any 24 _ (nb l) w2 (I64.mk (by omega) (by omega)) hrow (by rw [nb_len]; omega)).mono (fun _ _ h => h.at)
    have hq2 : ((⟨l.toArray⟩ : ByteArray).toList == (⟨#[]⟩ : ByteArray).toList) = false := by
      refine beq_eq_false_iff_ne.2 (fun e => hne ?_)
      have := toList_inj e
      simpa using this
    clear hby hg2 hT'
    go_wp2_with fail
    refine hlf.mono ?_
    rintro e w3 ⟨d, t', a1, n1, p1, a2, n2, p2, rfl, hn, hb3⟩
    have hb13 : Below (w.heap.size + 1) (w.alloc (.cells #[.int .i64 0, .slice none 0 0, .slice none 0 0] 28)) w3 := hb1.trans ((keep_trans hb2 hb3).mono hs1)
    have hS3 := res_cell w w3 hb13
    have hbW : Below w.heap.size w w3 := hb0.trans (hb13.mono (by omega))
    obtain ⟨y0, y1, y2, z0, z1, z2⟩ := cells3 hS3
    have hs2 := hb2.size
    clear hlf hcv hrow
    go_wp2_with fail
    obtain ⟨s0, s1, s2, _⟩ := cells3 (set3 hS3 (.int .i64 t') (.slice a1 n1 p1) (.slice a2 n2 p2))
    have hn2 : NdIn (fun q => w.heap.size + 1 ≤ q) w3 d (.int .i64 t') (.slice a1 n1 p1) (.slice a2 n2 p2) (.mk 24 (nb l) []) := hn.turn (fun b hb hl => ⟨rfl, by omega⟩)
    exact bodyPost_ret (v := .tuple #[.agg #[.int .i64 t', .slice a1 n1 p1, .slice a2 n2 p2], .int .i64 0]) (by simp [results, Tryz.results13, go_sem, s0, s1, s2]) rfl ⟨⟨d, _, _, _, rfl, hn2.set3⟩, below3 hbW (Nat.le_refl _) _ _ _⟩
end Go.Proofs.YtlddpjcacnahmaaGreatDoor
