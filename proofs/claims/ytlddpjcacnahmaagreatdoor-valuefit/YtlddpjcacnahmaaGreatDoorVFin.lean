/- What the last laws of values lean on: tuples of nodes by place, a set's answer is one, sums of sizes. -/
import Derived.Test.YtlddpjcacnahmaaGreatDoorVAwk
namespace Go.Proofs.YtlddpjcacnahmaaGreatDoor
open Go.RowKit Go.Deep
set_option linter.unusedVariables false
set_option linter.unusedSimpArgs false

/-- a node and a code are returned -/
def NdA (x : Nd) (er : Int) (w : World) (e : Ending) (w' : World) : Prop := ∃ d t a1 n1 p1 a2 n2 p2, e = .returned (.tuple #[.agg #[.int .i64 t, .slice a1 n1 p1, .slice a2 n2 p2], .int .i64 er]) ∧ NdAt w' d (.int .i64 t) (.slice a1 n1 p1) (.slice a2 n2 p2) x ∧ Below w.heap.size w w'
theorem NodT.nda {x : Nd} {er : Int} {w w' : World} {e : Ending} (h : NodT x er w e w') : NdA x er w e w' := by
  obtain ⟨d, t, a1, n1, p1, a2, n2, p2, h1, h2, h3⟩ := h.at
  exact ⟨d, t, a1, n1, p1, a2, n2, p2, h1, NdIn.at _ _ _ _ _ h2, h3⟩
theorem at_box {w : World} {d : Nat} {v : Value} {ks : List Nd} {t : Int} (ht : I64 t) (hv : Tidy v) (h : KidsAt (NdAt w d) w v ks) : NdAt w (d + 1) (.int .i64 t) (.slice none 0 0) v (.mk t [] ks) :=
  ⟨rfl, ht, nil_row w, nil_tidy, hv, h⟩
theorem allS_inv {g : Nd → Option (List Nat)} {ks : List Nd} {x : List Nat} {us : List (List Nat)} (h : allS g ks = some (x :: us)) : ∃ k ks', ks = k :: ks' ∧ g k = some x ∧ allS g ks' = some us := by
  cases ks with
  | nil => rw [allS] at h; cases h
  | cons k ks' =>
    rw [allS] at h
    cases hg : g k with
    | none => rw [hg] at h; cases h
    | some b =>
      rw [hg] at h
      cases hk : allS g ks' with
      | none => rw [hk] at h; cases h
      | some bs =>
        rw [hk] at h
        obtain ⟨rfl, rfl⟩ := List.cons.inj (Option.some.inj h)
        exact ⟨k, ks', rfl, hg, hk⟩
theorem allS_cons {g : Nd → Option (List Nat)} {k : Nd} {ks : List Nd} {x : List Nat} {us : List (List Nat)} (h1 : g k = some x) (h2 : allS g ks = some us) : allS g (k :: ks) = some (x :: us) := by
  rw [allS, h1, h2]
theorem perm_allS {g : Nd → Option (List Nat)} {us ts : List (List Nat)} (h : us.Perm ts) : ∀ {ks : List Nd}, allS g ks = some us → ∃ out, out.Perm ks ∧ allS g out = some ts := by
  induction h with
  | nil => intro ks hk; exact ⟨ks, List.Perm.refl _, hk⟩
  | cons x _ ih =>
    intro ks hk
    obtain ⟨k, ks', rfl, h1, h2⟩ := allS_inv hk
    obtain ⟨o, ho, h3⟩ := ih h2
    exact ⟨k :: o, ho.cons k, allS_cons h1 h3⟩
  | swap x y l =>
    intro ks hk
    obtain ⟨k, ks', rfl, h1, h2⟩ := allS_inv hk
    obtain ⟨k2, ks2, rfl, h3, h4⟩ := allS_inv h2
    exact ⟨k2 :: k :: ks2, List.Perm.swap _ _ _, allS_cons h3 (allS_cons h1 h4)⟩
  | trans _ _ ih1 ih2 =>
    intro ks hk
    obtain ⟨o, ho, h1⟩ := ih1 hk
    obtain ⟨o2, ho2, h2⟩ := ih2 h1
    exact ⟨o2, ho2.trans ho, h2⟩
theorem set_has {FB : Int → List Nat → Bool} {ks : List Nd} {us : List (List Nat)} (h : allS (bytesD FB) ks = some us) : ∃ out, SetR FB ks out := by
  obtain ⟨o, _, ho⟩ := perm_allS (sort_perm us).symm h
  exact ⟨o, sortL us, us, ho, sort_sorted us, h, sort_perm us⟩
theorem set_one (FB : Int → List Nat → Bool) (ks : List Nd) : ∃ x k, ((k = 0 ∧ ∃ out, SetR FB ks out ∧ x = .mk 49 [] out) ∨ (k = 1 ∧ allS (bytesD FB) ks = none)) ∧ (∀ w e w', SetE FB ks w e w' → NdA x k w e w') ∧ (∀ w e w', SetF FB ks w e w' → NdA x k w e w') := by
  by_cases h : ∃ out, SetR FB ks out
  · obtain ⟨out, ho⟩ := h
    refine ⟨.mk 49 [] out, 0, .inl ⟨rfl, out, ho, rfl⟩, ?_, ?_⟩
    · rintro w e w' (⟨hno, _⟩ | ⟨o2, h2, hN⟩)
      · obtain ⟨_, us, _, _, h3, _⟩ := ho
        rw [hno] at h3
        cases h3
      · obtain rfl := SetR.one h2 ho
        exact hN.nda
    · rintro w e w' ⟨⟨hno, _⟩ | ⟨o2, d, a, n, c, h2, rfl, hN⟩, hb⟩
      · obtain ⟨_, us, _, _, h3, _⟩ := ho
        rw [hno] at h3
        cases h3
      · obtain rfl := SetR.one h2 ho
        exact ⟨_, _, _, _, _, _, _, _, rfl, hN, hb⟩
  · have hn : ∀ e w w', (SetE FB ks w e w' ∨ SetF FB ks w e w') → allS (bytesD FB) ks = none := by
      rintro e w w' ((⟨hno, _⟩ | ⟨o2, h2, hN⟩) | ⟨⟨hno, _⟩ | ⟨o2, d, a, n, c, h2, _⟩, hb⟩)
      · exact hno
      · exact absurd ⟨_, h2⟩ h
      · exact hno
      · exact absurd ⟨_, h2⟩ h
    by_cases hno : allS (bytesD FB) ks = none
    · refine ⟨nd0, 1, .inr ⟨rfl, hno⟩, ?_, ?_⟩
      · rintro w e w' (⟨_, hN⟩ | ⟨o2, h2, hN⟩)
        · exact hN.nda
        · exact absurd ⟨_, h2⟩ h
      · rintro w e w' ⟨⟨_, rfl⟩ | ⟨o2, d, a, n, c, h2, _⟩, hb⟩
        · exact ⟨_, _, _, _, _, _, _, _, rfl, at_nd0 _, hb⟩
        · exact absurd ⟨_, h2⟩ h
    · exfalso
      cases hall : allS (bytesD FB) ks with
      | none => exact hno hall
      | some us => exact h (set_has hall)
theorem sum_all (f : Nd → Nat) (m : Nat) : ∀ {ks : List Nd}, (∀ i, i < ks.length → f (kx ks i) ≤ m) → (ks.map f).sum ≤ ks.length * m
  | [], _ => by simp
  | x :: ks, h => by
    have h0 := h 0 (by simp)
    have ih := sum_all f m (ks := ks) (fun i hi => by have := h (i + 1) (by simp; omega); simpa [kx] using this)
    simp [kx] at h0
    simp only [List.map_cons, List.sum_cons, List.length_cons, Nat.succ_mul]
    omega
theorem numC_nda {k : Int} {c0 c1 c2 : Value} {d : Nat} {x : Nd} {w w' : World} {e : Ending} (h : e = .returned (.tuple #[numC k (.agg #[c0, c1, c2]), .int .i64 (numR k)]) ∧ Below w.heap.size w w') (hn : 0 ≤ k → k ≤ 30 → NdAt w' d c0 c1 c2 x) : NdA (numN k x) (numR k) w e w' := by
  obtain ⟨rfl, hb⟩ := h
  unfold numC numN
  by_cases hk : 0 ≤ k ∧ k ≤ 30
  · rw [if_pos hk, if_pos hk]
    have hn := hn hk.1 hk.2
    obtain ⟨t, a1, n1, p1, a2, n2, p2, rfl, rfl, rfl⟩ := hn.forms
    exact ⟨_, _, _, _, _, _, _, _, rfl, hn, hb⟩
  · rw [if_neg hk, if_neg hk]
    exact ⟨_, _, _, _, _, _, _, _, rfl, at_nd0 _, hb⟩
theorem sum_mono (f g : Nd → Nat) : ∀ {ks : List Nd}, (∀ i, i < ks.length → f (kx ks i) ≤ g (kx ks i)) → (ks.map f).sum ≤ (ks.map g).sum
  | [], _ => by simp
  | x :: ks, h => by
    have h0 := h 0 (by simp)
    have ih := sum_mono f g (ks := ks) (fun i hi => by have := h (i + 1) (by simp; omega); simpa [kx] using this)
    simp [kx] at h0
    simp only [List.map_cons, List.sum_cons]
    omega
theorem sz_full {w : World} : ∀ (d : Nat) (c0 c1 c2 : Value) (x : Nd), NdAt w d c0 c1 c2 x → ∀ d', szF d' x ≤ szF d x
  | 0, _, _, _, _, h, _ => h.elim
  | d + 1, c0, c1, c2, .mk t b ks, h, 0 => by rw [szF]; omega
  | d + 1, c0, c1, c2, .mk t b ks, h, d' + 1 => by
    obtain ⟨_, _, _, _, _, a, cap, _, _, _, hk⟩ := h
    rw [szF, szF]
    have : (ks.map (szF d')).sum ≤ (ks.map (szF d)).sum := sum_mono _ _ (fun i hi => by
      obtain ⟨_, _, _, hc⟩ := hk (by omega)
      obtain ⟨e0, e1, e2, _, hn⟩ := hc i hi
      exact sz_full d e0 e1 e2 _ hn d')
    omega
theorem sz_box {w : World} {d : Nat} {v : Value} {ks : List Nd} (h : KidsAt (NdAt w d) w v ks) (d' : Nat) (t : Int) : szF d' (.mk t [] ks) ≤ 1 + (ks.map (szF d)).sum := by
  cases d' with
  | zero => rw [szF]; omega
  | succ d' =>
    obtain ⟨a, cap, _, _, _, hk⟩ := h
    rw [szF]
    have : (ks.map (szF d')).sum ≤ (ks.map (szF d)).sum := sum_mono _ _ (fun i hi => by
      obtain ⟨_, _, _, hc⟩ := hk (by omega)
      obtain ⟨e0, e1, e2, _, hn⟩ := hc i hi
      exact sz_full d e0 e1 e2 _ hn d')
    simp only [List.length_nil]
    omega
theorem intOf_back {FB : Int → List Nat → Bool} (hFB : FBok FB) {n : Int} {l : List Nat} (hl : IntL n l) (h8 : l.length ≤ 8) {d : Nat} {c0 c1 c2 : Value} {w : World} (hn : NdAt w d c0 c1 c2 (.mk 2 l [])) (hT : UTabs w) :
    Calls Tryz.prog 22 #[.agg #[c0, c1, c2]] w fun e w' => e = .returned (.tuple #[.int .i64 n, .int .i64 0]) ∧ Below w.heap.size w w' := by
  have h := intOf_any FB hFB d c0 c1 c2 _ w hn (Nat.le_trans (szF_leaf d 2 l) (by omega)) hT
  have hc : codN FB 2 (.mk 2 l []) = 0 := cod_ok rfl ((fb_int hFB l).2 hl.2.1)
  unfold NofE at h
  rw [(io_ok hc h8).1, (io_ok hc h8).2, hl.2.2] at h
  exact h
theorem bytesOf_back {FB : Int → List Nat → Bool} (hFB : FBok FB) {l : List Nat} (h8 : l.length ≤ 5000) {d : Nat} {c0 c1 c2 : Value} {w : World} (hn : NdAt w d c0 c1 c2 (.mk 4 l [])) (hT : UTabs w) :
    Calls Tryz.prog 24 #[.agg #[c0, c1, c2]] w fun e w' => (∃ a n c, e = .returned (.tuple #[.slice a n c, .int .i64 0]) ∧ Row .u8 256 w' (.slice a n c) l) ∧ Below w.heap.size w w' := by
  have h := bytesOf_any FB hFB d c0 c1 c2 _ w hn (Nat.le_trans (szF_leaf d 4 l) (by omega)) hT
  have hc : codN FB 4 (.mk 4 l []) = 0 := cod_ok rfl ((hFB 4 l).2 (fitp_other (by omega) l))
  unfold BofE at h
  rw [hc, byO_ok hc] at h
  exact h
theorem kids_back {ks : List Nd} {d : Nat} {c0 c1 c2 : Value} {w : World} (hn : NdAt w d c0 c1 c2 (.mk 48 [] ks)) (hs : szF d (.mk 48 [] ks) ≤ 100000) :
    Calls Tryz.prog 41 #[.agg #[c0, c1, c2], .int .i64 48] w fun e w' => (∃ d a n c, e = .returned (.tuple #[.slice a n c, .int .i64 0]) ∧ KidsAt (NdAt w' d) w' (.slice a n c) ks ∧ Tidy (.slice a n c)) ∧ Below w.heap.size w w' := by
  have h := vkids_any 48 d c0 c1 c2 _ w hn hs
  have hc : kdR 48 (.mk 48 [] ks) = 0 := by rw [kdR, if_neg (by simp; decide), if_neg (by simp)]
  unfold KofE at h
  rw [hc, kdO_ok hc] at h
  exact h
theorem utf8Of_back {FB : Int → List Nat → Bool} (hFB : FBok FB) {l : List UInt8} (hf : FB 12 (nb l) = true) (h8 : l.length ≤ 5000) {d : Nat} {c0 c1 c2 : Value} {w : World} (hn : NdAt w d c0 c1 c2 (.mk 12 (nb l) [])) (hT : UTabs w) :
    Calls Tryz.prog 26 #[.agg #[c0, c1, c2]] w fun e w' => e = .returned (.tuple #[str l, .int .i64 0]) ∧ Below w.heap.size w w' := by
  have h := utf8Of_any FB hFB d c0 c1 c2 _ w hn (Nat.le_trans (szF_leaf d 12 (nb l)) (by rw [nb_len]; omega)) hT
  have hc : codN FB 12 (.mk 12 (nb l) []) = 0 := cod_ok rfl hf
  unfold UofE at h
  rw [hc, byO_ok hc, bts_nb] at h
  exact h
theorem idOf_back {FB : Int → List Nat → Bool} (hFB : FBok FB) {o : List Nat} (hu : Under 4294967296 o) (hf : fitB o = true) {d : Nat} {c0 c1 c2 : Value} {w : World} (hn : NdAt w d c0 c1 c2 (.mk 6 (bytesS o) [])) (hT : UTabs w) :
    Calls Tryz.prog 28 #[.agg #[c0, c1, c2]] w fun e w' => (∃ a n c, e = .returned (.tuple #[.slice a n c, .int .i64 0]) ∧ Row .u32 4294967296 w' (.slice a n c) o) ∧ Below w.heap.size w w' := by
  have hl := bytesS_len hu
  have h := idOf_any FB hFB d c0 c1 c2 _ w hn (Nat.le_trans (szF_leaf d 6 (bytesS o)) (by omega)) hT
  have hc : codN FB 6 (.mk 6 (bytesS o) []) = 0 := cod_ok rfl (by rw [fit_oid hFB hu]; exact hf)
  have hub : Under 256 (bytesS o) := by rw [bytes_some hf]; exact flat_under _
  have hp : (parR (bytesS o)).getD [] = o := by rw [parR_eq hub, (parO_iff hu).2 ⟨hf, rfl⟩]; rfl
  unfold OofE idO at h
  rw [hc, byO_ok hc, hp] at h
  exact h
theorem timeOf_back {FB : Int → List Nat → Bool} (hFB : FBok FB) {t : Int} {l : List UInt8} (ht : TextT t l) (hne : l ≠ []) {d : Nat} {c0 c1 c2 : Value} {w : World} (hn : NdAt w d c0 c1 c2 (.mk 24 (nb l) [])) (hT : UTabs w) :
    Calls Tryz.prog 30 #[.agg #[c0, c1, c2]] w fun e w' => e = .returned (.tuple #[.int .i64 t, .int .i64 0]) ∧ Below w.heap.size w w' := by
  have hlen := ht.len_le
  have h := timeOf_any FB hFB d c0 c1 c2 _ w hn (Nat.le_trans (szF_leaf d 24 (nb l)) (by rw [nb_len]; omega)) hT
  have hc : codN FB 24 (.mk 24 (nb l) []) = 0 := cod_ok rfl (by rw [fit_tim hFB ht]; exact decide_eq_true hne)
  refine h.mono ?_
  rintro e w' ⟨⟨v, rfl, hv⟩, hb⟩
  rcases hv with ⟨_, hr⟩ | ⟨h1, _⟩
  · rw [byO_ok hc, bts_nb] at hr
    have hvt : v = t := by
      rcases ht with ⟨_, rfl⟩ | ⟨y, m, d, s, hm, rfl, rfl⟩
      · exact absurd rfl hne
      · rcases hr with ⟨_, y', m', d', s', hm', rfl, ht⟩ | ⟨h, _⟩
        · obtain ⟨rfl, rfl, rfl, rfl⟩ := txt_inj hm hm' ht
          rfl
        · omega
    rw [hvt, hc]
    exact ⟨rfl, hb⟩
  · exact absurd hc h1
end Go.Proofs.YtlddpjcacnahmaaGreatDoor
