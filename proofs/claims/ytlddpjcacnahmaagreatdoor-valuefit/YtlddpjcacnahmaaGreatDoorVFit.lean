/- What the law of fitness leans on: fitness of lists, of what is made of fit values; two places of a row change. -/
import Derived.Test.YtlddpjcacnahmaaGreatDoorVFin
namespace Go.Proofs.YtlddpjcacnahmaaGreatDoor
open Go.RowKit Go.Deep
set_option linter.unusedVariables false
set_option linter.unusedSimpArgs false

theorem allS_all (g : Nd → Option (List Nat)) : ∀ ks : List Nd, (allS g ks).isSome = ks.all (fun x => (g x).isSome)
  | [] => rfl
  | x :: ks => by
    have ih := allS_all g ks
    rw [allS, List.all_cons]
    cases hg : g x with
    | none => simp
    | some b =>
      cases hk : allS g ks with
      | none => rw [hk] at ih; simp [← ih]
      | some bs => rw [hk] at ih; simp [← ih]
theorem allS_next {g : Nd → Option (List Nat)} {ks : List Nd} {k : Nat} (h : k < ks.length) : (allS g (ks.take (k + 1))).isSome = ((allS g (ks.take k)).isSome && (g (kx ks k)).isSome) := by
  rw [allS_all, allS_all, List.take_succ_eq_append_getElem h, List.all_append, kx_at h]; simp
theorem allS_some {g : Nd → Option (List Nat)} {ks ms : List Nd} (h : ks.Perm ms) : (allS g ks).isSome = (allS g ms).isSome := by
  rw [allS_all, allS_all, Bool.eq_iff_iff, List.all_eq_true, List.all_eq_true]
  exact ⟨fun hk x hx => hk x (h.mem_iff.2 hx), fun hk x hx => hk x (h.mem_iff.1 hx)⟩
theorem allS_head {g : Nd → Option (List Nat)} {k : Nd} {ks : List Nd} {us : List (List Nat)} (h : allS g (k :: ks) = some us) : ∃ x us', us = x :: us' ∧ g k = some x ∧ allS g ks = some us' := by
  cases us with
  | nil =>
    rw [allS] at h
    cases hg : g k with
    | none => rw [hg] at h; cases h
    | some b =>
      rw [hg] at h
      cases hk : allS g ks with
      | none => rw [hk] at h; cases h
      | some bs => rw [hk] at h; simp at h
  | cons x us =>
    obtain ⟨k', ks', e, h1, h2⟩ := allS_inv h
    obtain ⟨rfl, rfl⟩ := List.cons.inj e
    exact ⟨x, us, rfl, h1, h2⟩
theorem allS_permS {g : Nd → Option (List Nat)} {ms ks : List Nd} (h : ms.Perm ks) : ∀ {us : List (List Nat)}, allS g ms = some us → ∃ us2, allS g ks = some us2 ∧ us2.Perm us := by
  induction h with
  | nil => intro us hk; exact ⟨us, hk, List.Perm.refl _⟩
  | cons x _ ih =>
    intro us hk
    obtain ⟨b, us', rfl, h1, h2⟩ := allS_head hk
    obtain ⟨u2, h3, h4⟩ := ih h2
    exact ⟨b :: u2, allS_cons h1 h3, h4.cons b⟩
  | swap x y l =>
    intro us hk
    obtain ⟨b, us', rfl, h1, h2⟩ := allS_head hk
    obtain ⟨c, us2, rfl, h3, h4⟩ := allS_head h2
    exact ⟨c :: b :: us2, allS_cons h3 (allS_cons h1 h4), List.Perm.swap _ _ _⟩
  | trans _ _ ih1 ih2 =>
    intro us hk
    obtain ⟨u1, h1, h2⟩ := ih1 hk
    obtain ⟨u2, h3, h4⟩ := ih2 h1
    exact ⟨u2, h3, h4.trans h2⟩
theorem SetR.turn {FB : Int → List Nat → Bool} {ms ks o : List Nd} (h : SetR FB ms o) (hp : ms.Perm ks) : SetR FB ks o := by
  obtain ⟨ts, us, h1, h2, h3, h4⟩ := h
  obtain ⟨u2, h5, h6⟩ := allS_permS hp h3
  exact ⟨ts, u2, h1, h2, h5, h4.trans h6.symm⟩
theorem SetR.perm {FB : Int → List Nat → Bool} {ks o : List Nd} (h : SetR FB ks o) : o.Perm ks := by
  obtain ⟨ts, us, h1, h2, h3, h4⟩ := h
  obtain ⟨q, hq, e⟩ := perm_allS h4.symm h3
  obtain rfl := all_one q o ts e h1
  exact hq
theorem allS_lift {g g' : Nd → Option (List Nat)} (h : ∀ x b, g x = some b → g' x = some b) : ∀ {ks : List Nd} {bs : List (List Nat)}, allS g ks = some bs → allS g' ks = some bs
  | [], bs, hk => hk
  | x :: ks, bs, hk => by
    obtain ⟨b, us, rfl, h1, h2⟩ := allS_head hk
    exact allS_cons (h x b h1) (allS_lift h h2)
theorem wr_more {FB : Int → List Nat → Bool} : ∀ (d : Nat) (x : Nd) (b : List Nat), wrD FB d x = some b → wrD FB (d + 1) x = some b
  | 0, x, b, h => by cases x; rw [wrD] at h; cases h
  | d + 1, .mk t b ks, r, h => by
    rw [wrD] at h ⊢
    by_cases h1 : taggedB t = false
    · rw [if_pos h1] at h; cases h
    · rw [if_neg h1] at h ⊢
      by_cases h2 : boxedB t = false
      · rw [if_pos h2] at h ⊢; exact h
      · rw [if_neg h2] at h ⊢
        by_cases h3 : b.length ≠ 0
        · rw [if_pos h3] at h; cases h
        · rw [if_neg h3] at h ⊢
          cases hk : allS (wrD FB d) ks with
          | none => rw [hk] at h; cases h
          | some bs => rw [hk] at h; rw [allS_lift (wr_more d) hk]; exact h
theorem all_is {FB : Int → List Nat → Bool} : ∀ {ks : List Nd} {bs us : List (List Nat)}, allS (wrD FB 31) ks = some bs → allS (bytesD FB) ks = some us → bs = us
  | [], bs, us, h1, h2 => by rw [allS] at h1 h2; rw [← Option.some.inj h1, ← Option.some.inj h2]
  | x :: ks, bs, us, h1, h2 => by
    obtain ⟨b, bs', rfl, k1, k2⟩ := allS_head h1
    obtain ⟨c, us', rfl, k3, k4⟩ := allS_head h2
    have e1 := wr_more 31 x b k1
    rw [(bytes_wr k3).1] at e1
    rw [Option.some.inj e1, all_is k2 k4]
theorem fit_box {FB : Int → List Nat → Bool} {t : Int} (ht : taggedB t = true) (hb : boxedB t = true) (ks : List Nd) : (bytesD FB (.mk t [] ks)).isSome = match allS (wrD FB 31) ks with
    | none => false
    | some bs => decide (¬ (1048576 < bs.flatten.length ∨ (t = 49 ∧ sortedB bs = false)) ∧ ¬ 1048576 < (lenE bs.flatten.length).length + 1 + bs.flatten.length) := by
  unfold bytesD
  have e : wrD FB 32 (.mk t [] ks) = match allS (wrD FB 31) ks with
      | none => none
      | some bs => if 1048576 < bs.flatten.length ∨ (t = 49 ∧ sortedB bs = false) then none else some (t.toNat :: lenE bs.flatten.length ++ bs.flatten) := by
    rw [show 32 = 31 + 1 from rfl, wrD, if_neg (by rw [ht]; simp), if_neg (by rw [hb]; simp), if_neg (by simp)]
    cases allS (wrD FB 31) ks <;> rfl
  rw [e]
  cases allS (wrD FB 31) ks with
  | none => rfl
  | some bs =>
    by_cases h1 : 1048576 < bs.flatten.length ∨ (t = 49 ∧ sortedB bs = false)
    · simp only [if_pos h1]
      rw [decide_eq_false (fun h => h.1 h1)]
      rfl
    · simp only [if_neg h1]
      have hl : (t.toNat :: lenE bs.flatten.length ++ bs.flatten).length = (lenE bs.flatten.length).length + 1 + bs.flatten.length := by rw [List.length_append, List.length_cons]
      rw [hl]
      by_cases h2 : 1048576 < (lenE bs.flatten.length).length + 1 + bs.flatten.length
      · rw [if_pos h2, decide_eq_false (fun h => h.2 h2)]; rfl
      · rw [if_neg h2, decide_eq_true ⟨h1, h2⟩]; rfl
theorem deep_same {FB : Int → List Nat → Bool} {ks out : List Nd} (h : SetR FB ks out) : (bytesD FB (.mk 49 [] out)).isSome = (bytesD FB (.mk 48 [] ks)).isSome ∧ (bytesD FB (.mk 163 [] ks)).isSome = (bytesD FB (.mk 48 [] ks)).isSome := by
  have hp := h.perm
  obtain ⟨ts, us, h1, h2, h3, h4⟩ := h
  have hi := allS_some (g := wrD FB 31) hp
  rw [fit_box (by decide) (by decide), fit_box (by decide) (by decide), fit_box (by decide) (by decide)]
  cases hk : allS (wrD FB 31) ks with
  | none =>
    cases ho : allS (wrD FB 31) out with
    | none => exact ⟨rfl, rfl⟩
    | some bs' => rw [hk, ho] at hi; cases hi
  | some bs =>
    cases ho : allS (wrD FB 31) out with
    | none => rw [hk, ho] at hi; cases hi
    | some bs' =>
      obtain rfl := all_is ho h1
      obtain rfl := all_is hk h3
      have hl : bs'.flatten.length = bs.flatten.length := h4.flatten.length_eq
      simp only [hl, sorted_true h2]
      constructor
      · simp
      · simp
theorem sz_set {w : World} {d : Nat} {v : Value} {ks out : List Nd} (h : KidsAt (NdAt w d) w v ks) (hp : out.Perm ks) (d' : Nat) (t : Int) : szF d' (.mk t [] out) ≤ 1 + (ks.map (szF d)).sum := by
  have h1 := sz_box h d' t
  cases d' with
  | zero => rw [szF]; omega
  | succ d' =>
    rw [szF] at h1 ⊢
    rw [perm_sum (szF d') hp]
    exact h1
/-- a node is stored at a place -/
def put3 (w : World) (g o : Nat) (c0 c1 c2 : Value) : World := ((w.setCell ⟨g, o, none⟩ c0).setCell ⟨g, o + 1, none⟩ c1).setCell ⟨g, o + 2, none⟩ c2
/-- nodes one behind the other in a block, which none of them needs -/
def K3 (w : World) (g d : Nat) (ks : List Nd) : Prop := ∃ cur, w.heap[g]? = some (.cells cur 28) ∧ ∀ i, i < ks.length → ∃ c0 c1 c2, cur[i * 3]? = some c0 ∧ cur[i * 3 + 1]? = some c1 ∧ cur[i * 3 + 2]? = some c2 ∧ NdIn (fun q => q ≠ g) w d c0 c1 c2 (kx ks i)
theorem kx_set {ks : List Nd} {i k : Nat} {x : Nd} (h : i < ks.length) : kx (ks.set i x) k = if k = i then x else kx ks k := by
  unfold kx
  by_cases hk : k = i
  · subst hk; rw [if_pos rfl, List.getElem?_set_self h]; rfl
  · rw [if_neg hk, List.getElem?_set_ne (fun e => hk e.symm)]
theorem put3_other {w : World} {g o : Nat} {c0 c1 c2 : Value} {b : Nat} (h : b ≠ g) : (put3 w g o c0 c1 c2).heap[b]? = w.heap[b]? := by
  unfold put3
  rw [heap_setCell_other _ _ _ _ h, heap_setCell_other _ _ _ _ h, heap_setCell_other _ _ _ _ h]
theorem K3.put {w : World} {g d : Nat} {ks : List Nd} (h : K3 w g d ks) {j : Nat} (hj : j < ks.length) {e0 e1 e2 : Value} {x : Nd} (hx : NdIn (fun q => q ≠ g) w d e0 e1 e2 x) : K3 (put3 w g (j * 3) e0 e1 e2) g d (ks.set j x) := by
  obtain ⟨cur, hg, hc⟩ := h
  refine ⟨_, heap_setCell_same _ _ _ _ _ _ (heap_setCell_same _ _ _ _ _ _ (heap_setCell_same _ _ _ _ _ _ hg)), fun i hi => ?_⟩
  rw [List.length_set] at hi
  obtain ⟨c0, c1, c2, h0, h1, h2, hn⟩ := hc i hi
  obtain ⟨k0, k1, k2, q0, q1, q2, _⟩ := hc j hj
  have s0 := (Array.getElem?_eq_some_iff.1 q0).1
  have s1 := (Array.getElem?_eq_some_iff.1 q1).1
  have s2 := (Array.getElem?_eq_some_iff.1 q2).1
  rw [kx_set hj]
  simp only [Array.getElem?_setIfInBounds, Array.size_setIfInBounds]
  by_cases hij : i = j
  · subst hij
    rw [show (if i = i then x else kx ks i) = x from if_pos rfl]
    refine ⟨e0, e1, e2, ?_, ?_, ?_, hx.turn (fun b hb hl => ⟨put3_other hb, hb⟩)⟩ <;> (repeat' split) <;> first | rfl | (exfalso; omega)
  · rw [if_neg hij]
    refine ⟨c0, c1, c2, ?_, ?_, ?_, hn.turn (fun b hb hl => ⟨put3_other hb, hb⟩)⟩
    · rw [if_neg (by omega), if_neg (by omega), if_neg (by omega)]; exact h0
    · rw [if_neg (by omega), if_neg (by omega), if_neg (by omega)]; exact h1
    · rw [if_neg (by omega), if_neg (by omega), if_neg (by omega)]; exact h2
theorem K3.at {w : World} {g d : Nat} {ks : List Nd} (h : K3 w g d ks) {i : Nat} (hi : i < ks.length) : ∃ c0 c1 c2, w.cell? ⟨g, i * 3, none⟩ = some c0 ∧ w.cell? ⟨g, i * 3 + 1, none⟩ = some c1 ∧ w.cell? ⟨g, i * 3 + 2, none⟩ = some c2 ∧ NdIn (fun q => q ≠ g) w d c0 c1 c2 (kx ks i) := by
  obtain ⟨cur, hg, hc⟩ := h
  obtain ⟨c0, c1, c2, h0, h1, h2, hn⟩ := hc i hi
  exact ⟨c0, c1, c2, by rw [cell_at' hg]; exact h0, by rw [cell_at' hg]; exact h1, by rw [cell_at' hg]; exact h2, hn⟩
theorem K3.kids {w : World} {g d cap : Nat} {ks : List Nd} (h : K3 w g d ks) (h1 : ks.length ≤ cap) (h2 : cap ≤ maxLen) : KidsAt (NdAt w d) w (.slice (some ⟨g, 0, none⟩) ks.length cap) ks := by
  refine ⟨_, cap, rfl, h1, h2, fun _ => ⟨g, 0, rfl, fun i hi => ?_⟩⟩
  obtain ⟨c0, c1, c2, e0, e1, e2, hn⟩ := h.at hi
  rw [Nat.zero_add]
  exact ⟨c0, c1, c2, ⟨e0, e1, e2⟩, NdIn.at _ _ _ _ _ hn⟩
def swapK (ks : List Nd) (i j : Nat) : List Nd := (ks.set i (kx ks j)).set j (kx ks i)
theorem swapK_len (ks : List Nd) (i j : Nat) : (swapK ks i j).length = ks.length := by simp [swapK]
theorem swapK_perm {ks : List Nd} {i j : Nat} (hi : i < ks.length) (hj : j < ks.length) : (swapK ks i j).Perm ks := by
  unfold swapK
  rw [kx_at hi, kx_at hj]
  exact List.set_set_perm hi hj
theorem own_mt3 (w : World) : (w.alloc (.cells #[] 28)).ownsRow w.heap.size 28 3 (.slice (some ⟨w.heap.size, 0, none⟩) 0 0) 0 [] := World.ownsRow_lit (base := w.heap.size) (e := 28) (size := 3) w #[] 0 (Nat.le_refl _) (by decide) rfl
theorem kids_old {w : World} {d : Nat} {v : Value} {ks : List Nd} (h : KidsAt (NdAt w d) w v ks) : KidsAt (NdIn (fun q => q < w.heap.size) w d) w v ks := by
  obtain ⟨a, cap, rfl, h1, h2, h3⟩ := h
  refine ⟨a, cap, rfl, h1, h2, fun hl => ?_⟩
  obtain ⟨b, off, rfl, hc⟩ := h3 hl
  refine ⟨b, off, rfl, fun i hi => ?_⟩
  obtain ⟨c0, c1, c2, hcc, hn⟩ := hc i hi
  exact ⟨c0, c1, c2, hcc, NdAt.inOld _ _ _ _ _ hn⟩
theorem made_k3 {w0 w' : World} {B d : Nat} {v : Value} {cs : List Value} {ks : List Nd} (ht : Trip (fun q => q < w0.heap.size) w0 d cs ks) (hb : Below w0.heap.size w0 w') (hB : w0.heap.size ≤ B) (ho : w'.ownsRow B 28 3 v (0 + ks.length) ([] ++ cs)) (h0 : ¬ ks.length = 0) : ∃ g cap, v = .slice (some ⟨g, 0, none⟩) ks.length cap ∧ ks.length ≤ cap ∧ cap ≤ 9223372036854775807 ∧ B ≤ g ∧ K3 w' g d ks := by
  rw [Nat.zero_add, List.nil_append] at ho
  obtain ⟨h1, ⟨_, h2⟩ | ⟨g, cap, cur, rfl, h3, h4, h5, h6, h7, h8⟩⟩ := ho
  · exact absurd h2 h0
  · unfold maxLen at h6
    refine ⟨g, cap, rfl, h5, h6, h3, cur, h4, fun i hi => ?_⟩
    have key : ∀ j u, j < ks.length * 3 → cs[j]? = some u → cur[j]? = some u := by
      intro j u hj hu
      rw [← h8, List.getElem?_take, if_pos hj] at hu
      simpa using hu
    obtain ⟨c0, c1, c2, e0, e1, e2, hn⟩ := ht.2 i hi
    exact ⟨c0, c1, c2, key _ _ (by omega) e0, key _ _ (by omega) e1, key _ _ (by omega) e2, hn.turn (fun b hb' hl => ⟨hb.block b hl, by omega⟩)⟩
theorem K3.below {w w' : World} {g d : Nat} {ks : List Nd} (h : K3 w g d ks) (hb : Below w.heap.size w w') : K3 w' g d ks := by
  obtain ⟨cur, hg, hc⟩ := h
  have hl : g < w.heap.size := (Array.getElem?_eq_some_iff.1 hg).1
  refine ⟨cur, by rw [hb.block g hl]; exact hg, fun i hi => ?_⟩
  obtain ⟨c0, c1, c2, h0, h1, h2, hn⟩ := hc i hi
  exact ⟨c0, c1, c2, h0, h1, h2, hn.turn (fun b hb' hl => ⟨hb.block b hl, hb'⟩)⟩
theorem K3.frozen {w : World} {g d : Nat} {ks : List Nd} (h : K3 w g d ks) (o : Nat) : w.frozen? ⟨g, o, none⟩ = false := by
  obtain ⟨cur, hg, _⟩ := h
  exact frozen_of_row w g o cur _ hg
theorem K3.swap {w : World} {g d : Nat} {ks : List Nd} (h : K3 w g d ks) {i j : Nat} (hi : i < ks.length) (hj : j < ks.length) {c0 c1 c2 e0 e1 e2 : Value} (hni : NdIn (fun q => q ≠ g) w d c0 c1 c2 (kx ks i)) (hnj : NdIn (fun q => q ≠ g) w d e0 e1 e2 (kx ks j)) : K3 (put3 (put3 w g (i * 3) e0 e1 e2) g (j * 3) c0 c1 c2) g d (swapK ks i j) :=
  (h.put hi hnj).put (by rw [List.length_set]; exact hj) (hni.turn (fun b hb hl => ⟨put3_other hb, hb⟩))
theorem below_put3 {B : Nat} {w w' : World} {g : Nat} (h : Below B w w') (hg : B ≤ g) (o : Nat) (c0 c1 c2 : Value) : Below B w (put3 w' g o c0 c1 c2) :=
  ((h.setCell (by simpa using hg) _).setCell (by simpa using hg) _).setCell (by simpa using hg) _
theorem set_turn {FB : Int → List Nat → Bool} {ks ms out : List Nd} (h : SetR FB ks out) (hp : ms.Perm ks) {w w' : World} {e : Ending} (hE : SetE FB ms w e w') : NdA (.mk 49 [] out) 0 w e w' := by
  rcases hE with ⟨hno, _⟩ | ⟨o2, h2, hN⟩
  · have h1 := allS_some (g := bytesD FB) hp
    obtain ⟨_, us, _, _, h3, _⟩ := h
    rw [hno, h3] at h1
    cases h1
  · obtain rfl := SetR.one (h2.turn hp) h
    exact hN.nda
theorem sz_swap {d : Nat} {ks ms : List Nd} {N : Nat} (h : ∀ i, i < ks.length → szF d (kx ks i) ≤ N) (hp : ms.Perm ks) : ∀ i, i < ms.length → szF d (kx ms i) ≤ N := by
  intro i hi
  have hm : kx ms i ∈ ks := by rw [kx_at hi]; exact hp.mem_iff.1 (List.getElem_mem hi)
  obtain ⟨j, hj, e⟩ := List.getElem_of_mem hm
  rw [← e, ← kx_at hj]
  exact h j hj
end Go.Proofs.YtlddpjcacnahmaaGreatDoor
