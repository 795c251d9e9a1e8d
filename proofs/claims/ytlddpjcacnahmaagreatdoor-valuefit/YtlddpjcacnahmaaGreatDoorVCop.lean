/- Values copied: copies, box, Seq, Box. -/
import Derived.Test.YtlddpjcacnahmaaGreatDoorVLea
import Derived.Test.YtlddpjcacnahmaaGreatDoorDWr
import Derived.Deep.RegionHeld3
import Derived.Test.YtlddpjcacnahmaaGreatDoorVStr
namespace Go.Proofs.YtlddpjcacnahmaaGreatDoor
open Go.RowKit Go.Deep
set_option linter.unusedVariables false
set_option linter.unusedSimpArgs false

theorem own_keptK {w w' : World} {B s : Nat} {e : TypeId} {v : Value} {n : Nat} {xs : List Value} (h : w.ownsRow B e s v n xs) (hb : Below w.heap.size w w') : w'.ownsRow B e s v n xs := own_others h (fun k _ hl => hb.block k hl)
/-- values are told, in new memory -/
def KidE (ks : List Nd) (w : World) (e : Ending) (w' : World) : Prop := (∃ d v, e = .returned v ∧ Tidy v ∧ ValIn (fun q => w.heap.size ≤ q) v ∧ KidsAt (NdIn (fun q => w.heap.size ≤ q) w' d) w' v ks) ∧ Below w.heap.size w w'
theorem KidN.out {B : Nat} {w : World} {kv : Value} {ks : List Nd} (h : KidN 0 B w kv (.slice none 0 0) ks) : ∃ d, Tidy kv ∧ ValIn (fun q => B ≤ q) kv ∧ KidsAt (NdIn (fun q => B ≤ q) w d) w kv ks := by
  obtain ⟨d, cs, h1, h2⟩ := h
  have h3 : Trip (fun q => B ≤ q) w d cs ks := h2.map (fun _ _ _ _ hn => hn.turn (fun b hs hl => ⟨rfl, by rcases hs.1 with h | h; omega; exact h⟩))
  exact ⟨d, own_tidys h1, fun q _ hq => (h1.lt q hq).1, h3.kids h1⟩
theorem kids_turn {S T : Nat → Prop} {w w' : World} {d : Nat} {v : Value} {ks : List Nd} (h : KidsAt (NdIn S w d) w v ks) (hv : ValIn S v) (hb : ∀ b, S b → b < w.heap.size → w'.heap[b]? = w.heap[b]? ∧ T b) : KidsAt (NdIn T w' d) w' v ks := by
  obtain ⟨a, cap, rfl, h1, h2, h3⟩ := h
  refine ⟨a, cap, rfl, h1, h2, fun hl => ?_⟩
  obtain ⟨bl, off, rfl, hc⟩ := h3 hl
  refine ⟨bl, off, rfl, fun i hi => ?_⟩
  obtain ⟨k0, k1, k2, k3, k4⟩ := hc i hi
  exact ⟨k0, k1, k2, k3.other (hb bl (hv bl hl rfl) (World.block_lt_of_cell? w _ k3.1)).1, k4.turn hb⟩
theorem kids_below {w w' : World} {d : Nat} {v : Value} {ks : List Nd} (h : KidsAt (NdAt w d) w v ks) (hb : Below w.heap.size w w') : KidsAt (NdAt w' d) w' v ks := by
  obtain ⟨a, cap, rfl, h1, h2, h3⟩ := h
  refine ⟨a, cap, rfl, h1, h2, fun hl => ?_⟩
  obtain ⟨bl, off, rfl, hc⟩ := h3 hl
  refine ⟨bl, off, rfl, fun i hi => ?_⟩
  obtain ⟨k0, k1, k2, k3, k4⟩ := hc i hi
  exact ⟨k0, k1, k2, k3.below hb, NdAt.below hb _ _ _ _ _ k4⟩
theorem kids_at {S : Nat → Prop} {w : World} {d : Nat} {v : Value} {ks : List Nd} (h : KidsAt (NdIn S w d) w v ks) : KidsAt (NdAt w d) w v ks := by
  obtain ⟨a, cap, rfl, h1, h2, h3⟩ := h
  refine ⟨a, cap, rfl, h1, h2, fun hl => ?_⟩
  obtain ⟨bl, off, rfl, hc⟩ := h3 hl
  refine ⟨bl, off, rfl, fun i hi => ?_⟩
  obtain ⟨k0, k1, k2, k3, k4⟩ := hc i hi
  exact ⟨k0, k1, k2, k3, NdIn.at _ _ _ _ _ k4⟩
theorem kx_sum (f : Nd → Nat) {ks : List Nd} {k : Nat} (h : k < ks.length) : f (kx ks k) ≤ (ks.map f).sum := by
  have h1 := sum_take f h
  have h2 := sum_le f ks (k + 1)
  omega
/-- three cells of a box -/
theorem box_keep {P : Nat} {a b : World} {c0 c1 c2 : Value} (hb : Below a.heap.size a b) (h : a.cell? ⟨P, 0, none⟩ = some c0 ∧ a.cell? ⟨P, 1, none⟩ = some c1 ∧ a.cell? ⟨P, 2, none⟩ = some c2) :
    b.cell? ⟨P, 0, none⟩ = some c0 ∧ b.cell? ⟨P, 1, none⟩ = some c1 ∧ b.cell? ⟨P, 2, none⟩ = some c2 :=
  ⟨Below.cells hb h.1, Below.cells hb h.2.1, Below.cells hb h.2.2⟩
theorem box_grow {P : Nat} {a b : World} {c0 c1 c2 : Value} {r : Option Nat} (hg : a.grownBy b r) (hr : r ≠ some P) (h : a.cell? ⟨P, 0, none⟩ = some c0 ∧ a.cell? ⟨P, 1, none⟩ = some c1 ∧ a.cell? ⟨P, 2, none⟩ = some c2) :
    b.cell? ⟨P, 0, none⟩ = some c0 ∧ b.cell? ⟨P, 1, none⟩ = some c1 ∧ b.cell? ⟨P, 2, none⟩ = some c2 := by
  have hlt := World.block_lt_of_cell? a _ h.1
  have hbk : b.heap[P]? = a.heap[P]? := hg.block P hlt (fun e => hr e.symm)
  exact ⟨by rw [World.cell?_of_block (w := a) hbk]; exact h.1, by rw [World.cell?_of_block (w := a) hbk]; exact h.2.1, by rw [World.cell?_of_block (w := a) hbk]; exact h.2.2⟩

set_option maxRecDepth 100000 in
set_option maxHeartbeats 8000000 in
theorem copies_any : ∀ (d : Nat) (v : Value) (ks : List Nd) (w : World), KidsAt (NdAt w d) w v ks → (ks.map (szF d)).sum ≤ 100000 →
    Calls Tryz.prog 84 #[v] w fun e w' => KidE ks w e w' := by
  intro d
  induction d with
  | zero =>
    rintro v ks w ⟨a, cap, rfl, g1, g2, g3⟩ hs
    have h0 : ks = [] := by
      cases ks with
      | nil => rfl
      | cons x ks =>
        obtain ⟨b, off, _, hc⟩ := g3 (by simp)
        obtain ⟨_, _, _, _, h⟩ := hc 0 (by simp)
        exact h.elim
    subst h0
    go_enter Tryz.func84, Tryz.ntmps84
    go_wp2_with fail
    go_loopw [3, 8] (fun out i wr => out = .slice none 0 0 ∧ i = .int .i64 0 ∧ wr = w) (fun _ _ _ => 0)
    case atStart => exact ⟨rfl, rfl, rfl⟩
    case round =>
      obtain ⟨rfl, rfl, rfl⟩ := hrel
      go_wp2_with fail
      go_ret
      exact ⟨⟨0, _, rfl, nil_tidy, fun q hq => by simp [lenV] at hq, nil_kids _ _⟩, Below.refl _ _⟩
  | succ d ih =>
    rintro v ks w ⟨a, cap, rfl, g1, g2, g3⟩ hs
    have hkl := len_le_sum (d := d + 1) (by omega) ks
    unfold maxLen at g2
    go_enter Tryz.func84, Tryz.ntmps84
    go_wp2_with fail
    go_loopw [3, 8] (fun out i wr => ∃ k : Nat, k ≤ ks.length ∧ i = .int .i64 k ∧ KidN 0 w.heap.size wr out (.slice none 0 0) (ks.take k) ∧ Below w.heap.size w wr) (fun _ i _ => ks.length - (intOf i).toNat)
    case atStart => exact ⟨0, Nat.zero_le _, rfl, KidN.nil _ _ _ _, Below.refl _ _⟩
    case round =>
      obtain ⟨k, hk, rfl, hkn, hbr⟩ := hrel
      have hsr := hbr.size
      by_cases hlt : k < ks.length
      · obtain ⟨bk, ok, rfl, hck⟩ := g3 (by omega)
        obtain ⟨x0, x1, x2, xc, xn⟩ := hck k hlt
        obtain ⟨xc0, xc1, xc2⟩ := xc.below hbr
        have hsx := kx_sum (szF (d + 1)) hlt
        generalize hX : kx ks k = X at *
        obtain ⟨t, b, ms⟩ := X
        obtain ⟨rfl, ht, hrb, htb, htk, hkm⟩ := xn
        rw [szF] at hsx
        have hrb' := hrb
        have hkm' := hkm
        obtain ⟨ba, bc, rfl, _⟩ := hrb'
        obtain ⟨ma, mc, rfl, _⟩ := hkm'
        have hbl : b.length ≤ 100000 := by omega
        have hms : (ms.map (szF d)).sum ≤ 100000 := by omega
        generalize hbL : b.length = bL at *
        generalize hmL : ms.length = mL at *
        have HX := hide hX
        have HBL := hide hbL
        clear hck xc hX hbL
        go_wp2_with fail
        obtain ⟨i0, hi, hz0, hz1, hz2⟩ := info_byte
        obtain ⟨iN, hiN, hN0, hN1, hN2⟩ := info_node
        have hW0 := keep_alloc wr (.cells #[.int .i64 t, .slice ba bL bc, .slice ma mL mc] 28)
        have hWd : Below wr.heap.size wr (wr.alloc (.cells #[.int .i64 t, .slice ba bL bc, .slice ma mL mc] 28)).drew := keep_trans hW0 (Below.refl _ _).drew
        have hbd := keep_trans hbr hWd
        have hn0 := (row_news (hrb.below hbd)).2
        have hyy : (wr.alloc (.cells #[.int .i64 t, .slice ba bL bc, .slice ma mL mc] 28)).drew.cell? ⟨wr.heap.size, 0, none⟩ = some (.int .i64 t) ∧ (wr.alloc (.cells #[.int .i64 t, .slice ba bL bc, .slice ma mL mc] 28)).drew.cell? ⟨wr.heap.size, 1, none⟩ = some (.slice ba bL bc) ∧ (wr.alloc (.cells #[.int .i64 t, .slice ba bL bc, .slice ma mL mc] 28)).drew.cell? ⟨wr.heap.size, 2, none⟩ = some (.slice ma mL mc) := box_cell wr _ _ _ _
        have hknd := hkn.other (fun q _ hl => hWd.block q hl)
        have hkvl : ∀ q, u3.ownBlock = some q → q < wr.heap.size := by
          obtain ⟨_, _, h1, _⟩ := hkn
          exact fun q hq => (h1.lt q hq).2
        have hsd : (wr.alloc (.cells #[.int .i64 t, .slice ba bL bc, .slice ma mL mc] 28)).drew.heap.size = wr.heap.size + 1 := World.size_alloc _ _
        have htk' : (ks.take k).length = k := by rw [List.length_take]; omega
        obtain ⟨d0, cs, how, htr⟩ := hknd
        rw [htk'] at how
        generalize hWW : wr.alloc (.cells #[.int .i64 t, .slice ba bL bc, .slice ma mL mc] 28) = WA at *
        have HWW := hide hWW
        have HKM := hide hkm
        clear hkn hW0 htb htk hWW hkm
        go_region_held3 (fun w' => w'.cell? ⟨wr.heap.size, 0, none⟩ = some (.int .i64 t) ∧ w'.cell? ⟨wr.heap.size, 1, none⟩ = some (.slice ba bL bc) ∧ w'.cell? ⟨wr.heap.size, 2, none⟩ = some (.slice ma mL mc))
          (first
            | exact hy7
            | exact box_keep (keep_alloc _ _) hy6
            | exact hy6
            | exact hy5
            | exact hyy)
          (first
            | (refine step_append_rows _ (by rfl) _ _ 22 22 5 (by rfl) Tryz.underlying22 (wr.heap.size + 1) 5 i0 (.int .u8 0) 1 Tryz.underlying22 hi hz0 hz1 hz2 rfl _ _ _ (by rfl) (World.ownsRow_nil _ _ _ _) ba bL bc (vals .u8 b) (by rfl) (by rw [vals_length, HBL.out]) hn0 (vals_one _ _) (by unfold maxLen; simp; omega) (by simp; omega) (by omega) ?_; intro v5 w5 ho5 hg5; have hb5 := (Below.refl WA.drew.heap.size WA.drew).grown hg5 (Nat.le_refl _) (fun k h => by cases h); have hy5 := box_keep hb5 hyy; obtain ⟨a5, c5, rfl⟩ := own_slice ho5; have hih := ih _ ms w5 (kids_below HKM.out (keep_trans hbd hb5)) hms)
            | (go_at_call 84; refine hih.mono ?_; rintro e w6 ⟨⟨d6, v6, rfl, htd6, hvi6, hk6⟩, hb6⟩; have hy6 := box_keep hb6 hy5; obtain ⟨a6, c6, rfl⟩ : ∃ a c, v6 = .slice a mL c := (by obtain ⟨a, c, h, _⟩ := hk6; exact ⟨a, c, by rw [h, hmL]⟩); have how6 := own_keptK (own_keptK how hb5) hb6)
            | (refine step_append_lies _ (by rfl) _ _ 26 (by rfl) w.heap.size 28 iN (.agg #[.int .i64 0, .slice none 0 0, .slice none 0 0]) 3 56 Tryz.underlying26 hiN hN0 hN1 hN2 rfl (by decide) _ _ cs (by rfl) (how6.alloc _) ⟨w6.heap.size, 0, none⟩ 1 1 [.int .i64 t, .slice a5 bL c5, .slice a6 mL c6] (by rfl) (by rfl) (cells_new3 w6 _ _ _ _ rfl) (by simp [Value.oneCell']) (by decide) (by unfold maxLen; omega) (by omega) (by have := hb5.size; have := hb6.size; simp; omega) (w6.heap.size + 1) (by simp) ?_; intro g7 cap7 w7 how7 hg7 hlie7 hlt7; have hy7 := box_grow hg7 (fun e => by have := hkvl _ e; omega) (box_keep (keep_alloc _ _) hy6))
            | fail)
        have hs5 := hb5.size
        have hs6 := hb6.size
        have hb6' := keep_trans hbd (keep_trans hb5 hb6)
        rw [List.nil_append, Nat.zero_add] at ho5
        have ho5' : Own 5 .u8 256 w5 (wr.heap.size + 1) (.slice a5 bL c5) b := ⟨by rw [HBL.out]; exact ho5, hrb.under⟩
        have hx : NdIn (fun q => q < 0 ∨ wr.heap.size + 1 ≤ q) w6 (d6 + 1) (.int .i64 t) (.slice a5 bL c5) (.slice a6 mL c6) (.mk t b ms) :=
          ⟨rfl, ht, ho5'.row.below hb6, own_tidy ho5, htd6, own_in ho5 (fun q hq => .inr hq), fun q h1 h2 => .inr (by have := hvi6 q h1 h2; omega), kids_turn hk6 hvi6 (fun q hq _ => ⟨rfl, .inr (by omega)⟩)⟩
        have htr6 := htr.map (fun _ _ _ _ hn => hn.turn (w' := w6) (T := InS 0 w.heap.size u3 (.slice none 0 0)) (fun q hq hl => ⟨(hb6.block q (by omega)).trans (hb5.block q hl), hq⟩))
        rw [← htk'] at how6 how7
        have hkn7 := KidN.snoc how6 htr6 hx (Nat.zero_le _) (by omega) (fun q hq => by have := hkvl q hq; omega) (fun q hq => by cases hq) how7 hg7 (by rw [World.size_alloc]; exact hlie7)
        have hb7 : Below w.heap.size w w7 := (hb6'.alloc (by omega) _).grown hg7 (by simp; omega) (fun q hq => (how6.lt q hq).1)
        rw [← HX.out, ← take_kx hlt, htk'] at hkn7
        have HK7 := hide hkn7
        clear hkn7 how6 how7 htr6 hx ho5 ho5' hb6' hb5 hb6 hg5 hg7 hlie7 hlt7 hy5 hy6 hy7 hyy hih hk6 htr how hvi6
        go_wp2_with fail
        go_roundw
        case rel => exact ⟨k + 1, by omega, by go_num, HK7.out, hb7⟩
        case measure => simp [intOf]; omega
      · have hkk : k = ks.length := by omega
        rw [hkk, List.take_length] at hkn
        obtain ⟨dd, o1, o2, o3⟩ := hkn.out
        obtain ⟨ka, kc, rfl⟩ : ∃ a c, u3 = .slice a ks.length c := by obtain ⟨a, c, h, _⟩ := o3; exact ⟨a, c, h⟩
        clear hkn hkk
        go_wp2_with fail
        go_ret
        exact ⟨⟨dd, _, rfl, o1, o2, o3⟩, hbr⟩
end Go.Proofs.YtlddpjcacnahmaaGreatDoor

/- What a value is, by the document: plain, BytesOf, Utf8Of, IdOf, TimeOf, Kids. -/
namespace Go.Proofs.YtlddpjcacnahmaaGreatDoor
open Go.RowKit Go.Deep
set_option linter.unusedVariables false
set_option linter.unusedSimpArgs false

/-- whether a value is of a tag and its bytes fit: 0, or what is wrong -/
def codN (FB : Int → List Nat → Bool) (tag : Int) : Nd → Int
  | .mk t b ks => if t ≠ tag then 4 else if ks.length ≠ 0 ∨ FB tag b = false then 5 else 0
theorem cod_tag {FB : Int → List Nat → Bool} {tag t : Int} {b : List Nat} {ks : List Nd} (h : t ≠ tag) : codN FB tag (.mk t b ks) = 4 := by rw [codN, if_pos h]
theorem cod_kids {FB : Int → List Nat → Bool} {tag : Int} {b : List Nat} {ks : List Nd} (h : ks.length ≠ 0) : codN FB tag (.mk tag b ks) = 5 := by rw [codN, if_neg (by simp), if_pos (.inl h)]
theorem cod_unfit {FB : Int → List Nat → Bool} {tag : Int} {b : List Nat} {ks : List Nd} (h : FB tag b = false) : codN FB tag (.mk tag b ks) = 5 := by rw [codN, if_neg (by simp), if_pos (.inr h)]
theorem cod_ok {FB : Int → List Nat → Bool} {tag : Int} {b : List Nat} {ks : List Nd} (h0 : ks.length = 0) (h : FB tag b = true) : codN FB tag (.mk tag b ks) = 0 := by rw [codN, if_neg (by simp), if_neg (by rw [h]; simp; exact List.eq_nil_of_length_eq_zero h0)]
theorem cod_zero {FB : Int → List Nat → Bool} {tag t : Int} {b : List Nat} {ks : List Nd} (h : codN FB tag (.mk t b ks) = 0) : t = tag ∧ ks = [] ∧ FB tag b = true := by
  rw [codN] at h
  split at h
  · omega
  · rename_i h1
    split at h
    · omega
    · rename_i h2
      refine ⟨by omega, List.eq_nil_of_length_eq_zero (by omega), ?_⟩
      cases hf : FB tag b with
      | true => rfl
      | false => exact absurd (.inr hf) h2
theorem cod_cases (FB : Int → List Nat → Bool) (tag t : Int) (b : List Nat) (ks : List Nd) :
    (t ≠ tag ∧ codN FB tag (.mk t b ks) = 4) ∨ (t = tag ∧ ks.length ≠ 0 ∧ codN FB tag (.mk t b ks) = 5) ∨ (t = tag ∧ ks.length = 0 ∧ FB tag b = false ∧ codN FB tag (.mk t b ks) = 5) ∨ (t = tag ∧ ks.length = 0 ∧ FB tag b = true ∧ codN FB tag (.mk t b ks) = 0) := by
  by_cases h1 : t = tag
  · subst h1
    by_cases h2 : ks.length = 0
    · cases hf : FB t b with
      | true => exact .inr (.inr (.inr ⟨rfl, h2, rfl, cod_ok h2 hf⟩))
      | false => exact .inr (.inr (.inl ⟨rfl, h2, rfl, cod_unfit hf⟩))
    · exact .inr (.inl ⟨rfl, h2, cod_kids h2⟩)
  · exact .inl ⟨h1, cod_tag h1⟩

set_option maxRecDepth 100000 in
set_option maxHeartbeats 2000000 in
theorem rplain_any (FB : Int → List Nat → Bool) (hFB : FBok FB) (tag t : Int) (d : Nat) (a1 a2 : Option Addr) (n1 p1 n2 p2 : Nat) (b : List Nat) (ks : List Nd) (w : World) (hn : NdAt w d (.int .i64 t) (.slice a1 n1 p1) (.slice a2 n2 p2) (.mk t b ks)) (hl : b.length ≤ 1000000) :
    Calls Tryz.prog 61 #[.agg #[.int .i64 t, .slice a1 n1 p1, .slice a2 n2 p2], .int .i64 tag] w fun e w' =>
      ((codN FB tag (.mk t b ks) = 0 ∧ e = .returned (.tuple #[.slice a1 n1 p1, .int .i64 0])) ∨ (codN FB tag (.mk t b ks) ≠ 0 ∧ e = .returned (.tuple #[.slice none 0 0, .int .i64 (codN FB tag (.mk t b ks))]))) ∧ Below w.heap.size w w' := by
  have hb0 := keep_alloc w (.cells #[.int .i64 t, .slice a1 n1 p1, .slice a2 n2 p2] 28)
  obtain ⟨x0, x1, x2⟩ := box_cell w (.int .i64 t) (.slice a1 n1 p1) (.slice a2 n2 p2) 28
  cases d with
  | zero => exact hn.elim
  | succ d =>
  obtain ⟨_, ht, hrb, _, _, a', c', he, hk1, hk2, hk3⟩ := hn
  obtain ⟨rfl, rfl, rfl⟩ := Value.slice.inj he
  rcases cod_cases FB tag t b ks with ⟨h1, hc⟩ | ⟨h1, h2, hc⟩ | ⟨h1, h2, h3, hc⟩ | ⟨h1, h2, h3, hc⟩
  · have hti : (t != tag) = true := by simpa using h1
    rw [hc]
    clear hc h1
    go_enter Tryz.func61, Tryz.ntmps61
    go_wp2_with fail
    go_ret2
    exact ⟨.inr ⟨by omega, rfl⟩, hb0⟩
  · subst h1
    have hti : (t != t) = false := by simp
    have hki : (0 : Int) < (ks.length : Int) := by omega
    have hkd : decide ((0 : Int) < (ks.length : Int)) = true := decide_eq_true hki
    have hkn : 0 < ks.length := by omega
    have hke : decide (0 < ks.length) = true := decide_eq_true hkn
    rw [hc]
    clear hc
    go_enter Tryz.func61, Tryz.ntmps61
    go_wp2_with fail
    go_ret2
    exact ⟨.inr ⟨by omega, rfl⟩, hb0⟩
  · subst h1
    have hti : (t != t) = false := by simp
    rw [hc]
    have hf := rfitb_any FB hFB t _ b _ (hrb.below hb0) hl
    rw [h3] at hf
    obtain ⟨b', c', he, _⟩ := hrb
    obtain ⟨rfl, rfl, rfl⟩ := Value.slice.inj he
    have h0 : ks = [] := List.eq_nil_of_length_eq_zero h2
    subst h0
    clear hc h3 h2
    go_enter Tryz.func61, Tryz.ntmps61
    go_wp2_with fail
    refine hf.mono ?_
    rintro e w1 ⟨rfl, hb1⟩
    clear hf
    go_wp2_with fail
    go_ret2
    exact ⟨.inr ⟨by omega, rfl⟩, keep_trans hb0 hb1⟩
  · subst h1
    have hti : (t != t) = false := by simp
    rw [hc]
    have hf := rfitb_any FB hFB t _ b _ (hrb.below hb0) hl
    rw [h3] at hf
    obtain ⟨b', c', he, _⟩ := hrb
    obtain ⟨rfl, rfl, rfl⟩ := Value.slice.inj he
    have h0 : ks = [] := List.eq_nil_of_length_eq_zero h2
    subst h0
    clear hc h3 h2
    go_enter Tryz.func61, Tryz.ntmps61
    go_wp2_with fail
    refine hf.mono ?_
    rintro e w1 ⟨rfl, hb1⟩
    have x1 := Below.cells hb1 x1
    clear hf
    go_wp2_with fail
    go_ret2
    exact ⟨.inl ⟨by simp, rfl⟩, keep_trans hb0 hb1⟩
end Go.Proofs.YtlddpjcacnahmaaGreatDoor
