/- Whether two values are the same: der's Same, slices.EqualFunc. -/
import Derived.Test.YtlddpjcacnahmaaGreatDoorPCmp
import Derived.Test.YtlddpjcacnahmaaGreatDoorDTag
import Derived.Test.YtlddpjcacnahmaaGreatDoorEPar
import Derived.Test.YtlddpjcacnahmaaGreatDoorEWVl
import Derived.Test.YtlddpjcacnahmaaGreatDoorVKid
import Derived.Test.YtlddpjcacnahmaaGreatDoorVSet
import Derived.Test.YtlddpjcacnahmaaGreatDoorVRSet
import Derived.Test.YtlddpjcacnahmaaGreatDoorBe
namespace Go.Proofs.YtlddpjcacnahmaaGreatDoor
open Go.RowKit Go.Deep
set_option linter.unusedVariables false

def EqE (ks ms : List Nd) (w : World) (e : Ending) (w' : World) : Prop := (∃ r : Bool, e = .returned (.bool r) ∧ (r = true ↔ ks = ms)) ∧ Below w.heap.size w w'
end Go.Proofs.YtlddpjcacnahmaaGreatDoor

/- Words for the laws of der. -/
namespace Go.Proofs.YtlddpjcacnahmaaGreatDoor
open Go.RowKit Go.Deep
set_option linter.unusedVariables false

/-- Small, at the laws' bound: it is so small, or it is not -/
theorem small_der (d : Nat) (c0 c1 c2 : Value) (x : Nd) (w : World) (h : NdAt w d c0 c1 c2 x) :
    Calls Tryz.prog 57 #[.agg #[c0, c1, c2], .int .i64 3000] w fun e w' => (∃ r : Int, e = .returned (.int .i64 r) ∧ r < 3000 ∧ -2000000 ≤ r ∧ (0 ≤ r → szF d x ≤ 3000)) ∧ Below w.heap.size w w' := by
  refine (rsmall_any d c0 c1 c2 x 3000 w h (by omega) (by omega)).mono ?_
  rintro e w1 ⟨⟨r, rfl, h1, h2, h3⟩, hb⟩
  exact ⟨⟨r, rfl, h1, h2, fun h0 => by have := h3 h0; omega⟩, hb⟩
theorem rsame_der {w : World} {d d' : Nat} {a0 a1 a2 b0 b1 b2 : Value} {x y : Nd} (h : NdAt w d a0 a1 a2 x) (h' : NdAt w d' b0 b1 b2 y) :
    Calls Tryz.prog 15 #[.agg #[a0, a1, a2], .agg #[b0, b1, b2]] w fun e w' => SameE x y w e w' :=
  rsameN_any (max d d') a0 a1 a2 b0 b1 b2 x y w (h.le (Nat.le_max_left _ _)) (h'.le (Nat.le_max_right _ _))
/-- the same answer, told as a number that hangs on the two alone -/
theorem sameE_bool {x y : Nd} {w w' : World} {e : Ending} {r : Bool} (h : SameE x y w e w') (hr : r = true ↔ x = y) : e = .returned (.bool r) ∧ Below w.heap.size w w' := by
  obtain ⟨⟨q, rfl, hq⟩, hb⟩ := h
  have : q = r := Bool.eq_iff_iff.2 (hq.trans hr.symm)
  exact ⟨by rw [this], hb⟩
theorem same_bool (x y : Nd) : ∃ r : Bool, r = true ↔ x = y := ⟨@decide (x = y) (Classical.propDecidable _), @decide_eq_true_iff (x = y) (Classical.propDecidable _)⟩
theorem sum_len (FB : Int → List Nat → Bool) (d deep : Nat) (h : ∀ x l, wrD FB deep x = some l → szF d x ≤ l.length) : ∀ (ks : List Nd) (bs : List (List Nat)), allS (wrD FB deep) ks = some bs → (ks.map (szF d)).sum ≤ bs.flatten.length
  | [], bs, ha => by rw [allS] at ha; cases ha; simp
  | x :: ks, bs, ha => by
    rw [allS] at ha
    cases hx : wrD FB deep x with
    | none => rw [hx] at ha; cases ha
    | some b =>
      rw [hx] at ha
      cases hk : allS (wrD FB deep) ks with
      | none => rw [hk] at ha; cases ha
      | some cs =>
        rw [hk] at ha
        cases ha
        have h1 := h x b hx
        have h2 := sum_len FB d deep h ks cs hk
        simp only [List.flatten_cons, List.length_append, List.map_cons, List.sum_cons]
        omega
/-- a value has no more parts and bytes than bytes as it is written -/
theorem sz_len (FB : Int → List Nat → Bool) : ∀ (deep d : Nat) (x : Nd) (l : List Nat), wrD FB deep x = some l → szF d x ≤ l.length
  | 0, d, x, l, h => by rw [wrD] at h; cases h
  | deep + 1, 0, x, l, h => by rw [szF]; omega
  | deep + 1, d + 1, .mk t b ks, l, h => by
    rw [szF]
    rw [wrD] at h
    split at h
    · cases h
    · split at h
      · split at h
        · cases h
        · rename_i hc
          cases h
          have h1 := lenE_len b.length
          have hk : ks = [] := List.eq_nil_of_length_eq_zero (by omega)
          subst hk
          simp only [List.length_append, List.length_cons, List.map_nil, List.sum_nil]
          omega
      · split at h
        · cases h
        · rename_i hb
          cases ha : allS (wrD FB deep) ks with
          | none => rw [ha] at h; cases h
          | some bs =>
            rw [ha] at h
            simp only at h
            split at h
            · cases h
            · cases h
              have h1 := lenE_len bs.flatten.length
              have h2 := sum_len FB d deep (fun y l hy => sz_len FB deep d y l hy) ks bs ha
              simp only [List.length_append, List.length_cons]
              omega
theorem size_of_bytes {FB : Int → List Nat → Bool} {x : Nd} {l : List Nat} (h : bytesD FB x = some l) (d : Nat) : szF d x ≤ l.length := sz_len FB 32 d x l (bytes_wr h).1
theorem BytE.good {r : Option (List Nat)} {l : List Nat} {w w' : World} {e : Ending} (h : BytE r w e w') (hr : r = some l) : ∃ v, e = .returned (.tuple #[v, .int .i64 0]) ∧ Row .u8 256 w' v l ∧ Tidy v ∧ Below w.heap.size w w' := by
  obtain ⟨⟨l', v, h1, h2, h3, h4⟩ | ⟨h1, _⟩, hb⟩ := h
  · rw [hr] at h1
    cases h1
    exact ⟨v, h2, h3, h4, hb⟩
  · rw [hr] at h1
    cases h1
theorem boxed_b (t : Int) (w : World) : Calls Tryz.prog 81 #[.int .i64 t] w fun e w' => e = .returned (.bool (boxedB t)) ∧ Below w.heap.size w w' :=
  (boxed_any t w).mono fun _ _ h => ⟨h.1, by rw [h.2]; exact Below.refl _ _⟩
theorem rboxed_b (t : Int) (w : World) : Calls Tryz.prog 85 #[.int .i64 t] w fun e w' => e = .returned (.bool (boxedB t)) ∧ Below w.heap.size w w' :=
  (rboxed_any t w).mono fun _ _ h => ⟨h.1, by rw [h.2]; exact Below.refl _ _⟩
/-- two boxed values and two texts, in a later world -/
structure HdT (w : World) (k : Nat) (a0 a1 a2 b0 b1 b2 va vb : Value) (l m : List Nat) (w' : World) : Prop where
  x0 : w'.cell? ⟨k, 0, none⟩ = some a0
  x1 : w'.cell? ⟨k, 1, none⟩ = some a1
  x2 : w'.cell? ⟨k, 2, none⟩ = some a2
  z0 : w'.cell? ⟨k + 1, 0, none⟩ = some b0
  z1 : w'.cell? ⟨k + 1, 1, none⟩ = some b1
  z2 : w'.cell? ⟨k + 1, 2, none⟩ = some b2
  r1 : Row .u8 256 w' va l
  r2 : Row .u8 256 w' vb m
  bel : Below w.heap.size w w'
theorem HdT.keep {w w' w'' : World} {k : Nat} {a0 a1 a2 b0 b1 b2 va vb : Value} {l m : List Nat} (h : HdT w k a0 a1 a2 b0 b1 b2 va vb l m w') (hb : Below w'.heap.size w' w'') : HdT w k a0 a1 a2 b0 b1 b2 va vb l m w'' :=
  ⟨Below.cells hb h.x0, Below.cells hb h.x1, Below.cells hb h.x2, Below.cells hb h.z0, Below.cells hb h.z1, Below.cells hb h.z2, h.r1.below hb, h.r2.below hb, keep_trans h.bel hb⟩
theorem HdT.drew {w w' : World} {k : Nat} {a0 a1 a2 b0 b1 b2 va vb : Value} {l m : List Nat} (h : HdT w k a0 a1 a2 b0 b1 b2 va vb l m w') : HdT w k a0 a1 a2 b0 b1 b2 va vb l m w'.drew := h.keep (Below.refl _ _).drew
theorem HdT.all {w w' : World} {k : Nat} {a0 a1 a2 b0 b1 b2 va vb : Value} {l m : List Nat} (h : HdT w k a0 a1 a2 b0 b1 b2 va vb l m w') :
    w'.cell? ⟨k, 0, none⟩ = some a0 ∧ w'.cell? ⟨k, 1, none⟩ = some a1 ∧ w'.cell? ⟨k, 2, none⟩ = some a2 ∧ w'.cell? ⟨k + 1, 0, none⟩ = some b0 ∧ w'.cell? ⟨k + 1, 1, none⟩ = some b1 ∧ w'.cell? ⟨k + 1, 2, none⟩ = some b2 ∧ HdT w k a0 a1 a2 b0 b1 b2 va vb l m w' := ⟨h.x0, h.x1, h.x2, h.z0, h.z1, h.z2, h⟩
theorem HdT.out {w w' : World} {k : Nat} {a0 a1 a2 b0 b1 b2 va vb : Value} {l m : List Nat} (h : w'.cell? ⟨k, 0, none⟩ = some a0 ∧ w'.cell? ⟨k, 1, none⟩ = some a1 ∧ w'.cell? ⟨k, 2, none⟩ = some a2 ∧ w'.cell? ⟨k + 1, 0, none⟩ = some b0 ∧ w'.cell? ⟨k + 1, 1, none⟩ = some b1 ∧ w'.cell? ⟨k + 1, 2, none⟩ = some b2 ∧ HdT w k a0 a1 a2 b0 b1 b2 va vb l m w') : HdT w k a0 a1 a2 b0 b1 b2 va vb l m w' := h.2.2.2.2.2.2
theorem own_mt (w : World) (e : TypeId) : (w.alloc (.cells #[] e)).ownsRow w.heap.size e 1 (.slice (some ⟨w.heap.size, 0, none⟩) 0 0) 0 [] := World.ownsRow_lit (base := w.heap.size) (e := e) (size := 1) w #[] 0 (Nat.le_refl _) (by decide) rfl
theorem below_mt {w w' : World} {e : TypeId} {n c : Nat} (hg : (w.alloc (.cells #[] e)).grownBy w' (Value.slice (some ⟨w.heap.size, 0, none⟩) n c).ownBlock) : Below w.heap.size w w' := by
  refine ((Below.refl w.heap.size w).alloc (Nat.le_refl _) _).grown hg (by simp) (fun k h => ?_)
  have h' : some w.heap.size = some k := h
  have := Option.some.inj h'
  omega
theorem tidy_cut {a : Option Addr} {n c k : Nat} (h : Tidy (.slice a n c)) (hk : k < n) : Tidy (.slice a k c) := by
  intro m d he
  obtain ⟨rfl, rfl, rfl⟩ := Value.slice.inj he
  have := h n c rfl
  omega
/-- of two values' bytes one is the other's head: they are the same -/
theorem head_same {FB : Int → List Nat → Bool} {x y : Nd} {a b : List Nat} {r : Bool} (ha : bytesD FB x = some a) (hb : bytesD FB y = some b) (hr : r = true ↔ x = y) : decide (a = b.take a.length) = r := by
  have h : a = b.take a.length ↔ x = y := by
    constructor
    · intro h
      have h2 : b = a ++ b.drop a.length := by
        have := (List.take_append_drop a.length b).symm
        rwa [← h] at this
      rw [h2] at hb
      exact (bytes_pre ha hb).1
    · intro h
      subst h
      rw [ha] at hb
      obtain rfl := Option.some.inj hb
      simp
  exact Bool.eq_iff_iff.2 (decide_eq_true_iff.trans (h.trans hr.symm))
/-- the two numbers and the bytes that Bytes answers, told ahead -/
theorem bytE_told (r : Option (List Nat)) : ∃ (fb : Bool) (er : Int) (l : List Nat), ((fb = true ∧ er = 0) ∨ (fb = false ∧ er = 1)) ∧ r.isSome = fb ∧
    ∀ (w w' : World) (e : Ending), BytE r w e w' → ∃ a c, e = .returned (.tuple #[.slice a l.length c, .int .i64 er]) ∧ Row .u8 256 w' (.slice a l.length c) l ∧ Below w.heap.size w w' := by
  cases r with
  | none =>
    refine ⟨false, 1, [], .inr ⟨rfl, rfl⟩, rfl, ?_⟩
    rintro w w' e ⟨⟨l, v, h, _⟩ | ⟨_, rfl⟩, hb⟩
    · cases h
    · exact ⟨none, 0, rfl, Row.nil _ _ _, hb⟩
  | some m =>
    refine ⟨true, 0, m, .inl ⟨rfl, rfl⟩, rfl, ?_⟩
    rintro w w' e ⟨⟨l, v, h, rfl, hr, _⟩ | ⟨h, _⟩, hb⟩
    · cases h
      obtain ⟨a, c, rfl⟩ := hr.sl
      exact ⟨a, c, rfl, hr, hb⟩
    · cases h
end Go.Proofs.YtlddpjcacnahmaaGreatDoor

/- Words for the laws of value: small, few; numbers that are known. -/
namespace Go.Proofs.YtlddpjcacnahmaaGreatDoor
open Go.RowKit Go.Deep
set_option linter.unusedVariables false
set_option linter.unusedSimpArgs false

theorem int_is {n : Int} {l : List Nat} (hl : IntL n l) (w : World) (hn : I64 n) : Calls Tryz.prog 16 #[.int .i64 n] w fun e w' => NodE (.mk 2 l []) w e w' := by
  refine (int_any n w hn).mono ?_
  rintro e w' ⟨m, hm, _, hE⟩
  rw [hl.one hm]; exact hE
theorem rint_is {FB : Int → List Nat → Bool} (hFB : FBok FB) {n : Int} {l : List Nat} (hl : IntL n l) (w : World) (hn : I64 n) : Calls Tryz.prog 17 #[.int .i64 n] w fun e w' => NodE (.mk 2 l []) w e w' := by
  refine (rint_any FB hFB n w hn).mono ?_
  rintro e w' ⟨m, hm, _, hE⟩
  rw [hl.one hm]; exact hE
/-- each number has its bytes -/
theorem int_ex (n : Int) (hn : I64 n) : ∃ l, IntL n l ∧ l.length ≤ 8 := by
  unfold I64 at hn
  have hp : ∀ k : Nat, k < 8 → (-(128 * (256 : Int) ^ k) ≤ n ∧ n < 128 * (256 : Int) ^ k) → (k = 0 ∨ ∃ j, k = j + 1 ∧ (n < -(128 * (256 : Int) ^ j) ∨ 128 * (256 : Int) ^ j ≤ n)) → ∃ l, IntL n l ∧ l.length ≤ 8 := by
    intro k hk hb hf
    have hv := be_tcV n (n % 18446744073709551616).toNat k hk (by omega) hb.1 hb.2
    exact ⟨_, ⟨be_under _ _, be_intF n _ k hv hf, hv⟩, by rw [be_len]; omega⟩
  by_cases h0 : -(128 * (256 : Int) ^ 0) ≤ n ∧ n < 128 * (256 : Int) ^ 0
  · exact hp 0 (by omega) h0 (.inl rfl)
  by_cases h1 : -(128 * (256 : Int) ^ 1) ≤ n ∧ n < 128 * (256 : Int) ^ 1
  · exact hp 1 (by omega) h1 (.inr ⟨0, rfl, by omega⟩)
  by_cases h2 : -(128 * (256 : Int) ^ 2) ≤ n ∧ n < 128 * (256 : Int) ^ 2
  · exact hp 2 (by omega) h2 (.inr ⟨1, rfl, by omega⟩)
  by_cases h3 : -(128 * (256 : Int) ^ 3) ≤ n ∧ n < 128 * (256 : Int) ^ 3
  · exact hp 3 (by omega) h3 (.inr ⟨2, rfl, by omega⟩)
  by_cases h4 : -(128 * (256 : Int) ^ 4) ≤ n ∧ n < 128 * (256 : Int) ^ 4
  · exact hp 4 (by omega) h4 (.inr ⟨3, rfl, by omega⟩)
  by_cases h5 : -(128 * (256 : Int) ^ 5) ≤ n ∧ n < 128 * (256 : Int) ^ 5
  · exact hp 5 (by omega) h5 (.inr ⟨4, rfl, by omega⟩)
  by_cases h6 : -(128 * (256 : Int) ^ 6) ≤ n ∧ n < 128 * (256 : Int) ^ 6
  · exact hp 6 (by omega) h6 (.inr ⟨5, rfl, by omega⟩)
  · exact hp 7 (by omega) (by simp; omega) (.inr ⟨6, rfl, by omega⟩)
theorem int_2 : IntL 2 [2] := ⟨dec_under (by decide), trivial, by decide⟩
theorem int_1 : IntL 1 [1] := ⟨dec_under (by decide), trivial, by decide⟩
theorem int_128 : IntL 128 [0, 128] := ⟨dec_under (by decide), by unfold intF; omega, by decide⟩
theorem int_m1 : IntL (-1) [255] := ⟨dec_under (by decide), trivial, by decide⟩

set_option maxRecDepth 100000 in
set_option maxHeartbeats 2000000 in
theorem vsmall_any (d : Nat) (c0 c1 c2 : Value) (x : Nd) (w : World) (h : NdAt w d c0 c1 c2 x) :
    Calls Tryz.prog 21 #[.agg #[c0, c1, c2]] w fun e w' => (∃ r : Bool, e = .returned (.bool r) ∧ (r = true → szF d x ≤ 2000)) ∧ Below w.heap.size w w' := by
  obtain ⟨t, a1, n1, p1, a2, n2, p2, rfl, rfl, rfl⟩ := h.forms
  have hb0 := keep_alloc w (.cells #[.int .i64 t, .slice a1 n1 p1, .slice a2 n2 p2] 28)
  obtain ⟨x0, x1, x2⟩ := box_cell w (.int .i64 t) (.slice a1 n1 p1) (.slice a2 n2 p2) 28
  have hc := rsmall_any d _ _ _ x 2000 _ (NdAt.below hb0 _ _ _ _ _ h) (by omega) (by omega)
  go_enter Tryz.func21, Tryz.ntmps21
  go_wp2_with fail
  refine hc.mono ?_
  rintro e w1 ⟨⟨r, rfl, h1, h2, h3⟩, hb1⟩
  have H3 := hide h3
  clear hc h3
  go_wp2_with fail
  go_ret
  refine ⟨⟨decide (0 ≤ r), rfl, fun hr => ?_⟩, keep_trans hb0 hb1⟩
  have hr0 : 0 ≤ r := by simpa using hr
  have := H3.out hr0
  omega

set_option maxRecDepth 100000 in
set_option maxHeartbeats 4000000 in
theorem vfew_any (d : Nat) (v : Value) (ks : List Nd) (w : World) (hk : KidsAt (NdAt w d) w v ks) :
    Calls Tryz.prog 34 #[v] w fun e w' => (∃ r : Bool, e = .returned (.bool r) ∧ (r = true → ks.length ≤ 10 ∧ ∀ i, i < ks.length → szF d (kx ks i) ≤ 2000)) ∧ Below w.heap.size w w' := by
  obtain ⟨a, cap, rfl, g1, g2, g3⟩ := hk
  unfold maxLen at g2
  by_cases h10 : 10 < ks.length
  · have h10i : (10 : Int) < (ks.length : Int) := by omega
    go_enter Tryz.func34, Tryz.ntmps34
    go_wp2_with fail
    go_ret
    exact ⟨⟨false, rfl, fun h => by cases h⟩, Below.refl _ _⟩
  · have h10i : ¬ (10 : Int) < (ks.length : Int) := by omega
    go_enter Tryz.func34, Tryz.ntmps34
    go_wp2_with fail
    go_loopw [10] (fun i wr => ∃ k : Nat, k ≤ ks.length ∧ i = .int .i64 k ∧ Hid (∀ j, j < k → szF d (kx ks j) ≤ 2000) ∧ Below w.heap.size w wr) (fun i _ => ks.length - (intOf i).toNat)
    case atStart => exact ⟨0, Nat.zero_le _, rfl, hide (fun j hj => by omega), Below.refl _ _⟩
    case round =>
      obtain ⟨k, hk, rfl, HA, hbr⟩ := hrel
      by_cases hlt : k < ks.length
      · obtain ⟨bk, ok, rfl, hck⟩ := g3 (by omega)
        obtain ⟨x0, x1, x2, xc, xn⟩ := hck k hlt
        obtain ⟨xc0, xc1, xc2⟩ := xc.below hbr
        obtain ⟨t, a1, n1, p1, a2, n2, p2, rfl, rfl, rfl⟩ := xn.forms
        have hW := keep_alloc wr (.cells #[.int .i64 t, .slice a1 n1 p1, .slice a2 n2 p2] 28)
        have hbW := keep_trans hbr hW
        obtain ⟨y0, y1, y2⟩ := box_cell wr (.int .i64 t) (.slice a1 n1 p1) (.slice a2 n2 p2) 28
        have hsm := vsmall_any d _ _ _ (kx ks k) _ (NdAt.below hbW _ _ _ _ _ xn)
        clear hck xc xn
        go_wp2_with fail
        refine hsm.mono ?_
        rintro e w1 ⟨⟨r, rfl, hr⟩, hb1⟩
        have hb2 := keep_trans hbW hb1
        clear hsm
        cases r with
        | true =>
          have HA' : Hid (∀ j, j < k + 1 → szF d (kx ks j) ≤ 2000) := hide (fun j hj => by
            by_cases hjk : j = k
            · subst hjk; exact hr rfl
            · exact HA.out j (by omega))
          clear hr
          go_wp2_with fail
          first
            | exact ⟨⟨k + 1, by omega, by go_num, HA', hb2⟩, by simp [intOf]; omega⟩
            | (go_roundw
               case rel => exact ⟨k + 1, by omega, by go_num, HA', hb2⟩
               case measure => simp [intOf]; omega)
        | false =>
          clear hr
          go_wp2_with fail
          go_ret
          exact ⟨⟨false, rfl, fun h => by cases h⟩, hb2⟩
      · go_wp2_with fail
        go_ret
        exact ⟨⟨true, rfl, fun _ => ⟨by omega, fun i hi => HA.out i (by omega)⟩⟩, hbr⟩
end Go.Proofs.YtlddpjcacnahmaaGreatDoor
