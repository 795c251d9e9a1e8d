/- What a value is: mixed, ask. -/
import Derived.Test.YtlddpjcacnahmaaGreatDoorVSig
namespace Go.Proofs.YtlddpjcacnahmaaGreatDoor
open Go.RowKit Go.Deep
set_option linter.unusedVariables false
set_option linter.unusedSimpArgs false

/-- bytes where there should be parts, or the other way round -/
def mixB (t : Int) (b : List Nat) (ks : List Nd) : Bool := if boxedB t = true then decide (0 < b.length) else decide (0 < ks.length)
theorem mix_plain {t : Int} (h : boxedB t = false) (b : List Nat) (ks : List Nd) : mixB t b ks = decide (0 < ks.length) := by unfold mixB; rw [if_neg (by rw [h]; decide)]
theorem mix_boxed {t : Int} (h : boxedB t = true) (b : List Nat) (ks : List Nd) : mixB t b ks = decide (0 < b.length) := by unfold mixB; rw [if_pos h]

set_option maxRecDepth 100000 in
set_option maxHeartbeats 2000000 in
theorem mixed_any (t : Int) (d : Nat) (a1 a2 : Option Addr) (n1 p1 n2 p2 : Nat) (b : List Nat) (ks : List Nd) (w : World) (hn : NdAt w d (.int .i64 t) (.slice a1 n1 p1) (.slice a2 n2 p2) (.mk t b ks)) :
    Calls Tryz.prog 100 #[.agg #[.int .i64 t, .slice a1 n1 p1, .slice a2 n2 p2]] w fun e w' => e = .returned (.bool (mixB t b ks)) ∧ Below w.heap.size w w' := by
  have hb0 := keep_alloc w (.cells #[.int .i64 t, .slice a1 n1 p1, .slice a2 n2 p2] 28)
  obtain ⟨x0, x1, x2⟩ := box_cell w (.int .i64 t) (.slice a1 n1 p1) (.slice a2 n2 p2) 28
  cases d with
  | zero => exact hn.elim
  | succ d =>
  obtain ⟨_, ht, ⟨b1, c1, hb1, _⟩, _, _, a', c', he, hk1, hk2, hk3⟩ := hn
  obtain ⟨rfl, rfl, rfl⟩ := Value.slice.inj he
  obtain ⟨rfl, rfl, rfl⟩ := Value.slice.inj hb1
  have hbx := boxed_any t (w.alloc (.cells #[.int .i64 t, .slice a1 b.length p1, .slice a2 ks.length p2] 28))
  cases hx : boxedB t with
  | true =>
    rw [hx] at hbx
    rw [mix_boxed hx]
    clear hx
    go_enter Tryz.func100, Tryz.ntmps100
    go_wp2_with fail
    refine hbx.mono ?_
    rintro e w1 ⟨rfl, rfl⟩
    clear hbx
    go_wp2_with fail
    go_ret
    exact ⟨ret_bool (by simp), hb0⟩
  | false =>
    rw [hx] at hbx
    rw [mix_plain hx]
    clear hx
    go_enter Tryz.func100, Tryz.ntmps100
    go_wp2_with fail
    refine hbx.mono ?_
    rintro e w1 ⟨rfl, rfl⟩
    clear hbx
    go_wp2_with fail
    go_ret
    exact ⟨ret_bool (by simp), hb0⟩

/-- what is told of a value, if it is of a tag, and of bytes or of parts as the tag wants it -/
def AskE (t tag : Int) (mx : Bool) (z : Value) (R : Value → Int → World → Prop) (w : World) (e : Ending) (w' : World) : Prop :=
  ((t ≠ tag ∧ e = .returned (.tuple #[z, .int .i64 4])) ∨ (t = tag ∧ mx = true ∧ e = .returned (.tuple #[z, .int .i64 5])) ∨ (t = tag ∧ mx = false ∧ ∃ v er, e = .returned (.tuple #[v, .int .i64 er]) ∧ R v er w')) ∧ Below w.heap.size w w'

set_option maxRecDepth 100000 in
set_option maxHeartbeats 2000000 in
theorem ask_int (tag t : Int) (d : Nat) (a1 a2 : Option Addr) (n1 p1 n2 p2 P : Nat) (b : List Nat) (ks : List Nd) (w : World) (R : Value → Int → World → Prop) (hn : NdAt w d (.int .i64 t) (.slice a1 n1 p1) (.slice a2 n2 p2) (.mk t b ks))
    (hcl : t = tag → mixB t b ks = false → ∀ w1, Below w.heap.size w w1 → Calls Tryz.prog 59 #[.pointer (some ⟨P, 0, none⟩)] w1 fun e w2 => (∃ v er, e = .returned (.tuple #[v, .int .i64 er]) ∧ R v er w2) ∧ Below w1.heap.size w1 w2) :
    Calls Tryz.prog 58 #[.agg #[.int .i64 t, .slice a1 n1 p1, .slice a2 n2 p2], .int .i64 tag, .func (.func 59) #[] #[.pointer (some ⟨P, 0, none⟩)]] w fun e w' => AskE t tag (mixB t b ks) (.int .i64 0) R w e w' := by
  have hb0 := keep_alloc w (.cells #[.int .i64 t, .slice a1 n1 p1, .slice a2 n2 p2] 28)
  obtain ⟨x0, x1, x2⟩ := box_cell w (.int .i64 t) (.slice a1 n1 p1) (.slice a2 n2 p2) 28
  by_cases h1 : t = tag
  · have hti : (t != tag) = false := by simpa using h1
    have hmx := mixed_any t d a1 a2 n1 p1 n2 p2 b ks _ (NdAt.below hb0 _ _ _ _ _ hn)
    have H1 := hide h1
    cases hx : mixB t b ks with
    | true =>
      rw [hx] at hmx
      clear hcl hx h1
      go_enter Tryz.func58, Tryz.ntmps58
      go_wp2_with fail
      refine hmx.mono ?_
      rintro e w1 ⟨rfl, hb1⟩
      clear hmx
      go_wp2_with fail
      go_ret2
      exact ⟨.inr (.inl ⟨H1.out, rfl, rfl⟩), keep_trans hb0 hb1⟩
    | false =>
      rw [hx] at hmx
      have hc := hcl h1 hx
      have HC := hide hc
      clear hcl hx h1 hc
      go_enter Tryz.func58, Tryz.ntmps58
      go_wp2_with fail
      refine hmx.mono ?_
      rintro e w1 ⟨rfl, hb1⟩
      clear hmx
      go_wp2_with fail
      refine (HC.out _ (keep_trans hb0 hb1)).mono ?_
      rintro e w2 ⟨⟨v, er, rfl, hR⟩, hb2⟩
      have HR := hide hR
      clear hR
      go_wp2_with fail
      go_ret2
      exact ⟨.inr (.inr ⟨H1.out, rfl, v, er, rfl, HR.out⟩), keep_trans (keep_trans hb0 hb1) hb2⟩
  · have hti : (t != tag) = true := by simpa using h1
    have H1 := hide h1
    clear hcl h1
    go_enter Tryz.func58, Tryz.ntmps58
    go_wp2_with fail
    go_ret2
    exact ⟨.inl ⟨H1.out, rfl⟩, hb0⟩

set_option maxRecDepth 100000 in
set_option maxHeartbeats 2000000 in
theorem ask_time (tag t : Int) (d : Nat) (a1 a2 : Option Addr) (n1 p1 n2 p2 P : Nat) (b : List Nat) (ks : List Nd) (w : World) (R : Value → Int → World → Prop) (hn : NdAt w d (.int .i64 t) (.slice a1 n1 p1) (.slice a2 n2 p2) (.mk t b ks))
    (hcl : t = tag → mixB t b ks = false → ∀ w1, Below w.heap.size w w1 → Calls Tryz.prog 71 #[.pointer (some ⟨P, 0, none⟩)] w1 fun e w2 => (∃ v er, e = .returned (.tuple #[v, .int .i64 er]) ∧ R v er w2) ∧ Below w1.heap.size w1 w2) :
    Calls Tryz.prog 58 #[.agg #[.int .i64 t, .slice a1 n1 p1, .slice a2 n2 p2], .int .i64 tag, .func (.func 71) #[] #[.pointer (some ⟨P, 0, none⟩)]] w fun e w' => AskE t tag (mixB t b ks) (.int .i64 0) R w e w' := by
  have hb0 := keep_alloc w (.cells #[.int .i64 t, .slice a1 n1 p1, .slice a2 n2 p2] 28)
  obtain ⟨x0, x1, x2⟩ := box_cell w (.int .i64 t) (.slice a1 n1 p1) (.slice a2 n2 p2) 28
  by_cases h1 : t = tag
  · have hti : (t != tag) = false := by simpa using h1
    have hmx := mixed_any t d a1 a2 n1 p1 n2 p2 b ks _ (NdAt.below hb0 _ _ _ _ _ hn)
    have H1 := hide h1
    cases hx : mixB t b ks with
    | true =>
      rw [hx] at hmx
      clear hcl hx h1
      go_enter Tryz.func58, Tryz.ntmps58
      go_wp2_with fail
      refine hmx.mono ?_
      rintro e w1 ⟨rfl, hb1⟩
      clear hmx
      go_wp2_with fail
      go_ret2
      exact ⟨.inr (.inl ⟨H1.out, rfl, rfl⟩), keep_trans hb0 hb1⟩
    | false =>
      rw [hx] at hmx
      have hc := hcl h1 hx
      have HC := hide hc
      clear hcl hx h1 hc
      go_enter Tryz.func58, Tryz.ntmps58
      go_wp2_with fail
      refine hmx.mono ?_
      rintro e w1 ⟨rfl, hb1⟩
      clear hmx
      go_wp2_with fail
      refine (HC.out _ (keep_trans hb0 hb1)).mono ?_
      rintro e w2 ⟨⟨v, er, rfl, hR⟩, hb2⟩
      have HR := hide hR
      clear hR
      go_wp2_with fail
      go_ret2
      exact ⟨.inr (.inr ⟨H1.out, rfl, v, er, rfl, HR.out⟩), keep_trans (keep_trans hb0 hb1) hb2⟩
  · have hti : (t != tag) = true := by simpa using h1
    have H1 := hide h1
    clear hcl h1
    go_enter Tryz.func58, Tryz.ntmps58
    go_wp2_with fail
    go_ret2
    exact ⟨.inl ⟨H1.out, rfl⟩, hb0⟩

set_option maxRecDepth 100000 in
set_option maxHeartbeats 2000000 in
theorem ask_bytes (tag t : Int) (d : Nat) (a1 a2 : Option Addr) (n1 p1 n2 p2 P : Nat) (b : List Nat) (ks : List Nd) (w : World) (R : Value → Int → World → Prop) (hn : NdAt w d (.int .i64 t) (.slice a1 n1 p1) (.slice a2 n2 p2) (.mk t b ks))
    (hcl : t = tag → mixB t b ks = false → ∀ w1, Below w.heap.size w w1 → Calls Tryz.prog 64 #[.pointer (some ⟨P, 0, none⟩)] w1 fun e w2 => (∃ v er, e = .returned (.tuple #[v, .int .i64 er]) ∧ R v er w2) ∧ Below w1.heap.size w1 w2) :
    Calls Tryz.prog 63 #[.agg #[.int .i64 t, .slice a1 n1 p1, .slice a2 n2 p2], .int .i64 tag, .func (.func 64) #[] #[.pointer (some ⟨P, 0, none⟩)]] w fun e w' => AskE t tag (mixB t b ks) (.slice none 0 0) R w e w' := by
  have hb0 := keep_alloc w (.cells #[.int .i64 t, .slice a1 n1 p1, .slice a2 n2 p2] 28)
  obtain ⟨x0, x1, x2⟩ := box_cell w (.int .i64 t) (.slice a1 n1 p1) (.slice a2 n2 p2) 28
  by_cases h1 : t = tag
  · have hti : (t != tag) = false := by simpa using h1
    have hmx := mixed_any t d a1 a2 n1 p1 n2 p2 b ks _ (NdAt.below hb0 _ _ _ _ _ hn)
    have H1 := hide h1
    cases hx : mixB t b ks with
    | true =>
      rw [hx] at hmx
      clear hcl hx h1
      go_enter Tryz.func63, Tryz.ntmps63
      go_wp2_with fail
      refine hmx.mono ?_
      rintro e w1 ⟨rfl, hb1⟩
      clear hmx
      go_wp2_with fail
      go_ret2
      exact ⟨.inr (.inl ⟨H1.out, rfl, rfl⟩), keep_trans hb0 hb1⟩
    | false =>
      rw [hx] at hmx
      have hc := hcl h1 hx
      have HC := hide hc
      clear hcl hx h1 hc
      go_enter Tryz.func63, Tryz.ntmps63
      go_wp2_with fail
      refine hmx.mono ?_
      rintro e w1 ⟨rfl, hb1⟩
      clear hmx
      go_wp2_with fail
      refine (HC.out _ (keep_trans hb0 hb1)).mono ?_
      rintro e w2 ⟨⟨v, er, rfl, hR⟩, hb2⟩
      have HR := hide hR
      clear hR
      go_wp2_with fail
      go_ret2
      exact ⟨.inr (.inr ⟨H1.out, rfl, v, er, rfl, HR.out⟩), keep_trans (keep_trans hb0 hb1) hb2⟩
  · have hti : (t != tag) = true := by simpa using h1
    have H1 := hide h1
    clear hcl h1
    go_enter Tryz.func63, Tryz.ntmps63
    go_wp2_with fail
    go_ret2
    exact ⟨.inl ⟨H1.out, rfl⟩, hb0⟩

set_option maxRecDepth 100000 in
set_option maxHeartbeats 2000000 in
theorem ask_utf8 (tag t : Int) (d : Nat) (a1 a2 : Option Addr) (n1 p1 n2 p2 P : Nat) (b : List Nat) (ks : List Nd) (w : World) (R : Value → Int → World → Prop) (hn : NdAt w d (.int .i64 t) (.slice a1 n1 p1) (.slice a2 n2 p2) (.mk t b ks))
    (hcl : t = tag → mixB t b ks = false → ∀ w1, Below w.heap.size w w1 → Calls Tryz.prog 66 #[.pointer (some ⟨P, 0, none⟩)] w1 fun e w2 => (∃ v er, e = .returned (.tuple #[v, .int .i64 er]) ∧ R v er w2) ∧ Below w1.heap.size w1 w2) :
    Calls Tryz.prog 65 #[.agg #[.int .i64 t, .slice a1 n1 p1, .slice a2 n2 p2], .int .i64 tag, .func (.func 66) #[] #[.pointer (some ⟨P, 0, none⟩)]] w fun e w' => AskE t tag (mixB t b ks) (str []) R w e w' := by
  have hb0 := keep_alloc w (.cells #[.int .i64 t, .slice a1 n1 p1, .slice a2 n2 p2] 28)
  obtain ⟨x0, x1, x2⟩ := box_cell w (.int .i64 t) (.slice a1 n1 p1) (.slice a2 n2 p2) 28
  by_cases h1 : t = tag
  · have hti : (t != tag) = false := by simpa using h1
    have hmx := mixed_any t d a1 a2 n1 p1 n2 p2 b ks _ (NdAt.below hb0 _ _ _ _ _ hn)
    have H1 := hide h1
    cases hx : mixB t b ks with
    | true =>
      rw [hx] at hmx
      clear hcl hx h1
      go_enter Tryz.func65, Tryz.ntmps65
      go_wp2_with fail
      refine hmx.mono ?_
      rintro e w1 ⟨rfl, hb1⟩
      clear hmx
      go_wp2_with fail
      go_ret2
      exact ⟨.inr (.inl ⟨H1.out, rfl, rfl⟩), keep_trans hb0 hb1⟩
    | false =>
      rw [hx] at hmx
      have hc := hcl h1 hx
      have HC := hide hc
      clear hcl hx h1 hc
      go_enter Tryz.func65, Tryz.ntmps65
      go_wp2_with fail
      refine hmx.mono ?_
      rintro e w1 ⟨rfl, hb1⟩
      clear hmx
      go_wp2_with fail
      refine (HC.out _ (keep_trans hb0 hb1)).mono ?_
      rintro e w2 ⟨⟨v, er, rfl, hR⟩, hb2⟩
      have HR := hide hR
      clear hR
      go_wp2_with fail
      go_ret2
      exact ⟨.inr (.inr ⟨H1.out, rfl, v, er, rfl, HR.out⟩), keep_trans (keep_trans hb0 hb1) hb2⟩
  · have hti : (t != tag) = true := by simpa using h1
    have H1 := hide h1
    clear hcl h1
    go_enter Tryz.func65, Tryz.ntmps65
    go_wp2_with fail
    go_ret2
    exact ⟨.inl ⟨H1.out, rfl⟩, hb0⟩

set_option maxRecDepth 100000 in
set_option maxHeartbeats 2000000 in
theorem ask_id (tag t : Int) (d : Nat) (a1 a2 : Option Addr) (n1 p1 n2 p2 P : Nat) (b : List Nat) (ks : List Nd) (w : World) (R : Value → Int → World → Prop) (hn : NdAt w d (.int .i64 t) (.slice a1 n1 p1) (.slice a2 n2 p2) (.mk t b ks))
    (hcl : t = tag → mixB t b ks = false → ∀ w1, Below w.heap.size w w1 → Calls Tryz.prog 68 #[.pointer (some ⟨P, 0, none⟩)] w1 fun e w2 => (∃ v er, e = .returned (.tuple #[v, .int .i64 er]) ∧ R v er w2) ∧ Below w1.heap.size w1 w2) :
    Calls Tryz.prog 67 #[.agg #[.int .i64 t, .slice a1 n1 p1, .slice a2 n2 p2], .int .i64 tag, .func (.func 68) #[] #[.pointer (some ⟨P, 0, none⟩)]] w fun e w' => AskE t tag (mixB t b ks) (.slice none 0 0) R w e w' := by
  have hb0 := keep_alloc w (.cells #[.int .i64 t, .slice a1 n1 p1, .slice a2 n2 p2] 28)
  obtain ⟨x0, x1, x2⟩ := box_cell w (.int .i64 t) (.slice a1 n1 p1) (.slice a2 n2 p2) 28
  by_cases h1 : t = tag
  · have hti : (t != tag) = false := by simpa using h1
    have hmx := mixed_any t d a1 a2 n1 p1 n2 p2 b ks _ (NdAt.below hb0 _ _ _ _ _ hn)
    have H1 := hide h1
    cases hx : mixB t b ks with
    | true =>
      rw [hx] at hmx
      clear hcl hx h1
      go_enter Tryz.func67, Tryz.ntmps67
      go_wp2_with fail
      refine hmx.mono ?_
      rintro e w1 ⟨rfl, hb1⟩
      clear hmx
      go_wp2_with fail
      go_ret2
      exact ⟨.inr (.inl ⟨H1.out, rfl, rfl⟩), keep_trans hb0 hb1⟩
    | false =>
      rw [hx] at hmx
      have hc := hcl h1 hx
      have HC := hide hc
      clear hcl hx h1 hc
      go_enter Tryz.func67, Tryz.ntmps67
      go_wp2_with fail
      refine hmx.mono ?_
      rintro e w1 ⟨rfl, hb1⟩
      clear hmx
      go_wp2_with fail
      refine (HC.out _ (keep_trans hb0 hb1)).mono ?_
      rintro e w2 ⟨⟨v, er, rfl, hR⟩, hb2⟩
      have HR := hide hR
      clear hR
      go_wp2_with fail
      go_ret2
      exact ⟨.inr (.inr ⟨H1.out, rfl, v, er, rfl, HR.out⟩), keep_trans (keep_trans hb0 hb1) hb2⟩
  · have hti : (t != tag) = true := by simpa using h1
    have H1 := hide h1
    clear hcl h1
    go_enter Tryz.func67, Tryz.ntmps67
    go_wp2_with fail
    go_ret2
    exact ⟨.inl ⟨H1.out, rfl⟩, hb0⟩

set_option maxRecDepth 100000 in
set_option maxHeartbeats 2000000 in
theorem ask_kids (tag t : Int) (d : Nat) (a1 a2 : Option Addr) (n1 p1 n2 p2 P : Nat) (b : List Nat) (ks : List Nd) (w : World) (R : Value → Int → World → Prop) (hn : NdAt w d (.int .i64 t) (.slice a1 n1 p1) (.slice a2 n2 p2) (.mk t b ks))
    (hcl : t = tag → mixB t b ks = false → ∀ w1, Below w.heap.size w w1 → Calls Tryz.prog 83 #[.pointer (some ⟨P, 0, none⟩)] w1 fun e w2 => (∃ v er, e = .returned (.tuple #[v, .int .i64 er]) ∧ R v er w2) ∧ Below w1.heap.size w1 w2) :
    Calls Tryz.prog 82 #[.agg #[.int .i64 t, .slice a1 n1 p1, .slice a2 n2 p2], .int .i64 tag, .func (.func 83) #[] #[.pointer (some ⟨P, 0, none⟩)]] w fun e w' => AskE t tag (mixB t b ks) (.slice none 0 0) R w e w' := by
  have hb0 := keep_alloc w (.cells #[.int .i64 t, .slice a1 n1 p1, .slice a2 n2 p2] 28)
  obtain ⟨x0, x1, x2⟩ := box_cell w (.int .i64 t) (.slice a1 n1 p1) (.slice a2 n2 p2) 28
  by_cases h1 : t = tag
  · have hti : (t != tag) = false := by simpa using h1
    have hmx := mixed_any t d a1 a2 n1 p1 n2 p2 b ks _ (NdAt.below hb0 _ _ _ _ _ hn)
    have H1 := hide h1
    cases hx : mixB t b ks with
    | true =>
      rw [hx] at hmx
      clear hcl hx h1
      go_enter Tryz.func82, Tryz.ntmps82
      go_wp2_with fail
      refine hmx.mono ?_
      rintro e w1 ⟨rfl, hb1⟩
      clear hmx
      go_wp2_with fail
      go_ret2
      exact ⟨.inr (.inl ⟨H1.out, rfl, rfl⟩), keep_trans hb0 hb1⟩
    | false =>
      rw [hx] at hmx
      have hc := hcl h1 hx
      have HC := hide hc
      clear hcl hx h1 hc
      go_enter Tryz.func82, Tryz.ntmps82
      go_wp2_with fail
      refine hmx.mono ?_
      rintro e w1 ⟨rfl, hb1⟩
      clear hmx
      go_wp2_with fail
      refine (HC.out _ (keep_trans hb0 hb1)).mono ?_
      rintro e w2 ⟨⟨v, er, rfl, hR⟩, hb2⟩
      have HR := hide hR
      clear hR
      go_wp2_with fail
      go_ret2
      exact ⟨.inr (.inr ⟨H1.out, rfl, v, er, rfl, HR.out⟩), keep_trans (keep_trans hb0 hb1) hb2⟩
  · have hti : (t != tag) = true := by simpa using h1
    have H1 := hide h1
    clear hcl h1
    go_enter Tryz.func82, Tryz.ntmps82
    go_wp2_with fail
    go_ret2
    exact ⟨.inl ⟨H1.out, rfl⟩, hb0⟩
end Go.Proofs.YtlddpjcacnahmaaGreatDoor
