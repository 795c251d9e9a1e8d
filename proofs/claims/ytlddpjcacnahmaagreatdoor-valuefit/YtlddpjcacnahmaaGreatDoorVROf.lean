/- What a value is, by the document: BytesOf, Utf8Of, IdOf, TimeOf. -/
import Derived.Test.YtlddpjcacnahmaaGreatDoorVCop
import Derived.Test.YtlddpjcacnahmaaGreatDoorBase
import Derived.Test.YtlddpjcacnahmaaGreatDoorNum
import Derived.Test.YtlddpjcacnahmaaGreatDoorDFit
namespace Go.Proofs.YtlddpjcacnahmaaGreatDoor
open Go.RowKit Go.Deep
set_option linter.unusedVariables false
set_option linter.unusedSimpArgs false

/-- a value's cells and parts -/
theorem NdAt.open {w : World} {d : Nat} {c0 c1 c2 : Value} {x : Nd} (h : NdAt w d c0 c1 c2 x) {N : Nat} (hs : szF d x ≤ N) : ∃ t a1 n1 p1 a2 n2 p2 b ks, c0 = .int .i64 t ∧ c1 = .slice a1 n1 p1 ∧ c2 = .slice a2 n2 p2 ∧ x = .mk t b ks ∧ b.length ≤ N ∧ Row .u8 256 w (.slice a1 n1 p1) b := by
  cases d with
  | zero => exact h.elim
  | succ d =>
    obtain ⟨t, b, ks⟩ := x
    obtain ⟨rfl, ht, hr, _, _, a2, p2, rfl, _⟩ := h
    have hr' := hr
    obtain ⟨a1, p1, rfl, _⟩ := hr'
    rw [szF] at hs
    exact ⟨t, _, _, _, _, _, _, b, ks, rfl, rfl, rfl, rfl, by omega, hr⟩
/-- a value's bytes, if they are those of a tag -/
def byO (FB : Int → List Nat → Bool) (tag : Int) : Nd → List Nat
  | .mk t b ks => if codN FB tag (.mk t b ks) = 0 then b else []
theorem byO_ok {FB : Int → List Nat → Bool} {tag t : Int} {b : List Nat} {ks : List Nd} (h : codN FB tag (.mk t b ks) = 0) : byO FB tag (.mk t b ks) = b := by rw [byO, if_pos h]
theorem byO_no {FB : Int → List Nat → Bool} {tag t : Int} {b : List Nat} {ks : List Nd} (h : codN FB tag (.mk t b ks) ≠ 0) : byO FB tag (.mk t b ks) = [] := by rw [byO, if_neg h]
/-- an identifier, if a value is one -/
def idO (FB : Int → List Nat → Bool) (x : Nd) : List Nat := (parR (byO FB 6 x)).getD []
/-- a time, if a value is one -/
def TimO (FB : Int → List Nat → Bool) (x : Nd) (v : Int) : Prop := (codN FB 24 x = 0 ∧ ReadT (bts (byO FB 24 x)) v 0) ∨ (codN FB 24 x ≠ 0 ∧ v = 0)
theorem TimO.same {FB : Int → List Nat → Bool} {x : Nd} {v u : Int} (h : TimO FB x v) (h' : TimO FB x u) : v = u := by
  rcases h with ⟨h1, h2⟩ | ⟨h1, h2⟩ <;> rcases h' with ⟨k1, k2⟩ | ⟨k1, k2⟩
  · exact (ReadT.same h2 k2).1
  · exact absurd h1 k1
  · exact absurd k1 h1
  · rw [h2, k2]
def BofE (FB : Int → List Nat → Bool) (x : Nd) (w : World) (e : Ending) (w' : World) : Prop := (∃ a n c, e = .returned (.tuple #[.slice a n c, .int .i64 (codN FB 4 x)]) ∧ Row .u8 256 w' (.slice a n c) (byO FB 4 x)) ∧ Below w.heap.size w w'
def UofE (FB : Int → List Nat → Bool) (x : Nd) (w : World) (e : Ending) (w' : World) : Prop := e = .returned (.tuple #[str (bts (byO FB 12 x)), .int .i64 (codN FB 12 x)]) ∧ Below w.heap.size w w'
def OofE (FB : Int → List Nat → Bool) (x : Nd) (w : World) (e : Ending) (w' : World) : Prop := (∃ a n c, e = .returned (.tuple #[.slice a n c, .int .i64 (codN FB 6 x)]) ∧ Row .u32 4294967296 w' (.slice a n c) (idO FB x)) ∧ Below w.heap.size w w'
def TofE (FB : Int → List Nat → Bool) (x : Nd) (w : World) (e : Ending) (w' : World) : Prop := (∃ v, e = .returned (.tuple #[.int .i64 v, .int .i64 (codN FB 24 x)]) ∧ TimO FB x v) ∧ Below w.heap.size w w'
theorem conv_nil (w : World) : (convert 22 9 (.slice none 0 0)).run Tryz.prog w = .ok (str []) w := conv_row (l := []) (Row.nil _ _ _)
theorem par_nil : (parR []).getD [] = [] := by decide

set_option maxRecDepth 100000 in
set_option maxHeartbeats 2000000 in
theorem rbytesOf_any (FB : Int → List Nat → Bool) (hFB : FBok FB) (d : Nat) (c0 c1 c2 : Value) (x : Nd) (w : World) (hn : NdAt w d c0 c1 c2 x) (hl : szF d x ≤ 10000) :
    Calls Tryz.prog 25 #[.agg #[c0, c1, c2]] w fun e w' => BofE FB x w e w' := by
  obtain ⟨t, a1, n1, p1, a2, n2, p2, b, ks, rfl, rfl, rfl, rfl, hb, hrb⟩ := hn.open hl
  have hb0 := keep_alloc w (.cells #[.int .i64 t, .slice a1 n1 p1, .slice a2 n2 p2] 28)
  obtain ⟨x0, x1, x2⟩ := box_cell w (.int .i64 t) (.slice a1 n1 p1) (.slice a2 n2 p2) 28
  have hp := rplain_any FB hFB 4 t d a1 a2 n1 p1 n2 p2 b ks _ (NdAt.below hb0 _ _ _ _ _ hn) (by omega)
  go_enter Tryz.func25, Tryz.ntmps25
  go_wp2_with fail
  refine hp.mono ?_
  rintro e w1 ⟨⟨hc, rfl⟩ | ⟨hc, rfl⟩, hb1⟩
  · have HC := hide hc
    clear hp hc
    go_wp2_with fail
    go_ret2
    exact ⟨⟨a1, n1, p1, by rw [HC.out]; rfl, by rw [byO_ok HC.out]; exact hrb.below (keep_trans hb0 hb1)⟩, keep_trans hb0 hb1⟩
  · have HC := hide hc
    clear hp hc
    go_wp2_with fail
    go_ret2
    exact ⟨⟨_, _, _, rfl, by rw [byO_no HC.out]; exact Row.nil _ _ _⟩, keep_trans hb0 hb1⟩

set_option maxRecDepth 100000 in
set_option maxHeartbeats 2000000 in
theorem rutf8Of_any (FB : Int → List Nat → Bool) (hFB : FBok FB) (d : Nat) (c0 c1 c2 : Value) (x : Nd) (w : World) (hn : NdAt w d c0 c1 c2 x) (hl : szF d x ≤ 10000) :
    Calls Tryz.prog 27 #[.agg #[c0, c1, c2]] w fun e w' => UofE FB x w e w' := by
  obtain ⟨t, a1, n1, p1, a2, n2, p2, b, ks, rfl, rfl, rfl, rfl, hb, hrb⟩ := hn.open hl
  have hb0 := keep_alloc w (.cells #[.int .i64 t, .slice a1 n1 p1, .slice a2 n2 p2] 28)
  obtain ⟨x0, x1, x2⟩ := box_cell w (.int .i64 t) (.slice a1 n1 p1) (.slice a2 n2 p2) 28
  have hp := rplain_any FB hFB 12 t d a1 a2 n1 p1 n2 p2 b ks _ (NdAt.below hb0 _ _ _ _ _ hn) (by omega)
  go_enter Tryz.func27, Tryz.ntmps27
  go_wp2_with fail
  refine hp.mono ?_
  rintro e w1 ⟨⟨hc, rfl⟩ | ⟨hc, rfl⟩, hb1⟩
  · have HC := hide hc
    have hcv := conv_row (hrb.below (keep_trans hb0 hb1))
    clear hp hc
    go_wp2_with fail
    go_ret2
    exact ⟨by rw [HC.out, byO_ok HC.out]; rfl, keep_trans hb0 hb1⟩
  · have HC := hide hc
    have hcv := conv_nil w1
    clear hp hc
    go_wp2_with fail
    go_ret2
    exact ⟨by rw [byO_no HC.out]; rfl, keep_trans hb0 hb1⟩

set_option maxRecDepth 100000 in
set_option maxHeartbeats 2000000 in
theorem ridOf_any (FB : Int → List Nat → Bool) (hFB : FBok FB) (d : Nat) (c0 c1 c2 : Value) (x : Nd) (w : World) (hn : NdAt w d c0 c1 c2 x) (hl : szF d x ≤ 10000) :
    Calls Tryz.prog 29 #[.agg #[c0, c1, c2]] w fun e w' => OofE FB x w e w' := by
  obtain ⟨t, a1, n1, p1, a2, n2, p2, b, ks, rfl, rfl, rfl, rfl, hb, hrb⟩ := hn.open hl
  have hb0 := keep_alloc w (.cells #[.int .i64 t, .slice a1 n1 p1, .slice a2 n2 p2] 28)
  obtain ⟨x0, x1, x2⟩ := box_cell w (.int .i64 t) (.slice a1 n1 p1) (.slice a2 n2 p2) 28
  have hp := rplain_any FB hFB 6 t d a1 a2 n1 p1 n2 p2 b ks _ (NdAt.below hb0 _ _ _ _ _ hn) (by omega)
  go_enter Tryz.func29, Tryz.ntmps29
  go_wp2_with fail
  refine hp.mono ?_
  rintro e w1 ⟨⟨hc, rfl⟩ | ⟨hc, rfl⟩, hb1⟩
  · have HC := hide hc
    have hpar := rparse_any _ b w1 (hrb.below (keep_trans hb0 hb1)) (by omega)
    have HS : Hid ((parR b).isSome = true) := hide ((fitp_6 b).1 ((hFB 6 b).1 (cod_zero hc).2.2))
    clear hp hc
    go_wp2_with fail
    refine hpar.mono ?_
    rintro e w2 ⟨⟨u, rfl, hru⟩, hb2⟩
    rw [HS.out]
    obtain ⟨ua, uc, rfl⟩ : ∃ a c, u = .slice a ((parR b).getD []).length c := by obtain ⟨a, c, h, _⟩ := hru; exact ⟨a, c, h⟩
    clear hpar
    go_wp2_with fail
    go_ret2
    exact ⟨⟨_, _, _, by rw [HC.out]; rfl, by unfold idO; rw [byO_ok HC.out]; exact hru⟩, keep_trans (keep_trans hb0 hb1) hb2⟩
  · have HC := hide hc
    have hci : (codN FB 6 (.mk t b ks) != 0) = true := by simpa using hc
    clear hp hc
    go_wp2_with fail
    go_ret2
    exact ⟨⟨_, _, _, rfl, by unfold idO; rw [byO_no HC.out, par_nil]; exact Row.nil _ _ _⟩, keep_trans hb0 hb1⟩

set_option maxRecDepth 100000 in
set_option maxHeartbeats 2000000 in
theorem rtimeOf_any (FB : Int → List Nat → Bool) (hFB : FBok FB) (d : Nat) (c0 c1 c2 : Value) (x : Nd) (w : World) (hn : NdAt w d c0 c1 c2 x) (hl : szF d x ≤ 10000) :
    Calls Tryz.prog 31 #[.agg #[c0, c1, c2]] w fun e w' => TofE FB x w e w' := by
  obtain ⟨t, a1, n1, p1, a2, n2, p2, b, ks, rfl, rfl, rfl, rfl, hb, hrb⟩ := hn.open hl
  have hb0 := keep_alloc w (.cells #[.int .i64 t, .slice a1 n1 p1, .slice a2 n2 p2] 28)
  obtain ⟨x0, x1, x2⟩ := box_cell w (.int .i64 t) (.slice a1 n1 p1) (.slice a2 n2 p2) 28
  have hp := rplain_any FB hFB 24 t d a1 a2 n1 p1 n2 p2 b ks _ (NdAt.below hb0 _ _ _ _ _ hn) (by omega)
  go_enter Tryz.func31, Tryz.ntmps31
  go_wp2_with fail
  refine hp.mono ?_
  rintro e w1 ⟨⟨hc, rfl⟩ | ⟨hc, rfl⟩, hb1⟩
  · have HC := hide hc
    have hcv := conv_row (hrb.below (keep_trans hb0 hb1))
    have hrd := srread_any (bts b) w1 (by unfold bts; rw [List.length_map]; omega)
    have HS : Hid (TimeP (bts b)) := hide ((fitp_24 b).1 ((hFB 24 b).1 (cod_zero hc).2.2))
    clear hp hc
    go_wp2_with fail
    refine hrd.mono ?_
    rintro e w2 ⟨⟨v, c, rfl, hR⟩, rfl⟩
    have hc0 : c = 0 := by simpa using (read_time hR).1 HS.out
    subst hc0
    have HR := hide hR
    clear hrd hcv hR
    go_wp2_with fail
    go_ret2
    exact ⟨⟨v, by rw [HC.out]; rfl, .inl ⟨HC.out, by rw [byO_ok HC.out]; exact HR.out⟩⟩, keep_trans hb0 hb1⟩
  · have HC := hide hc
    have hci : (codN FB 24 (.mk t b ks) != 0) = true := by simpa using hc
    clear hp hc
    go_wp2_with fail
    go_ret2
    exact ⟨⟨0, rfl, .inr ⟨HC.out, rfl⟩⟩, keep_trans hb0 hb1⟩
end Go.Proofs.YtlddpjcacnahmaaGreatDoor

/- Plain facts for numbers as values: twos' complement, as few bytes as do. -/
namespace Go.Proofs.YtlddpjcacnahmaaGreatDoor
set_option linter.unusedVariables false
set_option linter.unusedSimpArgs false

/-- the number of bytes, the highest first -/
def numV : List Nat → Nat
  | [] => 0
  | x :: l => x * 256 ^ l.length + numV l
/-- the number of bytes by twos' complement -/
def tcV : List Nat → Int
  | [] => 0
  | x :: l => (numV (x :: l) : Int) - (if 128 ≤ x then (256 : Int) ^ (l.length + 1) else 0)
/-- as few bytes as do -/
def intF : List Nat → Prop
  | [] => False
  | [_] => True
  | x :: y :: _ => ¬ (x = 0 ∧ y < 128) ∧ ¬ (x = 255 ∧ 128 ≤ y)
theorem numV_lt : ∀ (l : List Nat), Under 256 l → numV l < 256 ^ l.length
  | [], _ => by simp [numV]
  | x :: l, h => by
    have h1 := numV_lt l (fun y hy => h y (List.mem_cons_of_mem _ hy))
    have h2 : x < 256 := h x (List.mem_cons_self ..)
    rw [numV, List.length_cons, Nat.pow_succ]
    have h3 : x * 256 ^ l.length ≤ 255 * 256 ^ l.length := Nat.mul_le_mul_right _ (by omega)
    omega
theorem numV_inj : ∀ (l m : List Nat), Under 256 l → Under 256 m → l.length = m.length → numV l = numV m → l = m
  | [], [], _, _, _, _ => rfl
  | [], _ :: _, _, _, h, _ => by simp at h
  | _ :: _, [], _, _, h, _ => by simp at h
  | x :: l, y :: m, hl, hm, hlen, h => by
    have hl' : Under 256 l := fun z hz => hl z (List.mem_cons_of_mem _ hz)
    have hm' : Under 256 m := fun z hz => hm z (List.mem_cons_of_mem _ hz)
    have hlen' : l.length = m.length := by simpa using hlen
    have h1 := numV_lt l hl'
    have h2 := numV_lt m hm'
    rw [numV, numV, hlen'] at h
    rw [hlen'] at h1
    have hp : 0 < 256 ^ m.length := Nat.pow_pos (by omega)
    have hxy : x = y := by
      have e1 : (x * 256 ^ m.length + numV l) / 256 ^ m.length = x := by
        rw [Nat.mul_comm, Nat.mul_add_div hp, Nat.div_eq_of_lt h1, Nat.add_zero]
      have e2 : (y * 256 ^ m.length + numV m) / 256 ^ m.length = y := by
        rw [Nat.mul_comm, Nat.mul_add_div hp, Nat.div_eq_of_lt h2, Nat.add_zero]
      rw [h] at e1
      exact e1.symm.trans e2
    subst hxy
    rw [numV_inj l m hl' hm' hlen' (by omega)]
theorem powI (k : Nat) : (256 : Int) ^ k = ((256 ^ k : Nat) : Int) := by rw [Int.natCast_pow]; rfl
/-- a byte too many ahead does not change the number -/
theorem tcV_drop (x y : Nat) (l : List Nat) (h : ¬ (¬ (x = 0 ∧ y < 128) ∧ ¬ (x = 255 ∧ 128 ≤ y))) : tcV (x :: y :: l) = tcV (y :: l) := by
  have h' : (x = 0 ∧ y < 128) ∨ (x = 255 ∧ 128 ≤ y) := by omega
  rcases h' with ⟨rfl, hy⟩ | ⟨rfl, hy⟩
  · rw [tcV, tcV, if_neg (by omega), if_neg (by omega), numV]
    simp
  · rw [tcV, tcV, if_pos (by omega), if_pos hy, numV]
    simp only [List.length_cons]
    rw [powI, powI, Nat.pow_succ 256 (l.length + 1)]
    generalize 256 ^ (l.length + 1) = P
    generalize numV (y :: l) = v
    omega
/-- of n bytes the number lies in n bytes' bounds -/
theorem tcV_bounds (x : Nat) (l : List Nat) (h : Under 256 (x :: l)) : -(128 * (256 : Int) ^ l.length) ≤ tcV (x :: l) ∧ tcV (x :: l) < 128 * (256 : Int) ^ l.length := by
  have h1 := numV_lt l (fun y hy => h y (List.mem_cons_of_mem _ hy))
  have h2 : x < 256 := h x (List.mem_cons_self ..)
  have hp : 0 < 256 ^ l.length := Nat.pow_pos (by omega)
  rw [tcV, numV, powI, powI, Nat.pow_succ]
  generalize 256 ^ l.length = P at *
  generalize numV l = v at *
  by_cases hx : 128 ≤ x
  · rw [if_pos hx]
    have a1 : 128 * P ≤ x * P := Nat.mul_le_mul_right _ hx
    have a2 : x * P ≤ 255 * P := Nat.mul_le_mul_right _ (by omega)
    generalize x * P = Q at *
    omega
  · rw [if_neg hx]
    have a2 : x * P ≤ 127 * P := Nat.mul_le_mul_right _ (by omega)
    generalize x * P = Q at *
    omega
/-- as few bytes as do, and more than one: the number lies beyond the bounds of one byte fewer -/
theorem tcV_far (x y : Nat) (l : List Nat) (h : Under 256 (x :: y :: l)) (hf : intF (x :: y :: l)) : tcV (x :: y :: l) < -(128 * (256 : Int) ^ l.length) ∨ 128 * (256 : Int) ^ l.length ≤ tcV (x :: y :: l) := by
  have h1 := numV_lt l (fun z hz => h z (List.mem_cons_of_mem _ (List.mem_cons_of_mem _ hz)))
  have h2 : x < 256 := h x (List.mem_cons_self ..)
  have h3 : y < 256 := h y (List.mem_cons_of_mem _ (List.mem_cons_self ..))
  have hp : 0 < 256 ^ l.length := Nat.pow_pos (by omega)
  rw [intF] at hf
  rw [tcV, numV, numV, powI, powI]
  simp only [List.length_cons, Nat.pow_succ]
  generalize 256 ^ l.length = P at *
  generalize numV l = v at *
  have e1 : x * (P * 256) = 256 * (x * P) := by rw [← Nat.mul_assoc]; omega
  rw [e1]
  have a3 : y * P ≤ 255 * P := Nat.mul_le_mul_right _ (by omega)
  by_cases hx : 128 ≤ x
  · rw [if_pos hx]
    left
    by_cases hx5 : x = 255
    · subst hx5
      have hy : y ≤ 127 := by omega
      have a2 : y * P ≤ 127 * P := Nat.mul_le_mul_right _ hy
      generalize y * P = R at *
      omega
    · have a1 : x * P ≤ 254 * P := Nat.mul_le_mul_right _ (by omega)
      generalize x * P = Q at *
      generalize y * P = R at *
      omega
  · rw [if_neg hx]
    right
    by_cases hx0 : x = 0
    · subst hx0
      have hy : 128 ≤ y := by omega
      have a2 : 128 * P ≤ y * P := Nat.mul_le_mul_right _ hy
      generalize y * P = R at *
      omega
    · have a1 : 1 * P ≤ x * P := Nat.mul_le_mul_right _ (by omega)
      generalize x * P = Q at *
      generalize y * P = R at *
      omega
theorem pow_le {a b : Nat} (h : a ≤ b) : (256 : Int) ^ a ≤ (256 : Int) ^ b := by
  rw [powI, powI]
  have := Nat.pow_le_pow_right (n := 256) (by omega) h
  omega
/-- a shorter one of few bytes has another number -/
theorem tcV_short {l m : List Nat} (hl : Under 256 l) (hm : Under 256 m) (h0 : l ≠ []) (hf : intF m) (hlt : l.length < m.length) : tcV l ≠ tcV m := by
  match l, m, h0, hlt with
  | x :: l, y :: z :: m, _, hlt =>
    have h1 := tcV_bounds x l hl
    have h2 := tcV_far y z m hm hf
    have h3 : l.length ≤ m.length := by simp only [List.length_cons] at hlt; omega
    have h4 := pow_le h3
    omega
/-- one number, one way of as few bytes as do -/
theorem tcV_inj {l m : List Nat} (hl : Under 256 l) (hm : Under 256 m) (fl : intF l) (fm : intF m) (h : tcV l = tcV m) : l = m := by
  have nl : l ≠ [] := fun e => by rw [e] at fl; exact fl
  have nm : m ≠ [] := fun e => by rw [e] at fm; exact fm
  by_cases h1 : l.length < m.length
  · exact absurd h (tcV_short hl hm nl fm h1)
  by_cases h2 : m.length < l.length
  · exact absurd h.symm (tcV_short hm hl nm fl h2)
  have he : l.length = m.length := by omega
  match l, m, nl, nm, he with
  | x :: l, y :: m, _, _, he =>
    apply numV_inj _ _ hl hm he
    have e' : l.length = m.length := by simpa using he
    have b1 := numV_lt _ hl
    have b2 := numV_lt _ hm
    have c1 : x < 256 := hl x (List.mem_cons_self ..)
    have c2 : y < 256 := hm y (List.mem_cons_self ..)
    have d1 := numV_lt l (fun z hz => hl z (List.mem_cons_of_mem _ hz))
    have d2 := numV_lt m (fun z hz => hm z (List.mem_cons_of_mem _ hz))
    rw [tcV, tcV, powI, powI, e'] at h
    simp only [List.length_cons] at b1 b2
    rw [e'] at b1 d1
    generalize hP : 256 ^ (m.length + 1) = P at *
    generalize numV (x :: l) = u at *
    generalize numV (y :: m) = v at *
    split at h <;> split at h <;> omega
end Go.Proofs.YtlddpjcacnahmaaGreatDoor

/- Numbers as values: the plain facts of ValM beside the words of bits and der. -/
namespace Go.Proofs.YtlddpjcacnahmaaGreatDoor
set_option linter.unusedVariables false
set_option linter.unusedSimpArgs false

theorem intB_iff : ∀ (b : List Nat), intB b = true ↔ intF b
  | [] => by simp [intB, intF]
  | [x] => by simp [intB, intF]
  | x :: y :: l => by
    have h : ¬ (x :: y :: l).length < 2 := by simp
    unfold intB intF
    rw [if_neg h]
    simp [el]
    omega
theorem numV_snoc : ∀ (l : List Nat) (x : Nat), numV (l ++ [x]) = numV l * 256 + x
  | [], x => by simp [numV]
  | y :: l, x => by
    rw [List.cons_append, numV, numV, numV_snoc l x, List.length_append, List.length_singleton, Nat.pow_succ, Nat.add_mul, Nat.mul_assoc]
    omega
/-- the number that bits tells, of any bytes -/
theorem numL_is (l : List Nat) : numL l = numV l % 18446744073709551616 := by
  have h : ∀ (k : Nat), k ≤ l.length → numL (l.take k) = numV (l.take k) % 18446744073709551616 := by
    intro k
    induction k with
    | zero => intro _; simp [numL, numV]
    | succ k ih =>
      intro hk
      rw [take_snoc (by omega), numL_snoc, numV_snoc, ih (by omega)]
      omega
  have := h l.length (Nat.le_refl _)
  rwa [List.take_length] at this
/-- the bytes of a number, the highest first -/
theorem numV_digits (n : Nat) : ∀ (k : Nat), numV ((List.range k).map (fun t => n / 256 ^ t % 256)).reverse = n % 256 ^ k
  | 0 => by simp [numV, Nat.mod_one]
  | k + 1 => by
    rw [List.range_succ, List.map_append, List.reverse_append, List.map_singleton, List.reverse_singleton, List.singleton_append, numV, numV_digits n k, List.length_reverse, List.length_map, List.length_range, Nat.mod_pow_succ]
    rw [Nat.mul_comm]
    omega
/-- the eight bytes of a number of 64 bits by twos' complement are it -/
theorem tcV_eight (n : Int) (l : List Nat) (hl : l.length = 8) (hu : Under 256 l) (h1 : -9223372036854775808 ≤ n) (h2 : n < 9223372036854775808) (hv : (numV l : Int) = n % 18446744073709551616) : tcV l = n := by
  match l, hl with
  | x :: l, hl =>
    have hl7 : l.length = 7 := by simpa using hl
    have d1 := numV_lt l (fun z hz => hu z (List.mem_cons_of_mem _ hz))
    rw [hl7] at d1
    have hx : x < 256 := hu x (List.mem_cons_self ..)
    rw [tcV, hl7]
    have e : numV (x :: l) = x * 72057594037927936 + numV l := by rw [numV, hl7]
    have p8 : (256 : Int) ^ (7 + 1) = 18446744073709551616 := by decide
    have p7 : 256 ^ 7 = 72057594037927936 := by decide
    rw [p8]
    rw [p7] at d1
    rw [e] at hv ⊢
    split <;> omega
end Go.Proofs.YtlddpjcacnahmaaGreatDoor

/- Contract of bits.Le. -/
namespace Go.Proofs.YtlddpjcacnahmaaGreatDoor
open Go.RowKit
set_option linter.unusedVariables false

/-- the bytes of a number, the lowest first -/
def leL (n size : Nat) : List Nat := (List.range size).map (fun i => n / 256 ^ i % 256)
def leTo (n size k : Nat) : List Nat := (List.range size).map (fun i => if i < k then n / 256 ^ i % 256 else 0)

theorem leTo_zero (n size : Nat) : leTo n size 0 = List.replicate size 0 := by
  apply List.ext_getElem <;> simp [leTo]
theorem leTo_length (n size k : Nat) : (leTo n size k).length = size := by simp [leTo]
theorem leTo_set (n size k : Nat) : (leTo n size k).set k (n / 256 ^ k % 256) = leTo n size (k + 1) := by
  apply List.ext_getElem
  · simp [leTo]
  · intro i h1 h2
    simp only [leTo, List.getElem_set, List.getElem_map, List.getElem_range]
    by_cases h : k = i
    · subst h; simp
    · simp [h]; by_cases h3 : i < k
      · simp [h3, show i < k + 1 by omega]
      · simp [h3, show ¬ i < k + 1 by omega]
theorem leTo_full (n size k : Nat) (hn : n < 18446744073709551616) (h : k = size ∨ 8 ≤ k) : leTo n size k = leL n size := by
  unfold leTo leL
  apply List.map_congr_left
  intro i hi
  have hi' : i < size := List.mem_range.1 hi
  by_cases h1 : i < k
  · simp [h1]
  · have h8 : 8 ≤ i := by omega
    have h3 : 256 ^ 8 ≤ 256 ^ i := Nat.pow_le_pow_right (by decide) h8
    have h4 : (256 : Nat) ^ 8 = 18446744073709551616 := by decide
    rw [Nat.div_eq_of_lt (by omega)]
    simp
theorem leTo_under (n size k : Nat) : Under 256 (leTo n size k) := by
  intro x hx
  obtain ⟨i, _, rfl⟩ := List.mem_map.1 hx
  split <;> omega

theorem byte_shr (n k : Nat) : (n : Int) / 2 ^ (8 * k) % 256 = ((n / 256 ^ k % 256 : Nat) : Int) := by
  rw [show (256 : Nat) ^ k = 2 ^ (8 * k) from by rw [Nat.pow_mul]]
  simp

/-- what Le tells -/
def leS (n : Nat) (size : Int) : List Nat := if size ≤ 0 ∨ 65536 < size then [] else leL n size.toNat

set_option maxHeartbeats 400000 in
set_option maxRecDepth 100000 in
theorem le_any (n : Nat) (size : Int) (w : World) (hn : n < 18446744073709551616) (hs0 : -9223372036854775808 ≤ size) (hs1 : size ≤ 9223372036854775807) :
    Calls Tryz.prog 95 #[.int .u64 n, .int .i64 size] w fun e w' => ∃ v, e = .returned v ∧ Own 5 .u8 256 w' w.heap.size v (leS n size) ∧ Below w.heap.size w w' := by
  by_cases h0 : size ≤ 0
  · have hS : leS n size = [] := by unfold leS; rw [if_pos (by omega)]
    rw [hS]
    clear hS
    go_enter Tryz.func95, Tryz.ntmps95
    go_wp2
    go_ret
    exact ⟨_, rfl, ⟨World.ownsRow_nil _ _ _ _, fun x hx => by simp at hx⟩, Below.refl _ _⟩
  by_cases h1 : 65536 < size
  · have hS : leS n size = [] := by unfold leS; rw [if_pos (by omega)]
    rw [hS]
    clear hS
    go_enter Tryz.func95, Tryz.ntmps95
    go_wp2
    go_ret
    exact ⟨_, rfl, ⟨World.ownsRow_nil _ _ _ _, fun x hx => by simp at hx⟩, Below.refl _ _⟩
  have hS : leS n size = leL n size.toNat := by unfold leS; rw [if_neg (by omega)]
  rw [hS]
  clear hS
  obtain ⟨N, rfl⟩ := Int.eq_ofNat_of_zero_le (show 0 ≤ size by omega)
  rw [Int.toNat_natCast]
  obtain ⟨i0, hi, hz0, hz1, hz2⟩ := info_parts Tryz.info5
  have hNN : N ≤ 65536 := by omega
  by_cases h8 : (8 : Int) < (N : Int)
  all_goals
    go_enter Tryz.func95, Tryz.ntmps95
    go_wp2_with (first | (at_make; refine wpList_make_full _ rfl _ _ 22 rfl w.heap.size 5 i0 (.int .u8 0) 1 Tryz.underlying22 hi hz0 hz1 _ _ _ _ N rfl rfl rfl rfl (by rw [hz2]; omega) (by unfold maxLen; omega) (Nat.le_refl _) ?_; intro w1 hown hgrow) | go_in)
    rw [made_u8] at hown
    have hb := (Below.refl w.heap.size w).grown hgrow (Nat.le_refl _) (fun k h => by cases h)
    clear hgrow
    go_loopw [17] (fun i wr => ∃ k : Nat, k ≤ N ∧ k ≤ 8 ∧ i = .int .i64 k ∧ wr.ownsRow w.heap.size 5 1 (.slice (some ⟨w.heap.size, 0, none⟩) N N) N (vals .u8 (leTo n N k)) ∧ Below w.heap.size w wr) (fun i _ => 8 - (intOf i).toNat)
    case atStart => exact ⟨0, Nat.zero_le _, by omega, rfl, by rw [leTo_zero]; exact hown, hb⟩
    case round =>
      obtain ⟨k, hk, hk8, rfl, how, hbr⟩ := hrel
      clear hown hb
      by_cases hlt : k < N ∧ k < 8
      · obtain ⟨hlt, hlt8⟩ := hlt
        have c1 := how.cellAt k (by omega)
        rw [vals_get _ _ _ (by rw [leTo_length]; exact hlt)] at c1
        have f1 := how.frozenAt k
        have st := how.stored k (.int .u8 ((n / 256 ^ k % 256 : Nat) : Int))
        rw [vals_set, leTo_set] at st
        have HST := hide st
        clear st
        go_wp2
        rw [byte_shr]
        go_roundw
        case rel => exact ⟨k + 1, by omega, by omega, by go_num, HST.out.1, hbr.setCell (by simp) _⟩
        case measure => simp [intOf]; omega
      · go_wp2
        go_ret
        exact ⟨_, rfl, ⟨by rw [← leTo_full n N k hn (by omega), leTo_length]; exact how, by rw [← leTo_full n N k hn (by omega)]; exact leTo_under _ _ _⟩, hbr⟩
end Go.Proofs.YtlddpjcacnahmaaGreatDoor
