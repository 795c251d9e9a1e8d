/- Plain facts on values as bytes, in one way alone. -/
import Derived.Test.YtlddpjcacnahmaaGreatDoorOrN
import Derived.Test.YtlddpjcacnahmaaGreatDoorBase
namespace Go.Proofs.YtlddpjcacnahmaaGreatDoor
open Go.RowKit
set_option linter.unusedVariables false

/-- a value -/
inductive Nd where
  | mk (tag : Int) (bytes : List Nat) (kids : List Nd)

/-- a tag of what has parts -/
def boxedB (t : Int) : Bool := decide (t = 48 ∨ t = 49 ∨ (160 ≤ t ∧ t ≤ 190))
/-- a tag -/
def taggedB (t : Int) : Bool := decide ((1 ≤ t ∧ t ≤ 6) ∨ t = 12 ∨ t = 24 ∨ (128 ≤ t ∧ t ≤ 158)) || boxedB t
theorem tagged_range {t : Int} (h : taggedB t = true) : 1 ≤ t ∧ t ≤ 190 := by
  unfold taggedB boxedB at h
  rw [Bool.or_eq_true, decide_eq_true_eq, decide_eq_true_eq] at h
  omega
/-- a length as bytes -/
def lenE (n : Nat) : List Nat := if n < 128 then [n] else if n < 256 then [129, n] else if n < 65536 then [130, n / 256, n % 256] else [131, n / 65536, n / 256 % 256, n % 256]
def beN (l : List Nat) : Nat := l.foldl (fun n x => n * 256 + x) 0
/-- the length that bytes begin with, and how many bytes it has; 0: it is written otherwise -/
def lenD (b : List Nat) : Nat × Nat :=
  if b.length = 0 then (0, 0) else if el b 0 < 128 then (el b 0, 1)
  else if el b 0 - 128 < 1 ∨ 3 < el b 0 - 128 ∨ b.length < 1 + (el b 0 - 128) then (0, 0)
  else if el b 1 = 0 ∨ beN ((b.drop 1).take (el b 0 - 128)) < 128 then (0, 0) else (beN ((b.drop 1).take (el b 0 - 128)), 1 + (el b 0 - 128))
theorem lenE_len (n : Nat) : 1 ≤ (lenE n).length ∧ (lenE n).length ≤ 4 := by
  unfold lenE
  (repeat' split) <;> simp
theorem lenE_under {n : Nat} (h : n < 16777216) : Under 256 (lenE n) := by
  unfold lenE
  (repeat' split) <;> (intro x hx; simp at hx; omega)
theorem len_dec {n : Nat} (h : n < 16777216) (r : List Nat) : lenD (lenE n ++ r) = (n, (lenE n).length) := by
  unfold lenE
  by_cases h1 : n < 128
  · rw [if_pos h1]
    simp [lenD, el, h1]
  rw [if_neg h1]
  by_cases h2 : n < 256
  · rw [if_pos h2]
    simp [lenD, el, beN]
    rw [if_neg (by omega), if_neg (by omega)]
  rw [if_neg h2]
  by_cases h3 : n < 65536
  · rw [if_pos h3]
    simp [lenD, el, beN]
    rw [if_neg (by omega), if_neg (by omega)]
    simp
    omega
  rw [if_neg h3]
  simp [lenD, el, beN]
  rw [if_neg (by omega), if_neg (by omega)]
  simp
  omega
theorem len_enc {b : List Nat} {n k : Nat} (hb : Under 256 b) (h : lenD b = (n, k)) (hk : k ≠ 0) : lenE n = b.take k ∧ n < 16777216 ∧ k ≤ b.length := by
  unfold lenD at h
  by_cases h0 : b.length = 0
  · rw [if_pos h0] at h; cases h; exact absurd rfl hk
  rw [if_neg h0] at h
  cases b with
  | nil => simp at h0
  | cons x b =>
  have hx := hb x (by simp)
  have e0 : el (x :: b) 0 = x := rfl
  rw [e0] at h
  by_cases h1 : x < 128
  · rw [if_pos h1] at h
    cases h
    exact ⟨by simp [lenE, h1], by omega, by simp⟩
  rw [if_neg h1] at h
  by_cases h2 : x - 128 < 1 ∨ 3 < x - 128 ∨ (x :: b).length < 1 + (x - 128)
  · rw [if_pos h2] at h; cases h; exact absurd rfl hk
  rw [if_neg h2] at h
  by_cases h3 : el (x :: b) 1 = 0 ∨ beN (((x :: b).drop 1).take (x - 128)) < 128
  · rw [if_pos h3] at h; cases h; exact absurd rfl hk
  rw [if_neg h3] at h
  simp only [List.length_cons] at h2
  rcases (by omega : x = 129 ∨ x = 130 ∨ x = 131) with rfl | rfl | rfl
  · match b, h2, h3, h, hb with
    | a :: b, h2, h3, h, hb =>
      have ha := hb a (by simp)
      simp [beN, el] at h3 h
      obtain ⟨rfl, rfl⟩ := h
      refine ⟨?_, by omega, by simp⟩
      unfold lenE
      rw [if_neg (by omega), if_pos (by omega)]
      rfl
    | [], h2, _, _, _ => simp at h2
  · match b, h2, h3, h, hb with
    | a :: c :: b, h2, h3, h, hb =>
      have ha := hb a (by simp)
      have hc := hb c (by simp)
      simp [beN, el] at h3 h
      obtain ⟨rfl, rfl⟩ := h
      refine ⟨?_, by omega, by simp⟩
      unfold lenE
      rw [if_neg (by omega), if_neg (by omega), if_pos (by omega), show (a * 256 + c) / 256 = a by omega, show (a * 256 + c) % 256 = c by omega]
      rfl
    | [a], h2, _, _, _ => simp at h2
    | [], h2, _, _, _ => simp at h2
  · match b, h2, h3, h, hb with
    | a :: c :: d :: b, h2, h3, h, hb =>
      have ha := hb a (by simp)
      have hc := hb c (by simp)
      have hd := hb d (by simp)
      simp [beN, el] at h3 h
      obtain ⟨rfl, rfl⟩ := h
      refine ⟨?_, by omega, by simp⟩
      unfold lenE
      rw [if_neg (by omega), if_neg (by omega), if_neg (by omega), show ((a * 256 + c) * 256 + d) / 65536 = a by omega, show ((a * 256 + c) * 256 + d) / 256 % 256 = c by omega, show ((a * 256 + c) * 256 + d) % 256 = d by omega]
      rfl
    | [a, c], h2, _, _, _ => simp at h2
    | [a], h2, _, _, _ => simp at h2
    | [], h2, _, _, _ => simp at h2

/-- all of a list, or none -/
def allS (g : Nd → Option (List Nat)) : List Nd → Option (List (List Nat))
  | [] => some []
  | x :: ks => match g x with
    | none => none
    | some b => match allS g ks with
      | none => none
      | some bs => some (b :: bs)
/-- a value's bytes, if it is fit, so many deep at most; FB: do bytes fit a tag? -/
def wrD (FB : Int → List Nat → Bool) : Nat → Nd → Option (List Nat)
  | 0, _ => none
  | d + 1, .mk t b ks =>
    if taggedB t = false then none
    else if boxedB t = false then
      if ks.length ≠ 0 ∨ 1048576 < b.length ∨ FB t b = false then none else some (t.toNat :: lenE b.length ++ b)
    else if b.length ≠ 0 then none
    else match allS (wrD FB d) ks with
      | none => none
      | some bs => if 1048576 < bs.flatten.length ∨ (t = 49 ∧ sortedB bs = false) then none else some (t.toNat :: lenE bs.flatten.length ++ bs.flatten)
/-- what is told of bytes: an error, or what -/
inductive Res (α : Type) where
  | err (e : Nat)
  | ok (a : α)
/-- values one behind the other, and the bytes of each -/
def rdk (g : List Nat → Res (Nd × Nat)) : Nat → List Nat → Res (List (Nd × List Nat))
  | _, [] => .ok []
  | 0, _ :: _ => .err 0
  | f + 1, b :: r => match g (b :: r) with
    | .err e => .err e
    | .ok (x, m) => match rdk g f ((b :: r).drop m) with
      | .err e => .err e
      | .ok l => .ok ((x, (b :: r).take m) :: l)
/-- the value that bytes begin with, and how many they are -/
def rd (FB : Int → List Nat → Bool) : Nat → List Nat → Res (Nd × Nat)
  | 0, _ => .err 3
  | _ + 1, [] => .err 1
  | d + 1, t :: r =>
    if taggedB (t : Int) = false then .err 4
    else if (lenD r).2 = 0 ∨ r.length - (lenD r).2 < (lenD r).1 then .err 1
    else if boxedB (t : Int) = false then
      if FB (t : Int) ((r.drop (lenD r).2).take (lenD r).1) = false then .err 5 else .ok (.mk (t : Int) ((r.drop (lenD r).2).take (lenD r).1) [], 1 + (lenD r).2 + (lenD r).1)
    else match rdk (rd FB d) (lenD r).1 ((r.drop (lenD r).2).take (lenD r).1) with
      | .err e => .err e
      | .ok l => if t = 49 ∧ sortedB (l.map (·.2)) = false then .err 6 else .ok (.mk (t : Int) [] (l.map (·.1)), 1 + (lenD r).2 + (lenD r).1)

/-- what is read is written back, for one value -/
def Reads (W : Nd → Option (List Nat)) (g : List Nat → Res (Nd × Nat)) : Prop :=
  ∀ b x m, Under 256 b → b.length ≤ 1048576 → g b = .ok (x, m) → 2 ≤ m ∧ m ≤ b.length ∧ W x = some (b.take m)
theorem rdk_reads {W : Nd → Option (List Nat)} {g : List Nat → Res (Nd × Nat)} (h : Reads W g) : ∀ f b l, Under 256 b → b.length ≤ 1048576 → rdk g f b = .ok l → allS W (l.map (·.1)) = some (l.map (·.2)) ∧ (l.map (·.2)).flatten = b := by
  intro f
  induction f with
  | zero =>
    intro b l hu hb he
    cases b with
    | nil => rw [rdk] at he; cases he; exact ⟨rfl, rfl⟩
    | cons x b => rw [rdk] at he; cases he
  | succ f ih =>
    intro b l hu hb he
    cases b with
    | nil => rw [rdk] at he; cases he; exact ⟨rfl, rfl⟩
    | cons x b =>
      rw [rdk] at he
      cases hg : g (x :: b) with
      | err e => rw [hg] at he; cases he
      | ok p =>
        obtain ⟨y, m⟩ := p
        rw [hg] at he
        obtain ⟨h2, h3, h4⟩ := h _ _ _ hu hb hg
        simp only at he
        cases hr : rdk g f ((x :: b).drop m) with
        | err e => rw [hr] at he; cases he
        | ok l' =>
          rw [hr] at he
          cases he
          obtain ⟨k1, k2⟩ := ih _ _ (fun z hz => hu z (List.mem_of_mem_drop hz)) (by simp at hb ⊢; omega) hr
          refine ⟨?_, ?_⟩
          · simp only [List.map_cons, allS, h4, k1]
          · simp only [List.map_cons, List.flatten_cons, k2]
            exact List.take_append_drop m (x :: b)
theorem rd_reads (FB : Int → List Nat → Bool) : ∀ d, Reads (wrD FB d) (rd FB d) := by
  intro d
  induction d with
  | zero => intro b x m _ _ h; rw [rd] at h; cases h
  | succ d ih =>
    intro b x m hu hb h
    cases b with
    | nil => rw [rd] at h; cases h
    | cons t r =>
      rw [rd] at h
      obtain ⟨n, hn⟩ : ∃ n, (lenD r).1 = n := ⟨_, rfl⟩
      obtain ⟨k, hk⟩ : ∃ k, (lenD r).2 = k := ⟨_, rfl⟩
      rw [hn, hk] at h
      have hur : Under 256 r := fun z hz => hu z (List.mem_cons_of_mem _ hz)
      simp only [List.length_cons] at hb
      cases ht : taggedB (t : Int) with
      | false => rw [if_pos ht] at h; cases h
      | true =>
      rw [if_neg (by rw [ht]; simp)] at h
      by_cases hc : k = 0 ∨ r.length - k < n
      · rw [if_pos hc] at h; cases h
      rw [if_neg hc] at h
      obtain ⟨e1, e2, e3⟩ := len_enc hur (n := n) (k := k) (by rw [← hn, ← hk]) (by omega)
      have hin : ((r.drop k).take n).length = n := by simp; omega
      have hall : (t :: r).take (1 + k + n) = t :: lenE n ++ (r.drop k).take n := by
        rw [show 1 + k + n = (k + n) + 1 by omega, List.take_succ_cons, List.take_add, e1]
        rfl
      cases hx : boxedB (t : Int) with
      | false =>
        rw [if_pos hx] at h
        cases hf : FB (t : Int) ((r.drop k).take n) with
        | false => rw [if_pos hf] at h; cases h
        | true =>
          rw [if_neg (by rw [hf]; simp)] at h
          cases h
          refine ⟨by omega, by simp; omega, ?_⟩
          rw [wrD, if_neg (by rw [ht]; simp), if_pos hx, if_neg (by rw [hf, hin]; simp; omega), hin, hall]
          rfl
      | true =>
        rw [if_neg (by rw [hx]; simp)] at h
        cases hq : rdk (rd FB d) n ((r.drop k).take n) with
        | err e => rw [hq] at h; cases h
        | ok l =>
          rw [hq] at h
          simp only at h
          by_cases hs : t = 49 ∧ sortedB (l.map (·.2)) = false
          · rw [if_pos hs] at h; cases h
          rw [if_neg hs] at h
          cases h
          obtain ⟨k1, k2⟩ := rdk_reads ih n _ l (fun z hz => hur z (List.mem_of_mem_drop (List.mem_of_mem_take hz))) (by rw [hin]; omega) hq
          refine ⟨by omega, by simp; omega, ?_⟩
          rw [wrD, if_neg (by rw [ht]; simp), if_neg (by rw [hx]; simp), if_neg (by simp), k1]
          simp only
          rw [k2, hin, if_neg (by
            rintro (h1 | ⟨h1, h2⟩)
            · omega
            · exact hs ⟨by omega, h2⟩), hall]
          rfl

/-- what is written is read back, whatever is behind it -/
def Writes (W : Nd → Option (List Nat)) (g : List Nat → Res (Nd × Nat)) : Prop :=
  ∀ x w, W x = some w → 2 ≤ w.length ∧ ∀ r, g (w ++ r) = .ok (x, w.length)
theorem rdk_writes {W : Nd → Option (List Nat)} {g : List Nat → Res (Nd × Nat)} (h : Writes W g) : ∀ (ks : List Nd) (bs : List (List Nat)), allS W ks = some bs → ∀ f, bs.flatten.length ≤ f → ∃ l, rdk g f bs.flatten = .ok l ∧ l.map (·.1) = ks ∧ l.map (·.2) = bs := by
  intro ks
  induction ks with
  | nil =>
    intro bs hs f hf
    rw [allS] at hs
    cases hs
    exact ⟨[], by cases f <;> rfl, rfl, rfl⟩
  | cons x ks ih =>
    intro bs hs f hf
    rw [allS] at hs
    cases hx : W x with
    | none => rw [hx] at hs; cases hs
    | some w =>
      rw [hx] at hs
      simp only at hs
      cases hk : allS W ks with
      | none => rw [hk] at hs; cases hs
      | some bs' =>
        rw [hk] at hs
        cases hs
        obtain ⟨h1, h2⟩ := h x w hx
        simp only [List.flatten_cons, List.length_append] at hf ⊢
        obtain ⟨f', rfl⟩ : ∃ f', f = f' + 1 := ⟨f - 1, by omega⟩
        obtain ⟨l, k1, k2, k3⟩ := ih bs' hk f' (by omega)
        have hg := h2 bs'.flatten
        cases hw : w ++ bs'.flatten with
        | nil =>
          have := congrArg List.length hw
          simp at this
          rw [this.1] at h1
          simp at h1
        | cons y r =>
          rw [rdk, ← hw, hg]
          simp only
          rw [List.drop_left, List.take_left, k1]
          exact ⟨_, rfl, by simp [k2], by simp [k3]⟩
theorem rd_writes (FB : Int → List Nat → Bool) : ∀ d, Writes (wrD FB d) (rd FB d) := by
  intro d
  induction d with
  | zero => intro x w h; rw [wrD] at h; cases h
  | succ d ih =>
    rintro ⟨t, b, ks⟩ w h
    rw [wrD] at h
    cases ht : taggedB t with
    | false => rw [if_pos ht] at h; cases h
    | true =>
    rw [if_neg (by rw [ht]; simp)] at h
    obtain ⟨T, rfl⟩ : ∃ T : Nat, t = (T : Int) := ⟨t.toNat, by have := tagged_range ht; omega⟩
    have key : ∀ body : List Nat, body.length ≤ 1048576 → ∀ r, lenD (lenE body.length ++ body ++ r) = (body.length, (lenE body.length).length) ∧ ((lenE body.length ++ body ++ r).drop (lenE body.length).length).take body.length = body ∧ ¬ ((lenE body.length).length = 0 ∨ (lenE body.length ++ body ++ r).length - (lenE body.length).length < body.length) := by
      intro body hbody r
      have hl := lenE_len body.length
      refine ⟨by rw [List.append_assoc]; exact len_dec (by omega) _, ?_, ?_⟩
      · rw [List.append_assoc, List.drop_left, List.take_left]
      · simp only [List.length_append]; omega
    cases hx : boxedB (T : Int) with
    | false =>
      rw [if_pos hx] at h
      by_cases hc : ks.length ≠ 0 ∨ 1048576 < b.length ∨ FB (T : Int) b = false
      · rw [if_pos hc] at h; cases h
      rw [if_neg hc] at h
      cases h
      have hks : ks = [] := List.eq_nil_of_length_eq_zero (by omega)
      subst hks
      have hf : FB (T : Int) b = true := by cases hf : FB (T : Int) b with
        | true => rfl
        | false => exact absurd (.inr (.inr hf)) hc
      have hl := lenE_len b.length
      refine ⟨by simp; omega, fun r => ?_⟩
      obtain ⟨e1, e2, e3⟩ := key b (by omega) r
      show rd FB (d + 1) (T :: (lenE b.length ++ b ++ r)) = _
      rw [rd, if_neg (by rw [ht]; simp), e1]
      simp only
      rw [if_neg e3, if_pos hx, e2, if_neg (by rw [hf]; simp)]
      simp only [List.length_append, List.length_cons, Int.toNat_natCast, Res.ok.injEq, Prod.mk.injEq, true_and]
      omega
    | true =>
      rw [if_neg (by rw [hx]; simp)] at h
      by_cases hb : b.length ≠ 0
      · rw [if_pos hb] at h; cases h
      rw [if_neg hb] at h
      have hb0 : b = [] := List.eq_nil_of_length_eq_zero (by omega)
      subst hb0
      cases hk : allS (wrD FB d) ks with
      | none => rw [hk] at h; cases h
      | some bs =>
        rw [hk] at h
        simp only at h
        by_cases hc : 1048576 < bs.flatten.length ∨ ((T : Int) = 49 ∧ sortedB bs = false)
        · rw [if_pos hc] at h; cases h
        rw [if_neg hc] at h
        cases h
        have hl := lenE_len bs.flatten.length
        refine ⟨by simp only [List.cons_append, List.length_cons, List.length_append]; omega, fun r => ?_⟩
        obtain ⟨e1, e2, e3⟩ := key bs.flatten (by omega) r
        obtain ⟨l, k1, k2, k3⟩ := rdk_writes ih ks bs hk bs.flatten.length (Nat.le_refl _)
        show rd FB (d + 1) (T :: (lenE bs.flatten.length ++ bs.flatten ++ r)) = _
        rw [rd, if_neg (by rw [ht]; simp), e1]
        simp only
        rw [if_neg e3, if_neg (by rw [hx]; simp), e2, k1]
        simp only
        rw [k2, k3, if_neg (by
          rintro ⟨h1, h2⟩
          exact hc (.inr ⟨by omega, h2⟩))]
        simp only [List.length_append, List.length_cons, Int.toNat_natCast, Res.ok.injEq, Prod.mk.injEq, true_and]
        omega

/-- what Parse tells of bytes -/
def parseD (FB : Int → List Nat → Bool) (b : List Nat) : Res Nd :=
  if 1048576 < b.length then .err 2
  else match rd FB 32 b with
    | .err e => .err e
    | .ok (x, m) => if m < b.length then .err 7 else .ok x
/-- a value's bytes, if it is fit -/
def bytesD (FB : Int → List Nat → Bool) (x : Nd) : Option (List Nat) :=
  match wrD FB 32 x with
  | none => none
  | some w => if 1048576 < w.length then none else some w
theorem bytes_wr {FB : Int → List Nat → Bool} {x : Nd} {w : List Nat} (h : bytesD FB x = some w) : wrD FB 32 x = some w ∧ w.length ≤ 1048576 := by
  unfold bytesD at h
  cases hw : wrD FB 32 x with
  | none => rw [hw] at h; cases h
  | some v =>
    rw [hw] at h
    simp only at h
    by_cases hl : 1048576 < v.length
    · rw [if_pos hl] at h; cases h
    · rw [if_neg hl] at h; cases h; exact ⟨rfl, by omega⟩
/-- one way alone: a fit value's bytes are read as it -/
theorem parse_bytes {FB : Int → List Nat → Bool} {x : Nd} {w : List Nat} (h : bytesD FB x = some w) : parseD FB w = .ok x := by
  obtain ⟨hw, hl⟩ := bytes_wr h
  have h1 := (rd_writes FB 32 x w hw).2 []
  rw [List.append_nil] at h1
  unfold parseD
  rw [if_neg (by omega), h1]
  simp only
  rw [if_neg (by omega)]
/-- what is read is fit, and its bytes are what was read -/
theorem bytes_parse {FB : Int → List Nat → Bool} {x : Nd} {b : List Nat} (hu : Under 256 b) (h : parseD FB b = .ok x) : bytesD FB x = some b := by
  unfold parseD at h
  by_cases hl : 1048576 < b.length
  · rw [if_pos hl] at h; cases h
  rw [if_neg hl] at h
  cases hr : rd FB 32 b with
  | err e => rw [hr] at h; cases h
  | ok p =>
    obtain ⟨y, m⟩ := p
    rw [hr] at h
    simp only at h
    by_cases hm : m < b.length
    · rw [if_pos hm] at h; cases h
    rw [if_neg hm] at h
    cases h
    obtain ⟨h2, h3, h4⟩ := rd_reads FB 32 b x m hu (by omega) hr
    rw [List.take_of_length_le (by omega)] at h4
    unfold bytesD
    rw [h4]
    simp only
    rw [if_neg hl]
/-- with something behind them they are none -/
theorem parse_behind {FB : Int → List Nat → Bool} {x : Nd} {w r : List Nat} (h : bytesD FB x = some w) (hr : r ≠ []) (hl : (w ++ r).length ≤ 1048576) : parseD FB (w ++ r) = .err 7 := by
  obtain ⟨hw, _⟩ := bytes_wr h
  have h1 := (rd_writes FB 32 x w hw).2 r
  have hp : 0 < r.length := List.length_pos_iff.2 hr
  unfold parseD
  rw [if_neg (by omega), h1]
  simp only
  rw [if_pos (by simp only [List.length_append]; omega)]
/-- of unlike values neither's bytes begin with the other's -/
theorem bytes_pre {FB : Int → List Nat → Bool} {x y : Nd} {a r : List Nat} (h : bytesD FB x = some a) (h' : bytesD FB y = some (a ++ r)) : x = y ∧ r = [] := by
  have h1 := (rd_writes FB 32 x a (bytes_wr h).1).2 r
  have h2 := (rd_writes FB 32 y (a ++ r) (bytes_wr h').1).2 []
  rw [List.append_nil, h1] at h2
  have h3 := Prod.mk.inj (Res.ok.inj h2)
  refine ⟨h3.1, ?_⟩
  have h4 := h3.2
  rw [List.length_append] at h4
  exact List.eq_nil_of_length_eq_zero (by omega)
/-- no beginning of a value's bytes is a value's -/
theorem parse_cut {FB : Int → List Nat → Bool} {x z : Nd} {a : List Nat} {k : Nat} (hu : Under 256 a) (h : bytesD FB x = some a) (hk : k < a.length) : parseD FB (a.take k) ≠ .ok z := by
  intro hz
  have h1 := bytes_parse (fun v hv => hu v (List.mem_of_mem_take hv)) hz
  have h2 : a = a.take k ++ a.drop k := (List.take_append_drop k a).symm
  rw [h2] at h
  have h3 := (bytes_pre h1 h).2
  have h4 := congrArg List.length h3
  simp at h4
  omega
end Go.Proofs.YtlddpjcacnahmaaGreatDoor

/- Contract of apostilleref01.Same. -/
namespace Go.Proofs.YtlddpjcacnahmaaGreatDoor
open Go.RowKit
set_option linter.unusedVariables false

theorem el_ext {l m : List Nat} (h : l.length = m.length) (he : ∀ i, i < l.length → el l i = el m i) : l = m := by
  apply List.ext_getElem h
  intro i h1 h2
  have := he i h1
  rwa [el_at h1, el_at h2] at this

set_option maxHeartbeats 400000 in
theorem rsame_any (va vb : Value) (l m : List Nat) (w : World) (ha : Row .u8 256 w va l) (hb : Row .u8 256 w vb m) :
    Calls Tryz.prog 32 #[va, vb] w fun e w' => e = .returned (.bool (decide (l = m))) ∧ ∃ n, w' = w.drewN n := by
  obtain ⟨a, ca, rfl, ha1, ha2, ha3, ha4⟩ := ha
  obtain ⟨b, cb, rfl, hb1, hb2, hb3, hb4⟩ := hb
  unfold maxLen at ha2 hb2
  by_cases hlen : l.length = m.length
  · have hne : ((l.length : Int) != (m.length : Int)) = false := by simp [hlen]
    have H : Hid (l.length = m.length) := hlen
    have hle1 : l.length ≤ m.length := by omega
    have hle2 : m.length ≤ l.length := by omega
    clear hlen
    go_enter Tryz.func32, Tryz.ntmps32
    go_wp2
    go_loopw [5] (fun i wr => ∃ k n : Nat, k ≤ l.length ∧ i = .int .i64 k ∧ wr = w.drewN n ∧ ∀ j, j < k → el l j = el m j) (fun i _ => l.length - (intOf i).toNat)
    case atStart => exact ⟨0, 0, Nat.zero_le _, rfl, rfl, fun j hj => by omega⟩
    case round =>
      obtain ⟨k, n, hk, rfl, rfl, hall⟩ := hrel
      have HA : Hid (∀ j, j < k → el l j = el m j) := hall
      clear hall
      by_cases hlt : k < l.length
      · obtain ⟨ba, oa, rfl, hca⟩ := ha3 (by omega)
        obtain ⟨bb, ob, rfl, hcb⟩ := hb3 (by omega)
        have c1 := hca k hlt
        have c2 := hcb k (by omega)
        clear hca hcb
        have hlt2 : k < m.length := by omega
        by_cases he : el l k = el m k
        · have hd : ((el l k : Int) != (el m k : Int)) = false := by simp [he]
          have HE : Hid (el l k = el m k) := he
          clear he
          go_wp2
          go_quiet (fail)
          go_wp2
          go_roundw
          case rel => exact ⟨k + 1, _, by omega, by go_num, rfl, fun j hj => by
            by_cases hjk : j = k
            · subst hjk; exact HE.out
            · exact HA.out j (by omega)⟩
          case measure => simp [intOf]; omega
        · have hd : ((el l k : Int) != (el m k : Int)) = true := by simp; omega
          go_wp2
          go_quiet (fail)
          go_wp2
          go_ret
          exact ⟨ret_bool (by symm; simp; intro h; exact he (by rw [h])), _, World.drewN_drewN _ _ _⟩
      · go_wp2
        go_ret
        exact ⟨ret_bool (by symm; simp; exact el_ext H.out (fun i hi => HA.out i (by omega))), _, rfl⟩
  · have hne : ((l.length : Int) != (m.length : Int)) = true := by simp; omega
    have hd : decide (l = m) = false := by simp; intro h; exact hlen (by rw [h])
    go_enter Tryz.func32, Tryz.ntmps32
    go_wp2
    go_ret
    exact ⟨ret_bool hd.symm, 0, rfl⟩

end Go.Proofs.YtlddpjcacnahmaaGreatDoor
