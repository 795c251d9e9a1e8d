/- The document's tags: Boxed, tagged. -/
import Derived.Test.YtlddpjcacnahmaaGreatDoorKit
import Derived.Test.YtlddpjcacnahmaaGreatDoorPCmp
import Derived.Test.YtlddpjcacnahmaaGreatDoorBase
namespace Go.Proofs.YtlddpjcacnahmaaGreatDoor
open Go.RowKit
set_option linter.unusedVariables false

set_option maxHeartbeats 1000000 in
theorem rboxed_any (t : Int) (w : World) : Calls Tryz.prog 85 #[.int .i64 t] w fun e w' => e = .returned (.bool (boxedB t)) ∧ w' = w := by
  by_cases h1 : t = 48
  · subst h1
    go_enter Tryz.func85, Tryz.ntmps85
    go_wp2
    go_ret
    exact ⟨rfl, rfl⟩
  have e1 : (t == 48) = false := by simpa using h1
  by_cases h2 : t = 49
  · subst h2
    go_enter Tryz.func85, Tryz.ntmps85
    go_wp2
    go_ret
    exact ⟨rfl, rfl⟩
  have e2 : (t == 49) = false := by simpa using h2
  by_cases h3 : 160 ≤ t
  · by_cases h4 : t ≤ 190
    · have HB : Hid (boxedB t = true) := hide (by unfold boxedB; exact decide_eq_true (.inr (.inr ⟨h3, h4⟩)))
      clear h1 h2
      go_enter Tryz.func85, Tryz.ntmps85
      go_wp2
      go_ret
      exact ⟨ret_bool HB.out.symm, rfl⟩
    · have HB : Hid (boxedB t = false) := hide (by unfold boxedB; exact decide_eq_false (by omega))
      have h4' : decide (t ≤ 190) = false := decide_eq_false h4
      clear h1 h2
      go_enter Tryz.func85, Tryz.ntmps85
      go_wp2
      go_ret
      exact ⟨ret_bool HB.out.symm, rfl⟩
  · have HB : Hid (boxedB t = false) := hide (by unfold boxedB; exact decide_eq_false (by omega))
    have h3' : decide (160 ≤ t) = false := decide_eq_false h3
    clear h1 h2
    go_enter Tryz.func85, Tryz.ntmps85
    go_wp2
    go_ret
    exact ⟨ret_bool HB.out.symm, rfl⟩

set_option maxHeartbeats 2000000 in
theorem rtagged_any (t : Int) (w : World) : Calls Tryz.prog 135 #[.int .i64 t] w fun e w' => e = .returned (.bool (taggedB t)) ∧ w' = w := by
  have hcall := rboxed_any t w
  by_cases hs : t = 1 ∨ t = 2 ∨ t = 3 ∨ t = 4 ∨ t = 5 ∨ t = 6 ∨ t = 12 ∨ t = 24
  · clear hcall
    rcases hs with rfl | rfl | rfl | rfl | rfl | rfl | rfl | rfl
    all_goals
      go_enter Tryz.func135, Tryz.ntmps135
      go_wp2
      go_ret
      exact ⟨rfl, rfl⟩
  · have e1 : (t == 1) = false := beq_eq_false_iff_ne.2 (by omega)
    have e2 : (t == 2) = false := beq_eq_false_iff_ne.2 (by omega)
    have e3 : (t == 3) = false := beq_eq_false_iff_ne.2 (by omega)
    have e4 : (t == 4) = false := beq_eq_false_iff_ne.2 (by omega)
    have e5 : (t == 5) = false := beq_eq_false_iff_ne.2 (by omega)
    have e6 : (t == 6) = false := beq_eq_false_iff_ne.2 (by omega)
    have e7 : (t == 12) = false := beq_eq_false_iff_ne.2 (by omega)
    have e8 : (t == 24) = false := beq_eq_false_iff_ne.2 (by omega)
    have HT : Hid (taggedB t = (decide (128 ≤ t ∧ t ≤ 158) || boxedB t)) := hide (by
      unfold taggedB
      congr 1
      exact decide_eq_decide.2 (by omega))
    cases hb : boxedB t with
    | true =>
      rw [hb] at hcall
      have HB : Hid (taggedB t = true) := hide (by rw [HT.out, hb]; simp)
      clear hs hb HT
      go_enter Tryz.func135, Tryz.ntmps135
      go_wp2_with fail
      refine hcall.mono ?_
      rintro e w1 ⟨rfl, rfl⟩
      go_wp2
      go_ret
      exact ⟨ret_bool HB.out.symm, rfl⟩
    | false =>
      rw [hb] at hcall
      rw [hb, Bool.or_false] at HT
      clear hb
      by_cases h3 : 128 ≤ t
      · by_cases h4 : t ≤ 158
        · have HB : Hid (taggedB t = true) := hide (by rw [HT.out]; exact decide_eq_true ⟨h3, h4⟩)
          clear HT hs
          go_enter Tryz.func135, Tryz.ntmps135
          go_wp2_with fail
          refine hcall.mono ?_
          rintro e w1 ⟨rfl, rfl⟩
          go_wp2
          go_ret
          exact ⟨ret_bool HB.out.symm, rfl⟩
        · have HB : Hid (taggedB t = false) := hide (by rw [HT.out]; exact decide_eq_false (by omega))
          have h4' : decide (t ≤ 158) = false := decide_eq_false h4
          clear HT hs
          go_enter Tryz.func135, Tryz.ntmps135
          go_wp2_with fail
          refine hcall.mono ?_
          rintro e w1 ⟨rfl, rfl⟩
          go_wp2
          go_ret
          exact ⟨ret_bool HB.out.symm, rfl⟩
      · have HB : Hid (taggedB t = false) := hide (by rw [HT.out]; exact decide_eq_false (by omega))
        have h3' : decide (128 ≤ t) = false := decide_eq_false h3
        clear HT hs
        go_enter Tryz.func135, Tryz.ntmps135
        go_wp2_with fail
        refine hcall.mono ?_
        rintro e w1 ⟨rfl, rfl⟩
        go_wp2
        go_ret
        exact ⟨ret_bool HB.out.symm, rfl⟩
end Go.Proofs.YtlddpjcacnahmaaGreatDoor

/- Texts as strings: conversions, bytes.Equal. -/
namespace Go.Proofs.YtlddpjcacnahmaaGreatDoor
open Go.RowKit
set_option linter.unusedVariables false

set_option maxRecDepth 100000 in
theorem conv_row {w : World} {u : Value} {l : List Nat} (h : Row .u8 256 w u l) : (convert 22 9 u).run Tryz.prog w = .ok (.string ⟨(bts l).toArray⟩) w := by
  have hu := h.under
  obtain ⟨a, cap, rfl, h1, h2, h3, h4⟩ := h
  cases a with
  | none =>
    have hl0 : l = [] := by
      cases l with
      | nil => rfl
      | cons x l => obtain ⟨_, _, h', _⟩ := h3 (by simp); cases h'
    subst hl0
    rfl
  | some x =>
    have hl : (bts l).length = l.length := by simp [bts]
    rw [← hl]
    refine run_convert_bytes_back (P := Tryz.prog) _ 22 9 5 x cap (bts l) Tryz.underlying22 Tryz.underlying5 Tryz.underlying9 ?_
    intro j hj
    rw [hl] at hj
    obtain ⟨b, off, hx, hc⟩ := h3 (by omega)
    obtain rfl := Option.some.inj hx
    rw [Addr.add_lit, hc j hj, el_at hj]
    simp only [bts, List.getElem_map]
    rw [ch_nat (hu _ (List.getElem_mem hj))]
theorem bts_inj {l m : List Nat} (hl : Under 256 l) (hm : Under 256 m) (h : bts l = bts m) : l = m := by
  have h1 := cmp_less l m hl hm
  have h2 := cmp_less m l hm hl
  have h3 := cmp_less l l hl hl
  rw [less_self] at h3
  rw [← h, h3] at h1 h2
  exact less_total l m h1.symm h2.symm
/-- a text as a string -/
def stg (l : List Nat) : ByteArray := ⟨(bts l).toArray⟩
theorem stg_inj {l m : List Nat} (hl : Under 256 l) (hm : Under 256 m) (h : stg l = stg m) : l = m := by
  refine bts_inj hl hm ?_
  have := congrArg (fun b => b.data.toList) h
  simpa [stg] using this
theorem toList_inj {a b : ByteArray} (h : a.toList = b.toList) : a = b := by
  rw [Lib.toList_data, Lib.toList_data] at h
  apply ByteArray.ext
  exact Array.toList_inj.1 h
theorem beq_any (va vb : Value) (l m : List Nat) (w : World) (ha : Row .u8 256 w va l) (hb : Row .u8 256 w vb m) :
    Calls Tryz.prog 103 #[va, vb] w fun e w' => e = .returned (.bool (decide (l = m))) ∧ w' = w := by
  have v1 : (convert 22 9 va).run Tryz.prog w = .ok (.string (stg l)) w := conv_row ha
  have v2 : (convert 22 9 vb).run Tryz.prog w = .ok (.string (stg m)) w := conv_row hb
  by_cases he : l = m
  · have e2 : stg l = stg m := by rw [he]
    rw [decide_eq_true he]
    clear he
    go_enter Tryz.func103, Tryz.ntmps103
    go_wp2
    go_ret
    exact ⟨rfl, rfl⟩
  · have hne2 : ((stg l).toList == (stg m).toList) = false := beq_eq_false_iff_ne.2 (fun h => he (stg_inj ha.under hb.under (toList_inj h)))
    rw [decide_eq_false he]
    clear he
    go_enter Tryz.func103, Tryz.ntmps103
    go_wp2
    go_ret
    exact ⟨rfl, rfl⟩
end Go.Proofs.YtlddpjcacnahmaaGreatDoor

/- Plain facts on identifiers: their bytes, and what bytes are read as. -/
namespace Go.Proofs.YtlddpjcacnahmaaGreatDoor
open Go.RowKit
set_option linter.unusedVariables false

/-- all bytes of a number but its last: by 7 bits, 128 added (the first argument: how many there may be) -/
def hibF : Nat → Nat → List Nat
  | 0, _ => []
  | f + 1, n => if n = 0 then [] else hibF f (n / 128) ++ [128 + n % 128]
def hib (n : Nat) : List Nat := hibF n n
theorem hibF_eq : ∀ (f g n : Nat), n ≤ f → n ≤ g → hibF f n = hibF g n
  | 0, g, n, hf, _ => by
    obtain rfl : n = 0 := by omega
    cases g with
    | zero => rfl
    | succ g => unfold hibF; rw [if_pos rfl]
  | f + 1, 0, n, _, hg => by
    obtain rfl : n = 0 := by omega
    unfold hibF; rw [if_pos rfl]
  | f + 1, g + 1, n, hf, hg => by
    unfold hibF
    by_cases h : n = 0
    · rw [if_pos h, if_pos h]
    · rw [if_neg h, if_neg h, hibF_eq f g (n / 128) (by omega) (by omega)]
/-- a number by 7 bits -/
def grp (n : Nat) : List Nat := hib (n / 128) ++ [n % 128]

theorem hi_zero : hib 0 = [] := rfl
theorem hi_pos {n : Nat} (h : 0 < n) : hib n = hib (n / 128) ++ [128 + n % 128] := by
  obtain ⟨k, rfl⟩ : ∃ k, n = k + 1 := ⟨n - 1, by omega⟩
  show hibF (k + 1) (k + 1) = _
  rw [hibF, if_neg (by omega)]
  unfold hib
  rw [hibF_eq k ((k + 1) / 128) ((k + 1) / 128) (by omega) (Nat.le_refl _)]
theorem hi_under (n : Nat) : Under 256 (hib n) := by
  induction n using Nat.strongRecOn with
  | ind n ih =>
    by_cases h : n = 0
    · subst h; rw [hi_zero]; intro x hx; simp at hx
    · rw [hi_pos (by omega)]
      intro x hx
      rcases List.mem_append.1 hx with h1 | h1
      · exact ih (n / 128) (by omega) x h1
      · simp at h1; omega
theorem grp_under (n : Nat) : Under 256 (grp n) := by
  intro x hx
  rcases List.mem_append.1 hx with h1 | h1
  · exact hi_under _ x h1
  · simp at h1; omega
theorem hi_len (n : Nat) : ∀ k, n < 128 ^ k → (hib n).length ≤ k := by
  induction n using Nat.strongRecOn with
  | ind n ih =>
    intro k hk
    by_cases h : n = 0
    · subst h; rw [hi_zero]; simp
    · rw [hi_pos (by omega), List.length_append]
      cases k with
      | zero => simp at hk; omega
      | succ k =>
        have := ih (n / 128) (by omega) k (by rw [Nat.pow_succ] at hk; exact Nat.div_lt_of_lt_mul (by omega))
        simp; omega
theorem grp_len {n : Nat} (h : n < 4294967296) : (grp n).length ≤ 5 := by
  unfold grp
  have := hi_len (n / 128) 4 (by
    have : (128 : Nat) ^ 4 = 268435456 := by decide
    omega)
  simp; omega
theorem grp_pos (n : Nat) : 0 < (grp n).length := by unfold grp; simp

/-- which numbers can be an identifier -/
def fitB (l : List Nat) : Bool := decide (2 ≤ l.length ∧ l.length ≤ 20 ∧ ((el l 0 < 2 ∧ el l 1 < 40) ∨ (el l 0 = 2 ∧ el l 1 ≤ 4294967215)))

/-- the numbers of an identifier, its first two as one -/
def merge (l : List Nat) : List Nat := (el l 0 * 40 + el l 1) :: l.drop 2
/-- and back -/
def fst2 (n : Nat) : List Nat := [min (n / 40) 2, n - min (n / 40) 2 * 40]
def expand : List Nat → List Nat
  | [] => []
  | n :: r => fst2 n ++ r

def flat (ns : List Nat) : List Nat := ns.flatMap grp
theorem flat_nil : flat [] = [] := rfl
theorem flat_cons (n : Nat) (r : List Nat) : flat (n :: r) = grp n ++ flat r := rfl
theorem flat_append (a b : List Nat) : flat (a ++ b) = flat a ++ flat b := by unfold flat; rw [List.flatMap_append]
theorem flat_under (ns : List Nat) : Under 256 (flat ns) := by
  intro x hx
  obtain ⟨n, _, h⟩ := List.mem_flatMap.1 hx
  exact grp_under n x h
theorem flat_len (ns : List Nat) (h : Under 4294967296 ns) : (flat ns).length ≤ 5 * ns.length := by
  induction ns with
  | nil => simp [flat]
  | cons n r ih =>
    rw [flat_cons, List.length_append]
    have h1 := grp_len (h n (by simp))
    have h2 := ih (fun x hx => h x (by simp [hx]))
    simp; omega

/-- an identifier's bytes -/
def bytesS (l : List Nat) : List Nat := if fitB l = true then flat (merge l) else []

theorem fit_two {l : List Nat} (h : fitB l = true) : ∃ a b r, l = a :: b :: r ∧ r.length ≤ 18 ∧ ((a < 2 ∧ b < 40) ∨ (a = 2 ∧ b ≤ 4294967215)) := by
  unfold fitB at h
  have h := of_decide_eq_true h
  match l, h with
  | [], h => simp at h
  | [_], h => simp at h
  | a :: b :: r, h =>
    refine ⟨a, b, r, rfl, by simp at h; omega, ?_⟩
    simpa [el] using h.2.2

theorem expand_merge {l : List Nat} (h : fitB l = true) : expand (merge l) = l := by
  obtain ⟨a, b, r, rfl, _, hab⟩ := fit_two h
  show fst2 (a * 40 + b) ++ r = a :: b :: r
  unfold fst2
  have e1 : min ((a * 40 + b) / 40) 2 = a := by omega
  rw [e1]
  simp

theorem merge_expand {ns : List Nat} (h : ns ≠ []) : merge (expand ns) = ns := by
  match ns, h with
  | n :: r, _ =>
    show (min (n / 40) 2 * 40 + (n - min (n / 40) 2 * 40)) :: r = n :: r
    congr 1
    omega

theorem merge_under {l : List Nat} (hu : Under 4294967296 l) (h : fitB l = true) : Under 4294967296 (merge l) := by
  obtain ⟨a, b, r, rfl, _, hab⟩ := fit_two h
  intro x hx
  have hx' : x = a * 40 + b ∨ x ∈ r := by simpa [merge, el] using hx
  rcases hx' with rfl | hx'
  · omega
  · exact hu x (by simp [hx'])

/-- the numbers that bytes hold, each in its lowest 32 bits -/
def nums (n : Nat) : List Nat → List Nat
  | [] => []
  | x :: r => if x < 128 then ((n * 128 + x % 128) % 4294967296) :: nums 0 r else nums ((n * 128 + x % 128) % 4294967296) r

theorem nums_hi (m : Nat) (hm : m < 4294967296) (r : List Nat) : nums 0 (hib m ++ r) = nums m r := by
  induction m using Nat.strongRecOn generalizing r with
  | ind m ih =>
    by_cases h : m = 0
    · subst h; rw [hi_zero]; rfl
    · rw [hi_pos (by omega), List.append_assoc, ih (m / 128) (by omega) (by omega)]
      show nums (m / 128) ((128 + m % 128) :: r) = _
      conv => lhs; unfold nums
      rw [if_neg (by omega)]
      congr 1
      omega

theorem nums_grp (n : Nat) (hn : n < 4294967296) (r : List Nat) : nums 0 (grp n ++ r) = n :: nums 0 r := by
  unfold grp
  rw [List.append_assoc, nums_hi (n / 128) (by omega)]
  show nums (n / 128) ((n % 128) :: r) = _
  conv => lhs; unfold nums
  rw [if_pos (by omega)]
  congr 1
  omega

theorem nums_flat (ns : List Nat) (h : Under 4294967296 ns) : nums 0 (flat ns) = ns := by
  induction ns with
  | nil => rfl
  | cons n r ih => rw [flat_cons, nums_grp n (h n (by simp)), ih (fun x hx => h x (by simp [hx]))]

theorem nums_under (n : Nat) (b : List Nat) : Under 4294967296 (nums n b) := by
  induction b generalizing n with
  | nil => intro x hx; simp [nums] at hx
  | cons x r ih =>
    unfold nums
    split
    · intro y hy
      rcases List.mem_cons.1 hy with rfl | hy
      · omega
      · exact ih 0 y hy
    · exact ih _
theorem nums_len (n : Nat) (b : List Nat) : (nums n b).length ≤ b.length := by
  induction b generalizing n with
  | nil => simp [nums]
  | cons x r ih =>
    unfold nums
    split
    · have := ih 0; simp; omega
    · have := ih ((n * 128 + x % 128) % 4294967296); simp; omega

/-- what is read loosely: no more numbers than show that there are too many -/
def looseN (ns : List Nat) : List Nat := expand (ns.take 20)
def looseS (b : List Nat) : List Nat := looseN (nums 0 b)

theorem loose_bytes {l : List Nat} (hu : Under 4294967296 l) (h : fitB l = true) : looseS (bytesS l) = l := by
  unfold looseS bytesS looseN
  rw [if_pos h, nums_flat _ (merge_under hu h)]
  have hl : (merge l).length ≤ 20 := by
    obtain ⟨a, b, r, rfl, hr, _⟩ := fit_two h
    simp [merge]; omega
  rw [List.take_of_length_le hl, expand_merge h]

theorem expand_under {ns : List Nat} (h : Under 4294967296 ns) : Under 4294967296 (expand ns) := by
  match ns, h with
  | [], h => exact h
  | n :: r, h =>
    have hn := h n (by simp)
    intro x hx
    have hx' : x = min (n / 40) 2 ∨ x = n - min (n / 40) 2 * 40 ∨ x ∈ r := by simpa [expand, fst2] using hx
    rcases hx' with rfl | rfl | hx'
    · omega
    · omega
    · exact h x (by simp [hx'])

/-- what the document's reader reads, byte by byte -/
def dec (n : Nat) (fresh : Bool) : List Nat → Option (List Nat)
  | [] => if fresh then some [] else none
  | x :: r => if fresh = true ∧ x = 128 then none
      else if 4294967295 < n * 128 + x % 128 then none
      else if x < 128 then (dec 0 true r).map ((n * 128 + x % 128) :: ·) else dec (n * 128 + x % 128) false r

theorem dec_hi (m : Nat) (h0 : 0 < m) (hm : m < 4294967296) (r : List Nat) : dec 0 true (hib m ++ r) = dec m false r := by
  induction m using Nat.strongRecOn generalizing r with
  | ind m ih =>
    rw [hi_pos (by omega), List.append_assoc]
    by_cases h : m / 128 = 0
    · rw [h, hi_zero]
      show dec 0 true ((128 + m % 128) :: r) = _
      conv => lhs; unfold dec
      rw [if_neg (by omega), if_neg (by omega), if_neg (by omega)]
      congr 1; omega
    · rw [ih (m / 128) (by omega) (by omega) (by omega)]
      show dec (m / 128) false ((128 + m % 128) :: r) = _
      conv => lhs; unfold dec
      rw [if_neg (by simp), if_neg (by omega), if_neg (by omega)]
      congr 1; omega

theorem dec_grp (n : Nat) (hn : n < 4294967296) (r : List Nat) : dec 0 true (grp n ++ r) = (dec 0 true r).map (n :: ·) := by
  unfold grp
  rw [List.append_assoc]
  by_cases h : n / 128 = 0
  · rw [h, hi_zero]
    show dec 0 true ((n % 128) :: r) = _
    conv => lhs; unfold dec
    rw [if_neg (by omega), if_neg (by omega), if_pos (by omega)]
    have e : 0 * 128 + n % 128 % 128 = n := by omega
    rw [e]
  · rw [dec_hi (n / 128) (by omega) (by omega)]
    show dec (n / 128) false ((n % 128) :: r) = _
    conv => lhs; unfold dec
    rw [if_neg (by simp), if_neg (by omega), if_pos (by omega)]
    have e : n / 128 * 128 + n % 128 % 128 = n := by omega
    rw [e]

theorem dec_flat (ns : List Nat) (h : Under 4294967296 ns) : dec 0 true (flat ns) = some ns := by
  induction ns with
  | nil => rfl
  | cons n r ih => rw [flat_cons, dec_grp n (h n (by simp)), ih (fun x hx => h x (by simp [hx]))]; rfl

theorem dec_back (b : List Nat) (hb : Under 256 b) : (∀ ns, dec 0 true b = some ns → b = flat ns ∧ Under 4294967296 ns) ∧
    (∀ n ns, 0 < n → dec n false b = some ns → hib n ++ b = flat ns ∧ Under 4294967296 ns) := by
  induction b with
  | nil =>
    refine ⟨fun ns h => ?_, fun n ns hn h => ?_⟩
    · simp [dec] at h; subst h; exact ⟨rfl, fun x hx => by simp at hx⟩
    · simp [dec] at h
  | cons x r ih =>
    have hx := hb x (by simp)
    obtain ⟨ih1, ih2⟩ := ih (fun y hy => hb y (by simp [hy]))
    refine ⟨fun ns h => ?_, fun n ns hn h => ?_⟩
    · unfold dec at h
      by_cases h1 : x = 128
      · rw [if_pos ⟨rfl, h1⟩] at h; cases h
      rw [if_neg (by omega), if_neg (by omega)] at h
      by_cases h2 : x < 128
      · rw [if_pos h2] at h
        obtain ⟨ms, hm, rfl⟩ := Option.map_eq_some_iff.1 h
        obtain ⟨rfl, hu⟩ := ih1 ms hm
        have e : 0 * 128 + x % 128 = x := by omega
        rw [e, flat_cons]
        refine ⟨?_, ?_⟩
        · unfold grp
          rw [show x / 128 = 0 by omega, hi_zero, show x % 128 = x by omega]; rfl
        · intro y hy
          rcases List.mem_cons.1 hy with rfl | hy
          · omega
          · exact hu y hy
      · rw [if_neg h2] at h
        obtain ⟨e, hu⟩ := ih2 _ ns (by omega) h
        refine ⟨?_, hu⟩
        rw [← e, hi_pos (by omega), show (0 * 128 + x % 128) / 128 = 0 by omega, hi_zero, show 128 + (0 * 128 + x % 128) % 128 = x by omega]; rfl
    · unfold dec at h
      rw [if_neg (by simp)] at h
      by_cases h0 : 4294967295 < n * 128 + x % 128
      · rw [if_pos h0] at h; cases h
      rw [if_neg h0] at h
      by_cases h2 : x < 128
      · rw [if_pos h2] at h
        obtain ⟨ms, hm, rfl⟩ := Option.map_eq_some_iff.1 h
        obtain ⟨rfl, hu⟩ := ih1 ms hm
        rw [flat_cons]
        refine ⟨?_, ?_⟩
        · unfold grp
          rw [show (n * 128 + x % 128) / 128 = n by omega, show (n * 128 + x % 128) % 128 = x by omega]; simp
        · intro y hy
          rcases List.mem_cons.1 hy with rfl | hy
          · omega
          · exact hu y hy
      · rw [if_neg h2] at h
        obtain ⟨e, hu⟩ := ih2 _ ns (by omega) h
        refine ⟨?_, hu⟩
        rw [← e, hi_pos (n := n * 128 + x % 128) (by omega), show (n * 128 + x % 128) / 128 = n by omega, show 128 + (n * 128 + x % 128) % 128 = x by omega]; simp

/-- the identifier that bytes are, as the program finds it -/
def parO (b : List Nat) : Option (List Nat) := if fitB (looseS b) = true ∧ bytesS (looseS b) = b then some (looseS b) else none
/-- the same, as the document's reader finds it -/
def parR (b : List Nat) : Option (List Nat) := (dec 0 true b).bind fun ns => if fitB (expand ns) = true then some (expand ns) else none

theorem parO_iff {b : List Nat} {o : List Nat} (hu : Under 4294967296 o) : parO b = some o ↔ (fitB o = true ∧ bytesS o = b) := by
  unfold parO
  constructor
  · intro h
    split at h
    · rename_i hc
      cases h
      exact hc
    · cases h
  · rintro ⟨h1, rfl⟩
    rw [loose_bytes hu h1, if_pos ⟨h1, rfl⟩]
theorem looseS_under (b : List Nat) : Under 4294967296 (looseS b) :=
  expand_under (fun x hx => nums_under 0 b x (List.mem_of_mem_take hx))
theorem parO_under {b o : List Nat} (h : parO b = some o) : Under 4294967296 o := by
  unfold parO at h
  split at h
  · cases h; exact looseS_under b
  · cases h

theorem parR_eq {b : List Nat} (hb : Under 256 b) : parR b = parO b := by
  cases h : parO b with
  | some o =>
    have hu := parO_under h
    obtain ⟨h1, h2⟩ := (parO_iff hu).1 h
    unfold parR
    unfold bytesS at h2
    rw [if_pos h1] at h2
    rw [← h2, dec_flat _ (merge_under hu h1)]
    simp [expand_merge h1, h1]
  | none =>
    cases h2 : parR b with
    | none => rfl
    | some o =>
      exfalso
      unfold parR at h2
      obtain ⟨ns, hn, h3⟩ := Option.bind_eq_some_iff.1 h2
      split at h3
      · rename_i hf
        cases h3
        obtain ⟨rfl, hu⟩ := (dec_back b hb).1 ns hn
        have hne : ns ≠ [] := by rintro rfl; simp [fitB, expand] at hf
        have : parO (flat ns) = some (expand ns) := (parO_iff (expand_under hu)).2 ⟨hf, by unfold bytesS; rw [if_pos hf, merge_expand hne]⟩
        rw [h] at this; cases this
      · cases h3

theorem bytes_inj {l m : List Nat} (hl : Under 4294967296 l) (hm : Under 4294967296 m) (fl : fitB l = true) (fm : fitB m = true) (h : bytesS l = bytesS m) : l = m := by
  rw [← loose_bytes hl fl, h, loose_bytes hm fm]

/-- one whose bytes begin with another one's has its numbers ahead -/
theorem flat_prefix (ns ms : List Nat) (hn : Under 4294967296 ns) (hm : Under 4294967296 ms) (t : List Nat) (h : flat ms = flat ns ++ t) : ∃ r, ms = ns ++ r := by
  induction ns generalizing ms with
  | nil => exact ⟨ms, rfl⟩
  | cons n r ih =>
    rw [flat_cons, List.append_assoc] at h
    have e1 : nums 0 (flat ms) = n :: nums 0 (flat r ++ t) := by rw [h, nums_grp n (hn n (by simp))]
    rw [nums_flat ms hm] at e1
    cases ms with
    | nil => cases e1
    | cons m s =>
      obtain ⟨rfl, e2⟩ := List.cons.inj e1
      rw [flat_cons] at h
      have h' := List.append_cancel_left h
      obtain ⟨q, rfl⟩ := ih s (fun x hx => hn x (by simp [hx])) (fun x hx => hm x (by simp [hx])) h'
      exact ⟨q, rfl⟩

theorem bytes_prefix {l m : List Nat} (hl : Under 4294967296 l) (hm : Under 4294967296 m) (fl : fitB l = true) (fm : fitB m = true) (t : List Nat) (h : bytesS m = bytesS l ++ t) :
    l.length ≤ m.length ∧ l = m.take l.length := by
  unfold bytesS at h
  rw [if_pos fl, if_pos fm] at h
  obtain ⟨q, hq⟩ := flat_prefix _ _ (merge_under hl fl) (merge_under hm fm) t h
  have e := expand_merge fm
  rw [hq] at e
  have hne : merge l = (el l 0 * 40 + el l 1) :: l.drop 2 := rfl
  rw [hne] at e
  have e2 : expand (merge l) ++ q = m := by rw [← e, hne]; simp [expand]
  rw [expand_merge fl] at e2
  subst e2
  simp
end Go.Proofs.YtlddpjcacnahmaaGreatDoor
