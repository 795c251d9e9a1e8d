/- The document's tags: Boxed, tagged. -/
import Derived.Test.YtjkciheoknjfhaaDoorSame
import Derived.Test.YtjkciheoknjfhaaDoorETag
import Derived.Test.YtjkciheoknjfhaaDoorBase
import Derived.RegionTactic
import Derived.BigRegion
namespace Go.Proofs.YtjkciheoknjfhaaDoor
open Go.RowKit
set_option linter.unusedVariables false

set_option maxHeartbeats 1000000 in
theorem rboxed_any (t : Int) (w : World) : Calls Tryd.prog 19 #[.int .i64 t] w fun e w' => e = .returned (.bool (boxedB t)) ∧ w' = w := by
  by_cases h1 : t = 48
  · subst h1
    go_enter Tryd.func19, Tryd.ntmps19
    go_wp2
    go_ret
    exact ⟨rfl, rfl⟩
  have e1 : (t == 48) = false := by simpa using h1
  by_cases h2 : t = 49
  · subst h2
    go_enter Tryd.func19, Tryd.ntmps19
    go_wp2
    go_ret
    exact ⟨rfl, rfl⟩
  have e2 : (t == 49) = false := by simpa using h2
  by_cases h3 : 160 ≤ t
  · by_cases h4 : t ≤ 190
    · have HB : Hid (boxedB t = true) := hide (by unfold boxedB; exact decide_eq_true (.inr (.inr ⟨h3, h4⟩)))
      clear h1 h2
      go_enter Tryd.func19, Tryd.ntmps19
      go_wp2
      go_ret
      exact ⟨ret_bool HB.out.symm, rfl⟩
    · have HB : Hid (boxedB t = false) := hide (by unfold boxedB; exact decide_eq_false (by omega))
      have h4' : decide (t ≤ 190) = false := decide_eq_false h4
      clear h1 h2
      go_enter Tryd.func19, Tryd.ntmps19
      go_wp2
      go_ret
      exact ⟨ret_bool HB.out.symm, rfl⟩
  · have HB : Hid (boxedB t = false) := hide (by unfold boxedB; exact decide_eq_false (by omega))
    have h3' : decide (160 ≤ t) = false := decide_eq_false h3
    clear h1 h2
    go_enter Tryd.func19, Tryd.ntmps19
    go_wp2
    go_ret
    exact ⟨ret_bool HB.out.symm, rfl⟩

set_option maxHeartbeats 2000000 in
theorem rtagged_any (t : Int) (w : World) : Calls Tryd.prog 31 #[.int .i64 t] w fun e w' => e = .returned (.bool (taggedB t)) ∧ w' = w := by
  have hcall := rboxed_any t w
  by_cases hs : t = 1 ∨ t = 2 ∨ t = 3 ∨ t = 4 ∨ t = 5 ∨ t = 6 ∨ t = 12 ∨ t = 24
  · clear hcall
    rcases hs with rfl | rfl | rfl | rfl | rfl | rfl | rfl | rfl
    all_goals
      go_enter Tryd.func31, Tryd.ntmps31
      go_wp2
      go_ret
      exact ⟨rfl, rfl⟩
  · have e1 : (t == 1) = false := beq_eq_false_iff_ne.2 (by omega)
    have e2 : (t == 2) = false := beq_eq_false_iff_ne.2 (by omega)
    have e3 : (t == 3) = false := beq_eq_false_iff_ne.2 (by omega)
    have e4 : (t == 4) = false := beq_eq_false_iff_ne.2 (by omega)
    have e5 : (t == 5) = false := beq_eq_false_iff_ne.2 (by omega)
    have e6 : (t == 6) = false := beq_eq_false_iff_ne.2 (by omega)
    have e7 : (t == 12) = false := beq_eq_false_iff_ne.2 (by omega)
    have e8 : (t == 24) = false := beq_eq_false_iff_ne.2 (by omega)
    have HT : Hid (taggedB t = (decide (128 ≤ t ∧ t ≤ 158) || boxedB t)) := hide (by
      unfold taggedB
      congr 1
      exact decide_eq_decide.2 (by omega))
    cases hb : boxedB t with
    | true =>
      rw [hb] at hcall
      have HB : Hid (taggedB t = true) := hide (by rw [HT.out, hb]; simp)
      clear hs hb HT
      go_enter Tryd.func31, Tryd.ntmps31
      go_wp2_with fail
      refine hcall.mono ?_
      rintro e w1 ⟨rfl, rfl⟩
      go_wp2
      go_ret
      exact ⟨ret_bool HB.out.symm, rfl⟩
    | false =>
      rw [hb] at hcall
      rw [hb, Bool.or_false] at HT
      clear hb
      by_cases h3 : 128 ≤ t
      · by_cases h4 : t ≤ 158
        · have HB : Hid (taggedB t = true) := hide (by rw [HT.out]; exact decide_eq_true ⟨h3, h4⟩)
          clear HT hs
          go_enter Tryd.func31, Tryd.ntmps31
          go_wp2_with fail
          refine hcall.mono ?_
          rintro e w1 ⟨rfl, rfl⟩
          go_wp2
          go_ret
          exact ⟨ret_bool HB.out.symm, rfl⟩
        · have HB : Hid (taggedB t = false) := hide (by rw [HT.out]; exact decide_eq_false (by omega))
          have h4' : decide (t ≤ 158) = false := decide_eq_false h4
          clear HT hs
          go_enter Tryd.func31, Tryd.ntmps31
          go_wp2_with fail
          refine hcall.mono ?_
          rintro e w1 ⟨rfl, rfl⟩
          go_wp2
          go_ret
          exact ⟨ret_bool HB.out.symm, rfl⟩
      · have HB : Hid (taggedB t = false) := hide (by rw [HT.out]; exact decide_eq_false (by omega))
        have h3' : decide (128 ≤ t) = false := decide_eq_false h3
        clear HT hs
        go_enter Tryd.func31, Tryd.ntmps31
        go_wp2_with fail
        refine hcall.mono ?_
        rintro e w1 ⟨rfl, rfl⟩
        go_wp2
        go_ret
        exact ⟨ret_bool HB.out.symm, rfl⟩
end Go.Proofs.YtjkciheoknjfhaaDoor

/- Texts as strings: conversions, bytes.Equal. -/
namespace Go.Proofs.YtjkciheoknjfhaaDoor
open Go.RowKit
set_option linter.unusedVariables false

set_option maxRecDepth 100000 in
theorem conv_row {w : World} {u : Value} {l : List Nat} (h : Row .u8 256 w u l) : (convert 22 9 u).run Tryd.prog w = .ok (.string ⟨(bts l).toArray⟩) w := by
  have hu := h.under
  obtain ⟨a, cap, rfl, h1, h2, h3, h4⟩ := h
  cases a with
  | none =>
    have hl0 : l = [] := by
      cases l with
      | nil => rfl
      | cons x l => obtain ⟨_, _, h', _⟩ := h3 (by simp); cases h'
    subst hl0
    rfl
  | some x =>
    have hl : (bts l).length = l.length := by simp [bts]
    rw [← hl]
    refine run_convert_bytes_back (P := Tryd.prog) _ 22 9 5 x cap (bts l) Tryd.underlying22 Tryd.underlying5 Tryd.underlying9 ?_
    intro j hj
    rw [hl] at hj
    obtain ⟨b, off, hx, hc⟩ := h3 (by omega)
    obtain rfl := Option.some.inj hx
    rw [Addr.add_lit, hc j hj, el_at hj]
    simp only [bts, List.getElem_map]
    rw [ch_nat (hu _ (List.getElem_mem hj))]
theorem bts_inj {l m : List Nat} (hl : Under 256 l) (hm : Under 256 m) (h : bts l = bts m) : l = m := by
  have h1 := cmp_less l m hl hm
  have h2 := cmp_less m l hm hl
  have h3 := cmp_less l l hl hl
  rw [less_self] at h3
  rw [← h, h3] at h1 h2
  exact less_total l m h1.symm h2.symm
/-- a text as a string -/
def stg (l : List Nat) : ByteArray := ⟨(bts l).toArray⟩
theorem stg_inj {l m : List Nat} (hl : Under 256 l) (hm : Under 256 m) (h : stg l = stg m) : l = m := by
  refine bts_inj hl hm ?_
  have := congrArg (fun b => b.data.toList) h
  simpa [stg] using this
theorem toList_inj {a b : ByteArray} (h : a.toList = b.toList) : a = b := by
  rw [Lib.toList_data, Lib.toList_data] at h
  apply ByteArray.ext
  exact Array.toList_inj.1 h
theorem beq_any (va vb : Value) (l m : List Nat) (w : World) (ha : Row .u8 256 w va l) (hb : Row .u8 256 w vb m) :
    Calls Tryd.prog 26 #[va, vb] w fun e w' => e = .returned (.bool (decide (l = m))) ∧ w' = w := by
  have v1 : (convert 22 9 va).run Tryd.prog w = .ok (.string (stg l)) w := conv_row ha
  have v2 : (convert 22 9 vb).run Tryd.prog w = .ok (.string (stg m)) w := conv_row hb
  by_cases he : l = m
  · have e2 : stg l = stg m := by rw [he]
    rw [decide_eq_true he]
    clear he
    go_enter Tryd.func26, Tryd.ntmps26
    go_wp2
    go_ret
    exact ⟨rfl, rfl⟩
  · have hne2 : ((stg l).toList == (stg m).toList) = false := beq_eq_false_iff_ne.2 (fun h => he (stg_inj ha.under hb.under (toList_inj h)))
    rw [decide_eq_false he]
    clear he
    go_enter Tryd.func26, Tryd.ntmps26
    go_wp2
    go_ret
    exact ⟨rfl, rfl⟩
end Go.Proofs.YtjkciheoknjfhaaDoor

/- Plain facts on identifiers: their bytes, and what bytes are read as. -/
namespace Go.Proofs.YtjkciheoknjfhaaDoor
open Go.RowKit
set_option linter.unusedVariables false

/-- all bytes of a number but its last: by 7 bits, 128 added (the first argument: how many there may be) -/
def hibF : Nat → Nat → List Nat
  | 0, _ => []
  | f + 1, n => if n = 0 then [] else hibF f (n / 128) ++ [128 + n % 128]
def hib (n : Nat) : List Nat := hibF n n
theorem hibF_eq : ∀ (f g n : Nat), n ≤ f → n ≤ g → hibF f n = hibF g n
  | 0, g, n, hf, _ => by
    obtain rfl : n = 0 := by omega
    cases g with
    | zero => rfl
    | succ g => unfold hibF; rw [if_pos rfl]
  | f + 1, 0, n, _, hg => by
    obtain rfl : n = 0 := by omega
    unfold hibF; rw [if_pos rfl]
  | f + 1, g + 1, n, hf, hg => by
    unfold hibF
    by_cases h : n = 0
    · rw [if_pos h, if_pos h]
    · rw [if_neg h, if_neg h, hibF_eq f g (n / 128) (by omega) (by omega)]
/-- a number by 7 bits -/
def grp (n : Nat) : List Nat := hib (n / 128) ++ [n % 128]

theorem hi_zero : hib 0 = [] := rfl
theorem hi_pos {n : Nat} (h : 0 < n) : hib n = hib (n / 128) ++ [128 + n % 128] := by
  obtain ⟨k, rfl⟩ : ∃ k, n = k + 1 := ⟨n - 1, by omega⟩
  show hibF (k + 1) (k + 1) = _
  rw [hibF, if_neg (by omega)]
  unfold hib
  rw [hibF_eq k ((k + 1) / 128) ((k + 1) / 128) (by omega) (Nat.le_refl _)]
theorem hi_under (n : Nat) : Under 256 (hib n) := by
  induction n using Nat.strongRecOn with
  | ind n ih =>
    by_cases h : n = 0
    · subst h; rw [hi_zero]; intro x hx; simp at hx
    · rw [hi_pos (by omega)]
      intro x hx
      rcases List.mem_append.1 hx with h1 | h1
      · exact ih (n / 128) (by omega) x h1
      · simp at h1; omega
theorem grp_under (n : Nat) : Under 256 (grp n) := by
  intro x hx
  rcases List.mem_append.1 hx with h1 | h1
  · exact hi_under _ x h1
  · simp at h1; omega
theorem hi_len (n : Nat) : ∀ k, n < 128 ^ k → (hib n).length ≤ k := by
  induction n using Nat.strongRecOn with
  | ind n ih =>
    intro k hk
    by_cases h : n = 0
    · subst h; rw [hi_zero]; simp
    · rw [hi_pos (by omega), List.length_append]
      cases k with
      | zero => simp at hk; omega
      | succ k =>
        have := ih (n / 128) (by omega) k (by rw [Nat.pow_succ] at hk; exact Nat.div_lt_of_lt_mul (by omega))
        simp; omega
theorem grp_len {n : Nat} (h : n < 4294967296) : (grp n).length ≤ 5 := by
  unfold grp
  have := hi_len (n / 128) 4 (by
    have : (128 : Nat) ^ 4 = 268435456 := by decide
    omega)
  simp; omega
theorem grp_pos (n : Nat) : 0 < (grp n).length := by unfold grp; simp

/-- which numbers can be an identifier -/
def fitB (l : List Nat) : Bool := decide (2 ≤ l.length ∧ l.length ≤ 20 ∧ ((el l 0 < 2 ∧ el l 1 < 40) ∨ (el l 0 = 2 ∧ el l 1 ≤ 4294967215)))

/-- the numbers of an identifier, its first two as one -/
def merge (l : List Nat) : List Nat := (el l 0 * 40 + el l 1) :: l.drop 2
/-- and back -/
def fst2 (n : Nat) : List Nat := [min (n / 40) 2, n - min (n / 40) 2 * 40]
def expand : List Nat → List Nat
  | [] => []
  | n :: r => fst2 n ++ r

def flat (ns : List Nat) : List Nat := ns.flatMap grp
theorem flat_nil : flat [] = [] := rfl
theorem flat_cons (n : Nat) (r : List Nat) : flat (n :: r) = grp n ++ flat r := rfl
theorem flat_append (a b : List Nat) : flat (a ++ b) = flat a ++ flat b := by unfold flat; rw [List.flatMap_append]
theorem flat_under (ns : List Nat) : Under 256 (flat ns) := by
  intro x hx
  obtain ⟨n, _, h⟩ := List.mem_flatMap.1 hx
  exact grp_under n x h
theorem flat_len (ns : List Nat) (h : Under 4294967296 ns) : (flat ns).length ≤ 5 * ns.length := by
  induction ns with
  | nil => simp [flat]
  | cons n r ih =>
    rw [flat_cons, List.length_append]
    have h1 := grp_len (h n (by simp))
    have h2 := ih (fun x hx => h x (by simp [hx]))
    simp; omega

/-- an identifier's bytes -/
def bytesS (l : List Nat) : List Nat := if fitB l = true then flat (merge l) else []

theorem fit_two {l : List Nat} (h : fitB l = true) : ∃ a b r, l = a :: b :: r ∧ r.length ≤ 18 ∧ ((a < 2 ∧ b < 40) ∨ (a = 2 ∧ b ≤ 4294967215)) := by
  unfold fitB at h
  have h := of_decide_eq_true h
  match l, h with
  | [], h => simp at h
  | [_], h => simp at h
  | a :: b :: r, h =>
    refine ⟨a, b, r, rfl, by simp at h; omega, ?_⟩
    simpa [el] using h.2.2

theorem expand_merge {l : List Nat} (h : fitB l = true) : expand (merge l) = l := by
  obtain ⟨a, b, r, rfl, _, hab⟩ := fit_two h
  show fst2 (a * 40 + b) ++ r = a :: b :: r
  unfold fst2
  have e1 : min ((a * 40 + b) / 40) 2 = a := by omega
  rw [e1]
  simp

theorem merge_expand {ns : List Nat} (h : ns ≠ []) : merge (expand ns) = ns := by
  match ns, h with
  | n :: r, _ =>
    show (min (n / 40) 2 * 40 + (n - min (n / 40) 2 * 40)) :: r = n :: r
    congr 1
    omega

theorem merge_under {l : List Nat} (hu : Under 4294967296 l) (h : fitB l = true) : Under 4294967296 (merge l) := by
  obtain ⟨a, b, r, rfl, _, hab⟩ := fit_two h
  intro x hx
  have hx' : x = a * 40 + b ∨ x ∈ r := by simpa [merge, el] using hx
  rcases hx' with rfl | hx'
  · omega
  · exact hu x (by simp [hx'])

/-- the numbers that bytes hold, each in its lowest 32 bits -/
def nums (n : Nat) : List Nat → List Nat
  | [] => []
  | x :: r => if x < 128 then ((n * 128 + x % 128) % 4294967296) :: nums 0 r else nums ((n * 128 + x % 128) % 4294967296) r

theorem nums_hi (m : Nat) (hm : m < 4294967296) (r : List Nat) : nums 0 (hib m ++ r) = nums m r := by
  induction m using Nat.strongRecOn generalizing r with
  | ind m ih =>
    by_cases h : m = 0
    · subst h; rw [hi_zero]; rfl
    · rw [hi_pos (by omega), List.append_assoc, ih (m / 128) (by omega) (by omega)]
      show nums (m / 128) ((128 + m % 128) :: r) = _
      conv => lhs; unfold nums
      rw [if_neg (by omega)]
      congr 1
      omega

theorem nums_grp (n : Nat) (hn : n < 4294967296) (r : List Nat) : nums 0 (grp n ++ r) = n :: nums 0 r := by
  unfold grp
  rw [List.append_assoc, nums_hi (n / 128) (by omega)]
  show nums (n / 128) ((n % 128) :: r) = _
  conv => lhs; unfold nums
  rw [if_pos (by omega)]
  congr 1
  omega

theorem nums_flat (ns : List Nat) (h : Under 4294967296 ns) : nums 0 (flat ns) = ns := by
  induction ns with
  | nil => rfl
  | cons n r ih => rw [flat_cons, nums_grp n (h n (by simp)), ih (fun x hx => h x (by simp [hx]))]

theorem nums_under (n : Nat) (b : List Nat) : Under 4294967296 (nums n b) := by
  induction b generalizing n with
  | nil => intro x hx; simp [nums] at hx
  | cons x r ih =>
    unfold nums
    split
    · intro y hy
      rcases List.mem_cons.1 hy with rfl | hy
      · omega
      · exact ih 0 y hy
    · exact ih _
theorem nums_len (n : Nat) (b : List Nat) : (nums n b).length ≤ b.length := by
  induction b generalizing n with
  | nil => simp [nums]
  | cons x r ih =>
    unfold nums
    split
    · have := ih 0; simp; omega
    · have := ih ((n * 128 + x % 128) % 4294967296); simp; omega

/-- what is read loosely: no more numbers than show that there are too many -/
def looseN (ns : List Nat) : List Nat := expand (ns.take 20)
def looseS (b : List Nat) : List Nat := looseN (nums 0 b)

theorem loose_bytes {l : List Nat} (hu : Under 4294967296 l) (h : fitB l = true) : looseS (bytesS l) = l := by
  unfold looseS bytesS looseN
  rw [if_pos h, nums_flat _ (merge_under hu h)]
  have hl : (merge l).length ≤ 20 := by
    obtain ⟨a, b, r, rfl, hr, _⟩ := fit_two h
    simp [merge]; omega
  rw [List.take_of_length_le hl, expand_merge h]

theorem expand_under {ns : List Nat} (h : Under 4294967296 ns) : Under 4294967296 (expand ns) := by
  match ns, h with
  | [], h => exact h
  | n :: r, h =>
    have hn := h n (by simp)
    intro x hx
    have hx' : x = min (n / 40) 2 ∨ x = n - min (n / 40) 2 * 40 ∨ x ∈ r := by simpa [expand, fst2] using hx
    rcases hx' with rfl | rfl | hx'
    · omega
    · omega
    · exact h x (by simp [hx'])

/-- what the document's reader reads, byte by byte -/
def dec (n : Nat) (fresh : Bool) : List Nat → Option (List Nat)
  | [] => if fresh then some [] else none
  | x :: r => if fresh = true ∧ x = 128 then none
      else if 4294967295 < n * 128 + x % 128 then none
      else if x < 128 then (dec 0 true r).map ((n * 128 + x % 128) :: ·) else dec (n * 128 + x % 128) false r

theorem dec_hi (m : Nat) (h0 : 0 < m) (hm : m < 4294967296) (r : List Nat) : dec 0 true (hib m ++ r) = dec m false r := by
  induction m using Nat.strongRecOn generalizing r with
  | ind m ih =>
    rw [hi_pos (by omega), List.append_assoc]
    by_cases h : m / 128 = 0
    · rw [h, hi_zero]
      show dec 0 true ((128 + m % 128) :: r) = _
      conv => lhs; unfold dec
      rw [if_neg (by omega), if_neg (by omega), if_neg (by omega)]
      congr 1; omega
    · rw [ih (m / 128) (by omega) (by omega) (by omega)]
      show dec (m / 128) false ((128 + m % 128) :: r) = _
      conv => lhs; unfold dec
      rw [if_neg (by simp), if_neg (by omega), if_neg (by omega)]
      congr 1; omega

theorem dec_grp (n : Nat) (hn : n < 4294967296) (r : List Nat) : dec 0 true (grp n ++ r) = (dec 0 true r).map (n :: ·) := by
  unfold grp
  rw [List.append_assoc]
  by_cases h : n / 128 = 0
  · rw [h, hi_zero]
    show dec 0 true ((n % 128) :: r) = _
    conv => lhs; unfold dec
    rw [if_neg (by omega), if_neg (by omega), if_pos (by omega)]
    have e : 0 * 128 + n % 128 % 128 = n := by omega
    rw [e]
  · rw [dec_hi (n / 128) (by omega) (by omega)]
    show dec (n / 128) false ((n % 128) :: r) = _
    conv => lhs; unfold dec
    rw [if_neg (by simp), if_neg (by omega), if_pos (by omega)]
    have e : n / 128 * 128 + n % 128 % 128 = n := by omega
    rw [e]

theorem dec_flat (ns : List Nat) (h : Under 4294967296 ns) : dec 0 true (flat ns) = some ns := by
  induction ns with
  | nil => rfl
  | cons n r ih => rw [flat_cons, dec_grp n (h n (by simp)), ih (fun x hx => h x (by simp [hx]))]; rfl

theorem dec_back (b : List Nat) (hb : Under 256 b) : (∀ ns, dec 0 true b = some ns → b = flat ns ∧ Under 4294967296 ns) ∧
    (∀ n ns, 0 < n → dec n false b = some ns → hib n ++ b = flat ns ∧ Under 4294967296 ns) := by
  induction b with
  | nil =>
    refine ⟨fun ns h => ?_, fun n ns hn h => ?_⟩
    · simp [dec] at h; subst h; exact ⟨rfl, fun x hx => by simp at hx⟩
    · simp [dec] at h
  | cons x r ih =>
    have hx := hb x (by simp)
    obtain ⟨ih1, ih2⟩ := ih (fun y hy => hb y (by simp [hy]))
    refine ⟨fun ns h => ?_, fun n ns hn h => ?_⟩
    · unfold dec at h
      by_cases h1 : x = 128
      · rw [if_pos ⟨rfl, h1⟩] at h; cases h
      rw [if_neg (by omega), if_neg (by omega)] at h
      by_cases h2 : x < 128
      · rw [if_pos h2] at h
        obtain ⟨ms, hm, rfl⟩ := Option.map_eq_some_iff.1 h
        obtain ⟨rfl, hu⟩ := ih1 ms hm
        have e : 0 * 128 + x % 128 = x := by omega
        rw [e, flat_cons]
        refine ⟨?_, ?_⟩
        · unfold grp
          rw [show x / 128 = 0 by omega, hi_zero, show x % 128 = x by omega]; rfl
        · intro y hy
          rcases List.mem_cons.1 hy with rfl | hy
          · omega
          · exact hu y hy
      · rw [if_neg h2] at h
        obtain ⟨e, hu⟩ := ih2 _ ns (by omega) h
        refine ⟨?_, hu⟩
        rw [← e, hi_pos (by omega), show (0 * 128 + x % 128) / 128 = 0 by omega, hi_zero, show 128 + (0 * 128 + x % 128) % 128 = x by omega]; rfl
    · unfold dec at h
      rw [if_neg (by simp)] at h
      by_cases h0 : 4294967295 < n * 128 + x % 128
      · rw [if_pos h0] at h; cases h
      rw [if_neg h0] at h
      by_cases h2 : x < 128
      · rw [if_pos h2] at h
        obtain ⟨ms, hm, rfl⟩ := Option.map_eq_some_iff.1 h
        obtain ⟨rfl, hu⟩ := ih1 ms hm
        rw [flat_cons]
        refine ⟨?_, ?_⟩
        · unfold grp
          rw [show (n * 128 + x % 128) / 128 = n by omega, show (n * 128 + x % 128) % 128 = x by omega]; simp
        · intro y hy
          rcases List.mem_cons.1 hy with rfl | hy
          · omega
          · exact hu y hy
      · rw [if_neg h2] at h
        obtain ⟨e, hu⟩ := ih2 _ ns (by omega) h
        refine ⟨?_, hu⟩
        rw [← e, hi_pos (n := n * 128 + x % 128) (by omega), show (n * 128 + x % 128) / 128 = n by omega, show 128 + (n * 128 + x % 128) % 128 = x by omega]; simp

/-- the identifier that bytes are, as the program finds it -/
def parO (b : List Nat) : Option (List Nat) := if fitB (looseS b) = true ∧ bytesS (looseS b) = b then some (looseS b) else none
/-- the same, as the document's reader finds it -/
def parR (b : List Nat) : Option (List Nat) := (dec 0 true b).bind fun ns => if fitB (expand ns) = true then some (expand ns) else none

theorem parO_iff {b : List Nat} {o : List Nat} (hu : Under 4294967296 o) : parO b = some o ↔ (fitB o = true ∧ bytesS o = b) := by
  unfold parO
  constructor
  · intro h
    split at h
    · rename_i hc
      cases h
      exact hc
    · cases h
  · rintro ⟨h1, rfl⟩
    rw [loose_bytes hu h1, if_pos ⟨h1, rfl⟩]
theorem looseS_under (b : List Nat) : Under 4294967296 (looseS b) :=
  expand_under (fun x hx => nums_under 0 b x (List.mem_of_mem_take hx))
theorem parO_under {b o : List Nat} (h : parO b = some o) : Under 4294967296 o := by
  unfold parO at h
  split at h
  · cases h; exact looseS_under b
  · cases h

theorem parR_eq {b : List Nat} (hb : Under 256 b) : parR b = parO b := by
  cases h : parO b with
  | some o =>
    have hu := parO_under h
    obtain ⟨h1, h2⟩ := (parO_iff hu).1 h
    unfold parR
    unfold bytesS at h2
    rw [if_pos h1] at h2
    rw [← h2, dec_flat _ (merge_under hu h1)]
    simp [expand_merge h1, h1]
  | none =>
    cases h2 : parR b with
    | none => rfl
    | some o =>
      exfalso
      unfold parR at h2
      obtain ⟨ns, hn, h3⟩ := Option.bind_eq_some_iff.1 h2
      split at h3
      · rename_i hf
        cases h3
        obtain ⟨rfl, hu⟩ := (dec_back b hb).1 ns hn
        have hne : ns ≠ [] := by rintro rfl; simp [fitB, expand] at hf
        have : parO (flat ns) = some (expand ns) := (parO_iff (expand_under hu)).2 ⟨hf, by unfold bytesS; rw [if_pos hf, merge_expand hne]⟩
        rw [h] at this; cases this
      · cases h3

theorem bytes_inj {l m : List Nat} (hl : Under 4294967296 l) (hm : Under 4294967296 m) (fl : fitB l = true) (fm : fitB m = true) (h : bytesS l = bytesS m) : l = m := by
  rw [← loose_bytes hl fl, h, loose_bytes hm fm]

/-- one whose bytes begin with another one's has its numbers ahead -/
theorem flat_prefix (ns ms : List Nat) (hn : Under 4294967296 ns) (hm : Under 4294967296 ms) (t : List Nat) (h : flat ms = flat ns ++ t) : ∃ r, ms = ns ++ r := by
  induction ns generalizing ms with
  | nil => exact ⟨ms, rfl⟩
  | cons n r ih =>
    rw [flat_cons, List.append_assoc] at h
    have e1 : nums 0 (flat ms) = n :: nums 0 (flat r ++ t) := by rw [h, nums_grp n (hn n (by simp))]
    rw [nums_flat ms hm] at e1
    cases ms with
    | nil => cases e1
    | cons m s =>
      obtain ⟨rfl, e2⟩ := List.cons.inj e1
      rw [flat_cons] at h
      have h' := List.append_cancel_left h
      obtain ⟨q, rfl⟩ := ih s (fun x hx => hn x (by simp [hx])) (fun x hx => hm x (by simp [hx])) h'
      exact ⟨q, rfl⟩

theorem bytes_prefix {l m : List Nat} (hl : Under 4294967296 l) (hm : Under 4294967296 m) (fl : fitB l = true) (fm : fitB m = true) (t : List Nat) (h : bytesS m = bytesS l ++ t) :
    l.length ≤ m.length ∧ l = m.take l.length := by
  unfold bytesS at h
  rw [if_pos fl, if_pos fm] at h
  obtain ⟨q, hq⟩ := flat_prefix _ _ (merge_under hl fl) (merge_under hm fm) t h
  have e := expand_merge fm
  rw [hq] at e
  have hne : merge l = (el l 0 * 40 + el l 1) :: l.drop 2 := rfl
  rw [hne] at e
  have e2 : expand (merge l) ++ q = m := by rw [← e, hne]; simp [expand]
  rw [expand_merge fl] at e2
  subst e2
  simp
end Go.Proofs.YtjkciheoknjfhaaDoor

/- Contracts of oid.Fit, apostilleref02.Fit. -/
namespace Go.Proofs.YtjkciheoknjfhaaDoor
open Go.RowKit
set_option linter.unusedVariables false

theorem fit_short {l : List Nat} (h : l.length < 2) : fitB l = false := by unfold fitB; simp; omega
theorem fit_long {l : List Nat} (h : 20 < l.length) : fitB l = false := by unfold fitB; simp; omega
theorem fit_low {l : List Nat} (h1 : 2 ≤ l.length) (h2 : l.length ≤ 20) (h : el l 0 < 2) : fitB l = decide (el l 1 < 40) := by
  unfold fitB; rw [decide_eq_decide]; omega
theorem fit_two' {l : List Nat} (h1 : 2 ≤ l.length) (h2 : l.length ≤ 20) (h : el l 0 = 2) : fitB l = decide (el l 1 ≤ 4294967215) := by
  unfold fitB; rw [decide_eq_decide]; omega
theorem fit_high {l : List Nat} (h : 2 < el l 0) : fitB l = false := by
  unfold fitB; rw [decide_eq_false_iff_not]; omega

set_option maxHeartbeats 400000 in
theorem fit_any (v : Value) (l : List Nat) (w : World) (h : Row .u32 4294967296 w v l) :
    Calls Tryd.prog 76 #[v] w fun e w' => e = .returned (.bool (fitB l)) ∧ w' = w := by
  obtain ⟨a, cap, rfl, h1, h2, h3, h4⟩ := h
  unfold maxLen at h2
  by_cases hs : l.length < 2
  · rw [fit_short hs]
    go_enter Tryd.func76, Tryd.ntmps76
    go_wp2
    go_ret
    exact ⟨rfl, rfl⟩
  by_cases hl : 20 < l.length
  · rw [fit_long hl]
    go_enter Tryd.func76, Tryd.ntmps76
    go_wp2
    go_ret
    exact ⟨rfl, rfl⟩
  obtain ⟨b, off, rfl, hc⟩ := h3 (by omega)
  have c0 : w.cell? ⟨b, off, none⟩ = some (.int .u32 (el l 0)) := hc 0 (by omega)
  have c1 : w.cell? ⟨b, off + 1, none⟩ = some (.int .u32 (el l 1)) := hc 1 (by omega)
  have u1 := el_lt h4 (by decide) 1
  clear hc h3
  by_cases hlow : el l 0 < 2
  · rw [fit_low (by omega) (by omega) hlow]
    go_enter Tryd.func76, Tryd.ntmps76
    go_wp2
    go_ret
    exact ⟨ret_bool (by rw [decide_eq_decide]; omega), rfl⟩
  by_cases h22 : el l 0 = 2
  · have e2 : ((el l 0 : Int) == 2) = true := by simp [h22]
    rw [fit_two' (by omega) (by omega) h22]
    have H22 := hide h22
    clear h22
    go_enter Tryd.func76, Tryd.ntmps76
    go_wp2
    go_ret
    exact ⟨ret_bool (by rw [decide_eq_decide]; omega), rfl⟩
  · have e2 : ((el l 0 : Int) == 2) = false := by simp; omega
    rw [fit_high (by omega)]
    go_enter Tryd.func76, Tryd.ntmps76
    go_wp2
    go_ret
    exact ⟨rfl, rfl⟩

set_option maxHeartbeats 400000 in
theorem rfit_any (v : Value) (l : List Nat) (w : World) (h : Row .u32 4294967296 w v l) :
    Calls Tryd.prog 62 #[v] w fun e w' => e = .returned (.bool (fitB l)) ∧ w' = w := by
  obtain ⟨a, cap, rfl, h1, h2, h3, h4⟩ := h
  unfold maxLen at h2
  by_cases hs : l.length < 2
  · rw [fit_short hs]
    go_enter Tryd.func62, Tryd.ntmps62
    go_wp2
    go_ret
    exact ⟨rfl, rfl⟩
  by_cases hl : 20 < l.length
  · rw [fit_long hl]
    go_enter Tryd.func62, Tryd.ntmps62
    go_wp2
    go_ret
    exact ⟨rfl, rfl⟩
  obtain ⟨b, off, rfl, hc⟩ := h3 (by omega)
  have c0 : w.cell? ⟨b, off, none⟩ = some (.int .u32 (el l 0)) := hc 0 (by omega)
  have c1 : w.cell? ⟨b, off + 1, none⟩ = some (.int .u32 (el l 1)) := hc 1 (by omega)
  have u1 := el_lt h4 (by decide) 1
  clear hc h3
  by_cases hlow : el l 0 < 2
  · have e2 : ((el l 0 : Int) == 2) = false := by simp; omega
    rw [fit_low (by omega) (by omega) hlow]
    by_cases hx : el l 1 < 40
    · go_enter Tryd.func62, Tryd.ntmps62
      go_wp2
      go_ret
      exact ⟨ret_bool (by simp), rfl⟩
    · go_enter Tryd.func62, Tryd.ntmps62
      go_wp2
      go_ret
      exact ⟨ret_bool (by simp; omega), rfl⟩
  by_cases h22 : el l 0 = 2
  · have e2 : ((el l 0 : Int) == 2) = true := by simp [h22]
    rw [fit_two' (by omega) (by omega) h22]
    have g1 : ¬ (2 : Int) < (el l 0 : Int) := by omega
    have H22 := hide h22
    clear h22
    go_enter Tryd.func62, Tryd.ntmps62
    go_wp2
    go_ret
    exact ⟨ret_bool (by rw [decide_eq_decide]; omega), rfl⟩
  · have g1 : (2 : Int) < (el l 0 : Int) := by omega
    rw [fit_high (by omega)]
    go_enter Tryd.func62, Tryd.ntmps62
    go_wp2
    go_ret
    exact ⟨rfl, rfl⟩
end Go.Proofs.YtjkciheoknjfhaaDoor

/- Contract of slices.Reverse. -/
namespace Go.Proofs.YtjkciheoknjfhaaDoor
open Go.RowKit
set_option linter.unusedVariables false

/-- a list, its first and last k elements exchanged -/
def revTo (l : List Nat) (k : Nat) : List Nat := (List.range l.length).map (fun t => if t < k ∨ l.length - k ≤ t then el l (l.length - 1 - t) else el l t)

theorem revTo_length (l : List Nat) (k : Nat) : (revTo l k).length = l.length := by simp [revTo]
theorem revTo_zero (l : List Nat) : revTo l 0 = l := by
  apply List.ext_getElem
  · simp [revTo]
  · intro i h1 h2
    simp only [revTo, List.getElem_map, List.getElem_range]
    rw [if_neg (by omega), el_at h2]
theorem revTo_full (l : List Nat) (k : Nat) (h : l.length ≤ 2 * k + 1) : revTo l k = l.reverse := by
  apply List.ext_getElem
  · simp [revTo]
  · intro i h1 h2
    have h3 : i < l.length := by simpa using h2
    simp only [revTo, List.getElem_map, List.getElem_range, List.getElem_reverse]
    by_cases hc : i < k ∨ l.length - k ≤ i
    · rw [if_pos hc, el_at]
    · rw [if_neg hc, el_at h3]
      have e : i = l.length - 1 - i := by omega
      congr 1
theorem revTo_el (l : List Nat) (k t : Nat) (ht : t < l.length) (h : k ≤ t ∧ t < l.length - k) : el (revTo l k) t = el l t := by
  rw [el_at (by rw [revTo_length]; exact ht)]
  simp only [revTo, List.getElem_map, List.getElem_range]
  rw [if_neg (by omega)]
theorem revTo_set (l : List Nat) (k j : Nat) (hj : j = l.length - 1 - k) (h : k < j) :
    ((revTo l k).set k (el l j)).set j (el l k) = revTo l (k + 1) := by
  apply List.ext_getElem
  · simp [revTo]
  · intro i h1 h2
    have h3 : i < l.length := by simpa [revTo] using h2
    simp only [revTo, List.getElem_set, List.getElem_map, List.getElem_range]
    by_cases e1 : j = i
    · subst e1; rw [if_pos rfl, if_pos (by omega)]; congr 1; omega
    · rw [if_neg e1]
      by_cases e2 : k = i
      · subst e2; rw [if_pos rfl, if_pos (by omega)]; congr 1
      · rw [if_neg e2]
        by_cases e3 : i < k ∨ l.length - k ≤ i
        · rw [if_pos e3, if_pos (by omega)]
        · rw [if_neg e3, if_neg (by omega)]
theorem revTo_under (l : List Nat) (k : Nat) (m : Nat) (hm : 0 < m) (h : Under m l) : Under m (revTo l k) := by
  intro x hx
  obtain ⟨i, _, rfl⟩ := List.mem_map.1 hx
  split <;> exact el_lt h hm _
theorem set_comm' (l : List Nat) (i j x y : Nat) (h : i ≠ j) : (l.set i x).set j y = (l.set j y).set i x := List.set_comm x y h

set_option maxHeartbeats 400000 in
theorem rev_any (v : Value) (l : List Nat) (B : Nat) (w : World) (h : Own 5 .u8 256 w B v l) :
    Calls Tryd.prog 88 #[v] w fun e w' => e = .returned (.tuple #[]) ∧ Own 5 .u8 256 w' B v l.reverse ∧ Below B w w' := by
  obtain ⟨ho, hu⟩ := h
  have ho' := ho
  obtain ⟨h1, ⟨rfl, h2⟩ | ⟨g, cap, cur, rfl, h3, h4, h5, h6, h7, h8⟩⟩ := ho
  · have : l = [] := List.eq_nil_of_length_eq_zero h2
    subst this
    go_enter Tryd.func88, Tryd.ntmps88
    go_wp2
    refine wp_loop_rounds 1 ?_; rw [rounds_succ]
    go_wp2
    go_end0
    exact ⟨rfl, ⟨ho', hu⟩, Below.refl _ _⟩
  · clear h4 h7 h8 h1
    unfold maxLen at h6
    generalize hN : l.length = N at *
    have HN := hide hN
    clear hN
    go_enter Tryd.func88, Tryd.ntmps88
    go_wp2
    go_loopw [2, 3] (fun i j wr => ∃ k jn : Nat, i = .int .i64 k ∧ j = .int .i64 ((jn : Int) - 1) ∧ k + jn = N ∧ wr.ownsRow B 5 1 (.slice (some ⟨g, 0, none⟩) N cap) N (vals .u8 (revTo l k)) ∧ Below B w wr) (fun _ j _ => (intOf j).toNat)
    case atStart => exact ⟨0, N, rfl, rfl, by omega, by rw [revTo_zero]; exact ho', Below.refl _ _⟩
    case round =>
      obtain ⟨k, jn, rfl, rfl, hkj, how, hbr⟩ := hrel
      have hle1 : k ≤ N := by omega
      have hle2 : jn ≤ N := by omega
      have HKJ := hide hkj
      clear hkj
      by_cases hlt : k + 1 < jn
      · obtain ⟨j, rfl⟩ : ∃ j, jn = j + 1 := ⟨jn - 1, by omega⟩
        have hkj : k < j := by omega
        have hjN : j < N := by omega
        have c1 := how.cellAt k (by omega)
        rw [vals_get _ _ _ (by rw [revTo_length, HN.out]; omega)] at c1
        have c2 := how.cellAt j (by omega)
        rw [vals_get _ _ _ (by rw [revTo_length, HN.out]; omega)] at c2
        have f1 := how.frozenAt k
        have f2 := how.frozenAt j
        rw [show (((j + 1 : Nat) : Int) - 1) = (j : Int) from by omega]
        go_wp2
        go_region
        go_wp2
        go_roundw
        case rel =>
          have e1 : el (revTo l k) j = el l j := revTo_el l k j (by rw [HN.out]; omega) (by rw [HN.out]; have := HKJ.out; omega)
          have e2 : el (revTo l k) k = el l k := revTo_el l k k (by rw [HN.out]; omega) (by rw [HN.out]; have := HKJ.out; omega)
          have s1 := (how.stored k (.int .u8 (el (revTo l k) j : Int))).1
          have s2 := (s1.stored j (.int .u8 (el (revTo l k) k : Int))).1
          rw [vals_set, vals_set, e1, e2, revTo_set l k j (by rw [HN.out]; have := HKJ.out; omega) hkj] at s2
          rw [e1, e2]
          exact ⟨k + 1, j, by go_num, rfl, by have := HKJ.out; omega, s2, ((hbr.setCell (by simpa using h3) _).setCell (by simpa using h3) _).drew⟩
        case measure => simp [intOf]; omega
      · go_wp2
        go_end0
        have e : revTo l k = l.reverse := revTo_full l k (by rw [HN.out]; have := HKJ.out; omega)
        refine ⟨rfl, ⟨?_, ?_⟩, hbr⟩
        · rw [← e, revTo_length, HN.out]; exact how
        · rw [← e]; exact revTo_under _ _ _ (by decide) hu
end Go.Proofs.YtjkciheoknjfhaaDoor

/- Contract of slices.Reverse over the end of a row. -/
namespace Go.Proofs.YtjkciheoknjfhaaDoor
open Go.RowKit
set_option linter.unusedVariables false

theorem el_app (a b : List Nat) (k : Nat) : el (a ++ b) (a.length + k) = el b k := by
  unfold el
  rw [List.getElem?_append_right (by omega)]
  congr 2; omega
theorem set_app (a b : List Nat) (k x : Nat) : (a ++ b).set (a.length + k) x = a ++ b.set k x := by
  induction a with
  | nil => simp
  | cons y a ih => rw [List.cons_append, List.length_cons, show a.length + 1 + k = (a.length + k) + 1 by omega, List.set_cons_succ, ih]; rfl

set_option maxHeartbeats 1000000 in
theorem revAt_any (g cap : Nat) (a l : List Nat) (B : Nat) (w : World) (ha : Under 256 a) (h : Own 5 .u8 256 w B (.slice (some ⟨g, 0, none⟩) (a ++ l).length cap) (a ++ l)) :
    Calls Tryd.prog 88 #[.slice (some ⟨g, a.length, none⟩) l.length (cap - a.length)] w fun e w' => e = .returned (.tuple #[]) ∧
      Own 5 .u8 256 w' B (.slice (some ⟨g, 0, none⟩) (a ++ l).length cap) (a ++ l.reverse) ∧ Below B w w' := by
  obtain ⟨ho, hu⟩ := h
  have hul : Under 256 l := fun x hx => hu x (by simp [hx])
  have ho' := ho
  obtain ⟨h1, ⟨h2, _⟩ | ⟨g', cap', cur, he, h3, h4, h5, h6, h7, h8⟩⟩ := ho
  · simp at h2
  simp only [Value.slice.injEq, Option.some.injEq, Addr.mk.injEq, and_true, true_and] at he
  obtain ⟨rfl, rfl⟩ := he
  clear h4 h7 h8 h1
  unfold maxLen at h6
  rw [List.length_append] at h5
  generalize hN : l.length = N at *
  have HN := hide hN
  clear hN
  generalize hS : a.length = S at *
  have HS := hide hS
  clear hS
  generalize hA : (a ++ l).length = A at *
  have HA := hide hA
  clear hA
  have hAN : A = S + N := by have := HA.out; rw [List.length_append, HS.out, HN.out] at this; omega
  have HAN := hide hAN
  have hle0 : S + N ≤ A := by omega
  clear hAN
  go_enter Tryd.func88, Tryd.ntmps88
  go_wp2
  go_loopw [2, 3] (fun i j wr => ∃ k jn : Nat, i = .int .i64 k ∧ j = .int .i64 ((jn : Int) - 1) ∧ k + jn = N ∧ wr.ownsRow B 5 1 (.slice (some ⟨g, 0, none⟩) A cap) A (vals .u8 (a ++ revTo l k)) ∧ Below B w wr) (fun _ j _ => (intOf j).toNat)
  case atStart => exact ⟨0, N, rfl, rfl, by omega, by rw [revTo_zero]; exact ho', Below.refl _ _⟩
  case round =>
    obtain ⟨k, jn, rfl, rfl, hkj, how, hbr⟩ := hrel
    have hle1 : k ≤ N := by omega
    have hle2 : jn ≤ N := by omega
    have HKJ := hide hkj
    clear hkj
    by_cases hlt : k + 1 < jn
    · obtain ⟨j, rfl⟩ : ∃ j, jn = j + 1 := ⟨jn - 1, by omega⟩
      have hkj : k < j := by omega
      have hjN : j < N := by omega
      have c1 := how.cellAt (S + k) (by omega)
      rw [vals_get _ _ _ (by rw [List.length_append, revTo_length, HN.out, HS.out]; omega)] at c1
      have c2 := how.cellAt (S + j) (by omega)
      rw [vals_get _ _ _ (by rw [List.length_append, revTo_length, HN.out, HS.out]; omega)] at c2
      have q1 := el_app a (revTo l k) k
      have q2 := el_app a (revTo l k) j
      rw [HS.out] at q1 q2
      rw [q1] at c1
      rw [q2] at c2
      clear q1 q2
      have f1 := how.frozenAt (S + k)
      have f2 := how.frozenAt (S + j)
      rw [show (((j + 1 : Nat) : Int) - 1) = (j : Int) from by omega]
      go_wp2
      go_region
      go_wp2
      go_roundw
      case rel =>
        have e1 : el (revTo l k) j = el l j := revTo_el l k j (by rw [HN.out]; omega) (by rw [HN.out]; have := HKJ.out; omega)
        have e2 : el (revTo l k) k = el l k := revTo_el l k k (by rw [HN.out]; omega) (by rw [HN.out]; have := HKJ.out; omega)
        have s1 := (how.stored (S + k) (.int .u8 (el (revTo l k) j : Int))).1
        have s2 := (s1.stored (S + j) (.int .u8 (el (revTo l k) k : Int))).1
        have p1 := set_app a (revTo l k) k (el l j)
        have p2 := set_app a ((revTo l k).set k (el l j)) j (el l k)
        rw [HS.out] at p1 p2
        rw [vals_set, vals_set, e1, e2, p1, p2, revTo_set l k j (by rw [HN.out]; have := HKJ.out; omega) hkj] at s2
        rw [e1, e2]
        exact ⟨k + 1, j, by go_num, rfl, by have := HKJ.out; omega, s2, ((hbr.setCell (by simpa using h3) _).setCell (by simpa using h3) _).drew⟩
      case measure => simp [intOf]; omega
    · go_wp2
      go_end0
      have e : revTo l k = l.reverse := revTo_full l k (by rw [HN.out]; have := HKJ.out; omega)
      refine ⟨rfl, ⟨?_, ?_⟩, hbr⟩
      · rw [← e, List.length_append, revTo_length, HN.out, HS.out]
        have := HAN.out
        subst this
        exact how
      · intro x hx
        rcases List.mem_append.1 hx with h9 | h9
        · exact ha x h9
        · exact hul x (by simpa using h9)
end Go.Proofs.YtjkciheoknjfhaaDoor

/- Contracts of apostilleref02.groups, oid.appendNumber. -/
namespace Go.Proofs.YtjkciheoknjfhaaDoor
open Go.RowKit
set_option linter.unusedVariables false

theorem or128 (q : Nat) : bits .or .u8 128 ((q % 128 : Nat) : Int) = ((128 + q % 128 : Nat) : Int) := by
  rw [show (128 : Int) = ((128 : Nat) : Int) from rfl, u8_or_nat _ _ (by decide) (by omega), nat_join 7 128 (q % 128) (by decide) (by omega)]

theorem hib_step {n : Nat} (h : 0 < n) : hib n = hib (n / 128) ++ [128 + n % 128] := hi_pos h
theorem hib_zero : hib 0 = [] := hi_zero

end Go.Proofs.YtjkciheoknjfhaaDoor
