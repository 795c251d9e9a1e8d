/- Texts: their bytes, digits, parts. -/
import Derived.Test.YtiedkpfpaeecfaaKit
import Derived.Lib.ItoaNum
import Derived.Lib.UnsafeStr
import Derived.Lib.SplitLaws
import Derived.Laws.IdiomStrings
import Derived.Test.YtiedkpfpaeecfaaOrN
import Derived.Lib.Bytealg
import Derived.Lib.BytesEntry
namespace Go.Proofs.Ytiedkpfpaeecfaa
open Go.RowKit
set_option linter.unusedVariables false

/-- a text of these bytes -/
abbrev str (l : List UInt8) : Value := .string ⟨l.toArray⟩
/-- a byte -/
def ch (x : Nat) : UInt8 := UInt8.ofNat x
theorem ch_nat {x : Nat} (h : x < 256) : (ch x).toNat = x := by unfold ch; simp; omega
abbrev dg (n : Nat) : List UInt8 := Lib.decDigits n
theorem dg_low {n : Nat} (h : n < 10) : dg n = [ch (48 + n)] := by unfold dg; rw [Lib.decDigits, dif_pos h]; rfl
theorem dg_high {n : Nat} (h : ¬ n < 10) : dg n = dg (n / 10) ++ [ch (48 + n % 10)] := by unfold dg; rw [Lib.decDigits, dif_neg h]; rfl
theorem dg_len (n : Nat) : ∀ k, n < 10 ^ (k + 1) → (dg n).length ≤ k + 1 := by
  induction n using Nat.strongRecOn with
  | ind n ih =>
    intro k hk
    by_cases h : n < 10
    · rw [dg_low h]; simp
    · rw [dg_high h, List.length_append]
      cases k with
      | zero => simp at hk; omega
      | succ k =>
        have := ih (n / 10) (by omega) k (Nat.div_lt_of_lt_mul (by rw [Nat.pow_succ] at hk; omega))
        simp; omega
theorem dg_len20 {n : Nat} (h : n < 18446744073709551616) : (dg n).length ≤ 20 := dg_len n 19 (by omega)
theorem conv_one (w : World) (x : Nat) (y : Int) (hy : y = (x : Int)) (hx : x < 256) :
    (convert 22 9 (.slice (some ⟨w.heap.size, 0, none⟩) 1 1)).run Try.prog (w.alloc (.cells #[.int .u8 y] 5)) = .ok (.string ⟨#[ch x]⟩) (w.alloc (.cells #[.int .u8 y] 5)) := by
  subst hy
  refine run_convert_bytes_back (P := Try.prog) _ 22 9 5 ⟨w.heap.size, 0, none⟩ 1 [ch x] Try.underlying22 Try.underlying5 Try.underlying9 ?_
  intro j hj
  have hj0 : j = 0 := by simp at hj; omega
  subst hj0
  rw [cells_new w (.int .u8 (x : Int)) 5 0 (.int .u8 (x : Int)) rfl]
  simp [ch_nat hx]
theorem str_app (a b : List UInt8) : (⟨a.toArray⟩ ++ ⟨b.toArray⟩ : ByteArray) = ⟨(a ++ b).toArray⟩ := by
  apply ByteArray.ext
  simp
theorem str_one (x : UInt8) (b : List UInt8) : (⟨#[x]⟩ ++ ⟨b.toArray⟩ : ByteArray) = ⟨(x :: b).toArray⟩ := str_app [x] b
theorem ba_size (b : ByteArray) : b.size = b.data.toList.length := Lib.size_eq b
theorem cut_snoc {l : List UInt8} {f k : Nat} (hf : f ≤ k) (hk : k < l.length) : (l.take (k + 1)).drop f = (l.take k).drop f ++ [l[k]] := by
  rw [List.take_succ_eq_append_getElem hk, List.drop_append_of_le_length (by simp; omega)]
theorem cut_len {l : List UInt8} {f k : Nat} : ((l.take k).drop f).length ≤ l.length := by simp; omega
theorem sub_eq (l : List UInt8) (f k : Nat) : (⟨l.toArray⟩ : ByteArray).extract f k = ⟨((l.take k).drop f).toArray⟩ := by
  apply ByteArray.ext
  apply Array.ext'
  rw [Lib.extract_data]
  simp [List.drop_take]
theorem dg_pos (n : Nat) : 0 < (dg n).length := by
  by_cases h : n < 10
  · rw [dg_low h]; simp
  · rw [dg_high h]; simp
theorem bc_cells (l : List UInt8) (w : World) (g : Nat) (h : ∀ j u, (Lib.byteCells l)[j]? = some u → w.cell? ((⟨g, 0, none⟩ : Addr).add j) = some u) :
    ∀ j (hj : j < l.length), w.cell? ((⟨g, 0, none⟩ : Addr).add j) = some (.int .u8 (l[j].toNat : Int)) := by
  intro j hj
  refine h j _ ?_
  simp [Lib.byteCells, hj]
theorem dg_digit (n : Nat) : ∀ c ∈ dg n, 48 ≤ c.toNat ∧ c.toNat ≤ 57 := by
  induction n using Nat.strongRecOn with
  | ind n ih =>
    by_cases h : n < 10
    · rw [dg_low h]; intro c hc; simp at hc; subst hc; rw [ch_nat (by omega)]; omega
    · rw [dg_high h]; intro c hc
      rcases List.mem_append.1 hc with h1 | h1
      · exact ih (n / 10) (by omega) c h1
      · simp at h1; subst h1; rw [ch_nat (by omega)]; omega
end Go.Proofs.Ytiedkpfpaeecfaa

/- Which text is ahead of another one: bytes.Compare, order.Less, the document's Less. -/
namespace Go.Proofs.Ytiedkpfpaeecfaa
open Go.RowKit
set_option linter.unusedVariables false

/-- a text's bytes -/
def bts (l : List Nat) : List UInt8 := l.map ch
theorem ch_lt {x y : Nat} (hx : x < 256) (hy : y < 256) : ch x < ch y ↔ x < y := by
  rw [UInt8.lt_iff_toNat_lt, ch_nat hx, ch_nat hy]
theorem cmp_less (a : List Nat) : ∀ b, Under 256 a → Under 256 b → decide (Lib.compareBytes (bts a) (bts b) < 0) = lessL a b := by
  induction a with
  | nil =>
    intro b _ _
    cases b with
    | nil => rfl
    | cons y b => rfl
  | cons x a ih =>
    intro b ha hb
    cases b with
    | nil => rfl
    | cons y b =>
      have hx := ha x (by simp)
      have hy := hb y (by simp)
      have h := ih b (fun z hz => ha z (by simp [hz])) (fun z hz => hb z (by simp [hz]))
      unfold bts at h ⊢
      rw [List.map_cons, List.map_cons, Lib.compareBytes, lessL]
      by_cases h1 : x < y
      · rw [if_pos ((ch_lt hx hy).2 h1)]; simp [h1]
      · rw [if_neg (fun e => h1 ((ch_lt hx hy).1 e))]
        by_cases h2 : y < x
        · rw [if_pos ((ch_lt hy hx).2 h2)]
          have : x ≠ y := by omega
          simp [h1, this]
        · rw [if_neg (fun e => h2 ((ch_lt hy hx).1 e)), h]
          have : x = y := by omega
          simp [this]
theorem row_bytesOf {w : World} {v : Value} {l : List Nat} (h : Row .u8 256 w v l) : (Extern.Bytes.bytesOf v).run Try.prog w = .ok ⟨(bts l).toArray⟩ w := by
  obtain ⟨a, cap, rfl, h1, h2, h3, h4⟩ := h
  by_cases hl : 0 < l.length
  · obtain ⟨b, off, rfl, hc⟩ := h3 hl
    have hr := Lib.run_loadBytesX (P := Try.prog) w (l.map fun (x : Nat) => (x : Int)) ⟨b, off, none⟩ .empty (by
      intro j x hj
      rw [List.getElem?_map] at hj
      have hj' : j < l.length := by
        rcases Nat.lt_or_ge j l.length with h | h
        · exact h
        · rw [List.getElem?_eq_none h] at hj; simp at hj
      rw [List.getElem?_eq_getElem hj'] at hj
      simp at hj
      rw [Addr.add_lit, hc j hj', el_at hj', hj])
    rw [List.length_map] at hr
    unfold Extern.Bytes.bytesOf
    rw [hr]
    congr 1
    apply ByteArray.ext
    simp [Lib.bytesOf, bts, ch, Function.comp_def]
  · have hl0 : l = [] := by cases l with | nil => rfl | cons x l => simp at hl
    subst hl0
    cases a with
    | none => rfl
    | some a => rfl
/-- up to a place two texts are the same -/
def Alike (l m : List Nat) (k : Nat) : Prop := l.take k = m.take k
theorem Alike.zero (l m : List Nat) : Alike l m 0 := by simp [Alike]
theorem Alike.next {l m : List Nat} {k : Nat} (h : Alike l m k) (hl : k < l.length) (hm : k < m.length) (he : el l k = el m k) : Alike l m (k + 1) := by
  unfold Alike at *
  rw [take_el hl, take_el hm, h, he]
theorem Alike.at {l m : List Nat} {k : Nat} (h : Alike l m k) (hl : k < l.length) (hm : k < m.length) (he : el l k ≠ el m k) : decide (el l k < el m k) = lessL l m := (less_at h hl hm he).symm
theorem Alike.end {l m : List Nat} {k : Nat} (h : Alike l m k) (hk : k = l.length ∨ k = m.length) (hl : k ≤ l.length) (hm : k ≤ m.length) : decide (l.length < m.length) = lessL l m := (less_end h hk hl hm).symm

set_option maxHeartbeats 1000000 in
theorem rless_any (va vb : Value) (l m : List Nat) (w : World) (ha : Row .u8 256 w va l) (hb : Row .u8 256 w vb m) :
    Calls Try.prog 22 #[va, vb] w fun e w' => e = .returned (.bool (lessL l m)) ∧ ∃ q, w' = w.drewN q := by
  obtain ⟨a, ca, rfl, ha1, ha2, ha3, ha4⟩ := ha
  obtain ⟨b, cb, rfl, hb1, hb2, hb3, hb4⟩ := hb
  unfold maxLen at ha2 hb2
  go_enter Try.func22, Try.ntmps22
  go_wp2
  go_loopw [5] (fun i wr => ∃ k q : Nat, k ≤ l.length ∧ k ≤ m.length ∧ i = .int .i64 k ∧ wr = w.drewN q ∧ Hid (Alike l m k)) (fun i _ => l.length - (intOf i).toNat)
  case atStart => exact ⟨0, 0, Nat.zero_le _, Nat.zero_le _, rfl, rfl, Alike.zero l m⟩
  case round =>
    obtain ⟨k, q, hk, hk2, rfl, rfl, HA⟩ := hrel
    by_cases hlt : k < l.length
    · by_cases hlt2 : k < m.length
      · obtain ⟨ba, oa, rfl, hca⟩ := ha3 (by omega)
        obtain ⟨bb, ob, rfl, hcb⟩ := hb3 (by omega)
        have c1 := hca k hlt
        have c2 := hcb k (by omega)
        clear hca hcb
        by_cases he : el l k = el m k
        · have hd : ((el l k : Int) != (el m k : Int)) = false := by simp [he]
          have HE : Hid (el l k = el m k) := he
          clear he
          go_wp2
          go_quiet (fail)
          go_wp2
          go_roundw
          case rel => exact ⟨k + 1, _, by omega, by omega, by go_num, rfl, HA.out.next hlt hlt2 HE.out⟩
          case measure => simp [intOf]; omega
        · have hd : ((el l k : Int) != (el m k : Int)) = true := by simp; omega
          have HE := hide (HA.out.at hlt hlt2 he)
          clear he
          go_wp2
          go_quiet (fail)
          go_wp2
          go_quiet (fail)
          go_wp2
          go_ret
          exact ⟨ret_bool HE.out, _, (congrArg (fun x => World.drewN x _) (World.drewN_drewN _ _ _)).trans (World.drewN_drewN _ _ _)⟩
      · have HE := hide (HA.out.end (.inr (by omega)) hk hk2)
        go_wp2
        go_ret
        exact ⟨ret_bool HE.out, _, rfl⟩
    · have HE := hide (HA.out.end (.inl (by omega)) hk hk2)
      go_wp2
      go_ret
      exact ⟨ret_bool HE.out, _, rfl⟩
end Go.Proofs.Ytiedkpfpaeecfaa
