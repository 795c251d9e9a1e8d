/- The document's Hmac, over whatever digest. -/
import Derived.Test.YtejlmgbmfeacdaaDoorKSg
import Derived.Test.YtejlmgbmfeacdaaDoorHRes32
import Derived.Test.YtejlmgbmfeacdaaDoorGApp
import Derived.Test.YtejlmgbmfeacdaaDoorHN2
import Derived.Deep.AppendLies
import Derived.Laws.AppendOwnNone
import Derived.Laws.BitsAllLaws
import Derived.Test.YtejlmgbmfeacdaaDoorHTak32
import Derived.Test.YtejlmgbmfeacdaaDoorHSl
import Derived.Test.YtejlmgbmfeacdaaDoorRev
import Derived.Test.YtejlmgbmfeacdaaDoorYDg
import Derived.Test.YtejlmgbmfeacdaaDoorYBeh
import Derived.Test.YtejlmgbmfeacdaaDoorYXor
import Derived.Laws.EntriesVeiled
namespace Go.Proofs.YtejlmgbmfeacdaaDoor
open Go.RowKit
set_option linter.unusedVariables false
set_option linter.unusedSimpArgs false

theorem padK_next (B : Nat) (K : List Nat) (c k : Nat) (h : k < B) : (padK B K c).take (k + 1) = (padK B K c).take k ++ [el K k ^^^ c] := by
  have hl : k < (padK B K c).length := by rw [padK_length]; exact h
  rw [List.take_add_one, List.getElem?_eq_getElem hl, ← el_at hl, padK_el B K c k h]
  rfl
theorem padK_all (B : Nat) (K : List Nat) (c : Nat) : (padK B K c).take B = padK B K c := List.take_of_length_le (by rw [padK_length]; exact Nat.le_refl _)
theorem el_none {K : List Nat} {k : Nat} (h : ¬ k < K.length) : el K k = 0 := by unfold el; rw [List.getElem?_eq_none (by omega)]; rfl
/-- two rows of the call's own lie apart -/
def Apart (u v : Value) : Prop := ∀ q, u.ownBlock = some q → v.ownBlock ≠ some q
theorem Apart.symm {u v : Value} (h : Apart u v) : Apart v u := fun q h1 h2 => h q h2 h1
theorem Apart.kept {u v : Value} (h : Apart u v) : v.ownBlock = none ∨ v.ownBlock ≠ u.ownBlock := by
  cases hv : v.ownBlock with
  | none => exact .inl rfl
  | some q => exact .inr fun e => h q e.symm hv
/-- where the loop over the block stands -/
def HmL (w : World) (B : Nat) (K : List Nat) (u v i : Value) (wr : World) : Prop := ∃ k : Nat, k ≤ B ∧ i = .int .i64 k ∧
  wr.ownsRow w.heap.size 5 1 u k (vals .u8 ((padK B K 54).take k)) ∧ wr.ownsRow w.heap.size 5 1 v k (vals .u8 ((padK B K 92).take k)) ∧ Apart u v ∧ Below w.heap.size w wr
/-- what a digest tells -/
def DigE (F : FuncId) (kind : Int) (D : List Nat → List Nat) : Prop := ∀ (x : World) (bv : Value) (b : List Nat), Row .u8 256 x bv b → Tidy bv → b.length ≤ 100000 →
  Calls Tryd.prog F #[.int .i64 kind, bv] x fun e x' => ∃ v', e = .returned (.tuple #[v', .int .i64 0]) ∧ Row .u8 256 x' v' (D b) ∧ New x.heap.size v' ∧ Below x.heap.size x x'
theorem app_apart {w : World} {u v : Value} {base n g H : Nat} {xs : List Value} (hv : w.ownsRow base 5 1 v n xs) (ha : Apart u v) (hlie : u.ownBlock = some g ∨ g = H) (hH : w.heap.size ≤ H) (c m : Nat) : Apart (.slice (some ⟨g, 0, none⟩) m c) v := by
  intro q hq he
  have : g = q := by simpa [Value.ownBlock] using hq
  subst this
  rcases hlie with h | h
  · exact ha g h he
  · have := (hv.lt g he).2
    omega
theorem row_cell {w : World} {a : Option Addr} {c : Nat} {l : List Nat} (h : Row .u8 256 w (.slice a l.length c) l) {k : Nat} (hk : k < l.length) : ∃ b off, a = some ⟨b, off, none⟩ ∧ w.cell? ⟨b, off + k, none⟩ = some (.int .u8 (el l k : Nat)) := by
  obtain ⟨a', c', he, _, _, h3, _⟩ := h
  obtain ⟨b, off, rfl, hc⟩ := h3 (by omega)
  obtain ⟨rfl, rfl⟩ : a = some ⟨b, off, none⟩ ∧ c = c' := by simpa using he
  exact ⟨b, off, rfl, hc k hk⟩
theorem row_tidy {k : IntKind} {m : Nat} {w : World} {v : Value} {l : List Nat} (h : Row k m w v l) (hl : 0 < l.length) : Tidy v := by
  obtain ⟨a, c, rfl, _, _, h3, _⟩ := h
  obtain ⟨b, off, rfl, _⟩ := h3 hl
  exact tidy_at _ _ _
/-- append of whatever row onto one of the call's own -/
theorem wpList_app {w : World} {ops : Array Oper} {rest : List Oper} {o : Oper} {a : Act} {Q : Exit → Act → World → Prop} (hgd : o.guard = none) (s x : Operand) (ho : o.op = .call { callee := .builtin .append, args := #[s, x], argTypes := #[22, 22] })
    (base : Nat) (v bv : Value) (n : Nat) (l b : List Nat) (hs : a.eval s = v) (hown : w.ownsRow base 5 1 v n (vals .u8 l)) (hx : a.eval x = bv) (rb : Row .u8 256 w bv b) (tb : Tidy bv) (hn : n ≤ 1000000) (hb : b.length ≤ 1000000) (hbase : base ≤ w.heap.size)
    (h : ∀ v' w', w'.ownsRow base 5 1 v' (n + b.length) (vals .u8 (l ++ b)) → w.grownBy w' v.ownBlock → wpList Tryd.prog ops Q rest (a.put o.dst v') w') : wpList Tryd.prog ops Q (o :: rest) a w := by
  obtain ⟨i0, hi, hz0, hz1, hz2⟩ := info_parts Tryd.info5
  obtain ⟨ba, bc, rfl, h1, h2, h3, h4⟩ := rb
  cases ba with
  | none =>
    obtain ⟨h0, rfl⟩ := tb _ _ rfl
    obtain rfl := List.eq_nil_of_length_eq_zero h0
    refine wpList_append_own_none hgd s x 22 ho base 5 i0 1 Tryd.underlying22 hi _ _ _ hs hown hx ?_
    exact h v w (by rw [List.append_nil]; exact hown) ⟨rfl, rfl, rfl, Nat.le_refl _, fun _ _ _ => rfl⟩
  | some y =>
    refine wpList_append_own _ hgd s x 22 ho base 5 i0 (.int .u8 0) 1 1 Tryd.underlying22 hi hz0 hz1 hz2 rfl (by decide) _ _ _ hs hown y b.length bc (vals .u8 b) hx (by rw [vals_length, Nat.mul_one]) (cells_news h3) (vals_one _ _) (by unfold maxLen; omega) (by omega) hbase ?_
    intro v' w3 how' hgrow _
    exact h v' w3 (by rw [vals_append]; exact how') hgrow
end Go.Proofs.YtejlmgbmfeacdaaDoor

/- The document's Expand, over whatever digest. -/
namespace Go.Proofs.YtejlmgbmfeacdaaDoor
open Go.RowKit
set_option linter.unusedVariables false
set_option linter.unusedSimpArgs false

theorem row_grown {k : IntKind} {m : Nat} {w w' : World} {v : Value} {l : List Nat} {row : Option Nat} (h : Row k m w v l) (hg : w.grownBy w' row) (hne : ∀ q, v.ownBlock = some q → some q ≠ row) : Row k m w' v l := by
  obtain ⟨a, cap, rfl, h1, h2, h3, h4⟩ := h
  refine ⟨a, cap, rfl, h1, h2, fun hl => ?_, h4⟩
  obtain ⟨b, off, rfl, hc⟩ := h3 hl
  exact ⟨b, off, rfl, fun i hi => hg.cell (hc i hi) (hne b rfl)⟩
/-- what a digest with a key tells -/
def HmaE (F : FuncId) (kind : Int) (kv : Value) (key : List Nat) (D : List Nat → List Nat) (B : Nat) (w : World) : Prop := ∀ (x : World) (bv : Value) (b : List Nat), Below w.heap.size w x → Row .u8 256 x bv b → Tidy bv → b.length ≤ 90000 →
  Calls Tryd.prog F #[.int .i64 kind, kv, bv] x fun e x' => ∃ v', e = .returned (.tuple #[v', .int .i64 0]) ∧ Row .u8 256 x' v' (hmacD D B key b) ∧ New x.heap.size v' ∧ Below x.heap.size x x'
/-- where the loop of keys stands -/
def ExL (w : World) (D : List Nat → List Nat) (B : Nat) (key info : List Nat) (u t i : Value) (wr : World) : Prop := ∃ k : Nat, k ≤ 255 ∧ i = .int .i64 ((k + 1 : Nat) : Int) ∧
  wr.ownsRow w.heap.size 5 1 u (outN (fun i => tN D B key info (i + 1)) k).length (vals .u8 (outN (fun i => tN D B key info (i + 1)) k)) ∧ Row .u8 256 wr t (tN D B key info k) ∧ Tidy t ∧ Below w.heap.size w wr
theorem tN_le (D : List Nat → List Nat) (B Z : Nat) (hDl : ∀ l, (D l).length = Z) (key info : List Nat) : ∀ k, (tN D B key info k).length ≤ Z
  | 0 => Nat.zero_le _
  | k + 1 => Nat.le_of_eq (tN_length D B Z hDl key info k)

end Go.Proofs.YtejlmgbmfeacdaaDoor

/- The document's Mask, over whatever digest. -/
namespace Go.Proofs.YtejlmgbmfeacdaaDoor
open Go.RowKit
set_option linter.unusedVariables false
set_option linter.unusedSimpArgs false

/-- where the loop of digests stands -/
def MkL (w : World) (D : List Nat → List Nat) (seed : List Nat) (u i : Value) (wr : World) : Prop := ∃ k : Nat, k ≤ 100000 ∧ i = .int .u64 (k : Int) ∧
  wr.ownsRow w.heap.size 5 1 u (outN (fun i => D (seed ++ (leL i 4).reverse)) k).length (vals .u8 (outN (fun i => D (seed ++ (leL i 4).reverse)) k)) ∧ Below w.heap.size w wr
theorem leS_4 (n : Nat) : leS n 4 = leL n 4 := by unfold leS; rw [if_neg (by decide)]; rfl

end Go.Proofs.YtejlmgbmfeacdaaDoor

/- The document's side of mac, whole: of each kind. -/
namespace Go.Proofs.YtejlmgbmfeacdaaDoor
open Go.RowKit
set_option linter.unusedVariables false
set_option linter.unusedSimpArgs false

theorem digD_under {kind : Int} (h : 0 < sizeD kind) (b : List Nat) : Under 256 (digD kind b) := by
  unfold digD
  split
  · unfold endS; exact (bytesW_under _ _).take _
  · exact sqzB_under _ _ _
theorem blkD_le (kind : Int) : blkD kind ≤ 200 := by
  unfold blkD
  split
  · cases wide kind <;> decide
  · unfold rateK; (repeat' split) <;> omega
theorem sizeD_pos {kind : Int} (h1 : 1 ≤ kind) (h7 : kind ≤ 7) : 0 < sizeD kind := by
  unfold sizeD; (repeat' split) <;> omega
/-- the chapter's example -/
theorem hmac_ex : (hmacD (digD 1) 64 [] []).take 4 = [182, 19, 103, 154] := by kernel_rfl
end Go.Proofs.YtejlmgbmfeacdaaDoor

/- mac's keyed: what digests with a key. -/
namespace Go.Proofs.YtejlmgbmfeacdaaDoor
open Go.RowKit
set_option linter.unusedVariables false
set_option linter.unusedSimpArgs false

/-- a key filled up, xored -/
theorem xor_pad (B c : Nat) (K : List Nat) (h : K.length ≤ B) : xrL (K ++ List.replicate (B - K.length) 0) (List.replicate B c) = padK B K c := by
  have hl : (K ++ List.replicate (B - K.length) 0).length = B := by rw [List.length_append, List.length_replicate]; omega
  unfold xrL padK
  rw [hl, List.length_replicate, Nat.min_self]
  apply List.map_congr_left
  intro i hi
  have hi' : i < B := List.mem_range.1 hi
  have e2 : el (List.replicate B c) i = c := by rw [el_at (by rw [List.length_replicate]; exact hi'), List.getElem_replicate]
  have e1 : el (K ++ List.replicate (B - K.length) 0) i = el K i := by
    unfold el
    by_cases hk : i < K.length
    · rw [List.getElem?_append_left hk]
    · rw [List.getElem?_append_right (by omega), List.getElem?_eq_none (by omega : K.length ≤ i), List.getElem?_replicate]
      split <;> rfl
  rw [e1, e2]
/-- what a row of two texts reads as -/
theorem own_zero {e : TypeId} {w : World} {B n : Nat} {v : Value} (h : w.ownsRow B e 1 v n (vals .u8 (List.replicate n 0))) : Own e .u8 256 w B v (List.replicate n 0) := ⟨by rw [List.length_replicate]; exact h, Under.replicate _ _ (by decide)⟩

/-- a box of a function -/
def Fx (w : World) (q : Nat) (f : Value) : Prop := w.heap[q]? = some (.cells #[f] 34 (0, 0))
theorem Fx.lt {w : World} {q : Nat} {f : Value} (h : Fx w q f) : q < w.heap.size := heap_ltY h
theorem Fx.below {w w' : World} {q : Nat} {f : Value} (h : Fx w q f) (hb : Below w.heap.size w w') : Fx w' q f := (hb.block q h.lt).trans h
theorem Fx.cell {w : World} {q : Nat} {f : Value} (h : Fx w q f) : w.cell? ⟨q, 0, none⟩ = some f := by rw [cell_of_row w q 0 _ _ (0, 0) h]; rfl
theorem Fx.new (w : World) (f g : Value) : Fx ((w.alloc (.cells #[g] 34)).setCell ⟨w.heap.size, 0, none⟩ f) w.heap.size f := by
  have h := heap_alloc_last w (.cells #[g] 34)
  unfold Fx
  rw [setCell_eq_setRow _ _ 0 _ _ (0, 0) _ h]
  exact setRow_heap _ _ _ _ _ _ h
theorem keep_box (w : World) (o : Obj) (f : Value) : Below w.heap.size w ((w.alloc o).setCell ⟨w.heap.size, 0, none⟩ f) := (keep_alloc w o).setCell (p := ⟨w.heap.size, 0, none⟩) (Nat.le_refl _) f

theorem size_blk {kind : Int} (h1 : 1 ≤ kind) (h5 : kind ≤ 5) : sizeD kind ≤ blkD kind := by
  have hk : kind = 1 ∨ kind = 2 ∨ kind = 3 ∨ kind = 4 ∨ kind = 5 := by omega
  rcases hk with h | h | h | h | h <;> subst h <;> decide
set_option maxHeartbeats 4000000 in
set_option maxRecDepth 100000 in
/-- from the padded key on -/
theorem keyed_short (kind : Int) (key : List Nat) (kv : Value) (w : World) (h1 : 1 ≤ kind) (h5 : kind ≤ 5) (hB : BehE kind w) (rk : Row .u8 256 w kv key) (tk : Tidy kv) (hkl : key.length ≤ blkD kind) :
    Calls Tryd.prog 13 #[.int .i64 kind, kv] w fun e w' => ∃ fn cap, e = .returned (.func (.func fn) #[] cap) ∧ Dg (fun l => digD kind (padK (blkD kind) key 92 ++ digD kind (padK (blkD kind) key 54 ++ l))) fn cap [] w' ∧ Below w.heap.size w w' := by
  have hblk := fun x => cblk_any kind x
  rw [bkD_ok h1 h5] at hblk
  have hrep := fun (x : World) (v : Value) (c : Nat) (hr : Row .u8 256 x v [c]) => rep_blk kind v c x hr h1 h5
  have hDl : ∀ l, (digD kind l).length ≤ 1000 := fun l => by rw [digD_length (sizeD_pos h1 (by omega))]; have := sizeD_le kind; omega
  have hBl := blkD_le kind
  have hmf : ∀ (fn : Fn) (first cap : Array Value) (w : World), (Instr.makeFunc fn first cap).run Tryd.prog w = .ok (.func fn first cap) w := fun _ _ _ _ => rfl
  obtain ⟨i0, hi, hz0, hz1, hz2⟩ := info_parts Tryd.info5
  have hx54 := xor_pad (blkD kind) 54 key hkl
  have hx92 := xor_pad (blkD kind) 92 key hkl
  have pl54 := padK_length (blkD kind) key 54
  have pl92 := padK_length (blkD kind) key 92
  generalize hP1 : padK (blkD kind) key 54 = P1 at *
  generalize hP2 : padK (blkD kind) key 92 = P2 at *
  clear hP1 hP2
  generalize blkD kind = B at *
  obtain ⟨n, hn⟩ : ∃ n : Nat, n = B - key.length := ⟨_, rfl⟩
  rw [← hn] at hx54 hx92
  have e_n : (B : Int) - (key.length : Int) = (n : Int) := by omega
  have s_n : IntKind.i64.wrap (n : Int) = (n : Int) := by rw [IntKind.wrap_i64]; omega
  have nl : ¬ (B : Int) < (key.length : Int) := by omega
  have nln : ¬ B < key.length := by omega
  have hn2 : n ≤ 1000 := by omega
  have hLn : key.length + n = B := by omega
  have HLn := hide hLn
  have H54 := hide hx54
  have H92 := hide hx92
  have HP54 := hide pl54
  have HP92 := hide pl92
  clear hn hLn hx54 hx92 pl54 pl92
  obtain ⟨ka, kc, rfl⟩ := rk.form
  go_enter Tryd.func13, Tryd.ntmps13
  go_wp2_with (first
    | (go_at_call 12; refine (hblk _).mono ?_; rintro e x0 ⟨rfl, hx0⟩; obtain rfl := hx0.symm)
    | (at_make; refine wpList_make_full _ rfl _ _ 22 rfl w.heap.size 5 i0 (.int .u8 0) 1 Tryd.underlying22 hi hz0 hz1 _ _ _ _ n rfl rfl rfl rfl (by rw [hz2]; omega) (by unfold maxLen; omega) (Nat.le_refl _) ?_; intro w1 hown hgrow)
    | fail)
  rw [made_u8] at hown
  have hZ := own_zero hown
  have hb1 := keep_trans (Below.refl _ _) ((Below.refl w.heap.size w).grown hgrow (Nat.le_refl _) (fun k h => by cases h))
  have rk1 := rk.below ((Below.refl w.heap.size w).grown hgrow (Nat.le_refl _) (fun k h => by cases h))
  clear hown hgrow
  refine (join_any _ [key, List.replicate n 0] _ (rows_lit2 rk1 hZ.row tk hZ.tidy) (by simp; have := HLn.out; omega)).mono ?_
  rintro e w2 ⟨vj, rfl, hOj, hbj⟩
  have ej : [key, List.replicate n 0].flatten = key ++ List.replicate n 0 := by simp
  rw [ej] at hOj
  have rj := hOj.row
  have hb2 := keep_trans (keep_trans hb1 (keep_alloc _ _)) hbj
  have hlj : (key ++ List.replicate n 0).length = B := by rw [List.length_append, List.length_replicate]; exact HLn.out
  have hlj2 : (key ++ List.replicate n 0).length ≤ 140737488355328 := by omega
  generalize key ++ List.replicate n 0 = KZ at *
  have HJ := hide hlj2
  obtain ⟨ja, jc, rfl⟩ := rj.form
  rw [hlj] at rj
  rw [hlj]
  clear hZ hbj hOj ej hb1 rk1 hlj2
  have HRJ := hide rj
  clear rj
  go_wp2_with fail
  refine (hrep _ _ 54 (one_row w2 54 (by decide))).mono ?_
  rintro e w3 ⟨v3, rfl, r3, _, hb3⟩
  obtain ⟨a3, c3, rfl⟩ := r3.form
  have hb3' := keep_trans (keep_alloc _ _) hb3
  have rj3 := HRJ.out.below hb3'
  rw [List.length_replicate] at r3 ⊢
  clear hb3
  go_wp2_with fail
  refine (xr_any _ _ KZ (List.replicate B 54) _ rj3 r3 HJ.out).mono ?_
  rintro e w4 ⟨v4, rfl, hO4, hb4⟩
  rw [H54.out] at hO4
  have hb4' := keep_trans (keep_trans hb2 hb3') hb4
  have rj4 := rj3.below hb4
  obtain ⟨a4, c4, rfl⟩ := hO4.row.form
  clear rj3 r3 hb4 hb3'
  go_wp2_with fail
  refine (hB _ _ [P1] (keep_trans hb4' (keep_alloc _ _)) (rows_lit1 hO4.row hO4.tidy) (by simp; have := HP54.out; omega)).mono ?_
  rintro e w5 ⟨fi, ci, rfl, hI, hb5⟩
  rw [List.flatten_singleton] at hI
  have hb5' := keep_trans (keep_alloc _ _) hb5
  have rj5 := rj4.below hb5'
  have hb5w := keep_trans hb4' hb5'
  clear hO4 hb5 hb5' rj4 hb4' HRJ
  go_wp2_with fail
  have hX5 : Fx (w5.alloc (.cells #[.func (.func fi) #[] ci] 34)) w5.heap.size (.func (.func fi) #[] ci) := heap_alloc_last w5 _
  have h92 := one_row (w5.alloc (.cells #[.func (.func fi) #[] ci] 34)) 92 (by decide)
  rw [World.size_alloc] at h92
  have hb6 := keep_alloc w5 (.cells #[.func (.func fi) #[] ci] 34)
  have rj6 := rj5.below hb6
  have hI6 := hI.below hb6
  have hb6w := keep_trans hb5w hb6
  clear rj5 hI hb5w hb6
  refine (hrep _ _ 92 h92).mono ?_
  rintro e w7 ⟨v7, rfl, r7, _, hb7⟩
  obtain ⟨a7, c7, rfl⟩ := r7.form
  have hb7' := keep_trans (keep_alloc _ _) hb7
  have rj7 := rj6.below hb7'
  have hI7 := hI6.below hb7'
  have hX7 := hX5.below hb7'
  have hb7w := keep_trans hb6w hb7'
  rw [List.length_replicate] at r7 ⊢
  clear hb7 rj6 hI6 hb6w hb7' h92 hX5
  go_wp2_with fail
  refine (xr_any _ _ KZ (List.replicate B 92) _ rj7 r7 HJ.out).mono ?_
  rintro e w8 ⟨v8, rfl, hO8, hb8⟩
  rw [H92.out] at hO8
  have hb8w := keep_trans hb7w hb8
  have hI8 := hI7.below hb8
  have hX8 := hX7.below hb8
  obtain ⟨a8, c8, rfl⟩ := hO8.row.form
  clear rj7 r7 hb8 hI7 hX7 hb7w
  go_wp2_with fail
  refine (hB _ _ [P2] (keep_trans hb8w (keep_alloc _ _)) (rows_lit1 hO8.row hO8.tidy) (by simp; have := HP92.out; omega)).mono ?_
  rintro e w9 ⟨fo, co, rfl, hO, hb9⟩
  rw [List.flatten_singleton] at hO
  have hb9' := keep_trans (keep_alloc _ _) hb9
  have hb9w := keep_trans hb8w hb9'
  have hI9 := hI8.below hb9'
  have hX9 := hX8.below hb9'
  clear hO8 hb9 hb9' hI8 hX8 hb8w
  go_wp2_with fail
  go_ret
  have hb10 := keep_alloc w9 (.cells #[.func (.func fo) #[] co] 34)
  have hX10 : Fx (w9.alloc (.cells #[.func (.func fo) #[] co] 34)) w9.heap.size (.func (.func fo) #[] co) := heap_alloc_last w9 _
  exact ⟨_, _, rfl, dgk hDl (hO.below hb10) (hI9.below hb10) hX10.cell (hX9.below hb10).cell, keep_trans hb9w hb10⟩
set_option maxHeartbeats 4000000 in
set_option maxRecDepth 100000 in
/-- a key longer than a block -/
theorem keyed_long (kind : Int) (key : List Nat) (kv : Value) (w : World) (h1 : 1 ≤ kind) (h5 : kind ≤ 5) (hB : BehE kind w) (rk : Row .u8 256 w kv key) (tk : Tidy kv) (hlong : blkD kind < key.length) (hkl : key.length ≤ 100000) :
    Calls Tryd.prog 13 #[.int .i64 kind, kv] w fun e w' => ∃ fn cap, e = .returned (.func (.func fn) #[] cap) ∧ Dg (fun l => digD kind (padK (blkD kind) (digD kind key) 92 ++ digD kind (padK (blkD kind) (digD kind key) 54 ++ l))) fn cap [] w' ∧ Below w.heap.size w w' := by
  have hblk := fun x => cblk_any kind x
  rw [bkD_ok h1 h5] at hblk
  have hrep := fun (x : World) (v : Value) (c : Nat) (hr : Row .u8 256 x v [c]) => rep_blk kind v c x hr h1 h5
  have hDl : ∀ l, (digD kind l).length ≤ 1000 := fun l => by rw [digD_length (sizeD_pos h1 (by omega))]; have := sizeD_le kind; omega
  have hBl := blkD_le kind
  have hmf : ∀ (fn : Fn) (first cap : Array Value) (w : World), (Instr.makeFunc fn first cap).run Tryd.prog w = .ok (.func fn first cap) w := fun _ _ _ _ => rfl
  obtain ⟨i0, hi, hz0, hz1, hz2⟩ := info_parts Tryd.info5
  have hKl : (digD kind key).length ≤ blkD kind := by rw [digD_length (sizeD_pos h1 (by omega))]; exact size_blk h1 h5
  have hx54 := xor_pad (blkD kind) 54 (digD kind key) hKl
  have hx92 := xor_pad (blkD kind) 92 (digD kind key) hKl
  have pl54 := padK_length (blkD kind) (digD kind key) 54
  have pl92 := padK_length (blkD kind) (digD kind key) 92
  generalize hP1 : padK (blkD kind) (digD kind key) 54 = P1 at *
  generalize hP2 : padK (blkD kind) (digD kind key) 92 = P2 at *
  clear hP1 hP2
  have hkk : [key].flatten = key := by simp
  have hD0 := hB w (.slice none 0 0) [] (Below.refl _ _) (rows_nil _) (by simp)
  generalize hKK : digD kind key = KK at *
  have HKK : Hid (digD kind ([].flatten ++ [key].flatten) = KK) := hide (by rw [hkk]; exact hKK)
  clear hKK hkk
  generalize blkD kind = B at *
  obtain ⟨n, hn⟩ : ∃ n : Nat, n = B - KK.length := ⟨_, rfl⟩
  rw [← hn] at hx54 hx92
  have e_n : (B : Int) - (KK.length : Int) = (n : Int) := by omega
  have s_n : IntKind.i64.wrap (n : Int) = (n : Int) := by rw [IntKind.wrap_i64]; omega
  have nl : (B : Int) < (key.length : Int) := by omega
  have nln : B < key.length := hlong
  have hn2 : n ≤ 1000 := by omega
  have hLn : KK.length + n = B := by omega
  have HLn := hide hLn
  have H54 := hide hx54
  have H92 := hide hx92
  have HP54 := hide pl54
  have HP92 := hide pl92
  clear hn hLn hx54 hx92 pl54 pl92
  obtain ⟨ka, kc, rfl⟩ := rk.form
  go_enter Tryd.func13, Tryd.ntmps13
  go_wp2_with (first
    | (go_at_call 12; refine (hblk _).mono ?_; rintro e x0 ⟨rfl, hx0⟩; obtain rfl := hx0.symm)
    | (go_at_call 17; refine hD0.mono ?_; rintro e x1 ⟨fn, cap, rfl, hD, hb1⟩; have hen := hD.enters)
    | fail)
  refine (hD.calls _ _ [key] (keep_alloc _ _) (rows_lit1 (rk.below hb1) tk) (by simpa using hkl)).mono ?_
  rintro e x2 ⟨vk, rfl, hOk, hb2⟩
  rw [HKK.out] at hOk
  have hbk := keep_trans (keep_trans hb1 (keep_alloc _ _)) hb2
  have rK := hOk.row
  have tK := hOk.tidy
  obtain ⟨ka2, kc2, rfl⟩ := rK.form
  clear hOk hb1 hb2 hD hen rk hD0
  go_wp2_with (first
    | (at_make; refine wpList_make_full _ rfl _ _ 22 rfl x2.heap.size 5 i0 (.int .u8 0) 1 Tryd.underlying22 hi hz0 hz1 _ _ _ _ n rfl rfl rfl rfl (by rw [hz2]; omega) (by unfold maxLen; omega) (Nat.le_refl _) ?_; intro w1 hown hgrow)
    | fail)
  rw [made_u8] at hown
  have hZ := own_zero hown
  have hb1 := keep_trans hbk ((Below.refl x2.heap.size x2).grown hgrow (Nat.le_refl _) (fun k h => by cases h))
  have rk1 := rK.below ((Below.refl x2.heap.size x2).grown hgrow (Nat.le_refl _) (fun k h => by cases h))
  clear hown hgrow
  refine (join_any _ [KK, List.replicate n 0] _ (rows_lit2 rk1 hZ.row tK hZ.tidy) (by simp; have := HLn.out; omega)).mono ?_
  rintro e w2 ⟨vj, rfl, hOj, hbj⟩
  have ej : [KK, List.replicate n 0].flatten = KK ++ List.replicate n 0 := by simp
  rw [ej] at hOj
  have rj := hOj.row
  have hb2 := keep_trans (keep_trans hb1 (keep_alloc _ _)) hbj
  have hlj : (KK ++ List.replicate n 0).length = B := by rw [List.length_append, List.length_replicate]; exact HLn.out
  have hlj2 : (KK ++ List.replicate n 0).length ≤ 140737488355328 := by omega
  generalize KK ++ List.replicate n 0 = KZ at *
  have HJ := hide hlj2
  obtain ⟨ja, jc, rfl⟩ := rj.form
  rw [hlj] at rj
  rw [hlj]
  clear hZ hbj hOj ej hb1 rk1 hlj2
  have HRJ := hide rj
  clear rj
  go_wp2_with fail
  refine (hrep _ _ 54 (one_row w2 54 (by decide))).mono ?_
  rintro e w3 ⟨v3, rfl, r3, _, hb3⟩
  obtain ⟨a3, c3, rfl⟩ := r3.form
  have hb3' := keep_trans (keep_alloc _ _) hb3
  have rj3 := HRJ.out.below hb3'
  rw [List.length_replicate] at r3 ⊢
  clear hb3
  go_wp2_with fail
  refine (xr_any _ _ KZ (List.replicate B 54) _ rj3 r3 HJ.out).mono ?_
  rintro e w4 ⟨v4, rfl, hO4, hb4⟩
  rw [H54.out] at hO4
  have hb4' := keep_trans (keep_trans hb2 hb3') hb4
  have rj4 := rj3.below hb4
  obtain ⟨a4, c4, rfl⟩ := hO4.row.form
  clear rj3 r3 hb4 hb3'
  go_wp2_with fail
  refine (hB _ _ [P1] (keep_trans hb4' (keep_alloc _ _)) (rows_lit1 hO4.row hO4.tidy) (by simp; have := HP54.out; omega)).mono ?_
  rintro e w5 ⟨fi, ci, rfl, hI, hb5⟩
  rw [List.flatten_singleton] at hI
  have hb5' := keep_trans (keep_alloc _ _) hb5
  have rj5 := rj4.below hb5'
  have hb5w := keep_trans hb4' hb5'
  clear hO4 hb5 hb5' rj4 hb4' HRJ
  go_wp2_with fail
  have hX5 : Fx (w5.alloc (.cells #[.func (.func fi) #[] ci] 34)) w5.heap.size (.func (.func fi) #[] ci) := heap_alloc_last w5 _
  have h92 := one_row (w5.alloc (.cells #[.func (.func fi) #[] ci] 34)) 92 (by decide)
  rw [World.size_alloc] at h92
  have hb6 := keep_alloc w5 (.cells #[.func (.func fi) #[] ci] 34)
  have rj6 := rj5.below hb6
  have hI6 := hI.below hb6
  have hb6w := keep_trans hb5w hb6
  clear rj5 hI hb5w hb6
  refine (hrep _ _ 92 h92).mono ?_
  rintro e w7 ⟨v7, rfl, r7, _, hb7⟩
  obtain ⟨a7, c7, rfl⟩ := r7.form
  have hb7' := keep_trans (keep_alloc _ _) hb7
  have rj7 := rj6.below hb7'
  have hI7 := hI6.below hb7'
  have hX7 := hX5.below hb7'
  have hb7w := keep_trans hb6w hb7'
  rw [List.length_replicate] at r7 ⊢
  clear hb7 rj6 hI6 hb6w hb7' h92 hX5
  go_wp2_with fail
  refine (xr_any _ _ KZ (List.replicate B 92) _ rj7 r7 HJ.out).mono ?_
  rintro e w8 ⟨v8, rfl, hO8, hb8⟩
  rw [H92.out] at hO8
  have hb8w := keep_trans hb7w hb8
  have hI8 := hI7.below hb8
  have hX8 := hX7.below hb8
  obtain ⟨a8, c8, rfl⟩ := hO8.row.form
  clear rj7 r7 hb8 hI7 hX7 hb7w
  go_wp2_with fail
  refine (hB _ _ [P2] (keep_trans hb8w (keep_alloc _ _)) (rows_lit1 hO8.row hO8.tidy) (by simp; have := HP92.out; omega)).mono ?_
  rintro e w9 ⟨fo, co, rfl, hO, hb9⟩
  rw [List.flatten_singleton] at hO
  have hb9' := keep_trans (keep_alloc _ _) hb9
  have hb9w := keep_trans hb8w hb9'
  have hI9 := hI8.below hb9'
  have hX9 := hX8.below hb9'
  clear hO8 hb9 hb9' hI8 hX8 hb8w
  go_wp2_with fail
  go_ret
  have hb10 := keep_alloc w9 (.cells #[.func (.func fo) #[] co] 34)
  have hX10 : Fx (w9.alloc (.cells #[.func (.func fo) #[] co] 34)) w9.heap.size (.func (.func fo) #[] co) := heap_alloc_last w9 _
  exact ⟨_, _, rfl, dgk hDl (hO.below hb10) (hI9.below hb10) hX10.cell (hX9.below hb10).cell, keep_trans hb9w hb10⟩
/-- what keyed tells, of whatever key -/
theorem keyed_any (kind : Int) (key : List Nat) (kv : Value) (w : World) (h1 : 1 ≤ kind) (h5 : kind ≤ 5) (hB : BehE kind w) (rk : Row .u8 256 w kv key) (tk : Tidy kv) (hkl : key.length ≤ 100000) :
    Calls Tryd.prog 13 #[.int .i64 kind, kv] w fun e w' => ∃ fn cap, e = .returned (.func (.func fn) #[] cap) ∧ Dg (hmacD (digD kind) (blkD kind) key) fn cap [] w' ∧ Below w.heap.size w w' := by
  by_cases h : blkD kind < key.length
  · have e : hmacD (digD kind) (blkD kind) key = fun l => digD kind (padK (blkD kind) (digD kind key) 92 ++ digD kind (padK (blkD kind) (digD kind key) 54 ++ l)) := by
      funext l; unfold hmacD keyB; rw [if_pos h]
    rw [e]
    exact keyed_long kind key kv w h1 h5 hB rk tk h hkl
  · have e : hmacD (digD kind) (blkD kind) key = fun l => digD kind (padK (blkD kind) key 92 ++ digD kind (padK (blkD kind) key 54 ++ l)) := by
      funext l; unfold hmacD keyB; rw [if_neg h]
    rw [e]
    exact keyed_short kind key kv w h1 h5 hB rk tk (by omega)
end Go.Proofs.YtejlmgbmfeacdaaDoor
