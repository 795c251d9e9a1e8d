/- Leaves that sign once: the document's Kind, Size, H, part, chain, key, digest. -/
import Derived.Test.YtogiballdmgcpaaGreatDoorGEn64
import Derived.Test.YtogiballdmgcpaaGreatDoorLsFrm
import Derived.Test.YtogiballdmgcpaaGreatDoorNumLe
import Derived.Test.YtogiballdmgcpaaGreatDoorHN1
import Derived.Test.YtogiballdmgcpaaGreatDoorBe
import Derived.Test.YtogiballdmgcpaaGreatDoorHRes32
import Derived.Test.YtogiballdmgcpaaGreatDoorBase
import Derived.Deep.AppendLies
import Derived.Laws.AppendOwnNone
import Derived.ArgAppend
namespace Go.Proofs.YtogiballdmgcpaaGreatDoor
open Go.RowKit
set_option linter.unusedVariables false
set_option linter.unusedSimpArgs false

/-- SHA-256 -/
def shaL (b : List Nat) : List Nat := endS (wide 1) (ini 1) b b.length (outn 1)
theorem shaL_len (b : List Nat) : (shaL b).length = 32 := by
  have e8 : ∀ (c : Bool) (l : List Nat), (eat c (ini 1) l).length = 8 := fun c l => eat_len _ (by decide)
  unfold shaL
  simp [endS, bytesW_length, e8, outn, wide, ez]
/-- what a kind is: digits of a digest, of its check, the shift, the typecode -/
inductive Kd : Nat → Nat → Nat → Nat → Nat → Prop
  | k1 : Kd 1 256 9 7 1
  | k2 : Kd 2 128 5 6 2
  | k4 : Kd 4 64 3 4 3
  | k8 : Kd 8 32 2 0 4
theorem Kd.kind {w n m s c : Nat} (h : Kd w n m s c) : KindL w n m s := by
  cases h
  · exact kind_1
  · exact kind_2
  · exact kind_4
  · exact kind_8
def NoK (x : Int) : Prop := ¬ x = 1 ∧ ¬ x = 2 ∧ ¬ x = 4 ∧ ¬ x = 8
theorem kd_or (x : Int) : NoK x ∨ ∃ w n m s c : Nat, x = (w : Int) ∧ Kd w n m s c := by
  by_cases h1 : x = 1
  · exact .inr ⟨1, _, _, _, _, h1, .k1⟩
  by_cases h2 : x = 2
  · exact .inr ⟨2, _, _, _, _, h2, .k2⟩
  by_cases h4 : x = 4
  · exact .inr ⟨4, _, _, _, _, h4, .k4⟩
  by_cases h8 : x = 8
  · exact .inr ⟨8, _, _, _, _, h8, .k8⟩
  exact .inl ⟨h1, h2, h4, h8⟩
set_option maxHeartbeats 2000000 in
set_option maxRecDepth 100000 in
theorem rkind_no (x : Int) (y : World) (h : NoK x) : Calls Tryz.prog 77 #[.int .i64 x] y fun e y' => e = .returned (.tuple #[.int .i64 0, .int .i64 0, .int .u64 0]) ∧ y' = y := by
  obtain ⟨h1, h2, h4, h8⟩ := h
  go_enter Tryz.func77, Tryz.ntmps77
  go_wp2
  go_ret3
  exact ⟨rfl, rfl⟩
set_option maxHeartbeats 2000000 in
set_option maxRecDepth 100000 in
theorem rkind_ok {w n m s c : Nat} (y : World) (h : Kd w n m s c) : Calls Tryz.prog 77 #[.int .i64 (w : Int)] y fun e y' => e = .returned (.tuple #[.int .i64 ((n + m : Nat) : Int), .int .i64 (s : Int), .int .u64 (c : Int)]) ∧ y' = y := by
  cases h
  · go_enter Tryz.func77, Tryz.ntmps77
    go_wp2
    go_ret3
    exact ⟨rfl, rfl⟩
  · go_enter Tryz.func77, Tryz.ntmps77
    go_wp2
    go_ret3
    exact ⟨rfl, rfl⟩
  · go_enter Tryz.func77, Tryz.ntmps77
    go_wp2
    go_ret3
    exact ⟨rfl, rfl⟩
  · go_enter Tryz.func77, Tryz.ntmps77
    go_wp2
    go_ret3
    exact ⟨rfl, rfl⟩
theorem texts_cons {w : World} {u : Value} {x : List Nat} {us : List Value} {ls : List (List Nat)} (h : Row .u8 256 w u x) (t : Tidy u) (k : Texts w us ls) : Texts w (u :: us) (x :: ls) := (Texts.one h t).append k
theorem rows_litL {w : World} {us : List Value} {ls : List (List Nat)} {B k : Nat} (h : Texts w us ls) (hB : w.heap.size = B) (hk : ls.length = k) (hl : k ≤ 1000) : Rows2 (w.alloc (.cells us.toArray 23)) (.slice (some ⟨B, 0, none⟩) k k) ls := by
  subst hB hk
  refine ⟨_, ls.length, rfl, Nat.le_refl _, by unfold maxLen; omega, fun _ => ⟨_, _, rfl, fun i hi => ?_⟩⟩
  have hb := keep_alloc w (.cells us.toArray 23)
  obtain ⟨u, hu, hr, ht⟩ := h.2 i hi
  refine ⟨u, ?_, hr.below hb, ht⟩
  rw [World.cell?_alloc_at _ _ _ _ rfl, Nat.zero_add]
  simpa using hu
theorem new_ntidy {w : World} {v : Value} {l : List Nat} (h : Row .u8 256 w v l) (hl : 0 < l.length) : Tidy v := by
  obtain ⟨a, c, rfl, _, _, g⟩ := h.opens rfl
  obtain ⟨b, o, rfl, _⟩ := g hl
  intro n c e
  cases e
set_option maxHeartbeats 2000000 in
set_option maxRecDepth 100000 in
theorem rH_any (lv : Value) (ls : List (List Nat)) (w : World) (h : Rows2 w lv ls) (hs : ls.flatten.length ≤ 100000) :
    Calls Tryz.prog 54 #[lv] w fun e w' => ∃ v, e = .returned v ∧ Row .u8 256 w' v (shaL ls.flatten) ∧ New w.heap.size v ∧ Below w.heap.size w w' := by
  have hj := rjoin_any lv ls w h (by omega)
  have hsum := fun y v (r : Row .u8 256 y v ls.flatten) (t : Tidy v) => rsum_new 1 (ini 1) v ls.flatten y (by decide) (dec_under (by decide)) r t hs (rnew_1 y)
  go_enter Tryz.func54, Tryz.ntmps54
  go_wp2_with (first
    | (go_at_call 31; refine hj.mono ?_; rintro e w1 ⟨v1, rfl, o1, hb1⟩)
    | (go_at_call 82; refine (hsum _ _ o1.row o1.tidy).mono ?_; rintro e w2 ⟨v2, rfl, r2, n2, hb2⟩)
    | fail)
  go_ret
  exact ⟨_, rfl, r2, n2.mono hb1.size, keep_trans hb1 hb2⟩
theorem leS_2 (n : Nat) : leS n 2 = leL n 2 := by unfold leS; rw [if_neg (by decide)]; rfl
theorem leS_4 (n : Nat) : leS n 4 = leL n 4 := by unfold leS; rw [if_neg (by decide)]; rfl
theorem rbe2 (a : Nat) (w : World) (ha : a < 18446744073709551616) : Calls Tryz.prog 24 #[.int .u64 (a : Int), .int .i64 2] w fun e w' => ∃ v, e = .returned v ∧ Own 5 .u8 256 w' w.heap.size v (be2 a) ∧ Below w.heap.size w w' := by
  have := rbe_any a 2 w ha (by decide) (by decide)
  rw [leS_2] at this
  exact this
theorem rbe4 (a : Nat) (w : World) (ha : a < 18446744073709551616) : Calls Tryz.prog 24 #[.int .u64 (a : Int), .int .i64 4] w fun e w' => ∃ v, e = .returned v ∧ Own 5 .u8 256 w' w.heap.size v (be4 a) ∧ Below w.heap.size w w' := by
  have := rbe_any a 4 w ha (by decide) (by decide)
  rw [leS_4] at this
  exact this
theorem one_byte (w : World) (x : Nat) (hx : x < 256) : Row .u8 256 (w.alloc (.cells #[.int .u8 (x : Int)] 5)) (.slice (some ⟨w.heap.size, 0, none⟩) 1 1) [x] ∧ Tidy (.slice (some ⟨w.heap.size, 0, none⟩) 1 1) := by
  refine ⟨⟨_, 1, rfl, Nat.le_refl _, by unfold maxLen; decide, fun _ => ⟨_, _, rfl, fun i hi => ?_⟩, ?_⟩, fun n c e => by cases e⟩
  · match i, hi with
    | 0, _ => rw [World.cell?_alloc_at _ _ _ _ rfl]; rfl
  · intro y hy
    simp at hy
    omega
/-- what stands ahead: the tree's id and the leaf's number -/
def preL (id : List Nat) (q : Nat) : List Nat := id ++ be4 q
theorem len_pre (id : List Nat) (q : Nat) : (preL id q).length = id.length + 4 := by unfold preL; rw [List.length_append, be4_len]
set_option maxHeartbeats 4000000 in
set_option maxRecDepth 100000 in
theorem rpart_any (id seed : List Nat) (q i : Nat) (idv sv : Value) (w : World) (hi : Row .u8 256 w idv id) (ti : Tidy idv) (hs : Row .u8 256 w sv seed) (ts : Tidy sv) (hq : q < 4294967296) (hi2 : i < 65536) (hl : id.length + seed.length ≤ 10000) :
    Calls Tryz.prog 84 #[idv, .int .u32 (q : Int), .int .i64 (i : Int), sv] w fun e w' => ∃ v, e = .returned v ∧ Row .u8 256 w' v (lmX shaL (preL id q) i 255 seed) ∧ New w.heap.size v ∧ Below w.heap.size w w' := by
  obtain ⟨ia, ic, rfl, _⟩ := hi.opens rfl
  obtain ⟨sa, sc, rfl, _⟩ := hs.opens rfl
  have u_q : IntKind.u64.wrap (q : Int) = (q : Int) := by rw [IntKind.wrap_u64]; omega
  have u_i : IntKind.u64.wrap (i : Int) = (i : Int) := by rw [IntKind.wrap_u64]; omega
  have h4 := fun y => rbe4 q y (by omega)
  have h2 := fun y => rbe2 i y (by omega)
  have hfl : [id, be4 q, be2 i, [255], seed].flatten = preL id q ++ (be2 i ++ ([255] ++ seed)) := by simp [preL]
  have hH := fun y lv (r : Rows2 y lv [id, be4 q, be2 i, [255], seed]) => rH_any lv _ y r (by rw [hfl]; simp only [List.length_append, len_pre, be2_len, List.length_singleton]; omega)
  rw [hfl] at hH
  unfold lmX
  generalize shaL = HH at *
  clear hfl
  go_enter Tryz.func84, Tryz.ntmps84
  go_wp2_with (first
    | (go_at_call_of 24 (Value.int .i64 4); refine (h4 _).mono ?_; rintro e w1 ⟨v1, rfl, o1, hb1⟩; obtain ⟨a1, c1, rfl⟩ := o1.row.form)
    | (go_at_call_of 24 (Value.int .i64 2); refine (h2 _).mono ?_; rintro e w2 ⟨v2, rfl, o2, hb2⟩; obtain ⟨a2, c2, rfl⟩ := o2.row.form; have hb12 := keep_trans hb1 hb2; have hb13 := keep_trans hb12 (keep_alloc w2 (.cells #[.int .u8 255] 5)); have hx := one_byte w2 255 (by decide); have hT := hH _ _ (rows_litL (B := w2.heap.size + 1) (k := 5) (texts_cons (hi.below hb13) ti (texts_cons (o1.row.below (keep_trans hb2 (keep_alloc _ _))) o1.tidy (texts_cons (o2.row.below (keep_alloc _ _)) o2.tidy (texts_cons hx.1 hx.2 (texts_cons (hs.below hb13) ts (Texts.nil _)))))) (by simp) rfl (by decide)))
    | (go_at_call 54; refine hT.mono ?_; rintro e w3 ⟨v3, rfl, r3, n3, hb3⟩)
    | fail)
  go_ret
  exact ⟨_, rfl, r3, n3.mono (keep_trans hb13 (keep_alloc _ _)).size, keep_trans (keep_trans hb13 (keep_alloc _ _)) hb3⟩
end Go.Proofs.YtogiballdmgcpaaGreatDoor

/- Leaves that sign once: the document's chain, key, digest. -/
namespace Go.Proofs.YtogiballdmgcpaaGreatDoor
open Go.RowKit
set_option linter.unusedVariables false
set_option linter.unusedSimpArgs false

/-- where the chain stands -/
def ChL (w : World) (HH : List Nat → List Nat) (pre : List Nat) (i F N : Nat) (y : List Nat) (yv vy vj : Value) (wr : World) : Prop := ∃ k : Nat, k ≤ N ∧ vj = .int .i64 ((F + k : Nat) : Int) ∧ Row .u8 256 wr vy (chN HH pre i F k y) ∧ Tidy vy ∧ (New w.heap.size vy ∨ vy = yv) ∧ Below w.heap.size w wr
set_option maxHeartbeats 4000000 in
set_option maxRecDepth 100000 in
theorem rchain_any (id y : List Nat) (q i F N : Nat) (idv yv : Value) (w : World) (hi : Row .u8 256 w idv id) (ti : Tidy idv) (hs : Row .u8 256 w yv y) (ts : Tidy yv) (hq : q < 4294967296) (hi2 : i < 65536) (hF : F + N ≤ 256) (hy32 : y.length = 32) (hl : id.length ≤ 10000) :
    Calls Tryz.prog 87 #[idv, .int .u32 (q : Int), .int .i64 (i : Int), .int .i64 (F : Int), .int .i64 ((F + N : Nat) : Int), yv] w fun e w' => ∃ v, e = .returned v ∧ Row .u8 256 w' v (chN shaL (preL id q) i F N y) ∧ Tidy v ∧ (New w.heap.size v ∨ v = yv) ∧ Below w.heap.size w w' := by
  obtain ⟨ia, ic, rfl, _⟩ := hi.opens rfl
  have u_q : IntKind.u64.wrap (q : Int) = (q : Int) := by rw [IntKind.wrap_u64]; omega
  have u_i : IntKind.u64.wrap (i : Int) = (i : Int) := by rw [IntKind.wrap_u64]; omega
  have h4 := fun y => rbe4 q y (by omega)
  have h2 := fun y => rbe2 i y (by omega)
  have hH := fun (b : Nat) (z : List Nat) (hz : z.length = 32) y lv (r : Rows2 y lv [id, be4 q, be2 i, [b], z]) => rH_any lv _ y r (by simp only [List.flatten_cons, List.flatten_nil, List.append_nil, List.length_append, be2_len, be4_len, List.length_singleton]; omega)
  have hfl : ∀ (b : Nat) (z : List Nat), [id, be4 q, be2 i, [b], z].flatten = preL id q ++ (be2 i ++ ([b] ++ z)) := fun b z => by simp [preL]
  simp only [hfl] at hH
  have hlen : ∀ k, (chN shaL (preL id q) i F k y).length = 32 := chN_len shaL_len i F y hy32
  obtain ⟨T, hT⟩ : ∃ T : Nat, T = F + N := ⟨_, rfl⟩
  rw [← hT]
  generalize shaL = HH at *
  have h0 : ChL w HH (preL id q) i F N y yv yv (.int .i64 (F : Int)) w := ⟨0, Nat.zero_le _, rfl, hs, ts, .inr rfl, Below.refl _ _⟩
  have H0 := hide h0
  have HI := hide (And.intro hi (And.intro ti (And.intro hlen (And.intro hT hF))))
  clear h0 hi ti hlen hfl hs ts hT hF
  go_enter Tryz.func87, Tryz.ntmps87
  go_wp2
  go_loopw [5, 13] (fun vy vj wr => ChL w HH (preL id q) i F N y yv vy vj wr) (fun _ vj _ => T - (intOf vj).toNat)
  case atStart => exact H0.out
  case round =>
    obtain ⟨k, hk, rfl, rY, tY, nY, hbr⟩ := hrel
    obtain ⟨hi, ti, hlen, hT, hF⟩ := HI.out
    clear H0
    rename World => wr
    by_cases hlt : k < N
    · obtain ⟨j, hj⟩ : ∃ j : Nat, j = F + k := ⟨_, rfl⟩
      rw [← hj]
      have hjT : (j : Int) < (T : Int) := by omega
      have u_j : IntKind.u8.wrap (j : Int) = (j : Int) := by rw [IntKind.wrap_u8]; omega
      obtain ⟨Q, hQ⟩ : ∃ x : Nat, x = j + 1 := ⟨_, rfl⟩
      have e_Q : (j : Int) + 1 = (Q : Int) := by omega
      have s_Q : IntKind.i64.wrap (Q : Int) = (Q : Int) := by rw [IntKind.wrap_i64]; omega
      have hj8 : j < 256 := by omega
      have hch : HH (preL id q ++ (be2 i ++ ([j] ++ chN HH (preL id q) i F k y))) = chN HH (preL id q) i F (k + 1) y := by rw [hj]; rfl
      have hHk := fun yy lv r => hH j (chN HH (preL id q) i F k y) (hlen k) yy lv r
      rw [hch] at hHk
      have hir := hi.below hbr
      obtain ⟨ya, yc, rfl, _⟩ := rY.opens (hlen k)
      have HK := hide (And.intro hj (And.intro hQ (And.intro hT (And.intro hbr (And.intro hlt (And.intro hj8 (And.intro hlen hF)))))))
      have hb1y := one_byte
      clear hj hQ hT hbr hlt hch hlen hF hi hH
      go_wp2_with (first
        | (go_at_call_of 24 (Value.int .i64 4); refine (h4 _).mono ?_; rintro e w1 ⟨v1, rfl, o1, hb1⟩; obtain ⟨a1, c1, rfl⟩ := o1.row.form)
        | (go_at_call_of 24 (Value.int .i64 2); refine (h2 _).mono ?_; rintro e w2 ⟨v2, rfl, o2, hb2⟩; obtain ⟨a2, c2, rfl⟩ := o2.row.form; have hb12 := keep_trans hb1 hb2; have hb13 := keep_trans hb12 (keep_alloc w2 (.cells #[.int .u8 (j : Int)] 5)); have hx := one_byte w2 j hj8; have hT := hHk _ _ (rows_litL (B := w2.heap.size + 1) (k := 5) (texts_cons (hir.below hb13) ti (texts_cons (o1.row.below (keep_trans hb2 (keep_alloc _ _))) o1.tidy (texts_cons (o2.row.below (keep_alloc _ _)) o2.tidy (texts_cons hx.1 hx.2 (texts_cons (rY.below hb13) tY (Texts.nil _)))))) (by simp) rfl (by decide)))
        | (go_at_call 54; refine hT.mono ?_; rintro e w3 ⟨v3, rfl, r3, n3, hb3⟩)
        | fail)
      obtain ⟨hj, hQ, hTT, hbr, hlt, hj8, hlen, hF⟩ := HK.out
      have hbw := keep_trans (keep_trans hb13 (keep_alloc _ _)) hb3
      exact ⟨⟨k + 1, by omega, vint (by omega), r3, new_ntidy r3 (by rw [hlen]; decide), .inl (n3.mono (Nat.le_trans hbr.size (keep_trans hb13 (keep_alloc _ _)).size)), hbr.trans (hbw.mono hbr.size)⟩, by simp [intOf]; omega⟩
    · obtain rfl : k = N := by omega
      have hge : ¬ (((F + k : Nat) : Int) < (T : Int)) := by omega
      obtain ⟨j, hj⟩ : ∃ j : Nat, j = F + k := ⟨_, rfl⟩
      rw [← hj] at hge ⊢
      obtain ⟨ya, yc, rfl, _⟩ := rY.opens (hlen k)
      have HK := hide (And.intro hj (And.intro hT (And.intro hbr rY)))
      clear hj hT hbr hlen hF hi hH
      go_wp2
      go_ret
      exact ⟨_, rfl, HK.out.2.2.2, tY, nY, HK.out.2.2.1⟩
end Go.Proofs.YtogiballdmgcpaaGreatDoor

/- Leaves that sign once: the document's key, digest, wrong, Size. -/
namespace Go.Proofs.YtogiballdmgcpaaGreatDoor
open Go.RowKit
set_option linter.unusedVariables false
set_option linter.unusedSimpArgs false

set_option maxHeartbeats 4000000 in
set_option maxRecDepth 100000 in
theorem rkey_any (id : List Nat) (ends : List (List Nat)) (q : Nat) (idv ev : Value) (w : World) (hi : Row .u8 256 w idv id) (ti : Tidy idv) (he : Rows2 w ev ends) (hq : q < 4294967296) (hl : id.length ≤ 10000) (hel : ends.flatten.length ≤ 50000) :
    Calls Tryz.prog 103 #[idv, .int .u32 (q : Int), ev] w fun e w' => ∃ v, e = .returned v ∧ Row .u8 256 w' v (keyH shaL (preL id q) ends) ∧ New w.heap.size v ∧ Below w.heap.size w w' := by
  obtain ⟨ia, ic, rfl, _⟩ := hi.opens rfl
  have u_q : IntKind.u64.wrap (q : Int) = (q : Int) := by rw [IntKind.wrap_u64]; omega
  have h4 := fun y => rbe4 q y (by omega)
  have h2 := fun y => rbe2 32896 y (by decide)
  have hj := fun y (h : Below w.heap.size w y) => rjoin_any ev ends y (he.below h) (by omega)
  have hfl : [id, be4 q, be2 32896, ends.flatten].flatten = preL id q ++ (be2 32896 ++ ends.flatten) := by simp [preL]
  have hH := fun y lv (r : Rows2 y lv [id, be4 q, be2 32896, ends.flatten]) => rH_any lv _ y r (by rw [hfl]; simp only [List.length_append, len_pre, be2_len]; omega)
  rw [hfl] at hH
  unfold keyH
  generalize shaL = HH at *
  clear hfl hel
  generalize ends.flatten = E at *
  go_enter Tryz.func103, Tryz.ntmps103
  go_wp2_with (first
    | (go_at_call_of 24 (Value.int .i64 4); refine (h4 _).mono ?_; rintro e w1 ⟨v1, rfl, o1, hb1⟩; obtain ⟨a1, c1, rfl⟩ := o1.row.form)
    | (go_at_call_of 24 (Value.int .i64 2); refine (h2 _).mono ?_; rintro e w2 ⟨v2, rfl, o2, hb2⟩; obtain ⟨a2, c2, rfl⟩ := o2.row.form; have hb12 := keep_trans hb1 hb2)
    | (go_at_call 31; refine (hj _ hb12).mono ?_; rintro e w3 ⟨v3, rfl, o3, hb3⟩; obtain ⟨a3, c3, rfl⟩ := o3.row.form; have hb13 := keep_trans hb12 hb3; have hT := hH _ _ (rows_litL (B := w3.heap.size) (k := 4) (texts_cons (hi.below hb13) ti (texts_cons (o1.row.below (keep_trans hb2 hb3)) o1.tidy (texts_cons (o2.row.below hb3) o2.tidy (texts_cons o3.row o3.tidy (Texts.nil _))))) rfl rfl (by decide)))
    | (go_at_call 54; refine hT.mono ?_; rintro e w4 ⟨v4, rfl, r4, n4, hb4⟩)
    | fail)
  go_ret
  exact ⟨_, rfl, r4, n4.mono (keep_trans hb13 (keep_alloc _ _)).size, keep_trans (keep_trans hb13 (keep_alloc _ _)) hb4⟩
set_option maxHeartbeats 4000000 in
set_option maxRecDepth 100000 in
theorem rdgst_any (id c text : List Nat) (q : Nat) (idv cv tv : Value) (w : World) (hi : Row .u8 256 w idv id) (ti : Tidy idv) (hc : Row .u8 256 w cv c) (tc : Tidy cv) (ht : Row .u8 256 w tv text) (tt : Tidy tv) (hq : q < 4294967296) (hl : id.length + c.length + text.length ≤ 50000) :
    Calls Tryz.prog 86 #[idv, .int .u32 (q : Int), cv, tv] w fun e w' => ∃ v, e = .returned v ∧ Row .u8 256 w' v (digH shaL (preL id q) c text) ∧ New w.heap.size v ∧ Below w.heap.size w w' := by
  obtain ⟨ia, ic, rfl, _⟩ := hi.opens rfl
  obtain ⟨ca, cc, rfl, _⟩ := hc.opens rfl
  obtain ⟨ta, tc', rfl, _⟩ := ht.opens rfl
  have u_q : IntKind.u64.wrap (q : Int) = (q : Int) := by rw [IntKind.wrap_u64]; omega
  have h4 := fun y => rbe4 q y (by omega)
  have h2 := fun y => rbe2 33153 y (by decide)
  have hfl : [id, be4 q, be2 33153, c, text].flatten = preL id q ++ (be2 33153 ++ (c ++ text)) := by simp [preL]
  have hH := fun y lv (r : Rows2 y lv [id, be4 q, be2 33153, c, text]) => rH_any lv _ y r (by rw [hfl]; simp only [List.length_append, len_pre, be2_len]; omega)
  rw [hfl] at hH
  unfold digH
  generalize shaL = HH at *
  clear hfl
  go_enter Tryz.func86, Tryz.ntmps86
  go_wp2_with (first
    | (go_at_call_of 24 (Value.int .i64 4); refine (h4 _).mono ?_; rintro e w1 ⟨v1, rfl, o1, hb1⟩; obtain ⟨a1, c1, rfl⟩ := o1.row.form)
    | (go_at_call_of 24 (Value.int .i64 2); refine (h2 _).mono ?_; rintro e w2 ⟨v2, rfl, o2, hb2⟩; obtain ⟨a2, c2, rfl⟩ := o2.row.form; have hb12 := keep_trans hb1 hb2; have hT := hH _ _ (rows_litL (B := w2.heap.size) (k := 5) (texts_cons (hi.below hb12) ti (texts_cons (o1.row.below hb2) o1.tidy (texts_cons o2.row o2.tidy (texts_cons (hc.below hb12) tc (texts_cons (ht.below hb12) tt (Texts.nil _)))))) rfl rfl (by decide)))
    | (go_at_call 54; refine hT.mono ?_; rintro e w4 ⟨v4, rfl, r4, n4, hb4⟩)
    | fail)
  go_ret
  exact ⟨_, rfl, r4, n4.mono (keep_trans hb12 (keep_alloc _ _)).size, keep_trans (keep_trans hb12 (keep_alloc _ _)) hb4⟩
/-- what is wrong with a kind, an id, a seed -/
def wrgC (x : Int) (a b : Nat) : Int := if x = 1 ∨ x = 2 ∨ x = 4 ∨ x = 8 then (if a = 16 ∧ b = 32 then 0 else 14) else 9
theorem wrg_no {x : Int} (h : NoK x) (a b : Nat) : wrgC x a b = 9 := by
  obtain ⟨h1, h2, h4, h8⟩ := h
  unfold wrgC
  rw [if_neg (by omega)]
theorem wrg_kd {w n m s c : Nat} (h : Kd w n m s c) (a b : Nat) : wrgC (w : Int) a b = if a = 16 ∧ b = 32 then 0 else 14 := by
  unfold wrgC
  rw [if_pos (by cases h <;> simp)]
theorem Kd.pos {w n m s c : Nat} (h : Kd w n m s c) : 1 ≤ n + m ∧ n + m ≤ 265 ∧ w ≤ 8 ∧ 1 ≤ w ∧ n * w = 256 ∧ c ≤ 4 ∧ s ≤ 7 := by cases h <;> decide
set_option maxHeartbeats 4000000 in
set_option maxRecDepth 100000 in
theorem rwrong_any (x : Int) (id seed : List Nat) (idv sv : Value) (w : World) (hi : Row .u8 256 w idv id) (hs : Row .u8 256 w sv seed) :
    Calls Tryz.prog 83 #[.int .i64 x, idv, sv] w fun e w' => e = .returned (.int .i64 (wrgC x id.length seed.length)) ∧ w' = w := by
  obtain ⟨ia, ic, rfl, _⟩ := hi.opens rfl
  obtain ⟨sa, sc, rfl, _⟩ := hs.opens rfl
  rcases kd_or x with h | ⟨k, n, m, s, c, rfl, h⟩
  · rw [wrg_no h]
    have hk := fun y => rkind_no x y h
    clear h
    go_enter Tryz.func83, Tryz.ntmps83
    go_wp2_with (first | (go_at_call 77; refine (hk _).mono ?_; rintro e yy ⟨rfl, hy⟩; obtain rfl := hy.symm) | fail)
    go_ret
    exact ⟨rfl, rfl⟩
  · rw [wrg_kd h]
    have hk := fun y => rkind_ok y h
    obtain ⟨P, hP⟩ : ∃ P : Nat, P = n + m := ⟨_, rfl⟩
    rw [← hP] at hk
    have hp0 : ¬ ((P : Int) = 0) := by have := h.pos; omega
    clear h hP
    by_cases h1 : id.length = 16
    · have h1i : (id.length : Int) = 16 := by omega
      by_cases h2 : seed.length = 32
      · have h2i : (seed.length : Int) = 32 := by omega
        rw [if_pos ⟨h1, h2⟩]
        clear h1 h2
        generalize id.length = A at *
        generalize seed.length = B at *
        go_enter Tryz.func83, Tryz.ntmps83
        go_wp2_with (first | (go_at_call 77; refine (hk _).mono ?_; rintro e yy ⟨rfl, hy⟩; obtain rfl := hy.symm) | fail)
        go_ret
        exact ⟨rfl, rfl⟩
      · have h2i : ¬ (seed.length : Int) = 32 := by omega
        rw [if_neg (fun h => h2 h.2)]
        clear h1 h2
        generalize id.length = A at *
        generalize seed.length = B at *
        go_enter Tryz.func83, Tryz.ntmps83
        go_wp2_with (first | (go_at_call 77; refine (hk _).mono ?_; rintro e yy ⟨rfl, hy⟩; obtain rfl := hy.symm) | fail)
        go_ret
        exact ⟨rfl, rfl⟩
    · have h1i : ¬ (id.length : Int) = 16 := by omega
      rw [if_neg (fun h => h1 h.1)]
      clear h1
      generalize id.length = A at *
      go_enter Tryz.func83, Tryz.ntmps83
      go_wp2_with (first | (go_at_call 77; refine (hk _).mono ?_; rintro e yy ⟨rfl, hy⟩; obtain rfl := hy.symm) | fail)
      go_ret
      exact ⟨rfl, rfl⟩
set_option maxHeartbeats 4000000 in
set_option maxRecDepth 100000 in
theorem rsize_no (x : Int) (w : World) (h : NoK x) : Calls Tryz.prog 67 #[.int .i64 x] w fun e w' => e = .returned (.int .i64 0) ∧ w' = w := by
  have hk := fun y => rkind_no x y h
  clear h
  go_enter Tryz.func67, Tryz.ntmps67
  go_wp2_with (first | (go_at_call 77; refine (hk _).mono ?_; rintro e yy ⟨rfl, hy⟩; obtain rfl := hy.symm) | fail)
  go_ret
  exact ⟨rfl, rfl⟩
set_option maxHeartbeats 4000000 in
set_option maxRecDepth 100000 in
theorem rsize_ok {k n m s c : Nat} (w : World) (h : Kd k n m s c) : Calls Tryz.prog 67 #[.int .i64 (k : Int)] w fun e w' => e = .returned (.int .i64 ((36 + 32 * (n + m) : Nat) : Int)) ∧ w' = w := by
  have hk := fun y => rkind_ok y h
  obtain ⟨P, hP⟩ : ∃ P : Nat, P = n + m := ⟨_, rfl⟩
  rw [← hP] at hk ⊢
  have hp := h.pos
  have hp0 : ¬ ((P : Int) = 0) := by omega
  obtain ⟨A, hA⟩ : ∃ A : Nat, A = 32 * P := ⟨_, rfl⟩
  obtain ⟨B, hB⟩ : ∃ B : Nat, B = 36 + A := ⟨_, rfl⟩
  have e_A : (32 : Int) * (P : Int) = (A : Int) := by omega
  have s_A : IntKind.i64.wrap (A : Int) = (A : Int) := by rw [IntKind.wrap_i64]; omega
  have e_B : (36 : Int) + (A : Int) = (B : Int) := by omega
  have s_B : IntKind.i64.wrap (B : Int) = (B : Int) := by rw [IntKind.wrap_i64]; omega
  rw [← hA, ← hB]
  clear h hP hA hB hp
  go_enter Tryz.func67, Tryz.ntmps67
  go_wp2_with (first | (go_at_call 77; refine (hk _).mono ?_; rintro e yy ⟨rfl, hy⟩; obtain rfl := hy.symm) | fail)
  go_ret
  exact ⟨rfl, rfl⟩
end Go.Proofs.YtogiballdmgcpaaGreatDoor

/- Trees of leaves that sign once: the document's Code, height, digit, over, leafSum. -/
namespace Go.Proofs.YtogiballdmgcpaaGreatDoor
open Go.RowKit
set_option linter.unusedVariables false
set_option linter.unusedSimpArgs false

set_option maxHeartbeats 4000000 in
set_option maxRecDepth 100000 in
theorem rcode_any (h : Int) (w : World) : Calls Tryz.prog 56 #[.int .i64 h] w fun e w' => e = .returned (.int .u64 (lmCode h : Nat)) ∧ w' = w := by
  by_cases h1 : 1 ≤ h
  · by_cases h4 : h ≤ 4
    · obtain ⟨n, rfl⟩ : ∃ n : Nat, h = (n : Int) := ⟨h.toNat, by omega⟩
      obtain ⟨C, hC⟩ : ∃ C : Nat, C = 3758096384 + n := ⟨_, rfl⟩
      have e0 : lmCode (n : Int) = C := by unfold lmCode; rw [if_pos ⟨h1, h4⟩, hC]; rfl
      rw [e0]
      have u_n : IntKind.u64.wrap (n : Int) = (n : Int) := by rw [IntKind.wrap_u64]; omega
      have e_C : (3758096384 : Int) + (n : Int) = (C : Int) := by omega
      have u_C : IntKind.u64.wrap (C : Int) = (C : Int) := by rw [IntKind.wrap_u64]; omega
      clear hC e0
      go_enter Tryz.func56, Tryz.ntmps56
      go_wp2
      go_ret
      exact ⟨rfl, rfl⟩
    · have h5 : 5 ≤ h := by omega
      by_cases h25 : h ≤ 25
      · by_cases hm : h % 5 = 0
        · have hk : h = 5 ∨ h = 10 ∨ h = 15 ∨ h = 20 ∨ h = 25 := by omega
          clear h1 h4 h5 h25 hm
          rcases hk with hk | hk | hk | hk | hk <;> subst hk
          · go_enter Tryz.func56, Tryz.ntmps56
            go_wp2
            go_ret
            exact ⟨rfl, rfl⟩
          · go_enter Tryz.func56, Tryz.ntmps56
            go_wp2
            go_ret
            exact ⟨rfl, rfl⟩
          · go_enter Tryz.func56, Tryz.ntmps56
            go_wp2
            go_ret
            exact ⟨rfl, rfl⟩
          · go_enter Tryz.func56, Tryz.ntmps56
            go_wp2
            go_ret
            exact ⟨rfl, rfl⟩
          · go_enter Tryz.func56, Tryz.ntmps56
            go_wp2
            go_ret
            exact ⟨rfl, rfl⟩
        · have e0 : lmCode h = 0 := by unfold lmCode; rw [if_neg (by omega), if_neg (by omega)]
          rw [e0]
          have hb : (h % 5 == 0) = false := by simp [hm]
          have ht : ¬ h.tmod 5 = 0 := by rw [Int.tmod_eq_emod_of_nonneg (by omega)]; exact hm
          clear e0
          go_enter Tryz.func56, Tryz.ntmps56
          go_wp2
          go_ret
          exact ⟨rfl, rfl⟩
      · have e0 : lmCode h = 0 := by unfold lmCode; rw [if_neg (by omega), if_neg (by omega)]
        rw [e0]
        clear e0
        go_enter Tryz.func56, Tryz.ntmps56
        go_wp2
        go_ret
        exact ⟨rfl, rfl⟩
  · have e0 : lmCode h = 0 := by unfold lmCode; rw [if_neg (by omega), if_neg (by omega)]
    rw [e0]
    have h5 : ¬ 5 ≤ h := by omega
    clear e0
    go_enter Tryz.func56, Tryz.ntmps56
    go_wp2
    go_ret
    exact ⟨rfl, rfl⟩
end Go.Proofs.YtogiballdmgcpaaGreatDoor

/- append of whatever row, apart from mac's and aes'. -/
namespace Go.Proofs.YtogiballdmgcpaaGreatDoor
open Go.RowKit
set_option linter.unusedVariables false
set_option linter.unusedSimpArgs false

theorem tidy_atA (x : Addr) (n c : Nat) : Tidy (.slice (some x) n c) := fun n c he => by simp at he
theorem own_belowA {w w' : World} {base : Nat} {e : TypeId} {size : Nat} {v : Value} {n : Nat} {xs : List Value} (h : w.ownsRow base e size v n xs) (hb : Below w.heap.size w w') : w'.ownsRow base e size v n xs := by
  obtain ⟨h1, h2⟩ := h
  refine ⟨h1, ?_⟩
  rcases h2 with h2 | ⟨g, cap, cur, rfl, h3, h4, h5⟩
  · exact .inl h2
  · refine .inr ⟨g, cap, cur, rfl, h3, ?_, h5⟩
    rw [hb.block g (by
      rcases Nat.lt_or_ge g w.heap.size with hlt | hge
      · exact hlt
      · rw [Array.getElem?_eq_none hge] at h4; cases h4)]
    exact h4
theorem row_tidyA {k : IntKind} {m : Nat} {w : World} {v : Value} {l : List Nat} (h : Row k m w v l) (hl : 0 < l.length) : Tidy v := by
  obtain ⟨a, c, rfl, _, _, h3, _⟩ := h
  obtain ⟨b, off, rfl, _⟩ := h3 hl
  exact tidy_atA _ _ _
/-- append of whatever row onto one of the call's own -/
theorem wpList_appA {w : World} {ops : Array Oper} {rest : List Oper} {o : Oper} {a : Act} {Q : Exit → Act → World → Prop} (hgd : o.guard = none) (s x : Operand) (ho : o.op = .call { callee := .builtin .append, args := #[s, x], argTypes := #[23, 23] })
    (base : Nat) (v bv : Value) (n : Nat) (l b : List Nat) (hs : a.eval s = v) (hown : w.ownsRow base 5 1 v n (vals .u8 l)) (hx : a.eval x = bv) (rb : Row .u8 256 w bv b) (tb : Tidy bv) (hn : n ≤ 1000000) (hb : b.length ≤ 1000000) (hbase : base ≤ w.heap.size)
    (h : ∀ v' w', w'.ownsRow base 5 1 v' (n + b.length) (vals .u8 (l ++ b)) → w.grownBy w' v.ownBlock → wpList Tryz.prog ops Q rest (a.put o.dst v') w') : wpList Tryz.prog ops Q (o :: rest) a w := by
  obtain ⟨i0, hi, hz0, hz1, hz2⟩ := info_parts Tryz.info5
  obtain ⟨ba, bc, rfl, h1, h2, h3, h4⟩ := rb
  cases ba with
  | none =>
    obtain ⟨h0, rfl⟩ := tb _ _ rfl
    obtain rfl := List.eq_nil_of_length_eq_zero h0
    refine wpList_append_own_none hgd s x 23 ho base 5 i0 1 Tryz.underlying23 hi _ _ _ hs hown hx ?_
    exact h v w (by rw [List.append_nil]; exact hown) ⟨rfl, rfl, rfl, Nat.le_refl _, fun _ _ _ => rfl⟩
  | some y =>
    refine wpList_append_own _ hgd s x 23 ho base 5 i0 (.int .u8 0) 1 1 Tryz.underlying23 hi hz0 hz1 hz2 rfl (by decide) _ _ _ hs hown y b.length bc (vals .u8 b) hx (by rw [vals_length, Nat.mul_one]) (cells_news h3) (vals_one _ _) (by unfold maxLen; omega) (by omega) hbase ?_
    intro v' w3 how' hgrow _
    exact h v' w3 (by rw [vals_append]; exact how') hgrow
end Go.Proofs.YtogiballdmgcpaaGreatDoor
