/- The library's contracts that this seat's walks lean on, laid at its dump. -/
import Derived.Shelf.Bytes.SlSearch0
import Derived.Ground.SlbNamesProg
import Derived.Shelf.Bytes.SlJoin
import Derived.Shelf.Bytes.Small
import Derived.Test.YtjkciheoknjfhaaDoorProg
namespace Go.Proofs
open Go.Shelf
set_option linter.unusedVariables false
def Tryd.laysSlJ14_ren : Go.Shelf.Ren := ⟨fun | 14 => 53 | 15 => 67 | n => n, fun | 26 => 60 | 22 => 22 | 3 => 3 | 4 => 4 | 0 => 0 | 9 => 9 | 20 => 20 | 5 => 5 | n => n, fun | n => n⟩
theorem Tryd.laysSlJ14 : Go.Proofs.SlLaysJ.n14 Tryd.prog Tryd.laysSlJ14_ren := {
  mixed := by kernel_rfl
  f14 := Tryd.func53.trans (congrArg some (by kernel_rfl))
  f15 := Tryd.func67.trans (congrArg some (by kernel_rfl))
  t0 := Tryd.underlying0
  a0 := Tryd.isAgg0
  z0 := Tryd.sizeOf0
  v0 := Tryd.zeroValue0
  t3 := Tryd.underlying3
  a3 := Tryd.isAgg3
  z3 := Tryd.sizeOf3
  v3 := Tryd.zeroValue3
  t4 := Tryd.underlying4
  a4 := Tryd.isAgg4
  z4 := Tryd.sizeOf4
  v4 := Tryd.zeroValue4
  t9 := Tryd.underlying9
  a9 := Tryd.isAgg9
  z9 := Tryd.sizeOf9
  v9 := Tryd.zeroValue9
  t20 := Tryd.underlying20
  a20 := Tryd.isAgg20
  z20 := Tryd.sizeOf20
  v20 := Tryd.zeroValue20
  t22 := Tryd.underlying22
  a22 := Tryd.isAgg22
  z22 := Tryd.sizeOf22
  v22 := Tryd.zeroValue22
  t26 := Tryd.underlying60
  a26 := Tryd.isAgg60
  z26 := Tryd.sizeOf60
  v26 := Tryd.zeroValue60
  t5 := Tryd.underlying5
  z5 := Tryd.sizeOf5
  i5 := by kernel_rfl }
open Go.RowKit Go.Lib in
theorem Tryd.bytes_Join_many (b o n c : Nat) (vs : List Value) (ls : List (List UInt8)) (sv : Value) (sep : List UInt8) (w : World) (hn : ls.length = n) (h2 : 2 ≤ n) (hP : Lib.PartsAt w ⟨b, o, none⟩ vs ls) (hcap : n ≤ c) (hS : Lib.HoldsBytes w sv sep) (hn47 : n ≤ 140737488355328) (hlen : Lib.lens ls + sep.length * (n - 1) ≤ 140737488355328) :
    Calls Tryd.prog 53 #[.slice (some ⟨b, o, none⟩) n c, sv] w fun e w' => ∃ v', e = .returned v' ∧ Lib.FreshBytes w.heap.size w' v' (Lib.join ls sep) ∧ Below w.heap.size w w' := Any.bytes_Join_many Tryd.laysSlJ14 b o n c vs ls sv sep w hn h2 hP hcap hS hn47 hlen
open Go.RowKit Go.Lib in
theorem Tryd.bytes_Join_none (p : Option Addr) (c : Nat) (sv : Value) (w : World) :
    Calls Tryd.prog 53 #[.slice p 0 c, sv] w fun e w' => e = .returned (.slice (some ⟨w.heap.size, 0, none⟩) 0 0) ∧ w' = w.alloc (.cells #[] 5) := Any.bytes_Join_none Tryd.laysSlJ14 p c sv w
open Go.RowKit Go.Lib in
theorem Tryd.bytes_Join_one (b o c : Nat) (ad0 : Addr) (c0 : Nat) (l0 : List UInt8) (sv : Value) (w : World) (hcell : w.cell? ⟨b, o, none⟩ = some (.slice (some ad0) l0.length c0)) (hc : ∀ (i : Nat) x, l0[i]? = some x → w.cell? (ad0.add i) = some (.int .u8 (x.toNat : Int))) (h0 : 0 < l0.length) (hs : l0.length ≤ 140737488355328) :
    Calls Tryd.prog 53 #[.slice (some ⟨b, o, none⟩) 1 c, sv] w fun e w' => ∃ v', e = .returned v' ∧ Lib.FreshBytes w.heap.size w' v' l0 ∧ Below w.heap.size w w' := Any.bytes_Join_one Tryd.laysSlJ14 b o c ad0 c0 l0 sv w hcell hc h0 hs
open Go.RowKit Go.Lib in
theorem Tryd.bytes_Join_one_empty (b o c : Nat) (p0 : Option Addr) (c0 : Nat) (sv : Value) (w : World) (hcell : w.cell? ⟨b, o, none⟩ = some (.slice p0 0 c0)) :
    Calls Tryd.prog 53 #[.slice (some ⟨b, o, none⟩) 1 c, sv] w fun e w' => e = .returned (.slice none 0 0) ∧ w' = w := Any.bytes_Join_one_empty Tryd.laysSlJ14 b o c p0 c0 sv w hcell
end Go.Proofs
