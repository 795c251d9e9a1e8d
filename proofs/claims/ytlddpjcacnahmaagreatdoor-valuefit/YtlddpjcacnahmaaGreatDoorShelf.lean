/- The library's contracts that this seat's walks lean on, laid at its dump. -/
import Derived.Shelf.Bytes.SlSearch0
import Derived.Ground.SlbNamesProg
import Derived.Shelf.Bytes.SlJoin
import Derived.Shelf.Bytes.Small
import Derived.Test.YtlddpjcacnahmaaGreatDoorProg
namespace Go.Proofs
open Go.Shelf
set_option linter.unusedVariables false
def Tryz.laysSlJ14_ren : Go.Shelf.Ren := ⟨fun | 14 => 153 | 15 => 162 | n => n, fun | 26 => 112 | 22 => 22 | 3 => 3 | 4 => 4 | 0 => 0 | 9 => 9 | 20 => 20 | 5 => 5 | n => n, fun | n => n⟩
theorem Tryz.laysSlJ14 : Go.Proofs.SlLaysJ.n14 Tryz.prog Tryz.laysSlJ14_ren := {
  mixed := by kernel_rfl
  f14 := Tryz.func153.trans (congrArg some (by kernel_rfl))
  f15 := Tryz.func162.trans (congrArg some (by kernel_rfl))
  t0 := Tryz.underlying0
  a0 := Tryz.isAgg0
  z0 := Tryz.sizeOf0
  v0 := Tryz.zeroValue0
  t3 := Tryz.underlying3
  a3 := Tryz.isAgg3
  z3 := Tryz.sizeOf3
  v3 := Tryz.zeroValue3
  t4 := Tryz.underlying4
  a4 := Tryz.isAgg4
  z4 := Tryz.sizeOf4
  v4 := Tryz.zeroValue4
  t9 := Tryz.underlying9
  a9 := Tryz.isAgg9
  z9 := Tryz.sizeOf9
  v9 := Tryz.zeroValue9
  t20 := Tryz.underlying20
  a20 := Tryz.isAgg20
  z20 := Tryz.sizeOf20
  v20 := Tryz.zeroValue20
  t22 := Tryz.underlying22
  a22 := Tryz.isAgg22
  z22 := Tryz.sizeOf22
  v22 := Tryz.zeroValue22
  t26 := Tryz.underlying112
  a26 := Tryz.isAgg112
  z26 := Tryz.sizeOf112
  v26 := Tryz.zeroValue112
  t5 := Tryz.underlying5
  z5 := Tryz.sizeOf5
  i5 := by kernel_rfl }
open Go.RowKit Go.Lib in
theorem Tryz.bytes_Join_many (b o n c : Nat) (vs : List Value) (ls : List (List UInt8)) (sv : Value) (sep : List UInt8) (w : World) (hn : ls.length = n) (h2 : 2 ≤ n) (hP : Lib.PartsAt w ⟨b, o, none⟩ vs ls) (hcap : n ≤ c) (hS : Lib.HoldsBytes w sv sep) (hn47 : n ≤ 140737488355328) (hlen : Lib.lens ls + sep.length * (n - 1) ≤ 140737488355328) :
    Calls Tryz.prog 153 #[.slice (some ⟨b, o, none⟩) n c, sv] w fun e w' => ∃ v', e = .returned v' ∧ Lib.FreshBytes w.heap.size w' v' (Lib.join ls sep) ∧ Below w.heap.size w w' := Any.bytes_Join_many Tryz.laysSlJ14 b o n c vs ls sv sep w hn h2 hP hcap hS hn47 hlen
open Go.RowKit Go.Lib in
theorem Tryz.bytes_Join_none (p : Option Addr) (c : Nat) (sv : Value) (w : World) :
    Calls Tryz.prog 153 #[.slice p 0 c, sv] w fun e w' => e = .returned (.slice (some ⟨w.heap.size, 0, none⟩) 0 0) ∧ w' = w.alloc (.cells #[] 5) := Any.bytes_Join_none Tryz.laysSlJ14 p c sv w
open Go.RowKit Go.Lib in
theorem Tryz.bytes_Join_one (b o c : Nat) (ad0 : Addr) (c0 : Nat) (l0 : List UInt8) (sv : Value) (w : World) (hcell : w.cell? ⟨b, o, none⟩ = some (.slice (some ad0) l0.length c0)) (hc : ∀ (i : Nat) x, l0[i]? = some x → w.cell? (ad0.add i) = some (.int .u8 (x.toNat : Int))) (h0 : 0 < l0.length) (hs : l0.length ≤ 140737488355328) :
    Calls Tryz.prog 153 #[.slice (some ⟨b, o, none⟩) 1 c, sv] w fun e w' => ∃ v', e = .returned v' ∧ Lib.FreshBytes w.heap.size w' v' l0 ∧ Below w.heap.size w w' := Any.bytes_Join_one Tryz.laysSlJ14 b o c ad0 c0 l0 sv w hcell hc h0 hs
open Go.RowKit Go.Lib in
theorem Tryz.bytes_Join_one_empty (b o c : Nat) (p0 : Option Addr) (c0 : Nat) (sv : Value) (w : World) (hcell : w.cell? ⟨b, o, none⟩ = some (.slice p0 0 c0)) :
    Calls Tryz.prog 153 #[.slice (some ⟨b, o, none⟩) 1 c, sv] w fun e w' => e = .returned (.slice none 0 0) ∧ w' = w := Any.bytes_Join_one_empty Tryz.laysSlJ14 b o c p0 c0 sv w hcell
end Go.Proofs
