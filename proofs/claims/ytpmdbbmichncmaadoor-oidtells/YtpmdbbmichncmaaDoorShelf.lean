/- The library's contracts that this seat's walks lean on, laid at its dump. -/
import Derived.Shelf.Utf8.RuneCount
import Derived.Shelf.Strconv.Itoa0
import Derived.Shelf.Strconv.Itoa1
import Derived.Shelf.LaysM
import Derived.Shelf.Strconv.Itoa2
import Derived.Shelf.Strconv.Itoa3
import Derived.Shelf.Strconv.Clone
import Derived.Shelf.Strconv.SyntaxError
import Derived.Shelf.LaysC
import Derived.Shelf.Strconv.ToError
import Derived.Shelf.Strconv.Lower
import Derived.Shelf.Strconv.ParseUint10
import Derived.Shelf.Strconv.ParseUint10Empty
import Derived.Shelf.Strconv.ParseUint10Any
import Derived.Shelf.Strconv.RangeError
import Derived.Shelf.Strconv.ToErrorRange
import Derived.Shelf.Strconv.ParseUintEmpty
import Derived.Shelf.Strconv.ParseUint10b64
import Derived.Shelf.Strconv.ParseUint10b32
import Derived.Shelf.Strconv.ParseUint10b16
import Derived.Shelf.Strconv.ParseUint10b8
import Derived.Shelf.Strconv.ParseUint10At
import Derived.Ground.MpProg
import Derived.Shelf.Pu.ParseUintPublic10
import Derived.Shelf.Pu.ErrVarParseUint
import Derived.Shelf.Strings.Search1
import Derived.Shelf.Strings.Search2
import Derived.Shelf.Strings.Search3
import Derived.Shelf.Strings.Count
import Derived.Shelf.Strings.Shaped
import Derived.Shelf.Strconv.AppendUint10
import Derived.Shelf.Strconv.AppendInt10
import Derived.Shelf.Strings.Split
import Derived.Shelf.Strings.SplitShaped
import Derived.Shelf.Unicode.Decode
import Derived.Shelf.Strings.RuneCount
import Derived.Shelf.Strings.Explode
import Derived.Shelf.Unicode.DecodeSlow
import Derived.Shelf.Unicode.DecodeAny
import Derived.Shelf.Bytes.SlSearch0
import Derived.Shelf.Bytes.SlEqualAll
import Derived.Shelf.Bytes.Small
import Derived.Test.YtpmdbbmichncmaaDoorProg
namespace Go.Proofs
open Go.Shelf
set_option linter.unusedVariables false
def Tryd.laysPu14_ren : Go.Shelf.Ren := ⟨fun | 14 => 27 | 16 => 35 | 17 => 36 | 19 => 42 | 20 => 43 | 21 => 44 | 22 => 45 | 23 => 46 | 24 => 47 | 25 => 56 | 27 => 58 | 26 => 57 | 28 => 69 | 29 => 74 | 30 => 48 | 31 => 49 | 32 => 50 | 33 => 51 | 35 => 60 | 34 => 59 | 36 => 61 | 37 => 62 | 38 => 63 | 39 => 70 | 40 => 71 | n => n, fun | 9 => 9 | 3 => 3 | 22 => 43 | 24 => 50 | 25 => 51 | 4 => 4 | 34 => 66 | 5 => 5 | 36 => 68 | 37 => 24 | 0 => 0 | 39 => 70 | 21 => 21 | 44 => 85 | 47 => 93 | 50 => 96 | 48 => 94 | 2 => 2 | 52 => 74 | 55 => 77 | 59 => 89 | 60 => 41 | 20 => 20 | 61 => 90 | 65 => 105 | 66 => 106 | 67 => 107 | n => n, fun | 0 => 0 | 1 => 1 | 2 => 2 | 3 => 6 | 4 => 7 | n => n⟩
theorem Tryd.laysPu14 : Go.Proofs.LaysPu.n14 Tryd.prog Tryd.laysPu14_ren := {
  mixed := by kernel_rfl
  f14 := Tryd.func27.trans (congrArg some (by kernel_rfl))
  f16 := Tryd.func35.trans (congrArg some (by kernel_rfl))
  f17 := Tryd.func36.trans (congrArg some (by kernel_rfl))
  f19 := Tryd.func42.trans (congrArg some (by kernel_rfl))
  f20 := Tryd.func43.trans (congrArg some (by kernel_rfl))
  f21 := Tryd.func44.trans (congrArg some (by kernel_rfl))
  f22 := Tryd.func45.trans (congrArg some (by kernel_rfl))
  f23 := Tryd.func46.trans (congrArg some (by kernel_rfl))
  f24 := Tryd.func47.trans (congrArg some (by kernel_rfl))
  f25 := Tryd.func56.trans (congrArg some (by kernel_rfl))
  f26 := Tryd.func57.trans (congrArg some (by kernel_rfl))
  f27 := Tryd.func58.trans (congrArg some (by kernel_rfl))
  f28 := Tryd.func69.trans (congrArg some (by kernel_rfl))
  f29 := Tryd.func74.trans (congrArg some (by kernel_rfl))
  f30 := Tryd.func48.trans (congrArg some (by kernel_rfl))
  f31 := Tryd.func49.trans (congrArg some (by kernel_rfl))
  f32 := Tryd.func50.trans (congrArg some (by kernel_rfl))
  f33 := Tryd.func51.trans (congrArg some (by kernel_rfl))
  f34 := Tryd.func59.trans (congrArg some (by kernel_rfl))
  f35 := Tryd.func60.trans (congrArg some (by kernel_rfl))
  f36 := Tryd.func61.trans (congrArg some (by kernel_rfl))
  f37 := Tryd.func62.trans (congrArg some (by kernel_rfl))
  f38 := Tryd.func63.trans (congrArg some (by kernel_rfl))
  f39 := Tryd.func70.trans (congrArg some (by kernel_rfl))
  f40 := Tryd.func71.trans (congrArg some (by kernel_rfl))
  t0 := Tryd.underlying0
  a0 := Tryd.isAgg0
  z0 := Tryd.sizeOf0
  v0 := Tryd.zeroValue0
  i0 := by kernel_rfl
  t2 := Tryd.underlying2
  a2 := Tryd.isAgg2
  z2 := Tryd.sizeOf2
  v2 := Tryd.zeroValue2
  i2 := by kernel_rfl
  t3 := Tryd.underlying3
  a3 := Tryd.isAgg3
  z3 := Tryd.sizeOf3
  v3 := Tryd.zeroValue3
  i3 := by kernel_rfl
  t4 := Tryd.underlying4
  a4 := Tryd.isAgg4
  z4 := Tryd.sizeOf4
  v4 := Tryd.zeroValue4
  i4 := by kernel_rfl
  t5 := Tryd.underlying5
  a5 := Tryd.isAgg5
  z5 := Tryd.sizeOf5
  v5 := Tryd.zeroValue5
  i5 := by kernel_rfl
  t9 := Tryd.underlying9
  a9 := Tryd.isAgg9
  z9 := Tryd.sizeOf9
  v9 := Tryd.zeroValue9
  i9 := by kernel_rfl
  t20 := Tryd.underlying20
  a20 := Tryd.isAgg20
  z20 := Tryd.sizeOf20
  v20 := Tryd.zeroValue20
  i20 := by kernel_rfl
  t21 := Tryd.underlying21
  a21 := Tryd.isAgg21
  z21 := Tryd.sizeOf21
  v21 := Tryd.zeroValue21
  i21 := by kernel_rfl
  t22 := Tryd.underlying43
  a22 := Tryd.isAgg43
  z22 := Tryd.sizeOf43
  v22 := Tryd.zeroValue43
  i22 := by kernel_rfl
  t24 := Tryd.underlying50
  a24 := Tryd.isAgg50
  z24 := Tryd.sizeOf50
  v24 := Tryd.zeroValue50
  i24 := by kernel_rfl
  t25 := Tryd.underlying51
  a25 := Tryd.isAgg51
  z25 := Tryd.sizeOf51
  v25 := Tryd.zeroValue51
  i25 := by kernel_rfl
  t34 := Tryd.underlying66
  a34 := Tryd.isAgg66
  z34 := Tryd.sizeOf66
  v34 := Tryd.zeroValue66
  i34 := by kernel_rfl
  c34 := by kernel_rfl
  t36 := Tryd.underlying68
  a36 := Tryd.isAgg68
  z36 := Tryd.sizeOf68
  v36 := Tryd.zeroValue68
  i36 := by kernel_rfl
  t37 := Tryd.underlying24
  a37 := Tryd.isAgg24
  z37 := Tryd.sizeOf24
  v37 := Tryd.zeroValue24
  i37 := by kernel_rfl
  t39 := Tryd.underlying70
  a39 := Tryd.isAgg70
  z39 := Tryd.sizeOf70
  v39 := Tryd.zeroValue70
  i39 := by kernel_rfl
  t44 := Tryd.underlying85
  a44 := Tryd.isAgg85
  z44 := Tryd.sizeOf85
  v44 := Tryd.zeroValue85
  i44 := by kernel_rfl
  t47 := Tryd.underlying93
  a47 := Tryd.isAgg93
  z47 := Tryd.sizeOf93
  v47 := Tryd.zeroValue93
  i47 := by kernel_rfl
  t48 := Tryd.underlying94
  a48 := Tryd.isAgg94
  z48 := Tryd.sizeOf94
  v48 := Tryd.zeroValue94
  i48 := by kernel_rfl
  t50 := Tryd.underlying96
  a50 := Tryd.isAgg96
  z50 := Tryd.sizeOf96
  v50 := Tryd.zeroValue96
  i50 := by kernel_rfl
  t52 := Tryd.underlying74
  a52 := Tryd.isAgg74
  z52 := Tryd.sizeOf74
  v52 := Tryd.zeroValue74
  i52 := by kernel_rfl
  t55 := Tryd.underlying77
  a55 := Tryd.isAgg77
  z55 := Tryd.sizeOf77
  v55 := Tryd.zeroValue77
  i55 := by kernel_rfl
  t59 := Tryd.underlying89
  a59 := Tryd.isAgg89
  z59 := Tryd.sizeOf89
  v59 := Tryd.zeroValue89
  i59 := by kernel_rfl
  t60 := Tryd.underlying41
  a60 := Tryd.isAgg41
  z60 := Tryd.sizeOf41
  v60 := Tryd.zeroValue41
  i60 := by kernel_rfl
  t61 := Tryd.underlying90
  a61 := Tryd.isAgg90
  z61 := Tryd.sizeOf90
  t65 := Tryd.underlying105
  a65 := Tryd.isAgg105
  z65 := Tryd.sizeOf105
  v65 := Tryd.zeroValue105
  i65 := by kernel_rfl
  t66 := Tryd.underlying106
  a66 := Tryd.isAgg106
  z66 := Tryd.sizeOf106
  v66 := Tryd.zeroValue106
  i66 := by kernel_rfl
  t67 := Tryd.underlying107
  a67 := Tryd.isAgg107
  z67 := Tryd.sizeOf107
  v67 := Tryd.zeroValue107
  i67 := by kernel_rfl
  g0 := by kernel_rfl
  m0 := by kernel_rfl
  g1 := by kernel_rfl
  m1 := by kernel_rfl
  g2 := by kernel_rfl
  m2 := by kernel_rfl
  g3 := by kernel_rfl
  m3 := by kernel_rfl
  g4 := by kernel_rfl
  m4 := by kernel_rfl }
open Go.RowKit in
theorem Tryd.strconv_ParseUint_10_at32_ok (s : ByteArray) (hmax : s.size ≤ 9223372036854775806) (u : Nat) (h : Lib.parseUintB 32 s.data.toList = .ok u) (w : World) :
    Calls Tryd.prog 27 #[.string s, .int .i64 10, .int .i64 32] w fun e w' => e = .returned (.tuple #[.int .u64 u, .nilIface]) ∧ (w' = w ∨ w' = Lib.bytesWorld w 5 s) := Any.strconv_ParseUint_10_at32_ok Tryd.laysPu14 s hmax u h w
def Tryd.laysM288_ren : Go.Shelf.Ren := ⟨fun | 288 => 37 | 283 => 48 | 284 => 49 | 285 => 50 | 286 => 51 | 129 => 60 | 317 => 59 | 318 => 61 | 319 => 62 | 320 => 63 | 337 => 70 | 338 => 71 | n => n, fun | 37 => 24 | 53 => 43 | 3 => 3 | 4 => 4 | 9 => 9 | 171 => 74 | 0 => 0 | 173 => 77 | 212 => 89 | 51 => 41 | 5 => 5 | 20 => 20 | 213 => 90 | 46 => 68 | 232 => 105 | 233 => 106 | n => n, fun | 17 => 2 | 18 => 6 | 19 => 7 | n => n⟩
theorem Tryd.laysM288 : Go.Proofs.LaysM.n288 Tryd.prog Tryd.laysM288_ren := {
  mixed := by kernel_rfl
  f129 := Tryd.func60.trans (congrArg some (by kernel_rfl))
  f283 := Tryd.func48.trans (congrArg some (by kernel_rfl))
  f284 := Tryd.func49.trans (congrArg some (by kernel_rfl))
  f285 := Tryd.func50.trans (congrArg some (by kernel_rfl))
  f286 := Tryd.func51.trans (congrArg some (by kernel_rfl))
  f288 := Tryd.func37.trans (congrArg some (by kernel_rfl))
  f317 := Tryd.func59.trans (congrArg some (by kernel_rfl))
  f318 := Tryd.func61.trans (congrArg some (by kernel_rfl))
  f319 := Tryd.func62.trans (congrArg some (by kernel_rfl))
  f320 := Tryd.func63.trans (congrArg some (by kernel_rfl))
  f337 := Tryd.func70.trans (congrArg some (by kernel_rfl))
  f338 := Tryd.func71.trans (congrArg some (by kernel_rfl))
  t0 := Tryd.underlying0
  a0 := Tryd.isAgg0
  z0 := Tryd.sizeOf0
  v0 := Tryd.zeroValue0
  t3 := Tryd.underlying3
  a3 := Tryd.isAgg3
  z3 := Tryd.sizeOf3
  v3 := Tryd.zeroValue3
  t4 := Tryd.underlying4
  a4 := Tryd.isAgg4
  z4 := Tryd.sizeOf4
  v4 := Tryd.zeroValue4
  t5 := Tryd.underlying5
  a5 := Tryd.isAgg5
  z5 := Tryd.sizeOf5
  v5 := Tryd.zeroValue5
  t9 := Tryd.underlying9
  a9 := Tryd.isAgg9
  z9 := Tryd.sizeOf9
  v9 := Tryd.zeroValue9
  t20 := Tryd.underlying20
  a20 := Tryd.isAgg20
  z20 := Tryd.sizeOf20
  v20 := Tryd.zeroValue20
  t37 := Tryd.underlying24
  a37 := Tryd.isAgg24
  z37 := Tryd.sizeOf24
  v37 := Tryd.zeroValue24
  t46 := Tryd.underlying68
  a46 := Tryd.isAgg68
  z46 := Tryd.sizeOf68
  v46 := Tryd.zeroValue68
  t51 := Tryd.underlying41
  a51 := Tryd.isAgg41
  z51 := Tryd.sizeOf41
  v51 := Tryd.zeroValue41
  t53 := Tryd.underlying43
  a53 := Tryd.isAgg43
  z53 := Tryd.sizeOf43
  v53 := Tryd.zeroValue43
  t171 := Tryd.underlying74
  a171 := Tryd.isAgg74
  z171 := Tryd.sizeOf74
  v171 := Tryd.zeroValue74
  t173 := Tryd.underlying77
  a173 := Tryd.isAgg77
  z173 := Tryd.sizeOf77
  v173 := Tryd.zeroValue77
  t212 := Tryd.underlying89
  a212 := Tryd.isAgg89
  z212 := Tryd.sizeOf89
  v212 := Tryd.zeroValue89
  t213 := Tryd.underlying90
  a213 := Tryd.isAgg90
  z213 := Tryd.sizeOf90
  t232 := Tryd.underlying105
  a232 := Tryd.isAgg105
  z232 := Tryd.sizeOf105
  v232 := Tryd.zeroValue105
  t233 := Tryd.underlying106
  a233 := Tryd.isAgg106
  z233 := Tryd.sizeOf106
  v233 := Tryd.zeroValue106
  g17 := by kernel_rfl
  g18 := by kernel_rfl
  g19 := by kernel_rfl
  i0 := by kernel_rfl
  i3 := by kernel_rfl
  i4 := by kernel_rfl
  i5 := by kernel_rfl
  i9 := by kernel_rfl
  i20 := by kernel_rfl
  i37 := by kernel_rfl
  i46 := by kernel_rfl
  i51 := by kernel_rfl
  i53 := by kernel_rfl
  i171 := by kernel_rfl
  i173 := by kernel_rfl
  i212 := by kernel_rfl
  i232 := by kernel_rfl
  i233 := by kernel_rfl
  m17 := by kernel_rfl
  m18 := by kernel_rfl
  m19 := by kernel_rfl }
open Go.RowKit Go.Sort Go.Lib in
theorem Tryd.internal_strconv_AppendUint_10 (B n u : Nat) (hu64 : u < 18446744073709551616) (sv : Value) (xs : List Value) (w : World) (hown : w.ownsRow B 5 1 sv n xs) (hBw : B ≤ w.heap.size) (hlim : n + 20 ≤ 140737488355328) (htab : Lib.TabIs Tryd.prog w "internal/strconv.uint64pow10" .u64 Lib.pow10Tab) :
    Calls Tryd.prog 37 #[sv, .int .u64 u, .int .i64 10] w fun e w' => ∃ v', e = .returned v' ∧ w'.ownsRow B 5 1 v' (n + (Lib.decDigits u).length) (xs ++ Lib.byteCells (Lib.decDigits u)) ∧ Below B w w' ∧ Lib.OthersKept 5 none w w' := Any.internal_strconv_AppendUint_10 Tryd.laysM288 B n u hu64 sv xs w hown hBw hlim htab
def Tryd.lays147_ren : Go.Shelf.Ren := ⟨fun | 147 => 26 | 221 => 34 | 268 => 39 | 138 => 40 | 143 => 41 | 195 => 52 | 197 => 53 | 218 => 54 | 219 => 55 | 260 => 64 | 217 => 65 | 225 => 66 | 224 => 67 | 267 => 68 | 266 => 72 | 314 => 73 | n => n, fun | 9 => 9 | 3 => 3 | 31 => 47 | 4 => 4 | 0 => 0 | 105 => 80 | 21 => 21 | 5 => 5 | 46 => 68 | 119 => 98 | 139 => 101 | 138 => 100 | 146 => 102 | 51 => 41 | n => n, fun | 1 => 3 | 3 => 4 | 4 => 5 | n => n⟩
theorem Tryd.lays147 : Go.Proofs.Lays.n147 Tryd.prog Tryd.lays147_ren := {
  mixed := by kernel_rfl
  f138 := Tryd.func40.trans (congrArg some (by kernel_rfl))
  f143 := Tryd.func41.trans (congrArg some (by kernel_rfl))
  f147 := Tryd.func26.trans (congrArg some (by kernel_rfl))
  f195 := Tryd.func52.trans (congrArg some (by kernel_rfl))
  f197 := Tryd.func53.trans (congrArg some (by kernel_rfl))
  f217 := Tryd.func65.trans (congrArg some (by kernel_rfl))
  f218 := Tryd.func54.trans (congrArg some (by kernel_rfl))
  f219 := Tryd.func55.trans (congrArg some (by kernel_rfl))
  f221 := Tryd.func34.trans (congrArg some (by kernel_rfl))
  f224 := Tryd.func67.trans (congrArg some (by kernel_rfl))
  f225 := Tryd.func66.trans (congrArg some (by kernel_rfl))
  f260 := Tryd.func64.trans (congrArg some (by kernel_rfl))
  f266 := Tryd.func72.trans (congrArg some (by kernel_rfl))
  f267 := Tryd.func68.trans (congrArg some (by kernel_rfl))
  f268 := Tryd.func39.trans (congrArg some (by kernel_rfl))
  f314 := Tryd.func73.trans (congrArg some (by kernel_rfl))
  t0 := Tryd.underlying0
  a0 := Tryd.isAgg0
  z0 := Tryd.sizeOf0
  v0 := Tryd.zeroValue0
  t3 := Tryd.underlying3
  a3 := Tryd.isAgg3
  z3 := Tryd.sizeOf3
  v3 := Tryd.zeroValue3
  t4 := Tryd.underlying4
  a4 := Tryd.isAgg4
  z4 := Tryd.sizeOf4
  v4 := Tryd.zeroValue4
  t5 := Tryd.underlying5
  a5 := Tryd.isAgg5
  z5 := Tryd.sizeOf5
  v5 := Tryd.zeroValue5
  t9 := Tryd.underlying9
  a9 := Tryd.isAgg9
  z9 := Tryd.sizeOf9
  v9 := Tryd.zeroValue9
  t21 := Tryd.underlying21
  a21 := Tryd.isAgg21
  z21 := Tryd.sizeOf21
  v21 := Tryd.zeroValue21
  t31 := Tryd.underlying47
  a31 := Tryd.isAgg47
  z31 := Tryd.sizeOf47
  v31 := Tryd.zeroValue47
  t46 := Tryd.underlying68
  a46 := Tryd.isAgg68
  z46 := Tryd.sizeOf68
  v46 := Tryd.zeroValue68
  t51 := Tryd.underlying41
  a51 := Tryd.isAgg41
  z51 := Tryd.sizeOf41
  v51 := Tryd.zeroValue41
  t105 := Tryd.underlying80
  a105 := Tryd.isAgg80
  z105 := Tryd.sizeOf80
  v105 := Tryd.zeroValue80
  t119 := Tryd.underlying98
  a119 := Tryd.isAgg98
  z119 := Tryd.sizeOf98
  t138 := Tryd.underlying100
  a138 := Tryd.isAgg100
  z138 := Tryd.sizeOf100
  v138 := Tryd.zeroValue100
  t139 := Tryd.underlying101
  a139 := Tryd.isAgg101
  z139 := Tryd.sizeOf101
  v139 := Tryd.zeroValue101
  t146 := Tryd.underlying102
  a146 := Tryd.isAgg102
  z146 := Tryd.sizeOf102
  v146 := Tryd.zeroValue102
  g1 := by kernel_rfl
  g3 := by kernel_rfl
  g4 := by kernel_rfl }
open Go.RowKit Go.Lib in
theorem Tryd.strings_SplitN (s sep : ByteArray) (n : Nat) (m : Int) (w : World) (hs : s.size < 4294967281) (hm : w.cell? ⟨3, 0, none⟩ = some (.int .i64 m)) (h1 : 1 ≤ sep.size) (hn : 1 ≤ n) (hn63 : n ≤ 9223372036854775807) :
    Calls Tryd.prog 26 #[.string s, .string sep, .int .i64 n] w fun e w' =>
      e = .returned (.slice (some ⟨w.heap.size, 0, none⟩) (Lib.splitB sep 0 (min n (s.size + 1) - 1) s).length (min n (s.size + 1))) ∧ w' = w.alloc (.cells (Lib.cellsOf (Lib.splitB sep 0 (min n (s.size + 1) - 1) s) (min n (s.size + 1))) 9) := Any.strings_SplitN Tryd.lays147 (by kernel_rfl) s sep n m w hs hm h1 hn hn63
def Tryd.laysM147_ren : Go.Shelf.Ren := ⟨fun | 147 => 26 | 221 => 34 | 268 => 39 | 138 => 40 | 143 => 41 | 195 => 52 | 197 => 53 | 218 => 54 | 219 => 55 | 260 => 64 | 217 => 65 | 225 => 66 | 224 => 67 | 267 => 68 | 266 => 72 | 314 => 73 | n => n, fun | 9 => 9 | 3 => 3 | 31 => 47 | 4 => 4 | 0 => 0 | 105 => 80 | 21 => 21 | 5 => 5 | 46 => 68 | 119 => 98 | 139 => 101 | 138 => 100 | 146 => 102 | 51 => 41 | n => n, fun | 1 => 3 | 3 => 4 | 4 => 5 | n => n⟩
theorem Tryd.laysM147 : Go.Proofs.LaysM.n147 Tryd.prog Tryd.laysM147_ren := {
  mixed := by kernel_rfl
  f138 := Tryd.func40.trans (congrArg some (by kernel_rfl))
  f143 := Tryd.func41.trans (congrArg some (by kernel_rfl))
  f147 := Tryd.func26.trans (congrArg some (by kernel_rfl))
  f195 := Tryd.func52.trans (congrArg some (by kernel_rfl))
  f197 := Tryd.func53.trans (congrArg some (by kernel_rfl))
  f217 := Tryd.func65.trans (congrArg some (by kernel_rfl))
  f218 := Tryd.func54.trans (congrArg some (by kernel_rfl))
  f219 := Tryd.func55.trans (congrArg some (by kernel_rfl))
  f221 := Tryd.func34.trans (congrArg some (by kernel_rfl))
  f224 := Tryd.func67.trans (congrArg some (by kernel_rfl))
  f225 := Tryd.func66.trans (congrArg some (by kernel_rfl))
  f260 := Tryd.func64.trans (congrArg some (by kernel_rfl))
  f266 := Tryd.func72.trans (congrArg some (by kernel_rfl))
  f267 := Tryd.func68.trans (congrArg some (by kernel_rfl))
  f268 := Tryd.func39.trans (congrArg some (by kernel_rfl))
  f314 := Tryd.func73.trans (congrArg some (by kernel_rfl))
  t0 := Tryd.underlying0
  a0 := Tryd.isAgg0
  z0 := Tryd.sizeOf0
  v0 := Tryd.zeroValue0
  t3 := Tryd.underlying3
  a3 := Tryd.isAgg3
  z3 := Tryd.sizeOf3
  v3 := Tryd.zeroValue3
  t4 := Tryd.underlying4
  a4 := Tryd.isAgg4
  z4 := Tryd.sizeOf4
  v4 := Tryd.zeroValue4
  t5 := Tryd.underlying5
  a5 := Tryd.isAgg5
  z5 := Tryd.sizeOf5
  v5 := Tryd.zeroValue5
  t9 := Tryd.underlying9
  a9 := Tryd.isAgg9
  z9 := Tryd.sizeOf9
  v9 := Tryd.zeroValue9
  t21 := Tryd.underlying21
  a21 := Tryd.isAgg21
  z21 := Tryd.sizeOf21
  v21 := Tryd.zeroValue21
  t31 := Tryd.underlying47
  a31 := Tryd.isAgg47
  z31 := Tryd.sizeOf47
  v31 := Tryd.zeroValue47
  t46 := Tryd.underlying68
  a46 := Tryd.isAgg68
  z46 := Tryd.sizeOf68
  v46 := Tryd.zeroValue68
  t51 := Tryd.underlying41
  a51 := Tryd.isAgg41
  z51 := Tryd.sizeOf41
  v51 := Tryd.zeroValue41
  t105 := Tryd.underlying80
  a105 := Tryd.isAgg80
  z105 := Tryd.sizeOf80
  v105 := Tryd.zeroValue80
  t119 := Tryd.underlying98
  a119 := Tryd.isAgg98
  z119 := Tryd.sizeOf98
  t138 := Tryd.underlying100
  a138 := Tryd.isAgg100
  z138 := Tryd.sizeOf100
  v138 := Tryd.zeroValue100
  t139 := Tryd.underlying101
  a139 := Tryd.isAgg101
  z139 := Tryd.sizeOf101
  v139 := Tryd.zeroValue101
  t146 := Tryd.underlying102
  a146 := Tryd.isAgg102
  z146 := Tryd.sizeOf102
  v146 := Tryd.zeroValue102
  g1 := by kernel_rfl
  g3 := by kernel_rfl
  g4 := by kernel_rfl
  i0 := by kernel_rfl
  i3 := by kernel_rfl
  i4 := by kernel_rfl
  i5 := by kernel_rfl
  i9 := by kernel_rfl
  i21 := by kernel_rfl
  i31 := by kernel_rfl
  i46 := by kernel_rfl
  i51 := by kernel_rfl
  i105 := by kernel_rfl
  i138 := by kernel_rfl
  i139 := by kernel_rfl
  i146 := by kernel_rfl
  m1 := by kernel_rfl
  s1_3 := fun w h => Go.Proofs.cell_of_shapedOpen_int (zero := #[.int .i64 0]) (t := 3) h (of_decide_eq_true (by kernel_rfl)) (by kernel_rfl) rfl (by kernel_rfl) (by kernel_rfl) Tryd.underlying3
  m3 := by kernel_rfl
  m4 := by kernel_rfl }
open Go.RowKit Go.Lib in
theorem Tryd.strings_SplitN_shaped (s sep : ByteArray) (n : Nat) (w : World) (h : w.ShapedOpen Tryd.prog) (hs : s.size < 4294967281) (h1 : 1 ≤ sep.size) (hn : 1 ≤ n) (hn63 : n ≤ 9223372036854775807) :
    Calls Tryd.prog 26 #[.string s, .string sep, .int .i64 n] w fun e w' =>
      e = .returned (.slice (some ⟨w.heap.size, 0, none⟩) (Lib.splitB sep 0 (min n (s.size + 1) - 1) s).length (min n (s.size + 1))) ∧ w' = w.alloc (.cells (Lib.cellsOf (Lib.splitB sep 0 (min n (s.size + 1) - 1) s) (min n (s.size + 1))) 9) := Any.strings_SplitN_shaped Tryd.laysM147 s sep n w h hs h1 hn hn63
def Tryd.laysnb115_ren : Go.Shelf.Ren := ⟨fun | 115 => 22 | n => n, fun | 37 => 24 | 4 => 4 | 9 => 9 | 5 => 5 | n => n, fun | n => n⟩
theorem Tryd.laysnb115 : Go.Proofs.Lays.nb115 Tryd.prog Tryd.laysnb115_ren := {
  mixed := by kernel_rfl
  f115 := Tryd.func22.trans (congrArg some (by kernel_rfl))
  t4 := Tryd.underlying4
  a4 := Tryd.isAgg4
  z4 := Tryd.sizeOf4
  v4 := Tryd.zeroValue4
  t9 := Tryd.underlying9
  a9 := Tryd.isAgg9
  z9 := Tryd.sizeOf9
  v9 := Tryd.zeroValue9
  t37 := Tryd.underlying24
  a37 := Tryd.isAgg24
  z37 := Tryd.sizeOf24
  v37 := Tryd.zeroValue24
  t5 := Tryd.underlying5
  a5 := Tryd.isAgg5
  z5 := Tryd.sizeOf5
  v5 := Tryd.zeroValue5 }
theorem Tryd.bytes_Equal_all (p1 p2 : Option Addr) (n c m d : Nat) (xs ys : List Int) (w : World) (hx : xs.length = n) (hy : ys.length = m) (h1 : Lib.BytesIn w p1 n xs) (h2 : Lib.BytesIn w p2 m ys) :
    Calls Tryd.prog 22 #[.slice p1 n c, .slice p2 m d] w fun e w' => e = .returned (.bool (Lib.bytesOf xs == Lib.bytesOf ys)) ∧ w' = w := Any.bytes_Equal_all Tryd.laysnb115 p1 p2 n c m d xs ys w hx hy h1 h2
end Go.Proofs
