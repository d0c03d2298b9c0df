/- What the library answers, by the shelf at this program: Tryd.internal_strconv_AppendUint_10_small. -/
import Derived.Shelf.Strconv.Itoa0
import Derived.Shelf.Strconv.Itoa1
import Derived.Shelf.LaysM
import Derived.Shelf.Strconv.Itoa2
import Derived.Shelf.Strconv.AppendUint10
import Derived.Test.YteojlnbonhipbaaDoorProg
namespace Go.Proofs
open Go.Shelf
def Tryd.laysM288_ren : Go.Shelf.Ren := ⟨fun | 288 => 100 | 283 => 101 | 284 => 102 | 285 => 103 | 286 => 104 | 129 => 106 | 317 => 105 | 318 => 107 | 319 => 108 | 320 => 109 | 337 => 110 | 338 => 111 | n => n, fun | 37 => 24 | 53 => 90 | 3 => 3 | 4 => 4 | 9 => 9 | 171 => 141 | 0 => 0 | 173 => 144 | 212 => 148 | 51 => 25 | 5 => 5 | 20 => 20 | 213 => 149 | 46 => 97 | 232 => 153 | 233 => 89 | n => n, fun | 17 => 1 | 18 => 2 | 19 => 3 | n => n⟩
theorem Tryd.laysM288 : Go.Proofs.LaysM.n288 Tryd.prog Tryd.laysM288_ren := {
  mixed := by kernel_rfl
  f129 := Tryd.func106.trans (congrArg some (by kernel_rfl))
  f283 := Tryd.func101.trans (congrArg some (by kernel_rfl))
  f284 := Tryd.func102.trans (congrArg some (by kernel_rfl))
  f285 := Tryd.func103.trans (congrArg some (by kernel_rfl))
  f286 := Tryd.func104.trans (congrArg some (by kernel_rfl))
  f288 := Tryd.func100.trans (congrArg some (by kernel_rfl))
  f317 := Tryd.func105.trans (congrArg some (by kernel_rfl))
  f318 := Tryd.func107.trans (congrArg some (by kernel_rfl))
  f319 := Tryd.func108.trans (congrArg some (by kernel_rfl))
  f320 := Tryd.func109.trans (congrArg some (by kernel_rfl))
  f337 := Tryd.func110.trans (congrArg some (by kernel_rfl))
  f338 := Tryd.func111.trans (congrArg some (by kernel_rfl))
  t0 := Tryd.underlying0
  a0 := Tryd.isAgg0
  z0 := Tryd.sizeOf0
  v0 := Tryd.zeroValue0
  t3 := Tryd.underlying3
  a3 := Tryd.isAgg3
  z3 := Tryd.sizeOf3
  v3 := Tryd.zeroValue3
  t4 := Tryd.underlying4
  a4 := Tryd.isAgg4
  z4 := Tryd.sizeOf4
  v4 := Tryd.zeroValue4
  t5 := Tryd.underlying5
  a5 := Tryd.isAgg5
  z5 := Tryd.sizeOf5
  v5 := Tryd.zeroValue5
  t9 := Tryd.underlying9
  a9 := Tryd.isAgg9
  z9 := Tryd.sizeOf9
  v9 := Tryd.zeroValue9
  t20 := Tryd.underlying20
  a20 := Tryd.isAgg20
  z20 := Tryd.sizeOf20
  v20 := Tryd.zeroValue20
  t37 := Tryd.underlying24
  a37 := Tryd.isAgg24
  z37 := Tryd.sizeOf24
  v37 := Tryd.zeroValue24
  t46 := Tryd.underlying97
  a46 := Tryd.isAgg97
  z46 := Tryd.sizeOf97
  v46 := Tryd.zeroValue97
  t51 := Tryd.underlying25
  a51 := Tryd.isAgg25
  z51 := Tryd.sizeOf25
  v51 := Tryd.zeroValue25
  t53 := Tryd.underlying90
  a53 := Tryd.isAgg90
  z53 := Tryd.sizeOf90
  v53 := Tryd.zeroValue90
  t171 := Tryd.underlying141
  a171 := Tryd.isAgg141
  z171 := Tryd.sizeOf141
  v171 := Tryd.zeroValue141
  t173 := Tryd.underlying144
  a173 := Tryd.isAgg144
  z173 := Tryd.sizeOf144
  v173 := Tryd.zeroValue144
  t212 := Tryd.underlying148
  a212 := Tryd.isAgg148
  z212 := Tryd.sizeOf148
  v212 := Tryd.zeroValue148
  t213 := Tryd.underlying149
  a213 := Tryd.isAgg149
  z213 := Tryd.sizeOf149
  t232 := Tryd.underlying153
  a232 := Tryd.isAgg153
  z232 := Tryd.sizeOf153
  v232 := Tryd.zeroValue153
  t233 := Tryd.underlying89
  a233 := Tryd.isAgg89
  z233 := Tryd.sizeOf89
  v233 := Tryd.zeroValue89
  g17 := by kernel_rfl
  g18 := by kernel_rfl
  g19 := by kernel_rfl
  i0 := by kernel_rfl
  i3 := by kernel_rfl
  i4 := by kernel_rfl
  i5 := by kernel_rfl
  i9 := by kernel_rfl
  i20 := by kernel_rfl
  i37 := by kernel_rfl
  i46 := by kernel_rfl
  i51 := by kernel_rfl
  i53 := by kernel_rfl
  i171 := by kernel_rfl
  i173 := by kernel_rfl
  i212 := by kernel_rfl
  i232 := by kernel_rfl
  i233 := by kernel_rfl
  m17 := by kernel_rfl
  m18 := by kernel_rfl
  m19 := by kernel_rfl }
open Go.RowKit Go.Sort Go.Lib in
theorem Tryd.internal_strconv_AppendUint_10_small (B n u : Nat) (hu : u < 100) (sv : Value) (xs : List Value) (w : World) (hown : w.ownsRow B 5 1 sv n xs) (hBw : B ≤ w.heap.size) (hlim : n + 20 ≤ 140737488355328) :
    Calls Tryd.prog 100 #[sv, .int .u64 u, .int .i64 10] w fun e w' => ∃ v', e = .returned v' ∧ w'.ownsRow B 5 1 v' (n + (Lib.decDigits u).length) (xs ++ Lib.byteCells (Lib.decDigits u)) ∧ Below B w w' ∧ Lib.OthersKept 5 none w w' := Any.internal_strconv_AppendUint_10_small Tryd.laysM288 B n u hu sv xs w hown hBw hlim
end Go.Proofs
