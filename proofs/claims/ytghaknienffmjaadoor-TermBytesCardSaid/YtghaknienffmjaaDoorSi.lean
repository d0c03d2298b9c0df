/- What the library answers, by the shelf at this program: Tryd.strconv_Itoa, Tryd.strconv_Atoi_ok, Tryd.laysC172, Tryd.strconv_AppendInt_10, Tryd.slices_Clone_int, Tryd.slices_Clone_int_nil, Tryd.slices_Clone_int_zero. -/
import Derived.Shelf.Strconv.Atoi
import Derived.Shelf.Strconv.Itoa0
import Derived.Shelf.Strconv.Itoa1
import Derived.Shelf.LaysM
import Derived.Shelf.Strconv.Itoa2
import Derived.Shelf.Strconv.Itoa3
import Derived.Shelf.Strconv.AtoiErrFast
import Derived.Shelf.Strconv.ParseIntEmpty
import Derived.Shelf.Strconv.AtoiFail
import Derived.Shelf.Strconv.Clone
import Derived.Shelf.Strconv.SyntaxError
import Derived.Shelf.LaysC
import Derived.Shelf.Strconv.ToError
import Derived.Shelf.Strconv.Lower
import Derived.Shelf.Strconv.ParseUint10
import Derived.Shelf.Strconv.ParseUint10Empty
import Derived.Shelf.Strconv.ParseUint10Any
import Derived.Shelf.Strconv.ParseInt10
import Derived.Shelf.Strconv.AtoiLong
import Derived.Shelf.Strconv.AtoiInnerAll
import Derived.Shelf.Strconv.RangeError
import Derived.Shelf.Strconv.ToErrorRange
import Derived.Shelf.Strconv.AtoiAll
import Derived.Shelf.Strconv.ErrVarAll
import Derived.Shelf.Strings.Search1
import Derived.Shelf.Strings.Search2
import Derived.Shelf.Strings.Cut
import Derived.Shelf.Strings.Shaped
import Derived.Shelf.Strconv.AppendUint10
import Derived.Shelf.Strconv.AppendInt10
import Derived.Shelf.Strconv.AppendIntPublic10
import Derived.Ground.Names2Prog
import Derived.Shelf.Slices.Clone
import Derived.Ground.SlgnProg
import Derived.Shelf.SlicesE.Clone
import Derived.Test.YtghaknienffmjaaDoorProg
import Derived.Test.YtghaknienffmjaaDoorSh
namespace Go.Proofs
open Go.Shelf
def Tryd.laysM171_ren : Go.Shelf.Ren := ⟨fun | 171 => 24 | 243 => 28 | 246 => 33 | 283 => 38 | 284 => 39 | 285 => 40 | 286 => 41 | 129 => 49 | 317 => 48 | 318 => 50 | 319 => 51 | 320 => 52 | 337 => 59 | 338 => 60 | n => n, fun | 3 => 3 | 9 => 9 | 2 => 2 | 4 => 4 | 171 => 75 | 0 => 0 | 53 => 60 | 37 => 37 | 5 => 5 | 173 => 78 | 212 => 89 | 51 => 90 | 20 => 20 | 213 => 91 | 46 => 93 | 232 => 38 | 233 => 109 | n => n, fun | 17 => 0 | 18 => 4 | 19 => 5 | n => n⟩
theorem Tryd.laysM171 : Go.Proofs.LaysM.n171 Tryd.prog Tryd.laysM171_ren := {
  mixed := by kernel_rfl
  f129 := Tryd.func49.trans (congrArg some (by kernel_rfl))
  f171 := Tryd.func24.trans (congrArg some (by kernel_rfl))
  f243 := Tryd.func28.trans (congrArg some (by kernel_rfl))
  f246 := Tryd.func33.trans (congrArg some (by kernel_rfl))
  f283 := Tryd.func38.trans (congrArg some (by kernel_rfl))
  f284 := Tryd.func39.trans (congrArg some (by kernel_rfl))
  f285 := Tryd.func40.trans (congrArg some (by kernel_rfl))
  f286 := Tryd.func41.trans (congrArg some (by kernel_rfl))
  f317 := Tryd.func48.trans (congrArg some (by kernel_rfl))
  f318 := Tryd.func50.trans (congrArg some (by kernel_rfl))
  f319 := Tryd.func51.trans (congrArg some (by kernel_rfl))
  f320 := Tryd.func52.trans (congrArg some (by kernel_rfl))
  f337 := Tryd.func59.trans (congrArg some (by kernel_rfl))
  f338 := Tryd.func60.trans (congrArg some (by kernel_rfl))
  t0 := Tryd.underlying0
  a0 := Tryd.isAgg0
  z0 := Tryd.sizeOf0
  v0 := Tryd.zeroValue0
  t2 := Tryd.underlying2
  a2 := Tryd.isAgg2
  z2 := Tryd.sizeOf2
  v2 := Tryd.zeroValue2
  t3 := Tryd.underlying3
  a3 := Tryd.isAgg3
  z3 := Tryd.sizeOf3
  v3 := Tryd.zeroValue3
  t4 := Tryd.underlying4
  a4 := Tryd.isAgg4
  z4 := Tryd.sizeOf4
  v4 := Tryd.zeroValue4
  t5 := Tryd.underlying5
  a5 := Tryd.isAgg5
  z5 := Tryd.sizeOf5
  v5 := Tryd.zeroValue5
  t9 := Tryd.underlying9
  a9 := Tryd.isAgg9
  z9 := Tryd.sizeOf9
  v9 := Tryd.zeroValue9
  t20 := Tryd.underlying20
  a20 := Tryd.isAgg20
  z20 := Tryd.sizeOf20
  v20 := Tryd.zeroValue20
  t37 := Tryd.underlying37
  a37 := Tryd.isAgg37
  z37 := Tryd.sizeOf37
  v37 := Tryd.zeroValue37
  t46 := Tryd.underlying93
  a46 := Tryd.isAgg93
  z46 := Tryd.sizeOf93
  v46 := Tryd.zeroValue93
  t51 := Tryd.underlying90
  a51 := Tryd.isAgg90
  z51 := Tryd.sizeOf90
  v51 := Tryd.zeroValue90
  t53 := Tryd.underlying60
  a53 := Tryd.isAgg60
  z53 := Tryd.sizeOf60
  v53 := Tryd.zeroValue60
  t171 := Tryd.underlying75
  a171 := Tryd.isAgg75
  z171 := Tryd.sizeOf75
  v171 := Tryd.zeroValue75
  t173 := Tryd.underlying78
  a173 := Tryd.isAgg78
  z173 := Tryd.sizeOf78
  v173 := Tryd.zeroValue78
  t212 := Tryd.underlying89
  a212 := Tryd.isAgg89
  z212 := Tryd.sizeOf89
  v212 := Tryd.zeroValue89
  t213 := Tryd.underlying91
  a213 := Tryd.isAgg91
  z213 := Tryd.sizeOf91
  t232 := Tryd.underlying38
  a232 := Tryd.isAgg38
  z232 := Tryd.sizeOf38
  v232 := Tryd.zeroValue38
  t233 := Tryd.underlying109
  a233 := Tryd.isAgg109
  z233 := Tryd.sizeOf109
  v233 := Tryd.zeroValue109
  g17 := by kernel_rfl
  g18 := by kernel_rfl
  g19 := by kernel_rfl
  i0 := by kernel_rfl
  i2 := by kernel_rfl
  i3 := by kernel_rfl
  i4 := by kernel_rfl
  i5 := by kernel_rfl
  i9 := by kernel_rfl
  i20 := by kernel_rfl
  i37 := by kernel_rfl
  i46 := by kernel_rfl
  i51 := by kernel_rfl
  i53 := by kernel_rfl
  i171 := by kernel_rfl
  i173 := by kernel_rfl
  i212 := by kernel_rfl
  i232 := by kernel_rfl
  i233 := by kernel_rfl
  m17 := by kernel_rfl
  m18 := by kernel_rfl
  m19 := by kernel_rfl }
open Go.RowKit Go.Sort Go.Lib in
theorem Tryd.strconv_Itoa (n : Int) (h0 : -9223372036854775808 ≤ n) (h1 : n ≤ 9223372036854775807) (w : World) (htab : Lib.TabIs Tryd.prog w "internal/strconv.uint64pow10" .u64 Lib.pow10Tab) :
    Calls Tryd.prog 24 #[.int .i64 n] w fun e w' => e = .returned (.string ⟨(Lib.itoa n).toArray⟩) ∧ ∃ k os, w' = grow (w.drewN k) os := Any.strconv_Itoa Tryd.laysM171 n h0 h1 w htab
def Tryd.laysC172_ren : Go.Shelf.Ren := ⟨fun | 172 => 30 | 244 => 35 | 245 => 36 | 247 => 43 | 279 => 44 | 280 => 45 | 281 => 46 | 282 => 47 | 287 => 57 | 316 => 31 | 171 => 24 | 205 => 58 | 321 => 63 | 322 => 64 | 243 => 28 | 246 => 33 | 283 => 38 | 284 => 39 | 285 => 40 | 286 => 41 | 129 => 49 | 317 => 48 | 318 => 50 | 319 => 51 | 320 => 52 | 337 => 59 | 338 => 60 | n => n, fun | 9 => 9 | 3 => 3 | 75 => 68 | 76 => 69 | 4 => 4 | 5 => 5 | 167 => 81 | 37 => 37 | 0 => 0 | 85 => 82 | 2 => 2 | 168 => 84 | 53 => 60 | 175 => 96 | 46 => 93 | 210 => 99 | 127 => 73 | 145 => 108 | 143 => 106 | 21 => 21 | 171 => 75 | 173 => 78 | 212 => 89 | 51 => 90 | 20 => 20 | 213 => 91 | 232 => 38 | 233 => 109 | 80 => 110 | n => n, fun | 15 => 2 | 16 => 3 | 17 => 0 | 18 => 4 | 19 => 5 | n => n⟩
theorem Tryd.laysC172 : Go.Proofs.LaysC.n172 Tryd.prog Tryd.laysC172_ren := {
  mixed := by kernel_rfl
  f129 := Tryd.func49.trans (congrArg some (by kernel_rfl))
  f171 := Tryd.func24.trans (congrArg some (by kernel_rfl))
  f172 := Tryd.func30.trans (congrArg some (by kernel_rfl))
  f205 := Tryd.func58.trans (congrArg some (by kernel_rfl))
  f243 := Tryd.func28.trans (congrArg some (by kernel_rfl))
  f244 := Tryd.func35.trans (congrArg some (by kernel_rfl))
  f245 := Tryd.func36.trans (congrArg some (by kernel_rfl))
  f246 := Tryd.func33.trans (congrArg some (by kernel_rfl))
  f247 := Tryd.func43.trans (congrArg some (by kernel_rfl))
  f279 := Tryd.func44.trans (congrArg some (by kernel_rfl))
  f280 := Tryd.func45.trans (congrArg some (by kernel_rfl))
  f281 := Tryd.func46.trans (congrArg some (by kernel_rfl))
  f282 := Tryd.func47.trans (congrArg some (by kernel_rfl))
  f283 := Tryd.func38.trans (congrArg some (by kernel_rfl))
  f284 := Tryd.func39.trans (congrArg some (by kernel_rfl))
  f285 := Tryd.func40.trans (congrArg some (by kernel_rfl))
  f286 := Tryd.func41.trans (congrArg some (by kernel_rfl))
  f287 := Tryd.func57.trans (congrArg some (by kernel_rfl))
  f316 := Tryd.func31.trans (congrArg some (by kernel_rfl))
  f317 := Tryd.func48.trans (congrArg some (by kernel_rfl))
  f318 := Tryd.func50.trans (congrArg some (by kernel_rfl))
  f319 := Tryd.func51.trans (congrArg some (by kernel_rfl))
  f320 := Tryd.func52.trans (congrArg some (by kernel_rfl))
  f321 := Tryd.func63.trans (congrArg some (by kernel_rfl))
  f322 := Tryd.func64.trans (congrArg some (by kernel_rfl))
  f337 := Tryd.func59.trans (congrArg some (by kernel_rfl))
  f338 := Tryd.func60.trans (congrArg some (by kernel_rfl))
  t0 := Tryd.underlying0
  a0 := Tryd.isAgg0
  z0 := Tryd.sizeOf0
  v0 := Tryd.zeroValue0
  t2 := Tryd.underlying2
  a2 := Tryd.isAgg2
  z2 := Tryd.sizeOf2
  v2 := Tryd.zeroValue2
  t3 := Tryd.underlying3
  a3 := Tryd.isAgg3
  z3 := Tryd.sizeOf3
  v3 := Tryd.zeroValue3
  t4 := Tryd.underlying4
  a4 := Tryd.isAgg4
  z4 := Tryd.sizeOf4
  v4 := Tryd.zeroValue4
  t5 := Tryd.underlying5
  a5 := Tryd.isAgg5
  z5 := Tryd.sizeOf5
  v5 := Tryd.zeroValue5
  t9 := Tryd.underlying9
  a9 := Tryd.isAgg9
  z9 := Tryd.sizeOf9
  v9 := Tryd.zeroValue9
  t20 := Tryd.underlying20
  a20 := Tryd.isAgg20
  z20 := Tryd.sizeOf20
  v20 := Tryd.zeroValue20
  t21 := Tryd.underlying21
  a21 := Tryd.isAgg21
  z21 := Tryd.sizeOf21
  v21 := Tryd.zeroValue21
  t37 := Tryd.underlying37
  a37 := Tryd.isAgg37
  z37 := Tryd.sizeOf37
  v37 := Tryd.zeroValue37
  t46 := Tryd.underlying93
  a46 := Tryd.isAgg93
  z46 := Tryd.sizeOf93
  v46 := Tryd.zeroValue93
  t51 := Tryd.underlying90
  a51 := Tryd.isAgg90
  z51 := Tryd.sizeOf90
  v51 := Tryd.zeroValue90
  t53 := Tryd.underlying60
  a53 := Tryd.isAgg60
  z53 := Tryd.sizeOf60
  v53 := Tryd.zeroValue60
  t75 := Tryd.underlying68
  a75 := Tryd.isAgg68
  z75 := Tryd.sizeOf68
  v75 := Tryd.zeroValue68
  t76 := Tryd.underlying69
  a76 := Tryd.isAgg69
  z76 := Tryd.sizeOf69
  v76 := Tryd.zeroValue69
  t85 := Tryd.underlying82
  a85 := Tryd.isAgg82
  z85 := Tryd.sizeOf82
  v85 := Tryd.zeroValue82
  t127 := Tryd.underlying73
  a127 := Tryd.isAgg73
  z127 := Tryd.sizeOf73
  v127 := Tryd.zeroValue73
  t143 := Tryd.underlying106
  a143 := Tryd.isAgg106
  z143 := Tryd.sizeOf106
  v143 := Tryd.zeroValue106
  t145 := Tryd.underlying108
  a145 := Tryd.isAgg108
  z145 := Tryd.sizeOf108
  v145 := Tryd.zeroValue108
  t167 := Tryd.underlying81
  a167 := Tryd.isAgg81
  z167 := Tryd.sizeOf81
  v167 := Tryd.zeroValue81
  t168 := Tryd.underlying84
  a168 := Tryd.isAgg84
  z168 := Tryd.sizeOf84
  v168 := Tryd.zeroValue84
  t171 := Tryd.underlying75
  a171 := Tryd.isAgg75
  z171 := Tryd.sizeOf75
  v171 := Tryd.zeroValue75
  t173 := Tryd.underlying78
  a173 := Tryd.isAgg78
  z173 := Tryd.sizeOf78
  v173 := Tryd.zeroValue78
  t175 := Tryd.underlying96
  a175 := Tryd.isAgg96
  z175 := Tryd.sizeOf96
  v175 := Tryd.zeroValue96
  t210 := Tryd.underlying99
  a210 := Tryd.isAgg99
  z210 := Tryd.sizeOf99
  v210 := Tryd.zeroValue99
  t212 := Tryd.underlying89
  a212 := Tryd.isAgg89
  z212 := Tryd.sizeOf89
  v212 := Tryd.zeroValue89
  t213 := Tryd.underlying91
  a213 := Tryd.isAgg91
  z213 := Tryd.sizeOf91
  t232 := Tryd.underlying38
  a232 := Tryd.isAgg38
  z232 := Tryd.sizeOf38
  v232 := Tryd.zeroValue38
  t233 := Tryd.underlying109
  a233 := Tryd.isAgg109
  z233 := Tryd.sizeOf109
  v233 := Tryd.zeroValue109
  g15 := by kernel_rfl
  g16 := by kernel_rfl
  g17 := by kernel_rfl
  g18 := by kernel_rfl
  g19 := by kernel_rfl
  t80 := Tryd.underlying110
  a80 := Tryd.isAgg110
  z80 := Tryd.sizeOf110
  v80 := Tryd.zeroValue110
  i0 := by kernel_rfl
  i2 := by kernel_rfl
  i3 := by kernel_rfl
  i4 := by kernel_rfl
  i5 := by kernel_rfl
  i9 := by kernel_rfl
  i20 := by kernel_rfl
  i21 := by kernel_rfl
  i37 := by kernel_rfl
  i46 := by kernel_rfl
  i51 := by kernel_rfl
  i53 := by kernel_rfl
  i75 := by kernel_rfl
  i76 := by kernel_rfl
  i80 := by kernel_rfl
  i85 := by kernel_rfl
  i127 := by kernel_rfl
  i143 := by kernel_rfl
  i145 := by kernel_rfl
  i167 := by kernel_rfl
  i168 := by kernel_rfl
  i171 := by kernel_rfl
  i173 := by kernel_rfl
  i175 := by kernel_rfl
  i210 := by kernel_rfl
  i212 := by kernel_rfl
  i232 := by kernel_rfl
  i233 := by kernel_rfl
  m15 := by kernel_rfl
  m16 := by kernel_rfl
  m17 := by kernel_rfl
  m18 := by kernel_rfl
  m19 := by kernel_rfl
  c0 := by kernel_rfl
  c2 := by kernel_rfl
  c3 := by kernel_rfl
  c4 := by kernel_rfl
  c5 := by kernel_rfl
  c9 := by kernel_rfl
  c20 := by kernel_rfl
  c21 := by kernel_rfl
  c37 := by kernel_rfl
  c46 := by kernel_rfl
  c51 := by kernel_rfl
  c53 := by kernel_rfl
  c75 := by kernel_rfl
  c76 := by kernel_rfl
  c80 := by kernel_rfl
  c85 := by kernel_rfl
  c127 := by kernel_rfl
  c143 := by kernel_rfl
  c145 := by kernel_rfl
  c167 := by kernel_rfl
  c168 := by kernel_rfl
  c171 := by kernel_rfl
  c173 := by kernel_rfl
  c175 := by kernel_rfl
  c210 := by kernel_rfl
  c212 := by kernel_rfl
  c213 := by kernel_rfl
  c232 := by kernel_rfl
  c233 := by kernel_rfl }
open Go.RowKit in
theorem Tryd.strconv_Atoi_ok (s : ByteArray) (hmax : s.size ≤ 9223372036854775806) (v : Int) (h : Lib.atoiAll s.data.toList = .ok v) (w : World) :
    Calls Tryd.prog 30 #[.string s] w fun e w' => e = .returned (.tuple #[.int .i64 v, .nilIface]) ∧ (w' = w ∨ ∃ t, w' = Lib.bytesWorld w 5 t) := Any.strconv_Atoi_ok Tryd.laysC172 s hmax v h w
def Tryd.laysM176_ren : Go.Shelf.Ren := ⟨fun | 176 => 27 | 249 => 32 | 288 => 37 | 283 => 38 | 284 => 39 | 285 => 40 | 286 => 41 | 129 => 49 | 317 => 48 | 318 => 50 | 319 => 51 | 320 => 52 | 337 => 59 | 338 => 60 | n => n, fun | 37 => 37 | 2 => 2 | 3 => 3 | 53 => 60 | 4 => 4 | 9 => 9 | 171 => 75 | 0 => 0 | 173 => 78 | 212 => 89 | 51 => 90 | 5 => 5 | 20 => 20 | 213 => 91 | 46 => 93 | 232 => 38 | 233 => 109 | n => n, fun | 17 => 0 | 18 => 4 | 19 => 5 | n => n⟩
theorem Tryd.laysM176 : Go.Proofs.LaysM.n176 Tryd.prog Tryd.laysM176_ren := {
  mixed := by kernel_rfl
  f129 := Tryd.func49.trans (congrArg some (by kernel_rfl))
  f176 := Tryd.func27.trans (congrArg some (by kernel_rfl))
  f249 := Tryd.func32.trans (congrArg some (by kernel_rfl))
  f283 := Tryd.func38.trans (congrArg some (by kernel_rfl))
  f284 := Tryd.func39.trans (congrArg some (by kernel_rfl))
  f285 := Tryd.func40.trans (congrArg some (by kernel_rfl))
  f286 := Tryd.func41.trans (congrArg some (by kernel_rfl))
  f288 := Tryd.func37.trans (congrArg some (by kernel_rfl))
  f317 := Tryd.func48.trans (congrArg some (by kernel_rfl))
  f318 := Tryd.func50.trans (congrArg some (by kernel_rfl))
  f319 := Tryd.func51.trans (congrArg some (by kernel_rfl))
  f320 := Tryd.func52.trans (congrArg some (by kernel_rfl))
  f337 := Tryd.func59.trans (congrArg some (by kernel_rfl))
  f338 := Tryd.func60.trans (congrArg some (by kernel_rfl))
  t0 := Tryd.underlying0
  a0 := Tryd.isAgg0
  z0 := Tryd.sizeOf0
  v0 := Tryd.zeroValue0
  t2 := Tryd.underlying2
  a2 := Tryd.isAgg2
  z2 := Tryd.sizeOf2
  v2 := Tryd.zeroValue2
  t3 := Tryd.underlying3
  a3 := Tryd.isAgg3
  z3 := Tryd.sizeOf3
  v3 := Tryd.zeroValue3
  t4 := Tryd.underlying4
  a4 := Tryd.isAgg4
  z4 := Tryd.sizeOf4
  v4 := Tryd.zeroValue4
  t5 := Tryd.underlying5
  a5 := Tryd.isAgg5
  z5 := Tryd.sizeOf5
  v5 := Tryd.zeroValue5
  t9 := Tryd.underlying9
  a9 := Tryd.isAgg9
  z9 := Tryd.sizeOf9
  v9 := Tryd.zeroValue9
  t20 := Tryd.underlying20
  a20 := Tryd.isAgg20
  z20 := Tryd.sizeOf20
  v20 := Tryd.zeroValue20
  t37 := Tryd.underlying37
  a37 := Tryd.isAgg37
  z37 := Tryd.sizeOf37
  v37 := Tryd.zeroValue37
  t46 := Tryd.underlying93
  a46 := Tryd.isAgg93
  z46 := Tryd.sizeOf93
  v46 := Tryd.zeroValue93
  t51 := Tryd.underlying90
  a51 := Tryd.isAgg90
  z51 := Tryd.sizeOf90
  v51 := Tryd.zeroValue90
  t53 := Tryd.underlying60
  a53 := Tryd.isAgg60
  z53 := Tryd.sizeOf60
  v53 := Tryd.zeroValue60
  t171 := Tryd.underlying75
  a171 := Tryd.isAgg75
  z171 := Tryd.sizeOf75
  v171 := Tryd.zeroValue75
  t173 := Tryd.underlying78
  a173 := Tryd.isAgg78
  z173 := Tryd.sizeOf78
  v173 := Tryd.zeroValue78
  t212 := Tryd.underlying89
  a212 := Tryd.isAgg89
  z212 := Tryd.sizeOf89
  v212 := Tryd.zeroValue89
  t213 := Tryd.underlying91
  a213 := Tryd.isAgg91
  z213 := Tryd.sizeOf91
  t232 := Tryd.underlying38
  a232 := Tryd.isAgg38
  z232 := Tryd.sizeOf38
  v232 := Tryd.zeroValue38
  t233 := Tryd.underlying109
  a233 := Tryd.isAgg109
  z233 := Tryd.sizeOf109
  v233 := Tryd.zeroValue109
  g17 := by kernel_rfl
  g18 := by kernel_rfl
  g19 := by kernel_rfl
  i0 := by kernel_rfl
  i2 := by kernel_rfl
  i3 := by kernel_rfl
  i4 := by kernel_rfl
  i5 := by kernel_rfl
  i9 := by kernel_rfl
  i20 := by kernel_rfl
  i37 := by kernel_rfl
  i46 := by kernel_rfl
  i51 := by kernel_rfl
  i53 := by kernel_rfl
  i171 := by kernel_rfl
  i173 := by kernel_rfl
  i212 := by kernel_rfl
  i232 := by kernel_rfl
  i233 := by kernel_rfl
  m17 := by kernel_rfl
  m18 := by kernel_rfl
  m19 := by kernel_rfl }
open Go.RowKit Go.Sort Go.Lib in
theorem Tryd.strconv_AppendInt_10 (B n : Nat) (i : Int) (h0 : -9223372036854775808 ≤ i) (h1 : i ≤ 9223372036854775807) (sv : Value) (xs : List Value) (w : World) (hown : w.ownsRow B 5 1 sv n xs) (hBw : B ≤ w.heap.size) (hlim : n + 21 ≤ 140737488355328) (htab : Lib.TabBelow Tryd.prog B w "internal/strconv.uint64pow10" .u64 Lib.pow10Tab) :
    Calls Tryd.prog 27 #[sv, .int .i64 i, .int .i64 10] w fun e w' => ∃ v', e = .returned v' ∧ w'.ownsRow B 5 1 v' (n + (Lib.itoa i).length) (xs ++ Lib.byteCells (Lib.itoa i)) ∧ Below B w w' ∧ Lib.OthersKept 5 none w w' := Any.strconv_AppendInt_10 Tryd.laysM176 B n i h0 h1 sv xs w hown hBw hlim htab
def Tryd.laysNm215_ren : Go.Shelf.Ren := ⟨fun | 15 => 22 | n => n, fun | 22 => 23 | 3 => 3 | 4 => 4 | n => n, fun | n => n⟩
theorem Tryd.laysNm215 : Go.Proofs.Lays2.n15 Tryd.prog Tryd.laysNm215_ren := {
  mixed := by kernel_rfl
  f15 := Tryd.func22.trans (congrArg some (by kernel_rfl))
  t3 := Tryd.underlying3
  a3 := Tryd.isAgg3
  z3 := Tryd.sizeOf3
  v3 := Tryd.zeroValue3
  t4 := Tryd.underlying4
  a4 := Tryd.isAgg4
  z4 := Tryd.sizeOf4
  v4 := Tryd.zeroValue4
  t22 := Tryd.underlying23
  a22 := Tryd.isAgg23
  z22 := Tryd.sizeOf23
  v22 := Tryd.zeroValue23
  i3 := by kernel_rfl }
open Go.RowKit Go.Lib in
theorem Tryd.slices_Clone_int (b off n c : Nat) (zs : List Int) (w : World) (hz : n ≤ zs.length) (hbig : n * 8 ≤ 140737488355328) (hc : ∀ j, j < zs.length → w.cell? ⟨b, off + j, none⟩ = some (.int .i64 (zs.getD j 0))) :
    Calls Tryd.prog 22 #[.slice (some ⟨b, off, none⟩) n c] w fun e w' => ∃ v', e = .returned v' ∧ w'.ownsRow w.heap.size 3 1 v' n ((zs.take n).map (Value.int .i64)) ∧ v' ≠ .slice none 0 0 ∧ Below w.heap.size w w' := Any.slices_Clone_int Tryd.laysNm215 b off n c zs w hz hbig hc
open Go.RowKit Go.Lib in
theorem Tryd.slices_Clone_int_nil (n c : Nat) (w : World) :
    Calls Tryd.prog 22 #[.slice none n c] w fun e w' => e = .returned (.slice none 0 0) ∧ w' = w := Any.slices_Clone_int_nil Tryd.laysNm215 n c w
open Go.RowKit Go.Lib in
theorem Tryd.slices_Clone_int_zero (a : Addr) (c : Nat) (w : World) :
    Calls Tryd.prog 22 #[.slice (some a) 0 c] w fun e w' => ∃ v', e = .returned v' ∧ w'.ownsRow w.heap.size 3 1 v' 0 [] ∧ v' ≠ .slice none 0 0 ∧ Below w.heap.size w w' := Any.slices_Clone_int_zero Tryd.laysNm215 a c w
end Go.Proofs
