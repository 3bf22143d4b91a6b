/- The contracts of strconv.Itoa and strconv.Atoi of the library, laid at this translation by its own command: no walk, no condition of ours. -/
import Derived.Shelf.Strconv.Atoi
import Derived.Shelf.Strconv.Itoa0
import Derived.Shelf.Strconv.Itoa1
import Derived.Shelf.LaysM
import Derived.Shelf.Strconv.Itoa2
import Derived.Shelf.Strconv.Itoa3
import Derived.Shelf.Strconv.AtoiErrFast
import Derived.Shelf.Strconv.ParseIntEmpty
import Derived.Shelf.Strconv.AtoiFail
import Derived.Shelf.Strconv.Clone
import Derived.Shelf.Strconv.SyntaxError
import Derived.Shelf.LaysC
import Derived.Shelf.Strconv.ToError
import Derived.Shelf.Strconv.Lower
import Derived.Shelf.Strconv.ParseUint10
import Derived.Shelf.Strconv.ParseUint10Empty
import Derived.Shelf.Strconv.ParseUint10Any
import Derived.Shelf.Strconv.ParseInt10
import Derived.Shelf.Strconv.AtoiLong
import Derived.Shelf.Strconv.AtoiInnerAll
import Derived.Shelf.Strconv.RangeError
import Derived.Shelf.Strconv.ToErrorRange
import Derived.Shelf.Strconv.AtoiAll
import Derived.Shelf.Strconv.ErrVarAll
import Derived.Test.YthojijhafhnclarDoorProg
namespace Go.Proofs
open Go.Shelf
def Tryd.laysM171_ren : Go.Shelf.Ren := ⟨fun | 171 => 28 | 243 => 30 | 246 => 32 | 283 => 35 | 284 => 36 | 285 => 37 | 286 => 38 | 129 => 45 | 317 => 44 | 318 => 46 | 319 => 47 | 320 => 48 | 337 => 52 | 338 => 53 | n => n, fun | 3 => 3 | 9 => 9 | 2 => 2 | 4 => 4 | 171 => 57 | 0 => 0 | 53 => 58 | 37 => 50 | 5 => 5 | 173 => 61 | 212 => 71 | 51 => 72 | 20 => 20 | 213 => 73 | 46 => 75 | 232 => 90 | 233 => 91 | n => n, fun | 17 => 0 | 18 => 3 | 19 => 4 | n => n⟩
theorem Tryd.laysM171 : Go.Proofs.LaysM.n171 Tryd.prog Tryd.laysM171_ren := {
  mixed := by kernel_rfl
  f129 := Tryd.func45.trans (congrArg some (by kernel_rfl))
  f171 := Tryd.func28.trans (congrArg some (by kernel_rfl))
  f243 := Tryd.func30.trans (congrArg some (by kernel_rfl))
  f246 := Tryd.func32.trans (congrArg some (by kernel_rfl))
  f283 := Tryd.func35.trans (congrArg some (by kernel_rfl))
  f284 := Tryd.func36.trans (congrArg some (by kernel_rfl))
  f285 := Tryd.func37.trans (congrArg some (by kernel_rfl))
  f286 := Tryd.func38.trans (congrArg some (by kernel_rfl))
  f317 := Tryd.func44.trans (congrArg some (by kernel_rfl))
  f318 := Tryd.func46.trans (congrArg some (by kernel_rfl))
  f319 := Tryd.func47.trans (congrArg some (by kernel_rfl))
  f320 := Tryd.func48.trans (congrArg some (by kernel_rfl))
  f337 := Tryd.func52.trans (congrArg some (by kernel_rfl))
  f338 := Tryd.func53.trans (congrArg some (by kernel_rfl))
  t0 := Tryd.underlying0
  a0 := Tryd.isAgg0
  z0 := Tryd.sizeOf0
  v0 := Tryd.zeroValue0
  t2 := Tryd.underlying2
  a2 := Tryd.isAgg2
  z2 := Tryd.sizeOf2
  v2 := Tryd.zeroValue2
  t3 := Tryd.underlying3
  a3 := Tryd.isAgg3
  z3 := Tryd.sizeOf3
  v3 := Tryd.zeroValue3
  t4 := Tryd.underlying4
  a4 := Tryd.isAgg4
  z4 := Tryd.sizeOf4
  v4 := Tryd.zeroValue4
  t5 := Tryd.underlying5
  a5 := Tryd.isAgg5
  z5 := Tryd.sizeOf5
  v5 := Tryd.zeroValue5
  t9 := Tryd.underlying9
  a9 := Tryd.isAgg9
  z9 := Tryd.sizeOf9
  v9 := Tryd.zeroValue9
  t20 := Tryd.underlying20
  a20 := Tryd.isAgg20
  z20 := Tryd.sizeOf20
  v20 := Tryd.zeroValue20
  t37 := Tryd.underlying50
  a37 := Tryd.isAgg50
  z37 := Tryd.sizeOf50
  v37 := Tryd.zeroValue50
  t46 := Tryd.underlying75
  a46 := Tryd.isAgg75
  z46 := Tryd.sizeOf75
  v46 := Tryd.zeroValue75
  t51 := Tryd.underlying72
  a51 := Tryd.isAgg72
  z51 := Tryd.sizeOf72
  v51 := Tryd.zeroValue72
  t53 := Tryd.underlying58
  a53 := Tryd.isAgg58
  z53 := Tryd.sizeOf58
  v53 := Tryd.zeroValue58
  t171 := Tryd.underlying57
  a171 := Tryd.isAgg57
  z171 := Tryd.sizeOf57
  v171 := Tryd.zeroValue57
  t173 := Tryd.underlying61
  a173 := Tryd.isAgg61
  z173 := Tryd.sizeOf61
  v173 := Tryd.zeroValue61
  t212 := Tryd.underlying71
  a212 := Tryd.isAgg71
  z212 := Tryd.sizeOf71
  v212 := Tryd.zeroValue71
  t213 := Tryd.underlying73
  a213 := Tryd.isAgg73
  z213 := Tryd.sizeOf73
  t232 := Tryd.underlying90
  a232 := Tryd.isAgg90
  z232 := Tryd.sizeOf90
  v232 := Tryd.zeroValue90
  t233 := Tryd.underlying91
  a233 := Tryd.isAgg91
  z233 := Tryd.sizeOf91
  v233 := Tryd.zeroValue91
  g17 := by kernel_rfl
  g18 := by kernel_rfl
  g19 := by kernel_rfl
  i0 := by kernel_rfl
  i2 := by kernel_rfl
  i3 := by kernel_rfl
  i4 := by kernel_rfl
  i5 := by kernel_rfl
  i9 := by kernel_rfl
  i20 := by kernel_rfl
  i37 := by kernel_rfl
  i46 := by kernel_rfl
  i51 := by kernel_rfl
  i53 := by kernel_rfl
  i171 := by kernel_rfl
  i173 := by kernel_rfl
  i212 := by kernel_rfl
  i232 := by kernel_rfl
  i233 := by kernel_rfl
  m17 := by kernel_rfl
  m18 := by kernel_rfl
  m19 := by kernel_rfl }
open Go.RowKit Go.Sort Go.Lib in
theorem Tryd.strconv_Itoa (n : Int) (h0 : -9223372036854775808 ≤ n) (h1 : n ≤ 9223372036854775807) (w : World) (htab : Lib.TabIs Tryd.prog w "internal/strconv.uint64pow10" .u64 Lib.pow10Tab) :
    Calls Tryd.prog 28 #[.int .i64 n] w fun e w' => e = .returned (.string ⟨(Lib.itoa n).toArray⟩) ∧ ∃ k os, w' = grow (w.drewN k) os := Any.strconv_Itoa Tryd.laysM171 n h0 h1 w htab
def Tryd.laysC172_ren : Go.Shelf.Ren := ⟨fun | 172 => 31 | 244 => 33 | 245 => 34 | 247 => 39 | 279 => 40 | 280 => 41 | 281 => 42 | 282 => 43 | 287 => 49 | 316 => 50 | 171 => 28 | 205 => 51 | 321 => 54 | 322 => 55 | 243 => 30 | 246 => 32 | 283 => 35 | 284 => 36 | 285 => 37 | 286 => 38 | 129 => 45 | 317 => 44 | 318 => 46 | 319 => 47 | 320 => 48 | 337 => 52 | 338 => 53 | n => n, fun | 9 => 9 | 3 => 3 | 75 => 52 | 76 => 53 | 4 => 4 | 5 => 5 | 167 => 63 | 37 => 50 | 0 => 0 | 85 => 64 | 2 => 2 | 168 => 66 | 53 => 58 | 175 => 77 | 46 => 75 | 210 => 81 | 127 => 86 | 145 => 89 | 143 => 87 | 21 => 21 | 171 => 57 | 173 => 61 | 212 => 71 | 51 => 72 | 20 => 20 | 213 => 73 | 232 => 90 | 233 => 91 | 80 => 92 | n => n, fun | 15 => 1 | 16 => 2 | 17 => 0 | 18 => 3 | 19 => 4 | n => n⟩
theorem Tryd.laysC172 : Go.Proofs.LaysC.n172 Tryd.prog Tryd.laysC172_ren := {
  mixed := by kernel_rfl
  f129 := Tryd.func45.trans (congrArg some (by kernel_rfl))
  f171 := Tryd.func28.trans (congrArg some (by kernel_rfl))
  f172 := Tryd.func31.trans (congrArg some (by kernel_rfl))
  f205 := Tryd.func51.trans (congrArg some (by kernel_rfl))
  f243 := Tryd.func30.trans (congrArg some (by kernel_rfl))
  f244 := Tryd.func33.trans (congrArg some (by kernel_rfl))
  f245 := Tryd.func34.trans (congrArg some (by kernel_rfl))
  f246 := Tryd.func32.trans (congrArg some (by kernel_rfl))
  f247 := Tryd.func39.trans (congrArg some (by kernel_rfl))
  f279 := Tryd.func40.trans (congrArg some (by kernel_rfl))
  f280 := Tryd.func41.trans (congrArg some (by kernel_rfl))
  f281 := Tryd.func42.trans (congrArg some (by kernel_rfl))
  f282 := Tryd.func43.trans (congrArg some (by kernel_rfl))
  f283 := Tryd.func35.trans (congrArg some (by kernel_rfl))
  f284 := Tryd.func36.trans (congrArg some (by kernel_rfl))
  f285 := Tryd.func37.trans (congrArg some (by kernel_rfl))
  f286 := Tryd.func38.trans (congrArg some (by kernel_rfl))
  f287 := Tryd.func49.trans (congrArg some (by kernel_rfl))
  f316 := Tryd.func50.trans (congrArg some (by kernel_rfl))
  f317 := Tryd.func44.trans (congrArg some (by kernel_rfl))
  f318 := Tryd.func46.trans (congrArg some (by kernel_rfl))
  f319 := Tryd.func47.trans (congrArg some (by kernel_rfl))
  f320 := Tryd.func48.trans (congrArg some (by kernel_rfl))
  f321 := Tryd.func54.trans (congrArg some (by kernel_rfl))
  f322 := Tryd.func55.trans (congrArg some (by kernel_rfl))
  f337 := Tryd.func52.trans (congrArg some (by kernel_rfl))
  f338 := Tryd.func53.trans (congrArg some (by kernel_rfl))
  t0 := Tryd.underlying0
  a0 := Tryd.isAgg0
  z0 := Tryd.sizeOf0
  v0 := Tryd.zeroValue0
  t2 := Tryd.underlying2
  a2 := Tryd.isAgg2
  z2 := Tryd.sizeOf2
  v2 := Tryd.zeroValue2
  t3 := Tryd.underlying3
  a3 := Tryd.isAgg3
  z3 := Tryd.sizeOf3
  v3 := Tryd.zeroValue3
  t4 := Tryd.underlying4
  a4 := Tryd.isAgg4
  z4 := Tryd.sizeOf4
  v4 := Tryd.zeroValue4
  t5 := Tryd.underlying5
  a5 := Tryd.isAgg5
  z5 := Tryd.sizeOf5
  v5 := Tryd.zeroValue5
  t9 := Tryd.underlying9
  a9 := Tryd.isAgg9
  z9 := Tryd.sizeOf9
  v9 := Tryd.zeroValue9
  t20 := Tryd.underlying20
  a20 := Tryd.isAgg20
  z20 := Tryd.sizeOf20
  v20 := Tryd.zeroValue20
  t21 := Tryd.underlying21
  a21 := Tryd.isAgg21
  z21 := Tryd.sizeOf21
  v21 := Tryd.zeroValue21
  t37 := Tryd.underlying50
  a37 := Tryd.isAgg50
  z37 := Tryd.sizeOf50
  v37 := Tryd.zeroValue50
  t46 := Tryd.underlying75
  a46 := Tryd.isAgg75
  z46 := Tryd.sizeOf75
  v46 := Tryd.zeroValue75
  t51 := Tryd.underlying72
  a51 := Tryd.isAgg72
  z51 := Tryd.sizeOf72
  v51 := Tryd.zeroValue72
  t53 := Tryd.underlying58
  a53 := Tryd.isAgg58
  z53 := Tryd.sizeOf58
  v53 := Tryd.zeroValue58
  t75 := Tryd.underlying52
  a75 := Tryd.isAgg52
  z75 := Tryd.sizeOf52
  v75 := Tryd.zeroValue52
  t76 := Tryd.underlying53
  a76 := Tryd.isAgg53
  z76 := Tryd.sizeOf53
  v76 := Tryd.zeroValue53
  t85 := Tryd.underlying64
  a85 := Tryd.isAgg64
  z85 := Tryd.sizeOf64
  v85 := Tryd.zeroValue64
  t127 := Tryd.underlying86
  a127 := Tryd.isAgg86
  z127 := Tryd.sizeOf86
  v127 := Tryd.zeroValue86
  t143 := Tryd.underlying87
  a143 := Tryd.isAgg87
  z143 := Tryd.sizeOf87
  v143 := Tryd.zeroValue87
  t145 := Tryd.underlying89
  a145 := Tryd.isAgg89
  z145 := Tryd.sizeOf89
  v145 := Tryd.zeroValue89
  t167 := Tryd.underlying63
  a167 := Tryd.isAgg63
  z167 := Tryd.sizeOf63
  v167 := Tryd.zeroValue63
  t168 := Tryd.underlying66
  a168 := Tryd.isAgg66
  z168 := Tryd.sizeOf66
  v168 := Tryd.zeroValue66
  t171 := Tryd.underlying57
  a171 := Tryd.isAgg57
  z171 := Tryd.sizeOf57
  v171 := Tryd.zeroValue57
  t173 := Tryd.underlying61
  a173 := Tryd.isAgg61
  z173 := Tryd.sizeOf61
  v173 := Tryd.zeroValue61
  t175 := Tryd.underlying77
  a175 := Tryd.isAgg77
  z175 := Tryd.sizeOf77
  v175 := Tryd.zeroValue77
  t210 := Tryd.underlying81
  a210 := Tryd.isAgg81
  z210 := Tryd.sizeOf81
  v210 := Tryd.zeroValue81
  t212 := Tryd.underlying71
  a212 := Tryd.isAgg71
  z212 := Tryd.sizeOf71
  v212 := Tryd.zeroValue71
  t213 := Tryd.underlying73
  a213 := Tryd.isAgg73
  z213 := Tryd.sizeOf73
  t232 := Tryd.underlying90
  a232 := Tryd.isAgg90
  z232 := Tryd.sizeOf90
  v232 := Tryd.zeroValue90
  t233 := Tryd.underlying91
  a233 := Tryd.isAgg91
  z233 := Tryd.sizeOf91
  v233 := Tryd.zeroValue91
  g15 := by kernel_rfl
  g16 := by kernel_rfl
  g17 := by kernel_rfl
  g18 := by kernel_rfl
  g19 := by kernel_rfl
  t80 := Tryd.underlying92
  a80 := Tryd.isAgg92
  z80 := Tryd.sizeOf92
  v80 := Tryd.zeroValue92
  i0 := by kernel_rfl
  i2 := by kernel_rfl
  i3 := by kernel_rfl
  i4 := by kernel_rfl
  i5 := by kernel_rfl
  i9 := by kernel_rfl
  i20 := by kernel_rfl
  i21 := by kernel_rfl
  i37 := by kernel_rfl
  i46 := by kernel_rfl
  i51 := by kernel_rfl
  i53 := by kernel_rfl
  i75 := by kernel_rfl
  i76 := by kernel_rfl
  i80 := by kernel_rfl
  i85 := by kernel_rfl
  i127 := by kernel_rfl
  i143 := by kernel_rfl
  i145 := by kernel_rfl
  i167 := by kernel_rfl
  i168 := by kernel_rfl
  i171 := by kernel_rfl
  i173 := by kernel_rfl
  i175 := by kernel_rfl
  i210 := by kernel_rfl
  i212 := by kernel_rfl
  i232 := by kernel_rfl
  i233 := by kernel_rfl
  m15 := by kernel_rfl
  m16 := by kernel_rfl
  m17 := by kernel_rfl
  m18 := by kernel_rfl
  m19 := by kernel_rfl
  c0 := by kernel_rfl
  c2 := by kernel_rfl
  c3 := by kernel_rfl
  c4 := by kernel_rfl
  c5 := by kernel_rfl
  c9 := by kernel_rfl
  c20 := by kernel_rfl
  c21 := by kernel_rfl
  c37 := by kernel_rfl
  c46 := by kernel_rfl
  c51 := by kernel_rfl
  c53 := by kernel_rfl
  c75 := by kernel_rfl
  c76 := by kernel_rfl
  c80 := by kernel_rfl
  c85 := by kernel_rfl
  c127 := by kernel_rfl
  c143 := by kernel_rfl
  c145 := by kernel_rfl
  c167 := by kernel_rfl
  c168 := by kernel_rfl
  c171 := by kernel_rfl
  c173 := by kernel_rfl
  c175 := by kernel_rfl
  c210 := by kernel_rfl
  c212 := by kernel_rfl
  c213 := by kernel_rfl
  c232 := by kernel_rfl
  c233 := by kernel_rfl }
open Go.RowKit in
theorem Tryd.strconv_Atoi_ok (s : ByteArray) (hmax : s.size ≤ 9223372036854775806) (v : Int) (h : Lib.atoiAll s.data.toList = .ok v) (w : World) :
    Calls Tryd.prog 31 #[.string s] w fun e w' => e = .returned (.tuple #[.int .i64 v, .nilIface]) ∧ (w' = w ∨ ∃ t, w' = Lib.bytesWorld w 5 t) := Any.strconv_Atoi_ok Tryd.laysC172 s hmax v h w
open Go.RowKit in
theorem Tryd.strconv_Atoi_syntax_var (s : ByteArray) (hlim : s.size ≤ 281474976710656) (h : Lib.atoiAll s.data.toList = .«syntax») (tp : TypeId) (p : Value) (w : World) (hvar : w.var? Tryd.prog "strconv.ErrSyntax" = some #[.iface tp p]) :
    Calls Tryd.prog 31 #[.string s] w fun e w' => ∃ N, e = .returned (.tuple #[.int .i64 0, .iface 66 (.pointer (some ⟨N, 0, none⟩))]) ∧ w.heap.size ≤ N ∧ w'.heap[N]? = some (.cells #[.string ⟨#[65, 116, 111, 105]⟩, .string s, .iface tp p] 81 (0, 0)) ∧ Below w.heap.size w w' := Any.strconv_Atoi_syntax_var Tryd.laysC172 s hlim h tp p w hvar
open Go.RowKit in
theorem Tryd.strconv_Atoi_range_var (s : ByteArray) (hlim : s.size ≤ 281474976710656) (h : Lib.atoiAll s.data.toList = .range) (tp : TypeId) (p : Value) (w : World) (hvar : w.var? Tryd.prog "strconv.ErrRange" = some #[.iface tp p]) :
    Calls Tryd.prog 31 #[.string s] w fun e w' => ∃ N, e = .returned (.tuple #[.int .i64 (Lib.atoiSat s.data.toList), .iface 66 (.pointer (some ⟨N, 0, none⟩))]) ∧ w.heap.size ≤ N ∧ w'.heap[N]? = some (.cells #[.string ⟨#[65, 116, 111, 105]⟩, .string s, .iface tp p] 81 (0, 0)) ∧ Below w.heap.size w w' := Any.strconv_Atoi_range_var Tryd.laysC172 s hlim h tp p w hvar
end Go.Proofs
