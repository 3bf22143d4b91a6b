/- The contracts of strconv.Itoa and strconv.Atoi of the library, laid at this translation by its own command: no walk, no condition of ours. -/
import Derived.Shelf.Strconv.Atoi
import Derived.Shelf.Strconv.Itoa0
import Derived.Shelf.Strconv.Itoa1
import Derived.Shelf.LaysM
import Derived.Shelf.Strconv.Itoa2
import Derived.Shelf.Strconv.Itoa3
import Derived.Shelf.Strconv.AtoiErrFast
import Derived.Shelf.Strconv.ParseIntEmpty
import Derived.Shelf.Strconv.AtoiFail
import Derived.Shelf.Strconv.Clone
import Derived.Shelf.Strconv.SyntaxError
import Derived.Shelf.LaysC
import Derived.Shelf.Strconv.ToError
import Derived.Shelf.Strconv.Lower
import Derived.Shelf.Strconv.ParseUint10
import Derived.Shelf.Strconv.ParseUint10Empty
import Derived.Shelf.Strconv.ParseUint10Any
import Derived.Shelf.Strconv.ParseInt10
import Derived.Shelf.Strconv.AtoiLong
import Derived.Shelf.Strconv.AtoiInnerAll
import Derived.Shelf.Strconv.RangeError
import Derived.Shelf.Strconv.ToErrorRange
import Derived.Shelf.Strconv.AtoiAll
import Derived.Shelf.Strconv.ErrVarAll
import Derived.Test.YthojijhafhnclaeDoorProg
namespace Go.Proofs
open Go.Shelf
def Tryd.laysM171_ren : Go.Shelf.Ren := ⟨fun | 171 => 18 | 243 => 41 | 246 => 52 | 283 => 57 | 284 => 58 | 285 => 59 | 286 => 60 | 129 => 66 | 317 => 65 | 318 => 67 | 319 => 68 | 320 => 69 | 337 => 75 | 338 => 76 | n => n, fun | 3 => 3 | 9 => 9 | 2 => 2 | 4 => 4 | 171 => 84 | 0 => 0 | 53 => 85 | 37 => 22 | 5 => 5 | 173 => 88 | 212 => 93 | 51 => 94 | 20 => 20 | 213 => 95 | 46 => 83 | 232 => 111 | 233 => 112 | n => n, fun | 17 => 1 | 18 => 4 | 19 => 5 | n => n⟩
theorem Tryd.laysM171 : Go.Proofs.LaysM.n171 Tryd.prog Tryd.laysM171_ren := {
  mixed := by kernel_rfl
  f129 := Tryd.func66.trans (congrArg some (by kernel_rfl))
  f171 := Tryd.func18.trans (congrArg some (by kernel_rfl))
  f243 := Tryd.func41.trans (congrArg some (by kernel_rfl))
  f246 := Tryd.func52.trans (congrArg some (by kernel_rfl))
  f283 := Tryd.func57.trans (congrArg some (by kernel_rfl))
  f284 := Tryd.func58.trans (congrArg some (by kernel_rfl))
  f285 := Tryd.func59.trans (congrArg some (by kernel_rfl))
  f286 := Tryd.func60.trans (congrArg some (by kernel_rfl))
  f317 := Tryd.func65.trans (congrArg some (by kernel_rfl))
  f318 := Tryd.func67.trans (congrArg some (by kernel_rfl))
  f319 := Tryd.func68.trans (congrArg some (by kernel_rfl))
  f320 := Tryd.func69.trans (congrArg some (by kernel_rfl))
  f337 := Tryd.func75.trans (congrArg some (by kernel_rfl))
  f338 := Tryd.func76.trans (congrArg some (by kernel_rfl))
  t0 := Tryd.underlying0
  a0 := Tryd.isAgg0
  z0 := Tryd.sizeOf0
  v0 := Tryd.zeroValue0
  t2 := Tryd.underlying2
  a2 := Tryd.isAgg2
  z2 := Tryd.sizeOf2
  v2 := Tryd.zeroValue2
  t3 := Tryd.underlying3
  a3 := Tryd.isAgg3
  z3 := Tryd.sizeOf3
  v3 := Tryd.zeroValue3
  t4 := Tryd.underlying4
  a4 := Tryd.isAgg4
  z4 := Tryd.sizeOf4
  v4 := Tryd.zeroValue4
  t5 := Tryd.underlying5
  a5 := Tryd.isAgg5
  z5 := Tryd.sizeOf5
  v5 := Tryd.zeroValue5
  t9 := Tryd.underlying9
  a9 := Tryd.isAgg9
  z9 := Tryd.sizeOf9
  v9 := Tryd.zeroValue9
  t20 := Tryd.underlying20
  a20 := Tryd.isAgg20
  z20 := Tryd.sizeOf20
  v20 := Tryd.zeroValue20
  t37 := Tryd.underlying22
  a37 := Tryd.isAgg22
  z37 := Tryd.sizeOf22
  v37 := Tryd.zeroValue22
  t46 := Tryd.underlying83
  a46 := Tryd.isAgg83
  z46 := Tryd.sizeOf83
  v46 := Tryd.zeroValue83
  t51 := Tryd.underlying94
  a51 := Tryd.isAgg94
  z51 := Tryd.sizeOf94
  v51 := Tryd.zeroValue94
  t53 := Tryd.underlying85
  a53 := Tryd.isAgg85
  z53 := Tryd.sizeOf85
  v53 := Tryd.zeroValue85
  t171 := Tryd.underlying84
  a171 := Tryd.isAgg84
  z171 := Tryd.sizeOf84
  v171 := Tryd.zeroValue84
  t173 := Tryd.underlying88
  a173 := Tryd.isAgg88
  z173 := Tryd.sizeOf88
  v173 := Tryd.zeroValue88
  t212 := Tryd.underlying93
  a212 := Tryd.isAgg93
  z212 := Tryd.sizeOf93
  v212 := Tryd.zeroValue93
  t213 := Tryd.underlying95
  a213 := Tryd.isAgg95
  z213 := Tryd.sizeOf95
  t232 := Tryd.underlying111
  a232 := Tryd.isAgg111
  z232 := Tryd.sizeOf111
  v232 := Tryd.zeroValue111
  t233 := Tryd.underlying112
  a233 := Tryd.isAgg112
  z233 := Tryd.sizeOf112
  v233 := Tryd.zeroValue112
  g17 := by kernel_rfl
  g18 := by kernel_rfl
  g19 := by kernel_rfl
  i0 := by kernel_rfl
  i2 := by kernel_rfl
  i3 := by kernel_rfl
  i4 := by kernel_rfl
  i5 := by kernel_rfl
  i9 := by kernel_rfl
  i20 := by kernel_rfl
  i37 := by kernel_rfl
  i46 := by kernel_rfl
  i51 := by kernel_rfl
  i53 := by kernel_rfl
  i171 := by kernel_rfl
  i173 := by kernel_rfl
  i212 := by kernel_rfl
  i232 := by kernel_rfl
  i233 := by kernel_rfl
  m17 := by kernel_rfl
  m18 := by kernel_rfl
  m19 := by kernel_rfl }
open Go.RowKit Go.Sort Go.Lib in
theorem Tryd.strconv_Itoa (n : Int) (h0 : -9223372036854775808 ≤ n) (h1 : n ≤ 9223372036854775807) (w : World) (htab : Lib.TabIs Tryd.prog w "internal/strconv.uint64pow10" .u64 Lib.pow10Tab) :
    Calls Tryd.prog 18 #[.int .i64 n] w fun e w' => e = .returned (.string ⟨(Lib.itoa n).toArray⟩) ∧ ∃ k os, w' = grow (w.drewN k) os := Any.strconv_Itoa Tryd.laysM171 n h0 h1 w htab
def Tryd.laysC172_ren : Go.Shelf.Ren := ⟨fun | 172 => 56 | 244 => 63 | 245 => 64 | 247 => 70 | 279 => 71 | 280 => 72 | 281 => 73 | 282 => 74 | 287 => 77 | 316 => 78 | 171 => 18 | 205 => 79 | 321 => 80 | 322 => 81 | 243 => 41 | 246 => 52 | 283 => 57 | 284 => 58 | 285 => 59 | 286 => 60 | 129 => 66 | 317 => 65 | 318 => 67 | 319 => 68 | 320 => 69 | 337 => 75 | 338 => 76 | n => n, fun | 9 => 9 | 3 => 3 | 75 => 80 | 76 => 81 | 4 => 4 | 5 => 5 | 167 => 98 | 37 => 22 | 0 => 0 | 85 => 99 | 2 => 2 | 168 => 101 | 53 => 85 | 175 => 105 | 46 => 83 | 210 => 109 | 127 => 114 | 145 => 117 | 143 => 115 | 21 => 21 | 171 => 84 | 173 => 88 | 212 => 93 | 51 => 94 | 20 => 20 | 213 => 95 | 232 => 111 | 233 => 112 | 80 => 118 | n => n, fun | 15 => 2 | 16 => 3 | 17 => 1 | 18 => 4 | 19 => 5 | n => n⟩
theorem Tryd.laysC172 : Go.Proofs.LaysC.n172 Tryd.prog Tryd.laysC172_ren := {
  mixed := by kernel_rfl
  f129 := Tryd.func66.trans (congrArg some (by kernel_rfl))
  f171 := Tryd.func18.trans (congrArg some (by kernel_rfl))
  f172 := Tryd.func56.trans (congrArg some (by kernel_rfl))
  f205 := Tryd.func79.trans (congrArg some (by kernel_rfl))
  f243 := Tryd.func41.trans (congrArg some (by kernel_rfl))
  f244 := Tryd.func63.trans (congrArg some (by kernel_rfl))
  f245 := Tryd.func64.trans (congrArg some (by kernel_rfl))
  f246 := Tryd.func52.trans (congrArg some (by kernel_rfl))
  f247 := Tryd.func70.trans (congrArg some (by kernel_rfl))
  f279 := Tryd.func71.trans (congrArg some (by kernel_rfl))
  f280 := Tryd.func72.trans (congrArg some (by kernel_rfl))
  f281 := Tryd.func73.trans (congrArg some (by kernel_rfl))
  f282 := Tryd.func74.trans (congrArg some (by kernel_rfl))
  f283 := Tryd.func57.trans (congrArg some (by kernel_rfl))
  f284 := Tryd.func58.trans (congrArg some (by kernel_rfl))
  f285 := Tryd.func59.trans (congrArg some (by kernel_rfl))
  f286 := Tryd.func60.trans (congrArg some (by kernel_rfl))
  f287 := Tryd.func77.trans (congrArg some (by kernel_rfl))
  f316 := Tryd.func78.trans (congrArg some (by kernel_rfl))
  f317 := Tryd.func65.trans (congrArg some (by kernel_rfl))
  f318 := Tryd.func67.trans (congrArg some (by kernel_rfl))
  f319 := Tryd.func68.trans (congrArg some (by kernel_rfl))
  f320 := Tryd.func69.trans (congrArg some (by kernel_rfl))
  f321 := Tryd.func80.trans (congrArg some (by kernel_rfl))
  f322 := Tryd.func81.trans (congrArg some (by kernel_rfl))
  f337 := Tryd.func75.trans (congrArg some (by kernel_rfl))
  f338 := Tryd.func76.trans (congrArg some (by kernel_rfl))
  t0 := Tryd.underlying0
  a0 := Tryd.isAgg0
  z0 := Tryd.sizeOf0
  v0 := Tryd.zeroValue0
  t2 := Tryd.underlying2
  a2 := Tryd.isAgg2
  z2 := Tryd.sizeOf2
  v2 := Tryd.zeroValue2
  t3 := Tryd.underlying3
  a3 := Tryd.isAgg3
  z3 := Tryd.sizeOf3
  v3 := Tryd.zeroValue3
  t4 := Tryd.underlying4
  a4 := Tryd.isAgg4
  z4 := Tryd.sizeOf4
  v4 := Tryd.zeroValue4
  t5 := Tryd.underlying5
  a5 := Tryd.isAgg5
  z5 := Tryd.sizeOf5
  v5 := Tryd.zeroValue5
  t9 := Tryd.underlying9
  a9 := Tryd.isAgg9
  z9 := Tryd.sizeOf9
  v9 := Tryd.zeroValue9
  t20 := Tryd.underlying20
  a20 := Tryd.isAgg20
  z20 := Tryd.sizeOf20
  v20 := Tryd.zeroValue20
  t21 := Tryd.underlying21
  a21 := Tryd.isAgg21
  z21 := Tryd.sizeOf21
  v21 := Tryd.zeroValue21
  t37 := Tryd.underlying22
  a37 := Tryd.isAgg22
  z37 := Tryd.sizeOf22
  v37 := Tryd.zeroValue22
  t46 := Tryd.underlying83
  a46 := Tryd.isAgg83
  z46 := Tryd.sizeOf83
  v46 := Tryd.zeroValue83
  t51 := Tryd.underlying94
  a51 := Tryd.isAgg94
  z51 := Tryd.sizeOf94
  v51 := Tryd.zeroValue94
  t53 := Tryd.underlying85
  a53 := Tryd.isAgg85
  z53 := Tryd.sizeOf85
  v53 := Tryd.zeroValue85
  t75 := Tryd.underlying80
  a75 := Tryd.isAgg80
  z75 := Tryd.sizeOf80
  v75 := Tryd.zeroValue80
  t76 := Tryd.underlying81
  a76 := Tryd.isAgg81
  z76 := Tryd.sizeOf81
  v76 := Tryd.zeroValue81
  t85 := Tryd.underlying99
  a85 := Tryd.isAgg99
  z85 := Tryd.sizeOf99
  v85 := Tryd.zeroValue99
  t127 := Tryd.underlying114
  a127 := Tryd.isAgg114
  z127 := Tryd.sizeOf114
  v127 := Tryd.zeroValue114
  t143 := Tryd.underlying115
  a143 := Tryd.isAgg115
  z143 := Tryd.sizeOf115
  v143 := Tryd.zeroValue115
  t145 := Tryd.underlying117
  a145 := Tryd.isAgg117
  z145 := Tryd.sizeOf117
  v145 := Tryd.zeroValue117
  t167 := Tryd.underlying98
  a167 := Tryd.isAgg98
  z167 := Tryd.sizeOf98
  v167 := Tryd.zeroValue98
  t168 := Tryd.underlying101
  a168 := Tryd.isAgg101
  z168 := Tryd.sizeOf101
  v168 := Tryd.zeroValue101
  t171 := Tryd.underlying84
  a171 := Tryd.isAgg84
  z171 := Tryd.sizeOf84
  v171 := Tryd.zeroValue84
  t173 := Tryd.underlying88
  a173 := Tryd.isAgg88
  z173 := Tryd.sizeOf88
  v173 := Tryd.zeroValue88
  t175 := Tryd.underlying105
  a175 := Tryd.isAgg105
  z175 := Tryd.sizeOf105
  v175 := Tryd.zeroValue105
  t210 := Tryd.underlying109
  a210 := Tryd.isAgg109
  z210 := Tryd.sizeOf109
  v210 := Tryd.zeroValue109
  t212 := Tryd.underlying93
  a212 := Tryd.isAgg93
  z212 := Tryd.sizeOf93
  v212 := Tryd.zeroValue93
  t213 := Tryd.underlying95
  a213 := Tryd.isAgg95
  z213 := Tryd.sizeOf95
  t232 := Tryd.underlying111
  a232 := Tryd.isAgg111
  z232 := Tryd.sizeOf111
  v232 := Tryd.zeroValue111
  t233 := Tryd.underlying112
  a233 := Tryd.isAgg112
  z233 := Tryd.sizeOf112
  v233 := Tryd.zeroValue112
  g15 := by kernel_rfl
  g16 := by kernel_rfl
  g17 := by kernel_rfl
  g18 := by kernel_rfl
  g19 := by kernel_rfl
  t80 := Tryd.underlying118
  a80 := Tryd.isAgg118
  z80 := Tryd.sizeOf118
  v80 := Tryd.zeroValue118
  i0 := by kernel_rfl
  i2 := by kernel_rfl
  i3 := by kernel_rfl
  i4 := by kernel_rfl
  i5 := by kernel_rfl
  i9 := by kernel_rfl
  i20 := by kernel_rfl
  i21 := by kernel_rfl
  i37 := by kernel_rfl
  i46 := by kernel_rfl
  i51 := by kernel_rfl
  i53 := by kernel_rfl
  i75 := by kernel_rfl
  i76 := by kernel_rfl
  i80 := by kernel_rfl
  i85 := by kernel_rfl
  i127 := by kernel_rfl
  i143 := by kernel_rfl
  i145 := by kernel_rfl
  i167 := by kernel_rfl
  i168 := by kernel_rfl
  i171 := by kernel_rfl
  i173 := by kernel_rfl
  i175 := by kernel_rfl
  i210 := by kernel_rfl
  i212 := by kernel_rfl
  i232 := by kernel_rfl
  i233 := by kernel_rfl
  m15 := by kernel_rfl
  m16 := by kernel_rfl
  m17 := by kernel_rfl
  m18 := by kernel_rfl
  m19 := by kernel_rfl
  c0 := by kernel_rfl
  c2 := by kernel_rfl
  c3 := by kernel_rfl
  c4 := by kernel_rfl
  c5 := by kernel_rfl
  c9 := by kernel_rfl
  c20 := by kernel_rfl
  c21 := by kernel_rfl
  c37 := by kernel_rfl
  c46 := by kernel_rfl
  c51 := by kernel_rfl
  c53 := by kernel_rfl
  c75 := by kernel_rfl
  c76 := by kernel_rfl
  c80 := by kernel_rfl
  c85 := by kernel_rfl
  c127 := by kernel_rfl
  c143 := by kernel_rfl
  c145 := by kernel_rfl
  c167 := by kernel_rfl
  c168 := by kernel_rfl
  c171 := by kernel_rfl
  c173 := by kernel_rfl
  c175 := by kernel_rfl
  c210 := by kernel_rfl
  c212 := by kernel_rfl
  c213 := by kernel_rfl
  c232 := by kernel_rfl
  c233 := by kernel_rfl }
open Go.RowKit in
theorem Tryd.strconv_Atoi_ok (s : ByteArray) (hmax : s.size ≤ 9223372036854775806) (v : Int) (h : Lib.atoiAll s.data.toList = .ok v) (w : World) :
    Calls Tryd.prog 56 #[.string s] w fun e w' => e = .returned (.tuple #[.int .i64 v, .nilIface]) ∧ (w' = w ∨ ∃ t, w' = Lib.bytesWorld w 5 t) := Any.strconv_Atoi_ok Tryd.laysC172 s hmax v h w
open Go.RowKit in
theorem Tryd.strconv_Atoi_syntax_var (s : ByteArray) (hlim : s.size ≤ 281474976710656) (h : Lib.atoiAll s.data.toList = .«syntax») (tp : TypeId) (p : Value) (w : World) (hvar : w.var? Tryd.prog "strconv.ErrSyntax" = some #[.iface tp p]) :
    Calls Tryd.prog 56 #[.string s] w fun e w' => ∃ N, e = .returned (.tuple #[.int .i64 0, .iface 101 (.pointer (some ⟨N, 0, none⟩))]) ∧ w.heap.size ≤ N ∧ w'.heap[N]? = some (.cells #[.string ⟨#[65, 116, 111, 105]⟩, .string s, .iface tp p] 109 (0, 0)) ∧ Below w.heap.size w w' := Any.strconv_Atoi_syntax_var Tryd.laysC172 s hlim h tp p w hvar
open Go.RowKit in
theorem Tryd.strconv_Atoi_range_var (s : ByteArray) (hlim : s.size ≤ 281474976710656) (h : Lib.atoiAll s.data.toList = .range) (tp : TypeId) (p : Value) (w : World) (hvar : w.var? Tryd.prog "strconv.ErrRange" = some #[.iface tp p]) :
    Calls Tryd.prog 56 #[.string s] w fun e w' => ∃ N, e = .returned (.tuple #[.int .i64 (Lib.atoiSat s.data.toList), .iface 101 (.pointer (some ⟨N, 0, none⟩))]) ∧ w.heap.size ≤ N ∧ w'.heap[N]? = some (.cells #[.string ⟨#[65, 116, 111, 105]⟩, .string s, .iface tp p] 109 (0, 0)) ∧ Below w.heap.size w w' := Any.strconv_Atoi_range_var Tryd.laysC172 s hlim h tp p w hvar
end Go.Proofs
