/- The contracts of strconv.Itoa and strconv.Atoi of the library, laid at this translation by its own command: no walk, no condition of ours. -/
import Derived.Shelf.Strconv.Atoi
import Derived.Shelf.Strconv.Itoa0
import Derived.Shelf.Strconv.Itoa1
import Derived.Shelf.LaysM
import Derived.Shelf.Strconv.Itoa2
import Derived.Shelf.Strconv.Itoa3
import Derived.Shelf.Strconv.AtoiErrFast
import Derived.Shelf.Strconv.ParseIntEmpty
import Derived.Shelf.Strconv.AtoiFail
import Derived.Shelf.Strconv.Clone
import Derived.Shelf.Strconv.SyntaxError
import Derived.Shelf.LaysC
import Derived.Shelf.Strconv.ToError
import Derived.Shelf.Strconv.Lower
import Derived.Shelf.Strconv.ParseUint10
import Derived.Shelf.Strconv.ParseUint10Empty
import Derived.Shelf.Strconv.ParseUint10Any
import Derived.Shelf.Strconv.ParseInt10
import Derived.Shelf.Strconv.AtoiLong
import Derived.Shelf.Strconv.AtoiInnerAll
import Derived.Shelf.Strconv.RangeError
import Derived.Shelf.Strconv.ToErrorRange
import Derived.Shelf.Strconv.AtoiAll
import Derived.Shelf.Strconv.ErrVarAll
import Derived.Test.YthojijhafhnclaaDoorProg
namespace Go.Proofs
open Go.Shelf
def Tryd.laysM171_ren : Go.Shelf.Ren := ⟨fun | 171 => 15 | 243 => 19 | 246 => 21 | 283 => 24 | 284 => 25 | 285 => 26 | 286 => 27 | 129 => 34 | 317 => 33 | 318 => 35 | 319 => 36 | 320 => 37 | 337 => 41 | 338 => 42 | n => n, fun | 3 => 3 | 9 => 9 | 2 => 2 | 4 => 4 | 171 => 50 | 0 => 0 | 53 => 51 | 37 => 22 | 5 => 5 | 173 => 54 | 212 => 64 | 51 => 65 | 20 => 20 | 213 => 66 | 46 => 29 | 232 => 82 | 233 => 83 | n => n, fun | 17 => 0 | 18 => 3 | 19 => 4 | n => n⟩
theorem Tryd.laysM171 : Go.Proofs.LaysM.n171 Tryd.prog Tryd.laysM171_ren := {
  mixed := by kernel_rfl
  f129 := Tryd.func34.trans (congrArg some (by kernel_rfl))
  f171 := Tryd.func15.trans (congrArg some (by kernel_rfl))
  f243 := Tryd.func19.trans (congrArg some (by kernel_rfl))
  f246 := Tryd.func21.trans (congrArg some (by kernel_rfl))
  f283 := Tryd.func24.trans (congrArg some (by kernel_rfl))
  f284 := Tryd.func25.trans (congrArg some (by kernel_rfl))
  f285 := Tryd.func26.trans (congrArg some (by kernel_rfl))
  f286 := Tryd.func27.trans (congrArg some (by kernel_rfl))
  f317 := Tryd.func33.trans (congrArg some (by kernel_rfl))
  f318 := Tryd.func35.trans (congrArg some (by kernel_rfl))
  f319 := Tryd.func36.trans (congrArg some (by kernel_rfl))
  f320 := Tryd.func37.trans (congrArg some (by kernel_rfl))
  f337 := Tryd.func41.trans (congrArg some (by kernel_rfl))
  f338 := Tryd.func42.trans (congrArg some (by kernel_rfl))
  t0 := Tryd.underlying0
  a0 := Tryd.isAgg0
  z0 := Tryd.sizeOf0
  v0 := Tryd.zeroValue0
  t2 := Tryd.underlying2
  a2 := Tryd.isAgg2
  z2 := Tryd.sizeOf2
  v2 := Tryd.zeroValue2
  t3 := Tryd.underlying3
  a3 := Tryd.isAgg3
  z3 := Tryd.sizeOf3
  v3 := Tryd.zeroValue3
  t4 := Tryd.underlying4
  a4 := Tryd.isAgg4
  z4 := Tryd.sizeOf4
  v4 := Tryd.zeroValue4
  t5 := Tryd.underlying5
  a5 := Tryd.isAgg5
  z5 := Tryd.sizeOf5
  v5 := Tryd.zeroValue5
  t9 := Tryd.underlying9
  a9 := Tryd.isAgg9
  z9 := Tryd.sizeOf9
  v9 := Tryd.zeroValue9
  t20 := Tryd.underlying20
  a20 := Tryd.isAgg20
  z20 := Tryd.sizeOf20
  v20 := Tryd.zeroValue20
  t37 := Tryd.underlying22
  a37 := Tryd.isAgg22
  z37 := Tryd.sizeOf22
  v37 := Tryd.zeroValue22
  t46 := Tryd.underlying29
  a46 := Tryd.isAgg29
  z46 := Tryd.sizeOf29
  v46 := Tryd.zeroValue29
  t51 := Tryd.underlying65
  a51 := Tryd.isAgg65
  z51 := Tryd.sizeOf65
  v51 := Tryd.zeroValue65
  t53 := Tryd.underlying51
  a53 := Tryd.isAgg51
  z53 := Tryd.sizeOf51
  v53 := Tryd.zeroValue51
  t171 := Tryd.underlying50
  a171 := Tryd.isAgg50
  z171 := Tryd.sizeOf50
  v171 := Tryd.zeroValue50
  t173 := Tryd.underlying54
  a173 := Tryd.isAgg54
  z173 := Tryd.sizeOf54
  v173 := Tryd.zeroValue54
  t212 := Tryd.underlying64
  a212 := Tryd.isAgg64
  z212 := Tryd.sizeOf64
  v212 := Tryd.zeroValue64
  t213 := Tryd.underlying66
  a213 := Tryd.isAgg66
  z213 := Tryd.sizeOf66
  t232 := Tryd.underlying82
  a232 := Tryd.isAgg82
  z232 := Tryd.sizeOf82
  v232 := Tryd.zeroValue82
  t233 := Tryd.underlying83
  a233 := Tryd.isAgg83
  z233 := Tryd.sizeOf83
  v233 := Tryd.zeroValue83
  g17 := by kernel_rfl
  g18 := by kernel_rfl
  g19 := by kernel_rfl
  i0 := by kernel_rfl
  i2 := by kernel_rfl
  i3 := by kernel_rfl
  i4 := by kernel_rfl
  i5 := by kernel_rfl
  i9 := by kernel_rfl
  i20 := by kernel_rfl
  i37 := by kernel_rfl
  i46 := by kernel_rfl
  i51 := by kernel_rfl
  i53 := by kernel_rfl
  i171 := by kernel_rfl
  i173 := by kernel_rfl
  i212 := by kernel_rfl
  i232 := by kernel_rfl
  i233 := by kernel_rfl
  m17 := by kernel_rfl
  m18 := by kernel_rfl
  m19 := by kernel_rfl }
open Go.RowKit Go.Sort Go.Lib in
theorem Tryd.strconv_Itoa (n : Int) (h0 : -9223372036854775808 ≤ n) (h1 : n ≤ 9223372036854775807) (w : World) (htab : Lib.TabIs Tryd.prog w "internal/strconv.uint64pow10" .u64 Lib.pow10Tab) :
    Calls Tryd.prog 15 #[.int .i64 n] w fun e w' => e = .returned (.string ⟨(Lib.itoa n).toArray⟩) ∧ ∃ k os, w' = grow (w.drewN k) os := Any.strconv_Itoa Tryd.laysM171 n h0 h1 w htab
def Tryd.laysC172_ren : Go.Shelf.Ren := ⟨fun | 172 => 20 | 244 => 22 | 245 => 23 | 247 => 28 | 279 => 29 | 280 => 30 | 281 => 31 | 282 => 32 | 287 => 38 | 316 => 39 | 171 => 15 | 205 => 40 | 321 => 43 | 322 => 44 | 243 => 19 | 246 => 21 | 283 => 24 | 284 => 25 | 285 => 26 | 286 => 27 | 129 => 34 | 317 => 33 | 318 => 35 | 319 => 36 | 320 => 37 | 337 => 41 | 338 => 42 | n => n, fun | 9 => 9 | 3 => 3 | 75 => 45 | 76 => 46 | 4 => 4 | 5 => 5 | 167 => 56 | 37 => 22 | 0 => 0 | 85 => 57 | 2 => 2 | 168 => 59 | 53 => 51 | 175 => 69 | 46 => 29 | 210 => 73 | 127 => 78 | 145 => 81 | 143 => 79 | 21 => 21 | 171 => 50 | 173 => 54 | 212 => 64 | 51 => 65 | 20 => 20 | 213 => 66 | 232 => 82 | 233 => 83 | 80 => 84 | n => n, fun | 15 => 1 | 16 => 2 | 17 => 0 | 18 => 3 | 19 => 4 | n => n⟩
theorem Tryd.laysC172 : Go.Proofs.LaysC.n172 Tryd.prog Tryd.laysC172_ren := {
  mixed := by kernel_rfl
  f129 := Tryd.func34.trans (congrArg some (by kernel_rfl))
  f171 := Tryd.func15.trans (congrArg some (by kernel_rfl))
  f172 := Tryd.func20.trans (congrArg some (by kernel_rfl))
  f205 := Tryd.func40.trans (congrArg some (by kernel_rfl))
  f243 := Tryd.func19.trans (congrArg some (by kernel_rfl))
  f244 := Tryd.func22.trans (congrArg some (by kernel_rfl))
  f245 := Tryd.func23.trans (congrArg some (by kernel_rfl))
  f246 := Tryd.func21.trans (congrArg some (by kernel_rfl))
  f247 := Tryd.func28.trans (congrArg some (by kernel_rfl))
  f279 := Tryd.func29.trans (congrArg some (by kernel_rfl))
  f280 := Tryd.func30.trans (congrArg some (by kernel_rfl))
  f281 := Tryd.func31.trans (congrArg some (by kernel_rfl))
  f282 := Tryd.func32.trans (congrArg some (by kernel_rfl))
  f283 := Tryd.func24.trans (congrArg some (by kernel_rfl))
  f284 := Tryd.func25.trans (congrArg some (by kernel_rfl))
  f285 := Tryd.func26.trans (congrArg some (by kernel_rfl))
  f286 := Tryd.func27.trans (congrArg some (by kernel_rfl))
  f287 := Tryd.func38.trans (congrArg some (by kernel_rfl))
  f316 := Tryd.func39.trans (congrArg some (by kernel_rfl))
  f317 := Tryd.func33.trans (congrArg some (by kernel_rfl))
  f318 := Tryd.func35.trans (congrArg some (by kernel_rfl))
  f319 := Tryd.func36.trans (congrArg some (by kernel_rfl))
  f320 := Tryd.func37.trans (congrArg some (by kernel_rfl))
  f321 := Tryd.func43.trans (congrArg some (by kernel_rfl))
  f322 := Tryd.func44.trans (congrArg some (by kernel_rfl))
  f337 := Tryd.func41.trans (congrArg some (by kernel_rfl))
  f338 := Tryd.func42.trans (congrArg some (by kernel_rfl))
  t0 := Tryd.underlying0
  a0 := Tryd.isAgg0
  z0 := Tryd.sizeOf0
  v0 := Tryd.zeroValue0
  t2 := Tryd.underlying2
  a2 := Tryd.isAgg2
  z2 := Tryd.sizeOf2
  v2 := Tryd.zeroValue2
  t3 := Tryd.underlying3
  a3 := Tryd.isAgg3
  z3 := Tryd.sizeOf3
  v3 := Tryd.zeroValue3
  t4 := Tryd.underlying4
  a4 := Tryd.isAgg4
  z4 := Tryd.sizeOf4
  v4 := Tryd.zeroValue4
  t5 := Tryd.underlying5
  a5 := Tryd.isAgg5
  z5 := Tryd.sizeOf5
  v5 := Tryd.zeroValue5
  t9 := Tryd.underlying9
  a9 := Tryd.isAgg9
  z9 := Tryd.sizeOf9
  v9 := Tryd.zeroValue9
  t20 := Tryd.underlying20
  a20 := Tryd.isAgg20
  z20 := Tryd.sizeOf20
  v20 := Tryd.zeroValue20
  t21 := Tryd.underlying21
  a21 := Tryd.isAgg21
  z21 := Tryd.sizeOf21
  v21 := Tryd.zeroValue21
  t37 := Tryd.underlying22
  a37 := Tryd.isAgg22
  z37 := Tryd.sizeOf22
  v37 := Tryd.zeroValue22
  t46 := Tryd.underlying29
  a46 := Tryd.isAgg29
  z46 := Tryd.sizeOf29
  v46 := Tryd.zeroValue29
  t51 := Tryd.underlying65
  a51 := Tryd.isAgg65
  z51 := Tryd.sizeOf65
  v51 := Tryd.zeroValue65
  t53 := Tryd.underlying51
  a53 := Tryd.isAgg51
  z53 := Tryd.sizeOf51
  v53 := Tryd.zeroValue51
  t75 := Tryd.underlying45
  a75 := Tryd.isAgg45
  z75 := Tryd.sizeOf45
  v75 := Tryd.zeroValue45
  t76 := Tryd.underlying46
  a76 := Tryd.isAgg46
  z76 := Tryd.sizeOf46
  v76 := Tryd.zeroValue46
  t85 := Tryd.underlying57
  a85 := Tryd.isAgg57
  z85 := Tryd.sizeOf57
  v85 := Tryd.zeroValue57
  t127 := Tryd.underlying78
  a127 := Tryd.isAgg78
  z127 := Tryd.sizeOf78
  v127 := Tryd.zeroValue78
  t143 := Tryd.underlying79
  a143 := Tryd.isAgg79
  z143 := Tryd.sizeOf79
  v143 := Tryd.zeroValue79
  t145 := Tryd.underlying81
  a145 := Tryd.isAgg81
  z145 := Tryd.sizeOf81
  v145 := Tryd.zeroValue81
  t167 := Tryd.underlying56
  a167 := Tryd.isAgg56
  z167 := Tryd.sizeOf56
  v167 := Tryd.zeroValue56
  t168 := Tryd.underlying59
  a168 := Tryd.isAgg59
  z168 := Tryd.sizeOf59
  v168 := Tryd.zeroValue59
  t171 := Tryd.underlying50
  a171 := Tryd.isAgg50
  z171 := Tryd.sizeOf50
  v171 := Tryd.zeroValue50
  t173 := Tryd.underlying54
  a173 := Tryd.isAgg54
  z173 := Tryd.sizeOf54
  v173 := Tryd.zeroValue54
  t175 := Tryd.underlying69
  a175 := Tryd.isAgg69
  z175 := Tryd.sizeOf69
  v175 := Tryd.zeroValue69
  t210 := Tryd.underlying73
  a210 := Tryd.isAgg73
  z210 := Tryd.sizeOf73
  v210 := Tryd.zeroValue73
  t212 := Tryd.underlying64
  a212 := Tryd.isAgg64
  z212 := Tryd.sizeOf64
  v212 := Tryd.zeroValue64
  t213 := Tryd.underlying66
  a213 := Tryd.isAgg66
  z213 := Tryd.sizeOf66
  t232 := Tryd.underlying82
  a232 := Tryd.isAgg82
  z232 := Tryd.sizeOf82
  v232 := Tryd.zeroValue82
  t233 := Tryd.underlying83
  a233 := Tryd.isAgg83
  z233 := Tryd.sizeOf83
  v233 := Tryd.zeroValue83
  g15 := by kernel_rfl
  g16 := by kernel_rfl
  g17 := by kernel_rfl
  g18 := by kernel_rfl
  g19 := by kernel_rfl
  t80 := Tryd.underlying84
  a80 := Tryd.isAgg84
  z80 := Tryd.sizeOf84
  v80 := Tryd.zeroValue84
  i0 := by kernel_rfl
  i2 := by kernel_rfl
  i3 := by kernel_rfl
  i4 := by kernel_rfl
  i5 := by kernel_rfl
  i9 := by kernel_rfl
  i20 := by kernel_rfl
  i21 := by kernel_rfl
  i37 := by kernel_rfl
  i46 := by kernel_rfl
  i51 := by kernel_rfl
  i53 := by kernel_rfl
  i75 := by kernel_rfl
  i76 := by kernel_rfl
  i80 := by kernel_rfl
  i85 := by kernel_rfl
  i127 := by kernel_rfl
  i143 := by kernel_rfl
  i145 := by kernel_rfl
  i167 := by kernel_rfl
  i168 := by kernel_rfl
  i171 := by kernel_rfl
  i173 := by kernel_rfl
  i175 := by kernel_rfl
  i210 := by kernel_rfl
  i212 := by kernel_rfl
  i232 := by kernel_rfl
  i233 := by kernel_rfl
  m15 := by kernel_rfl
  m16 := by kernel_rfl
  m17 := by kernel_rfl
  m18 := by kernel_rfl
  m19 := by kernel_rfl
  c0 := by kernel_rfl
  c2 := by kernel_rfl
  c3 := by kernel_rfl
  c4 := by kernel_rfl
  c5 := by kernel_rfl
  c9 := by kernel_rfl
  c20 := by kernel_rfl
  c21 := by kernel_rfl
  c37 := by kernel_rfl
  c46 := by kernel_rfl
  c51 := by kernel_rfl
  c53 := by kernel_rfl
  c75 := by kernel_rfl
  c76 := by kernel_rfl
  c80 := by kernel_rfl
  c85 := by kernel_rfl
  c127 := by kernel_rfl
  c143 := by kernel_rfl
  c145 := by kernel_rfl
  c167 := by kernel_rfl
  c168 := by kernel_rfl
  c171 := by kernel_rfl
  c173 := by kernel_rfl
  c175 := by kernel_rfl
  c210 := by kernel_rfl
  c212 := by kernel_rfl
  c213 := by kernel_rfl
  c232 := by kernel_rfl
  c233 := by kernel_rfl }
open Go.RowKit in
theorem Tryd.strconv_Atoi_ok (s : ByteArray) (hmax : s.size ≤ 9223372036854775806) (v : Int) (h : Lib.atoiAll s.data.toList = .ok v) (w : World) :
    Calls Tryd.prog 20 #[.string s] w fun e w' => e = .returned (.tuple #[.int .i64 v, .nilIface]) ∧ (w' = w ∨ ∃ t, w' = Lib.bytesWorld w 5 t) := Any.strconv_Atoi_ok Tryd.laysC172 s hmax v h w
open Go.RowKit in
theorem Tryd.strconv_Atoi_syntax_var (s : ByteArray) (hlim : s.size ≤ 281474976710656) (h : Lib.atoiAll s.data.toList = .«syntax») (tp : TypeId) (p : Value) (w : World) (hvar : w.var? Tryd.prog "strconv.ErrSyntax" = some #[.iface tp p]) :
    Calls Tryd.prog 20 #[.string s] w fun e w' => ∃ N, e = .returned (.tuple #[.int .i64 0, .iface 59 (.pointer (some ⟨N, 0, none⟩))]) ∧ w.heap.size ≤ N ∧ w'.heap[N]? = some (.cells #[.string ⟨#[65, 116, 111, 105]⟩, .string s, .iface tp p] 73 (0, 0)) ∧ Below w.heap.size w w' := Any.strconv_Atoi_syntax_var Tryd.laysC172 s hlim h tp p w hvar
open Go.RowKit in
theorem Tryd.strconv_Atoi_range_var (s : ByteArray) (hlim : s.size ≤ 281474976710656) (h : Lib.atoiAll s.data.toList = .range) (tp : TypeId) (p : Value) (w : World) (hvar : w.var? Tryd.prog "strconv.ErrRange" = some #[.iface tp p]) :
    Calls Tryd.prog 20 #[.string s] w fun e w' => ∃ N, e = .returned (.tuple #[.int .i64 (Lib.atoiSat s.data.toList), .iface 59 (.pointer (some ⟨N, 0, none⟩))]) ∧ w.heap.size ≤ N ∧ w'.heap[N]? = some (.cells #[.string ⟨#[65, 116, 111, 105]⟩, .string s, .iface tp p] 73 (0, 0)) ∧ Below w.heap.size w w' := Any.strconv_Atoi_range_var Tryd.laysC172 s hlim h tp p w hvar
end Go.Proofs
