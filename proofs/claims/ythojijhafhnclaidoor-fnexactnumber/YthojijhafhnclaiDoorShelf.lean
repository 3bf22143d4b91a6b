/- The contracts of strconv.Itoa and strconv.Atoi of the library, laid at this translation by its own command: no walk, no condition of ours. -/
import Derived.Shelf.Strconv.Atoi
import Derived.Shelf.Strconv.Itoa0
import Derived.Shelf.Strconv.Itoa1
import Derived.Shelf.LaysM
import Derived.Shelf.Strconv.Itoa2
import Derived.Shelf.Strconv.Itoa3
import Derived.Shelf.Strconv.AtoiErrFast
import Derived.Shelf.Strconv.ParseIntEmpty
import Derived.Shelf.Strconv.AtoiFail
import Derived.Shelf.Strconv.Clone
import Derived.Shelf.Strconv.SyntaxError
import Derived.Shelf.LaysC
import Derived.Shelf.Strconv.ToError
import Derived.Shelf.Strconv.Lower
import Derived.Shelf.Strconv.ParseUint10
import Derived.Shelf.Strconv.ParseUint10Empty
import Derived.Shelf.Strconv.ParseUint10Any
import Derived.Shelf.Strconv.ParseInt10
import Derived.Shelf.Strconv.AtoiLong
import Derived.Shelf.Strconv.AtoiInnerAll
import Derived.Shelf.Strconv.RangeError
import Derived.Shelf.Strconv.ToErrorRange
import Derived.Shelf.Strconv.AtoiAll
import Derived.Shelf.Strconv.ErrVarAll
import Derived.Test.YthojijhafhnclaiDoorProg
namespace Go.Proofs
open Go.Shelf
def Tryd.laysM171_ren : Go.Shelf.Ren := ⟨fun | 171 => 11 | 243 => 13 | 246 => 15 | 283 => 18 | 284 => 19 | 285 => 20 | 286 => 21 | 129 => 28 | 317 => 27 | 318 => 29 | 319 => 30 | 320 => 31 | 337 => 35 | 338 => 36 | n => n, fun | 3 => 3 | 9 => 9 | 2 => 2 | 4 => 4 | 171 => 36 | 0 => 0 | 53 => 37 | 37 => 29 | 5 => 5 | 173 => 40 | 212 => 50 | 51 => 51 | 20 => 20 | 213 => 52 | 46 => 53 | 232 => 67 | 233 => 68 | n => n, fun | 17 => 0 | 18 => 3 | 19 => 4 | n => n⟩
theorem Tryd.laysM171 : Go.Proofs.LaysM.n171 Tryd.prog Tryd.laysM171_ren := {
  mixed := by kernel_rfl
  f129 := Tryd.func28.trans (congrArg some (by kernel_rfl))
  f171 := Tryd.func11.trans (congrArg some (by kernel_rfl))
  f243 := Tryd.func13.trans (congrArg some (by kernel_rfl))
  f246 := Tryd.func15.trans (congrArg some (by kernel_rfl))
  f283 := Tryd.func18.trans (congrArg some (by kernel_rfl))
  f284 := Tryd.func19.trans (congrArg some (by kernel_rfl))
  f285 := Tryd.func20.trans (congrArg some (by kernel_rfl))
  f286 := Tryd.func21.trans (congrArg some (by kernel_rfl))
  f317 := Tryd.func27.trans (congrArg some (by kernel_rfl))
  f318 := Tryd.func29.trans (congrArg some (by kernel_rfl))
  f319 := Tryd.func30.trans (congrArg some (by kernel_rfl))
  f320 := Tryd.func31.trans (congrArg some (by kernel_rfl))
  f337 := Tryd.func35.trans (congrArg some (by kernel_rfl))
  f338 := Tryd.func36.trans (congrArg some (by kernel_rfl))
  t0 := Tryd.underlying0
  a0 := Tryd.isAgg0
  z0 := Tryd.sizeOf0
  v0 := Tryd.zeroValue0
  t2 := Tryd.underlying2
  a2 := Tryd.isAgg2
  z2 := Tryd.sizeOf2
  v2 := Tryd.zeroValue2
  t3 := Tryd.underlying3
  a3 := Tryd.isAgg3
  z3 := Tryd.sizeOf3
  v3 := Tryd.zeroValue3
  t4 := Tryd.underlying4
  a4 := Tryd.isAgg4
  z4 := Tryd.sizeOf4
  v4 := Tryd.zeroValue4
  t5 := Tryd.underlying5
  a5 := Tryd.isAgg5
  z5 := Tryd.sizeOf5
  v5 := Tryd.zeroValue5
  t9 := Tryd.underlying9
  a9 := Tryd.isAgg9
  z9 := Tryd.sizeOf9
  v9 := Tryd.zeroValue9
  t20 := Tryd.underlying20
  a20 := Tryd.isAgg20
  z20 := Tryd.sizeOf20
  v20 := Tryd.zeroValue20
  t37 := Tryd.underlying29
  a37 := Tryd.isAgg29
  z37 := Tryd.sizeOf29
  v37 := Tryd.zeroValue29
  t46 := Tryd.underlying53
  a46 := Tryd.isAgg53
  z46 := Tryd.sizeOf53
  v46 := Tryd.zeroValue53
  t51 := Tryd.underlying51
  a51 := Tryd.isAgg51
  z51 := Tryd.sizeOf51
  v51 := Tryd.zeroValue51
  t53 := Tryd.underlying37
  a53 := Tryd.isAgg37
  z53 := Tryd.sizeOf37
  v53 := Tryd.zeroValue37
  t171 := Tryd.underlying36
  a171 := Tryd.isAgg36
  z171 := Tryd.sizeOf36
  v171 := Tryd.zeroValue36
  t173 := Tryd.underlying40
  a173 := Tryd.isAgg40
  z173 := Tryd.sizeOf40
  v173 := Tryd.zeroValue40
  t212 := Tryd.underlying50
  a212 := Tryd.isAgg50
  z212 := Tryd.sizeOf50
  v212 := Tryd.zeroValue50
  t213 := Tryd.underlying52
  a213 := Tryd.isAgg52
  z213 := Tryd.sizeOf52
  t232 := Tryd.underlying67
  a232 := Tryd.isAgg67
  z232 := Tryd.sizeOf67
  v232 := Tryd.zeroValue67
  t233 := Tryd.underlying68
  a233 := Tryd.isAgg68
  z233 := Tryd.sizeOf68
  v233 := Tryd.zeroValue68
  g17 := by kernel_rfl
  g18 := by kernel_rfl
  g19 := by kernel_rfl
  i0 := by kernel_rfl
  i2 := by kernel_rfl
  i3 := by kernel_rfl
  i4 := by kernel_rfl
  i5 := by kernel_rfl
  i9 := by kernel_rfl
  i20 := by kernel_rfl
  i37 := by kernel_rfl
  i46 := by kernel_rfl
  i51 := by kernel_rfl
  i53 := by kernel_rfl
  i171 := by kernel_rfl
  i173 := by kernel_rfl
  i212 := by kernel_rfl
  i232 := by kernel_rfl
  i233 := by kernel_rfl
  m17 := by kernel_rfl
  m18 := by kernel_rfl
  m19 := by kernel_rfl }
open Go.RowKit Go.Sort Go.Lib in
theorem Tryd.strconv_Itoa (n : Int) (h0 : -9223372036854775808 ≤ n) (h1 : n ≤ 9223372036854775807) (w : World) (htab : Lib.TabIs Tryd.prog w "internal/strconv.uint64pow10" .u64 Lib.pow10Tab) :
    Calls Tryd.prog 11 #[.int .i64 n] w fun e w' => e = .returned (.string ⟨(Lib.itoa n).toArray⟩) ∧ ∃ k os, w' = grow (w.drewN k) os := Any.strconv_Itoa Tryd.laysM171 n h0 h1 w htab
def Tryd.laysC172_ren : Go.Shelf.Ren := ⟨fun | 172 => 14 | 244 => 16 | 245 => 17 | 247 => 22 | 279 => 23 | 280 => 24 | 281 => 25 | 282 => 26 | 287 => 32 | 316 => 33 | 171 => 11 | 205 => 34 | 321 => 37 | 322 => 38 | 243 => 13 | 246 => 15 | 283 => 18 | 284 => 19 | 285 => 20 | 286 => 21 | 129 => 28 | 317 => 27 | 318 => 29 | 319 => 30 | 320 => 31 | 337 => 35 | 338 => 36 | n => n, fun | 9 => 9 | 3 => 3 | 75 => 31 | 76 => 32 | 4 => 4 | 5 => 5 | 167 => 42 | 37 => 29 | 0 => 0 | 85 => 43 | 2 => 2 | 168 => 45 | 53 => 37 | 175 => 55 | 46 => 53 | 210 => 59 | 127 => 63 | 145 => 66 | 143 => 64 | 21 => 21 | 171 => 36 | 173 => 40 | 212 => 50 | 51 => 51 | 20 => 20 | 213 => 52 | 232 => 67 | 233 => 68 | 80 => 69 | n => n, fun | 15 => 1 | 16 => 2 | 17 => 0 | 18 => 3 | 19 => 4 | n => n⟩
theorem Tryd.laysC172 : Go.Proofs.LaysC.n172 Tryd.prog Tryd.laysC172_ren := {
  mixed := by kernel_rfl
  f129 := Tryd.func28.trans (congrArg some (by kernel_rfl))
  f171 := Tryd.func11.trans (congrArg some (by kernel_rfl))
  f172 := Tryd.func14.trans (congrArg some (by kernel_rfl))
  f205 := Tryd.func34.trans (congrArg some (by kernel_rfl))
  f243 := Tryd.func13.trans (congrArg some (by kernel_rfl))
  f244 := Tryd.func16.trans (congrArg some (by kernel_rfl))
  f245 := Tryd.func17.trans (congrArg some (by kernel_rfl))
  f246 := Tryd.func15.trans (congrArg some (by kernel_rfl))
  f247 := Tryd.func22.trans (congrArg some (by kernel_rfl))
  f279 := Tryd.func23.trans (congrArg some (by kernel_rfl))
  f280 := Tryd.func24.trans (congrArg some (by kernel_rfl))
  f281 := Tryd.func25.trans (congrArg some (by kernel_rfl))
  f282 := Tryd.func26.trans (congrArg some (by kernel_rfl))
  f283 := Tryd.func18.trans (congrArg some (by kernel_rfl))
  f284 := Tryd.func19.trans (congrArg some (by kernel_rfl))
  f285 := Tryd.func20.trans (congrArg some (by kernel_rfl))
  f286 := Tryd.func21.trans (congrArg some (by kernel_rfl))
  f287 := Tryd.func32.trans (congrArg some (by kernel_rfl))
  f316 := Tryd.func33.trans (congrArg some (by kernel_rfl))
  f317 := Tryd.func27.trans (congrArg some (by kernel_rfl))
  f318 := Tryd.func29.trans (congrArg some (by kernel_rfl))
  f319 := Tryd.func30.trans (congrArg some (by kernel_rfl))
  f320 := Tryd.func31.trans (congrArg some (by kernel_rfl))
  f321 := Tryd.func37.trans (congrArg some (by kernel_rfl))
  f322 := Tryd.func38.trans (congrArg some (by kernel_rfl))
  f337 := Tryd.func35.trans (congrArg some (by kernel_rfl))
  f338 := Tryd.func36.trans (congrArg some (by kernel_rfl))
  t0 := Tryd.underlying0
  a0 := Tryd.isAgg0
  z0 := Tryd.sizeOf0
  v0 := Tryd.zeroValue0
  t2 := Tryd.underlying2
  a2 := Tryd.isAgg2
  z2 := Tryd.sizeOf2
  v2 := Tryd.zeroValue2
  t3 := Tryd.underlying3
  a3 := Tryd.isAgg3
  z3 := Tryd.sizeOf3
  v3 := Tryd.zeroValue3
  t4 := Tryd.underlying4
  a4 := Tryd.isAgg4
  z4 := Tryd.sizeOf4
  v4 := Tryd.zeroValue4
  t5 := Tryd.underlying5
  a5 := Tryd.isAgg5
  z5 := Tryd.sizeOf5
  v5 := Tryd.zeroValue5
  t9 := Tryd.underlying9
  a9 := Tryd.isAgg9
  z9 := Tryd.sizeOf9
  v9 := Tryd.zeroValue9
  t20 := Tryd.underlying20
  a20 := Tryd.isAgg20
  z20 := Tryd.sizeOf20
  v20 := Tryd.zeroValue20
  t21 := Tryd.underlying21
  a21 := Tryd.isAgg21
  z21 := Tryd.sizeOf21
  v21 := Tryd.zeroValue21
  t37 := Tryd.underlying29
  a37 := Tryd.isAgg29
  z37 := Tryd.sizeOf29
  v37 := Tryd.zeroValue29
  t46 := Tryd.underlying53
  a46 := Tryd.isAgg53
  z46 := Tryd.sizeOf53
  v46 := Tryd.zeroValue53
  t51 := Tryd.underlying51
  a51 := Tryd.isAgg51
  z51 := Tryd.sizeOf51
  v51 := Tryd.zeroValue51
  t53 := Tryd.underlying37
  a53 := Tryd.isAgg37
  z53 := Tryd.sizeOf37
  v53 := Tryd.zeroValue37
  t75 := Tryd.underlying31
  a75 := Tryd.isAgg31
  z75 := Tryd.sizeOf31
  v75 := Tryd.zeroValue31
  t76 := Tryd.underlying32
  a76 := Tryd.isAgg32
  z76 := Tryd.sizeOf32
  v76 := Tryd.zeroValue32
  t85 := Tryd.underlying43
  a85 := Tryd.isAgg43
  z85 := Tryd.sizeOf43
  v85 := Tryd.zeroValue43
  t127 := Tryd.underlying63
  a127 := Tryd.isAgg63
  z127 := Tryd.sizeOf63
  v127 := Tryd.zeroValue63
  t143 := Tryd.underlying64
  a143 := Tryd.isAgg64
  z143 := Tryd.sizeOf64
  v143 := Tryd.zeroValue64
  t145 := Tryd.underlying66
  a145 := Tryd.isAgg66
  z145 := Tryd.sizeOf66
  v145 := Tryd.zeroValue66
  t167 := Tryd.underlying42
  a167 := Tryd.isAgg42
  z167 := Tryd.sizeOf42
  v167 := Tryd.zeroValue42
  t168 := Tryd.underlying45
  a168 := Tryd.isAgg45
  z168 := Tryd.sizeOf45
  v168 := Tryd.zeroValue45
  t171 := Tryd.underlying36
  a171 := Tryd.isAgg36
  z171 := Tryd.sizeOf36
  v171 := Tryd.zeroValue36
  t173 := Tryd.underlying40
  a173 := Tryd.isAgg40
  z173 := Tryd.sizeOf40
  v173 := Tryd.zeroValue40
  t175 := Tryd.underlying55
  a175 := Tryd.isAgg55
  z175 := Tryd.sizeOf55
  v175 := Tryd.zeroValue55
  t210 := Tryd.underlying59
  a210 := Tryd.isAgg59
  z210 := Tryd.sizeOf59
  v210 := Tryd.zeroValue59
  t212 := Tryd.underlying50
  a212 := Tryd.isAgg50
  z212 := Tryd.sizeOf50
  v212 := Tryd.zeroValue50
  t213 := Tryd.underlying52
  a213 := Tryd.isAgg52
  z213 := Tryd.sizeOf52
  t232 := Tryd.underlying67
  a232 := Tryd.isAgg67
  z232 := Tryd.sizeOf67
  v232 := Tryd.zeroValue67
  t233 := Tryd.underlying68
  a233 := Tryd.isAgg68
  z233 := Tryd.sizeOf68
  v233 := Tryd.zeroValue68
  g15 := by kernel_rfl
  g16 := by kernel_rfl
  g17 := by kernel_rfl
  g18 := by kernel_rfl
  g19 := by kernel_rfl
  t80 := Tryd.underlying69
  a80 := Tryd.isAgg69
  z80 := Tryd.sizeOf69
  v80 := Tryd.zeroValue69
  i0 := by kernel_rfl
  i2 := by kernel_rfl
  i3 := by kernel_rfl
  i4 := by kernel_rfl
  i5 := by kernel_rfl
  i9 := by kernel_rfl
  i20 := by kernel_rfl
  i21 := by kernel_rfl
  i37 := by kernel_rfl
  i46 := by kernel_rfl
  i51 := by kernel_rfl
  i53 := by kernel_rfl
  i75 := by kernel_rfl
  i76 := by kernel_rfl
  i80 := by kernel_rfl
  i85 := by kernel_rfl
  i127 := by kernel_rfl
  i143 := by kernel_rfl
  i145 := by kernel_rfl
  i167 := by kernel_rfl
  i168 := by kernel_rfl
  i171 := by kernel_rfl
  i173 := by kernel_rfl
  i175 := by kernel_rfl
  i210 := by kernel_rfl
  i212 := by kernel_rfl
  i232 := by kernel_rfl
  i233 := by kernel_rfl
  m15 := by kernel_rfl
  m16 := by kernel_rfl
  m17 := by kernel_rfl
  m18 := by kernel_rfl
  m19 := by kernel_rfl
  c0 := by kernel_rfl
  c2 := by kernel_rfl
  c3 := by kernel_rfl
  c4 := by kernel_rfl
  c5 := by kernel_rfl
  c9 := by kernel_rfl
  c20 := by kernel_rfl
  c21 := by kernel_rfl
  c37 := by kernel_rfl
  c46 := by kernel_rfl
  c51 := by kernel_rfl
  c53 := by kernel_rfl
  c75 := by kernel_rfl
  c76 := by kernel_rfl
  c80 := by kernel_rfl
  c85 := by kernel_rfl
  c127 := by kernel_rfl
  c143 := by kernel_rfl
  c145 := by kernel_rfl
  c167 := by kernel_rfl
  c168 := by kernel_rfl
  c171 := by kernel_rfl
  c173 := by kernel_rfl
  c175 := by kernel_rfl
  c210 := by kernel_rfl
  c212 := by kernel_rfl
  c213 := by kernel_rfl
  c232 := by kernel_rfl
  c233 := by kernel_rfl }
open Go.RowKit in
theorem Tryd.strconv_Atoi_ok (s : ByteArray) (hmax : s.size ≤ 9223372036854775806) (v : Int) (h : Lib.atoiAll s.data.toList = .ok v) (w : World) :
    Calls Tryd.prog 14 #[.string s] w fun e w' => e = .returned (.tuple #[.int .i64 v, .nilIface]) ∧ (w' = w ∨ ∃ t, w' = Lib.bytesWorld w 5 t) := Any.strconv_Atoi_ok Tryd.laysC172 s hmax v h w
open Go.RowKit in
theorem Tryd.strconv_Atoi_syntax_var (s : ByteArray) (hlim : s.size ≤ 281474976710656) (h : Lib.atoiAll s.data.toList = .«syntax») (tp : TypeId) (p : Value) (w : World) (hvar : w.var? Tryd.prog "strconv.ErrSyntax" = some #[.iface tp p]) :
    Calls Tryd.prog 14 #[.string s] w fun e w' => ∃ N, e = .returned (.tuple #[.int .i64 0, .iface 45 (.pointer (some ⟨N, 0, none⟩))]) ∧ w.heap.size ≤ N ∧ w'.heap[N]? = some (.cells #[.string ⟨#[65, 116, 111, 105]⟩, .string s, .iface tp p] 59 (0, 0)) ∧ Below w.heap.size w w' := Any.strconv_Atoi_syntax_var Tryd.laysC172 s hlim h tp p w hvar
open Go.RowKit in
theorem Tryd.strconv_Atoi_range_var (s : ByteArray) (hlim : s.size ≤ 281474976710656) (h : Lib.atoiAll s.data.toList = .range) (tp : TypeId) (p : Value) (w : World) (hvar : w.var? Tryd.prog "strconv.ErrRange" = some #[.iface tp p]) :
    Calls Tryd.prog 14 #[.string s] w fun e w' => ∃ N, e = .returned (.tuple #[.int .i64 (Lib.atoiSat s.data.toList), .iface 45 (.pointer (some ⟨N, 0, none⟩))]) ∧ w.heap.size ≤ N ∧ w'.heap[N]? = some (.cells #[.string ⟨#[65, 116, 111, 105]⟩, .string s, .iface tp p] 59 (0, 0)) ∧ Below w.heap.size w w' := Any.strconv_Atoi_range_var Tryd.laysC172 s hlim h tp p w hvar
end Go.Proofs
