/- The contracts of strconv.Itoa and strconv.Atoi of the library, laid at this translation by its own command: no walk, no condition of ours. -/
import Derived.Shelf.Strconv.Atoi
import Derived.Shelf.Strconv.Itoa0
import Derived.Shelf.Strconv.Itoa1
import Derived.Shelf.LaysM
import Derived.Shelf.Strconv.Itoa2
import Derived.Shelf.Strconv.Itoa3
import Derived.Shelf.Strconv.AtoiErrFast
import Derived.Shelf.Strconv.ParseIntEmpty
import Derived.Shelf.Strconv.AtoiFail
import Derived.Shelf.Strconv.Clone
import Derived.Shelf.Strconv.SyntaxError
import Derived.Shelf.LaysC
import Derived.Shelf.Strconv.ToError
import Derived.Shelf.Strconv.Lower
import Derived.Shelf.Strconv.ParseUint10
import Derived.Shelf.Strconv.ParseUint10Empty
import Derived.Shelf.Strconv.ParseUint10Any
import Derived.Shelf.Strconv.ParseInt10
import Derived.Shelf.Strconv.AtoiLong
import Derived.Shelf.Strconv.AtoiInnerAll
import Derived.Shelf.Strconv.RangeError
import Derived.Shelf.Strconv.ToErrorRange
import Derived.Shelf.Strconv.AtoiAll
import Derived.Shelf.Strconv.ErrVarAll
import Derived.Test.YtbnhbmjomckfgaiDoorProg
namespace Go.Proofs
open Go.Shelf
def Tryd.laysM171_ren : Go.Shelf.Ren := ⟨fun | 171 => 11 | 243 => 13 | 246 => 16 | 283 => 22 | 284 => 23 | 285 => 24 | 286 => 25 | 129 => 30 | 317 => 29 | 318 => 31 | 319 => 32 | 320 => 33 | 337 => 36 | 338 => 37 | n => n, fun | 3 => 3 | 9 => 9 | 2 => 2 | 4 => 4 | 171 => 41 | 0 => 0 | 53 => 42 | 37 => 32 | 5 => 5 | 173 => 45 | 212 => 56 | 51 => 57 | 20 => 20 | 213 => 58 | 46 => 49 | 232 => 66 | 233 => 67 | n => n, fun | 17 => 2 | 18 => 3 | 19 => 4 | n => n⟩
theorem Tryd.laysM171 : Go.Proofs.LaysM.n171 Tryd.prog Tryd.laysM171_ren := {
  mixed := by kernel_rfl
  f129 := Tryd.func30.trans (congrArg some (by kernel_rfl))
  f171 := Tryd.func11.trans (congrArg some (by kernel_rfl))
  f243 := Tryd.func13.trans (congrArg some (by kernel_rfl))
  f246 := Tryd.func16.trans (congrArg some (by kernel_rfl))
  f283 := Tryd.func22.trans (congrArg some (by kernel_rfl))
  f284 := Tryd.func23.trans (congrArg some (by kernel_rfl))
  f285 := Tryd.func24.trans (congrArg some (by kernel_rfl))
  f286 := Tryd.func25.trans (congrArg some (by kernel_rfl))
  f317 := Tryd.func29.trans (congrArg some (by kernel_rfl))
  f318 := Tryd.func31.trans (congrArg some (by kernel_rfl))
  f319 := Tryd.func32.trans (congrArg some (by kernel_rfl))
  f320 := Tryd.func33.trans (congrArg some (by kernel_rfl))
  f337 := Tryd.func36.trans (congrArg some (by kernel_rfl))
  f338 := Tryd.func37.trans (congrArg some (by kernel_rfl))
  t0 := Tryd.underlying0
  a0 := Tryd.isAgg0
  z0 := Tryd.sizeOf0
  v0 := Tryd.zeroValue0
  t2 := Tryd.underlying2
  a2 := Tryd.isAgg2
  z2 := Tryd.sizeOf2
  v2 := Tryd.zeroValue2
  t3 := Tryd.underlying3
  a3 := Tryd.isAgg3
  z3 := Tryd.sizeOf3
  v3 := Tryd.zeroValue3
  t4 := Tryd.underlying4
  a4 := Tryd.isAgg4
  z4 := Tryd.sizeOf4
  v4 := Tryd.zeroValue4
  t5 := Tryd.underlying5
  a5 := Tryd.isAgg5
  z5 := Tryd.sizeOf5
  v5 := Tryd.zeroValue5
  t9 := Tryd.underlying9
  a9 := Tryd.isAgg9
  z9 := Tryd.sizeOf9
  v9 := Tryd.zeroValue9
  t20 := Tryd.underlying20
  a20 := Tryd.isAgg20
  z20 := Tryd.sizeOf20
  v20 := Tryd.zeroValue20
  t37 := Tryd.underlying32
  a37 := Tryd.isAgg32
  z37 := Tryd.sizeOf32
  v37 := Tryd.zeroValue32
  t46 := Tryd.underlying49
  a46 := Tryd.isAgg49
  z46 := Tryd.sizeOf49
  v46 := Tryd.zeroValue49
  t51 := Tryd.underlying57
  a51 := Tryd.isAgg57
  z51 := Tryd.sizeOf57
  v51 := Tryd.zeroValue57
  t53 := Tryd.underlying42
  a53 := Tryd.isAgg42
  z53 := Tryd.sizeOf42
  v53 := Tryd.zeroValue42
  t171 := Tryd.underlying41
  a171 := Tryd.isAgg41
  z171 := Tryd.sizeOf41
  v171 := Tryd.zeroValue41
  t173 := Tryd.underlying45
  a173 := Tryd.isAgg45
  z173 := Tryd.sizeOf45
  v173 := Tryd.zeroValue45
  t212 := Tryd.underlying56
  a212 := Tryd.isAgg56
  z212 := Tryd.sizeOf56
  v212 := Tryd.zeroValue56
  t213 := Tryd.underlying58
  a213 := Tryd.isAgg58
  z213 := Tryd.sizeOf58
  t232 := Tryd.underlying66
  a232 := Tryd.isAgg66
  z232 := Tryd.sizeOf66
  v232 := Tryd.zeroValue66
  t233 := Tryd.underlying67
  a233 := Tryd.isAgg67
  z233 := Tryd.sizeOf67
  v233 := Tryd.zeroValue67
  g17 := by kernel_rfl
  g18 := by kernel_rfl
  g19 := by kernel_rfl
  i0 := by kernel_rfl
  i2 := by kernel_rfl
  i3 := by kernel_rfl
  i4 := by kernel_rfl
  i5 := by kernel_rfl
  i9 := by kernel_rfl
  i20 := by kernel_rfl
  i37 := by kernel_rfl
  i46 := by kernel_rfl
  i51 := by kernel_rfl
  i53 := by kernel_rfl
  i171 := by kernel_rfl
  i173 := by kernel_rfl
  i212 := by kernel_rfl
  i232 := by kernel_rfl
  i233 := by kernel_rfl
  m17 := by kernel_rfl
  m18 := by kernel_rfl
  m19 := by kernel_rfl }
open Go.RowKit Go.Sort Go.Lib in
theorem Tryd.strconv_Itoa (n : Int) (h0 : -9223372036854775808 ≤ n) (h1 : n ≤ 9223372036854775807) (w : World) (htab : Lib.TabIs Tryd.prog w "internal/strconv.uint64pow10" .u64 Lib.pow10Tab) :
    Calls Tryd.prog 11 #[.int .i64 n] w fun e w' => e = .returned (.string ⟨(Lib.itoa n).toArray⟩) ∧ ∃ k os, w' = grow (w.drewN k) os := Any.strconv_Itoa Tryd.laysM171 n h0 h1 w htab
def Tryd.laysC172_ren : Go.Shelf.Ren := ⟨fun | 172 => 12 | 244 => 14 | 245 => 15 | 247 => 17 | 279 => 18 | 280 => 19 | 281 => 20 | 282 => 21 | 287 => 26 | 316 => 27 | 171 => 11 | 205 => 28 | 321 => 34 | 322 => 35 | 243 => 13 | 246 => 16 | 283 => 22 | 284 => 23 | 285 => 24 | 286 => 25 | 129 => 30 | 317 => 29 | 318 => 31 | 319 => 32 | 320 => 33 | 337 => 36 | 338 => 37 | n => n, fun | 9 => 9 | 3 => 3 | 75 => 29 | 76 => 30 | 4 => 4 | 5 => 5 | 167 => 35 | 37 => 32 | 0 => 0 | 85 => 36 | 2 => 2 | 168 => 38 | 53 => 42 | 175 => 47 | 46 => 49 | 210 => 52 | 127 => 61 | 145 => 64 | 143 => 62 | 21 => 21 | 171 => 41 | 173 => 45 | 212 => 56 | 51 => 57 | 20 => 20 | 213 => 58 | 232 => 66 | 233 => 67 | 80 => 68 | n => n, fun | 15 => 0 | 16 => 1 | 17 => 2 | 18 => 3 | 19 => 4 | n => n⟩
theorem Tryd.laysC172 : Go.Proofs.LaysC.n172 Tryd.prog Tryd.laysC172_ren := {
  mixed := by kernel_rfl
  f129 := Tryd.func30.trans (congrArg some (by kernel_rfl))
  f171 := Tryd.func11.trans (congrArg some (by kernel_rfl))
  f172 := Tryd.func12.trans (congrArg some (by kernel_rfl))
  f205 := Tryd.func28.trans (congrArg some (by kernel_rfl))
  f243 := Tryd.func13.trans (congrArg some (by kernel_rfl))
  f244 := Tryd.func14.trans (congrArg some (by kernel_rfl))
  f245 := Tryd.func15.trans (congrArg some (by kernel_rfl))
  f246 := Tryd.func16.trans (congrArg some (by kernel_rfl))
  f247 := Tryd.func17.trans (congrArg some (by kernel_rfl))
  f279 := Tryd.func18.trans (congrArg some (by kernel_rfl))
  f280 := Tryd.func19.trans (congrArg some (by kernel_rfl))
  f281 := Tryd.func20.trans (congrArg some (by kernel_rfl))
  f282 := Tryd.func21.trans (congrArg some (by kernel_rfl))
  f283 := Tryd.func22.trans (congrArg some (by kernel_rfl))
  f284 := Tryd.func23.trans (congrArg some (by kernel_rfl))
  f285 := Tryd.func24.trans (congrArg some (by kernel_rfl))
  f286 := Tryd.func25.trans (congrArg some (by kernel_rfl))
  f287 := Tryd.func26.trans (congrArg some (by kernel_rfl))
  f316 := Tryd.func27.trans (congrArg some (by kernel_rfl))
  f317 := Tryd.func29.trans (congrArg some (by kernel_rfl))
  f318 := Tryd.func31.trans (congrArg some (by kernel_rfl))
  f319 := Tryd.func32.trans (congrArg some (by kernel_rfl))
  f320 := Tryd.func33.trans (congrArg some (by kernel_rfl))
  f321 := Tryd.func34.trans (congrArg some (by kernel_rfl))
  f322 := Tryd.func35.trans (congrArg some (by kernel_rfl))
  f337 := Tryd.func36.trans (congrArg some (by kernel_rfl))
  f338 := Tryd.func37.trans (congrArg some (by kernel_rfl))
  t0 := Tryd.underlying0
  a0 := Tryd.isAgg0
  z0 := Tryd.sizeOf0
  v0 := Tryd.zeroValue0
  t2 := Tryd.underlying2
  a2 := Tryd.isAgg2
  z2 := Tryd.sizeOf2
  v2 := Tryd.zeroValue2
  t3 := Tryd.underlying3
  a3 := Tryd.isAgg3
  z3 := Tryd.sizeOf3
  v3 := Tryd.zeroValue3
  t4 := Tryd.underlying4
  a4 := Tryd.isAgg4
  z4 := Tryd.sizeOf4
  v4 := Tryd.zeroValue4
  t5 := Tryd.underlying5
  a5 := Tryd.isAgg5
  z5 := Tryd.sizeOf5
  v5 := Tryd.zeroValue5
  t9 := Tryd.underlying9
  a9 := Tryd.isAgg9
  z9 := Tryd.sizeOf9
  v9 := Tryd.zeroValue9
  t20 := Tryd.underlying20
  a20 := Tryd.isAgg20
  z20 := Tryd.sizeOf20
  v20 := Tryd.zeroValue20
  t21 := Tryd.underlying21
  a21 := Tryd.isAgg21
  z21 := Tryd.sizeOf21
  v21 := Tryd.zeroValue21
  t37 := Tryd.underlying32
  a37 := Tryd.isAgg32
  z37 := Tryd.sizeOf32
  v37 := Tryd.zeroValue32
  t46 := Tryd.underlying49
  a46 := Tryd.isAgg49
  z46 := Tryd.sizeOf49
  v46 := Tryd.zeroValue49
  t51 := Tryd.underlying57
  a51 := Tryd.isAgg57
  z51 := Tryd.sizeOf57
  v51 := Tryd.zeroValue57
  t53 := Tryd.underlying42
  a53 := Tryd.isAgg42
  z53 := Tryd.sizeOf42
  v53 := Tryd.zeroValue42
  t75 := Tryd.underlying29
  a75 := Tryd.isAgg29
  z75 := Tryd.sizeOf29
  v75 := Tryd.zeroValue29
  t76 := Tryd.underlying30
  a76 := Tryd.isAgg30
  z76 := Tryd.sizeOf30
  v76 := Tryd.zeroValue30
  t85 := Tryd.underlying36
  a85 := Tryd.isAgg36
  z85 := Tryd.sizeOf36
  v85 := Tryd.zeroValue36
  t127 := Tryd.underlying61
  a127 := Tryd.isAgg61
  z127 := Tryd.sizeOf61
  v127 := Tryd.zeroValue61
  t143 := Tryd.underlying62
  a143 := Tryd.isAgg62
  z143 := Tryd.sizeOf62
  v143 := Tryd.zeroValue62
  t145 := Tryd.underlying64
  a145 := Tryd.isAgg64
  z145 := Tryd.sizeOf64
  v145 := Tryd.zeroValue64
  t167 := Tryd.underlying35
  a167 := Tryd.isAgg35
  z167 := Tryd.sizeOf35
  v167 := Tryd.zeroValue35
  t168 := Tryd.underlying38
  a168 := Tryd.isAgg38
  z168 := Tryd.sizeOf38
  v168 := Tryd.zeroValue38
  t171 := Tryd.underlying41
  a171 := Tryd.isAgg41
  z171 := Tryd.sizeOf41
  v171 := Tryd.zeroValue41
  t173 := Tryd.underlying45
  a173 := Tryd.isAgg45
  z173 := Tryd.sizeOf45
  v173 := Tryd.zeroValue45
  t175 := Tryd.underlying47
  a175 := Tryd.isAgg47
  z175 := Tryd.sizeOf47
  v175 := Tryd.zeroValue47
  t210 := Tryd.underlying52
  a210 := Tryd.isAgg52
  z210 := Tryd.sizeOf52
  v210 := Tryd.zeroValue52
  t212 := Tryd.underlying56
  a212 := Tryd.isAgg56
  z212 := Tryd.sizeOf56
  v212 := Tryd.zeroValue56
  t213 := Tryd.underlying58
  a213 := Tryd.isAgg58
  z213 := Tryd.sizeOf58
  t232 := Tryd.underlying66
  a232 := Tryd.isAgg66
  z232 := Tryd.sizeOf66
  v232 := Tryd.zeroValue66
  t233 := Tryd.underlying67
  a233 := Tryd.isAgg67
  z233 := Tryd.sizeOf67
  v233 := Tryd.zeroValue67
  g15 := by kernel_rfl
  g16 := by kernel_rfl
  g17 := by kernel_rfl
  g18 := by kernel_rfl
  g19 := by kernel_rfl
  t80 := Tryd.underlying68
  a80 := Tryd.isAgg68
  z80 := Tryd.sizeOf68
  v80 := Tryd.zeroValue68
  i0 := by kernel_rfl
  i2 := by kernel_rfl
  i3 := by kernel_rfl
  i4 := by kernel_rfl
  i5 := by kernel_rfl
  i9 := by kernel_rfl
  i20 := by kernel_rfl
  i21 := by kernel_rfl
  i37 := by kernel_rfl
  i46 := by kernel_rfl
  i51 := by kernel_rfl
  i53 := by kernel_rfl
  i75 := by kernel_rfl
  i76 := by kernel_rfl
  i80 := by kernel_rfl
  i85 := by kernel_rfl
  i127 := by kernel_rfl
  i143 := by kernel_rfl
  i145 := by kernel_rfl
  i167 := by kernel_rfl
  i168 := by kernel_rfl
  i171 := by kernel_rfl
  i173 := by kernel_rfl
  i175 := by kernel_rfl
  i210 := by kernel_rfl
  i212 := by kernel_rfl
  i232 := by kernel_rfl
  i233 := by kernel_rfl
  m15 := by kernel_rfl
  m16 := by kernel_rfl
  m17 := by kernel_rfl
  m18 := by kernel_rfl
  m19 := by kernel_rfl
  c0 := by kernel_rfl
  c2 := by kernel_rfl
  c3 := by kernel_rfl
  c4 := by kernel_rfl
  c5 := by kernel_rfl
  c9 := by kernel_rfl
  c20 := by kernel_rfl
  c21 := by kernel_rfl
  c37 := by kernel_rfl
  c46 := by kernel_rfl
  c51 := by kernel_rfl
  c53 := by kernel_rfl
  c75 := by kernel_rfl
  c76 := by kernel_rfl
  c80 := by kernel_rfl
  c85 := by kernel_rfl
  c127 := by kernel_rfl
  c143 := by kernel_rfl
  c145 := by kernel_rfl
  c167 := by kernel_rfl
  c168 := by kernel_rfl
  c171 := by kernel_rfl
  c173 := by kernel_rfl
  c175 := by kernel_rfl
  c210 := by kernel_rfl
  c212 := by kernel_rfl
  c213 := by kernel_rfl
  c232 := by kernel_rfl
  c233 := by kernel_rfl }
open Go.RowKit in
theorem Tryd.strconv_Atoi_ok (s : ByteArray) (hmax : s.size ≤ 9223372036854775806) (v : Int) (h : Lib.atoiAll s.data.toList = .ok v) (w : World) :
    Calls Tryd.prog 12 #[.string s] w fun e w' => e = .returned (.tuple #[.int .i64 v, .nilIface]) ∧ (w' = w ∨ ∃ t, w' = Lib.bytesWorld w 5 t) := Any.strconv_Atoi_ok Tryd.laysC172 s hmax v h w
open Go.RowKit in
theorem Tryd.strconv_Atoi_syntax_var (s : ByteArray) (hlim : s.size ≤ 281474976710656) (h : Lib.atoiAll s.data.toList = .«syntax») (tp : TypeId) (p : Value) (w : World) (hvar : w.var? Tryd.prog "strconv.ErrSyntax" = some #[.iface tp p]) :
    Calls Tryd.prog 12 #[.string s] w fun e w' => ∃ N, e = .returned (.tuple #[.int .i64 0, .iface 38 (.pointer (some ⟨N, 0, none⟩))]) ∧ w.heap.size ≤ N ∧ w'.heap[N]? = some (.cells #[.string ⟨#[65, 116, 111, 105]⟩, .string s, .iface tp p] 52 (0, 0)) ∧ Below w.heap.size w w' := Any.strconv_Atoi_syntax_var Tryd.laysC172 s hlim h tp p w hvar
open Go.RowKit in
theorem Tryd.strconv_Atoi_range_var (s : ByteArray) (hlim : s.size ≤ 281474976710656) (h : Lib.atoiAll s.data.toList = .range) (tp : TypeId) (p : Value) (w : World) (hvar : w.var? Tryd.prog "strconv.ErrRange" = some #[.iface tp p]) :
    Calls Tryd.prog 12 #[.string s] w fun e w' => ∃ N, e = .returned (.tuple #[.int .i64 (Lib.atoiSat s.data.toList), .iface 38 (.pointer (some ⟨N, 0, none⟩))]) ∧ w.heap.size ≤ N ∧ w'.heap[N]? = some (.cells #[.string ⟨#[65, 116, 111, 105]⟩, .string s, .iface tp p] 52 (0, 0)) ∧ Below w.heap.size w w' := Any.strconv_Atoi_range_var Tryd.laysC172 s hlim h tp p w hvar
end Go.Proofs
