/- What the program's numberUpTo answers: the number that a text of digits without needless noughts spells, up to a bound, else 0 and false. For texts of at most 2^47 bytes, under the library's table and two errors. -/
import Derived.Test.YthojijhafhnclaeDoorNumNs
import Derived.Test.YthojijhafhnclaeDoorShelf
import Derived.WalkKit
import Derived.WalkSmall
import Derived.Lib.AppendIntMem
import Derived.Lib.ItoaMem
import Derived.Lib.LaidTab
namespace Go.Proofs.YthojijhafhnclaeDoor
open Go.RowKit
set_option linter.unusedVariables false

/-- The library's table is there. -/
def TabT (w : World) : Prop := Lib.TabIs Tryd.prog w "internal/strconv.uint64pow10" .u64 Lib.pow10Tab

theorem TabT.below {w W : World} (h : TabT w) (hb : Below w.heap.size w W) : TabT W := (Lib.tabBelow_of_tabIs h) W hb

/-- The library's table and its two errors are there. -/
def StdT (w : World) : Prop :=
  Lib.TabIs Tryd.prog w "internal/strconv.uint64pow10" .u64 Lib.pow10Tab ∧ (∃ t p, w.var? Tryd.prog "strconv.ErrSyntax" = some #[.iface t p]) ∧ ∃ t p, w.var? Tryd.prog "strconv.ErrRange" = some #[.iface t p]

theorem var_stays {P : Program} {w w' : World} {n : String} {cs : Array Value} (h : w.var? P n = some cs) (hb : Below w.heap.size w w') : w'.var? P n = some cs := by
  cases hg : P.globalNamed n with
  | none => simp [World.var?, hg] at h
  | some g =>
    have hlt : g < w.heap.size := by
      cases hn : w.heap[g]? with
      | some o => exact (Array.getElem?_eq_some_iff.1 hn).1
      | none =>
        simp [World.var?, hg, hn] at h
    exact var?_below hb hg hlt h

theorem StdT.below {w W : World} (h : StdT w) (hb : Below w.heap.size w W) : StdT W := by
  obtain ⟨h1, ⟨t, p, h2⟩, t', p', h3⟩ := h
  exact ⟨(Lib.tabBelow_of_tabIs h1) W hb, ⟨t, p, var_stays h2 hb⟩, t', p', var_stays h3 hb⟩

theorem below_of_either {w w1 : World} {e : TypeId} (h : w1 = w ∨ ∃ t, w1 = Lib.bytesWorld w e t) : Below w.heap.size w w1 := by
  rcases h with rfl | ⟨t, rfl⟩
  · exact Below.refl _ _
  · exact Lib.bytesWorld_below w e t

theorem mk_toList (l : List UInt8) : (⟨l.toArray⟩ : ByteArray).toList = l := by rw [Lib.toList_data]

set_option maxHeartbeats 800000 in
theorem implUp_ok (s : ByteArray) (most : Int) (w : World) (hm : s.size ≤ 281474976710656) (hmo : most < 10000000000) (v : Int) (hv : Lib.atoiAll s.data.toList = .ok v) (hst : StdT w) :
    Calls Tryd.prog 47 #[.string s, .int .i64 most] w fun e w' => e = .returned (.tuple #[.int .i64 (upR s.data.toList most).1, .bool (upR s.data.toList most).2]) ∧ Below w.heap.size w w' := by
  have HV : Hid (Lib.atoiAll s.data.toList = .ok v) := hv
  have HT : Hid (StdT w) := hst
  have h63 : Hid (s.size ≤ 9223372036854775806) := by show _ ≤ _; omega
  clear hv hst
  have HS : Hid (s.toList = s.data.toList) := Lib.toList_data s
  by_cases h0 : v < 0
  · have HR : Hid (upR s.data.toList most = (0, false)) := upR_below HV.out (.inl h0)
    rw [HR.out]
    go_enter Tryd.func47, Tryd.ntmps47
    go_wp2_with fail
    refine (Tryd.strconv_Atoi_ok s h63.out v HV.out _).mono ?_
    rintro e w1 ⟨rfl, hw1⟩
    have HB1 : Hid (Below w.heap.size w w1) := below_of_either hw1
    clear hw1
    go_wp2_with fail
    go_ret2
    exact ⟨rfl, HB1.out⟩
  by_cases h1 : most < v
  · have HR : Hid (upR s.data.toList most = (0, false)) := upR_below HV.out (.inr h1)
    rw [HR.out]
    go_enter Tryd.func47, Tryd.ntmps47
    go_wp2_with fail
    refine (Tryd.strconv_Atoi_ok s h63.out v HV.out _).mono ?_
    rintro e w1 ⟨rfl, hw1⟩
    have HB1 : Hid (Below w.heap.size w w1) := below_of_either hw1
    clear hw1
    go_wp2_with fail
    go_ret2
    exact ⟨rfl, HB1.out⟩
  obtain ⟨u, rfl⟩ := Int.eq_ofNat_of_zero_le (show 0 ≤ v by omega)
  have HI : Hid ((⟨(Lib.itoa (u : Int)).toArray⟩ : ByteArray).toList = Lib.decDigits u) := by show _ = _; rw [mk_toList, Lib.itoa_nonneg]
  have hcase : ((⟨(Lib.itoa (u : Int)).toArray⟩ : ByteArray).toList == s.toList) = true ∧ Hid (upR s.data.toList most = ((u : Int), true)) ∨ ((⟨(Lib.itoa (u : Int)).toArray⟩ : ByteArray).toList == s.toList) = false ∧ Hid (upR s.data.toList most = (0, false)) := by
    rw [HI.out, HS.out]
    by_cases he : Lib.decDigits u = s.data.toList
    · exact .inl ⟨beq_iff_eq.2 he, upR_same hmo (by omega) (by omega) (by rw [Int.toNat_natCast]; exact he)⟩
    · exact .inr ⟨beq_eq_false_iff_ne.2 he, upR_other HV.out (by rw [Int.toNat_natCast]; exact he)⟩
  clear HS HI
  generalize hI : (⟨(Lib.itoa (u : Int)).toArray⟩ : ByteArray) = I at *
  have HI2 : Hid ((⟨(Lib.itoa (u : Int)).toArray⟩ : ByteArray) = I) := hI
  clear hI
  have hu0 : ¬ (u : Int) < 0 := h0
  have hu9 : (u : Int) ≤ 10000000000 := by omega
  rcases hcase with ⟨hb, HB⟩ | ⟨hb, HB⟩
  all_goals
    rw [HB.out]
    go_enter Tryd.func47, Tryd.ntmps47
    go_wp2_with fail
    refine (Tryd.strconv_Atoi_ok s h63.out (u : Int) HV.out _).mono ?_
    rintro e w1 ⟨rfl, hw1⟩
    have HB1 : Hid (Below w.heap.size w w1) := below_of_either hw1
    clear hw1
    have HT1 : Hid (StdT w1) := HT.out.below HB1.out
    go_wp2_with fail
    refine (Tryd.strconv_Itoa _ (by omega) (by omega) _ HT1.out.1).mono ?_
    rintro e w2 ⟨rfl, k, os, hw2⟩
    have HB2 : Hid (Below w.heap.size w w2) := by
      show Below _ _ _
      rw [hw2]
      exact HB1.out.trans ((Lib.below_grow _ _ (Nat.le_refl _) _ _).mono HB1.out.size)
    clear hw2
    rw [HI2.out]
    go_wp2_with fail
    go_ret2
    exact ⟨rfl, HB2.out⟩

set_option maxHeartbeats 400000 in
theorem implUp_nodigits (s : ByteArray) (most : Int) (w : World) (hm : s.size ≤ 281474976710656) (hv : Lib.atoiAll s.data.toList = .«syntax») (hst : StdT w) :
    Calls Tryd.prog 47 #[.string s, .int .i64 most] w fun e w' => e = .returned (.tuple #[.int .i64 (upR s.data.toList most).1, .bool (upR s.data.toList most).2]) ∧ Below w.heap.size w w' := by
  rw [upR_nothing (fun v h => by rw [hv] at h; cases h)]
  obtain ⟨_, ⟨tp, p, hvar⟩, _⟩ := hst
  have HV : Hid _ := hv
  have HT : Hid _ := hvar
  clear hv hvar
  go_enter Tryd.func47, Tryd.ntmps47
  go_wp2_with fail
  refine (Tryd.strconv_Atoi_syntax_var s hm HV.out tp p _ HT.out).mono ?_
  rintro e w1 ⟨M, rfl, _, _, hb1⟩
  have HB1 : Hid _ := hb1
  clear hb1
  go_wp2_with fail
  go_ret2
  exact ⟨rfl, HB1.out⟩

set_option maxHeartbeats 400000 in
theorem implUp_range (s : ByteArray) (most : Int) (w : World) (hm : s.size ≤ 281474976710656) (hv : Lib.atoiAll s.data.toList = .range) (hst : StdT w) :
    Calls Tryd.prog 47 #[.string s, .int .i64 most] w fun e w' => e = .returned (.tuple #[.int .i64 (upR s.data.toList most).1, .bool (upR s.data.toList most).2]) ∧ Below w.heap.size w w' := by
  rw [upR_nothing (fun v h => by rw [hv] at h; cases h)]
  obtain ⟨_, _, tp, p, hvar⟩ := hst
  have HV : Hid _ := hv
  have HT : Hid _ := hvar
  clear hv hvar
  generalize hsat : Lib.atoiSat s.data.toList = sat
  have HSat : Hid (Lib.atoiSat s.data.toList = sat) := hsat
  clear hsat
  go_enter Tryd.func47, Tryd.ntmps47
  go_wp2_with fail
  refine (Tryd.strconv_Atoi_range_var s hm HV.out tp p _ HT.out).mono ?_
  rintro e w1 ⟨M, rfl, _, _, hb1⟩
  rw [HSat.out]
  have HB1 : Hid _ := hb1
  clear hb1
  go_wp2_with fail
  go_ret2
  exact ⟨rfl, HB1.out⟩

theorem implUp_any (s : ByteArray) (most : Int) (w : World) (hm : s.size ≤ 281474976710656) (hmo : most < 10000000000) (hst : StdT w) :
    Calls Tryd.prog 47 #[.string s, .int .i64 most] w fun e w' => e = .returned (.tuple #[.int .i64 (upR s.data.toList most).1, .bool (upR s.data.toList most).2]) ∧ Below w.heap.size w w' := by
  cases h : Lib.atoiAll s.data.toList with
  | ok v => exact implUp_ok s most w hm hmo v h hst
  | «syntax» => exact implUp_nodigits s most w hm h hst
  | range => exact implUp_range s most w hm h hst

end Go.Proofs.YthojijhafhnclaeDoor
