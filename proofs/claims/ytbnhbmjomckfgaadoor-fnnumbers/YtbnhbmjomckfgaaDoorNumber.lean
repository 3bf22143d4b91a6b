/- What the program's Number answers: the number that a text of digits without needless noughts spells, up to 10^9, else 0 and false. For texts of at most 2^47 bytes. -/
import Derived.Test.YtbnhbmjomckfgaaDoorText
import Derived.Test.YtbnhbmjomckfgaaDoorNumNums
namespace Go.Proofs.YtbnhbmjomckfgaaDoor
open Go.RowKit
set_option linter.unusedVariables false

theorem ret_pair {a b : Int} {x y : Bool} (h : a = b) (k : x = y) : Ending.returned (.tuple #[.int .i64 a, .bool x]) = .returned (.tuple #[.int .i64 b, .bool y]) := by rw [h, k]

theorem numR_bad (l : List UInt8) (h : ¬ Good l) : numR l = (0, false) := by rw [numR, if_neg h]
theorem numR_good (l : List UInt8) (h : Good l) : numR l = ((val l : Int), true) := by rw [numR, if_pos h]

theorem good_of_txt (l : List UInt8) (v : Int) (h : Lib.atoiAll l = .ok v) (ht : txt v = l) : Good l ∧ v = (val l : Int) := by
  unfold txt at ht
  split at ht
  · rename_i hv
    have hg : Good l := (good_iff l).2 ⟨v.toNat, by omega, ht.symm⟩
    refine ⟨hg, ?_⟩
    rw [← ht, (val_of_digits v.toNat).2.1]
    omega
  · subst ht
    simp [Lib.atoiAll] at h

theorem txt_of_good (l : List UInt8) (h : Good l) : Lib.atoiAll l = .ok (val l : Int) ∧ txt (val l : Int) = l := by
  obtain ⟨u, hu, rfl⟩ := (good_iff l).1 h
  rw [(val_of_digits u).2.1]
  refine ⟨atoi_of_digits u hu, ?_⟩
  rw [txt, if_pos ⟨by omega, by omega⟩, Int.toNat_natCast]

theorem below_of_either {w w1 : World} {e : TypeId} (h : w1 = w ∨ ∃ t, w1 = Lib.bytesWorld w e t) : Below w.heap.size w w1 := by
  rcases h with rfl | ⟨t, rfl⟩
  · exact Below.refl _ _
  · exact Lib.bytesWorld_below _ _ _

theorem mk_toList (l : List UInt8) : (⟨l.toArray⟩ : ByteArray).toList = l := by rw [Lib.toList_data]

set_option maxHeartbeats 400000 in
theorem implNum_ok (s : ByteArray) (w : World) (hm : s.size ≤ 281474976710656) (v : Int) (hv : Lib.atoiAll s.data.toList = .ok v)
    (htab : Lib.TabIs Tryd.prog w "internal/strconv.uint64pow10" .u64 Lib.pow10Tab) :
    Calls Tryd.prog 10 #[.string s] w fun e w' => e = .returned (.tuple #[.int .i64 (numR s.data.toList).1, .bool (numR s.data.toList).2]) ∧ Below w.heap.size w w' := by
  have HV : Hid _ := hv
  have HT : Hid _ := htab
  have h63 : Hid (s.size ≤ 9223372036854775806) := by show _ ≤ _; omega
  clear hv htab
  generalize hR : numR s.data.toList = R
  have HR : Hid (numR s.data.toList = R) := hR
  clear hR
  generalize hI : (⟨(txt v).toArray⟩ : ByteArray) = I
  have HI : Hid ((⟨(txt v).toArray⟩ : ByteArray) = I) := hI
  clear hI
  have HE : Hid (I.toList = txt v) := by show _ = _; rw [← HI.out, mk_toList]
  have HS : Hid (s.toList = s.data.toList) := Lib.toList_data s
  have hcase : (I.toList == s.toList) = true ∧ Hid (R = (v, true)) ∨ (I.toList == s.toList) = false ∧ Hid (R = (0, false)) := by
    by_cases he : I.toList = s.toList
    · refine .inl ⟨beq_iff_eq.2 he, ?_⟩
      obtain ⟨hg, hvv⟩ := good_of_txt s.data.toList v HV.out (by rw [← HE.out, he, HS.out])
      show R = _
      rw [← HR.out, numR_good _ hg, hvv]
    · refine .inr ⟨beq_eq_false_iff_ne.2 he, ?_⟩
      show R = _
      rw [← HR.out]
      refine numR_bad _ (fun hg => he ?_)
      obtain ⟨h1, h2⟩ := txt_of_good _ hg
      have e : Lib.NumEnd.ok v = Lib.NumEnd.ok (val s.data.toList : Int) := HV.out.symm.trans h1
      injection e with e
      rw [HE.out, HS.out, e, h2]
  clear HE HS
  rcases hcase with ⟨hb, HB⟩ | ⟨hb, HB⟩
  all_goals
    go_enter Tryd.func10, Tryd.ntmps10
    go_wp2_with fail
    refine (Tryd.strconv_Atoi_ok s h63.out v HV.out _).mono ?_
    rintro e w1 ⟨rfl, hw1⟩
    have HB1 : Hid (Below w.heap.size w w1) := below_of_either hw1
    clear hw1
    have HT1 : Hid _ := (Lib.tabBelow_of_tabIs HT.out) w1 HB1.out
    go_wp2_with fail
    refine (implText_any v _ HT1.out).mono ?_
    rintro e w2 ⟨rfl, hb2⟩
    rw [HI.out]
    have HB2 : Hid (Below w.heap.size w w2) := HB1.out.trans (hb2.mono HB1.out.size)
    clear hb2
    go_wp2
    go_ret2
    exact ⟨ret_pair (by rw [HB.out]) (by rw [HB.out]), HB2.out⟩

theorem bad_of_not_ok (l : List UInt8) (h : ∀ v, Lib.atoiAll l ≠ .ok v) : numR l = (0, false) := numR_bad _ (fun hg => h _ (txt_of_good _ hg).1)

set_option maxHeartbeats 400000 in
theorem implNum_nodigits (s : ByteArray) (w : World) (hm : s.size ≤ 281474976710656) (hv : Lib.atoiAll s.data.toList = .«syntax») (tp : TypeId) (p : Value)
    (hvar : w.var? Tryd.prog "strconv.ErrSyntax" = some #[.iface tp p]) :
    Calls Tryd.prog 10 #[.string s] w fun e w' => e = .returned (.tuple #[.int .i64 (numR s.data.toList).1, .bool (numR s.data.toList).2]) ∧ Below w.heap.size w w' := by
  rw [bad_of_not_ok _ (fun v h => by rw [hv] at h; cases h)]
  have HV : Hid _ := hv
  have HT : Hid _ := hvar
  clear hv hvar
  go_enter Tryd.func10, Tryd.ntmps10
  go_wp2_with fail
  refine (Tryd.strconv_Atoi_syntax_var s hm HV.out tp p _ HT.out).mono ?_
  rintro e w1 ⟨M, rfl, _, _, hb1⟩
  have HB1 : Hid _ := hb1
  clear hb1
  go_wp2_with fail
  go_ret2
  exact ⟨rfl, HB1.out⟩

set_option maxHeartbeats 400000 in
theorem implNum_range (s : ByteArray) (w : World) (hm : s.size ≤ 281474976710656) (hv : Lib.atoiAll s.data.toList = .range) (tp : TypeId) (p : Value)
    (hvar : w.var? Tryd.prog "strconv.ErrRange" = some #[.iface tp p]) :
    Calls Tryd.prog 10 #[.string s] w fun e w' => e = .returned (.tuple #[.int .i64 (numR s.data.toList).1, .bool (numR s.data.toList).2]) ∧ Below w.heap.size w w' := by
  rw [bad_of_not_ok _ (fun v h => by rw [hv] at h; cases h)]
  have HV : Hid _ := hv
  have HT : Hid _ := hvar
  clear hv hvar
  generalize hsat : Lib.atoiSat s.data.toList = sat
  have HSat : Hid (Lib.atoiSat s.data.toList = sat) := hsat
  clear hsat
  go_enter Tryd.func10, Tryd.ntmps10
  go_wp2_with fail
  refine (Tryd.strconv_Atoi_range_var s hm HV.out tp p _ HT.out).mono ?_
  rintro e w1 ⟨M, rfl, _, _, hb1⟩
  rw [HSat.out]
  have HB1 : Hid _ := hb1
  clear hb1
  go_wp2_with fail
  go_ret2
  exact ⟨rfl, HB1.out⟩

theorem implNum_any (s : ByteArray) (w : World) (hm : s.size ≤ 281474976710656)
    (htab : Lib.TabIs Tryd.prog w "internal/strconv.uint64pow10" .u64 Lib.pow10Tab)
    (ts : TypeId) (ps : Value) (hs : w.var? Tryd.prog "strconv.ErrSyntax" = some #[.iface ts ps]) (tr : TypeId) (pr : Value) (hr : w.var? Tryd.prog "strconv.ErrRange" = some #[.iface tr pr]) :
    Calls Tryd.prog 10 #[.string s] w fun e w' => e = .returned (.tuple #[.int .i64 (numR s.data.toList).1, .bool (numR s.data.toList).2]) ∧ Below w.heap.size w w' := by
  cases h : Lib.atoiAll s.data.toList with
  | ok v => exact implNum_ok s w hm v h htab
  | «syntax» => exact implNum_nodigits s w hm h ts ps hs
  | range => exact implNum_range s w hm h tr pr hr

end Go.Proofs.YtbnhbmjomckfgaaDoor
