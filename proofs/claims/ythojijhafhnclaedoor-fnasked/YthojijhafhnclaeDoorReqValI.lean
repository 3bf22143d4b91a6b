/- What the program's valuesOf and onlyValue answer: the values of the fields of a name. -/
import Derived.Test.YthojijhafhnclaeDoorFormNs
import Derived.WalkKit
namespace Go.Proofs.YthojijhafhnclaeDoor
open Go.RowKit
set_option linter.unusedVariables false

/-- The values of the fields of that name. -/
def valsF (nm : List UInt8) (xs : List Fld) : List ByteArray := (xs.filter fun f => f.1.toList == nm).map Prod.snd

def strCells (l : List ByteArray) : List Value := l.map Value.string

theorem valsF_len (nm : List UInt8) (xs : List Fld) : (valsF nm xs).length = cntF nm xs := by
  rw [valsF, List.length_map, cntF, List.countP_eq_length_filter]

theorem valsF_next {nm : List UInt8} {xs : List Fld} {k : Nat} {x y : ByteArray} (h : xs[k]? = some (x, y)) : valsF nm (xs.take (k + 1)) = valsF nm (xs.take k) ++ (if x.toList == nm then [y] else []) := by
  rw [valsF, valsF, List.take_add_one, h, List.filter_append, List.map_append]
  cases hb : x.toList == nm <;> simp [hb]

theorem valsF_one (nm : List UInt8) : ∀ xs : List Fld, cntF nm xs = 1 → valsF nm xs = [valF nm xs]
  | [], h => by cases h
  | f :: r, h => by
    by_cases hb : (f.1.toList == nm) = true
    · have h0 : cntF nm r = 0 := by
        have : cntF nm (f :: r) = cntF nm r + 1 := by simp [cntF, hb]
        omega
      have hv : valsF nm r = [] := List.eq_nil_of_length_eq_zero (by rw [valsF_len]; exact h0)
      have : valsF nm (f :: r) = f.2 :: valsF nm r := by simp [valsF, hb]
      rw [this, hv, valF, if_pos hb]
    · have h1 : cntF nm (f :: r) = cntF nm r := by simp [cntF, hb]
      have : valsF nm (f :: r) = valsF nm r := by simp [valsF, hb]
      rw [this, valF, if_neg hb]
      exact valsF_one nm r (by omega)

theorem info_str : (Tryd.prog.info? 9).map (fun i => (i.zero, i.size, i.bytes)) = some (some (.string ⟨#[]⟩), 1, 16) := by kernel_rfl

theorem strCells_len (l : List ByteArray) : (strCells l).length = l.length := List.length_map ..

theorem str_shape {w : World} {base n : Nat} {v : Value} {xs : List Value} (h : w.ownsRow base 9 1 v n xs) : ∃ a cap, v = .slice a n cap := by
  rcases h.2 with ⟨rfl, rfl⟩ | ⟨g, cap, cur, rfl, _⟩
  · exact ⟨_, _, rfl⟩
  · exact ⟨_, _, rfl⟩

set_option maxRecDepth 10000 in
set_option maxHeartbeats 800000 in
theorem implVals_any (a : Option Addr) (len cap : Nat) (xs : List Fld) (nm : ByteArray) (w : World) (hx : Flds w a len xs) (hl : len ≤ 1099511627776) :
    Calls Tryd.prog 45 #[.slice a len cap, .string nm] w fun e w' => ∃ A C, e = .returned (.slice A (cntF nm.toList xs) C) ∧ w'.ownsRow w.heap.size 9 1 (.slice A (cntF nm.toList xs) C) (cntF nm.toList xs) (strCells (valsF nm.toList xs)) ∧ Below w.heap.size w w' := by
  obtain ⟨i0, hi, hz0, hz1, hz2⟩ := info_parts info_str
  have HX : Hid (Flds w a len xs) := hx
  have HL : Hid (xs.length = len) := hx.1
  have HO0 : Hid ((w.alloc (.cells #[] 9)).ownsRow w.heap.size 9 1 (.slice (some ⟨w.heap.size, 0, none⟩) 0 0) 0 []) := World.ownsRow_lit w #[] 0 (Nat.le_refl _) (Nat.zero_le _) rfl
  have HB0 : Hid (Below w.heap.size w (w.alloc (.cells #[] 9))) := (Below.refl _ _).alloc (Nat.le_refl _) _
  clear hx
  go_enter Tryd.func45, Tryd.ntmps45
  go_wp2_with fail
  go_loopw [5, 11] (fun v i wr => ∃ k : Nat, k ≤ len ∧ i = .int .i64 (k : Int) ∧ Hid (wr.ownsRow w.heap.size 9 1 v (cntF nm.toList (xs.take k)) (strCells (valsF nm.toList (xs.take k)))) ∧ Hid (Below w.heap.size w wr)) (fun _ i _ => len - (intOf i).toNat)
  case atStart => exact ⟨0, Nat.zero_le _, rfl, HO0, HB0⟩
  case round =>
    clear HO0 HB0
    obtain ⟨k, hk, rfl, HO, HB⟩ := hrel
    by_cases hlt : k < len
    · have hki : (k : Int) < (len : Int) := by omega
      obtain ⟨b, off, x, y, rfl, hb, hkx, hp, hq⟩ := (HX.out.below HB.out).at hlt
      have HN : Hid (cntF nm.toList (xs.take (k + 1)) = cntF nm.toList (xs.take k) + (if x.toList == nm.toList then 1 else 0)) := cntF_next hkx
      have HV : Hid (strCells (valsF nm.toList (xs.take (k + 1))) = strCells (valsF nm.toList (xs.take k)) ++ (if x.toList == nm.toList then [.string y] else [])) := by
        show _ = _
        rw [valsF_next hkx, strCells, strCells, List.map_append]
        cases hb : x.toList == nm.toList <;> simp
      have hc2 : cntF nm.toList (xs.take k) ≤ len := by have := cntF_le nm.toList (xs.take k); have := HL.out; rw [List.length_take] at *; omega
      clear hkx
      generalize cntF nm.toList (xs.take k) = c at *
      generalize strCells (valsF nm.toList (xs.take k)) = cs at *
      have hsz := HB.out.size
      cases hxe : (x.toList == nm.toList)
      · rw [hxe, if_neg (by simp)] at HN HV
        have HO2 : Hid ((wr.alloc (.cells #[.string x, .string y] 38)).ownsRow w.heap.size 9 1 u5 (cntF nm.toList (xs.take (k + 1))) (strCells (valsF nm.toList (xs.take (k + 1))))) := by
          show World.ownsRow _ _ _ _ _ _ _
          rw [HN.out, HV.out, Nat.add_zero, List.append_nil]
          exact HO.out.alloc _
        have HB2 : Hid (Below w.heap.size w (wr.alloc (.cells #[.string x, .string y] 38))) := HB.out.alloc hsz _
        go_wp2_with fail
        go_roundw
        case rel => exact ⟨k + 1, by omega, by go_num, HO2, HB2⟩
        case measure => simp [intOf]; omega
      · rw [hxe, if_pos rfl] at HN HV
        have HNw : Hid (∀ j v, [Value.string y][j]? = some v → ((wr.alloc (.cells #[.string x, .string y] 38)).alloc (.cells #[.string y] 9)).cell? ((⟨wr.heap.size + 1, 0, none⟩ : Addr).add j) = some v) := by
          intro j v hj
          obtain rfl : j = 0 := by have := (List.getElem?_eq_some_iff.1 hj).1; simpa using this
          have hh := heap_alloc_new (wr.alloc (.cells #[.string x, .string y] 38)) (.cells #[.string y] 9)
          rw [World.size_alloc] at hh
          rw [Addr.add_lit, cell_of_row _ _ _ _ _ _ hh]
          simpa using hj
        have HOa : Hid (((wr.alloc (.cells #[.string x, .string y] 38)).alloc (.cells #[.string y] 9)).ownsRow w.heap.size 9 1 u5 c cs) := (HO.out.alloc _).alloc _
        have HBa : Hid (Below w.heap.size w ((wr.alloc (.cells #[.string x, .string y] 38)).alloc (.cells #[.string y] 9))) := (HB.out.alloc hsz _).alloc (by simp; omega) _
        go_wp2_with (at_builtin; refine wpList_append_own _ rfl _ _ 61 rfl w.heap.size 9 i0 (.string ⟨#[]⟩) 1 16 Tryd.underlying61 hi hz0 hz1 hz2 rfl (by decide) u5 c cs rfl HOa.out ⟨wr.heap.size + 1, 0, none⟩ 1 1 [.string y] rfl rfl HNw.out (by simp [Value.oneCell']) (by unfold maxLen; omega) (by omega) (by simp; omega) ?_; intro v2 w2 hown2 hgrow2 _; refine Hid.out ?_)
        refine hidden ?_
        have HO2 : Hid (w2.ownsRow w.heap.size 9 1 v2 (cntF nm.toList (xs.take (k + 1))) (strCells (valsF nm.toList (xs.take (k + 1))))) := by
          show World.ownsRow _ _ _ _ _ _ _
          rw [HN.out, HV.out]
          exact hown2
        have HB2 : Hid (Below w.heap.size w w2) := HBa.out.grown hgrow2 (by simp; omega) (fun q hq => (HO.out.lt q hq).1)
        clear hown2 hgrow2 HNw HOa HBa HO HB
        go_wp2_with fail
        go_roundw
        case rel => exact ⟨k + 1, by omega, by go_num, HO2, HB2⟩
        case measure => simp [intOf]; omega
    · have HE : Hid (cntF nm.toList (xs.take k) = cntF nm.toList xs) := by show _ = _; rw [List.take_of_length_le (by have := HL.out; omega)]
      have HE2 : Hid (valsF nm.toList (xs.take k) = valsF nm.toList xs) := by show _ = _; rw [List.take_of_length_le (by have := HL.out; omega)]
      have hkl : len = k := by omega
      rw [HE.out, HE2.out] at HO
      subst hkl
      obtain ⟨a', c', rfl⟩ := str_shape HO.out
      clear HE HE2
      go_wp2_with fail
      go_ret
      exact ⟨a', c', rfl, HO.out, HB.out⟩

/-- What onlyValue answers. -/
def onlyR (nm : List UInt8) (xs : List Fld) : ByteArray × Bool := if cntF nm xs = 1 then (valF nm xs, true) else (⟨#[]⟩, false)

theorem ret_sb {a b : ByteArray} {x y : Bool} (h : (a, x) = (b, y)) : Ending.returned (.tuple #[.string a, .bool x]) = .returned (.tuple #[.string b, .bool y]) := by injection h with h1 h2; rw [h1, h2]

set_option maxRecDepth 10000 in
set_option maxHeartbeats 800000 in
theorem implOnly_any (a : Option Addr) (len cap : Nat) (xs : List Fld) (nm : ByteArray) (w : World) (hx : Flds w a len xs) (hl : len ≤ 1099511627776) :
    Calls Tryd.prog 20 #[.slice a len cap, .string nm] w fun e w' => e = .returned (.tuple #[.string (onlyR nm.toList xs).1, .bool (onlyR nm.toList xs).2]) ∧ Below w.heap.size w w' := by
  have HC : Hid (cntF nm.toList xs ≤ len) := by have := cntF_le nm.toList xs; rw [hx.1] at this; exact this
  have HV : Hid (cntF nm.toList xs = 1 → valsF nm.toList xs = [valF nm.toList xs]) := valsF_one nm.toList xs
  have HR : Hid (onlyR nm.toList xs = if cntF nm.toList xs = 1 then (valF nm.toList xs, true) else (⟨#[]⟩, false)) := rfl
  go_enter Tryd.func20, Tryd.ntmps20
  go_wp2_with fail
  refine (implVals_any a len cap xs nm w hx hl).mono ?_
  rintro e w1 ⟨A, C, rfl, hown, hb1⟩
  have HB1 : Hid (Below w.heap.size w w1) := hb1
  clear hb1 hx
  have hc := HC.out
  clear HC
  generalize cntF nm.toList xs = c at *
  by_cases h1 : c = 1
  · subst h1
    rw [HV.out rfl] at hown
    rw [if_pos rfl] at HR
    obtain ⟨g, off, hA, hcell⟩ : ∃ g off, A = some ⟨g, off, none⟩ ∧ w1.cell? ⟨g, off, none⟩ = some (.string (valF nm.toList xs)) := by
      rcases hown.2 with ⟨h, _⟩ | ⟨g, cap', cur, h, _⟩
      · cases h
      · injection h with h1 h2 h3
        exact ⟨g, 0, h1, by subst h1; exact hown.cellAt 0 (by omega)⟩
    subst hA
    clear hown HV
    go_wp2_with fail
    go_ret2
    exact ⟨ret_sb (by rw [HR.out]), HB1.out⟩
  · have hci : ((c : Int) == 1) = false := by simp; omega
    have hcn : ((c : Int) != 1) = true := by simp; omega
    rw [if_neg h1] at HR
    clear hown HV
    go_wp2_with fail
    go_ret2
    exact ⟨ret_sb (by rw [HR.out]), HB1.out⟩

end Go.Proofs.YthojijhafhnclaeDoor
