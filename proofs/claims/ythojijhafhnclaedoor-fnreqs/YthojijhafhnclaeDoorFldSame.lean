/- What the library's Equal answers of fields: whether they are the same. -/
import Derived.Test.YthojijhafhnclaeDoorTabs
import Derived.Test.YthojijhafhnclaeDoorOwn
import Derived.Test.YthojijhafhnclaeDoorQuietB
import Derived.Lib.Strings
import Derived.WalkKit
namespace Go.Proofs.YthojijhafhnclaeDoor
open Go.RowKit
set_option linter.unusedVariables false

noncomputable def sameL (xs ys : List Fld) : Bool := @decide (xs = ys) (Classical.propDecidable _)

theorem sameL_yes {xs ys : List Fld} (h : xs = ys) : sameL xs ys = true := by simp [sameL, h]
theorem sameL_no {xs ys : List Fld} (h : xs ≠ ys) : sameL xs ys = false := by simp [sameL, h]

theorem ret_bS {a b : Bool} (h : a = b) : Ending.returned (.bool a) = .returned (.bool b) := by rw [h]

theorem bytes_same {x y : ByteArray} (h : (x.toList == y.toList) = true) : x = y := by
  rw [beq_iff_eq, Lib.toList_data, Lib.toList_data] at h
  cases x
  cases y
  simp only [ByteArray.mk.injEq]
  exact Array.ext' h

theorem take_same {xs ys : List Fld} {k : Nat} (h : xs.take k = ys.take k) {f : Fld} (h1 : xs[k]? = some f) (h2 : ys[k]? = some f) : xs.take (k + 1) = ys.take (k + 1) := by
  rw [List.take_add_one, List.take_add_one, h, h1, h2]

set_option maxRecDepth 10000 in
set_option maxHeartbeats 800000 in
theorem implEqual_any (a b : Option Addr) (n m c d : Nat) (xs ys : List Fld) (w : World) (hx : Flds w a n xs) (hy : Flds w b m ys) (hn : n ≤ 1099511627776) (hm : m ≤ 1099511627776) :
    Calls Tryd.prog 25 #[.slice a n c, .slice b m d] w fun e w' => e = .returned (.bool (sameL xs ys)) ∧ Below w.heap.size w w' := by
  have HX : Hid (Flds w a n xs) := hx
  have HY : Hid (Flds w b m ys) := hy
  have HL : Hid (xs.length = n ∧ ys.length = m) := ⟨hx.1, hy.1⟩
  clear hx hy
  by_cases hnm : n = m
  case neg =>
    have HF : Hid (sameL xs ys = false) := sameL_no fun h => hnm (by rw [← HL.out.1, ← HL.out.2, h])
    have h1 : ((n : Int) == (m : Int)) = false := by simp; omega
    have h2 : ((n : Int) != (m : Int)) = true := by simp; omega
    go_enter Tryd.func25, Tryd.ntmps25
    go_wp2_with fail
    go_ret
    exact ⟨ret_bS HF.out.symm, Below.refl _ _⟩
  subst hnm
  have h2 : ((n : Int) != (n : Int)) = false := by simp
  have h1 : ((n : Int) == (n : Int)) = true := by simp
  go_enter Tryd.func25, Tryd.ntmps25
  go_wp2_with fail
  go_loopw [13] (fun i wr => ∃ k : Nat, k ≤ n ∧ i = .int .i64 (k : Int) ∧ Hid (Below w.heap.size w wr) ∧ Hid (xs.take k = ys.take k)) (fun i _ => n - (intOf i).toNat)
  case atStart => exact ⟨0, Nat.zero_le _, rfl, Below.refl _ _, rfl⟩
  case round =>
    obtain ⟨k, hk, rfl, HB, HN⟩ := hrel
    by_cases hlt : k < n
    · have hki : (k : Int) < (n : Int) := by omega
      have hk0 : (0 : Int) ≤ (k : Int) := by omega
      obtain ⟨p, po, x, y, rfl, hb, hkx, hp, hq⟩ := (HX.out.below HB.out).at hlt
      obtain ⟨q, qo, x', y', rfl, hb', hky, hp', hq'⟩ := (HY.out.below HB.out).at hlt
      have HK : Hid (xs[k]? = some (x, y) ∧ ys[k]? = some (x', y')) := ⟨hkx, hky⟩
      clear hkx hky
      have x1 : ∀ P : Past wr, P.world.cell? ⟨p, po + k * 2, none⟩ = some (.string x) := fun P => P.cell hb hp
      have x2 : ∀ P : Past wr, P.world.cell? ⟨p, po + k * 2 + 1, none⟩ = some (.string y) := fun P => P.cell hb hq
      have x3 : ∀ P : Past wr, P.world.cell? ⟨q, qo + k * 2, none⟩ = some (.string x') := fun P => P.cell hb' hp'
      have x4 : ∀ P : Past wr, P.world.cell? ⟨q, qo + k * 2 + 1, none⟩ = some (.string y') := fun P => P.cell hb' hq'
      have hne := past_some wr
      clear hp hq hp' hq' hb hb'
      cases hxe : (x.toList == x'.toList)
      case false =>
        have HF : Hid (sameL xs ys = false) := sameL_no fun h => by
          have e1 := HK.out.1
          rw [h, HK.out.2] at e1
          injection e1 with e1
          injection e1 with e1 _
          rw [e1] at hxe
          simp at hxe
        go_wp2_with fail
        refine wp_region_past (by kernel_rfl) (by kernel_rfl) ?_
        repeat (quiet_step (fail))
        refine wpQuiet_nil ?_
        rintro _ ⟨z, rfl⟩
        have HZ : Hid (Below w.heap.size w z.world) := HB.out.trans (z.below.mono HB.out.size)
        go_wp2_with fail
        go_ret
        exact ⟨ret_bS HF.out.symm, HZ.out⟩
      cases hye : (y.toList == y'.toList)
      case false =>
        have HF : Hid (sameL xs ys = false) := sameL_no fun h => by
          have e1 := HK.out.1
          rw [h, HK.out.2] at e1
          injection e1 with e1
          injection e1 with _ e1
          rw [e1] at hye
          simp at hye
        go_wp2_with fail
        refine wp_region_past (by kernel_rfl) (by kernel_rfl) ?_
        repeat (quiet_step (fail))
        refine wpQuiet_nil ?_
        rintro _ ⟨z, rfl⟩
        have HZ : Hid (Below w.heap.size w z.world) := HB.out.trans (z.below.mono HB.out.size)
        go_wp2_with fail
        go_ret
        exact ⟨ret_bS HF.out.symm, HZ.out⟩
      case true =>
        have HN2 : Hid (xs.take (k + 1) = ys.take (k + 1)) := take_same HN.out HK.out.1 (by rw [HK.out.2, bytes_same hxe, bytes_same hye])
        clear HN
        go_wp2_with fail
        refine wp_region_past (by kernel_rfl) (by kernel_rfl) ?_
        repeat (quiet_step (fail))
        refine wpQuiet_nil ?_
        rintro _ ⟨z, rfl⟩
        have HZ : Hid (Below w.heap.size w z.world) := HB.out.trans (z.below.mono HB.out.size)
        go_wp2_with fail
        go_roundw
        case rel => exact ⟨k + 1, by omega, by go_num, HZ, HN2⟩
        case measure => simp [intOf]; omega
    · have HF : Hid (sameL xs ys = true) := sameL_yes (by
        have h := HN.out
        rw [List.take_of_length_le (by have := HL.out; omega), List.take_of_length_le (by have := HL.out; omega)] at h
        exact h)
      have hkn : n = k := by omega
      clear HN
      subst hkn
      go_wp2_with fail
      go_ret
      exact ⟨ret_bS HF.out.symm, HB.out⟩

end Go.Proofs.YthojijhafhnclaeDoor
