/- What the program's numberFor answers: the number that a request of an op needs. -/
import Derived.Test.YthojijhafhnclaeDoorReqTabI
import Derived.Test.YthojijhafhnclaeDoorReqValI
import Derived.Test.YthojijhafhnclaeDoorNumUp
namespace Go.Proofs.YthojijhafhnclaeDoor
open Go.RowKit
set_option linter.unusedVariables false

/-- What numberFor answers. -/
noncomputable def numForR (k : Nat) (xs : List Fld) : Int × Bool := if cntF (nameT (k : Int)).toList xs = 1 then upR (valF (nameT (k : Int)).toList xs).data.toList (mostT k) else (0, false)

theorem mostT_lt (k : Nat) : mostT k < 10000000000 := by
  unfold mostT
  repeat' split
  all_goals omega

set_option maxRecDepth 10000 in
set_option maxHeartbeats 800000 in
theorem implNumFor_any (k : Nat) (hk6 : k ≤ 6) (a : Option Addr) (len cap : Nat) (xs : List Fld) (w : World) (hx : Flds w a len xs) (hl : len ≤ 1099511627776) (hv : (valF (nameT (k : Int)).toList xs).size ≤ 281474976710656) (ht : MethT w) (hs : StdT w) :
    Calls Tryd.prog 23 #[.int .i64 (k : Int), .slice a len cap] w fun e w' => e = .returned (.tuple #[.int .i64 (numForR k xs).1, .bool (numForR k xs).2]) ∧ Below w.heap.size w w' := by
  have HX : Hid (Flds w a len xs) := hx
  have HS : Hid (StdT w) := hs
  have HV : Hid ((valF (nameT (k : Int)).toList xs).size ≤ 281474976710656) := hv
  have HR : Hid (numForR k xs = if cntF (nameT (k : Int)).toList xs = 1 then upR (valF (nameT (k : Int)).toList xs).data.toList (mostT k) else (0, false)) := rfl
  have HM : Hid (mostT k < 10000000000) := mostT_lt k
  obtain ⟨c0, c1, c2⟩ := ht.2 k hk6
  have hk0 : (0 : Int) ≤ (k : Int) := by omega
  have hk7 : (k : Int) < 7 := by omega
  generalize nameT (k : Int) = nt at *
  generalize methT (k : Int) = mt at *
  generalize mostT k = mo at *
  clear hx hs ht hv
  have HB1 : Hid (Below w.heap.size w (w.alloc (.cells #[.string mt, .string nt, .int .i64 mo] 47))) := (Below.refl _ _).alloc (Nat.le_refl _) _
  have HX1 : Hid (Box3 (w.alloc (.cells #[.string mt, .string nt, .int .i64 mo] 47)) w.heap.size 47 (.string mt) (.string nt) (.int .i64 mo)) := Box3.new _ _ _ _ _
  go_enter Tryd.func23, Tryd.ntmps23
  go_wp2_with fail
  obtain ⟨w1, hw1⟩ : ∃ w1, w.alloc (.cells #[.string mt, .string nt, .int .i64 mo] 47) = w1 := ⟨_, rfl⟩
  rw [hw1] at HB1 HX1 ⊢
  clear hw1 c0 c1 c2
  refine (implOnly_any a len cap xs nt w1 (HX.out.below HB1.out) hl).mono ?_
  rintro e w2 ⟨rfl, hb2⟩
  have HX2 := (show Hid (Box3 w2 w.heap.size 47 (.string mt) (.string nt) (.int .i64 mo)) from HX1.out.stays hb2)
  have HB2 : Hid (Below w.heap.size w w2) := HB1.out.trans (hb2.mono HB1.out.size)
  have HS2 : Hid (StdT w2) := HS.out.below HB2.out
  clear hb2 HX1 HB1
  obtain ⟨c0, c1, c2⟩ := HX2.out.cells
  have HO : Hid (onlyR nt.toList xs = if cntF nt.toList xs = 1 then (valF nt.toList xs, true) else (⟨#[]⟩, false)) := rfl
  by_cases h1 : cntF nt.toList xs = 1
  · rw [if_pos h1] at HR HO
    rw [HO.out]
    clear h1 HO
    generalize valF nt.toList xs = vv at *
    go_wp2_with fail
    refine (implUp_any vv mo _ HV.out HM.out HS2.out).mono ?_
    rintro e w3 ⟨rfl, hb3⟩
    have HB3 : Hid (Below w.heap.size w w3) := HB2.out.trans (hb3.mono HB2.out.size)
    clear hb3 c0 c1 c2
    go_wp2_with fail
    go_ret2
    exact ⟨ret_pair (by rw [HR.out]) (by rw [HR.out]), HB3.out⟩
  · rw [if_neg h1] at HR HO
    rw [HO.out]
    clear h1 HO
    go_wp2_with fail
    go_ret2
    exact ⟨ret_pair (by rw [HR.out]) (by rw [HR.out]), HB2.out⟩

end Go.Proofs.YthojijhafhnclaeDoor
