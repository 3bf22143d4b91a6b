/- What the specification's l11Count and l11Value answer: how many fields bear a name, and the value of the first. -/
import Derived.Test.YthojijhafhnclaeDoorFormNs
namespace Go.Proofs.YthojijhafhnclaeDoor
open Go.RowKit
set_option linter.unusedVariables false

set_option maxRecDepth 10000 in
set_option maxHeartbeats 800000 in
theorem specCount_any (a : Option Addr) (len cap : Nat) (xs : List Fld) (nm : ByteArray) (w : World) (hx : Flds w a len xs) (hl : len ≤ 1099511627776) :
    Calls Tryd.prog 38 #[.slice a len cap, .string nm] w fun e w' => e = .returned (.int .i64 (cntF nm.toList xs : Nat)) ∧ w' = w := by
  have HX : Hid (Flds w a len xs) := hx
  have HL : Hid (xs.length = len) := hx.1
  clear hx
  go_enter Tryd.func38, Tryd.ntmps38
  go_wp2_with fail
  go_loop [5, 6] (fun n i => ∃ k : Nat, k ≤ len ∧ i = .int .i64 k ∧ n = .int .i64 (cntF nm.toList (xs.take k) : Nat)) (fun _ i => len - (intOf i).toNat)
  case atStart => exact ⟨0, Nat.zero_le _, rfl, rfl⟩
  case round =>
    obtain ⟨k, hk, rfl, rfl⟩ := hrel
    have hc := cntF_le nm.toList (xs.take k)
    have hc2 : cntF nm.toList (xs.take k) ≤ len := by have := HL.out; rw [List.length_take] at hc; omega
    clear hc
    by_cases hlt : k < len
    · have hki : (k : Int) < (len : Int) := by omega
      obtain ⟨b, off, x, y, rfl, hb, hkx, hp, hq⟩ := HX.out.at hlt
      have HN : Hid (cntF nm.toList (xs.take (k + 1)) = cntF nm.toList (xs.take k) + (if x.toList == nm.toList then 1 else 0)) := cntF_next hkx
      clear hkx
      generalize cntF nm.toList (xs.take k) = c at *
      cases hxe : (x.toList == nm.toList)
      all_goals
        rw [hxe] at HN
        go_wp2_with fail
        go_round
        case rel => exact ⟨k + 1, by omega, by go_num, by rw [HN.out]; first | rfl | go_num⟩
        case measure => simp [intOf]; omega
    · have HE : Hid (cntF nm.toList (xs.take k) = cntF nm.toList xs) := by show _ = _; rw [List.take_of_length_le (by have := HL.out; omega)]
      have hkl : len = k := by omega
      rw [HE.out]
      rw [HE.out] at hc2
      subst hkl
      go_wp2_with fail
      go_ret
      exact ⟨rfl, rfl⟩

set_option maxRecDepth 10000 in
set_option maxHeartbeats 800000 in
theorem specValue_any (a : Option Addr) (len cap : Nat) (xs : List Fld) (nm : ByteArray) (w : World) (hx : Flds w a len xs) (hl : len ≤ 1099511627776) :
    Calls Tryd.prog 33 #[.slice a len cap, .string nm] w fun e w' => e = .returned (.string (valF nm.toList xs)) ∧ w' = w := by
  have HX : Hid (Flds w a len xs) := hx
  have HL : Hid (xs.length = len) := hx.1
  clear hx
  go_enter Tryd.func33, Tryd.ntmps33
  go_wp2_with fail
  go_loop [5] (fun i => ∃ k : Nat, k ≤ len ∧ i = .int .i64 k ∧ Hid (∀ j x' y', j < k → xs[j]? = some (x', y') → (x'.toList == nm.toList) = false)) (fun i => len - (intOf i).toNat)
  case atStart => exact ⟨0, Nat.zero_le _, rfl, fun j _ _ hj => absurd hj (Nat.not_lt_zero _)⟩
  case round =>
    obtain ⟨k, hk, rfl, HN⟩ := hrel
    by_cases hlt : k < len
    · have hki : (k : Int) < (len : Int) := by omega
      obtain ⟨b, off, x, y, rfl, hb, hkx, hp, hq⟩ := HX.out.at hlt
      have HK : Hid (xs[k]? = some (x, y)) := hkx
      clear hkx
      cases hxe : (x.toList == nm.toList)
      · have HN2 : Hid (∀ j x' y', j < k + 1 → xs[j]? = some (x', y') → (x'.toList == nm.toList) = false) := fun j x' y' hj hjx => by
          by_cases e : j = k
          · subst e
            rw [HK.out] at hjx
            injection hjx with hjx
            injection hjx with e1 e2
            rw [← e1]
            exact hxe
          · exact HN.out j x' y' (by omega) hjx
        clear HN
        go_wp2_with fail
        go_round
        case rel => exact ⟨k + 1, by omega, by go_num, HN2⟩
        case measure => simp [intOf]; omega
      · have HV : Hid (valF nm.toList xs = y) := valF_some HK.out hxe HN.out
        clear HN
        go_wp2_with fail
        go_ret
        exact ⟨by rw [HV.out]; rfl, rfl⟩
    · have HV : Hid (valF nm.toList xs = ⟨#[]⟩) := valF_none fun j x' y' hjx => HN.out j x' y' (by have := (List.getElem?_eq_some_iff.1 hjx).1; have := HL.out; omega) hjx
      have hkl : len = k := by omega
      clear HN
      subst hkl
      go_wp2_with fail
      go_ret
      exact ⟨by rw [HV.out]; rfl, rfl⟩

end Go.Proofs.YthojijhafhnclaeDoor
