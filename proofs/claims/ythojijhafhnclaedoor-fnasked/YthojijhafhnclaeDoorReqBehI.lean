/- What the program's headBehindOthers answers: whether a name with a colon stands behind one without. -/
import Derived.Test.YthojijhafhnclaeDoorFormNs
import Derived.Test.YthojijhafhnclaeDoorHeadIs
namespace Go.Proofs.YthojijhafhnclaeDoor
open Go.RowKit
set_option linter.unusedVariables false

noncomputable def behB (xs : List Fld) : Bool := @decide (behP xs) (Classical.propDecidable _)

theorem behB_true {xs : List Fld} (h : behP xs) : behB xs = true := by simp [behB, h]
theorem behB_false {xs : List Fld} (h : ¬ behP xs) : behB xs = false := by simp [behB, h]

set_option maxRecDepth 10000 in
set_option maxHeartbeats 1600000 in
theorem implBeh_any (a : Option Addr) (len cap : Nat) (xs : List Fld) (w : World) (hx : Flds w a len xs) (hl : len ≤ 1099511627776) :
    Calls Tryd.prog 44 #[.slice a len cap] w fun e w' => e = .returned (.bool (behB xs)) ∧ Below w.heap.size w w' := by
  have HX : Hid (Flds w a len xs) := hx
  have HL : Hid (xs.length = len) := hx.1
  clear hx
  go_enter Tryd.func44, Tryd.ntmps44
  go_wp2_with fail
  go_loopw [3] (fun v wr => ∃ k : Nat, (k + 1 ≤ len ∨ k = 0) ∧ v = .int .i64 ((k : Int) + 1) ∧ Hid (Below w.heap.size w wr) ∧ Hid (∀ (i : Nat) (x y x' y' : ByteArray), i < k → xs[i]? = some (x, y) → xs[i + 1]? = some (x', y') → ¬ (colB x.toList = false ∧ colB x'.toList = true))) (fun v _ => len - (intOf v).toNat)
  case atStart => exact ⟨0, .inr rfl, rfl, Below.refl _ _, fun i _ _ _ _ hi => absurd hi (Nat.not_lt_zero _)⟩
  case round =>
    obtain ⟨k, hk, rfl, HB, HN⟩ := hrel
    by_cases hlt : k + 1 < len
    · have hki : (k : Int) + 1 < (len : Int) := by omega
      obtain ⟨b, off, x', y', rfl, hb, hkx', hp', hq'⟩ := (HX.out.below HB.out).at hlt
      obtain ⟨b2, off2, x, y, he, hb2, hkx, hp, hq⟩ := (HX.out.below HB.out).at (k := k) (by omega)
      injection he with he
      injection he with he1 he2 he3
      subst he1
      subst he2
      have HK : Hid (xs[k]? = some (x, y) ∧ xs[k + 1]? = some (x', y')) := ⟨hkx, hkx'⟩
      have hxm := (HX.out.2.1 (x, y) (List.mem_of_getElem? hkx)).1
      have hxm' := (HX.out.2.1 (x', y') (List.mem_of_getElem? hkx')).1
      unfold maxLen at hxm hxm'
      dsimp only at hxm hxm'
      have HO1 : Hid (∀ W : World, Calls Tryd.prog 54 #[.agg #[.string x', .string y']] W fun e w' => e = .returned (.bool (colB x'.toList)) ∧ Below W.heap.size W w') := fun W => implOfHead_any x' y' W (by omega)
      have HO2 : Hid (∀ W : World, Calls Tryd.prog 54 #[.agg #[.string x, .string y]] W fun e w' => e = .returned (.bool (colB x.toList)) ∧ Below W.heap.size W w') := fun W => implOfHead_any x y W (by omega)
      clear hxm hxm' hkx hkx'
      go_wp2_with fail
      refine (HO1.out _).mono ?_
      rintro e w1 ⟨rfl, hb1⟩
      have HB1 : Hid (Below w.heap.size w w1) := HB.out.trans (hb1.mono HB.out.size)
      have p1 : w1.cell? ⟨b, off + k * 2, none⟩ = some (.string x) := (hb1.cell (p := ⟨b, off + k * 2, none⟩) hb).trans hp
      have p2 : w1.cell? ⟨b, off + k * 2 + 1, none⟩ = some (.string y) := (hb1.cell (p := ⟨b, off + k * 2 + 1, none⟩) hb).trans hq
      clear hb1 hp hq hp' hq' hb hb2
      cases hc' : colB x'.toList
      case false =>
        have HN2 : Hid (∀ (i : Nat) (x y x' y' : ByteArray), i < k + 1 → xs[i]? = some (x, y) → xs[i + 1]? = some (x', y') → ¬ (colB x.toList = false ∧ colB x'.toList = true)) := fun i u v u' v' hi hiu hiu' hh => by
          by_cases e : i = k
          · subst e
            rw [HK.out.2] at hiu'
            injection hiu' with e1
            injection e1 with e1 _
            rw [← e1, hc'] at hh
            cases hh.2
          · exact HN.out i u v u' v' (by omega) hiu hiu' hh
        clear HN hc'
        go_wp2_with fail
        go_roundw
        case rel => exact ⟨k + 1, by omega, by go_num, HB1, HN2⟩
        case measure => simp [intOf]; omega
      case true =>
        go_wp2_with fail
        refine (HO2.out _).mono ?_
        rintro e w2 ⟨rfl, hb2⟩
        have HB2 : Hid (Below w.heap.size w w2) := HB1.out.trans (hb2.mono HB1.out.size)
        clear hb2
        cases hc : colB x.toList
        case true =>
          have HN2 : Hid (∀ (i : Nat) (x y x' y' : ByteArray), i < k + 1 → xs[i]? = some (x, y) → xs[i + 1]? = some (x', y') → ¬ (colB x.toList = false ∧ colB x'.toList = true)) := fun i u v u' v' hi hiu hiu' hh => by
            by_cases e : i = k
            · subst e
              rw [HK.out.1] at hiu
              injection hiu with e1
              injection e1 with e1 _
              rw [← e1, hc] at hh
              cases hh.1
            · exact HN.out i u v u' v' (by omega) hiu hiu' hh
          clear HN hc hc'
          go_wp2_with fail
          go_roundw
          case rel => exact ⟨k + 1, by omega, by go_num, HB2, HN2⟩
          case measure => simp [intOf]; omega
        case false =>
          have HF : Hid (behB xs = true) := behB_true ⟨k, x, y, x', y', HK.out.1, HK.out.2, hc, hc'⟩
          clear HN hc hc'
          go_wp2_with fail
          go_ret
          exact ⟨ret_b HF.out.symm, HB2.out⟩
    · have hki : ¬ (k : Int) + 1 < (len : Int) := by omega
      have HF : Hid (behB xs = false) := behB_false (by
        rintro ⟨i, x, y, x', y', h1, h2, h3, h4⟩
        have := (List.getElem?_eq_some_iff.1 h2).1
        have := HL.out
        exact HN.out i x y x' y' (by omega) h1 h2 ⟨h3, h4⟩)
      clear HN
      go_wp2_with fail
      go_ret
      exact ⟨ret_b HF.out.symm, HB.out⟩

end Go.Proofs.YthojijhafhnclaeDoor
