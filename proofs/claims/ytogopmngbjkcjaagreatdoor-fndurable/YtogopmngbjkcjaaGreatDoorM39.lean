/- What the program's TopEpoch answers, under its table. -/
import Derived.Test.YtogopmngbjkcjaaGreatDoorM38
import Derived.Test.YtogopmngbjkcjaaGreatDoorM08
import Derived.Test.YtogopmngbjkcjaaGreatDoorM06
import Derived.Test.YtogopmngbjkcjaaGreatDoorM06
namespace Go.Proofs.YtogopmngbjkcjaaGreatDoor
open Go.RowKit
set_option linter.unusedVariables false

set_option maxRecDepth 10000 in
set_option maxHeartbeats 1600000 in
theorem implTop_any (a : Option Addr) (n ca : Nat) (xs : List ByteArray) (a' : Option Addr) (n' ca' : Nat) (w : World) (h1 : Strs w a n xs) (hn : n ≤ 1099511627776) (hz : ∀ x ∈ xs, x.size ≤ 1048576) (ht : RecT w) :
    Calls Tryz.prog 27 #[.agg #[.slice a n ca, .slice a' n' ca']] w fun e w' => e = .returned (.int .i64 (topE xs)) ∧ Below w.heap.size w w' := by
  have HX : Hid (∀ W, Below w.heap.size w W → Strs W a n xs) := fun W h => h1.below h
  have HL : Hid (xs.length = n) := h1.1
  have HZ : Hid (∀ x ∈ xs, x.size ≤ 1048576) := hz
  have HRT : Hid (RecT w) := ht
  clear h1 hz ht
  obtain ⟨w0, hw0⟩ : ∃ w0, w.alloc (.cells #[.slice a n ca, .slice a' n' ca'] 26) = w0 := ⟨_, rfl⟩
  have HE : Hid (w.alloc (.cells #[.slice a n ca, .slice a' n' ca'] 26) = w0) := hw0
  have HA : Hid (Box2R w0 w.heap.size 26 (.slice a n ca) (.slice a' n' ca')) := by show Box2R _ _ _ _ _; rw [← hw0]; exact Box2R.new _ _ _ _
  have HB : Hid (Below w.heap.size w w0) := by show Below _ _ _; rw [← hw0]; exact (Below.refl _ _).alloc (Nat.le_refl _) _
  clear hw0
  obtain ⟨c0, c1⟩ := HA.out.cells
  go_enter Tryz.func27, Tryz.ntmps27
  go_upto_region 1 with fail
  rw [HE.out]
  clear HE
  go_wp2_with fail
  clear c0 c1
  go_loopw [3, 11] (fun v i wr => ∃ k : Nat, k ≤ n ∧ i = .int .i64 (k : Int) ∧ v = .int .i64 (topE (xs.take k)) ∧ Hid (Below w0.heap.size w0 wr)) (fun _ i _ => n - (intOf i).toNat)
  case atStart => exact ⟨0, Nat.zero_le _, rfl, rfl, Below.refl _ _⟩
  case round =>
    obtain ⟨k, hk, rfl, rfl, HW⟩ := hrel
    by_cases hlt : k < n
    · have hb := HB.out.trans (HW.out.mono HB.out.size)
      obtain ⟨p, po, x, rfl, _, hkx, hp⟩ := (HX.out _ hb).at hlt
      have HT : Hid (topE (xs.take (k + 1)) = topStep (topE (xs.take k)) x) := topE_step xs k x hkx
      have hxz : x.size ≤ 1048576 := HZ.out x (List.mem_of_getElem? hkx)
      have hki : (k : Int) < (n : Int) := by omega
      have hk0 : (0 : Int) ≤ (k : Int) := by omega
      have HTr : Hid (RecT wr) := HRT.out.below hb
      clear hkx hb
      generalize topE (xs.take k) = m at *
      go_wp2_with fail
      refine (implGetR_any x wr (by omega) HTr.out).mono ?_
      rintro _ w1 ⟨⟨v, rfl, hgot⟩, hb1⟩
      have hb01 : Below w0.heap.size w0 w1 := HW.out.trans (hb1.mono HW.out.size)
      rcases hgot with ⟨hr, rfl⟩ | ⟨r, A, C, hr, rfl, ho⟩
      · have HT2 : Hid (topE (xs.take (k + 1)) = m) := HT.out.trans (topStep_none hr)
        have HW2 : Hid (Below w0.heap.size w0 (w1.alloc (.cells #[.int .i64 0, .int .i64 0, .int .i64 0, .string ⟨#[]⟩, .int .i64 0, .slice none 0 0] 54))) := hb01.alloc hb01.size _
        clear hr hb1 hb01 HT HW
        go_wp2_with fail
        go_roundw
        case rel => exact ⟨k + 1, by omega, by go_num, by rw [HT2.out], HW2⟩
        case measure => simp [intOf]; omega
      · have HT2 : Hid (topE (xs.take (k + 1)) = if m < r.e then r.e else m) := HT.out.trans (topStep_some hr)
        have HW2 : Hid (Below w0.heap.size w0 (w1.alloc (.cells #[.int .i64 r.e, .int .i64 r.q, .int .i64 r.k, .string r.id, .int .i64 r.n, .slice A r.zs.length C] 54))) := hb01.alloc hb01.size _
        clear hr hb1 hb01 HT HW ho
        by_cases hm : m < r.e
        · rw [if_pos hm] at HT2
          go_wp2_with fail
          go_roundw
          case rel => exact ⟨k + 1, by omega, by go_num, by rw [HT2.out], HW2⟩
          case measure => simp [intOf]; omega
        · rw [if_neg hm] at HT2
          go_wp2_with fail
          go_roundw
          case rel => exact ⟨k + 1, by omega, by go_num, by rw [HT2.out], HW2⟩
          case measure => simp [intOf]; omega
    · have hkl : k = n := by omega
      have HT : Hid (topE (xs.take k) = topE xs) := by show _ = _; rw [hkl, List.take_of_length_le (by have := HL.out; omega)]
      generalize topE (xs.take k) = m at *
      go_wp2_with fail
      go_ret
      exact ⟨by rw [← HT.out]; rfl, HB.out.trans (HW.out.mono HB.out.size)⟩

end Go.Proofs.YtogopmngbjkcjaaGreatDoor
