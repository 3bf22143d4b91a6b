/- What the program's with answers: a lane at its place. -/
import Derived.Test.YtkicfiacnpifkapLaneIns
import Derived.Test.YtkicfiacnpifkapFlowReach
import Derived.Test.YtkicfiacnpifkapQuietB
import Derived.Test.YtkicfiacnpifkapFlowOpenN
namespace Go.Proofs.Ytkicfiacnpifkap
open Go.RowKit
set_option linter.unusedVariables false

set_option maxRecDepth 10000 in
set_option maxHeartbeats 1600000 in
theorem implWith_any (base : Nat) (A : Option Addr) (n C : Nat) (l : List Lane) (id left : Int) (w : World) (ho : OwnL w base A n C l) (hid : i64b id) (hleft : i64b left) (hn : n ≤ 1048576) (hb : base ≤ w.heap.size) :
    Calls Try.prog 42 #[.slice A n C, .agg #[.int .i64 id, .int .i64 left]] w fun e w' => ∃ A' C', e = .returned (.slice A' (n + 1) C') ∧ OwnL w' base A' (n + 1) C' (l.take (lessL id l) ++ [(id, left)] ++ l.drop (lessL id l)) ∧ w.grownBy w' (A.map (·.block)) := by
  have HO : Hid (OwnL w base A n C l) := ho
  have HL : Hid (l.length = n) := ho.len
  have HI : Hid (i64b id ∧ i64b left) := ⟨hid, hleft⟩
  have HBs : Hid (base ≤ w.heap.size) := hb
  have HB0 : Hid (Below w.heap.size w (w.alloc (.cells #[.int .i64 id, .int .i64 left] 43))) := (Below.refl _ _).alloc (Nat.le_refl _) _
  have HX0 : Hid ((w.alloc (.cells #[.int .i64 id, .int .i64 left] 43)).heap[w.heap.size]? = some (.cells #[.int .i64 id, .int .i64 left] 43 (0, 0))) := heap_alloc_new w _
  clear ho hid hleft hb
  go_enter Try.func42, Try.ntmps42
  go_wp2_with fail
  obtain ⟨w1, hw1⟩ : ∃ w1, w.alloc (.cells #[.int .i64 id, .int .i64 left] 43) = w1 := ⟨_, rfl⟩
  rw [hw1] at HB0 HX0 ⊢
  clear hw1
  have hwl : w.heap.size < w1.heap.size := (Array.getElem?_eq_some_iff.1 HX0.out).1
  go_loopw [5] (fun v wr => ∃ k : Nat, k ≤ n ∧ v = .int .i64 k ∧ Hid (Below w1.heap.size w1 wr) ∧ Hid (∀ j, j < k → (laneAt l j).1 < id)) (fun v _ => n - (intOf v).toNat)
  case atStart => exact ⟨0, Nat.zero_le _, rfl, Below.refl _ _, fun j hj => absurd hj (Nat.not_lt_zero _)⟩
  case round =>
    obtain ⟨k, hk, rfl, HB, HN⟩ := hrel
    have hxr : wr.heap[w.heap.size]? = some (.cells #[.int .i64 id, .int .i64 left] 43 (0, 0)) := (HB.out.block _ hwl).trans HX0.out
    have hx0 : wr.cell? ⟨w.heap.size, 0, none⟩ = some (.int .i64 id) := by rw [cell_of_row _ _ _ _ _ _ hxr]; rfl
    have hx1 : wr.cell? ⟨w.heap.size, 1, none⟩ = some (.int .i64 left) := by rw [cell_of_row _ _ _ _ _ _ hxr]; rfl
    have hwr : w.heap.size < wr.heap.size := Nat.lt_of_lt_of_le hwl HB.out.size
    have hne := past_some wr
    have x5 : ∀ P : Past wr, P.world.cell? ⟨w.heap.size, 0, none⟩ = some (.int .i64 id) := fun P => P.cell hwr hx0
    have x6 : ∀ P : Past wr, P.world.cell? ⟨w.heap.size, 1, none⟩ = some (.int .i64 left) := fun P => P.cell hwr hx1
    have HWr : Hid (Below w.heap.size w wr) := HB0.out.trans (HB.out.mono HB0.out.size)
    have HO2 : Hid (OwnL wr base A n C l) := HO.out.below HWr.out
    have m2 := keyM id left
    by_cases hlt : k < n
    case neg =>
      have HLs : Hid (lessL id l = k) := lessL_at (by have := HL.out; omega) HN.out (fun h => by have := HL.out; omega)
      have hkn : ¬ ((k : Int) < (n : Int)) := by omega
      have dk0 : decide ((k : Int) < (n : Int)) = false := by simpa using hkn
      have dk1 : ((k : Int) < (n : Int)) = False := by simpa using hkn
      have dk2 : decide (k < n) = false := by simpa using hlt
      have dk3 : (k < n) = False := by simpa using hlt
      go_wp2_with fail
      go_quiet (fail)
      have y5 : (wr.drewN nq).cell? ⟨w.heap.size, 0, none⟩ = some (.int .i64 id) := hx0
      have y6 : (wr.drewN nq).cell? ⟨w.heap.size, 1, none⟩ = some (.int .i64 left) := hx1
      have HZ : Hid (Below w.heap.size w (wr.drewN nq)) := below_drewN HWr.out _
      obtain ⟨W4, hW4⟩ : ∃ W4, wr.drewN nq = W4 := ⟨_, rfl⟩
      rw [hW4] at y5 y6 HZ ⊢
      clear hW4 x5 x6
      have HV : Hid ((W4.alloc (.cells #[.int .i64 id, .int .i64 left] 43)).heap[W4.heap.size]? = some (.cells #[.int .i64 id, .int .i64 left] 43 (0, 0))) := heap_alloc_new W4 _
      have HZ5 : Hid (Below w.heap.size w (W4.alloc (.cells #[.int .i64 id, .int .i64 left] 43))) := HZ.out.alloc HZ.out.size _
      have HO5 : Hid (OwnL (W4.alloc (.cells #[.int .i64 id, .int .i64 left] 43)) base A n C l) := HO.out.below HZ5.out
      have HN5 : Hid (Option.map (fun a : Addr => a.block) A ≠ some W4.heap.size) := fun e => by have h1 := (HO.out.lt _ e).2; have h2 := HZ.out.size; omega
      go_wp2_with fail
      refine (insL_any base A n C k l W4.heap.size id left _ HO5.out HV.out HI.out.1 HI.out.2 HN5.out hk hn (Nat.le_trans HBs.out HZ5.out.size)).mono ?_
      rintro e w5 ⟨A5, C5, rfl, ho5, hg5⟩
      have HR : Hid (OwnL w5 base A5 (n + 1) C5 (l.take (lessL id l) ++ [(id, left)] ++ l.drop (lessL id l)) ∧ w.grownBy w5 (Option.map (·.block) A)) := by
        refine ⟨by rw [HLs.out]; exact ho5, ⟨hg5.os.trans HZ5.out.os, hg5.tape.trans HZ5.out.tape, hg5.output.trans HZ5.out.output, Nat.le_trans HZ5.out.size hg5.size, fun j hj hne => (hg5.block j (Nat.lt_of_lt_of_le hj HZ5.out.size) hne).trans (HZ5.out.block j hj)⟩⟩
      clear ho5 hg5
      go_wp2_with fail
      go_ret
      exact ⟨_, _, rfl, HR.out.1, HR.out.2⟩
    have hki : (k : Int) < (n : Int) := by omega
    obtain ⟨b, off, p, q, rfl, hb, hkx, hp, hq, _, _⟩ := HO2.out.lanes.at hlt
    have HA : Hid ((laneAt l k).1 = p) := by show _ = _; rw [laneAt_some hkx]
    clear hkx
    have m1 := keyM p q
    have x1 : ∀ P : Past wr, P.world.cell? ⟨b, off + k * 2, none⟩ = some (.int .i64 p) := fun P => P.cell hb hp
    have x2 : ∀ P : Past wr, P.world.cell? ⟨b, off + k * 2 + 1, none⟩ = some (.int .i64 q) := fun P => P.cell hb hq
    by_cases g : p < id
    · have HN2 : Hid (∀ j, j < k + 1 → (laneAt l j).1 < id) := fun j hj => by
        by_cases e : j = k
        · rw [e, HA.out]; exact g
        · exact HN.out j (by omega)
      have d5 : decide (p < id) = true := by simpa using g
      go_wp2_with fail
      refine wp_region_past (by kernel_rfl) (by kernel_rfl) ?_
      repeat (quiet_step ((first | (go_at_call 71; exact calls_past (implKey_any _ _ _)) | fail)))
      refine wpQuiet_nil ?_
      rintro _ ⟨z, rfl⟩
      have HZ : Hid (Below w1.heap.size w1 z.world) := HB.out.trans (z.below.mono HB.out.size)
      go_wp2_with fail
      go_roundw
      case rel => exact ⟨k + 1, by omega, by go_num, HZ, HN2⟩
      case measure => simp [intOf]; omega
    · have HLs : Hid (lessL id l = k) := lessL_at (by have := HL.out; omega) HN.out (fun h => by rw [HA.out]; exact g)
      have d5 : decide (p < id) = false := by simpa using g
      have p5 : (p < id) = False := by simpa using g
      go_wp2_with fail
      refine wp_region_past (by kernel_rfl) (by kernel_rfl) ?_
      repeat (quiet_step ((first | (go_at_call 71; exact calls_past (implKey_any _ _ _)) | fail)))
      refine wpQuiet_nil ?_
      rintro _ ⟨z, rfl⟩
      have y5 := x5 z
      have y6 := x6 z
      have HZ : Hid (Below w.heap.size w z.world) := HWr.out.trans (z.below.mono HWr.out.size)
      obtain ⟨W4, hW4⟩ : ∃ W4, z.world = W4 := ⟨_, rfl⟩
      rw [hW4] at y5 y6 HZ ⊢
      clear hW4 x5 x6
      have HV : Hid ((W4.alloc (.cells #[.int .i64 id, .int .i64 left] 43)).heap[W4.heap.size]? = some (.cells #[.int .i64 id, .int .i64 left] 43 (0, 0))) := heap_alloc_new W4 _
      have HZ5 : Hid (Below w.heap.size w (W4.alloc (.cells #[.int .i64 id, .int .i64 left] 43))) := HZ.out.alloc HZ.out.size _
      have HO5 : Hid (OwnL (W4.alloc (.cells #[.int .i64 id, .int .i64 left] 43)) base (some ⟨b, off, none⟩) n C l) := HO.out.below HZ5.out
      have HN5 : Hid (Option.map (fun a : Addr => a.block) (some (⟨b, off, none⟩ : Addr)) ≠ some W4.heap.size) := fun e => by have h1 := (HO.out.lt _ e).2; have h2 := HZ.out.size; omega
      go_wp2_with fail
      refine (insL_any base (some ⟨b, off, none⟩) n C k l W4.heap.size id left _ HO5.out HV.out HI.out.1 HI.out.2 HN5.out hk hn (Nat.le_trans HBs.out HZ5.out.size)).mono ?_
      rintro e w5 ⟨A5, C5, rfl, ho5, hg5⟩
      have HR : Hid (OwnL w5 base A5 (n + 1) C5 (l.take (lessL id l) ++ [(id, left)] ++ l.drop (lessL id l)) ∧ w.grownBy w5 (Option.map (fun a : Addr => a.block) (some (⟨b, off, none⟩ : Addr)))) := by
        refine ⟨by rw [HLs.out]; exact ho5, ⟨hg5.os.trans HZ5.out.os, hg5.tape.trans HZ5.out.tape, hg5.output.trans HZ5.out.output, Nat.le_trans HZ5.out.size hg5.size, fun j hj hne => (hg5.block j (Nat.lt_of_lt_of_le hj HZ5.out.size) hne).trans (HZ5.out.block j hj)⟩⟩
      clear ho5 hg5
      go_wp2_with fail
      go_ret
      exact ⟨_, _, rfl, HR.out.1, HR.out.2⟩

end Go.Proofs.Ytkicfiacnpifkap
