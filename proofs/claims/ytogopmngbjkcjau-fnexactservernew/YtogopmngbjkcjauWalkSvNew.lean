/- The walk of the law that ServerNew answers as the specification's; under contracts of both functions. -/
import Derived.Test.YtogopmngbjkcjauSvNil
namespace Go.Proofs.Ytogopmngbjkcjau
open Go.RowKit
set_option linter.unusedVariables false

set_option maxRecDepth 10000 in
set_option maxHeartbeats 3200000 in
theorem svNewWalk (n : Int) (RX : List ByteArray) (M : Nat) (w : World) (hMb : M ≤ 2097152)
    (HSp : ∀ (W : World), Calls Try.prog 14 #[.int .i64 n] W fun e w' => (∃ a c a' c' u uc, e = .returned (.agg #[.slice a M c, .slice a' M c', .int .i64 0, .int .i64 0, .slice u 0 uc, .slice none 0 0]) ∧ StoAt w' W.heap.size a M c RX a' M c' RX u 0 uc []) ∧ Below W.heap.size W w')
    (HIm : ∀ (W : World), Calls Try.prog 15 #[.int .i64 n] W fun e w' => (∃ a c a' c' u uc, e = .returned (.agg #[.slice a M c, .slice a' M c', .int .i64 0, .int .i64 0, .slice u 0 uc, .slice none 0 0]) ∧ StoAt w' W.heap.size a M c RX a' M c' RX u 0 uc []) ∧ Below W.heap.size W w') :
    Calls Try.prog 4 #[.int .i64 n] w fun e w' => e = .returned (.bool true) ∧ Below w.heap.size w w' := by
  have HP : Hid (∀ (W : World), Calls Try.prog 14 #[.int .i64 n] W fun e w' => (∃ a c a' c' u uc, e = .returned (.agg #[.slice a M c, .slice a' M c', .int .i64 0, .int .i64 0, .slice u 0 uc, .slice none 0 0]) ∧ StoAt w' W.heap.size a M c RX a' M c' RX u 0 uc []) ∧ Below W.heap.size W w') := HSp
  have HI : Hid (∀ (W : World), Calls Try.prog 15 #[.int .i64 n] W fun e w' => (∃ a c a' c' u uc, e = .returned (.agg #[.slice a M c, .slice a' M c', .int .i64 0, .int .i64 0, .slice u 0 uc, .slice none 0 0]) ∧ StoAt w' W.heap.size a M c RX a' M c' RX u 0 uc []) ∧ Below W.heap.size W w') := HIm
  clear HSp HIm
  go_enter Try.func4, Try.ntmps4
  go_wp2_with fail
  refine (HP.out _).mono ?_
  rintro e x2 ⟨⟨wa, wc, wa', wc', wu, wuc, rfl, hs2⟩, hb2⟩
  have HAw : Hid (VAt (x2.alloc (.cells #[.slice wa M wc, .slice wa' M wc', .int .i64 0, .int .i64 0, .slice wu 0 wuc, .slice none 0 0] 46)) w.heap.size x2.heap.size wa M wc RX wa' M wc' RX 0 0 wu 0 wuc [] (.slice none 0 0)) := VAt.new hs2 hb2.size
  have HB2 : Hid (Below w.heap.size w (x2.alloc (.cells #[.slice wa M wc, .slice wa' M wc', .int .i64 0, .int .i64 0, .slice wu 0 wuc, .slice none 0 0] 46))) := hb2.alloc hb2.size _
  clear hs2 hb2 HP
  go_wp2_with fail
  obtain ⟨w2, hw2⟩ : ∃ w2, x2.alloc (.cells #[.slice wa M wc, .slice wa' M wc', .int .i64 0, .int .i64 0, .slice wu 0 wuc, .slice none 0 0] 46) = w2 := ⟨_, rfl⟩
  rw [hw2] at HAw HB2 ⊢
  clear hw2
  generalize x2.heap.size = bw at *
  refine (HI.out _).mono ?_
  rintro e x4 ⟨⟨ga, gc, ga', gc', gu, guc, rfl, hs4⟩, hb4⟩
  have HAg : Hid (VAt (x4.alloc (.cells #[.slice ga M gc, .slice ga' M gc', .int .i64 0, .int .i64 0, .slice gu 0 guc, .slice none 0 0] 46)) w2.heap.size x4.heap.size ga M gc RX ga' M gc' RX 0 0 gu 0 guc [] (.slice none 0 0)) := VAt.new hs4 hb4.size
  have HBa : Hid (Below w2.heap.size w2 (x4.alloc (.cells #[.slice ga M gc, .slice ga' M gc', .int .i64 0, .int .i64 0, .slice gu 0 guc, .slice none 0 0] 46))) := hb4.alloc hb4.size _
  have HAw4 : Hid (VAt (x4.alloc (.cells #[.slice ga M gc, .slice ga' M gc', .int .i64 0, .int .i64 0, .slice gu 0 guc, .slice none 0 0] 46)) w.heap.size bw wa M wc RX wa' M wc' RX 0 0 wu 0 wuc [] (.slice none 0 0)) := HAw.out.stays HBa.out
  have HB4 : Hid (Below w.heap.size w (x4.alloc (.cells #[.slice ga M gc, .slice ga' M gc', .int .i64 0, .int .i64 0, .slice gu 0 guc, .slice none 0 0] 46))) := HB2.out.trans (HBa.out.mono HB2.out.size)
  have HZ : Hid (bw < w2.heap.size ∧ w.heap.size ≤ w2.heap.size) := ⟨HAw.out.box.lt, HB2.out.size⟩
  clear hs4 hb4 HAw HB2 HBa
  obtain ⟨c0, c1, c2, c3, c4, c5⟩ := (show _ ∧ _ ∧ _ ∧ _ ∧ _ ∧ _ from ⟨HAw4.out.box.cell 0 rfl, HAw4.out.box.cell 1 rfl, HAw4.out.box.cell 2 rfl, HAw4.out.box.cell 3 rfl, HAw4.out.box.cell 4 rfl, HAw4.out.box.cell 5 rfl⟩)
  obtain ⟨d0, d1, d2, d3, d4, d5⟩ := (show _ ∧ _ ∧ _ ∧ _ ∧ _ ∧ _ from ⟨HAg.out.box.cell 0 rfl, HAg.out.box.cell 1 rfl, HAg.out.box.cell 2 rfl, HAg.out.box.cell 3 rfl, HAg.out.box.cell 4 rfl, HAg.out.box.cell 5 rfl⟩)
  go_wp2_with fail
  obtain ⟨w4, hw4⟩ : ∃ w4, x4.alloc (.cells #[.slice ga M gc, .slice ga' M gc', .int .i64 0, .int .i64 0, .slice gu 0 guc, .slice none 0 0] 46) = w4 := ⟨_, rfl⟩
  rw [hw4] at HAg HB4 HAw4 ⊢
  clear hw4 c0 c1 c2 c3 c4 c5 d0 d1 d2 d3 d4 d5
  generalize x4.heap.size = bg at *
  refine (eqServer_nil ga wa M gc wc RX ga' wa' M gc' wc' RX 0 0 gu 0 guc w2.heap.size [] wu 0 wuc w.heap.size [] w4 HAg.out.sto HAw4.out.sto rfl (by omega) (by omega) (by omega) (by simp)).mono ?_
  rintro e x8 ⟨rfl, hb8⟩
  have HQ8 : Hid (Below w.heap.size w x8) := HB4.out.trans (hb8.mono HB4.out.size)
  have HA8 : Hid (VAt x8 w.heap.size bw wa M wc RX wa' M wc' RX 0 0 wu 0 wuc [] (.slice none 0 0)) := HAw4.out.stays hb8
  have HG8 : Hid (VAt x8 w2.heap.size bg ga M gc RX ga' M gc' RX 0 0 gu 0 guc [] (.slice none 0 0)) := HAg.out.stays hb8
  clear hb8 HAg HAw4 HB4
  obtain ⟨d0, d1, d2, d3, d4, d5⟩ := (show _ ∧ _ ∧ _ ∧ _ ∧ _ ∧ _ from ⟨HG8.out.box.cell 0 rfl, HG8.out.box.cell 1 rfl, HG8.out.box.cell 2 rfl, HG8.out.box.cell 3 rfl, HG8.out.box.cell 4 rfl, HG8.out.box.cell 5 rfl⟩)
  go_wp2_with fail
  refine (markServer_nil w2.heap.size ga M gc RX ga' M gc' RX 0 0 gu 0 guc [] 1 x8 HG8.out.sto (by omega) (by omega) (by omega) (by omega) (by simp only [mkUEnd]; omega) bg HG8.out.inn (Nat.le_of_lt HG8.out.box.lt)).mono ?_
  rintro e x9 ⟨rfl, hm9, hw9⟩
  have hz := HZ.out
  have hl8 := HG8.out.lob
  have HA9 : Hid (VAt x9 w.heap.size bw wa M wc RX wa' M wc' RX 0 0 wu 0 wuc [] (.slice none 0 0)) := HA8.out.kept hw9 (.inl (by omega))
  obtain ⟨hx9, hk9⟩ := HG8.out.marked hm9 hw9
  have HBx9 : Hid (BoxN x9 bg 46 [.slice ga M gc, .slice ga' M gc', .int .i64 0, .int .i64 0, .slice gu 0 guc, .slice none 0 0]) := hx9
  have HMk9 : Hid (StoMkd x9 w2.heap.size 1 ga M gc ga' M gc' gu 0 guc []) := hk9
  have HQ9 : Hid (Below w.heap.size w x9) := HQ8.out.trans ((hw9.below (by have := HG8.out.box.lt; omega)).mono (by omega))
  clear hm9 hw9 hx9 hk9 hz hl8 HQ8 HA8 HG8 d0 d1 d2 d3 d4 d5
  have HHG : Hid (∀ W : World, StoMkd W w2.heap.size 1 ga M gc ga' M gc' gu 0 guc [] → Calls Try.prog 18 #[.agg #[.slice ga M gc, .slice ga' M gc', .int .i64 0, .int .i64 0, .slice gu 0 guc, .slice none 0 0], .int .i64 1] W fun e w' => e = .returned (.int .i64 (mkUEnd (1 + M + M) [] : Int)) ∧ Below W.heap.size W w') := fun W h => heldServer_nil w2.heap.size ga M gc ga' M gc' 0 0 gu 0 guc [] 1 W h (by omega) (by omega) (by omega) (by omega) (by simp only [mkUEnd]; omega)
  generalize hq10 : ((mkUEnd (1 + M + M) [] : Nat) : Int) = q10 at *
  have hq10p : ¬ q10 < 0 := by omega
  have hq10d : decide (q10 < 0) = false := by simp; omega
  have hq10e : (q10 != q10) = false := by simp
  clear hq10
  obtain ⟨d0, d1, d2, d3, d4, d5⟩ := (show _ ∧ _ ∧ _ ∧ _ ∧ _ ∧ _ from ⟨HBx9.out.cell 0 rfl, HBx9.out.cell 1 rfl, HBx9.out.cell 2 rfl, HBx9.out.cell 3 rfl, HBx9.out.cell 4 rfl, HBx9.out.cell 5 rfl⟩)
  go_wp2_with fail
  refine (HHG.out _ HMk9.out).mono ?_
  rintro e x10 ⟨rfl, hb10⟩
  have HQ10 : Hid (Below w.heap.size w x10) := HQ9.out.trans (hb10.mono HQ9.out.size)
  have HA10 : Hid (VAt x10 w.heap.size bw wa M wc RX wa' M wc' RX 0 0 wu 0 wuc [] (.slice none 0 0)) := HA9.out.stays hb10
  have HBx10 : Hid (BoxN x10 bg 46 [.slice ga M gc, .slice ga' M gc', .int .i64 0, .int .i64 0, .slice gu 0 guc, .slice none 0 0]) := HBx9.out.stays hb10
  have HMk10 : Hid (StoMkd x10 w2.heap.size 1 ga M gc ga' M gc' gu 0 guc []) := StoAt.stays HMk9.out hb10
  clear hb10 HQ9 HA9 HBx9 HMk9 d0 d1 d2 d3 d4 d5
  go_wp2_with fail
  refine (HI.out _).mono ?_
  rintro e x12 ⟨⟨ha, hc, ha', hc', hu, huc, rfl, hs12⟩, hb12⟩
  have HAh : Hid (VAt (x12.alloc (.cells #[.slice ha M hc, .slice ha' M hc', .int .i64 0, .int .i64 0, .slice hu 0 huc, .slice none 0 0] 46)) x10.heap.size x12.heap.size ha M hc RX ha' M hc' RX 0 0 hu 0 huc [] (.slice none 0 0)) := VAt.new hs12 hb12.size
  have HB12 : Hid (Below x10.heap.size x10 (x12.alloc (.cells #[.slice ha M hc, .slice ha' M hc', .int .i64 0, .int .i64 0, .slice hu 0 huc, .slice none 0 0] 46))) := hb12.alloc hb12.size _
  have HAw12 : Hid (VAt (x12.alloc (.cells #[.slice ha M hc, .slice ha' M hc', .int .i64 0, .int .i64 0, .slice hu 0 huc, .slice none 0 0] 46)) w.heap.size bw wa M wc RX wa' M wc' RX 0 0 wu 0 wuc [] (.slice none 0 0)) := HA10.out.stays HB12.out
  clear hs12 hb12 HI
  obtain ⟨c0, c1, c2, c3, c4, c5⟩ := (show _ ∧ _ ∧ _ ∧ _ ∧ _ ∧ _ from ⟨HAw12.out.box.cell 0 rfl, HAw12.out.box.cell 1 rfl, HAw12.out.box.cell 2 rfl, HAw12.out.box.cell 3 rfl, HAw12.out.box.cell 4 rfl, HAw12.out.box.cell 5 rfl⟩)
  obtain ⟨d0, d1, d2, d3, d4, d5⟩ := (show _ ∧ _ ∧ _ ∧ _ ∧ _ ∧ _ from ⟨HAh.out.box.cell 0 rfl, HAh.out.box.cell 1 rfl, HAh.out.box.cell 2 rfl, HAh.out.box.cell 3 rfl, HAh.out.box.cell 4 rfl, HAh.out.box.cell 5 rfl⟩)
  go_wp2_with fail
  obtain ⟨w12, hw12⟩ : ∃ w12, x12.alloc (.cells #[.slice ha M hc, .slice ha' M hc', .int .i64 0, .int .i64 0, .slice hu 0 huc, .slice none 0 0] 46) = w12 := ⟨_, rfl⟩
  rw [hw12] at HAh HB12 HAw12 ⊢
  clear hw12 c0 c1 c2 c3 c4 c5 d0 d1 d2 d3 d4 d5
  refine (eqServer_nil ha wa M hc wc RX ha' wa' M hc' wc' RX 0 0 hu 0 huc x10.heap.size [] wu 0 wuc w.heap.size [] w12 HAh.out.sto HAw12.out.sto rfl (by omega) (by omega) (by omega) (by simp)).mono ?_
  rintro e x13 ⟨rfl, hb13⟩
  have HB13 : Hid (Below x10.heap.size x10 x13) := HB12.out.trans (hb13.mono HB12.out.size)
  clear hb13 HAh HB12 HAw12
  have HBx13 : Hid (BoxN x13 bg 46 [.slice ga M gc, .slice ga' M gc', .int .i64 0, .int .i64 0, .slice gu 0 guc, .slice none 0 0]) := HBx10.out.stays HB13.out
  have HMk13 : Hid (StoMkd x13 w2.heap.size 1 ga M gc ga' M gc' gu 0 guc []) := StoAt.stays HMk10.out HB13.out
  obtain ⟨d0, d1, d2, d3, d4, d5⟩ := (show _ ∧ _ ∧ _ ∧ _ ∧ _ ∧ _ from ⟨HBx13.out.cell 0 rfl, HBx13.out.cell 1 rfl, HBx13.out.cell 2 rfl, HBx13.out.cell 3 rfl, HBx13.out.cell 4 rfl, HBx13.out.cell 5 rfl⟩)
  go_wp2_with fail
  refine (HHG.out _ HMk13.out).mono ?_
  rintro e x14 ⟨rfl, hb14⟩
  have HE : Hid (Below w.heap.size w x14) := by
    have h1 : Below w.heap.size w x13 := HQ10.out.trans (HB13.out.mono HQ10.out.size)
    exact h1.trans (hb14.mono h1.size)
  clear hb14 d0 d1 d2 d3 d4 d5
  go_wp2_with fail
  go_ret
  exact ⟨rfl, HE.out⟩

end Go.Proofs.Ytogopmngbjkcjau
