/- The walk of the law that DiskNew answers as the specification's; under contracts of both functions. -/
import Derived.Test.YtnbmlkkjgecigarDskAt
namespace Go.Proofs.Ytnbmlkkjgecigar
open Go.RowKit
set_option linter.unusedVariables false

set_option maxRecDepth 10000 in
set_option maxHeartbeats 3200000 in
theorem dskNewWalk (n : Int) (RX : List ByteArray) (w : World) (hm : RX.length ≤ 2097152)
    (HSp : ∀ (W : World), Calls Try.prog 7 #[.int .i64 n] W fun e w' => (∃ v, e = .returned v ∧ AnsD W.heap.size RX RX v w') ∧ Below W.heap.size W w')
    (HIm : ∀ (W : World), Calls Try.prog 8 #[.int .i64 n] W fun e w' => (∃ v, e = .returned v ∧ AnsD W.heap.size RX RX v w') ∧ Below W.heap.size W w') :
    Calls Try.prog 3 #[.int .i64 n] w fun e w' => e = .returned (.bool true) ∧ Below w.heap.size w w' := by
  have HP : Hid (∀ (W : World), Calls Try.prog 7 #[.int .i64 n] W fun e w' => (∃ v, e = .returned v ∧ AnsD W.heap.size RX RX v w') ∧ Below W.heap.size W w') := HSp
  have HI : Hid (∀ (W : World), Calls Try.prog 8 #[.int .i64 n] W fun e w' => (∃ v, e = .returned v ∧ AnsD W.heap.size RX RX v w') ∧ Below W.heap.size W w') := HIm
  obtain ⟨M, hM⟩ : ∃ M, RX.length = M := ⟨_, rfl⟩
  have hMb : M ≤ 2097152 := by rw [← hM]; exact hm
  unfold AnsD at HP HI
  rw [hM] at HP HI
  clear hM hm HSp HIm
  go_enter Try.func3, Try.ntmps3
  go_wp2_with fail
  refine (HP.out _).mono ?_
  rintro e x2 ⟨⟨v, rfl, wa, wc, wa', wc', rfl, ow, ow', hapw⟩, hb2⟩
  have HAw : Hid (DAt (x2.alloc (.cells #[.slice wa M wc, .slice wa' M wc'] 24)) w.heap.size x2.heap.size wa M wc RX wa' M wc' RX) := DAt.new ow ow' hapw hb2.size
  have HB2 : Hid (Below w.heap.size w (x2.alloc (.cells #[.slice wa M wc, .slice wa' M wc'] 24))) := hb2.alloc hb2.size _
  have HZ1 : Hid (w.heap.size ≤ x2.heap.size) := hb2.size
  have HZ2 : Hid ((x2.alloc (.cells #[.slice wa M wc, .slice wa' M wc'] 24)).heap.size = x2.heap.size + 1) := by show _ = _; simp
  clear ow ow' hapw hb2 HP
  go_wp2_with fail
  obtain ⟨w2, hw2⟩ : ∃ w2, x2.alloc (.cells #[.slice wa M wc, .slice wa' M wc'] 24) = w2 := ⟨_, rfl⟩
  rw [hw2] at HAw HB2 HZ2 ⊢
  clear hw2
  generalize x2.heap.size = bw at *
  refine (HI.out _).mono ?_
  rintro e x4 ⟨⟨v, rfl, ga, gc, ga', gc', rfl, og, og', hapg⟩, hb4⟩
  have HAg : Hid (DAt (x4.alloc (.cells #[.slice ga M gc, .slice ga' M gc'] 24)) w2.heap.size x4.heap.size ga M gc RX ga' M gc' RX) := DAt.new og og' hapg hb4.size
  have HBa : Hid (Below w2.heap.size w2 (x4.alloc (.cells #[.slice ga M gc, .slice ga' M gc'] 24))) := hb4.alloc hb4.size _
  have HAw4 : Hid (DAt (x4.alloc (.cells #[.slice ga M gc, .slice ga' M gc'] 24)) w.heap.size bw wa M wc RX wa' M wc' RX) := HAw.out.stays HBa.out
  have HB4 : Hid (Below w.heap.size w (x4.alloc (.cells #[.slice ga M gc, .slice ga' M gc'] 24))) := HB2.out.trans (HBa.out.mono HB2.out.size)
  clear og og' hapg hb4 HAw HB2 HBa
  obtain ⟨c0, c1⟩ := HAw4.out.1.cells
  obtain ⟨d0, d1⟩ := HAg.out.1.cells
  go_wp2_with fail
  obtain ⟨w4, hw4⟩ : ∃ w4, x4.alloc (.cells #[.slice ga M gc, .slice ga' M gc'] 24) = w4 := ⟨_, rfl⟩
  rw [hw4] at HAg HB4 HAw4 ⊢
  clear hw4 c0 c1 d0 d1
  generalize x4.heap.size = bg at *
  refine (eqDisk_same ga wa M gc wc RX ga' wa' M gc' wc' RX _ HAg.out.2.1.strs HAw4.out.2.1.strs HAg.out.2.2.1.strs HAw4.out.2.2.1.strs (by omega) (by omega)).mono ?_
  rintro e x8 ⟨rfl, hb8⟩
  have HQ8 : Hid (Below w.heap.size w x8) := HB4.out.trans (hb8.mono HB4.out.size)
  have HA8 : Hid (DAt x8 w.heap.size bw wa M wc RX wa' M wc' RX) := HAw4.out.stays hb8
  have HG8 : Hid (DAt x8 w2.heap.size bg ga M gc RX ga' M gc' RX) := HAg.out.stays hb8
  clear hb8 HAg HAw4 HB4
  obtain ⟨d0, d1⟩ := HG8.out.1.cells
  go_wp2_with fail
  refine (markDisk_any w2.heap.size ga M gc RX ga' M gc' RX 1 _ HG8.out.2.1 HG8.out.2.2.1 HG8.out.2.2.2.2.2.2 (by omega) (by omega) (by omega)).mono ?_
  rintro e x9 ⟨rfl, om9, om9', hgr⟩
  obtain ⟨hr1, hr2⟩ := HG8.out.row
  have hz1 := HZ1.out
  have hz2 := HZ2.out
  have HQ9 : Hid (Below w.heap.size w x9) := below_two HQ8.out HQ8.out.size hgr (fun q e => by have := hr1 _ e; omega) (fun q e => by have := hr2 _ e; omega)
  have HA9 : Hid (DAt x9 w.heap.size bw wa M wc RX wa' M wc' RX) := HA8.out.kept2 hgr (fun q e => by have := hr1 _ e; omega) (fun q e => by have := hr2 _ e; omega)
  have HG9 : Hid (DAt x9 w2.heap.size bg ga M gc (marksS 1 M) ga' M gc' (marksS (1 + M) M)) := HG8.out.marked om9 om9' hgr
  clear om9 om9' hgr hr1 hr2 hz1 hz2 HQ8 HA8 HG8 d0 d1
  have HHG : Hid (∀ W : World, Strs W ga M (marksS 1 M) → Strs W ga' M (marksS (1 + M) M) → Calls Try.prog 11 #[.agg #[.slice ga M gc, .slice ga' M gc'], .int .i64 1] W fun e w' => e = .returned (.int .i64 ((1 + M + M : Nat) : Int)) ∧ Below W.heap.size W w') := fun W h h' => heldDisk_any ga M gc ga' M gc' 1 W h h' (by omega) (by omega) (by omega)
  generalize hq10 : ((1 + M + M : Nat) : Int) = q10 at *
  have hq10p : ¬ q10 < 0 := by omega
  have hq10d : decide (q10 < 0) = false := by simp; omega
  have hq10e : (q10 != q10) = false := by simp
  clear hq10
  obtain ⟨d0, d1⟩ := HG9.out.1.cells
  go_wp2_with fail
  refine (HHG.out _ HG9.out.2.1.strs HG9.out.2.2.1.strs).mono ?_
  rintro e x10 ⟨rfl, hb10⟩
  have HQ10 : Hid (Below w.heap.size w x10) := HQ9.out.trans (hb10.mono HQ9.out.size)
  have HA10 : Hid (DAt x10 w.heap.size bw wa M wc RX wa' M wc' RX) := HA9.out.stays hb10
  have HG10 : Hid (DAt x10 w2.heap.size bg ga M gc (marksS 1 M) ga' M gc' (marksS (1 + M) M)) := HG9.out.stays hb10
  clear hb10 HQ9 HA9 HG9 d0 d1
  go_wp2_with fail
  refine (HI.out _).mono ?_
  rintro e x12 ⟨⟨v, rfl, ha, hc, ha', hc', rfl, oh, oh', haph⟩, hb12⟩
  have HAh : Hid (DAt (x12.alloc (.cells #[.slice ha M hc, .slice ha' M hc'] 24)) x10.heap.size x12.heap.size ha M hc RX ha' M hc' RX) := DAt.new oh oh' haph hb12.size
  have HB12 : Hid (Below x10.heap.size x10 (x12.alloc (.cells #[.slice ha M hc, .slice ha' M hc'] 24))) := hb12.alloc hb12.size _
  clear oh oh' haph hb12 HI
  obtain ⟨c0, c1⟩ := (HA10.out.stays HB12.out).1.cells
  obtain ⟨d0, d1⟩ := HAh.out.1.cells
  go_wp2_with fail
  obtain ⟨w12, hw12⟩ : ∃ w12, x12.alloc (.cells #[.slice ha M hc, .slice ha' M hc'] 24) = w12 := ⟨_, rfl⟩
  rw [hw12] at HAh HB12 ⊢
  clear hw12 c0 c1 d0 d1
  refine (eqDisk_same ha wa M hc wc RX ha' wa' M hc' wc' RX _ HAh.out.2.1.strs (HA10.out.stays HB12.out).2.1.strs HAh.out.2.2.1.strs (HA10.out.stays HB12.out).2.2.1.strs (by omega) (by omega)).mono ?_
  rintro e x13 ⟨rfl, hb13⟩
  have HB13 : Hid (Below x10.heap.size x10 x13) := HB12.out.trans (hb13.mono HB12.out.size)
  clear hb13 HAh HB12
  have HG13 : Hid (DAt x13 w2.heap.size bg ga M gc (marksS 1 M) ga' M gc' (marksS (1 + M) M)) := HG10.out.stays HB13.out
  obtain ⟨d0, d1⟩ := HG13.out.1.cells
  go_wp2_with fail
  refine (HHG.out _ HG13.out.2.1.strs HG13.out.2.2.1.strs).mono ?_
  rintro e x14 ⟨rfl, hb14⟩
  have HE : Hid (Below w.heap.size w x14) := by
    have h1 : Below w.heap.size w x13 := HQ10.out.trans (HB13.out.mono HQ10.out.size)
    exact h1.trans (hb14.mono h1.size)
  clear hb14 d0 d1
  go_wp2_with fail
  go_ret
  exact ⟨rfl, HE.out⟩

end Go.Proofs.Ytnbmlkkjgecigar
