/- The walk of the law FnExactSyncStore; under contracts of both functions. What the program's FlushDisk answers. What is sure behind a flush; no program in it. What the program's SyncStore answers. What spec.FlushDisk answers. -/
import Derived.Test.YtammmecddnafaaaGreatDoorM05
import Derived.Test.YtammmecddnafaaaGreatDoorM05
import Derived.Test.YtammmecddnafaaaGreatDoorM06
import Derived.Test.YtammmecddnafaaaGreatDoorM06
import Derived.Test.YtammmecddnafaaaGreatDoorM05
import Derived.Deep.RegionHeld3
import Derived.Test.YtammmecddnafaaaGreatDoorM19
import Derived.Test.YtammmecddnafaaaGreatDoorM17
import Derived.Test.YtammmecddnafaaaGreatDoorM20
import Derived.Test.YtammmecddnafaaaGreatDoorM18
import Derived.Test.YtammmecddnafaaaGreatDoorM04
import Derived.Deep.CutBlock
namespace Go.Proofs.YtammmecddnafaaaGreatDoor
open Go.RowKit
set_option linter.unusedVariables false

set_option maxRecDepth 10000 in
set_option maxHeartbeats 6400000 in
theorem syncWalk (a0 : Option Addr) (n0 ca0 : Nat) (xs : List ByteArray) (a1 : Option Addr) (n1 ca1 : Nat) (ys : List ByteArray) (ep nx : Int) (ua : Option Addr) (un uc : Nat) (l : List UE) (w : World) (hl0 : n0 ≤ maxLen) (hl1 : n1 ≤ maxLen) (hlu : un ≤ maxLen) (h1 : Strs w a0 n0 xs) (h2 : Strs w a1 n1 ys) (hu : UpsI w ua un l) (RX RY : List ByteArray) (rep rnx : Int) (rus : List U) (hRX : SzS n0 xs n1 ys un l → RX.length ≤ 1048576 ∧ RY.length ≤ 1048576 ∧ rus.length ≤ 1048576 ∧ ∀ u ∈ rus, u.zs.length ≤ 1048576)
    (HSp : ∀ (g g' gu lo : Nat) (l' : List UE) (W : World), Below w.heap.size w W → SzS n0 xs n1 ys un l → StoAt W lo (some ⟨g, 0, none⟩) n0 n0 xs (some ⟨g', 0, none⟩) n1 n1 ys (some ⟨gu, 0, none⟩) un un l' → l'.map UE.u = l.map UE.u → (∀ e ∈ l', e.n ≤ 1048576) → Calls Tryz.prog 21 #[.agg #[.slice (some ⟨g, 0, none⟩) n0 n0, .slice (some ⟨g', 0, none⟩) n1 n1, .int .i64 ep, .int .i64 nx, .slice (some ⟨gu, 0, none⟩) un un]] W fun e w' => (∃ v, e = .returned v ∧ AnsS W.heap.size RX RY rep rnx rus v w') ∧ Below W.heap.size W w')
    (HIm : ∀ (g g' gu lo : Nat) (l' : List UE) (W : World), Below w.heap.size w W → SzS n0 xs n1 ys un l → StoAt W lo (some ⟨g, 0, none⟩) n0 n0 xs (some ⟨g', 0, none⟩) n1 n1 ys (some ⟨gu, 0, none⟩) un un l' → l'.map UE.u = l.map UE.u → (∀ e ∈ l', e.n ≤ 1048576) → Calls Tryz.prog 22 #[.agg #[.slice (some ⟨g, 0, none⟩) n0 n0, .slice (some ⟨g', 0, none⟩) n1 n1, .int .i64 ep, .int .i64 nx, .slice (some ⟨gu, 0, none⟩) un un]] W fun e w' => (∃ v, e = .returned v ∧ AnsS W.heap.size RX RY rep rnx rus v w') ∧ Below W.heap.size W w') :
    Calls Tryz.prog 6 #[.agg #[.slice a0 n0 ca0, .slice a1 n1 ca1, .int .i64 ep, .int .i64 nx, .slice ua un uc]] w fun e w' => e = .returned (.bool true) ∧ Below w.heap.size w w' := by
  have hmm : maxLen < 9223372036854775808 := by decide
  obtain ⟨w0, hw0⟩ : ∃ w0, w.alloc (.cells #[.slice a0 n0 ca0, .slice a1 n1 ca1, .int .i64 ep, .int .i64 nx, .slice ua un uc] 27) = w0 := ⟨_, rfl⟩
  have HE : Hid (w.alloc (.cells #[.slice a0 n0 ca0, .slice a1 n1 ca1, .int .i64 ep, .int .i64 nx, .slice ua un uc] 27) = w0) := hw0
  have hB0 : Below w.heap.size w w0 := by rw [← hw0]; exact (Below.refl _ _).alloc (Nat.le_refl _) _
  have hQ0 : BoxN w0 w.heap.size 27 [.slice a0 n0 ca0, .slice a1 n1 ca1, .int .i64 ep, .int .i64 nx, .slice ua un uc] := by rw [← hw0]; exact BoxN.new _ _ _
  have HX : Hid (∀ W, Below w0.heap.size w0 W → BoxN W w.heap.size 27 [.slice a0 n0 ca0, .slice a1 n1 ca1, .int .i64 ep, .int .i64 nx, .slice ua un uc] ∧ Strs W a0 n0 xs ∧ Strs W a1 n1 ys ∧ UpsI W ua un l ∧ Below w.heap.size w W) := fun W hb => ⟨hQ0.stays hb, (h1.below hB0).below hb, (h2.below hB0).below hb, (hu.below hB0).below hb, hB0.trans (hb.mono hB0.size)⟩
  have hww : w.heap.size < w0.heap.size := hQ0.lt
  have HP : Hid (∀ (g g' gu lo : Nat) (l' : List UE) (W : World), Below w.heap.size w W → SzS n0 xs n1 ys un l → StoAt W lo (some ⟨g, 0, none⟩) n0 n0 xs (some ⟨g', 0, none⟩) n1 n1 ys (some ⟨gu, 0, none⟩) un un l' → l'.map UE.u = l.map UE.u → (∀ e ∈ l', e.n ≤ 1048576) → Calls Tryz.prog 21 #[.agg #[.slice (some ⟨g, 0, none⟩) n0 n0, .slice (some ⟨g', 0, none⟩) n1 n1, .int .i64 ep, .int .i64 nx, .slice (some ⟨gu, 0, none⟩) un un]] W fun e w' => (∃ v, e = .returned v ∧ AnsS W.heap.size RX RY rep rnx rus v w') ∧ Below W.heap.size W w') := HSp
  have HI : Hid (∀ (g g' gu lo : Nat) (l' : List UE) (W : World), Below w.heap.size w W → SzS n0 xs n1 ys un l → StoAt W lo (some ⟨g, 0, none⟩) n0 n0 xs (some ⟨g', 0, none⟩) n1 n1 ys (some ⟨gu, 0, none⟩) un un l' → l'.map UE.u = l.map UE.u → (∀ e ∈ l', e.n ≤ 1048576) → Calls Tryz.prog 22 #[.agg #[.slice (some ⟨g, 0, none⟩) n0 n0, .slice (some ⟨g', 0, none⟩) n1 n1, .int .i64 ep, .int .i64 nx, .slice (some ⟨gu, 0, none⟩) un un]] W fun e w' => (∃ v, e = .returned v ∧ AnsS W.heap.size RX RY rep rnx rus v w') ∧ Below W.heap.size W w') := HIm
  have HA0 : Hid (Below w0.heap.size w0 w0) := Below.refl _ _
  clear hw0 h1 h2 hu HSp HIm hQ0 hB0
  obtain ⟨c0, c1, c2, c3, c4⟩ := (show _ ∧ _ ∧ _ ∧ _ ∧ _ from ⟨(HX.out _ HA0.out).1.cell 0 rfl, (HX.out _ HA0.out).1.cell 1 rfl, (HX.out _ HA0.out).1.cell 2 rfl, (HX.out _ HA0.out).1.cell 3 rfl, (HX.out _ HA0.out).1.cell 4 rfl⟩)
  go_enter Tryz.func6, Tryz.ntmps6
  go_upto_region 1 with fail
  rw [HE.out]
  clear HE
  go_wp2_with fail
  refine (szStore_any a0 n0 ca0 xs a1 n1 ca1 ys ep nx ua un uc l w0 (HX.out _ HA0.out).2.1 (HX.out _ HA0.out).2.2.1 (HX.out _ HA0.out).2.2.2.1 hl0 hl1 hlu).mono ?_
  rintro e x0 ⟨⟨L, rfl, hL⟩, hb0⟩
  have HB0 : Hid (Below w0.heap.size w0 x0) := hb0
  clear hb0 c0 c1 c2 c3 c4
  by_cases hneg : L < 0
  · have HBw : Hid (Below w.heap.size w x0) := (HX.out _ HB0.out).2.2.2.2
    clear hL
    go_wp2_with fail
    go_ret
    exact ⟨rfl, HBw.out⟩
  have HSz : Hid (SzS n0 xs n1 ys un l) := by
    rcases hL with h | h
    · exact absurd h hneg
    · exact h.1
  have hun1 : un ≤ 1048576 := HSz.out.2.2.2.2.1
  have hn01 : n0 ≤ 1048576 := HSz.out.1
  have hn11 : n1 ≤ 1048576 := HSz.out.2.1
  clear hL
  have HTs : Hid (∀ W, Below w0.heap.size w0 W → Calls Tryz.prog 9 #[.agg #[.slice a0 n0 ca0, .slice a1 n1 ca1, .int .i64 ep, .int .i64 nx, .slice ua un uc]] W fun r w' => (∃ g g' gu l', r = .returned (.agg #[.slice (some ⟨g, 0, none⟩) n0 n0, .slice (some ⟨g', 0, none⟩) n1 n1, .int .i64 ep, .int .i64 nx, .slice (some ⟨gu, 0, none⟩) un un]) ∧ StoAt w' W.heap.size (some ⟨g, 0, none⟩) n0 n0 xs (some ⟨g', 0, none⟩) n1 n1 ys (some ⟨gu, 0, none⟩) un un l' ∧ l'.map UE.u = l.map UE.u ∧ ∀ e ∈ l', e.n ≤ 1048576) ∧ Below W.heap.size W w') := fun W hb => toStore_any a0 n0 ca0 xs a1 n1 ca1 ys ep nx ua un uc l W (HX.out _ hb).2.1 (HX.out _ hb).2.2.1 (HX.out _ hb).2.2.2.1 HSz.out
  obtain ⟨N, hN⟩ : ∃ N, RX.length = N := ⟨_, rfl⟩
  obtain ⟨N', hN'⟩ : ∃ N', RY.length = N' := ⟨_, rfl⟩
  obtain ⟨K, hK⟩ : ∃ K, rus.length = K := ⟨_, rfl⟩
  have hRb := hRX HSz.out
  rw [hN, hN', hK] at hRb
  have hNb : N ≤ 1048576 := hRb.1
  have hNb' : N' ≤ 1048576 := hRb.2.1
  have hKb : K ≤ 1048576 := hRb.2.2.1
  have HAn : Hid (∀ base v W, AnsS base RX RY rep rnx rus v W → ∃ a c a' c' u uc lx, v = .agg #[.slice a N c, .slice a' N' c', .int .i64 rep, .int .i64 rnx, .slice u K uc] ∧ StoAt W base a N c RX a' N' c' RY u K uc lx ∧ lx.map UE.u = rus ∧ (∀ e ∈ lx, e.n ≤ 1048576) ∧ mkUEnd (1 + N + N') lx ≤ 2199023255552) := fun base v W h => by
    obtain ⟨a, c, a', c', u, uc, lx, h1, h2, h3⟩ := h.get
    rw [hN, hN', hK] at h1 h2
    have hz : ∀ e ∈ lx, e.n ≤ 1048576 := fun e he => by
      have h4 := (h2.ups.2.1 e he).seg.1
      have h5 := hRb.2.2.2 e.u (by rw [← h3]; exact List.mem_map_of_mem he)
      omega
    refine ⟨a, c, a', c', u, uc, lx, h1, h2, h3, hz, ?_⟩
    have h6 := mkUEnd_le (1 + N + N') 1048576 lx hz
    have h7 := h2.len
    have h8 : (3 + 1048576) * lx.length ≤ (3 + 1048576) * 1048576 := Nat.mul_le_mul_left _ (by omega)
    omega
  clear hN hN' hK hRb hRX
  obtain ⟨c0, c1, c2, c3, c4⟩ := (show _ ∧ _ ∧ _ ∧ _ ∧ _ from ⟨(HX.out _ HB0.out).1.cell 0 rfl, (HX.out _ HB0.out).1.cell 1 rfl, (HX.out _ HB0.out).1.cell 2 rfl, (HX.out _ HB0.out).1.cell 3 rfl, (HX.out _ HB0.out).1.cell 4 rfl⟩)
  go_wp2_with fail
  refine (HTs.out _ HB0.out).mono ?_
  rintro e x1 ⟨⟨g1, g1', gu1, l1, rfl, hs1, hm1, hz1⟩, hb1⟩
  have HB1 : Hid (Below w0.heap.size w0 x1) := HB0.out.trans (hb1.mono HB0.out.size)
  have HS1 : Hid (StoAt x1 x0.heap.size (some ⟨g1, 0, none⟩) n0 n0 xs (some ⟨g1', 0, none⟩) n1 n1 ys (some ⟨gu1, 0, none⟩) un un l1 ∧ l1.map UE.u = l.map UE.u ∧ ∀ e ∈ l1, e.n ≤ 1048576) := ⟨hs1, hm1, hz1⟩
  clear hs1 hm1 hz1 hb1 c0 c1 c2 c3 c4
  go_wp2_with fail
  refine (HP.out _ _ _ _ l1 x1 (HX.out _ HB1.out).2.2.2.2 HSz.out HS1.out.1 HS1.out.2.1 HS1.out.2.2).mono ?_
  rintro e x2 ⟨⟨vx2, rfl, hvx2⟩, hb2⟩
  obtain ⟨wa, wc, wa', wc', wu, wuc, lw, rfl, hsx2, hmx2, hzx2, hEx2⟩ := HAn.out _ _ _ hvx2
  have HAw : Hid (SAt (x2.alloc (.cells #[.slice wa N wc, .slice wa' N' wc', .int .i64 rep, .int .i64 rnx, .slice wu K wuc] 32)) x1.heap.size x2.heap.size wa N wc RX wa' N' wc' RY rep rnx wu K wuc lw) := SAt.new hsx2 hb2.size
  have HB2 : Hid (Below w0.heap.size w0 (x2.alloc (.cells #[.slice wa N wc, .slice wa' N' wc', .int .i64 rep, .int .i64 rnx, .slice wu K wuc] 32))) := (HB1.out.trans (hb2.mono HB1.out.size)).alloc (HB1.out.trans (hb2.mono HB1.out.size)).size _
  have HZ2 : Hid ((x2.alloc (.cells #[.slice wa N wc, .slice wa' N' wc', .int .i64 rep, .int .i64 rnx, .slice wu K wuc] 32)).heap.size = x2.heap.size + 1) := by show _ = _; simp
  have HMw : Hid (lw.map UE.u = rus ∧ ∀ e ∈ lw, e.n ≤ 1048576) := ⟨hmx2, hzx2⟩
  have hz12 : x1.heap.size ≤ x2.heap.size := hb2.size
  have hz01 : w0.heap.size ≤ x1.heap.size := HB1.out.size
  clear hvx2 hsx2 hmx2 hzx2 hEx2 hb2 HS1 HP
  obtain ⟨c0, c1, c2, c3, c4⟩ := (show _ ∧ _ ∧ _ ∧ _ ∧ _ from ⟨(HX.out _ HB2.out).1.cell 0 rfl, (HX.out _ HB2.out).1.cell 1 rfl, (HX.out _ HB2.out).1.cell 2 rfl, (HX.out _ HB2.out).1.cell 3 rfl, (HX.out _ HB2.out).1.cell 4 rfl⟩)
  go_wp2_with fail
  obtain ⟨w2, hw2⟩ : ∃ w2, x2.alloc (.cells #[.slice wa N wc, .slice wa' N' wc', .int .i64 rep, .int .i64 rnx, .slice wu K wuc] 32) = w2 := ⟨_, rfl⟩
  rw [hw2] at HAw HB2 HZ2 ⊢
  clear hw2
  generalize x2.heap.size = bw at *
  refine (HTs.out _ HB2.out).mono ?_
  rintro e x3 ⟨⟨g3, g3', gu3, l3, rfl, hs3, hm3, hz3⟩, hb3⟩
  have HAx : Hid (SAt (x3.alloc (.cells #[.slice (some ⟨g3, 0, none⟩) n0 n0, .slice (some ⟨g3', 0, none⟩) n1 n1, .int .i64 ep, .int .i64 nx, .slice (some ⟨gu3, 0, none⟩) un un] 32)) w2.heap.size x3.heap.size (some ⟨g3, 0, none⟩) n0 n0 xs (some ⟨g3', 0, none⟩) n1 n1 ys ep nx (some ⟨gu3, 0, none⟩) un un l3) := SAt.new hs3 hb3.size
  have HM3 : Hid (l3.map UE.u = l.map UE.u ∧ (∀ e ∈ l3, e.n ≤ 1048576)) := ⟨hm3, hz3⟩
  have HBa : Hid (Below w2.heap.size w2 (x3.alloc (.cells #[.slice (some ⟨g3, 0, none⟩) n0 n0, .slice (some ⟨g3', 0, none⟩) n1 n1, .int .i64 ep, .int .i64 nx, .slice (some ⟨gu3, 0, none⟩) un un] 32))) := hb3.alloc hb3.size _
  have HZ4 : Hid ((x3.alloc (.cells #[.slice (some ⟨g3, 0, none⟩) n0 n0, .slice (some ⟨g3', 0, none⟩) n1 n1, .int .i64 ep, .int .i64 nx, .slice (some ⟨gu3, 0, none⟩) un un] 32)).heap.size = x3.heap.size + 1) := by show _ = _; simp
  have hz23 : w2.heap.size ≤ x3.heap.size := hb3.size
  clear hs3 hm3 hz3 hb3 c0 c1 c2 c3 c4
  obtain ⟨d0, d1, d2, d3, d4⟩ := (show _ ∧ _ ∧ _ ∧ _ ∧ _ from ⟨HAx.out.box.cell 0 rfl, HAx.out.box.cell 1 rfl, HAx.out.box.cell 2 rfl, HAx.out.box.cell 3 rfl, HAx.out.box.cell 4 rfl⟩)
  go_wp2_with fail
  obtain ⟨w3, hw3⟩ : ∃ w3, x3.alloc (.cells #[.slice (some ⟨g3, 0, none⟩) n0 n0, .slice (some ⟨g3', 0, none⟩) n1 n1, .int .i64 ep, .int .i64 nx, .slice (some ⟨gu3, 0, none⟩) un un] 32) = w3 := ⟨_, rfl⟩
  rw [hw3] at HAx HBa HZ4 ⊢
  clear hw3 d0 d1 d2 d3 d4
  have HB3 : Hid (Below w0.heap.size w0 w3) := HB2.out.trans (HBa.out.mono HB2.out.size)
  have HAw3 : Hid (SAt w3 x1.heap.size bw wa N wc RX wa' N' wc' RY rep rnx wu K wuc lw) := HAw.out.stays HBa.out
  clear HAw
  clear HBa HB2
  generalize x3.heap.size = bx at *
  refine (HI.out _ _ _ _ l3 w3 (HX.out _ HB3.out).2.2.2.2 HSz.out HAx.out.sto HM3.out.1 HM3.out.2).mono ?_
  rintro e x4 ⟨⟨vx4, rfl, hvx4⟩, hb4⟩
  obtain ⟨ga, gc, ga', gc', gu, guc, lg, rfl, hsx4, hmx4, hzx4, hEx4⟩ := HAn.out _ _ _ hvx4
  have HAg : Hid (SAt (x4.alloc (.cells #[.slice ga N gc, .slice ga' N' gc', .int .i64 rep, .int .i64 rnx, .slice gu K guc] 32)) w3.heap.size x4.heap.size ga N gc RX ga' N' gc' RY rep rnx gu K guc lg) := SAt.new hsx4 hb4.size
  have HBb : Hid (Below w3.heap.size w3 (x4.alloc (.cells #[.slice ga N gc, .slice ga' N' gc', .int .i64 rep, .int .i64 rnx, .slice gu K guc] 32))) := hb4.alloc hb4.size _
  have HMg : Hid (lg.map UE.u = rus ∧ (∀ e ∈ lg, e.n ≤ 1048576) ∧ mkUEnd (1 + N + N') lg ≤ 2199023255552) := ⟨hmx4, hzx4, hEx4⟩
  have hz34 : w3.heap.size ≤ x4.heap.size := hb4.size
  clear hvx4 hsx4 hmx4 hzx4 hEx4 hb4
  have HAw4 : Hid (SAt (x4.alloc (.cells #[.slice ga N gc, .slice ga' N' gc', .int .i64 rep, .int .i64 rnx, .slice gu K guc] 32)) x1.heap.size bw wa N wc RX wa' N' wc' RY rep rnx wu K wuc lw) := HAw3.out.stays HBb.out
  have HAx4 : Hid (SAt (x4.alloc (.cells #[.slice ga N gc, .slice ga' N' gc', .int .i64 rep, .int .i64 rnx, .slice gu K guc] 32)) w2.heap.size bx (some ⟨g3, 0, none⟩) n0 n0 xs (some ⟨g3', 0, none⟩) n1 n1 ys ep nx (some ⟨gu3, 0, none⟩) un un l3) := HAx.out.stays HBb.out
  have HB4 : Hid (Below w0.heap.size w0 (x4.alloc (.cells #[.slice ga N gc, .slice ga' N' gc', .int .i64 rep, .int .i64 rnx, .slice gu K guc] 32))) := HB3.out.trans (HBb.out.mono HB3.out.size)
  clear HAw3 HAx HBb HB3
  obtain ⟨p0, p1, p2, p3, p4⟩ := (show _ ∧ _ ∧ _ ∧ _ ∧ _ from ⟨HAw4.out.box.cell 0 rfl, HAw4.out.box.cell 1 rfl, HAw4.out.box.cell 2 rfl, HAw4.out.box.cell 3 rfl, HAw4.out.box.cell 4 rfl⟩)
  obtain ⟨q0, q1, q2, q3, q4⟩ := (show _ ∧ _ ∧ _ ∧ _ ∧ _ from ⟨HAg.out.box.cell 0 rfl, HAg.out.box.cell 1 rfl, HAg.out.box.cell 2 rfl, HAg.out.box.cell 3 rfl, HAg.out.box.cell 4 rfl⟩)
  go_wp2_with fail
  obtain ⟨w4, hw4⟩ : ∃ w4, x4.alloc (.cells #[.slice ga N gc, .slice ga' N' gc', .int .i64 rep, .int .i64 rnx, .slice gu K guc] 32) = w4 := ⟨_, rfl⟩
  rw [hw4] at HAw4 HAx4 HAg HB4 ⊢
  clear hw4 p0 p1 p2 p3 p4 q0 q1 q2 q3 q4
  generalize x4.heap.size = bg at *
  refine (eqStore_same ga wa N gc wc RX ga' wa' N' gc' wc' RY rep rnx gu K guc w3.heap.size lg wu K wuc x1.heap.size lw w4 HAg.out.sto.now.strs HAw4.out.sto.now.strs HAg.out.sto.sure.strs HAw4.out.sto.sure.strs HAg.out.sto.ups HAw4.out.sto.ups HAg.out.sto.len HAw4.out.sto.len (by rw [HMg.out.1, HMw.out.1]) (by omega) (by omega) (by omega) (fun e he => by have := HMg.out.2.1 e he; omega)).mono ?_
  rintro e x5 ⟨rfl, hb5⟩
  have HAw5 : Hid (SAt x5 x1.heap.size bw wa N wc RX wa' N' wc' RY rep rnx wu K wuc lw) := HAw4.out.stays hb5
  have HAx5 : Hid (SAt x5 w2.heap.size bx (some ⟨g3, 0, none⟩) n0 n0 xs (some ⟨g3', 0, none⟩) n1 n1 ys ep nx (some ⟨gu3, 0, none⟩) un un l3) := HAx4.out.stays hb5
  have HAg5 : Hid (SAt x5 w3.heap.size bg ga N gc RX ga' N' gc' RY rep rnx gu K guc lg) := HAg.out.stays hb5
  have HB5 : Hid (Below w0.heap.size w0 x5) := HB4.out.trans (hb5.mono HB4.out.size)
  clear hb5 HAw4 HAx4 HAg HB4
  obtain ⟨c0, c1, c2, c3, c4⟩ := (show _ ∧ _ ∧ _ ∧ _ ∧ _ from ⟨(HX.out _ HB5.out).1.cell 0 rfl, (HX.out _ HB5.out).1.cell 1 rfl, (HX.out _ HB5.out).1.cell 2 rfl, (HX.out _ HB5.out).1.cell 3 rfl, (HX.out _ HB5.out).1.cell 4 rfl⟩)
  obtain ⟨d0, d1, d2, d3, d4⟩ := (show _ ∧ _ ∧ _ ∧ _ ∧ _ from ⟨HAx5.out.box.cell 0 rfl, HAx5.out.box.cell 1 rfl, HAx5.out.box.cell 2 rfl, HAx5.out.box.cell 3 rfl, HAx5.out.box.cell 4 rfl⟩)
  go_upto_region 10 with fail
  go_region_held3 (fun W => (W.cell? ⟨bx, 0, none⟩ = some (.slice (some ⟨g3, 0, none⟩) n0 n0) ∧ W.cell? ⟨bx, 1, none⟩ = some (.slice (some ⟨g3', 0, none⟩) n1 n1) ∧ W.cell? ⟨bx, 2, none⟩ = some (.int .i64 ep) ∧ W.cell? ⟨bx, 3, none⟩ = some (.int .i64 nx) ∧ W.cell? ⟨bx, 4, none⟩ = some (.slice (some ⟨gu3, 0, none⟩) un un)) ∧ W.cell? ⟨w.heap.size, 0, none⟩ = some (.slice a0 n0 ca0) ∧ W.cell? ⟨w.heap.size, 1, none⟩ = some (.slice a1 n1 ca1) ∧ W.cell? ⟨w.heap.size, 2, none⟩ = some (.int .i64 ep) ∧ W.cell? ⟨w.heap.size, 3, none⟩ = some (.int .i64 nx) ∧ W.cell? ⟨w.heap.size, 4, none⟩ = some (.slice ua un uc)) (first | with_reducible exact ⟨⟨i0, i1, i2, i3, i4⟩, e0, e1, e2, e3, e4⟩ | with_reducible exact ⟨⟨d0, d1, d2, d3, d4⟩, c0, c1, c2, c3, c4⟩ | exact ⟨⟨d0, d1, d2, d3, d4⟩, c0, c1, c2, c3, c4⟩) (first
    | (go_at_call 9; refine (HTs.out _ (HB5.out.drew)).mono ?_; rintro _ x6 ⟨⟨g6, g6', gu6, l6, rfl, hs6, hm6, hz6⟩, hb6⟩
       have hb6' : Below x5.heap.size x5 x6 := (Below.refl x5.heap.size x5).drew.trans (hb6.mono (Nat.le_refl _))
       have hB6 : Below w0.heap.size w0 x6 := HB5.out.trans (hb6'.mono HB5.out.size)
       have e0 := (HX.out _ hB6).1.cell 0 rfl
       have e1 := (HX.out _ hB6).1.cell 1 rfl
       have e2 := (HX.out _ hB6).1.cell 2 rfl
       have e3 := (HX.out _ hB6).1.cell 3 rfl
       have e4 := (HX.out _ hB6).1.cell 4 rfl
       have i0 := (HAx5.out.stays hb6').box.cell 0 rfl
       have i1 := (HAx5.out.stays hb6').box.cell 1 rfl
       have i2 := (HAx5.out.stays hb6').box.cell 2 rfl
       have i3 := (HAx5.out.stays hb6').box.cell 3 rfl
       have i4 := (HAx5.out.stays hb6').box.cell 4 rfl)
    | (go_at_call 11; refine (eqStore_same (some ⟨g3, 0, none⟩) (some ⟨g6, 0, none⟩) n0 n0 n0 xs (some ⟨g3', 0, none⟩) (some ⟨g6', 0, none⟩) n1 n1 n1 ys ep nx (some ⟨gu3, 0, none⟩) un un w2.heap.size l3 (some ⟨gu6, 0, none⟩) un un x5.heap.size l6 x6 (HAx5.out.stays hb6').sto.now.strs hs6.now.strs (HAx5.out.stays hb6').sto.sure.strs hs6.sure.strs (HAx5.out.stays hb6').sto.ups hs6.ups HAx5.out.sto.len hs6.len (by rw [HM3.out.1, hm6]) (by omega) (by omega) (by omega) (fun e he => by have := HM3.out.2 e he; omega)).mono ?_; rintro _ x7 ⟨rfl, hb7⟩
       have hb7' : Below x5.heap.size x5 x7 := hb6'.trans (hb7.mono hb6'.size)
       have hB7 : Below w0.heap.size w0 x7 := HB5.out.trans (hb7'.mono HB5.out.size)
       have e0 := (HX.out _ hB7).1.cell 0 rfl
       have e1 := (HX.out _ hB7).1.cell 1 rfl
       have e2 := (HX.out _ hB7).1.cell 2 rfl
       have e3 := (HX.out _ hB7).1.cell 3 rfl
       have e4 := (HX.out _ hB7).1.cell 4 rfl
       have i0 := (HAx5.out.stays hb7').box.cell 0 rfl
       have i1 := (HAx5.out.stays hb7').box.cell 1 rfl
       have i2 := (HAx5.out.stays hb7').box.cell 2 rfl
       have i3 := (HAx5.out.stays hb7').box.cell 3 rfl
       have i4 := (HAx5.out.stays hb7').box.cell 4 rfl)
    | fail)
  have HAw7 : Hid (SAt x7 x1.heap.size bw wa N wc RX wa' N' wc' RY rep rnx wu K wuc lw) := HAw5.out.stays hb7'
  have HAx7 : Hid (SAt x7 w2.heap.size bx (some ⟨g3, 0, none⟩) n0 n0 xs (some ⟨g3', 0, none⟩) n1 n1 ys ep nx (some ⟨gu3, 0, none⟩) un un l3) := HAx5.out.stays hb7'
  have HAg7 : Hid (SAt x7 w3.heap.size bg ga N gc RX ga' N' gc' RY rep rnx gu K guc lg) := HAg5.out.stays hb7'
  have HB7 : Hid (Below w0.heap.size w0 x7) := hB7
  clear hs6 hm6 hz6 hb6 hb6' hB6 hb7 hb7' hB7 e0 e1 e2 e3 e4 i0 i1 i2 i3 i4 c0 c1 c2 c3 c4 d0 d1 d2 d3 d4 HAw5 HAx5 HAg5 HB5
  obtain ⟨d0, d1, d2, d3, d4⟩ := (show _ ∧ _ ∧ _ ∧ _ ∧ _ from ⟨HAx7.out.box.cell 0 rfl, HAx7.out.box.cell 1 rfl, HAx7.out.box.cell 2 rfl, HAx7.out.box.cell 3 rfl, HAx7.out.box.cell 4 rfl⟩)
  have HEnd : Hid (mkUEnd (1 + n0 + n1) l3 ≤ 2199023255552) := by
    have h1 := mkUEnd_le (1 + n0 + n1) 1048576 l3 HM3.out.2
    have h2 := HAx7.out.sto.len
    have h3 : (3 + 1048576) * l3.length ≤ (3 + 1048576) * 1048576 := Nat.mul_le_mul_left _ (by omega)
    show _ ≤ _
    omega
  go_wp2_with fail
  refine (markStore_any w2.heap.size (some ⟨g3, 0, none⟩) n0 n0 xs (some ⟨g3', 0, none⟩) n1 n1 ys ep nx (some ⟨gu3, 0, none⟩) un un l3 1 x7 HAx7.out.sto (by omega) (by omega) (by omega) (by omega) HEnd.out bx HAx7.out.inn).mono ?_
  rintro e x8 ⟨rfl, _, hw8⟩
  have hz2 := HZ2.out
  have hz4 := HZ4.out
  have hl3 : w2.heap.size ≤ bx := HAx7.out.lob
  have hl1x : x1.heap.size ≤ bw := HAw7.out.lob
  have HAw8 : Hid (SAt x8 x1.heap.size bw wa N wc RX wa' N' wc' RY rep rnx wu K wuc lw) := HAw7.out.kept hw8 (.inl (by omega))
  have HAg8 : Hid (SAt x8 w3.heap.size bg ga N gc RX ga' N' gc' RY rep rnx gu K guc lg) := HAg7.out.kept hw8 (.inr (by omega))
  have HB8 : Hid (Below w0.heap.size w0 x8) := HB7.out.trans ((hw8.below (by have := HAw7.out.box.lt; have := HAx7.out.box.lt; omega)).mono (by omega))
  obtain ⟨kk, hkk⟩ : ∃ kk, mkUEnd (1 + n0 + n1) l3 = kk := ⟨_, rfl⟩
  rw [hkk]
  have hkp : ¬ (kk : Int) < 0 := by omega
  have hkd : decide ((kk : Int) < 0) = false := by simp
  clear hkk hw8 d0 d1 d2 d3 d4 HAw7 HAx7 HAg7 HB7
  obtain ⟨p0, p1, p2, p3, p4⟩ := (show _ ∧ _ ∧ _ ∧ _ ∧ _ from ⟨HAw8.out.box.cell 0 rfl, HAw8.out.box.cell 1 rfl, HAw8.out.box.cell 2 rfl, HAw8.out.box.cell 3 rfl, HAw8.out.box.cell 4 rfl⟩)
  obtain ⟨q0, q1, q2, q3, q4⟩ := (show _ ∧ _ ∧ _ ∧ _ ∧ _ from ⟨HAg8.out.box.cell 0 rfl, HAg8.out.box.cell 1 rfl, HAg8.out.box.cell 2 rfl, HAg8.out.box.cell 3 rfl, HAg8.out.box.cell 4 rfl⟩)
  go_wp2_with fail
  refine (eqStore_same ga wa N gc wc RX ga' wa' N' gc' wc' RY rep rnx gu K guc w3.heap.size lg wu K wuc x1.heap.size lw x8 HAg8.out.sto.now.strs HAw8.out.sto.now.strs HAg8.out.sto.sure.strs HAw8.out.sto.sure.strs HAg8.out.sto.ups HAw8.out.sto.ups HAg8.out.sto.len HAw8.out.sto.len (by rw [HMg.out.1, HMw.out.1]) (by omega) (by omega) (by omega) (fun e he => by have := HMg.out.2.1 e he; omega)).mono ?_
  rintro e x9 ⟨rfl, hb9⟩
  have HAw9 : Hid (SAt x9 x1.heap.size bw wa N wc RX wa' N' wc' RY rep rnx wu K wuc lw) := HAw8.out.stays hb9
  have HAg9 : Hid (SAt x9 w3.heap.size bg ga N gc RX ga' N' gc' RY rep rnx gu K guc lg) := HAg8.out.stays hb9
  have HB9 : Hid (Below w0.heap.size w0 x9) := HB8.out.trans (hb9.mono HB8.out.size)
  clear hb9 p0 p1 p2 p3 p4 q0 q1 q2 q3 q4 HAw8 HAg8 HB8
  obtain ⟨q0, q1, q2, q3, q4⟩ := (show _ ∧ _ ∧ _ ∧ _ ∧ _ from ⟨HAg9.out.box.cell 0 rfl, HAg9.out.box.cell 1 rfl, HAg9.out.box.cell 2 rfl, HAg9.out.box.cell 3 rfl, HAg9.out.box.cell 4 rfl⟩)
  go_wp2_with fail
  refine (markStore_any w3.heap.size ga N gc RX ga' N' gc' RY rep rnx gu K guc lg 1 x9 HAg9.out.sto (by omega) (by omega) (by omega) (by omega) HMg.out.2.2 bg HAg9.out.inn).mono ?_
  rintro e x10 ⟨rfl, hm10, hw10⟩
  have hl9 : w3.heap.size ≤ bg := HAg9.out.lob
  have HAw10 : Hid (SAt x10 x1.heap.size bw wa N wc RX wa' N' wc' RY rep rnx wu K wuc lw) := HAw9.out.kept hw10 (.inl (by omega))
  obtain ⟨hx10, hk10⟩ := HAg9.out.marked hm10 hw10
  have HBx : Hid (BoxN x10 bg 32 [.slice ga N gc, .slice ga' N' gc', .int .i64 rep, .int .i64 rnx, .slice gu K guc]) := hx10
  have HMk : Hid (StoMkd x10 w3.heap.size 1 ga N gc ga' N' gc' gu K guc lg) := hk10
  have HB10 : Hid (Below w0.heap.size w0 x10) := HB9.out.trans ((hw10.below (by have := HAg9.out.box.lt; omega)).mono (by omega))
  clear hm10 hw10 hx10 hk10 q0 q1 q2 q3 q4 HAw9 HAg9 HB9
  have HHG : Hid (∀ W : World, StoMkd W w3.heap.size 1 ga N gc ga' N' gc' gu K guc lg → Calls Tryz.prog 13 #[.agg #[.slice ga N gc, .slice ga' N' gc', .int .i64 rep, .int .i64 rnx, .slice gu K guc], .int .i64 1] W fun e w' => e = .returned (.int .i64 (mkUEnd (1 + N + N') lg : Int)) ∧ Below W.heap.size W w') := fun W h => heldStore_any w3.heap.size ga N gc ga' N' gc' rep rnx gu K guc lg 1 W h (by omega) (by omega) (by omega) (by omega) HMg.out.2.2
  generalize hq10 : ((mkUEnd (1 + N + N') lg : Nat) : Int) = q10 at *
  have hq10p : ¬ q10 < 0 := by omega
  have hq10d : decide (q10 < 0) = false := by simp; omega
  have hq10e : (q10 != q10) = false := by simp
  clear hq10
  obtain ⟨q0, q1, q2, q3, q4⟩ := (show _ ∧ _ ∧ _ ∧ _ ∧ _ from ⟨HBx.out.cell 0 rfl, HBx.out.cell 1 rfl, HBx.out.cell 2 rfl, HBx.out.cell 3 rfl, HBx.out.cell 4 rfl⟩)
  go_wp2_with fail
  refine (HHG.out _ HMk.out).mono ?_
  rintro e x11 ⟨rfl, hb11⟩
  have HAw11 : Hid (SAt x11 x1.heap.size bw wa N wc RX wa' N' wc' RY rep rnx wu K wuc lw) := HAw10.out.stays hb11
  have HBx11 : Hid (BoxN x11 bg 32 [.slice ga N gc, .slice ga' N' gc', .int .i64 rep, .int .i64 rnx, .slice gu K guc]) := HBx.out.stays hb11
  have HMk11 : Hid (StoMkd x11 w3.heap.size 1 ga N gc ga' N' gc' gu K guc lg) := StoAt.stays HMk.out hb11
  have HB11 : Hid (Below w0.heap.size w0 x11) := HB10.out.trans (hb11.mono HB10.out.size)
  clear hb11 q0 q1 q2 q3 q4 HAw10 HBx HMk HB10
  obtain ⟨c0, c1, c2, c3, c4⟩ := (show _ ∧ _ ∧ _ ∧ _ ∧ _ from ⟨(HX.out _ HB11.out).1.cell 0 rfl, (HX.out _ HB11.out).1.cell 1 rfl, (HX.out _ HB11.out).1.cell 2 rfl, (HX.out _ HB11.out).1.cell 3 rfl, (HX.out _ HB11.out).1.cell 4 rfl⟩)
  go_wp2_with fail
  refine (HTs.out _ HB11.out).mono ?_
  rintro e x12 ⟨⟨g12, g12', gu12, l12, rfl, hs12, hm12, hz12⟩, hb12⟩
  have HS12 : Hid (StoAt x12 x11.heap.size (some ⟨g12, 0, none⟩) n0 n0 xs (some ⟨g12', 0, none⟩) n1 n1 ys (some ⟨gu12, 0, none⟩) un un l12 ∧ l12.map UE.u = l.map UE.u ∧ ∀ e ∈ l12, e.n ≤ 1048576) := ⟨hs12, hm12, hz12⟩
  have HC12 : Hid (Below x11.heap.size x11 x12) := hb12
  have HD12 : Hid (Below w.heap.size w x12) := (HX.out _ (HB11.out.trans (hb12.mono HB11.out.size))).2.2.2.2
  clear hs12 hm12 hz12 hb12 c0 c1 c2 c3 c4
  go_wp2_with fail
  refine (HI.out _ _ _ _ l12 x12 HD12.out HSz.out HS12.out.1 HS12.out.2.1 HS12.out.2.2).mono ?_
  rintro e x13 ⟨⟨vx13, rfl, hvx13⟩, hb13⟩
  obtain ⟨ha, hc, ha', hc', hu, huc, lh, rfl, hsx13, hmx13, hzx13, hEx13⟩ := HAn.out _ _ _ hvx13
  have HAh : Hid (SAt (x13.alloc (.cells #[.slice ha N hc, .slice ha' N' hc', .int .i64 rep, .int .i64 rnx, .slice hu K huc] 32)) x12.heap.size x13.heap.size ha N hc RX ha' N' hc' RY rep rnx hu K huc lh) := SAt.new hsx13 hb13.size
  have HC13 : Hid (Below x11.heap.size x11 (x13.alloc (.cells #[.slice ha N hc, .slice ha' N' hc', .int .i64 rep, .int .i64 rnx, .slice hu K huc] 32))) := (HC12.out.trans (hb13.mono HC12.out.size)).alloc (HC12.out.trans (hb13.mono HC12.out.size)).size _
  have HMh : Hid (lh.map UE.u = rus ∧ ∀ e ∈ lh, e.n ≤ 1048576) := ⟨hmx13, hzx13⟩
  clear hvx13 hsx13 hmx13 hzx13 hEx13 hb13 HC12 HS12 HD12
  have HAw13 : Hid (SAt (x13.alloc (.cells #[.slice ha N hc, .slice ha' N' hc', .int .i64 rep, .int .i64 rnx, .slice hu K huc] 32)) x1.heap.size bw wa N wc RX wa' N' wc' RY rep rnx wu K wuc lw) := HAw11.out.stays HC13.out
  obtain ⟨p0, p1, p2, p3, p4⟩ := (show _ ∧ _ ∧ _ ∧ _ ∧ _ from ⟨HAw13.out.box.cell 0 rfl, HAw13.out.box.cell 1 rfl, HAw13.out.box.cell 2 rfl, HAw13.out.box.cell 3 rfl, HAw13.out.box.cell 4 rfl⟩)
  obtain ⟨q0, q1, q2, q3, q4⟩ := (show _ ∧ _ ∧ _ ∧ _ ∧ _ from ⟨HAh.out.box.cell 0 rfl, HAh.out.box.cell 1 rfl, HAh.out.box.cell 2 rfl, HAh.out.box.cell 3 rfl, HAh.out.box.cell 4 rfl⟩)
  go_wp2_with fail
  obtain ⟨w13, hw13⟩ : ∃ w13, x13.alloc (.cells #[.slice ha N hc, .slice ha' N' hc', .int .i64 rep, .int .i64 rnx, .slice hu K huc] 32) = w13 := ⟨_, rfl⟩
  rw [hw13] at HAh HC13 HAw13 ⊢
  clear hw13 p0 p1 p2 p3 p4 q0 q1 q2 q3 q4
  refine (eqStore_same ha wa N hc wc RX ha' wa' N' hc' wc' RY rep rnx hu K huc x12.heap.size lh wu K wuc x1.heap.size lw w13 HAh.out.sto.now.strs HAw13.out.sto.now.strs HAh.out.sto.sure.strs HAw13.out.sto.sure.strs HAh.out.sto.ups HAw13.out.sto.ups HAh.out.sto.len HAw13.out.sto.len (by rw [HMh.out.1, HMw.out.1]) (by omega) (by omega) (by omega) (fun e he => by have := HMh.out.2 e he; omega)).mono ?_
  rintro e x14 ⟨rfl, hb14⟩
  have HC14 : Hid (Below x11.heap.size x11 x14) := HC13.out.trans (hb14.mono HC13.out.size)
  clear hb14 HC13 HAh HAw13
  have HBx14 : Hid (BoxN x14 bg 32 [.slice ga N gc, .slice ga' N' gc', .int .i64 rep, .int .i64 rnx, .slice gu K guc]) := HBx11.out.stays HC14.out
  have HMk14 : Hid (StoMkd x14 w3.heap.size 1 ga N gc ga' N' gc' gu K guc lg) := StoAt.stays HMk11.out HC14.out
  obtain ⟨q0, q1, q2, q3, q4⟩ := (show _ ∧ _ ∧ _ ∧ _ ∧ _ from ⟨HBx14.out.cell 0 rfl, HBx14.out.cell 1 rfl, HBx14.out.cell 2 rfl, HBx14.out.cell 3 rfl, HBx14.out.cell 4 rfl⟩)
  go_wp2_with fail
  refine (HHG.out _ HMk14.out).mono ?_
  rintro e x15 ⟨rfl, hb15⟩
  have HEn : Hid (Below w.heap.size w x15) := by
    have h1 : Below w0.heap.size w0 x14 := HB11.out.trans (HC14.out.mono HB11.out.size)
    exact (HX.out _ (h1.trans (hb15.mono h1.size))).2.2.2.2
  clear hb15 q0 q1 q2 q3 q4
  go_wp2_with fail
  go_ret
  exact ⟨rfl, HEn.out⟩

end Go.Proofs.YtammmecddnafaaaGreatDoor

namespace Go.Proofs.YtammmecddnafaaaGreatDoor
open Go.RowKit
set_option linter.unusedVariables false

set_option maxRecDepth 10000 in
set_option maxHeartbeats 1600000 in
theorem implFlush_any (a : Option Addr) (n ca : Nat) (xs : List ByteArray) (a' : Option Addr) (n' ca' : Nat) (w : World) (h1 : Strs w a n xs) (hn : n ≤ 2097152) :
    Calls Tryz.prog 48 #[.agg #[.slice a n ca, .slice a' n' ca']] w fun e w' => (∃ v, e = .returned v ∧ AnsD w.heap.size xs xs v w') ∧ Below w.heap.size w w' := by
  obtain ⟨W2, hW2⟩ : ∃ W2, (w.alloc (.cells #[.slice a n ca, .slice a' n' ca'] 29)).alloc (.cells #[.slice none 0 0, .slice none 0 0] 29) = W2 := ⟨_, rfl⟩
  have HE : Hid ((w.alloc (.cells #[.slice a n ca, .slice a' n' ca'] 29)).alloc (.cells #[.slice none 0 0, .slice none 0 0] 29) = W2) := hW2
  have HB2 : Hid (Below w.heap.size w W2) := by show Below _ _ _; rw [← hW2]; exact ((Below.refl _ _).alloc (Nat.le_refl _) _).alloc (by simp) _
  have HZ2 : Hid (W2.heap.size = w.heap.size + 2) := by show _ = _; rw [← hW2]; simp
  have HQ1 : Hid (Box2R W2 w.heap.size 29 (.slice a n ca) (.slice a' n' ca')) := by show Box2R _ _ _ _ _; rw [← hW2]; exact (Box2R.new _ _ _ _).alloc _
  have HQ2 : Hid (Box2R W2 (w.heap.size + 1) 29 (.slice none 0 0) (.slice none 0 0)) := by
    show Box2R _ _ _ _ _
    rw [← hW2]
    have := Box2R.new (w.alloc (.cells #[.slice a n ca, .slice a' n' ca'] 29)) 29 (.slice none 0 0) (.slice none 0 0)
    rwa [World.size_alloc] at this
  have HX : Hid (Strs W2 a n xs) := h1.below HB2.out
  have HL : Hid (xs.length = n) := h1.1
  clear hW2 h1
  go_enter Tryz.func48, Tryz.ntmps48
  go_upto_region 1 with fail
  rw [HE.out]
  clear HE
  obtain ⟨c0, c1⟩ := HQ1.out.cells
  go_wp2_with fail
  refine (implDcopy_any a n ca xs a n ca xs _ HX.out HX.out hn hn).mono ?_
  rintro e x3 ⟨⟨v, rfl, A, C, A', C', rfl, o1, o2, hap⟩, hb3⟩
  rw [HL.out] at o1 o2 ⊢
  have hbx := HQ2.out.stays hb3
  obtain ⟨r0, r1⟩ := hbx.cells
  have f0 := hbx.frozen 0
  have f1 := hbx.frozen 1
  have HF : Hid (AnsD w.heap.size xs xs (.agg #[.slice A n C, .slice A' n C']) ((x3.setCell ⟨w.heap.size + 1, 0, none⟩ (.slice A n C)).setCell ⟨w.heap.size + 1, 1, none⟩ (.slice A' n C')) ∧ Below w.heap.size w ((x3.setCell ⟨w.heap.size + 1, 0, none⟩ (.slice A n C)).setCell ⟨w.heap.size + 1, 1, none⟩ (.slice A' n C'))) := by
    have hz := HZ2.out
    have n1 : blkOf (.slice A n C) ≠ some (w.heap.size + 1) := fun e => by have := (o1.lt _ e).1; omega
    have n2 : blkOf (.slice A' n C') ≠ some (w.heap.size + 1) := fun e => by have := (o2.lt _ e).1; omega
    have hbw := HB2.out.trans (hb3.mono HB2.out.size)
    exact ⟨AnsD.mk' HL.out HL.out (((o1.setCell n1 _).setCell n1 _).low (by omega)) (((o2.setCell n2 _).setCell n2 _).low (by omega)) hap, (hbw.setCell (by dsimp only; omega) _).setCell (by dsimp only; omega) _⟩
  clear o1 o2 hap hb3 hbx c0 c1
  go_wp2_with fail
  refine bodyPost_ret (v := .agg #[.slice A n C, .slice A' n C']) (by simp [results, Tryz.f48, go_sem, r0, r1]) rfl ?_
  exact ⟨⟨_, rfl, HF.out.1⟩, HF.out.2⟩

end Go.Proofs.YtammmecddnafaaaGreatDoor

namespace Go.Proofs.YtammmecddnafaaaGreatDoor
open Go.RowKit

/-- What is sure behind a flush. -/
noncomputable def syncY (X Y : List ByteArray) (ep nx : Int) (us : List U) : List ByteArray := if decB (SOk X Y ep nx us) = true then X else Y

end Go.Proofs.YtammmecddnafaaaGreatDoor

namespace Go.Proofs.YtammmecddnafaaaGreatDoor
open Go.RowKit
set_option linter.unusedVariables false

set_option maxRecDepth 10000 in
set_option maxHeartbeats 3200000 in
theorem implSync_any (a : Option Addr) (n ca : Nat) (X : List ByteArray) (a' : Option Addr) (n' ca' : Nat) (Y : List ByteArray) (ep nx : Int) (ua : Option Addr) (un uc lo : Nat) (l : List UE) (w : World) (h1 : Strs w a n X) (h2 : Strs w a' n' Y) (hn : n ≤ 1048576) (hn' : n' ≤ 1048576) (hzx : ∀ x ∈ X, x.size ≤ 1048576) (hu : UpRow w lo (.slice ua un uc) l) (hun : un = l.length) (hul : un ≤ 1048576) (hz : ∀ e ∈ l, e.n ≤ 1099511627776) (hsl : SlOk a n ca) (ht : RecT w) (he : ErrN w) :
    Calls Tryz.prog 22 #[.agg #[.slice a n ca, .slice a' n' ca', .int .i64 ep, .int .i64 nx, .slice ua un uc]] w fun e w' => (∃ v, e = .returned v ∧ AnsS w.heap.size X (syncY X Y ep nx (l.map UE.u)) ep nx (l.map UE.u) v w') ∧ Below w.heap.size w w' := by
  obtain ⟨W2, hW2⟩ : ∃ W2, (w.alloc (.cells #[.slice a n ca, .slice a' n' ca', .int .i64 ep, .int .i64 nx, .slice ua un uc] 32)).alloc (.cells #[.slice none 0 0, .slice none 0 0, .int .i64 0, .int .i64 0, .slice none 0 0] 32) = W2 := ⟨_, rfl⟩
  have HE : Hid ((w.alloc (.cells #[.slice a n ca, .slice a' n' ca', .int .i64 ep, .int .i64 nx, .slice ua un uc] 32)).alloc (.cells #[.slice none 0 0, .slice none 0 0, .int .i64 0, .int .i64 0, .slice none 0 0] 32) = W2) := hW2
  have HB2 : Hid (Below w.heap.size w W2) := by show Below _ _ _; rw [← hW2]; exact ((Below.refl _ _).alloc (Nat.le_refl _) _).alloc (by simp) _
  have q1 : BoxN W2 w.heap.size 32 [.slice a n ca, .slice a' n' ca', .int .i64 ep, .int .i64 nx, .slice ua un uc] := by rw [← hW2]; exact (BoxN.new _ _ _).alloc _
  have q2 : BoxN W2 (w.heap.size + 1) 32 [.slice none 0 0, .slice none 0 0, .int .i64 0, .int .i64 0, .slice none 0 0] := by
    rw [← hW2]
    have := BoxN.new (w.alloc (.cells #[.slice a n ca, .slice a' n' ca', .int .i64 ep, .int .i64 nx, .slice ua un uc] 32)) 32 [.slice none 0 0, .slice none 0 0, .int .i64 0, .int .i64 0, .slice none 0 0]
    rwa [World.size_alloc] at this
  have HQ : Hid (∀ W, Below W2.heap.size W2 W → BoxN W w.heap.size 32 [.slice a n ca, .slice a' n' ca', .int .i64 ep, .int .i64 nx, .slice ua un uc] ∧ BoxN W (w.heap.size + 1) 32 [.slice none 0 0, .slice none 0 0, .int .i64 0, .int .i64 0, .slice none 0 0]) := fun W h => ⟨q1.stays h, q2.stays h⟩
  have HX : Hid (∀ W, Below W2.heap.size W2 W → Strs W a n X ∧ Strs W a' n' Y ∧ UpRow W lo (.slice ua un uc) l ∧ RecT W ∧ ErrN W) := fun W h => by
    have hw := HB2.out.trans (h.mono HB2.out.size)
    exact ⟨h1.below hw, h2.below hw, hu.stays hw, ht.below hw, he.below hw⟩
  have HL : Hid (un = l.length ∧ (∀ e ∈ l, e.n ≤ 1099511627776) ∧ ∀ x ∈ X, x.size ≤ 1048576) := ⟨hun, hz, hzx⟩
  have hs2 : w.heap.size + 1 < W2.heap.size := q2.lt
  clear hW2 q1 q2 h1 h2 hu hun hz hzx ht he
  obtain ⟨c0, c1, c2, c3, c4⟩ := (show _ ∧ _ ∧ _ ∧ _ ∧ _ from ⟨(HQ.out _ (Below.refl _ _)).1.cell 0 rfl, (HQ.out _ (Below.refl _ _)).1.cell 1 rfl, (HQ.out _ (Below.refl _ _)).1.cell 2 rfl, (HQ.out _ (Below.refl _ _)).1.cell 3 rfl, (HQ.out _ (Below.refl _ _)).1.cell 4 rfl⟩)
  go_enter Tryz.func22, Tryz.ntmps22
  go_upto_region 1 with fail
  rw [HE.out]
  clear HE
  go_wp2_with fail
  refine (implScopy_any a n ca X a' n' ca' Y ep nx ua un uc lo l W2 (HX.out _ (Below.refl _ _)).1 (HX.out _ (Below.refl _ _)).2.1 hn hn' (HX.out _ (Below.refl _ _)).2.2.1 HL.out.1 hul HL.out.2.1).mono ?_
  rintro e y1 ⟨⟨v, rfl, hv⟩, hb1⟩
  obtain ⟨b, cb, b', cb', va, vc, l', rfl, hs1, hm1⟩ := hv.get
  rw [List.length_map, ← HL.out.1] at hs1 ⊢
  have HA1 : Hid (SAt (y1.alloc (.cells #[.slice b X.length cb, .slice b' Y.length cb', .int .i64 ep, .int .i64 nx, .slice va un vc] 32)) W2.heap.size y1.heap.size b X.length cb X b' Y.length cb' Y ep nx va un vc l') := SAt.new hs1 hb1.size
  have HC1 : Hid (Below W2.heap.size W2 (y1.alloc (.cells #[.slice b X.length cb, .slice b' Y.length cb', .int .i64 ep, .int .i64 nx, .slice va un vc] 32))) := hb1.alloc hb1.size _
  have HM : Hid (l'.map UE.u = l.map UE.u) := hm1
  clear hv hs1 hb1 hm1 c0 c1 c2 c3 c4
  obtain ⟨d0, d1, d2, d3, d4⟩ := (show _ ∧ _ ∧ _ ∧ _ ∧ _ from ⟨(HQ.out _ HC1.out).1.cell 0 rfl, (HQ.out _ HC1.out).1.cell 1 rfl, (HQ.out _ HC1.out).1.cell 2 rfl, (HQ.out _ HC1.out).1.cell 3 rfl, (HQ.out _ HC1.out).1.cell 4 rfl⟩)
  go_wp2_with fail
  obtain ⟨w1, hw1⟩ : ∃ w1, y1.alloc (.cells #[.slice b X.length cb, .slice b' Y.length cb', .int .i64 ep, .int .i64 nx, .slice va un vc] 32) = w1 := ⟨_, rfl⟩
  rw [hw1] at HA1 HC1 ⊢
  clear hw1 d0 d1 d2 d3 d4
  generalize y1.heap.size = bo at *
  refine (implSok_any a n ca X a' n' ca' Y ep nx ua un uc lo l w1 (HX.out _ HC1.out).1 (HX.out _ HC1.out).2.1 hn hn' HL.out.2.2 (HX.out _ HC1.out).2.2.1 HL.out.1 hul hsl (HX.out _ HC1.out).2.2.2.1 (HX.out _ HC1.out).2.2.2.2).mono ?_
  rintro e y2 ⟨rfl, hb2⟩
  obtain ⟨ok, hdb⟩ : ∃ ok, decB (SOk X Y ep nx (l.map UE.u)) = ok := ⟨_, rfl⟩
  rw [hdb]
  have HA2 : Hid (SAt y2 W2.heap.size bo b X.length cb X b' Y.length cb' Y ep nx va un vc l') := HA1.out.stays hb2
  have HC2 : Hid (Below W2.heap.size W2 y2) := HC1.out.trans (hb2.mono HC1.out.size)
  have HSy : Hid (syncY X Y ep nx (l.map UE.u) = if ok = true then X else Y) := by show _ = _; rw [syncY, hdb]
  have hlo : W2.heap.size ≤ bo := HA1.out.lob
  clear hb2 hdb HA1 HC1
  cases ok with
  | false =>
    obtain ⟨r0, r1, r2, r3, r4⟩ := (show _ ∧ _ ∧ _ ∧ _ ∧ _ from ⟨(HQ.out _ HC2.out).2.cell 0 rfl, (HQ.out _ HC2.out).2.cell 1 rfl, (HQ.out _ HC2.out).2.cell 2 rfl, (HQ.out _ HC2.out).2.cell 3 rfl, (HQ.out _ HC2.out).2.cell 4 rfl⟩)
    obtain ⟨o0, o1, o2, o3, o4⟩ := (show _ ∧ _ ∧ _ ∧ _ ∧ _ from ⟨HA2.out.box.cell 0 rfl, HA2.out.box.cell 1 rfl, HA2.out.box.cell 2 rfl, HA2.out.box.cell 3 rfl, HA2.out.box.cell 4 rfl⟩)
    obtain ⟨f0, f1, f2, f3, f4⟩ := (show _ ∧ _ ∧ _ ∧ _ ∧ _ from ⟨(HQ.out _ HC2.out).2.frozen 0, (HQ.out _ HC2.out).2.frozen 1, (HQ.out _ HC2.out).2.frozen 2, (HQ.out _ HC2.out).2.frozen 3, (HQ.out _ HC2.out).2.frozen 4⟩)
    have HBw : Hid (Below w.heap.size w y2) := HB2.out.trans (HC2.out.mono HB2.out.size)
    clear HQ HX HC2
    go_wp2_with fail
    refine bodyPost_ret (v := .agg #[.slice b X.length cb, .slice b' Y.length cb', .int .i64 ep, .int .i64 nx, .slice va un vc]) (by simp [results, Tryz.f22, go_sem, r0, r1, r2, r3, r4]) rfl ?_
    refine ⟨⟨_, rfl, b, X.length, cb, b', Y.length, cb', va, un, vc, l', rfl, ?_, HM.out⟩, ?_⟩
    · rw [HSy.out]
      exact (((((HA2.out.sto.setLow (by omega) _).setLow (by omega) _).setLow (by omega) _).setLow (by omega) _).setLow (by omega) _).low (by omega)
    · exact ((((HBw.out.setCell (by dsimp only; omega) _).setCell (by dsimp only; omega) _).setCell (by dsimp only; omega) _).setCell (by dsimp only; omega) _).setCell (by dsimp only; omega) _
  | true =>
    obtain ⟨d0, d1, d2, d3, d4⟩ := (show _ ∧ _ ∧ _ ∧ _ ∧ _ from ⟨HA2.out.box.cell 0 rfl, HA2.out.box.cell 1 rfl, HA2.out.box.cell 2 rfl, HA2.out.box.cell 3 rfl, HA2.out.box.cell 4 rfl⟩)
    have hXn : X.length ≤ 1048576 := by have := (HX.out _ HC2.out).1.1; omega
    go_wp2_with fail
    refine (implFlush_any b X.length cb X b' Y.length cb' y2 HA2.out.sto.now.strs (by omega)).mono ?_
    rintro e y3 ⟨⟨v3, rfl, A, C, A', C', rfl, ow, ow', hap⟩, hb3⟩
    have HA3 : Hid (SAt y3 W2.heap.size bo b X.length cb X b' Y.length cb' Y ep nx va un vc l') := HA2.out.stays hb3
    have HC3 : Hid (Below W2.heap.size W2 y3) := HC2.out.trans (hb3.mono HC2.out.size)
    have hbo : bo < y2.heap.size := HA2.out.box.lt
    have hlo2 : w.heap.size + 2 ≤ W2.heap.size := by omega
    have ho := HA3.out.box
    obtain ⟨o0, o1, o2, o3, o4⟩ := (show _ ∧ _ ∧ _ ∧ _ ∧ _ from ⟨ho.cell 0 rfl, ho.cell 1 rfl, ho.cell 2 rfl, ho.cell 3 rfl, ho.cell 4 rfl⟩)
    have z0 := ho.frozen 0
    have z1 := ho.frozen 1
    obtain ⟨x4, hx4⟩ : ∃ x4, (y3.setCell ⟨bo, 0, none⟩ (.slice A X.length C)).setCell ⟨bo, 1, none⟩ (.slice A' X.length C') = x4 := ⟨_, rfl⟩
    have HE4 : Hid ((y3.setCell ⟨bo, 0, none⟩ (.slice A X.length C)).setCell ⟨bo, 1, none⟩ (.slice A' X.length C') = x4) := hx4
    have HO4 : Hid (BoxN x4 bo 32 [.slice A X.length C, .slice A' X.length C', .int .i64 ep, .int .i64 nx, .slice va un vc]) := by
      show BoxN _ _ _ _
      rw [← hx4]
      exact (ho.set 0 _).set 1 _
    have HR4 : Hid (BoxN x4 (w.heap.size + 1) 32 [.slice none 0 0, .slice none 0 0, .int .i64 0, .int .i64 0, .slice none 0 0]) := by
      show BoxN _ _ _ _
      rw [← hx4]
      exact ((HQ.out _ HC3.out).2.other (by omega) _).other (by omega) _
    have hba : ∀ q, A.map (·.block) = some q → y2.heap.size ≤ q := fun q e => (ow.lt q (by rw [blk_own]; exact e)).1
    have hba' : ∀ q, A'.map (·.block) = some q → y2.heap.size ≤ q := fun q e => (ow'.lt q (by rw [blk_own]; exact e)).1
    have hn1 : blkOf (.slice A X.length C) ≠ some bo := fun e => by have := hba _ (by rw [← blk_own A X.length C]; exact e); omega
    have hn2 : blkOf (.slice A' X.length C') ≠ some bo := fun e => by have := hba' _ (by rw [← blk_own A' X.length C']; exact e); omega
    have hy2 : W2.heap.size ≤ y2.heap.size := HC2.out.size
    have HS4 : Hid (StoAt x4 (w.heap.size + 2) A X.length C X A' X.length C' X va un vc l') := by
      have hin := HA3.out.inn
      refine ⟨?_, ?_, hap, ?_, HA3.out.sto.len⟩
      · rw [← hx4]; exact ((ow.setCell hn1 _).setCell hn1 _).low (by omega)
      · rw [← hx4]; exact ((ow'.setCell hn2 _).setCell hn2 _).low (by omega)
      · rw [← hx4]
        have g1 : ∀ q, some bo = some q → (Value.slice va un vc).ownBlock ≠ some q := fun q hq hq2 => by injection hq with hq; have := hin.2.2.1 q (by rw [← ownBlock_sU va un vc]; exact hq2); omega
        have g2 : ∀ e ∈ l', ∀ q, some bo = some q → e.a.map (·.block) ≠ some q := fun e he q hq hq2 => by injection hq with hq; have := hin.2.2.2 e he q hq2; omega
        exact (((HA3.out.sto.ups.grown (grownBy_setU _ bo 0 _) g1 g2).grown (grownBy_setU _ bo 1 _) g1 g2)).low (by omega)
    have HB4 : Hid (Below w.heap.size w x4) := by
      show Below _ _ _
      rw [← hx4]
      exact ((HB2.out.trans (HC3.out.mono HB2.out.size)).setCell (by dsimp only; omega) _).setCell (by dsimp only; omega) _
    clear hx4 ow ow' hap hb3 ho hba hba' hn1 hn2 HA2 HA3 HC2 HC3 HQ HX d0 d1 d2 d3 d4
    go_upto_region 4 with fail
    rw [HE4.out]
    clear HE4 z0 z1 o0 o1 o2 o3 o4
    obtain ⟨o0, o1, o2, o3, o4⟩ := (show _ ∧ _ ∧ _ ∧ _ ∧ _ from ⟨HO4.out.cell 0 rfl, HO4.out.cell 1 rfl, HO4.out.cell 2 rfl, HO4.out.cell 3 rfl, HO4.out.cell 4 rfl⟩)
    obtain ⟨r0, r1, r2, r3, r4⟩ := (show _ ∧ _ ∧ _ ∧ _ ∧ _ from ⟨HR4.out.cell 0 rfl, HR4.out.cell 1 rfl, HR4.out.cell 2 rfl, HR4.out.cell 3 rfl, HR4.out.cell 4 rfl⟩)
    obtain ⟨f0, f1, f2, f3, f4⟩ := (show _ ∧ _ ∧ _ ∧ _ ∧ _ from ⟨HR4.out.frozen 0, HR4.out.frozen 1, HR4.out.frozen 2, HR4.out.frozen 3, HR4.out.frozen 4⟩)
    clear HO4 HR4
    go_wp2_with fail
    refine bodyPost_ret (v := .agg #[.slice A X.length C, .slice A' X.length C', .int .i64 ep, .int .i64 nx, .slice va un vc]) (by simp [results, Tryz.f22, go_sem, r0, r1, r2, r3, r4]) rfl ?_
    refine ⟨⟨_, rfl, A, X.length, C, A', X.length, C', va, un, vc, l', rfl, ?_, HM.out⟩, ?_⟩
    · rw [HSy.out]
      exact (((((HS4.out.setLow (by omega) _).setLow (by omega) _).setLow (by omega) _).setLow (by omega) _).setLow (by omega) _).low (by omega)
    · exact ((((HB4.out.setCell (by dsimp only; omega) _).setCell (by dsimp only; omega) _).setCell (by dsimp only; omega) _).setCell (by dsimp only; omega) _).setCell (by dsimp only; omega) _

end Go.Proofs.YtammmecddnafaaaGreatDoor

namespace Go.Proofs.YtammmecddnafaaaGreatDoor
open Go.RowKit
set_option linter.unusedVariables false

set_option maxRecDepth 10000 in
set_option maxHeartbeats 3200000 in
theorem specFlush_any (a : Option Addr) (n ca : Nat) (xs : List ByteArray) (a' : Option Addr) (n' ca' : Nat) (ys : List ByteArray) (w : World) (h1 : Strs w a n xs) (h2 : Strs w a' n' ys) (hn : n ≤ 2097152) (hn' : n' ≤ 2097152) :
    Calls Tryz.prog 46 #[.agg #[.slice a n ca, .slice a' n' ca']] w fun e w' => (∃ v, e = .returned v ∧ AnsD w.heap.size xs xs v w') ∧ Below w.heap.size w w' := by
  obtain ⟨i0, hi, hz0, hz1, hz2⟩ := info_parts info_string
  have HM0 : Hid (∀ x ∈ xs, x.size ≤ maxLen) := h1.2.1
  have HM1 : Hid (∀ x ∈ ys, x.size ≤ maxLen) := h2.2.1
  have HLn : Hid (xs.length = n ∧ ys.length = n') := ⟨h1.1, h2.1⟩
  obtain ⟨W2, hW2⟩ : ∃ W2, (w.alloc (.cells #[.slice a n ca, .slice a' n' ca'] 29)).alloc (.cells #[.slice none 0 0, .slice none 0 0] 29) = W2 := ⟨_, rfl⟩
  have HE : Hid ((w.alloc (.cells #[.slice a n ca, .slice a' n' ca'] 29)).alloc (.cells #[.slice none 0 0, .slice none 0 0] 29) = W2) := hW2
  have HB2 : Hid (Below w.heap.size w W2) := by show Below _ _ _; rw [← hW2]; exact ((Below.refl _ _).alloc (Nat.le_refl _) _).alloc (by simp) _
  have HZ2 : Hid (W2.heap.size = w.heap.size + 2) := by show _ = _; rw [← hW2]; simp
  have q1 : Box2R W2 w.heap.size 29 (.slice a n ca) (.slice a' n' ca') := by rw [← hW2]; exact (Box2R.new _ _ _ _).alloc _
  have q2 : Box2R W2 (w.heap.size + 1) 29 (.slice none 0 0) (.slice none 0 0) := by
    rw [← hW2]
    have := Box2R.new (w.alloc (.cells #[.slice a n ca, .slice a' n' ca'] 29)) 29 (.slice none 0 0) (.slice none 0 0)
    rwa [World.size_alloc] at this
  have HQ : Hid (∀ W, Below W2.heap.size W2 W → Box2R W w.heap.size 29 (.slice a n ca) (.slice a' n' ca') ∧ Box2R W (w.heap.size + 1) 29 (.slice none 0 0) (.slice none 0 0)) := fun W h => ⟨q1.stays h, q2.stays h⟩
  have HX : Hid (∀ W, Below W2.heap.size W2 W → Strs W a n xs ∧ Strs W a' n' ys) := fun W h => by
    have hw := HB2.out.trans (h.mono HB2.out.size)
    exact ⟨h1.below hw, h2.below hw⟩
  have HBa : Hid (Below W2.heap.size W2 (W2.alloc (.cells #[] 9))) := (Below.refl _ _).alloc (Nat.le_refl _) _
  have HBb : Hid (Below W2.heap.size W2 ((W2.alloc (.cells #[] 9)).alloc (.cells #[] 9))) := ((Below.refl _ _).alloc (Nat.le_refl _) _).alloc (by simp) _
  have HBad : Hid (Below W2.heap.size W2 (W2.alloc (.cells #[] 9)).drew) := HBa.out.drew
  have HBbd : Hid (Below W2.heap.size W2 ((W2.alloc (.cells #[] 9)).alloc (.cells #[] 9)).drew) := HBb.out.drew
  have HLa : Hid ((W2.alloc (.cells #[] 9)).heap[W2.heap.size]? = some (.cells #[] 9)) := heap_alloc_new _ _
  have HLb : Hid (((W2.alloc (.cells #[] 9)).alloc (.cells #[] 9)).heap[W2.heap.size]? = some (.cells #[] 9)) := by
    show _ = _
    rw [heap_alloc_old _ _ (by simp)]
    exact heap_alloc_new _ _
  have HLc : Hid (((W2.alloc (.cells #[] 9)).alloc (.cells #[] 9)).heap[W2.heap.size + 1]? = some (.cells #[] 9)) := by
    have := heap_alloc_new (W2.alloc (.cells #[] 9)) (.cells #[] 9)
    rwa [World.size_alloc] at this
  clear hW2 q1 q2 h1 h2
  have hne : w.heap.size ≠ w.heap.size + 1 := by omega
  have hs2 : w.heap.size + 1 < W2.heap.size := by have := HZ2.out; omega
  go_enter Tryz.func46, Tryz.ntmps46
  go_upto_region 1 with fail
  rw [HE.out]
  clear HE
  obtain ⟨c0, c1⟩ := (HQ.out _ (Below.refl _ _)).1.cells
  go_cut [] from 3 (fun W => Hid (∃ g1 c1 g2 c2, Box2R W (w.heap.size + 1) 29 (.slice (some ⟨g1, 0, none⟩) n c1) (.slice (some ⟨g2, 0, none⟩) n c2) ∧ g1 ≠ g2 ∧ OwnSt W w.heap.size (.slice (some ⟨g1, 0, none⟩) n c1) n xs ∧ OwnSt W w.heap.size (.slice (some ⟨g2, 0, none⟩) n c2) n xs ∧ Below w.heap.size w W))
  case first =>
    go_region_held3 (fun W => W.cell? ⟨w.heap.size, 0, none⟩ = some (.slice a n ca) ∧ W.cell? ⟨w.heap.size, 1, none⟩ = some (.slice a' n' ca')) (first | (refine ⟨?_, ?_⟩ <;> assumption) | (refine ⟨?_, ?_⟩ <;> (exact cellD_kept hne (cellD_kept hne (by assumption)))) | go_keep) (first
      | (refine step_append_lit rfl (.tmp 7) (.tmp 9) 22 22 rfl W2.heap.size 9 i0 (.string ⟨#[]⟩) 1 16 Tryz.underlying22 hi hz0 hz1 hz2 rfl (by decide) (W2.heap.size + 1) rfl hl2 (by omega) _ n (scells xs) rfl (HX.out _ hB1).1.src (by unfold maxLen; omega) (by omega) hB1.size ?_; intro g2 c2 y2 hown2 hb2 hw2; have hB2 : Below W2.heap.size W2 y2 := hB1.trans (hb2.mono hB1.size); obtain ⟨m0, m1⟩ := (HQ.out _ hB2).1.cells; obtain ⟨r0, r1⟩ := (HQ.out _ hB2).2.cells; have f0 := (HQ.out _ hB2).2.frozen 0; have f1 := (HQ.out _ hB2).2.frozen 1; have hne12 : g1 ≠ g2 := (by rcases hw2 with h | h <;> omega); have hownP := own_below hown1 hb2)
      | (refine step_append_lit rfl (.tmp 7) (.tmp 9) 22 22 rfl W2.heap.size 9 i0 (.string ⟨#[]⟩) 1 16 Tryz.underlying22 hi hz0 hz1 hz2 rfl (by decide) W2.heap.size rfl hl3 (by omega) _ n (scells xs) rfl (HX.out _ hB1).1.src (by unfold maxLen; omega) (by omega) hB1.size ?_; intro g2 c2 y2 hown2 hb2 hw2; have hB2 : Below W2.heap.size W2 y2 := hB1.trans (hb2.mono hB1.size); obtain ⟨m0, m1⟩ := (HQ.out _ hB2).1.cells; obtain ⟨r0, r1⟩ := (HQ.out _ hB2).2.cells; have f0 := (HQ.out _ hB2).2.frozen 0; have f1 := (HQ.out _ hB2).2.frozen 1; have hne12 : g1 ≠ g2 := (by rcases hw2 with h | h <;> omega); have hownP := own_below hown1 hb2)
      | (refine step_append_lit rfl (.tmp 7) (.tmp 9) 22 22 rfl W2.heap.size 9 i0 (.string ⟨#[]⟩) 1 16 Tryz.underlying22 hi hz0 hz1 hz2 rfl (by decide) y1.heap.size rfl (heap_alloc_new y1 _) (by omega) _ n (scells xs) rfl (HX.out _ (hB1.alloc hB1.size (.cells #[] 9))).1.src (by unfold maxLen; omega) (by omega) (hB1.alloc hB1.size (.cells #[] 9)).size ?_; intro g2 c2 y2 hown2 hb2 hw2; have hB2 : Below W2.heap.size W2 y2 := (hB1.alloc hB1.size (.cells #[] 9)).trans (hb2.mono (hB1.alloc hB1.size (.cells #[] 9)).size); obtain ⟨m0, m1⟩ := (HQ.out _ hB2).1.cells; obtain ⟨r0, r1⟩ := (HQ.out _ hB2).2.cells; have f0 := (HQ.out _ hB2).2.frozen 0; have f1 := (HQ.out _ hB2).2.frozen 1; have hne12 : g1 ≠ g2 := (by rw [World.size_alloc] at hw2; rcases hw2 with h | h <;> omega); have hownP := own_below hown1 (((Below.refl y1.heap.size y1).alloc (Nat.le_refl _) _).trans (hb2.mono (by simp))))
      | (refine step_append_lit rfl (.tmp 3) (.tmp 5) 22 22 rfl W2.heap.size 9 i0 (.string ⟨#[]⟩) 1 16 Tryz.underlying22 hi hz0 hz1 hz2 rfl (by decide) W2.heap.size rfl HLa.out (by omega) _ n (scells xs) rfl (HX.out _ HBad.out).1.src (by unfold maxLen; omega) (by omega) HBad.out.size ?_; intro g1 c1 y1 hown1 hb1 hw1; have hB1 : Below W2.heap.size W2 y1 := HBad.out.trans (hb1.mono HBad.out.size); obtain ⟨e0, e1⟩ := (HQ.out _ hB1).1.cells; have hy1 := hB1.size; have hg1 := (show g1 < y1.heap.size from (OwnSt.lt ⟨hown1, HM0.out⟩ g1 rfl).2); have mark1 := trivial)
      | (refine step_append_lit rfl (.tmp 3) (.tmp 5) 22 22 rfl W2.heap.size 9 i0 (.string ⟨#[]⟩) 1 16 Tryz.underlying22 hi hz0 hz1 hz2 rfl (by decide) W2.heap.size rfl HLb.out (by omega) _ n (scells xs) rfl (HX.out _ HBbd.out).1.src (by unfold maxLen; omega) (by omega) HBbd.out.size ?_; intro g1 c1 y1 hown1 hb1 hw1; have hB1 : Below W2.heap.size W2 y1 := HBbd.out.trans (hb1.mono HBbd.out.size); obtain ⟨e0, e1⟩ := (HQ.out _ hB1).1.cells; have hy1 := hB1.size; have hg1 := (show g1 < y1.heap.size from (OwnSt.lt ⟨hown1, HM0.out⟩ g1 rfl).2); have hl2 : y1.heap[W2.heap.size + 1]? = some (.cells #[] 9) := (hb1.block _ (by show W2.heap.size + 1 < ((W2.alloc (.cells #[] 9)).alloc (.cells #[] 9)).heap.size; simp)).trans HLc.out; have hap : g1 ≠ W2.heap.size + 1 := (by have hz : ((W2.alloc (.cells #[] 9)).alloc (.cells #[] 9)).drew.heap.size = W2.heap.size + 2 := (by show ((W2.alloc (.cells #[] 9)).alloc (.cells #[] 9)).heap.size = _; simp); rcases hw1 with h | h <;> omega))
      | (refine step_append_lit rfl (.tmp 3) (.tmp 5) 22 22 rfl W2.heap.size 9 i0 (.string ⟨#[]⟩) 1 16 Tryz.underlying22 hi hz0 hz1 hz2 rfl (by decide) (W2.heap.size + 1) rfl HLc.out (by omega) _ n (scells xs) rfl (HX.out _ HBbd.out).1.src (by unfold maxLen; omega) (by omega) HBbd.out.size ?_; intro g1 c1 y1 hown1 hb1 hw1; have hB1 : Below W2.heap.size W2 y1 := HBbd.out.trans (hb1.mono HBbd.out.size); obtain ⟨e0, e1⟩ := (HQ.out _ hB1).1.cells; have hy1 := hB1.size; have hg1 := (show g1 < y1.heap.size from (OwnSt.lt ⟨hown1, HM0.out⟩ g1 rfl).2); have hl3 : y1.heap[W2.heap.size]? = some (.cells #[] 9) := (hb1.block _ (by show W2.heap.size < ((W2.alloc (.cells #[] 9)).alloc (.cells #[] 9)).heap.size; simp; omega)).trans HLb.out; have hap : g1 ≠ W2.heap.size := (by have hz : ((W2.alloc (.cells #[] 9)).alloc (.cells #[] 9)).drew.heap.size = W2.heap.size + 2 := (by show ((W2.alloc (.cells #[] 9)).alloc (.cells #[] 9)).heap.size = _; simp); rcases hw1 with h | h <;> omega))
      | fail)
    all_goals
      have HF : Hid (Box2R ((y2.setCell ⟨w.heap.size + 1, 0, none⟩ (.slice (some ⟨g1, 0, none⟩) n c1)).setCell ⟨w.heap.size + 1, 1, none⟩ (.slice (some ⟨g2, 0, none⟩) n c2)) (w.heap.size + 1) 29 (.slice (some ⟨g1, 0, none⟩) n c1) (.slice (some ⟨g2, 0, none⟩) n c2) ∧ g1 ≠ g2 ∧ OwnSt ((y2.setCell ⟨w.heap.size + 1, 0, none⟩ (.slice (some ⟨g1, 0, none⟩) n c1)).setCell ⟨w.heap.size + 1, 1, none⟩ (.slice (some ⟨g2, 0, none⟩) n c2)) w.heap.size (.slice (some ⟨g1, 0, none⟩) n c1) n xs ∧ OwnSt ((y2.setCell ⟨w.heap.size + 1, 0, none⟩ (.slice (some ⟨g1, 0, none⟩) n c1)).setCell ⟨w.heap.size + 1, 1, none⟩ (.slice (some ⟨g2, 0, none⟩) n c2)) w.heap.size (.slice (some ⟨g2, 0, none⟩) n c2) n xs ∧ Below w.heap.size w ((y2.setCell ⟨w.heap.size + 1, 0, none⟩ (.slice (some ⟨g1, 0, none⟩) n c1)).setCell ⟨w.heap.size + 1, 1, none⟩ (.slice (some ⟨g2, 0, none⟩) n c2))) := by
        have o1 : OwnSt y2 W2.heap.size (.slice (some ⟨g1, 0, none⟩) n c1) n xs := ⟨hownP, HM0.out⟩
        have o2 : OwnSt y2 W2.heap.size (.slice (some ⟨g2, 0, none⟩) n c2) n xs := ⟨hown2, HM0.out⟩
        have l1 := (o1.lt g1 rfl).1
        have l2 := (o2.lt g2 rfl).1
        have hbw := HB2.out.trans (hB2.mono HB2.out.size)
        exact ⟨((HQ.out _ hB2).2.set0 _).set1 _, hne12, ((o1.setCell (by simp [blkOf]; omega) _).setCell (by simp [blkOf]; omega) _).low (by omega), ((o2.setCell (by simp [blkOf]; omega) _).setCell (by simp [blkOf]; omega) _).low (by omega), (hbw.setCell (by dsimp only; omega) _).setCell (by dsimp only; omega) _⟩
      clear hown1 hown2 hownP hb1 hb2 hB1 hB2 hw1 hw2 e0 e1 m0 m1 r0 r1 f0 f1 hg1 hy1
      go_wp2_with fail
      go_meet
      exact ⟨g1, c1, g2, c2, HF.out⟩
  case rest =>
  obtain ⟨x3, hx3⟩ : ∃ x3, wc = x3 := ⟨_, rfl⟩
  rw [hx3] at hcut ⊢
  obtain ⟨g1, c1, g2, c2, hbx, hne12, o1, o2, hbw⟩ := hcut
  have HO : Hid (OwnSt x3 w.heap.size (.slice (some ⟨g1, 0, none⟩) n c1) n xs ∧ OwnSt x3 w.heap.size (.slice (some ⟨g2, 0, none⟩) n c2) n xs ∧ Below w.heap.size w x3) := ⟨o1, o2, hbw⟩
  clear hx3 o1 o2 hbw HBa HBb HBad HBbd HLa HLb HLc
  obtain ⟨d0, d1⟩ := hbx.cells
  go_wp2_with fail
  refine bodyPost_ret (v := .agg #[.slice (some ⟨g1, 0, none⟩) n c1, .slice (some ⟨g2, 0, none⟩) n c2]) (by simp [results, Tryz.f46, go_sem, d0, d1]) rfl ?_
  have hl := HLn.out
  exact ⟨⟨_, rfl, AnsD.mk' (by omega) (by omega) HO.out.1 HO.out.2.1 (fun q e e2 => hne12 (by simp at e e2; omega))⟩, HO.out.2.2⟩

end Go.Proofs.YtammmecddnafaaaGreatDoor
