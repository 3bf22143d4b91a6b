/- The walk of the law FnExactPutUp; under contracts of both functions. The upload that a function of the store speaks of, and the code that comes first; no program in it. What the program's upFor answers. What is opened of a disk. What is opened of a disk, said as one answer, and how great it may be; no program in it. -/
import Derived.Test.YtammmecddnafaaaGreatDoorM04
import Derived.Test.YtammmecddnafaaaGreatDoorM05
import Derived.Test.YtammmecddnafaaaGreatDoorM05
import Derived.Test.YtammmecddnafaaaGreatDoorM05
import Derived.Test.YtammmecddnafaaaGreatDoorM06
import Derived.Test.YtammmecddnafaaaGreatDoorM06
import Derived.Test.YtammmecddnafaaaGreatDoorM05
import Derived.Deep.RegionHeld3
import Derived.Test.YtammmecddnafaaaGreatDoorM07
import Derived.Test.YtammmecddnafaaaGreatDoorM19
import Derived.Test.YtammmecddnafaaaGreatDoorM18
import Derived.Test.YtammmecddnafaaaGreatDoorM14
import Derived.Test.YtammmecddnafaaaGreatDoorM17
import Derived.Test.YtammmecddnafaaaGreatDoorM12
namespace Go.Proofs.YtammmecddnafaaaGreatDoor
open Go.RowKit
set_option linter.unusedVariables false

set_option maxRecDepth 10000 in
set_option maxHeartbeats 6400000 in
theorem putWalk (a0 : Option Addr) (n0 ca0 : Nat) (xs : List ByteArray) (a1 : Option Addr) (n1 ca1 : Nat) (ys : List ByteArray) (ep nx : Int) (ua : Option Addr) (un uc : Nat) (l : List UE) (s0 : ByteArray) (i1 : Int) (da : Option Addr) (dn dc : Nat) (zs : List Int) (w : World) (hl0 : n0 ≤ maxLen) (hl1 : n1 ≤ maxLen) (hlu : un ≤ maxLen) (h1 : Strs w a0 n0 xs) (h2 : Strs w a1 n1 ys) (hu : UpsI w ua un l) (hs0 : s0.size ≤ maxLen) (hdm : dn ≤ maxLen) (hsd : Seg w da dn zs) (RX RY : List ByteArray) (rep rnx : Int) (rus : List U) (rc : Int) (hRX : SzS n0 xs n1 ys un l → RX.length ≤ 1048576 ∧ RY.length ≤ 1048576 ∧ rus.length ≤ 1048576 ∧ ∀ u ∈ rus, u.zs.length ≤ 1048576)
    (HSp : ∀ (g g' gu lo dg : Nat) (l' : List UE) (W : World), Below w.heap.size w W → SzS n0 xs n1 ys un l → StoAt W lo (some ⟨g, 0, none⟩) n0 n0 xs (some ⟨g', 0, none⟩) n1 n1 ys (some ⟨gu, 0, none⟩) un un l' → l'.map UE.u = l.map UE.u → (∀ e ∈ l', e.n ≤ 1048576) → Seg W (some ⟨dg, 0, none⟩) dn zs → Calls Tryz.prog 14 #[.agg #[.slice (some ⟨g, 0, none⟩) n0 n0, .slice (some ⟨g', 0, none⟩) n1 n1, .int .i64 ep, .int .i64 nx, .slice (some ⟨gu, 0, none⟩) un un], .string s0, .int .i64 i1, .slice (some ⟨dg, 0, none⟩) dn dn] W fun e w' => (∃ v, e = .returned (.tuple #[v, .int .i64 rc]) ∧ AnsS W.heap.size RX RY rep rnx rus v w') ∧ Below W.heap.size W w')
    (HIm : ∀ (g g' gu lo dg : Nat) (l' : List UE) (W : World), Below w.heap.size w W → SzS n0 xs n1 ys un l → StoAt W lo (some ⟨g, 0, none⟩) n0 n0 xs (some ⟨g', 0, none⟩) n1 n1 ys (some ⟨gu, 0, none⟩) un un l' → l'.map UE.u = l.map UE.u → (∀ e ∈ l', e.n ≤ 1048576) → Seg W (some ⟨dg, 0, none⟩) dn zs → Calls Tryz.prog 16 #[.agg #[.slice (some ⟨g, 0, none⟩) n0 n0, .slice (some ⟨g', 0, none⟩) n1 n1, .int .i64 ep, .int .i64 nx, .slice (some ⟨gu, 0, none⟩) un un], .string s0, .int .i64 i1, .slice (some ⟨dg, 0, none⟩) dn dn] W fun e w' => (∃ v, e = .returned (.tuple #[v, .int .i64 rc]) ∧ AnsS W.heap.size RX RY rep rnx rus v w') ∧ Below W.heap.size W w') :
    Calls Tryz.prog 4 #[.agg #[.slice a0 n0 ca0, .slice a1 n1 ca1, .int .i64 ep, .int .i64 nx, .slice ua un uc], .string s0, .int .i64 i1, .slice da dn dc] w fun e w' => e = .returned (.bool true) ∧ Below w.heap.size w w' := by
  have hmm : maxLen < 9223372036854775808 := by decide
  obtain ⟨w0, hw0⟩ : ∃ w0, w.alloc (.cells #[.slice a0 n0 ca0, .slice a1 n1 ca1, .int .i64 ep, .int .i64 nx, .slice ua un uc] 27) = w0 := ⟨_, rfl⟩
  have HE : Hid (w.alloc (.cells #[.slice a0 n0 ca0, .slice a1 n1 ca1, .int .i64 ep, .int .i64 nx, .slice ua un uc] 27) = w0) := hw0
  have hB0 : Below w.heap.size w w0 := by rw [← hw0]; exact (Below.refl _ _).alloc (Nat.le_refl _) _
  have hQ0 : BoxN w0 w.heap.size 27 [.slice a0 n0 ca0, .slice a1 n1 ca1, .int .i64 ep, .int .i64 nx, .slice ua un uc] := by rw [← hw0]; exact BoxN.new _ _ _
  have HX : Hid (∀ W, Below w0.heap.size w0 W → BoxN W w.heap.size 27 [.slice a0 n0 ca0, .slice a1 n1 ca1, .int .i64 ep, .int .i64 nx, .slice ua un uc] ∧ Strs W a0 n0 xs ∧ Strs W a1 n1 ys ∧ UpsI W ua un l ∧ Below w.heap.size w W) := fun W hb => ⟨hQ0.stays hb, (h1.below hB0).below hb, (h2.below hB0).below hb, (hu.below hB0).below hb, hB0.trans (hb.mono hB0.size)⟩
  have hww : w.heap.size < w0.heap.size := hQ0.lt
  have HP : Hid (∀ (g g' gu lo dg : Nat) (l' : List UE) (W : World), Below w.heap.size w W → SzS n0 xs n1 ys un l → StoAt W lo (some ⟨g, 0, none⟩) n0 n0 xs (some ⟨g', 0, none⟩) n1 n1 ys (some ⟨gu, 0, none⟩) un un l' → l'.map UE.u = l.map UE.u → (∀ e ∈ l', e.n ≤ 1048576) → Seg W (some ⟨dg, 0, none⟩) dn zs → Calls Tryz.prog 14 #[.agg #[.slice (some ⟨g, 0, none⟩) n0 n0, .slice (some ⟨g', 0, none⟩) n1 n1, .int .i64 ep, .int .i64 nx, .slice (some ⟨gu, 0, none⟩) un un], .string s0, .int .i64 i1, .slice (some ⟨dg, 0, none⟩) dn dn] W fun e w' => (∃ v, e = .returned (.tuple #[v, .int .i64 rc]) ∧ AnsS W.heap.size RX RY rep rnx rus v w') ∧ Below W.heap.size W w') := HSp
  have HI : Hid (∀ (g g' gu lo dg : Nat) (l' : List UE) (W : World), Below w.heap.size w W → SzS n0 xs n1 ys un l → StoAt W lo (some ⟨g, 0, none⟩) n0 n0 xs (some ⟨g', 0, none⟩) n1 n1 ys (some ⟨gu, 0, none⟩) un un l' → l'.map UE.u = l.map UE.u → (∀ e ∈ l', e.n ≤ 1048576) → Seg W (some ⟨dg, 0, none⟩) dn zs → Calls Tryz.prog 16 #[.agg #[.slice (some ⟨g, 0, none⟩) n0 n0, .slice (some ⟨g', 0, none⟩) n1 n1, .int .i64 ep, .int .i64 nx, .slice (some ⟨gu, 0, none⟩) un un], .string s0, .int .i64 i1, .slice (some ⟨dg, 0, none⟩) dn dn] W fun e w' => (∃ v, e = .returned (.tuple #[v, .int .i64 rc]) ∧ AnsS W.heap.size RX RY rep rnx rus v w') ∧ Below W.heap.size W w') := HIm
  have HA0 : Hid (Below w0.heap.size w0 w0) := Below.refl _ _
  have HDs : Hid (∀ W, Below w0.heap.size w0 W → Seg W da dn zs) := fun W hb => (hsd.below hB0).below hb
  clear hw0 h1 h2 hu HSp HIm hQ0 hB0 hsd
  by_cases hid0 : 1048576 < (s0.size : Int)
  · have HBw : Hid (Below w.heap.size w w0) := (HX.out _ HA0.out).2.2.2.2
    go_enter Tryz.func4, Tryz.ntmps4
    go_upto_region 1 with fail
    rw [HE.out]
    clear HE
    go_wp2_with fail
    go_ret
    exact ⟨rfl, HBw.out⟩
  have hidd0 : decide (1048576 < (s0.size : Int)) = false := by simpa using hid0
  by_cases hidD : 1048576 < (dn : Int)
  · have HBw : Hid (Below w.heap.size w w0) := (HX.out _ HA0.out).2.2.2.2
    go_enter Tryz.func4, Tryz.ntmps4
    go_upto_region 1 with fail
    rw [HE.out]
    clear HE
    go_wp2_with fail
    go_ret
    exact ⟨rfl, HBw.out⟩
  have hiddD : decide (1048576 < (dn : Int)) = false := by simpa using hidD
  have hdn : dn ≤ 1048576 := by omega
  obtain ⟨c0, c1, c2, c3, c4⟩ := (show _ ∧ _ ∧ _ ∧ _ ∧ _ from ⟨(HX.out _ HA0.out).1.cell 0 rfl, (HX.out _ HA0.out).1.cell 1 rfl, (HX.out _ HA0.out).1.cell 2 rfl, (HX.out _ HA0.out).1.cell 3 rfl, (HX.out _ HA0.out).1.cell 4 rfl⟩)
  go_enter Tryz.func4, Tryz.ntmps4
  go_upto_region 1 with fail
  rw [HE.out]
  clear HE
  go_wp2_with fail
  refine (szStore_any a0 n0 ca0 xs a1 n1 ca1 ys ep nx ua un uc l w0 (HX.out _ HA0.out).2.1 (HX.out _ HA0.out).2.2.1 (HX.out _ HA0.out).2.2.2.1 hl0 hl1 hlu).mono ?_
  rintro e x0 ⟨⟨L, rfl, hL⟩, hb0⟩
  have HB0 : Hid (Below w0.heap.size w0 x0) := hb0
  clear hb0 c0 c1 c2 c3 c4
  by_cases hneg : L < 0
  · have HBw : Hid (Below w.heap.size w x0) := (HX.out _ HB0.out).2.2.2.2
    clear hL
    go_wp2_with fail
    go_ret
    exact ⟨rfl, HBw.out⟩
  have HSz : Hid (SzS n0 xs n1 ys un l) := by
    rcases hL with h | h
    · exact absurd h hneg
    · exact h.1
  have hun1 : un ≤ 1048576 := HSz.out.2.2.2.2.1
  have hn01 : n0 ≤ 1048576 := HSz.out.1
  have hn11 : n1 ≤ 1048576 := HSz.out.2.1
  clear hL
  have HTs : Hid (∀ W, Below w0.heap.size w0 W → Calls Tryz.prog 9 #[.agg #[.slice a0 n0 ca0, .slice a1 n1 ca1, .int .i64 ep, .int .i64 nx, .slice ua un uc]] W fun r w' => (∃ g g' gu l', r = .returned (.agg #[.slice (some ⟨g, 0, none⟩) n0 n0, .slice (some ⟨g', 0, none⟩) n1 n1, .int .i64 ep, .int .i64 nx, .slice (some ⟨gu, 0, none⟩) un un]) ∧ StoAt w' W.heap.size (some ⟨g, 0, none⟩) n0 n0 xs (some ⟨g', 0, none⟩) n1 n1 ys (some ⟨gu, 0, none⟩) un un l' ∧ l'.map UE.u = l.map UE.u ∧ ∀ e ∈ l', e.n ≤ 1048576) ∧ Below W.heap.size W w') := fun W hb => toStore_any a0 n0 ca0 xs a1 n1 ca1 ys ep nx ua un uc l W (HX.out _ hb).2.1 (HX.out _ hb).2.2.1 (HX.out _ hb).2.2.2.1 HSz.out
  obtain ⟨N, hN⟩ : ∃ N, RX.length = N := ⟨_, rfl⟩
  obtain ⟨N', hN'⟩ : ∃ N', RY.length = N' := ⟨_, rfl⟩
  obtain ⟨K, hK⟩ : ∃ K, rus.length = K := ⟨_, rfl⟩
  have hRb := hRX HSz.out
  rw [hN, hN', hK] at hRb
  have hNb : N ≤ 1048576 := hRb.1
  have hNb' : N' ≤ 1048576 := hRb.2.1
  have hKb : K ≤ 1048576 := hRb.2.2.1
  have HAn : Hid (∀ base v W, AnsS base RX RY rep rnx rus v W → ∃ a c a' c' u uc lx, v = .agg #[.slice a N c, .slice a' N' c', .int .i64 rep, .int .i64 rnx, .slice u K uc] ∧ StoAt W base a N c RX a' N' c' RY u K uc lx ∧ lx.map UE.u = rus ∧ (∀ e ∈ lx, e.n ≤ 1048576) ∧ mkUEnd (1 + N + N') lx ≤ 2199023255552) := fun base v W h => by
    obtain ⟨a, c, a', c', u, uc, lx, h1, h2, h3⟩ := h.get
    rw [hN, hN', hK] at h1 h2
    have hz : ∀ e ∈ lx, e.n ≤ 1048576 := fun e he => by
      have h4 := (h2.ups.2.1 e he).seg.1
      have h5 := hRb.2.2.2 e.u (by rw [← h3]; exact List.mem_map_of_mem he)
      omega
    refine ⟨a, c, a', c', u, uc, lx, h1, h2, h3, hz, ?_⟩
    have h6 := mkUEnd_le (1 + N + N') 1048576 lx hz
    have h7 := h2.len
    have h8 : (3 + 1048576) * lx.length ≤ (3 + 1048576) * 1048576 := Nat.mul_le_mul_left _ (by omega)
    omega
  clear hN hN' hK hRb hRX
  obtain ⟨c0, c1, c2, c3, c4⟩ := (show _ ∧ _ ∧ _ ∧ _ ∧ _ from ⟨(HX.out _ HB0.out).1.cell 0 rfl, (HX.out _ HB0.out).1.cell 1 rfl, (HX.out _ HB0.out).1.cell 2 rfl, (HX.out _ HB0.out).1.cell 3 rfl, (HX.out _ HB0.out).1.cell 4 rfl⟩)
  go_wp2_with fail
  refine (HTs.out _ HB0.out).mono ?_
  rintro e z1 ⟨⟨g1, g1', gu1, l1, rfl, hs1, hm1, hz1⟩, hb1⟩
  have HBz1 : Hid (Below w0.heap.size w0 z1) := HB0.out.trans (hb1.mono HB0.out.size)
  have HSz1 : Hid (StoAt z1 x0.heap.size (some ⟨g1, 0, none⟩) n0 n0 xs (some ⟨g1', 0, none⟩) n1 n1 ys (some ⟨gu1, 0, none⟩) un un l1 ∧ l1.map UE.u = l.map UE.u ∧ ∀ e ∈ l1, e.n ≤ 1048576) := ⟨hs1, hm1, hz1⟩
  clear hs1 hm1 hz1 hb1 c0 c1 c2 c3 c4
  go_wp2_with fail
  refine (toByteS_any da dn dc zs z1 (HDs.out _ HBz1.out) (by omega)).mono ?_
  rintro e x1 ⟨rfl, hd1, hbd1⟩
  have HB1 : Hid (Below w0.heap.size w0 x1) := HBz1.out.trans (hbd1.mono HBz1.out.size)
  have HS1 : Hid (StoAt x1 x0.heap.size (some ⟨g1, 0, none⟩) n0 n0 xs (some ⟨g1', 0, none⟩) n1 n1 ys (some ⟨gu1, 0, none⟩) un un l1 ∧ l1.map UE.u = l.map UE.u ∧ ∀ e ∈ l1, e.n ≤ 1048576) := ⟨HSz1.out.1.stays hbd1, HSz1.out.2⟩
  have HD1 : Hid (Seg x1 (some ⟨z1.heap.size, 0, none⟩) dn zs) := Owns.seg ⟨hd1, (HDs.out _ HBz1.out).2.1⟩
  clear hd1 hbd1 HBz1 HSz1
  generalize z1.heap.size = dg1 at *
  go_wp2_with fail
  refine (HP.out _ _ _ _ _ l1 x1 (HX.out _ HB1.out).2.2.2.2 HSz.out HS1.out.1 HS1.out.2.1 HS1.out.2.2 HD1.out).mono ?_
  rintro e x2 ⟨⟨vx2, rfl, hvx2⟩, hb2⟩
  obtain ⟨wa, wc, wa', wc', wu, wuc, lw, rfl, hsx2, hmx2, hzx2, hEx2⟩ := HAn.out _ _ _ hvx2
  have HAw : Hid (SAt (x2.alloc (.cells #[.slice wa N wc, .slice wa' N' wc', .int .i64 rep, .int .i64 rnx, .slice wu K wuc] 32)) x1.heap.size x2.heap.size wa N wc RX wa' N' wc' RY rep rnx wu K wuc lw) := SAt.new hsx2 hb2.size
  have HB2 : Hid (Below w0.heap.size w0 (x2.alloc (.cells #[.slice wa N wc, .slice wa' N' wc', .int .i64 rep, .int .i64 rnx, .slice wu K wuc] 32))) := (HB1.out.trans (hb2.mono HB1.out.size)).alloc (HB1.out.trans (hb2.mono HB1.out.size)).size _
  have HZ2 : Hid ((x2.alloc (.cells #[.slice wa N wc, .slice wa' N' wc', .int .i64 rep, .int .i64 rnx, .slice wu K wuc] 32)).heap.size = x2.heap.size + 1) := by show _ = _; simp
  have HMw : Hid (lw.map UE.u = rus ∧ ∀ e ∈ lw, e.n ≤ 1048576) := ⟨hmx2, hzx2⟩
  have hz12 : x1.heap.size ≤ x2.heap.size := hb2.size
  have hz01 : w0.heap.size ≤ x1.heap.size := HB1.out.size
  have hrn : (rc != rc) = false := by simp
  clear hvx2 hsx2 hmx2 hzx2 hEx2 hb2 HS1 HP HD1
  obtain ⟨c0, c1, c2, c3, c4⟩ := (show _ ∧ _ ∧ _ ∧ _ ∧ _ from ⟨(HX.out _ HB2.out).1.cell 0 rfl, (HX.out _ HB2.out).1.cell 1 rfl, (HX.out _ HB2.out).1.cell 2 rfl, (HX.out _ HB2.out).1.cell 3 rfl, (HX.out _ HB2.out).1.cell 4 rfl⟩)
  go_wp2_with fail
  obtain ⟨w2, hw2⟩ : ∃ w2, x2.alloc (.cells #[.slice wa N wc, .slice wa' N' wc', .int .i64 rep, .int .i64 rnx, .slice wu K wuc] 32) = w2 := ⟨_, rfl⟩
  rw [hw2] at HAw HB2 HZ2 ⊢
  clear hw2
  generalize x2.heap.size = bw at *
  refine (HTs.out _ HB2.out).mono ?_
  rintro e x3 ⟨⟨g3, g3', gu3, l3, rfl, hs3, hm3, hz3⟩, hb3⟩
  have HAxv : Hid (SAt (x3.alloc (.cells #[.slice (some ⟨g3, 0, none⟩) n0 n0, .slice (some ⟨g3', 0, none⟩) n1 n1, .int .i64 ep, .int .i64 nx, .slice (some ⟨gu3, 0, none⟩) un un] 32)) w2.heap.size x3.heap.size (some ⟨g3, 0, none⟩) n0 n0 xs (some ⟨g3', 0, none⟩) n1 n1 ys ep nx (some ⟨gu3, 0, none⟩) un un l3) := SAt.new hs3 hb3.size
  have HM3 : Hid (l3.map UE.u = l.map UE.u ∧ (∀ e ∈ l3, e.n ≤ 1048576)) := ⟨hm3, hz3⟩
  have HBa : Hid (Below w2.heap.size w2 (x3.alloc (.cells #[.slice (some ⟨g3, 0, none⟩) n0 n0, .slice (some ⟨g3', 0, none⟩) n1 n1, .int .i64 ep, .int .i64 nx, .slice (some ⟨gu3, 0, none⟩) un un] 32))) := hb3.alloc hb3.size _
  have HZ4 : Hid ((x3.alloc (.cells #[.slice (some ⟨g3, 0, none⟩) n0 n0, .slice (some ⟨g3', 0, none⟩) n1 n1, .int .i64 ep, .int .i64 nx, .slice (some ⟨gu3, 0, none⟩) un un] 32)).heap.size = x3.heap.size + 1) := by show _ = _; simp
  have hz23 : w2.heap.size ≤ x3.heap.size := hb3.size
  clear hs3 hm3 hz3 hb3 c0 c1 c2 c3 c4
  go_wp2_with fail
  obtain ⟨v3, hv3⟩ : ∃ v3, x3.alloc (.cells #[.slice (some ⟨g3, 0, none⟩) n0 n0, .slice (some ⟨g3', 0, none⟩) n1 n1, .int .i64 ep, .int .i64 nx, .slice (some ⟨gu3, 0, none⟩) un un] 32) = v3 := ⟨_, rfl⟩
  rw [hv3] at HAxv HBa HZ4 ⊢
  clear hv3
  have HBv3 : Hid (Below w0.heap.size w0 v3) := HB2.out.trans (HBa.out.mono HB2.out.size)
  have HAwv : Hid (SAt v3 x1.heap.size bw wa N wc RX wa' N' wc' RY rep rnx wu K wuc lw) := HAw.out.stays HBa.out
  clear HAw HBa HB2
  generalize x3.heap.size = bx at *
  refine (toByteS_any da dn dc zs v3 (HDs.out _ HBv3.out) (by omega)).mono ?_
  rintro e w3 ⟨rfl, hd3, hbd3⟩
  have HB3 : Hid (Below w0.heap.size w0 w3) := HBv3.out.trans (hbd3.mono HBv3.out.size)
  have HAx : Hid (SAt w3 w2.heap.size bx (some ⟨g3, 0, none⟩) n0 n0 xs (some ⟨g3', 0, none⟩) n1 n1 ys ep nx (some ⟨gu3, 0, none⟩) un un l3) := HAxv.out.stays hbd3
  have HAw3 : Hid (SAt w3 x1.heap.size bw wa N wc RX wa' N' wc' RY rep rnx wu K wuc lw) := HAwv.out.stays hbd3
  have HD3 : Hid (Owns w3 v3.heap.size (some ⟨v3.heap.size, 0, none⟩) dn dn zs) := ⟨hd3, (HDs.out _ HBv3.out).2.1⟩
  have hdk : v3.heap.size < w3.heap.size := (HD3.out.lt _ rfl).2
  clear hd3 hbd3 HAxv HAwv HBv3
  generalize v3.heap.size = dk at *
  obtain ⟨d0, d1, d2, d3, d4⟩ := (show _ ∧ _ ∧ _ ∧ _ ∧ _ from ⟨HAx.out.box.cell 0 rfl, HAx.out.box.cell 1 rfl, HAx.out.box.cell 2 rfl, HAx.out.box.cell 3 rfl, HAx.out.box.cell 4 rfl⟩)
  go_wp2_with fail
  clear d0 d1 d2 d3 d4
  refine (HI.out _ _ _ _ _ l3 w3 (HX.out _ HB3.out).2.2.2.2 HSz.out HAx.out.sto HM3.out.1 HM3.out.2 HD3.out.seg).mono ?_
  rintro e x4 ⟨⟨vx4, rfl, hvx4⟩, hb4⟩
  obtain ⟨ga, gc, ga', gc', gu, guc, lg, rfl, hsx4, hmx4, hzx4, hEx4⟩ := HAn.out _ _ _ hvx4
  have HAg : Hid (SAt (x4.alloc (.cells #[.slice ga N gc, .slice ga' N' gc', .int .i64 rep, .int .i64 rnx, .slice gu K guc] 32)) w3.heap.size x4.heap.size ga N gc RX ga' N' gc' RY rep rnx gu K guc lg) := SAt.new hsx4 hb4.size
  have HBb : Hid (Below w3.heap.size w3 (x4.alloc (.cells #[.slice ga N gc, .slice ga' N' gc', .int .i64 rep, .int .i64 rnx, .slice gu K guc] 32))) := hb4.alloc hb4.size _
  have HMg : Hid (lg.map UE.u = rus ∧ (∀ e ∈ lg, e.n ≤ 1048576) ∧ mkUEnd (1 + N + N') lg ≤ 2199023255552) := ⟨hmx4, hzx4, hEx4⟩
  have hz34 : w3.heap.size ≤ x4.heap.size := hb4.size
  clear hvx4 hsx4 hmx4 hzx4 hEx4 hb4
  have HAw4 : Hid (SAt (x4.alloc (.cells #[.slice ga N gc, .slice ga' N' gc', .int .i64 rep, .int .i64 rnx, .slice gu K guc] 32)) x1.heap.size bw wa N wc RX wa' N' wc' RY rep rnx wu K wuc lw) := HAw3.out.stays HBb.out
  have HAx4 : Hid (SAt (x4.alloc (.cells #[.slice ga N gc, .slice ga' N' gc', .int .i64 rep, .int .i64 rnx, .slice gu K guc] 32)) w2.heap.size bx (some ⟨g3, 0, none⟩) n0 n0 xs (some ⟨g3', 0, none⟩) n1 n1 ys ep nx (some ⟨gu3, 0, none⟩) un un l3) := HAx.out.stays HBb.out
  have HB4 : Hid (Below w0.heap.size w0 (x4.alloc (.cells #[.slice ga N gc, .slice ga' N' gc', .int .i64 rep, .int .i64 rnx, .slice gu K guc] 32))) := HB3.out.trans (HBb.out.mono HB3.out.size)
  have HD4 : Hid (Owns (x4.alloc (.cells #[.slice ga N gc, .slice ga' N' gc', .int .i64 rep, .int .i64 rnx, .slice gu K guc] 32)) dk (some ⟨dk, 0, none⟩) dn dn zs) := HD3.out.below HBb.out
  clear HAw3 HAx HBb HB3 HD3
  obtain ⟨p0, p1, p2, p3, p4⟩ := (show _ ∧ _ ∧ _ ∧ _ ∧ _ from ⟨HAw4.out.box.cell 0 rfl, HAw4.out.box.cell 1 rfl, HAw4.out.box.cell 2 rfl, HAw4.out.box.cell 3 rfl, HAw4.out.box.cell 4 rfl⟩)
  obtain ⟨q0, q1, q2, q3, q4⟩ := (show _ ∧ _ ∧ _ ∧ _ ∧ _ from ⟨HAg.out.box.cell 0 rfl, HAg.out.box.cell 1 rfl, HAg.out.box.cell 2 rfl, HAg.out.box.cell 3 rfl, HAg.out.box.cell 4 rfl⟩)
  go_wp2_with fail
  obtain ⟨w4, hw4⟩ : ∃ w4, x4.alloc (.cells #[.slice ga N gc, .slice ga' N' gc', .int .i64 rep, .int .i64 rnx, .slice gu K guc] 32) = w4 := ⟨_, rfl⟩
  rw [hw4] at HAw4 HAx4 HAg HB4 HD4 ⊢
  clear hw4 p0 p1 p2 p3 p4 q0 q1 q2 q3 q4
  generalize x4.heap.size = bg at *
  refine (eqStore_same ga wa N gc wc RX ga' wa' N' gc' wc' RY rep rnx gu K guc w3.heap.size lg wu K wuc x1.heap.size lw w4 HAg.out.sto.now.strs HAw4.out.sto.now.strs HAg.out.sto.sure.strs HAw4.out.sto.sure.strs HAg.out.sto.ups HAw4.out.sto.ups HAg.out.sto.len HAw4.out.sto.len (by rw [HMg.out.1, HMw.out.1]) (by omega) (by omega) (by omega) (fun e he => by have := HMg.out.2.1 e he; omega)).mono ?_
  rintro e x5 ⟨rfl, hb5⟩
  have HAw5 : Hid (SAt x5 x1.heap.size bw wa N wc RX wa' N' wc' RY rep rnx wu K wuc lw) := HAw4.out.stays hb5
  have HAx5 : Hid (SAt x5 w2.heap.size bx (some ⟨g3, 0, none⟩) n0 n0 xs (some ⟨g3', 0, none⟩) n1 n1 ys ep nx (some ⟨gu3, 0, none⟩) un un l3) := HAx4.out.stays hb5
  have HAg5 : Hid (SAt x5 w3.heap.size bg ga N gc RX ga' N' gc' RY rep rnx gu K guc lg) := HAg.out.stays hb5
  have HB5 : Hid (Below w0.heap.size w0 x5) := HB4.out.trans (hb5.mono HB4.out.size)
  have HD5 : Hid (Owns x5 dk (some ⟨dk, 0, none⟩) dn dn zs) := HD4.out.below hb5
  clear hb5 HAw4 HAx4 HAg HB4 HD4
  obtain ⟨c0, c1, c2, c3, c4⟩ := (show _ ∧ _ ∧ _ ∧ _ ∧ _ from ⟨(HX.out _ HB5.out).1.cell 0 rfl, (HX.out _ HB5.out).1.cell 1 rfl, (HX.out _ HB5.out).1.cell 2 rfl, (HX.out _ HB5.out).1.cell 3 rfl, (HX.out _ HB5.out).1.cell 4 rfl⟩)
  obtain ⟨d0, d1, d2, d3, d4⟩ := (show _ ∧ _ ∧ _ ∧ _ ∧ _ from ⟨HAx5.out.box.cell 0 rfl, HAx5.out.box.cell 1 rfl, HAx5.out.box.cell 2 rfl, HAx5.out.box.cell 3 rfl, HAx5.out.box.cell 4 rfl⟩)
  go_upto_region 15 with fail
  go_region_held3 (fun W => (W.cell? ⟨bx, 0, none⟩ = some (.slice (some ⟨g3, 0, none⟩) n0 n0) ∧ W.cell? ⟨bx, 1, none⟩ = some (.slice (some ⟨g3', 0, none⟩) n1 n1) ∧ W.cell? ⟨bx, 2, none⟩ = some (.int .i64 ep) ∧ W.cell? ⟨bx, 3, none⟩ = some (.int .i64 nx) ∧ W.cell? ⟨bx, 4, none⟩ = some (.slice (some ⟨gu3, 0, none⟩) un un)) ∧ W.cell? ⟨w.heap.size, 0, none⟩ = some (.slice a0 n0 ca0) ∧ W.cell? ⟨w.heap.size, 1, none⟩ = some (.slice a1 n1 ca1) ∧ W.cell? ⟨w.heap.size, 2, none⟩ = some (.int .i64 ep) ∧ W.cell? ⟨w.heap.size, 3, none⟩ = some (.int .i64 nx) ∧ W.cell? ⟨w.heap.size, 4, none⟩ = some (.slice ua un uc)) (first | with_reducible exact ⟨⟨i0, i1, i2, i3, i4⟩, e0, e1, e2, e3, e4⟩ | with_reducible exact ⟨⟨d0, d1, d2, d3, d4⟩, c0, c1, c2, c3, c4⟩ | exact ⟨⟨d0, d1, d2, d3, d4⟩, c0, c1, c2, c3, c4⟩) (first
    | (go_at_call 9; refine (HTs.out _ (HB5.out.drew)).mono ?_; rintro _ x6 ⟨⟨g6, g6', gu6, l6, rfl, hs6, hm6, hz6⟩, hb6⟩
       have hb6' : Below x5.heap.size x5 x6 := (Below.refl x5.heap.size x5).drew.trans (hb6.mono (Nat.le_refl _))
       have hB6 : Below w0.heap.size w0 x6 := HB5.out.trans (hb6'.mono HB5.out.size)
       have e0 := (HX.out _ hB6).1.cell 0 rfl
       have e1 := (HX.out _ hB6).1.cell 1 rfl
       have e2 := (HX.out _ hB6).1.cell 2 rfl
       have e3 := (HX.out _ hB6).1.cell 3 rfl
       have e4 := (HX.out _ hB6).1.cell 4 rfl
       have i0 := (HAx5.out.stays hb6').box.cell 0 rfl
       have i1 := (HAx5.out.stays hb6').box.cell 1 rfl
       have i2 := (HAx5.out.stays hb6').box.cell 2 rfl
       have i3 := (HAx5.out.stays hb6').box.cell 3 rfl
       have i4 := (HAx5.out.stays hb6').box.cell 4 rfl)
    | (go_at_call 11; refine (eqStore_same (some ⟨g3, 0, none⟩) (some ⟨g6, 0, none⟩) n0 n0 n0 xs (some ⟨g3', 0, none⟩) (some ⟨g6', 0, none⟩) n1 n1 n1 ys ep nx (some ⟨gu3, 0, none⟩) un un w2.heap.size l3 (some ⟨gu6, 0, none⟩) un un x5.heap.size l6 x6 (HAx5.out.stays hb6').sto.now.strs hs6.now.strs (HAx5.out.stays hb6').sto.sure.strs hs6.sure.strs (HAx5.out.stays hb6').sto.ups hs6.ups HAx5.out.sto.len hs6.len (by rw [HM3.out.1, hm6]) (by omega) (by omega) (by omega) (fun e he => by have := HM3.out.2 e he; omega)).mono ?_; rintro _ x7 ⟨rfl, hb7⟩
       have hb7' : Below x5.heap.size x5 x7 := hb6'.trans (hb7.mono hb6'.size)
       have hB7 : Below w0.heap.size w0 x7 := HB5.out.trans (hb7'.mono HB5.out.size)
       have e0 := (HX.out _ hB7).1.cell 0 rfl
       have e1 := (HX.out _ hB7).1.cell 1 rfl
       have e2 := (HX.out _ hB7).1.cell 2 rfl
       have e3 := (HX.out _ hB7).1.cell 3 rfl
       have e4 := (HX.out _ hB7).1.cell 4 rfl
       have i0 := (HAx5.out.stays hb7').box.cell 0 rfl
       have i1 := (HAx5.out.stays hb7').box.cell 1 rfl
       have i2 := (HAx5.out.stays hb7').box.cell 2 rfl
       have i3 := (HAx5.out.stays hb7').box.cell 3 rfl
       have i4 := (HAx5.out.stays hb7').box.cell 4 rfl)
    | fail)
  have HAw7 : Hid (SAt x7 x1.heap.size bw wa N wc RX wa' N' wc' RY rep rnx wu K wuc lw) := HAw5.out.stays hb7'
  have HAx7 : Hid (SAt x7 w2.heap.size bx (some ⟨g3, 0, none⟩) n0 n0 xs (some ⟨g3', 0, none⟩) n1 n1 ys ep nx (some ⟨gu3, 0, none⟩) un un l3) := HAx5.out.stays hb7'
  have HAg7 : Hid (SAt x7 w3.heap.size bg ga N gc RX ga' N' gc' RY rep rnx gu K guc lg) := HAg5.out.stays hb7'
  have HB7 : Hid (Below w0.heap.size w0 x7) := hB7
  have HD7 : Hid (Owns x7 dk (some ⟨dk, 0, none⟩) dn dn zs) := HD5.out.below hb7'
  clear hs6 hm6 hz6 hb6 hb6' hB6 hb7 hb7' hB7 e0 e1 e2 e3 e4 i0 i1 i2 i3 i4 c0 c1 c2 c3 c4 d0 d1 d2 d3 d4 HAw5 HAx5 HAg5 HB5 HD5
  go_wp2_with fail
  refine (toByteS_any da dn dc zs x7 (HDs.out _ HB7.out) (by omega)).mono ?_
  rintro e y7 ⟨rfl, hd7, hbd7⟩
  have HDt : Hid (Seg y7 (some ⟨x7.heap.size, 0, none⟩) dn zs) := Owns.seg ⟨hd7, (HDs.out _ HB7.out).2.1⟩
  have HBt : Hid (Below x7.heap.size x7 y7) := hbd7
  clear hd7 hbd7
  go_wp2_with fail
  refine (eqByteS_same (some ⟨dk, 0, none⟩) (some ⟨x7.heap.size, 0, none⟩) dn dn dn zs y7 (HD7.out.below HBt.out).seg HDt.out (by omega)).mono ?_
  rintro e z7 ⟨rfl, nn, hz7⟩
  have hbz : Below x7.heap.size x7 z7 := by rw [hz7]; exact below_drewN HBt.out _
  have HAwz : Hid (SAt z7 x1.heap.size bw wa N wc RX wa' N' wc' RY rep rnx wu K wuc lw) := HAw7.out.stays hbz
  have HAxz : Hid (SAt z7 w2.heap.size bx (some ⟨g3, 0, none⟩) n0 n0 xs (some ⟨g3', 0, none⟩) n1 n1 ys ep nx (some ⟨gu3, 0, none⟩) un un l3) := HAx7.out.stays hbz
  have HAgz : Hid (SAt z7 w3.heap.size bg ga N gc RX ga' N' gc' RY rep rnx gu K guc lg) := HAg7.out.stays hbz
  have HBz : Hid (Below w0.heap.size w0 z7) := HB7.out.trans (hbz.mono HB7.out.size)
  have HDz : Hid (Owns z7 dk (some ⟨dk, 0, none⟩) dn dn zs) := HD7.out.below hbz
  clear hz7 hbz HDt HBt HAw7 HAx7 HAg7 HB7 HD7
  obtain ⟨d0, d1, d2, d3, d4⟩ := (show _ ∧ _ ∧ _ ∧ _ ∧ _ from ⟨HAxz.out.box.cell 0 rfl, HAxz.out.box.cell 1 rfl, HAxz.out.box.cell 2 rfl, HAxz.out.box.cell 3 rfl, HAxz.out.box.cell 4 rfl⟩)
  have HEnd : Hid (mkUEnd (1 + n0 + n1) l3 ≤ 2199023255552) := by
    have h1 := mkUEnd_le (1 + n0 + n1) 1048576 l3 HM3.out.2
    have h2 := HAxz.out.sto.len
    have h3 : (3 + 1048576) * l3.length ≤ (3 + 1048576) * 1048576 := Nat.mul_le_mul_left _ (by omega)
    show _ ≤ _
    omega
  go_wp2_with fail
  refine (markStore_any w2.heap.size (some ⟨g3, 0, none⟩) n0 n0 xs (some ⟨g3', 0, none⟩) n1 n1 ys ep nx (some ⟨gu3, 0, none⟩) un un l3 1 z7 HAxz.out.sto (by omega) (by omega) (by omega) (by omega) HEnd.out bx HAxz.out.inn).mono ?_
  rintro e y8 ⟨rfl, _, hw8⟩
  have hz2 := HZ2.out
  have hz4 : dk ≤ bx + 1 := by have := HZ4.out; omega
  have hz4' : bx < dk := by have := HZ4.out; omega
  have hl3 : w2.heap.size ≤ bx := HAxz.out.lob
  have hl1x : x1.heap.size ≤ bw := HAwz.out.lob
  have HAwy : Hid (SAt y8 x1.heap.size bw wa N wc RX wa' N' wc' RY rep rnx wu K wuc lw) := HAwz.out.kept hw8 (.inl (by omega))
  have HAgy : Hid (SAt y8 w3.heap.size bg ga N gc RX ga' N' gc' RY rep rnx gu K guc lg) := HAgz.out.kept hw8 (.inr (by omega))
  have HBy : Hid (Below w0.heap.size w0 y8) := HBz.out.trans ((hw8.below (by have := HAwz.out.box.lt; have := HAxz.out.box.lt; omega)).mono (by omega))
  obtain ⟨kk, hkk⟩ : ∃ kk, mkUEnd (1 + n0 + n1) l3 = kk := ⟨_, rfl⟩
  rw [hkk]
  have hkE : kk ≤ 2199023255552 := by rw [← hkk]; exact HEnd.out
  have HQd : Hid (∀ q, (some (⟨dk, 0, none⟩ : Addr)).map (·.block) = some q → q = dk) := fun q hq => by injection hq with hq; exact hq.symm
  have HDy8 : Hid (Owns y8 dk (some ⟨dk, 0, none⟩) dn dn zs) := HDz.out.same (fun q hq => hw8.block q (HDz.out.lt _ hq).2 (.inr (by have := HQd.out q hq; omega)))
  clear hkk hw8 d0 d1 d2 d3 d4 HAwz HAxz HAgz HBz
  go_wp2_with fail
  refine (mark_any dk (some ⟨dk, 0, none⟩) dn dn kk zs y8 HDy8.out (by omega) hkE).mono ?_
  rintro e x8 ⟨rfl, _, hon8⟩
  have hw8 : Within y8 x8 dk (dk + 1) := within_grown hon8 (fun q hq => by have := HQd.out q hq; omega)
  have HAw8 : Hid (SAt x8 x1.heap.size bw wa N wc RX wa' N' wc' RY rep rnx wu K wuc lw) := HAwy.out.kept hw8 (.inl (by omega))
  have HAg8 : Hid (SAt x8 w3.heap.size bg ga N gc RX ga' N' gc' RY rep rnx gu K guc lg) := HAgy.out.kept hw8 (.inr (by omega))
  have HB8 : Hid (Below w0.heap.size w0 x8) := HBy.out.trans ((hw8.below (by have : dk < y8.heap.size := (HDy8.out.lt _ rfl).2; omega)).mono (by omega))
  obtain ⟨k9, hk9⟩ : ∃ k9, kk + dn = k9 := ⟨_, rfl⟩
  rw [hk9]
  have hkp : ¬ (k9 : Int) < 0 := by omega
  have hkd : decide ((k9 : Int) < 0) = false := by simp
  clear hk9 hon8 hw8 HQd HAwy HAgy HBy HDy8
  obtain ⟨p0, p1, p2, p3, p4⟩ := (show _ ∧ _ ∧ _ ∧ _ ∧ _ from ⟨HAw8.out.box.cell 0 rfl, HAw8.out.box.cell 1 rfl, HAw8.out.box.cell 2 rfl, HAw8.out.box.cell 3 rfl, HAw8.out.box.cell 4 rfl⟩)
  obtain ⟨q0, q1, q2, q3, q4⟩ := (show _ ∧ _ ∧ _ ∧ _ ∧ _ from ⟨HAg8.out.box.cell 0 rfl, HAg8.out.box.cell 1 rfl, HAg8.out.box.cell 2 rfl, HAg8.out.box.cell 3 rfl, HAg8.out.box.cell 4 rfl⟩)
  go_wp2_with fail
  refine (eqStore_same ga wa N gc wc RX ga' wa' N' gc' wc' RY rep rnx gu K guc w3.heap.size lg wu K wuc x1.heap.size lw x8 HAg8.out.sto.now.strs HAw8.out.sto.now.strs HAg8.out.sto.sure.strs HAw8.out.sto.sure.strs HAg8.out.sto.ups HAw8.out.sto.ups HAg8.out.sto.len HAw8.out.sto.len (by rw [HMg.out.1, HMw.out.1]) (by omega) (by omega) (by omega) (fun e he => by have := HMg.out.2.1 e he; omega)).mono ?_
  rintro e x9 ⟨rfl, hb9⟩
  have HAw9 : Hid (SAt x9 x1.heap.size bw wa N wc RX wa' N' wc' RY rep rnx wu K wuc lw) := HAw8.out.stays hb9
  have HAg9 : Hid (SAt x9 w3.heap.size bg ga N gc RX ga' N' gc' RY rep rnx gu K guc lg) := HAg8.out.stays hb9
  have HB9 : Hid (Below w0.heap.size w0 x9) := HB8.out.trans (hb9.mono HB8.out.size)
  clear hb9 p0 p1 p2 p3 p4 q0 q1 q2 q3 q4 HAw8 HAg8 HB8
  obtain ⟨q0, q1, q2, q3, q4⟩ := (show _ ∧ _ ∧ _ ∧ _ ∧ _ from ⟨HAg9.out.box.cell 0 rfl, HAg9.out.box.cell 1 rfl, HAg9.out.box.cell 2 rfl, HAg9.out.box.cell 3 rfl, HAg9.out.box.cell 4 rfl⟩)
  go_wp2_with fail
  refine (markStore_any w3.heap.size ga N gc RX ga' N' gc' RY rep rnx gu K guc lg 1 x9 HAg9.out.sto (by omega) (by omega) (by omega) (by omega) HMg.out.2.2 bg HAg9.out.inn).mono ?_
  rintro e x10 ⟨rfl, hm10, hw10⟩
  have hl9 : w3.heap.size ≤ bg := HAg9.out.lob
  have HAw10 : Hid (SAt x10 x1.heap.size bw wa N wc RX wa' N' wc' RY rep rnx wu K wuc lw) := HAw9.out.kept hw10 (.inl (by omega))
  obtain ⟨hx10, hk10⟩ := HAg9.out.marked hm10 hw10
  have HBx : Hid (BoxN x10 bg 32 [.slice ga N gc, .slice ga' N' gc', .int .i64 rep, .int .i64 rnx, .slice gu K guc]) := hx10
  have HMk : Hid (StoMkd x10 w3.heap.size 1 ga N gc ga' N' gc' gu K guc lg) := hk10
  have HB10 : Hid (Below w0.heap.size w0 x10) := HB9.out.trans ((hw10.below (by have := HAg9.out.box.lt; omega)).mono (by omega))
  clear hm10 hw10 hx10 hk10 q0 q1 q2 q3 q4 HAw9 HAg9 HB9
  have HHG : Hid (∀ W : World, StoMkd W w3.heap.size 1 ga N gc ga' N' gc' gu K guc lg → Calls Tryz.prog 13 #[.agg #[.slice ga N gc, .slice ga' N' gc', .int .i64 rep, .int .i64 rnx, .slice gu K guc], .int .i64 1] W fun e w' => e = .returned (.int .i64 (mkUEnd (1 + N + N') lg : Int)) ∧ Below W.heap.size W w') := fun W h => heldStore_any w3.heap.size ga N gc ga' N' gc' rep rnx gu K guc lg 1 W h (by omega) (by omega) (by omega) (by omega) HMg.out.2.2
  generalize hq10 : ((mkUEnd (1 + N + N') lg : Nat) : Int) = q10 at *
  have hq10p : ¬ q10 < 0 := by omega
  have hq10d : decide (q10 < 0) = false := by simp; omega
  have hq10e : (q10 != q10) = false := by simp
  clear hq10
  obtain ⟨q0, q1, q2, q3, q4⟩ := (show _ ∧ _ ∧ _ ∧ _ ∧ _ from ⟨HBx.out.cell 0 rfl, HBx.out.cell 1 rfl, HBx.out.cell 2 rfl, HBx.out.cell 3 rfl, HBx.out.cell 4 rfl⟩)
  go_wp2_with fail
  refine (HHG.out _ HMk.out).mono ?_
  rintro e x11 ⟨rfl, hb11⟩
  have HAw11 : Hid (SAt x11 x1.heap.size bw wa N wc RX wa' N' wc' RY rep rnx wu K wuc lw) := HAw10.out.stays hb11
  have HBx11 : Hid (BoxN x11 bg 32 [.slice ga N gc, .slice ga' N' gc', .int .i64 rep, .int .i64 rnx, .slice gu K guc]) := HBx.out.stays hb11
  have HMk11 : Hid (StoMkd x11 w3.heap.size 1 ga N gc ga' N' gc' gu K guc lg) := StoAt.stays HMk.out hb11
  have HB11 : Hid (Below w0.heap.size w0 x11) := HB10.out.trans (hb11.mono HB10.out.size)
  clear hb11 q0 q1 q2 q3 q4 HAw10 HBx HMk HB10
  obtain ⟨c0, c1, c2, c3, c4⟩ := (show _ ∧ _ ∧ _ ∧ _ ∧ _ from ⟨(HX.out _ HB11.out).1.cell 0 rfl, (HX.out _ HB11.out).1.cell 1 rfl, (HX.out _ HB11.out).1.cell 2 rfl, (HX.out _ HB11.out).1.cell 3 rfl, (HX.out _ HB11.out).1.cell 4 rfl⟩)
  go_wp2_with fail
  refine (HTs.out _ HB11.out).mono ?_
  rintro e z12 ⟨⟨g12, g12', gu12, l12, rfl, hs12, hm12, hz12⟩, hb12⟩
  have HSz12 : Hid (StoAt z12 x11.heap.size (some ⟨g12, 0, none⟩) n0 n0 xs (some ⟨g12', 0, none⟩) n1 n1 ys (some ⟨gu12, 0, none⟩) un un l12 ∧ l12.map UE.u = l.map UE.u ∧ ∀ e ∈ l12, e.n ≤ 1048576) := ⟨hs12, hm12, hz12⟩
  have HCz12 : Hid (Below x11.heap.size x11 z12) := hb12
  have HBz12 : Hid (Below w0.heap.size w0 z12) := HB11.out.trans (hb12.mono HB11.out.size)
  clear hs12 hm12 hz12 hb12 c0 c1 c2 c3 c4
  go_wp2_with fail
  refine (toByteS_any da dn dc zs z12 (HDs.out _ HBz12.out) (by omega)).mono ?_
  rintro e x12 ⟨rfl, hd12, hbd12⟩
  have HS12 : Hid (StoAt x12 x11.heap.size (some ⟨g12, 0, none⟩) n0 n0 xs (some ⟨g12', 0, none⟩) n1 n1 ys (some ⟨gu12, 0, none⟩) un un l12 ∧ l12.map UE.u = l.map UE.u ∧ ∀ e ∈ l12, e.n ≤ 1048576) := ⟨HSz12.out.1.stays hbd12, HSz12.out.2⟩
  have HC12 : Hid (Below x11.heap.size x11 x12) := HCz12.out.trans (hbd12.mono HCz12.out.size)
  have HD12 : Hid (Below w.heap.size w x12) := (HX.out _ (HBz12.out.trans (hbd12.mono HBz12.out.size))).2.2.2.2
  have HDd : Hid (Seg x12 (some ⟨z12.heap.size, 0, none⟩) dn zs) := Owns.seg ⟨hd12, (HDs.out _ HBz12.out).2.1⟩
  clear hd12 hbd12 HSz12 HCz12 HBz12
  generalize z12.heap.size = dg12 at *
  go_wp2_with fail
  refine (HI.out _ _ _ _ _ l12 x12 HD12.out HSz.out HS12.out.1 HS12.out.2.1 HS12.out.2.2 HDd.out).mono ?_
  rintro e x13 ⟨⟨vx13, rfl, hvx13⟩, hb13⟩
  obtain ⟨ha, hc, ha', hc', hu, huc, lh, rfl, hsx13, hmx13, hzx13, hEx13⟩ := HAn.out _ _ _ hvx13
  have HAh : Hid (SAt (x13.alloc (.cells #[.slice ha N hc, .slice ha' N' hc', .int .i64 rep, .int .i64 rnx, .slice hu K huc] 32)) x12.heap.size x13.heap.size ha N hc RX ha' N' hc' RY rep rnx hu K huc lh) := SAt.new hsx13 hb13.size
  have HC13 : Hid (Below x11.heap.size x11 (x13.alloc (.cells #[.slice ha N hc, .slice ha' N' hc', .int .i64 rep, .int .i64 rnx, .slice hu K huc] 32))) := (HC12.out.trans (hb13.mono HC12.out.size)).alloc (HC12.out.trans (hb13.mono HC12.out.size)).size _
  have HMh : Hid (lh.map UE.u = rus ∧ ∀ e ∈ lh, e.n ≤ 1048576) := ⟨hmx13, hzx13⟩
  clear hvx13 hsx13 hmx13 hzx13 hEx13 hb13 HC12 HS12 HD12 HDd
  have HAw13 : Hid (SAt (x13.alloc (.cells #[.slice ha N hc, .slice ha' N' hc', .int .i64 rep, .int .i64 rnx, .slice hu K huc] 32)) x1.heap.size bw wa N wc RX wa' N' wc' RY rep rnx wu K wuc lw) := HAw11.out.stays HC13.out
  obtain ⟨p0, p1, p2, p3, p4⟩ := (show _ ∧ _ ∧ _ ∧ _ ∧ _ from ⟨HAw13.out.box.cell 0 rfl, HAw13.out.box.cell 1 rfl, HAw13.out.box.cell 2 rfl, HAw13.out.box.cell 3 rfl, HAw13.out.box.cell 4 rfl⟩)
  obtain ⟨q0, q1, q2, q3, q4⟩ := (show _ ∧ _ ∧ _ ∧ _ ∧ _ from ⟨HAh.out.box.cell 0 rfl, HAh.out.box.cell 1 rfl, HAh.out.box.cell 2 rfl, HAh.out.box.cell 3 rfl, HAh.out.box.cell 4 rfl⟩)
  go_wp2_with fail
  obtain ⟨w13, hw13⟩ : ∃ w13, x13.alloc (.cells #[.slice ha N hc, .slice ha' N' hc', .int .i64 rep, .int .i64 rnx, .slice hu K huc] 32) = w13 := ⟨_, rfl⟩
  rw [hw13] at HAh HC13 HAw13 ⊢
  clear hw13 p0 p1 p2 p3 p4 q0 q1 q2 q3 q4
  refine (eqStore_same ha wa N hc wc RX ha' wa' N' hc' wc' RY rep rnx hu K huc x12.heap.size lh wu K wuc x1.heap.size lw w13 HAh.out.sto.now.strs HAw13.out.sto.now.strs HAh.out.sto.sure.strs HAw13.out.sto.sure.strs HAh.out.sto.ups HAw13.out.sto.ups HAh.out.sto.len HAw13.out.sto.len (by rw [HMh.out.1, HMw.out.1]) (by omega) (by omega) (by omega) (fun e he => by have := HMh.out.2 e he; omega)).mono ?_
  rintro e x14 ⟨rfl, hb14⟩
  have HC14 : Hid (Below x11.heap.size x11 x14) := HC13.out.trans (hb14.mono HC13.out.size)
  clear hb14 HC13 HAh HAw13
  have HBx14 : Hid (BoxN x14 bg 32 [.slice ga N gc, .slice ga' N' gc', .int .i64 rep, .int .i64 rnx, .slice gu K guc]) := HBx11.out.stays HC14.out
  have HMk14 : Hid (StoMkd x14 w3.heap.size 1 ga N gc ga' N' gc' gu K guc lg) := StoAt.stays HMk11.out HC14.out
  obtain ⟨q0, q1, q2, q3, q4⟩ := (show _ ∧ _ ∧ _ ∧ _ ∧ _ from ⟨HBx14.out.cell 0 rfl, HBx14.out.cell 1 rfl, HBx14.out.cell 2 rfl, HBx14.out.cell 3 rfl, HBx14.out.cell 4 rfl⟩)
  go_wp2_with fail
  refine (HHG.out _ HMk14.out).mono ?_
  rintro e x15 ⟨rfl, hb15⟩
  have HEn : Hid (Below w.heap.size w x15) := by
    have h1 : Below w0.heap.size w0 x14 := HB11.out.trans (HC14.out.mono HB11.out.size)
    exact (HX.out _ (h1.trans (hb15.mono h1.size))).2.2.2.2
  clear hb15 q0 q1 q2 q3 q4
  go_wp2_with fail
  go_ret
  exact ⟨rfl, HEn.out⟩

end Go.Proofs.YtammmecddnafaaaGreatDoor

namespace Go.Proofs.YtammmecddnafaaaGreatDoor
open Go.RowKit
set_option linter.unusedVariables false

noncomputable def forC (X Y : List ByteArray) (ep nx : Int) (us : List U) (id : ByteArray) : Int :=
  if decB (SOk X Y ep nx us) = true ∧ idB id.data.toList = true then (if atU us id = none then 2 else 0) else 1
noncomputable def forP (X Y : List ByteArray) (ep nx : Int) (us : List U) (id : ByteArray) (ua : Option Addr) : Option Addr :=
  if decB (SOk X Y ep nx us) = true ∧ idB id.data.toList = true then reachUO ua (atU us id) else none

section
variable {X Y : List ByteArray} {ep nx : Int} {us : List U} {id : ByteArray} {ua : Option Addr}

theorem for_form (h : ¬ (decB (SOk X Y ep nx us) = true ∧ idB id.data.toList = true)) : forP X Y ep nx us id ua = none ∧ forC X Y ep nx us id = 1 := by
  rw [forP, forC, if_neg h, if_neg h]
  exact ⟨rfl, rfl⟩

theorem for_none (h1 : decB (SOk X Y ep nx us) = true) (h2 : idB id.data.toList = true) (h3 : atU us id = none) : forP X Y ep nx us id ua = none ∧ forC X Y ep nx us id = 2 := by
  rw [forP, forC, if_pos ⟨h1, h2⟩, if_pos ⟨h1, h2⟩, if_pos h3, h3, reachUO_none]
  exact ⟨rfl, rfl⟩

theorem for_some {k : Nat} (h1 : decB (SOk X Y ep nx us) = true) (h2 : idB id.data.toList = true) (h3 : atU us id = some k) : forP X Y ep nx us id ua = reachUO ua (some k) ∧ forC X Y ep nx us id = 0 := by
  rw [forP, forC, if_pos ⟨h1, h2⟩, if_pos ⟨h1, h2⟩, if_neg (by rw [h3]; simp), h3]
  exact ⟨rfl, rfl⟩

theorem forC_zero (h : forC X Y ep nx us id = 0) : SOk X Y ep nx us ∧ idB id.data.toList = true ∧ ∃ k, atU us id = some k := by
  rw [forC] at h
  split at h
  · rename_i h1
    split at h
    · cases h
    · rename_i h2
      cases ha : atU us id with
      | none => exact absurd ha h2
      | some k => exact ⟨decB_of h1.1, h1.2, k, rfl⟩
  · cases h

theorem drop_forC (h : forC X Y ep nx us id ≠ 0) : (dropA X Y ep nx us id).c = forC X Y ep nx us id := by
  rw [forC] at h ⊢
  rw [dropA]
  split
  · rename_i h1
    rw [if_pos h1] at h
    split
    · rfl
    · rename_i h2; rw [if_neg h2] at h; exact absurd rfl h
  · rfl
end

end Go.Proofs.YtammmecddnafaaaGreatDoor

namespace Go.Proofs.YtammmecddnafaaaGreatDoor
open Go.RowKit
set_option linter.unusedVariables false

set_option maxRecDepth 10000 in
set_option maxHeartbeats 3200000 in
theorem implUpFor_any (a : Option Addr) (n ca : Nat) (X : List ByteArray) (a' : Option Addr) (n' ca' : Nat) (Y : List ByteArray) (ep nx : Int) (ua : Option Addr) (un uc lo : Nat) (l : List UE) (id : ByteArray) (w : World) (h1 : Strs w a n X) (h2 : Strs w a' n' Y) (hn : n ≤ 1048576) (hn' : n' ≤ 1048576) (hzx : ∀ x ∈ X, x.size ≤ 1048576) (hu : UpRow w lo (.slice ua un uc) l) (hun : un = l.length) (hul : un ≤ 1048576) (hid : id.size ≤ maxLen) (hsl : SlOk a n ca) (ht : RecT w) (he : ErrN w) :
    Calls Tryz.prog 78 #[.agg #[.slice a n ca, .slice a' n' ca', .int .i64 ep, .int .i64 nx, .slice ua un uc], .string id] w fun e w' => e = .returned (.tuple #[.pointer (forP X Y ep nx (l.map UE.u) id ua), .int .i64 (forC X Y ep nx (l.map UE.u) id)]) ∧ Below w.heap.size w w' := by
  have hmm : maxLen < 9223372036854775808 := by decide
  obtain ⟨w0, hw0⟩ : ∃ w0, w.alloc (.cells #[.slice a n ca, .slice a' n' ca', .int .i64 ep, .int .i64 nx, .slice ua un uc] 32) = w0 := ⟨_, rfl⟩
  have HE : Hid (w.alloc (.cells #[.slice a n ca, .slice a' n' ca', .int .i64 ep, .int .i64 nx, .slice ua un uc] 32) = w0) := hw0
  have hB : Below w.heap.size w w0 := by rw [← hw0]; exact (Below.refl _ _).alloc (Nat.le_refl _) _
  have hQ : BoxN w0 w.heap.size 32 [.slice a n ca, .slice a' n' ca', .int .i64 ep, .int .i64 nx, .slice ua un uc] := by rw [← hw0]; exact BoxN.new _ _ _
  have HX : Hid (∀ W, Below w0.heap.size w0 W → BoxN W w.heap.size 32 [.slice a n ca, .slice a' n' ca', .int .i64 ep, .int .i64 nx, .slice ua un uc] ∧ Strs W a n X ∧ Strs W a' n' Y ∧ UpRow W lo (.slice ua un uc) l ∧ Below w.heap.size w W ∧ RecT W ∧ ErrN W) := fun W hb => by
    have hw : Below w.heap.size w W := hB.trans (hb.mono hB.size)
    exact ⟨hQ.stays hb, h1.below hw, h2.below hw, hu.stays hw, hw, ht.below hw, he.below hw⟩
  have HL : Hid (un = l.length ∧ (∀ x ∈ X, x.size ≤ 1048576) ∧ X.length = n) := ⟨hun, hzx, h1.1⟩
  have HA0 : Hid (Below w0.heap.size w0 w0) := Below.refl _ _
  clear hw0 h1 h2 hu hun hzx ht he hB hQ
  obtain ⟨c0, c1, c2, c3, c4⟩ := (show _ ∧ _ ∧ _ ∧ _ ∧ _ from ⟨(HX.out _ HA0.out).1.cell 0 rfl, (HX.out _ HA0.out).1.cell 1 rfl, (HX.out _ HA0.out).1.cell 2 rfl, (HX.out _ HA0.out).1.cell 3 rfl, (HX.out _ HA0.out).1.cell 4 rfl⟩)
  go_enter Tryz.func78, Tryz.ntmps78
  go_upto_region 1 with fail
  rw [HE.out]
  clear HE
  go_wp2_with fail
  refine (implSok_any a n ca X a' n' ca' Y ep nx ua un uc lo l w0 (HX.out _ HA0.out).2.1 (HX.out _ HA0.out).2.2.1 hn hn' HL.out.2.1 (HX.out _ HA0.out).2.2.2.1 HL.out.1 hul hsl (HX.out _ HA0.out).2.2.2.2.2.1 (HX.out _ HA0.out).2.2.2.2.2.2).mono ?_
  rintro _ y1 ⟨rfl, hb1⟩
  have HC1 : Hid (Below w0.heap.size w0 y1) := hb1
  obtain ⟨ok, hok⟩ : ∃ ok, decB (SOk X Y ep nx (l.map UE.u)) = ok := ⟨_, rfl⟩
  rw [hok]
  clear hb1 c0 c1 c2 c3 c4
  cases ok with
  | false =>
    have hno : ¬ (decB (SOk X Y ep nx (l.map UE.u)) = true ∧ idB id.data.toList = true) := fun h => by rw [hok] at h; simp at h
    clear hok
    have HRs : Hid (forP X Y ep nx (l.map UE.u) id ua = none ∧ forC X Y ep nx (l.map UE.u) id = 1) := for_form hno
    have HBw : Hid (Below w.heap.size w y1) := (HX.out _ HC1.out).2.2.2.2.1
    clear HX HC1
    go_wp2_with fail
    refine bodyPost_ret (v := .tuple #[.pointer (none), .int .i64 1]) (by simp [results, Tryz.f78, go_sem]) rfl ?_
    exact ⟨by rw [HRs.out.1, HRs.out.2], HBw.out⟩
  | true =>
  have HDb : Hid (decB (SOk X Y ep nx (l.map UE.u)) = true) := hok
  clear hok
  go_wp2_with fail
  refine (implId_any id y1 (by omega)).mono ?_
  rintro _ y2 ⟨rfl, hb2⟩
  have HC2 : Hid (Below w0.heap.size w0 y2) := HC1.out.trans (hb2.mono HC1.out.size)
  clear hb2 HC1
  cases hidB : idB id.data.toList with
  | false =>
    have hno : ¬ (decB (SOk X Y ep nx (l.map UE.u)) = true ∧ idB id.data.toList = true) := fun h => by rw [hidB] at h; simp at h
    clear hidB
    have HRs : Hid (forP X Y ep nx (l.map UE.u) id ua = none ∧ forC X Y ep nx (l.map UE.u) id = 1) := for_form hno
    have HBw : Hid (Below w.heap.size w y2) := (HX.out _ HC2.out).2.2.2.2.1
    clear HX HC2
    go_wp2_with fail
    refine bodyPost_ret (v := .tuple #[.pointer (none), .int .i64 1]) (by simp [results, Tryz.f78, go_sem]) rfl ?_
    exact ⟨by rw [HRs.out.1, HRs.out.2], HBw.out⟩
  | true =>
  have HId : Hid (idB id.data.toList = true) := hidB
  clear hidB
  obtain ⟨c0, c1, c2, c3, c4⟩ := (show _ ∧ _ ∧ _ ∧ _ ∧ _ from ⟨(HX.out _ HC2.out).1.cell 0 rfl, (HX.out _ HC2.out).1.cell 1 rfl, (HX.out _ HC2.out).1.cell 2 rfl, (HX.out _ HC2.out).1.cell 3 rfl, (HX.out _ HC2.out).1.cell 4 rfl⟩)
  go_wp2_with fail
  refine (implUpIn_any a n ca a' n' ca' ep nx ua un uc lo l id y2 (HX.out _ HC2.out).2.2.2.1 HL.out.1 (by omega)).mono ?_
  rintro _ y3 ⟨rfl, hb3⟩
  have HC3 : Hid (Below w0.heap.size w0 y3) := HC2.out.trans (hb3.mono HC2.out.size)
  clear hb3 HC2 c0 c1 c2 c3 c4
  cases hat : atU (l.map UE.u) id with
  | none =>
    rw [reachUO_none]
    have HRs : Hid (forP X Y ep nx (l.map UE.u) id ua = none ∧ forC X Y ep nx (l.map UE.u) id = 2) := for_none HDb.out HId.out hat
    have HBw : Hid (Below w.heap.size w y3) := (HX.out _ HC3.out).2.2.2.2.1
    clear HX HC3
    go_wp2_with fail
    refine bodyPost_ret (v := .tuple #[.pointer (none), .int .i64 2]) (by simp [results, Tryz.f78, go_sem]) rfl ?_
    exact ⟨by rw [HRs.out.1, HRs.out.2], HBw.out⟩
  | some k =>
  have hkl : k < l.length := by simpa using (atU_is hat).1
  obtain ⟨g, hg, _⟩ := (HX.out _ HC3.out).2.2.2.1.at HL.out.1 hkl
  have hre : reachUO ua (some k) = some ⟨g, k * 4, none⟩ := by rw [hg]; rfl
  have hfp := for_some (ua := ua) HDb.out HId.out hat
  rw [hre] at hfp ⊢
  clear hg hre
  have HRs : Hid (forP X Y ep nx (l.map UE.u) id ua = some ⟨g, k * 4, none⟩ ∧ forC X Y ep nx (l.map UE.u) id = 0) := hfp
  have HBw : Hid (Below w.heap.size w y3) := (HX.out _ HC3.out).2.2.2.2.1
  clear HX HC3
  go_wp2_with fail
  refine bodyPost_ret (v := .tuple #[.pointer (some ⟨g, k * 4, none⟩), .int .i64 0]) (by simp [results, Tryz.f78, go_sem]) rfl ?_
  exact ⟨by rw [HRs.out.1, HRs.out.2], HBw.out⟩

end Go.Proofs.YtammmecddnafaaaGreatDoor

namespace Go.Proofs.YtammmecddnafaaaGreatDoor
open Go.RowKit
set_option linter.unusedVariables false

/-- The epoch, the number of records and the uploads of the store that is opened. -/
def openO (X Y : List ByteArray) : Option (Int × Nat × List U) :=
  match okD X Y, foldU (scanR X) with
  | true, some us => if 10000 < topE X + 1 then none else some (topE X + 1, (scanR X).length, us)
  | _, _ => none

theorem topE_from (l : List ByteArray) : ∀ m : Int, -1 ≤ m → m ≤ 10000 → -1 ≤ l.foldl topStep m ∧ l.foldl topStep m ≤ 10000 := by
  induction l with
  | nil => exact fun m h1 h2 => ⟨h1, h2⟩
  | cons x l ih =>
    intro m h1 h2
    rw [List.foldl_cons]
    have hs : -1 ≤ topStep m x ∧ topStep m x ≤ 10000 := by
      cases h : recOf x with
      | none => rw [topStep_none h]; exact ⟨h1, h2⟩
      | some r =>
        have hr := (okRec_iff (recOf_iff.1 h).1).1
        rw [topStep_some h]
        split <;> omega
    exact ih _ hs.1 hs.2

theorem topE_range (l : List ByteArray) : -1 ≤ topE l ∧ topE l ≤ 10000 := topE_from l (-1) (by omega) (by omega)

/-- The answer. -/
def OpenAns (base : Nat) (X Y : List ByteArray) (e : Ending) (w' : World) : Prop :=
  match openO X Y with
  | none => ∃ v, e = .returned (.tuple #[v, .bool false]) ∧ AnsS base [] [] 0 0 [] v w'
  | some (ep, nx, us) => ∃ v, e = .returned (.tuple #[v, .bool true]) ∧ AnsS base X Y ep (nx : Int) us v w'

end Go.Proofs.YtammmecddnafaaaGreatDoor

namespace Go.Proofs.YtammmecddnafaaaGreatDoor
open Go.RowKit
set_option linter.unusedVariables false

structure OA where
  X : List ByteArray
  Y : List ByteArray
  ep : Int
  nx : Int
  us : List U
  ok : Bool

def openA (X Y : List ByteArray) : OA := match openO X Y with
  | none => ⟨[], [], 0, 0, [], false⟩
  | some (ep, nx, us) => ⟨X, Y, ep, (nx : Int), us, true⟩

theorem OpenAns.get {base : Nat} {X Y : List ByteArray} {e : Ending} {w' : World} (h : OpenAns base X Y e w') : ∃ v, e = .returned (.tuple #[v, .bool (openA X Y).ok]) ∧ AnsS base (openA X Y).X (openA X Y).Y (openA X Y).ep (openA X Y).nx (openA X Y).us v w' := by
  rw [OpenAns] at h
  rw [openA]
  cases ho : openO X Y with
  | none => rw [ho] at h; exact h
  | some t =>
    obtain ⟨ep, nx, us⟩ := t
    rw [ho] at h
    exact h

theorem foldlM_zs {rs : List R} : ∀ {us us' : List U} {m : Nat}, (∀ u ∈ us, u.zs.length ≤ m) → (∀ r ∈ rs, r.zs.length ≤ 24) → rs.foldlM oneU us = some us' → ∀ u ∈ us', u.zs.length ≤ m + rs.length * 24 := by
  induction rs with
  | nil =>
    intro us us' m h1 _ h
    obtain rfl : us = us' := by simpa using h
    simpa using h1
  | cons r rs ih =>
    intro us us' m h1 hr h
    rw [List.foldlM_cons] at h
    cases ho : oneU us r with
    | none => rw [ho] at h; cases h
    | some u1 =>
      rw [ho] at h
      have h2 := oneU_zs ho h1
      have h3 := hr r (List.mem_cons_self ..)
      intro u hu
      have h4 := ih (m := m + 24) (fun u hu => by have := h2 u hu; omega) (fun x hx => hr x (List.mem_cons_of_mem _ hx)) h u hu
      rw [List.length_cons]
      omega

/-- The uploads of sectors have few bytes. -/
theorem fold_small {X Y : List ByteArray} {us : List U} (h : okD X Y = true) (hf : foldU (scanR X) = some us) : us.length ≤ 10 ∧ ∀ u ∈ us, u.zs.length ≤ 4800 := by
  have h1 := (okD_iff.1 h).2.1
  have h2 := scanFrom_len X 0 0
  have h3 : (scanR X).length = (scanFrom 0 0 X).length := rfl
  refine ⟨foldlM_len (us := []) (by simp) hf, fun u hu => ?_⟩
  have h4 := foldlM_zs (us := []) (m := 0) (by simp) (fun r hr => (okRec_iff (scan_allok X r hr)).2.2.2.2.2) hf u hu
  omega

theorem openA_sz {X Y : List ByteArray} (h1 : X.length ≤ 1048576) (h2 : Y.length ≤ 1048576) : (openA X Y).X.length ≤ 1048576 ∧ (openA X Y).Y.length ≤ 1048576 ∧ (openA X Y).us.length ≤ 1048576 ∧ ∀ u ∈ (openA X Y).us, u.zs.length ≤ 1048576 := by
  rw [openA]
  cases ho : openO X Y with
  | none => simp
  | some t =>
    obtain ⟨ep, nx, us⟩ := t
    rw [openO] at ho
    split at ho
    · rename_i hok hf
      split at ho
      · cases ho
      · simp only [Option.some.injEq, Prod.mk.injEq] at ho
        obtain ⟨_, _, rfl⟩ := ho
        have h3 := fold_small hok hf
        exact ⟨h1, h2, Nat.le_trans h3.1 (by decide), fun u hu => by have := h3.2 u hu; omega⟩
    · cases ho

end Go.Proofs.YtammmecddnafaaaGreatDoor
