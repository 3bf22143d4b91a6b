/- The marks of a disk, asked for. The marks of a store, asked for. The walk of the law FnExactMakeUp; under contracts of both functions. A disk that comes in: its two rows of texts. A store that comes in: its disk's two rows of texts, its numbers, its uploads. Plain arithmetic of the sum: one step, eight steps, a list of bytes; no program in it. -/
import Derived.Test.YtenkpgnkkkgdmatGreatDoorM08
import Derived.Test.YtenkpgnkkkgdmatGreatDoorM09
import Derived.Test.YtenkpgnkkkgdmatGreatDoorM07
import Derived.Test.YtenkpgnkkkgdmatGreatDoorM07
import Derived.Deep.RegionHeld3
import Derived.Test.YtenkpgnkkkgdmatGreatDoorM04
import Derived.Lib.SmallJoins
import Derived.OpenShut
import Derived.ChangeOld
import Derived.WalkKit
import Derived.ProofKit
import Derived.Deep.Slices
import Derived.Test.YtenkpgnkkkgdmatGreatDoorM01
namespace Go.Proofs.YtenkpgnkkkgdmatGreatDoor
open Go.RowKit
set_option linter.unusedVariables false

set_option maxHeartbeats 800000 in
theorem heldDisk_any (a : Option Addr) (n ca : Nat) (a' : Option Addr) (n' ca' : Nat) (k : Nat) (w : World) (h1 : Strs w a n (marksS k n)) (h2 : Strs w a' n' (marksS (k + n) n')) (hn : n ≤ 1073741824) (hn' : n' ≤ 1073741824) (hk : k ≤ 1073741824) :
    Calls Tryz.prog 35 #[.agg #[.slice a n ca, .slice a' n' ca'], .int .i64 (k : Int)] w fun r w' => r = .returned (.int .i64 ((k + n + n' : Nat) : Int)) ∧ Below w.heap.size w w' := by
  have HX : Hid (∀ W, Below w.heap.size w W → Strs W a n (marksS k n) ∧ Strs W a' n' (marksS (k + n) n')) := fun W h => ⟨h1.below h, h2.below h⟩
  clear h1 h2
  have HA : Hid (Box2R (w.alloc (Obj.cells #[Value.slice a n ca, Value.slice a' n' ca'] 29)) w.heap.size 29 (.slice a n ca) (.slice a' n' ca')) := Box2R.new _ _ _ _
  have HB : Hid (Below w.heap.size w (w.alloc (Obj.cells #[Value.slice a n ca, Value.slice a' n' ca'] 29))) := (Below.refl _ _).alloc (Nat.le_refl _) _
  go_enter Tryz.func35, Tryz.ntmps35
  go_wp2_with fail
  refine (heldStrS_any a n ca k _ (HX.out _ HB.out).1 (by omega) (by omega)).mono ?_
  rintro r x1 ⟨rfl, hb1⟩
  have HB1 : Hid (Below w.heap.size w x1) := HB.out.trans (hb1.mono HB.out.size)
  obtain ⟨c0, c1⟩ := (HA.out.stays hb1).cells
  clear hb1 HA HB
  have HM : Hid (Calls Tryz.prog 66 #[.slice a' n' ca', .int .i64 ((k + n : Nat) : Int)] x1 fun e w' => e = .returned (.int .i64 ((k + n + n' : Nat) : Int)) ∧ Below x1.heap.size x1 w') := heldStrS_any a' n' ca' (k + n) _ (HX.out _ HB1.out).2 (by omega) (by omega)
  clear HX
  obtain ⟨K, hK⟩ : ∃ K, k + n = K := ⟨_, rfl⟩
  rw [hK] at HM ⊢
  have hp1 : ¬ (K : Int) < 0 := by omega
  have hp1d : decide ((K : Int) < 0) = false := by simp
  have HK : Hid (k + n = K) := hK
  clear hK
  go_wp2_with fail
  refine HM.out.mono ?_
  rintro r x2 ⟨rfl, hb2⟩
  have HB2 : Hid (Below w.heap.size w x2) := HB1.out.trans (hb2.mono HB1.out.size)
  clear hb2 HM HB1 c0 c1
  obtain ⟨K2, hK2⟩ : ∃ K2, K + n' = K2 := ⟨_, rfl⟩
  have HK2 : Hid (K + n' = K2) := hK2
  rw [hK2]
  have hp2 : ¬ (K2 : Int) < 0 := by omega
  have hp2d : decide ((K2 : Int) < 0) = false := by simp
  clear hK2
  go_wp2_with fail
  go_ret
  exact ⟨ret_i64 (by rw [HK.out, HK2.out]), HB2.out⟩

end Go.Proofs.YtenkpgnkkkgdmatGreatDoor

namespace Go.Proofs.YtenkpgnkkkgdmatGreatDoor
open Go.RowKit
set_option linter.unusedVariables false

set_option maxRecDepth 10000 in
set_option maxHeartbeats 1600000 in
theorem heldStore_any (base : Nat) (a : Option Addr) (n ca : Nat) (a' : Option Addr) (n' ca' : Nat) (ep nx : Int) (ua : Option Addr) (un uc : Nat) (l : List UE) (k : Nat) (w : World) (h : StoMkd w base k a n ca a' n' ca' ua un uc l) (hn : n ≤ 2097152) (hn' : n' ≤ 2097152) (hk : k ≤ 1073741824) (hul : un ≤ 1099511627776) (hkE : mkUEnd (k + n + n') l ≤ 2199023255552) :
    Calls Tryz.prog 11 #[.agg #[.slice a n ca, .slice a' n' ca', .int .i64 ep, .int .i64 nx, .slice ua un uc], .int .i64 (k : Int)] w fun r w' => r = .returned (.int .i64 (mkUEnd (k + n + n') l : Int)) ∧ Below w.heap.size w w' := by
  have HS : Hid (∀ W, Below w.heap.size w W → StoMkd W base k a n ca a' n' ca' ua un uc l) := fun W hb => StoAt.stays h hb
  have HK : Hid (mkUEnd (k + n + n') l ≤ 2199023255552) := hkE
  clear h hkE
  have HA : Hid (BoxN (w.alloc (.cells #[.slice a n ca, .slice a' n' ca', .int .i64 ep, .int .i64 nx, .slice ua un uc] 32)) w.heap.size 32 [.slice a n ca, .slice a' n' ca', .int .i64 ep, .int .i64 nx, .slice ua un uc]) := BoxN.new _ _ _
  have HB : Hid (Below w.heap.size w (w.alloc (.cells #[.slice a n ca, .slice a' n' ca', .int .i64 ep, .int .i64 nx, .slice ua un uc] 32))) := (Below.refl _ _).alloc (Nat.le_refl _) _
  go_enter Tryz.func11, Tryz.ntmps11
  go_wp2_with fail
  obtain ⟨w0, hw0⟩ : ∃ w0, w.alloc (.cells #[.slice a n ca, .slice a' n' ca', .int .i64 ep, .int .i64 nx, .slice ua un uc] 32) = w0 := ⟨_, rfl⟩
  rw [hw0] at HA HB ⊢
  clear hw0
  refine (heldDisk_any a n ca a' n' ca' k w0 (HS.out _ HB.out).now.strs (HS.out _ HB.out).sure.strs (by omega) (by omega) hk).mono ?_
  rintro _ x1 ⟨rfl, hb1⟩
  have HB1 : Hid (Below w.heap.size w x1) := HB.out.trans (hb1.mono HB.out.size)
  have c4 := (HA.out.stays hb1).cell 4 rfl
  clear hb1
  obtain ⟨K, hK⟩ : ∃ K, k + n + n' = K := ⟨_, rfl⟩
  have HKe : Hid (k + n + n' = K) := hK
  rw [hK] at HK ⊢
  have hKb : (K : Int) ≤ 2199023255552 := by have := HKe.out; omega
  have hp1 : ¬ (K : Int) < 0 := by omega
  have hp1d : decide ((K : Int) < 0) = false := by simp
  have HU1 : Hid (UpRow x1 base (.slice ua un uc) (mkUp K l) ∧ l.length = un) := by
    have h1 := (HS.out _ HB1.out).ups
    have h2 := (HS.out _ HB1.out).len
    rw [hK] at h1
    rw [mkUp_len] at h2
    exact ⟨h1, h2.symm⟩
  clear hK
  go_wp2_with fail
  refine (heldUpS_any base ua un uc K l x1 HU1.out.1 HU1.out.2 HK.out hul).mono ?_
  rintro _ x2 ⟨rfl, hb2⟩
  have HB2 : Hid (Below w.heap.size w x2) := HB1.out.trans (hb2.mono HB1.out.size)
  obtain ⟨E, hE⟩ : ∃ E, mkUEnd K l = E := ⟨_, rfl⟩
  have HEe : Hid (mkUEnd K l = E) := hE
  rw [hE]
  have hp2 : ¬ (E : Int) < 0 := by omega
  have hp2d : decide ((E : Int) < 0) = false := by simp
  clear hE hb2
  go_wp2_with fail
  go_ret
  exact ⟨ret_i64 (by rw [HKe.out, HEe.out]), HB2.out⟩

end Go.Proofs.YtenkpgnkkkgdmatGreatDoor

namespace Go.Proofs.YtenkpgnkkkgdmatGreatDoor
open Go.RowKit
set_option linter.unusedVariables false

set_option maxRecDepth 10000 in
set_option maxHeartbeats 6400000 in
theorem makeWalk (a0 : Option Addr) (n0 ca0 : Nat) (xs : List ByteArray) (a1 : Option Addr) (n1 ca1 : Nat) (ys : List ByteArray) (ep nx : Int) (ua : Option Addr) (un uc : Nat) (l : List UE) (s0 : ByteArray) (i1 : Int) (w : World) (hl0 : n0 ≤ maxLen) (hl1 : n1 ≤ maxLen) (hlu : un ≤ maxLen) (h1 : Strs w a0 n0 xs) (h2 : Strs w a1 n1 ys) (hu : UpsI w ua un l) (hs0 : s0.size ≤ maxLen) (RX RY : List ByteArray) (rep rnx : Int) (rus : List U) (rc : Int) (hRX : SzS n0 xs n1 ys un l → RX.length ≤ 1048576 ∧ RY.length ≤ 1048576 ∧ rus.length ≤ 1048576 ∧ ∀ u ∈ rus, u.zs.length ≤ 1048576)
    (HSp : ∀ (g g' gu lo : Nat) (l' : List UE) (W : World), Below w.heap.size w W → SzS n0 xs n1 ys un l → StoAt W lo (some ⟨g, 0, none⟩) n0 n0 xs (some ⟨g', 0, none⟩) n1 n1 ys (some ⟨gu, 0, none⟩) un un l' → l'.map UE.u = l.map UE.u → (∀ e ∈ l', e.n ≤ 1048576) → Calls Tryz.prog 6 #[.agg #[.slice (some ⟨g, 0, none⟩) n0 n0, .slice (some ⟨g', 0, none⟩) n1 n1, .int .i64 ep, .int .i64 nx, .slice (some ⟨gu, 0, none⟩) un un], .string s0, .int .i64 i1] W fun e w' => (∃ v, e = .returned (.tuple #[v, .int .i64 rc]) ∧ AnsS W.heap.size RX RY rep rnx rus v w') ∧ Below W.heap.size W w')
    (HIm : ∀ (g g' gu lo : Nat) (l' : List UE) (W : World), Below w.heap.size w W → SzS n0 xs n1 ys un l → StoAt W lo (some ⟨g, 0, none⟩) n0 n0 xs (some ⟨g', 0, none⟩) n1 n1 ys (some ⟨gu, 0, none⟩) un un l' → l'.map UE.u = l.map UE.u → (∀ e ∈ l', e.n ≤ 1048576) → Calls Tryz.prog 8 #[.agg #[.slice (some ⟨g, 0, none⟩) n0 n0, .slice (some ⟨g', 0, none⟩) n1 n1, .int .i64 ep, .int .i64 nx, .slice (some ⟨gu, 0, none⟩) un un], .string s0, .int .i64 i1] W fun e w' => (∃ v, e = .returned (.tuple #[v, .int .i64 rc]) ∧ AnsS W.heap.size RX RY rep rnx rus v w') ∧ Below W.heap.size W w') :
    Calls Tryz.prog 3 #[.agg #[.slice a0 n0 ca0, .slice a1 n1 ca1, .int .i64 ep, .int .i64 nx, .slice ua un uc], .string s0, .int .i64 i1] w fun e w' => e = .returned (.bool true) ∧ Below w.heap.size w w' := by
  have hmm : maxLen < 9223372036854775808 := by decide
  obtain ⟨w0, hw0⟩ : ∃ w0, w.alloc (.cells #[.slice a0 n0 ca0, .slice a1 n1 ca1, .int .i64 ep, .int .i64 nx, .slice ua un uc] 27) = w0 := ⟨_, rfl⟩
  have HE : Hid (w.alloc (.cells #[.slice a0 n0 ca0, .slice a1 n1 ca1, .int .i64 ep, .int .i64 nx, .slice ua un uc] 27) = w0) := hw0
  have hB0 : Below w.heap.size w w0 := by rw [← hw0]; exact (Below.refl _ _).alloc (Nat.le_refl _) _
  have hQ0 : BoxN w0 w.heap.size 27 [.slice a0 n0 ca0, .slice a1 n1 ca1, .int .i64 ep, .int .i64 nx, .slice ua un uc] := by rw [← hw0]; exact BoxN.new _ _ _
  have HX : Hid (∀ W, Below w0.heap.size w0 W → BoxN W w.heap.size 27 [.slice a0 n0 ca0, .slice a1 n1 ca1, .int .i64 ep, .int .i64 nx, .slice ua un uc] ∧ Strs W a0 n0 xs ∧ Strs W a1 n1 ys ∧ UpsI W ua un l ∧ Below w.heap.size w W) := fun W hb => ⟨hQ0.stays hb, (h1.below hB0).below hb, (h2.below hB0).below hb, (hu.below hB0).below hb, hB0.trans (hb.mono hB0.size)⟩
  have hww : w.heap.size < w0.heap.size := hQ0.lt
  have HP : Hid (∀ (g g' gu lo : Nat) (l' : List UE) (W : World), Below w.heap.size w W → SzS n0 xs n1 ys un l → StoAt W lo (some ⟨g, 0, none⟩) n0 n0 xs (some ⟨g', 0, none⟩) n1 n1 ys (some ⟨gu, 0, none⟩) un un l' → l'.map UE.u = l.map UE.u → (∀ e ∈ l', e.n ≤ 1048576) → Calls Tryz.prog 6 #[.agg #[.slice (some ⟨g, 0, none⟩) n0 n0, .slice (some ⟨g', 0, none⟩) n1 n1, .int .i64 ep, .int .i64 nx, .slice (some ⟨gu, 0, none⟩) un un], .string s0, .int .i64 i1] W fun e w' => (∃ v, e = .returned (.tuple #[v, .int .i64 rc]) ∧ AnsS W.heap.size RX RY rep rnx rus v w') ∧ Below W.heap.size W w') := HSp
  have HI : Hid (∀ (g g' gu lo : Nat) (l' : List UE) (W : World), Below w.heap.size w W → SzS n0 xs n1 ys un l → StoAt W lo (some ⟨g, 0, none⟩) n0 n0 xs (some ⟨g', 0, none⟩) n1 n1 ys (some ⟨gu, 0, none⟩) un un l' → l'.map UE.u = l.map UE.u → (∀ e ∈ l', e.n ≤ 1048576) → Calls Tryz.prog 8 #[.agg #[.slice (some ⟨g, 0, none⟩) n0 n0, .slice (some ⟨g', 0, none⟩) n1 n1, .int .i64 ep, .int .i64 nx, .slice (some ⟨gu, 0, none⟩) un un], .string s0, .int .i64 i1] W fun e w' => (∃ v, e = .returned (.tuple #[v, .int .i64 rc]) ∧ AnsS W.heap.size RX RY rep rnx rus v w') ∧ Below W.heap.size W w') := HIm
  have HA0 : Hid (Below w0.heap.size w0 w0) := Below.refl _ _
  clear hw0 h1 h2 hu HSp HIm hQ0 hB0
  by_cases hid0 : 1048576 < (s0.size : Int)
  · have HBw : Hid (Below w.heap.size w w0) := (HX.out _ HA0.out).2.2.2.2
    go_enter Tryz.func3, Tryz.ntmps3
    go_upto_region 1 with fail
    rw [HE.out]
    clear HE
    go_wp2_with fail
    go_ret
    exact ⟨rfl, HBw.out⟩
  have hidd0 : decide (1048576 < (s0.size : Int)) = false := by simpa using hid0
  obtain ⟨c0, c1, c2, c3, c4⟩ := (show _ ∧ _ ∧ _ ∧ _ ∧ _ from ⟨(HX.out _ HA0.out).1.cell 0 rfl, (HX.out _ HA0.out).1.cell 1 rfl, (HX.out _ HA0.out).1.cell 2 rfl, (HX.out _ HA0.out).1.cell 3 rfl, (HX.out _ HA0.out).1.cell 4 rfl⟩)
  go_enter Tryz.func3, Tryz.ntmps3
  go_upto_region 1 with fail
  rw [HE.out]
  clear HE
  go_wp2_with fail
  refine (szStore_any a0 n0 ca0 xs a1 n1 ca1 ys ep nx ua un uc l w0 (HX.out _ HA0.out).2.1 (HX.out _ HA0.out).2.2.1 (HX.out _ HA0.out).2.2.2.1 hl0 hl1 hlu).mono ?_
  rintro e x0 ⟨⟨L, rfl, hL⟩, hb0⟩
  have HB0 : Hid (Below w0.heap.size w0 x0) := hb0
  clear hb0 c0 c1 c2 c3 c4
  by_cases hneg : L < 0
  · have HBw : Hid (Below w.heap.size w x0) := (HX.out _ HB0.out).2.2.2.2
    clear hL
    go_wp2_with fail
    go_ret
    exact ⟨rfl, HBw.out⟩
  have HSz : Hid (SzS n0 xs n1 ys un l) := by
    rcases hL with h | h
    · exact absurd h hneg
    · exact h.1
  have hun1 : un ≤ 1048576 := HSz.out.2.2.2.2.1
  have hn01 : n0 ≤ 1048576 := HSz.out.1
  have hn11 : n1 ≤ 1048576 := HSz.out.2.1
  clear hL
  have HTs : Hid (∀ W, Below w0.heap.size w0 W → Calls Tryz.prog 7 #[.agg #[.slice a0 n0 ca0, .slice a1 n1 ca1, .int .i64 ep, .int .i64 nx, .slice ua un uc]] W fun r w' => (∃ g g' gu l', r = .returned (.agg #[.slice (some ⟨g, 0, none⟩) n0 n0, .slice (some ⟨g', 0, none⟩) n1 n1, .int .i64 ep, .int .i64 nx, .slice (some ⟨gu, 0, none⟩) un un]) ∧ StoAt w' W.heap.size (some ⟨g, 0, none⟩) n0 n0 xs (some ⟨g', 0, none⟩) n1 n1 ys (some ⟨gu, 0, none⟩) un un l' ∧ l'.map UE.u = l.map UE.u ∧ ∀ e ∈ l', e.n ≤ 1048576) ∧ Below W.heap.size W w') := fun W hb => toStore_any a0 n0 ca0 xs a1 n1 ca1 ys ep nx ua un uc l W (HX.out _ hb).2.1 (HX.out _ hb).2.2.1 (HX.out _ hb).2.2.2.1 HSz.out
  obtain ⟨N, hN⟩ : ∃ N, RX.length = N := ⟨_, rfl⟩
  obtain ⟨N', hN'⟩ : ∃ N', RY.length = N' := ⟨_, rfl⟩
  obtain ⟨K, hK⟩ : ∃ K, rus.length = K := ⟨_, rfl⟩
  have hRb := hRX HSz.out
  rw [hN, hN', hK] at hRb
  have hNb : N ≤ 1048576 := hRb.1
  have hNb' : N' ≤ 1048576 := hRb.2.1
  have hKb : K ≤ 1048576 := hRb.2.2.1
  have HAn : Hid (∀ base v W, AnsS base RX RY rep rnx rus v W → ∃ a c a' c' u uc lx, v = .agg #[.slice a N c, .slice a' N' c', .int .i64 rep, .int .i64 rnx, .slice u K uc] ∧ StoAt W base a N c RX a' N' c' RY u K uc lx ∧ lx.map UE.u = rus ∧ (∀ e ∈ lx, e.n ≤ 1048576) ∧ mkUEnd (1 + N + N') lx ≤ 2199023255552) := fun base v W h => by
    obtain ⟨a, c, a', c', u, uc, lx, h1, h2, h3⟩ := h.get
    rw [hN, hN', hK] at h1 h2
    have hz : ∀ e ∈ lx, e.n ≤ 1048576 := fun e he => by
      have h4 := (h2.ups.2.1 e he).seg.1
      have h5 := hRb.2.2.2 e.u (by rw [← h3]; exact List.mem_map_of_mem he)
      omega
    refine ⟨a, c, a', c', u, uc, lx, h1, h2, h3, hz, ?_⟩
    have h6 := mkUEnd_le (1 + N + N') 1048576 lx hz
    have h7 := h2.len
    have h8 : (3 + 1048576) * lx.length ≤ (3 + 1048576) * 1048576 := Nat.mul_le_mul_left _ (by omega)
    omega
  clear hN hN' hK hRb hRX
  obtain ⟨c0, c1, c2, c3, c4⟩ := (show _ ∧ _ ∧ _ ∧ _ ∧ _ from ⟨(HX.out _ HB0.out).1.cell 0 rfl, (HX.out _ HB0.out).1.cell 1 rfl, (HX.out _ HB0.out).1.cell 2 rfl, (HX.out _ HB0.out).1.cell 3 rfl, (HX.out _ HB0.out).1.cell 4 rfl⟩)
  go_wp2_with fail
  refine (HTs.out _ HB0.out).mono ?_
  rintro e x1 ⟨⟨g1, g1', gu1, l1, rfl, hs1, hm1, hz1⟩, hb1⟩
  have HB1 : Hid (Below w0.heap.size w0 x1) := HB0.out.trans (hb1.mono HB0.out.size)
  have HS1 : Hid (StoAt x1 x0.heap.size (some ⟨g1, 0, none⟩) n0 n0 xs (some ⟨g1', 0, none⟩) n1 n1 ys (some ⟨gu1, 0, none⟩) un un l1 ∧ l1.map UE.u = l.map UE.u ∧ ∀ e ∈ l1, e.n ≤ 1048576) := ⟨hs1, hm1, hz1⟩
  clear hs1 hm1 hz1 hb1 c0 c1 c2 c3 c4
  go_wp2_with fail
  refine (HP.out _ _ _ _ l1 x1 (HX.out _ HB1.out).2.2.2.2 HSz.out HS1.out.1 HS1.out.2.1 HS1.out.2.2).mono ?_
  rintro e x2 ⟨⟨vx2, rfl, hvx2⟩, hb2⟩
  obtain ⟨wa, wc, wa', wc', wu, wuc, lw, rfl, hsx2, hmx2, hzx2, hEx2⟩ := HAn.out _ _ _ hvx2
  have HAw : Hid (SAt (x2.alloc (.cells #[.slice wa N wc, .slice wa' N' wc', .int .i64 rep, .int .i64 rnx, .slice wu K wuc] 32)) x1.heap.size x2.heap.size wa N wc RX wa' N' wc' RY rep rnx wu K wuc lw) := SAt.new hsx2 hb2.size
  have HB2 : Hid (Below w0.heap.size w0 (x2.alloc (.cells #[.slice wa N wc, .slice wa' N' wc', .int .i64 rep, .int .i64 rnx, .slice wu K wuc] 32))) := (HB1.out.trans (hb2.mono HB1.out.size)).alloc (HB1.out.trans (hb2.mono HB1.out.size)).size _
  have HZ2 : Hid ((x2.alloc (.cells #[.slice wa N wc, .slice wa' N' wc', .int .i64 rep, .int .i64 rnx, .slice wu K wuc] 32)).heap.size = x2.heap.size + 1) := by show _ = _; simp
  have HMw : Hid (lw.map UE.u = rus ∧ ∀ e ∈ lw, e.n ≤ 1048576) := ⟨hmx2, hzx2⟩
  have hz12 : x1.heap.size ≤ x2.heap.size := hb2.size
  have hz01 : w0.heap.size ≤ x1.heap.size := HB1.out.size
  have hrn : (rc != rc) = false := by simp
  clear hvx2 hsx2 hmx2 hzx2 hEx2 hb2 HS1 HP
  obtain ⟨c0, c1, c2, c3, c4⟩ := (show _ ∧ _ ∧ _ ∧ _ ∧ _ from ⟨(HX.out _ HB2.out).1.cell 0 rfl, (HX.out _ HB2.out).1.cell 1 rfl, (HX.out _ HB2.out).1.cell 2 rfl, (HX.out _ HB2.out).1.cell 3 rfl, (HX.out _ HB2.out).1.cell 4 rfl⟩)
  go_wp2_with fail
  obtain ⟨w2, hw2⟩ : ∃ w2, x2.alloc (.cells #[.slice wa N wc, .slice wa' N' wc', .int .i64 rep, .int .i64 rnx, .slice wu K wuc] 32) = w2 := ⟨_, rfl⟩
  rw [hw2] at HAw HB2 HZ2 ⊢
  clear hw2
  generalize x2.heap.size = bw at *
  refine (HTs.out _ HB2.out).mono ?_
  rintro e x3 ⟨⟨g3, g3', gu3, l3, rfl, hs3, hm3, hz3⟩, hb3⟩
  have HAx : Hid (SAt (x3.alloc (.cells #[.slice (some ⟨g3, 0, none⟩) n0 n0, .slice (some ⟨g3', 0, none⟩) n1 n1, .int .i64 ep, .int .i64 nx, .slice (some ⟨gu3, 0, none⟩) un un] 32)) w2.heap.size x3.heap.size (some ⟨g3, 0, none⟩) n0 n0 xs (some ⟨g3', 0, none⟩) n1 n1 ys ep nx (some ⟨gu3, 0, none⟩) un un l3) := SAt.new hs3 hb3.size
  have HM3 : Hid (l3.map UE.u = l.map UE.u ∧ (∀ e ∈ l3, e.n ≤ 1048576)) := ⟨hm3, hz3⟩
  have HBa : Hid (Below w2.heap.size w2 (x3.alloc (.cells #[.slice (some ⟨g3, 0, none⟩) n0 n0, .slice (some ⟨g3', 0, none⟩) n1 n1, .int .i64 ep, .int .i64 nx, .slice (some ⟨gu3, 0, none⟩) un un] 32))) := hb3.alloc hb3.size _
  have HZ4 : Hid ((x3.alloc (.cells #[.slice (some ⟨g3, 0, none⟩) n0 n0, .slice (some ⟨g3', 0, none⟩) n1 n1, .int .i64 ep, .int .i64 nx, .slice (some ⟨gu3, 0, none⟩) un un] 32)).heap.size = x3.heap.size + 1) := by show _ = _; simp
  have hz23 : w2.heap.size ≤ x3.heap.size := hb3.size
  clear hs3 hm3 hz3 hb3 c0 c1 c2 c3 c4
  obtain ⟨d0, d1, d2, d3, d4⟩ := (show _ ∧ _ ∧ _ ∧ _ ∧ _ from ⟨HAx.out.box.cell 0 rfl, HAx.out.box.cell 1 rfl, HAx.out.box.cell 2 rfl, HAx.out.box.cell 3 rfl, HAx.out.box.cell 4 rfl⟩)
  go_wp2_with fail
  obtain ⟨w3, hw3⟩ : ∃ w3, x3.alloc (.cells #[.slice (some ⟨g3, 0, none⟩) n0 n0, .slice (some ⟨g3', 0, none⟩) n1 n1, .int .i64 ep, .int .i64 nx, .slice (some ⟨gu3, 0, none⟩) un un] 32) = w3 := ⟨_, rfl⟩
  rw [hw3] at HAx HBa HZ4 ⊢
  clear hw3 d0 d1 d2 d3 d4
  have HB3 : Hid (Below w0.heap.size w0 w3) := HB2.out.trans (HBa.out.mono HB2.out.size)
  have HAw3 : Hid (SAt w3 x1.heap.size bw wa N wc RX wa' N' wc' RY rep rnx wu K wuc lw) := HAw.out.stays HBa.out
  clear HAw
  clear HBa HB2
  generalize x3.heap.size = bx at *
  refine (HI.out _ _ _ _ l3 w3 (HX.out _ HB3.out).2.2.2.2 HSz.out HAx.out.sto HM3.out.1 HM3.out.2).mono ?_
  rintro e x4 ⟨⟨vx4, rfl, hvx4⟩, hb4⟩
  obtain ⟨ga, gc, ga', gc', gu, guc, lg, rfl, hsx4, hmx4, hzx4, hEx4⟩ := HAn.out _ _ _ hvx4
  have HAg : Hid (SAt (x4.alloc (.cells #[.slice ga N gc, .slice ga' N' gc', .int .i64 rep, .int .i64 rnx, .slice gu K guc] 32)) w3.heap.size x4.heap.size ga N gc RX ga' N' gc' RY rep rnx gu K guc lg) := SAt.new hsx4 hb4.size
  have HBb : Hid (Below w3.heap.size w3 (x4.alloc (.cells #[.slice ga N gc, .slice ga' N' gc', .int .i64 rep, .int .i64 rnx, .slice gu K guc] 32))) := hb4.alloc hb4.size _
  have HMg : Hid (lg.map UE.u = rus ∧ (∀ e ∈ lg, e.n ≤ 1048576) ∧ mkUEnd (1 + N + N') lg ≤ 2199023255552) := ⟨hmx4, hzx4, hEx4⟩
  have hz34 : w3.heap.size ≤ x4.heap.size := hb4.size
  clear hvx4 hsx4 hmx4 hzx4 hEx4 hb4
  have HAw4 : Hid (SAt (x4.alloc (.cells #[.slice ga N gc, .slice ga' N' gc', .int .i64 rep, .int .i64 rnx, .slice gu K guc] 32)) x1.heap.size bw wa N wc RX wa' N' wc' RY rep rnx wu K wuc lw) := HAw3.out.stays HBb.out
  have HAx4 : Hid (SAt (x4.alloc (.cells #[.slice ga N gc, .slice ga' N' gc', .int .i64 rep, .int .i64 rnx, .slice gu K guc] 32)) w2.heap.size bx (some ⟨g3, 0, none⟩) n0 n0 xs (some ⟨g3', 0, none⟩) n1 n1 ys ep nx (some ⟨gu3, 0, none⟩) un un l3) := HAx.out.stays HBb.out
  have HB4 : Hid (Below w0.heap.size w0 (x4.alloc (.cells #[.slice ga N gc, .slice ga' N' gc', .int .i64 rep, .int .i64 rnx, .slice gu K guc] 32))) := HB3.out.trans (HBb.out.mono HB3.out.size)
  clear HAw3 HAx HBb HB3
  obtain ⟨p0, p1, p2, p3, p4⟩ := (show _ ∧ _ ∧ _ ∧ _ ∧ _ from ⟨HAw4.out.box.cell 0 rfl, HAw4.out.box.cell 1 rfl, HAw4.out.box.cell 2 rfl, HAw4.out.box.cell 3 rfl, HAw4.out.box.cell 4 rfl⟩)
  obtain ⟨q0, q1, q2, q3, q4⟩ := (show _ ∧ _ ∧ _ ∧ _ ∧ _ from ⟨HAg.out.box.cell 0 rfl, HAg.out.box.cell 1 rfl, HAg.out.box.cell 2 rfl, HAg.out.box.cell 3 rfl, HAg.out.box.cell 4 rfl⟩)
  go_wp2_with fail
  obtain ⟨w4, hw4⟩ : ∃ w4, x4.alloc (.cells #[.slice ga N gc, .slice ga' N' gc', .int .i64 rep, .int .i64 rnx, .slice gu K guc] 32) = w4 := ⟨_, rfl⟩
  rw [hw4] at HAw4 HAx4 HAg HB4 ⊢
  clear hw4 p0 p1 p2 p3 p4 q0 q1 q2 q3 q4
  generalize x4.heap.size = bg at *
  refine (eqStore_same ga wa N gc wc RX ga' wa' N' gc' wc' RY rep rnx gu K guc w3.heap.size lg wu K wuc x1.heap.size lw w4 HAg.out.sto.now.strs HAw4.out.sto.now.strs HAg.out.sto.sure.strs HAw4.out.sto.sure.strs HAg.out.sto.ups HAw4.out.sto.ups HAg.out.sto.len HAw4.out.sto.len (by rw [HMg.out.1, HMw.out.1]) (by omega) (by omega) (by omega) (fun e he => by have := HMg.out.2.1 e he; omega)).mono ?_
  rintro e x5 ⟨rfl, hb5⟩
  have HAw5 : Hid (SAt x5 x1.heap.size bw wa N wc RX wa' N' wc' RY rep rnx wu K wuc lw) := HAw4.out.stays hb5
  have HAx5 : Hid (SAt x5 w2.heap.size bx (some ⟨g3, 0, none⟩) n0 n0 xs (some ⟨g3', 0, none⟩) n1 n1 ys ep nx (some ⟨gu3, 0, none⟩) un un l3) := HAx4.out.stays hb5
  have HAg5 : Hid (SAt x5 w3.heap.size bg ga N gc RX ga' N' gc' RY rep rnx gu K guc lg) := HAg.out.stays hb5
  have HB5 : Hid (Below w0.heap.size w0 x5) := HB4.out.trans (hb5.mono HB4.out.size)
  clear hb5 HAw4 HAx4 HAg HB4
  obtain ⟨c0, c1, c2, c3, c4⟩ := (show _ ∧ _ ∧ _ ∧ _ ∧ _ from ⟨(HX.out _ HB5.out).1.cell 0 rfl, (HX.out _ HB5.out).1.cell 1 rfl, (HX.out _ HB5.out).1.cell 2 rfl, (HX.out _ HB5.out).1.cell 3 rfl, (HX.out _ HB5.out).1.cell 4 rfl⟩)
  obtain ⟨d0, d1, d2, d3, d4⟩ := (show _ ∧ _ ∧ _ ∧ _ ∧ _ from ⟨HAx5.out.box.cell 0 rfl, HAx5.out.box.cell 1 rfl, HAx5.out.box.cell 2 rfl, HAx5.out.box.cell 3 rfl, HAx5.out.box.cell 4 rfl⟩)
  go_upto_region 12 with fail
  go_region_held3 (fun W => (W.cell? ⟨bx, 0, none⟩ = some (.slice (some ⟨g3, 0, none⟩) n0 n0) ∧ W.cell? ⟨bx, 1, none⟩ = some (.slice (some ⟨g3', 0, none⟩) n1 n1) ∧ W.cell? ⟨bx, 2, none⟩ = some (.int .i64 ep) ∧ W.cell? ⟨bx, 3, none⟩ = some (.int .i64 nx) ∧ W.cell? ⟨bx, 4, none⟩ = some (.slice (some ⟨gu3, 0, none⟩) un un)) ∧ W.cell? ⟨w.heap.size, 0, none⟩ = some (.slice a0 n0 ca0) ∧ W.cell? ⟨w.heap.size, 1, none⟩ = some (.slice a1 n1 ca1) ∧ W.cell? ⟨w.heap.size, 2, none⟩ = some (.int .i64 ep) ∧ W.cell? ⟨w.heap.size, 3, none⟩ = some (.int .i64 nx) ∧ W.cell? ⟨w.heap.size, 4, none⟩ = some (.slice ua un uc)) (first | with_reducible exact ⟨⟨i0, i1, i2, i3, i4⟩, e0, e1, e2, e3, e4⟩ | with_reducible exact ⟨⟨d0, d1, d2, d3, d4⟩, c0, c1, c2, c3, c4⟩ | exact ⟨⟨d0, d1, d2, d3, d4⟩, c0, c1, c2, c3, c4⟩) (first
    | (go_at_call 7; refine (HTs.out _ (HB5.out.drew)).mono ?_; rintro _ x6 ⟨⟨g6, g6', gu6, l6, rfl, hs6, hm6, hz6⟩, hb6⟩
       have hb6' : Below x5.heap.size x5 x6 := (Below.refl x5.heap.size x5).drew.trans (hb6.mono (Nat.le_refl _))
       have hB6 : Below w0.heap.size w0 x6 := HB5.out.trans (hb6'.mono HB5.out.size)
       have e0 := (HX.out _ hB6).1.cell 0 rfl
       have e1 := (HX.out _ hB6).1.cell 1 rfl
       have e2 := (HX.out _ hB6).1.cell 2 rfl
       have e3 := (HX.out _ hB6).1.cell 3 rfl
       have e4 := (HX.out _ hB6).1.cell 4 rfl
       have i0 := (HAx5.out.stays hb6').box.cell 0 rfl
       have i1 := (HAx5.out.stays hb6').box.cell 1 rfl
       have i2 := (HAx5.out.stays hb6').box.cell 2 rfl
       have i3 := (HAx5.out.stays hb6').box.cell 3 rfl
       have i4 := (HAx5.out.stays hb6').box.cell 4 rfl)
    | (go_at_call 9; refine (eqStore_same (some ⟨g3, 0, none⟩) (some ⟨g6, 0, none⟩) n0 n0 n0 xs (some ⟨g3', 0, none⟩) (some ⟨g6', 0, none⟩) n1 n1 n1 ys ep nx (some ⟨gu3, 0, none⟩) un un w2.heap.size l3 (some ⟨gu6, 0, none⟩) un un x5.heap.size l6 x6 (HAx5.out.stays hb6').sto.now.strs hs6.now.strs (HAx5.out.stays hb6').sto.sure.strs hs6.sure.strs (HAx5.out.stays hb6').sto.ups hs6.ups HAx5.out.sto.len hs6.len (by rw [HM3.out.1, hm6]) (by omega) (by omega) (by omega) (fun e he => by have := HM3.out.2 e he; omega)).mono ?_; rintro _ x7 ⟨rfl, hb7⟩
       have hb7' : Below x5.heap.size x5 x7 := hb6'.trans (hb7.mono hb6'.size)
       have hB7 : Below w0.heap.size w0 x7 := HB5.out.trans (hb7'.mono HB5.out.size)
       have e0 := (HX.out _ hB7).1.cell 0 rfl
       have e1 := (HX.out _ hB7).1.cell 1 rfl
       have e2 := (HX.out _ hB7).1.cell 2 rfl
       have e3 := (HX.out _ hB7).1.cell 3 rfl
       have e4 := (HX.out _ hB7).1.cell 4 rfl
       have i0 := (HAx5.out.stays hb7').box.cell 0 rfl
       have i1 := (HAx5.out.stays hb7').box.cell 1 rfl
       have i2 := (HAx5.out.stays hb7').box.cell 2 rfl
       have i3 := (HAx5.out.stays hb7').box.cell 3 rfl
       have i4 := (HAx5.out.stays hb7').box.cell 4 rfl)
    | fail)
  have HAw7 : Hid (SAt x7 x1.heap.size bw wa N wc RX wa' N' wc' RY rep rnx wu K wuc lw) := HAw5.out.stays hb7'
  have HAx7 : Hid (SAt x7 w2.heap.size bx (some ⟨g3, 0, none⟩) n0 n0 xs (some ⟨g3', 0, none⟩) n1 n1 ys ep nx (some ⟨gu3, 0, none⟩) un un l3) := HAx5.out.stays hb7'
  have HAg7 : Hid (SAt x7 w3.heap.size bg ga N gc RX ga' N' gc' RY rep rnx gu K guc lg) := HAg5.out.stays hb7'
  have HB7 : Hid (Below w0.heap.size w0 x7) := hB7
  clear hs6 hm6 hz6 hb6 hb6' hB6 hb7 hb7' hB7 e0 e1 e2 e3 e4 i0 i1 i2 i3 i4 c0 c1 c2 c3 c4 d0 d1 d2 d3 d4 HAw5 HAx5 HAg5 HB5
  obtain ⟨d0, d1, d2, d3, d4⟩ := (show _ ∧ _ ∧ _ ∧ _ ∧ _ from ⟨HAx7.out.box.cell 0 rfl, HAx7.out.box.cell 1 rfl, HAx7.out.box.cell 2 rfl, HAx7.out.box.cell 3 rfl, HAx7.out.box.cell 4 rfl⟩)
  have HEnd : Hid (mkUEnd (1 + n0 + n1) l3 ≤ 2199023255552) := by
    have h1 := mkUEnd_le (1 + n0 + n1) 1048576 l3 HM3.out.2
    have h2 := HAx7.out.sto.len
    have h3 : (3 + 1048576) * l3.length ≤ (3 + 1048576) * 1048576 := Nat.mul_le_mul_left _ (by omega)
    show _ ≤ _
    omega
  go_wp2_with fail
  refine (markStore_any w2.heap.size (some ⟨g3, 0, none⟩) n0 n0 xs (some ⟨g3', 0, none⟩) n1 n1 ys ep nx (some ⟨gu3, 0, none⟩) un un l3 1 x7 HAx7.out.sto (by omega) (by omega) (by omega) (by omega) HEnd.out bx HAx7.out.inn).mono ?_
  rintro e x8 ⟨rfl, _, hw8⟩
  have hz2 := HZ2.out
  have hz4 := HZ4.out
  have hl3 : w2.heap.size ≤ bx := HAx7.out.lob
  have hl1x : x1.heap.size ≤ bw := HAw7.out.lob
  have HAw8 : Hid (SAt x8 x1.heap.size bw wa N wc RX wa' N' wc' RY rep rnx wu K wuc lw) := HAw7.out.kept hw8 (.inl (by omega))
  have HAg8 : Hid (SAt x8 w3.heap.size bg ga N gc RX ga' N' gc' RY rep rnx gu K guc lg) := HAg7.out.kept hw8 (.inr (by omega))
  have HB8 : Hid (Below w0.heap.size w0 x8) := HB7.out.trans ((hw8.below (by have := HAw7.out.box.lt; have := HAx7.out.box.lt; omega)).mono (by omega))
  obtain ⟨kk, hkk⟩ : ∃ kk, mkUEnd (1 + n0 + n1) l3 = kk := ⟨_, rfl⟩
  rw [hkk]
  have hkp : ¬ (kk : Int) < 0 := by omega
  have hkd : decide ((kk : Int) < 0) = false := by simp
  clear hkk hw8 d0 d1 d2 d3 d4 HAw7 HAx7 HAg7 HB7
  obtain ⟨p0, p1, p2, p3, p4⟩ := (show _ ∧ _ ∧ _ ∧ _ ∧ _ from ⟨HAw8.out.box.cell 0 rfl, HAw8.out.box.cell 1 rfl, HAw8.out.box.cell 2 rfl, HAw8.out.box.cell 3 rfl, HAw8.out.box.cell 4 rfl⟩)
  obtain ⟨q0, q1, q2, q3, q4⟩ := (show _ ∧ _ ∧ _ ∧ _ ∧ _ from ⟨HAg8.out.box.cell 0 rfl, HAg8.out.box.cell 1 rfl, HAg8.out.box.cell 2 rfl, HAg8.out.box.cell 3 rfl, HAg8.out.box.cell 4 rfl⟩)
  go_wp2_with fail
  refine (eqStore_same ga wa N gc wc RX ga' wa' N' gc' wc' RY rep rnx gu K guc w3.heap.size lg wu K wuc x1.heap.size lw x8 HAg8.out.sto.now.strs HAw8.out.sto.now.strs HAg8.out.sto.sure.strs HAw8.out.sto.sure.strs HAg8.out.sto.ups HAw8.out.sto.ups HAg8.out.sto.len HAw8.out.sto.len (by rw [HMg.out.1, HMw.out.1]) (by omega) (by omega) (by omega) (fun e he => by have := HMg.out.2.1 e he; omega)).mono ?_
  rintro e x9 ⟨rfl, hb9⟩
  have HAw9 : Hid (SAt x9 x1.heap.size bw wa N wc RX wa' N' wc' RY rep rnx wu K wuc lw) := HAw8.out.stays hb9
  have HAg9 : Hid (SAt x9 w3.heap.size bg ga N gc RX ga' N' gc' RY rep rnx gu K guc lg) := HAg8.out.stays hb9
  have HB9 : Hid (Below w0.heap.size w0 x9) := HB8.out.trans (hb9.mono HB8.out.size)
  clear hb9 p0 p1 p2 p3 p4 q0 q1 q2 q3 q4 HAw8 HAg8 HB8
  obtain ⟨q0, q1, q2, q3, q4⟩ := (show _ ∧ _ ∧ _ ∧ _ ∧ _ from ⟨HAg9.out.box.cell 0 rfl, HAg9.out.box.cell 1 rfl, HAg9.out.box.cell 2 rfl, HAg9.out.box.cell 3 rfl, HAg9.out.box.cell 4 rfl⟩)
  go_wp2_with fail
  refine (markStore_any w3.heap.size ga N gc RX ga' N' gc' RY rep rnx gu K guc lg 1 x9 HAg9.out.sto (by omega) (by omega) (by omega) (by omega) HMg.out.2.2 bg HAg9.out.inn).mono ?_
  rintro e x10 ⟨rfl, hm10, hw10⟩
  have hl9 : w3.heap.size ≤ bg := HAg9.out.lob
  have HAw10 : Hid (SAt x10 x1.heap.size bw wa N wc RX wa' N' wc' RY rep rnx wu K wuc lw) := HAw9.out.kept hw10 (.inl (by omega))
  obtain ⟨hx10, hk10⟩ := HAg9.out.marked hm10 hw10
  have HBx : Hid (BoxN x10 bg 32 [.slice ga N gc, .slice ga' N' gc', .int .i64 rep, .int .i64 rnx, .slice gu K guc]) := hx10
  have HMk : Hid (StoMkd x10 w3.heap.size 1 ga N gc ga' N' gc' gu K guc lg) := hk10
  have HB10 : Hid (Below w0.heap.size w0 x10) := HB9.out.trans ((hw10.below (by have := HAg9.out.box.lt; omega)).mono (by omega))
  clear hm10 hw10 hx10 hk10 q0 q1 q2 q3 q4 HAw9 HAg9 HB9
  have HHG : Hid (∀ W : World, StoMkd W w3.heap.size 1 ga N gc ga' N' gc' gu K guc lg → Calls Tryz.prog 11 #[.agg #[.slice ga N gc, .slice ga' N' gc', .int .i64 rep, .int .i64 rnx, .slice gu K guc], .int .i64 1] W fun e w' => e = .returned (.int .i64 (mkUEnd (1 + N + N') lg : Int)) ∧ Below W.heap.size W w') := fun W h => heldStore_any w3.heap.size ga N gc ga' N' gc' rep rnx gu K guc lg 1 W h (by omega) (by omega) (by omega) (by omega) HMg.out.2.2
  generalize hq10 : ((mkUEnd (1 + N + N') lg : Nat) : Int) = q10 at *
  have hq10p : ¬ q10 < 0 := by omega
  have hq10d : decide (q10 < 0) = false := by simp; omega
  have hq10e : (q10 != q10) = false := by simp
  clear hq10
  obtain ⟨q0, q1, q2, q3, q4⟩ := (show _ ∧ _ ∧ _ ∧ _ ∧ _ from ⟨HBx.out.cell 0 rfl, HBx.out.cell 1 rfl, HBx.out.cell 2 rfl, HBx.out.cell 3 rfl, HBx.out.cell 4 rfl⟩)
  go_wp2_with fail
  refine (HHG.out _ HMk.out).mono ?_
  rintro e x11 ⟨rfl, hb11⟩
  have HAw11 : Hid (SAt x11 x1.heap.size bw wa N wc RX wa' N' wc' RY rep rnx wu K wuc lw) := HAw10.out.stays hb11
  have HBx11 : Hid (BoxN x11 bg 32 [.slice ga N gc, .slice ga' N' gc', .int .i64 rep, .int .i64 rnx, .slice gu K guc]) := HBx.out.stays hb11
  have HMk11 : Hid (StoMkd x11 w3.heap.size 1 ga N gc ga' N' gc' gu K guc lg) := StoAt.stays HMk.out hb11
  have HB11 : Hid (Below w0.heap.size w0 x11) := HB10.out.trans (hb11.mono HB10.out.size)
  clear hb11 q0 q1 q2 q3 q4 HAw10 HBx HMk HB10
  obtain ⟨c0, c1, c2, c3, c4⟩ := (show _ ∧ _ ∧ _ ∧ _ ∧ _ from ⟨(HX.out _ HB11.out).1.cell 0 rfl, (HX.out _ HB11.out).1.cell 1 rfl, (HX.out _ HB11.out).1.cell 2 rfl, (HX.out _ HB11.out).1.cell 3 rfl, (HX.out _ HB11.out).1.cell 4 rfl⟩)
  go_wp2_with fail
  refine (HTs.out _ HB11.out).mono ?_
  rintro e x12 ⟨⟨g12, g12', gu12, l12, rfl, hs12, hm12, hz12⟩, hb12⟩
  have HS12 : Hid (StoAt x12 x11.heap.size (some ⟨g12, 0, none⟩) n0 n0 xs (some ⟨g12', 0, none⟩) n1 n1 ys (some ⟨gu12, 0, none⟩) un un l12 ∧ l12.map UE.u = l.map UE.u ∧ ∀ e ∈ l12, e.n ≤ 1048576) := ⟨hs12, hm12, hz12⟩
  have HC12 : Hid (Below x11.heap.size x11 x12) := hb12
  have HD12 : Hid (Below w.heap.size w x12) := (HX.out _ (HB11.out.trans (hb12.mono HB11.out.size))).2.2.2.2
  clear hs12 hm12 hz12 hb12 c0 c1 c2 c3 c4
  go_wp2_with fail
  refine (HI.out _ _ _ _ l12 x12 HD12.out HSz.out HS12.out.1 HS12.out.2.1 HS12.out.2.2).mono ?_
  rintro e x13 ⟨⟨vx13, rfl, hvx13⟩, hb13⟩
  obtain ⟨ha, hc, ha', hc', hu, huc, lh, rfl, hsx13, hmx13, hzx13, hEx13⟩ := HAn.out _ _ _ hvx13
  have HAh : Hid (SAt (x13.alloc (.cells #[.slice ha N hc, .slice ha' N' hc', .int .i64 rep, .int .i64 rnx, .slice hu K huc] 32)) x12.heap.size x13.heap.size ha N hc RX ha' N' hc' RY rep rnx hu K huc lh) := SAt.new hsx13 hb13.size
  have HC13 : Hid (Below x11.heap.size x11 (x13.alloc (.cells #[.slice ha N hc, .slice ha' N' hc', .int .i64 rep, .int .i64 rnx, .slice hu K huc] 32))) := (HC12.out.trans (hb13.mono HC12.out.size)).alloc (HC12.out.trans (hb13.mono HC12.out.size)).size _
  have HMh : Hid (lh.map UE.u = rus ∧ ∀ e ∈ lh, e.n ≤ 1048576) := ⟨hmx13, hzx13⟩
  clear hvx13 hsx13 hmx13 hzx13 hEx13 hb13 HC12 HS12 HD12
  have HAw13 : Hid (SAt (x13.alloc (.cells #[.slice ha N hc, .slice ha' N' hc', .int .i64 rep, .int .i64 rnx, .slice hu K huc] 32)) x1.heap.size bw wa N wc RX wa' N' wc' RY rep rnx wu K wuc lw) := HAw11.out.stays HC13.out
  obtain ⟨p0, p1, p2, p3, p4⟩ := (show _ ∧ _ ∧ _ ∧ _ ∧ _ from ⟨HAw13.out.box.cell 0 rfl, HAw13.out.box.cell 1 rfl, HAw13.out.box.cell 2 rfl, HAw13.out.box.cell 3 rfl, HAw13.out.box.cell 4 rfl⟩)
  obtain ⟨q0, q1, q2, q3, q4⟩ := (show _ ∧ _ ∧ _ ∧ _ ∧ _ from ⟨HAh.out.box.cell 0 rfl, HAh.out.box.cell 1 rfl, HAh.out.box.cell 2 rfl, HAh.out.box.cell 3 rfl, HAh.out.box.cell 4 rfl⟩)
  go_wp2_with fail
  obtain ⟨w13, hw13⟩ : ∃ w13, x13.alloc (.cells #[.slice ha N hc, .slice ha' N' hc', .int .i64 rep, .int .i64 rnx, .slice hu K huc] 32) = w13 := ⟨_, rfl⟩
  rw [hw13] at HAh HC13 HAw13 ⊢
  clear hw13 p0 p1 p2 p3 p4 q0 q1 q2 q3 q4
  refine (eqStore_same ha wa N hc wc RX ha' wa' N' hc' wc' RY rep rnx hu K huc x12.heap.size lh wu K wuc x1.heap.size lw w13 HAh.out.sto.now.strs HAw13.out.sto.now.strs HAh.out.sto.sure.strs HAw13.out.sto.sure.strs HAh.out.sto.ups HAw13.out.sto.ups HAh.out.sto.len HAw13.out.sto.len (by rw [HMh.out.1, HMw.out.1]) (by omega) (by omega) (by omega) (fun e he => by have := HMh.out.2 e he; omega)).mono ?_
  rintro e x14 ⟨rfl, hb14⟩
  have HC14 : Hid (Below x11.heap.size x11 x14) := HC13.out.trans (hb14.mono HC13.out.size)
  clear hb14 HC13 HAh HAw13
  have HBx14 : Hid (BoxN x14 bg 32 [.slice ga N gc, .slice ga' N' gc', .int .i64 rep, .int .i64 rnx, .slice gu K guc]) := HBx11.out.stays HC14.out
  have HMk14 : Hid (StoMkd x14 w3.heap.size 1 ga N gc ga' N' gc' gu K guc lg) := StoAt.stays HMk11.out HC14.out
  obtain ⟨q0, q1, q2, q3, q4⟩ := (show _ ∧ _ ∧ _ ∧ _ ∧ _ from ⟨HBx14.out.cell 0 rfl, HBx14.out.cell 1 rfl, HBx14.out.cell 2 rfl, HBx14.out.cell 3 rfl, HBx14.out.cell 4 rfl⟩)
  go_wp2_with fail
  refine (HHG.out _ HMk14.out).mono ?_
  rintro e x15 ⟨rfl, hb15⟩
  have HEn : Hid (Below w.heap.size w x15) := by
    have h1 : Below w0.heap.size w0 x14 := HB11.out.trans (HC14.out.mono HB11.out.size)
    exact (HX.out _ (h1.trans (hb15.mono h1.size))).2.2.2.2
  clear hb15 q0 q1 q2 q3 q4
  go_wp2_with fail
  go_ret
  exact ⟨rfl, HEn.out⟩

end Go.Proofs.YtenkpgnkkkgdmatGreatDoor

namespace Go.Proofs.YtenkpgnkkkgdmatGreatDoor
open Go.RowKit Go.ChangeShapes Go.WideShapes
set_option linter.unusedVariables false

theorem Strs.opened {H : Type} {enc : TypeId × Value → H} {w : World} {fuel : Nat} {v : Value} {x : DataW H × List MemPlace} (h : DataW.trod enc Tryz.prog w 0 (fun _ => true) true fuel 22 [v] = some x) :
    ∃ a len cap xs, v = .slice a len cap ∧ len ≤ maxLen ∧ Strs w a len xs := by
  rcases Go.Deep.open_slice1 Tryz.underlying22 (by kernel_rfl) h with ⟨hcs, _⟩ | ⟨a, len, cap, m, n, V, D, Pl, hcs, _, hl, hm, hmm, _, hc⟩
  · simp at hcs
    exact ⟨none, 0, 0, [], hcs, Nat.zero_le _, rfl, by simp, .inl rfl⟩
  · simp at hcs hmm
    subst hmm
    have hs : ∀ i, i < m → ∃ f : ByteArray, V i = .string f ∧ f.size ≤ maxLen := by
      intro i hi
      obtain ⟨_, h0⟩ := hc i hi
      obtain ⟨s, e0, _, z0⟩ := DataW.trod_string Tryz.underlying9 h0
      exact ⟨s, by simpa using e0, z0⟩
    refine ⟨some a, len, m, (List.range len).map fun i => if hi : i < m then Classical.choose (hs i hi) else ⟨#[]⟩, hcs, by omega, by simp, ?_, ?_⟩
    · intro f hf
      obtain ⟨i, hi, rfl⟩ := List.mem_map.1 hf
      have him : i < m := by have := List.mem_range.1 hi; omega
      rw [dif_pos him]
      exact (Classical.choose_spec (hs i him)).2
    · by_cases h0 : len = 0
      · exact .inl h0
      · right
        obtain ⟨b, off, spot⟩ := a
        have hspot : spot = none := by simpa [Addr.add] using World.cell?_spot (hc 0 (by omega)).1
        subst hspot
        have key : ∀ i (hi : i < m), w.cell? ⟨b, off + i, none⟩ = some (.string (Classical.choose (hs i hi))) := by
          intro i hi
          have hq := Classical.choose_spec (hs i hi)
          have hcc := (hc i hi).1
          rw [← hq.1]
          by_cases hi0 : i = 0
          · subst hi0
            simpa [Addr.add] using hcc
          · simpa [Addr.add, hi0] using hcc
        refine ⟨b, off, rfl, lt_of_cell (key 0 (by omega)), fun i hi => ?_⟩
        have hil : i < len := by simpa using hi
        have := key i (by omega)
        simpa [show i < m by omega] using this

set_option maxRecDepth 100000 in
theorem disk_opened {H : Type} {enc : TypeId × Value → H} {w : World} {r : Reach} {b0 : Nat} {v : Value} {d : DataW H} {p : List MemPlace} (hv : Value.okWide Tryz.prog w r b0 24 v) (h : DataW.Trod enc Tryz.prog w 0 (fun _ => true) true 24 v d p) :
    ∃ (a : Option Addr) (n ca : Nat) (xs : List ByteArray) (a' : Option Addr) (n' ca' : Nat) (ys : List ByteArray), v = .agg #[.slice a n ca, .slice a' n' ca'] ∧ n ≤ maxLen ∧ n' ≤ maxLen ∧ Strs w a n xs ∧ Strs w a' n' ys := by
  obtain ⟨v0, v1, y0, y1, m, rfl, _, _, h0, h1⟩ := Go.Joins.open_agg2 Tryz.underlying24 (by kernel_rfl) (by kernel_rfl) hv h
  obtain ⟨a, n, ca, xs, rfl, hl, hx⟩ := Strs.opened h0
  obtain ⟨a', n', ca', ys, rfl, hl', hy⟩ := Strs.opened h1
  exact ⟨a, n, ca, xs, a', n', ca', ys, rfl, hl, hl', hx, hy⟩

end Go.Proofs.YtenkpgnkkkgdmatGreatDoor

namespace Go.Proofs.YtenkpgnkkkgdmatGreatDoor
open Go.RowKit Go.ChangeShapes Go.WideShapes Go.Joins Go.Deep
set_option linter.unusedVariables false

theorem array5 {α : Type} {a : Array α} (h : a.size = 5) : ∃ x0 x1 x2 x3 x4, a = #[x0, x1, x2, x3, x4] := by
  obtain ⟨l⟩ := a
  match l, h with
  | [x0, x1, x2, x3, x4], _ => exact ⟨x0, x1, x2, x3, x4, rfl⟩

set_option maxRecDepth 100000 in
theorem disk_cells {H : Type} {enc : TypeId × Value → H} {w : World} {n : Nat} {v0 v1 : Value} {x : DataW H × List MemPlace} (h : DataW.trod enc Tryz.prog w 0 (fun _ => true) true n 24 [v0, v1] = some x) :
    ∃ (a : Option Addr) (n ca : Nat) (xs : List ByteArray) (a' : Option Addr) (n' ca' : Nat) (ys : List ByteArray), v0 = .slice a n ca ∧ v1 = .slice a' n' ca' ∧ n ≤ maxLen ∧ n' ≤ maxLen ∧ Strs w a n xs ∧ Strs w a' n' ys := by
  obtain ⟨xs, m, _, _, hl, hlen, hg⟩ := DataW.trod_struct Tryz.underlying24 h
  have ks : Tryz.prog.cellsOf 22 = 1 := by kernel_rfl
  match xs, hlen with
  | [y0, y1], _ =>
    have g0 := hg 0 _ rfl
    have g1 := hg 1 _ rfl
    simp [ks] at g0 g1
    obtain ⟨a, n, ca, xs, rfl, hla, hx⟩ := Strs.opened g0
    obtain ⟨a', n', ca', ys, rfl, hl', hy⟩ := Strs.opened g1
    exact ⟨a, n, ca, xs, a', n', ca', ys, rfl, rfl, hla, hl', hx, hy⟩

set_option maxRecDepth 100000 in
theorem store_opened {H : Type} {enc : TypeId × Value → H} {w : World} {r : Reach} {b0 : Nat} {v : Value} {d : DataW H} {p : List MemPlace} (hv : Value.okWide Tryz.prog w r b0 27 v) (h : DataW.Trod enc Tryz.prog w 0 (fun _ => true) true 27 v d p) :
    ∃ (a : Option Addr) (n ca : Nat) (xs : List ByteArray) (a' : Option Addr) (n' ca' : Nat) (ys : List ByteArray) (ep nx : Int) (ua : Option Addr) (un uc : Nat) (l : List UE), v = .agg #[.slice a n ca, .slice a' n' ca', .int .i64 ep, .int .i64 nx, .slice ua un uc] ∧ n ≤ maxLen ∧ n' ≤ maxLen ∧ un ≤ maxLen ∧ Strs w a n xs ∧ Strs w a' n' ys ∧ UpsI w ua un l ∧ (Lit.int .i64 ep).wf = true ∧ (Lit.int .i64 nx).wf = true := by
  have hC : Tryz.prog.cellsOf 27 = 5 := by kernel_rfl
  have kd : Tryz.prog.cellsOf 24 = 2 := by kernel_rfl
  have k3 : Tryz.prog.cellsOf 3 = 1 := by kernel_rfl
  have ku : Tryz.prog.cellsOf 25 = 1 := by kernel_rfl
  obtain ⟨cs, rfl, hsz⟩ := okWide_struct Tryz.underlying27 hv
  obtain ⟨c0, c1, c2, c3, c4, rfl⟩ := array5 (hsz.trans hC)
  obtain ⟨fuel, hf⟩ := h
  obtain ⟨xs, m, _, _, hl, hlen, hg⟩ := DataW.trod_struct Tryz.underlying27 hf
  match xs, hlen with
  | [y0, y1, y2, y3], _ =>
    have g0 := hg 0 _ rfl
    have g1 := hg 1 _ rfl
    have g2 := hg 2 _ rfl
    have g3 := hg 3 _ rfl
    simp [Value.cells, kd, k3, ku] at g0 g1 g2 g3
    obtain ⟨a, n, ca, xs, a', n', ca', ys, rfl, rfl, hla, hl', hx, hy⟩ := disk_cells g0
    obtain ⟨ep, e1, _, w1⟩ := DataW.trod_int Tryz.underlying3 g1
    obtain ⟨nx, e2, _, w2⟩ := DataW.trod_int Tryz.underlying3 g2
    obtain ⟨ua, un, uc, l, e3, hlu, hu⟩ := UpsI.opened g3
    simp only [List.cons.injEq, and_true] at e1 e2
    subst e1 e2 e3
    exact ⟨a, n, ca, xs, a', n', ca', ys, ep, nx, ua, un, uc, l, rfl, hla, hl', hlu, hx, hy, hu, w1, w2⟩

end Go.Proofs.YtenkpgnkkkgdmatGreatDoor

namespace Go.Proofs.YtenkpgnkkkgdmatGreatDoor
open Go.RowKit

def crc1 (x : Nat) : Nat := if x % 2 = 1 then (x / 2) ^^^ 2197175160 else x / 2
def crcN : Nat → Nat → Nat
  | 0, x => x
  | n + 1, x => crc1 (crcN n x)
def crcL (l : List Int) : Nat := l.foldl (fun x b => crcN 8 (x ^^^ b.toNat)) 4294967295

theorem crc1_lt (x : Nat) (h : x < 4294967296) : crc1 x < 4294967296 := by
  unfold crc1
  split
  · have : x / 2 ^^^ 2197175160 < 2 ^ 32 := Nat.xor_lt_two_pow (by omega) (by omega)
    omega
  · omega
theorem crcN_lt (n x : Nat) (h : x < 4294967296) : crcN n x < 4294967296 := by
  induction n with
  | zero => exact h
  | succ n ih => exact crc1_lt _ ih
theorem xor_lt32 (a b : Nat) (ha : a < 4294967296) (hb : b < 4294967296) : a ^^^ b < 4294967296 := by
  have : a ^^^ b < 2 ^ 32 := Nat.xor_lt_two_pow (by omega) (by omega)
  omega
theorem crcL_snoc (l : List Int) (b : Int) : crcL (l ++ [b]) = crcN 8 (crcL l ^^^ b.toNat) := by simp [crcL, List.foldl_append]
theorem crcF_lt (l : List Int) : ∀ x, x < 4294967296 → (∀ n ∈ l, 0 ≤ n ∧ n ≤ 255) → l.foldl (fun x b => crcN 8 (x ^^^ b.toNat)) x < 4294967296 := by
  induction l with
  | nil => intro x hx _; simpa using hx
  | cons b l ih =>
    intro x hx h
    have hb := h b (by simp)
    rw [List.foldl_cons]
    exact ih _ (crcN_lt _ _ (xor_lt32 _ _ hx (by omega))) (fun n hn => h n (by simp [hn]))
theorem crcL_lt (l : List Int) (h : ∀ n ∈ l, 0 ≤ n ∧ n ≤ 255) : crcL l < 4294967296 := crcF_lt l _ (by omega) h
theorem take_snoc (zs : List Int) (j : Nat) (h : j < zs.length) : zs.take (j + 1) = zs.take j ++ [zs.getD j 0] := by
  rw [List.take_add_one, List.getD_eq_getElem?_getD, List.getElem?_eq_getElem h]
  rfl

theorem u32_xor_int (a : Nat) (b : Int) (ha : a < 4294967296) (hb : 0 ≤ b) (hb2 : b < 4294967296) : bits .xor .u32 (a : Int) b = ((a ^^^ b.toNat : Nat) : Int) := by
  obtain ⟨B, rfl⟩ := Int.eq_ofNat_of_zero_le hb
  rw [Int.toNat_natCast]
  exact u32_xor_nat a B ha (by omega)
theorem i64_xor_int (a : Nat) (b : Int) (ha : a < 4294967296) (hb : 0 ≤ b) (hb2 : b < 4294967296) : bits .xor .i64 (a : Int) b = ((a ^^^ b.toNat : Nat) : Int) := by
  obtain ⟨B, rfl⟩ := Int.eq_ofNat_of_zero_le hb
  rw [Int.toNat_natCast]
  exact i64_xor_nat a B (by omega) (by omega)
theorem u32_and1 (a : Nat) (ha : a < 4294967296) : bits .and .u32 (a : Int) 1 = (a : Int) % 2 := by
  have := u32_and_nat a 1 ha (by omega)
  rw [show ((1 : Nat) : Int) = 1 from rfl] at this
  rw [this, Nat.and_one_is_mod]
  omega
theorem i64_and1 (a : Nat) (ha : a < 4294967296) : bits .and .i64 (a : Int) 1 = (a : Int) % 2 := by
  have := i64_and_nat a 1 (by omega) (by omega)
  rw [show ((1 : Nat) : Int) = 1 from rfl] at this
  rw [this, Nat.and_one_is_mod]
  omega
theorem half_cast (a : Nat) : (a : Int) / 2 = ((a / 2 : Nat) : Int) := by omega
theorem u32_turn (a : Nat) (ha : a < 4294967296) : bits .xor .u32 ((a : Int) / 2) 2197175160 = ((a / 2 ^^^ 2197175160 : Nat) : Int) := by
  rw [half_cast]
  exact u32_xor_int (a / 2) 2197175160 (by omega) (by omega) (by omega)
theorem i64_turn (a : Nat) (ha : a < 4294967296) : bits .xor .i64 ((a : Int) / 2) 2197175160 = ((a / 2 ^^^ 2197175160 : Nat) : Int) := by
  rw [half_cast]
  exact i64_xor_int (a / 2) 2197175160 (by omega) (by omega) (by omega)

theorem u32_not (a : Nat) (ha : a < 4294967296) : bits .xor .u32 IntKind.u32.max (a : Int) = ((a ^^^ 4294967295 : Nat) : Int) := by
  have e : IntKind.u32.max = ((4294967295 : Nat) : Int) := by decide
  rw [e, u32_xor_nat _ _ (by omega) ha, Nat.xor_comm]

end Go.Proofs.YtenkpgnkkkgdmatGreatDoor
