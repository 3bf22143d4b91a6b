/- The law that what a drawn server gives out is what waited, and that behind a crash all uploads are as they were when it was given out; under its table and its error. From what the row lists of the program's table of kinds to its cells: no statement of the program but its table of types. From what the row lists of the program's error to the cell that holds it. -/
import Derived.Test.YtlkgopoicpnacaaGreatDoorM32
import Derived.Test.YtlkgopoicpnacaaGreatDoorM32
import Derived.Test.YtlkgopoicpnacaaGreatDoorM43
import Derived.Test.YtlkgopoicpnacaaGreatDoorM44
import Derived.Test.YtlkgopoicpnacaaGreatDoorM43
import Derived.Test.YtlkgopoicpnacaaGreatDoorM44
import Derived.Test.YtlkgopoicpnacaaGreatDoorM44
import Derived.Test.YtlkgopoicpnacaaGreatDoorM44
import Derived.BigQuiet
import Derived.Deep.CutBlock
import Derived.Deep.RegionHeld3
import Derived.Test.YtlkgopoicpnacaaGreatDoorM39
import Derived.LaidLaws
import Derived.LaidHandle
import Derived.Lib.LaidTab
import Derived.Lib.SmallJoins
import Derived.OpenShut
import Derived.ChangeOld
import Derived.Test.YtlkgopoicpnacaaGreatDoorM33
import Derived.FnData
namespace Go.Proofs.YtlkgopoicpnacaaGreatDoor
open Go.RowKit
set_option linter.unusedVariables false

section
variable {w8 W : World} {B q lo : Nat} {A2 : Option Addr} {n2 C2 : Nat} {X2 : List ByteArray} {A2' : Option Addr} {n2' C2' : Nat} {Y2 : List ByteArray} {ua2 : Option Addr} {un2 uc2 : Nat} {l2 : List UE} {ha2 : Option Addr} {hn2 hc2 : Nat} {hs2 : List Hd} 

theorem svUp6 {v0 v1 v2 v3 v4 v5 : Value} (hz : BoxN W q 32 [v0, v1, v2, v3, v4, v5] ∧ B ≤ q) (h : SvAt W lo A2 n2 C2 X2 A2' n2' C2' Y2 ua2 un2 uc2 l2 ha2 hn2 hc2 hs2) (hb : Below B w8 W) (ep2 nx2 : Int) :
    BoxN ((((((W.setCell ⟨q, 0, none⟩ (.slice A2 n2 C2)).setCell ⟨q, 1, none⟩ (.slice A2' n2' C2')).setCell ⟨q, 2, none⟩ (.int .i64 ep2)).setCell ⟨q, 3, none⟩ (.int .i64 nx2)).setCell ⟨q, 4, none⟩ (.slice ua2 un2 uc2)).setCell ⟨q, 5, none⟩ (.slice ha2 hn2 hc2)) q 32 [.slice A2 n2 C2, .slice A2' n2' C2', .int .i64 ep2, .int .i64 nx2, .slice ua2 un2 uc2, .slice ha2 hn2 hc2] ∧ SvAt ((((((W.setCell ⟨q, 0, none⟩ (.slice A2 n2 C2)).setCell ⟨q, 1, none⟩ (.slice A2' n2' C2')).setCell ⟨q, 2, none⟩ (.int .i64 ep2)).setCell ⟨q, 3, none⟩ (.int .i64 nx2)).setCell ⟨q, 4, none⟩ (.slice ua2 un2 uc2)).setCell ⟨q, 5, none⟩ (.slice ha2 hn2 hc2)) lo A2 n2 C2 X2 A2' n2' C2' Y2 ua2 un2 uc2 l2 ha2 hn2 hc2 hs2 ∧ Below B w8 ((((((W.setCell ⟨q, 0, none⟩ (.slice A2 n2 C2)).setCell ⟨q, 1, none⟩ (.slice A2' n2' C2')).setCell ⟨q, 2, none⟩ (.int .i64 ep2)).setCell ⟨q, 3, none⟩ (.int .i64 nx2)).setCell ⟨q, 4, none⟩ (.slice ua2 un2 uc2)).setCell ⟨q, 5, none⟩ (.slice ha2 hn2 hc2)) := by
  obtain ⟨b0, hp⟩ := hz
  have b1 := b0.set 0 (.slice A2 n2 C2)
  have b2 := b1.set 1 (.slice A2' n2' C2')
  have b3 := b2.set 2 (.int .i64 ep2)
  have b4 := b3.set 3 (.int .i64 nx2)
  have b5 := b4.set 4 (.slice ua2 un2 uc2)
  have b6 := b5.set 5 (.slice ha2 hn2 hc2)
  exact ⟨b6, (((((h.setBox b0 _).setBox b1 _).setBox b2 _).setBox b3 _).setBox b4 _).setBox b5 _, (((((hb.setCell hp _).setCell hp _).setCell hp _).setCell hp _).setCell hp _).setCell hp _⟩

theorem far6B (hb : Below B w8 W) (hp : B ≤ q) (v0 v1 v2 v3 v4 v5 : Value) : Below B w8 ((((((W.setCell ⟨q, 0, none⟩ (v0)).setCell ⟨q, 1, none⟩ (v1)).setCell ⟨q, 2, none⟩ (v2)).setCell ⟨q, 3, none⟩ (v3)).setCell ⟨q, 4, none⟩ (v4)).setCell ⟨q, 5, none⟩ (v5)) := (((((hb.setCell hp _).setCell hp _).setCell hp _).setCell hp _).setCell hp _).setCell hp _

theorem svNew6 (h : SvAt W lo A2 n2 C2 X2 A2' n2' C2' Y2 ua2 un2 uc2 l2 ha2 hn2 hc2 hs2) (hb : Below B w8 W) (hl : B ≤ W.heap.size) (ep2 nx2 : Int) :
    BoxN (W.alloc (.cells #[.slice A2 n2 C2, .slice A2' n2' C2', .int .i64 ep2, .int .i64 nx2, .slice ua2 un2 uc2, .slice ha2 hn2 hc2] 32)) W.heap.size 32 [.slice A2 n2 C2, .slice A2' n2' C2', .int .i64 ep2, .int .i64 nx2, .slice ua2 un2 uc2, .slice ha2 hn2 hc2] ∧ SvAt (W.alloc (.cells #[.slice A2 n2 C2, .slice A2' n2' C2', .int .i64 ep2, .int .i64 nx2, .slice ua2 un2 uc2, .slice ha2 hn2 hc2] 32)) lo A2 n2 C2 X2 A2' n2' C2' Y2 ua2 un2 uc2 l2 ha2 hn2 hc2 hs2 ∧ Below B w8 (W.alloc (.cells #[.slice A2 n2 C2, .slice A2' n2' C2', .int .i64 ep2, .int .i64 nx2, .slice ua2 un2 uc2, .slice ha2 hn2 hc2] 32)) :=
  ⟨BoxN.new _ _ _, h.stays ((Below.refl _ _).alloc (Nat.le_refl _) _), hb.alloc hl _⟩
end

set_option maxRecDepth 10000 in
set_option maxHeartbeats 12800000 in
theorem lawTold_any (a : Option Addr) (len cap : Nat) (zs : List Int) (w : World) (hm : len ≤ maxLen) (hs0 : Seg w a len zs) (ht : RecT w) (he : ErrN w) :
    Calls Tryz.prog 3 #[.slice a len cap] w fun e w' => e = .returned (.bool true) ∧ Below w.heap.size w w' := by
  have HR : Hid (∀ W, Below w.heap.size w W → Seg W a len zs ∧ RecT W ∧ ErrN W) := fun W h => ⟨hs0.below h, ht.below h, he.below h⟩
  clear hs0 ht he
  by_cases hbig : (1048576 : Int) < (len : Int)
  · have hd : Hid (decide ((1048576 : Int) < (len : Int)) = true) := by show _ = _; simpa using hbig
    go_enter Tryz.func3, Tryz.ntmps3
    go_wp2_with fail
    refine (big_any a len cap w hm).mono ?_
    rintro e w1 ⟨rfl, hw1⟩
    subst w1
    rw [hd.out]
    go_wp2_with fail
    go_ret
    exact ⟨rfl, Below.refl _ _⟩
  have hd : Hid (decide ((1048576 : Int) < (len : Int)) = false) := by show _ = _; simpa using hbig
  have hl : len ≤ 1099511627776 := by omega
  clear hbig
  go_enter Tryz.func3, Tryz.ntmps3
  go_wp2_with fail
  refine (big_any a len cap w hm).mono ?_
  rintro e w1 ⟨rfl, hw1⟩
  subst w1
  rw [hd.out]
  clear hd
  go_wp2_with fail
  refine (drawServer_any a len cap zs w (HR.out w (Below.refl _ _)).1 hl).mono ?_
  rintro e w2 ⟨⟨v, rfl, hdr⟩, hb2⟩
  obtain ⟨A, n, C, X, A', n', C', Y, ep, nx, ua, un, uc, l, ha, hn, hc, hs, rfl, hsv, hsg⟩ := hdr.get
  have HSo : Hid (SGV 34 X Y ep nx (l.map UE.u) hs) := hsg
  obtain ⟨w3, hw3⟩ : ∃ w3, w2.alloc (.cells #[.slice A n C, .slice A' n' C', .int .i64 ep, .int .i64 nx, .slice ua un uc, .slice ha hn hc] 32) = w3 := ⟨_, rfl⟩
  have HE3 : Hid (w2.alloc (.cells #[.slice A n C, .slice A' n' C', .int .i64 ep, .int .i64 nx, .slice ua un uc, .slice ha hn hc] 32) = w3) := hw3
  have hb23 : Below w2.heap.size w2 w3 := by rw [← hw3]; exact (Below.refl _ _).alloc (Nat.le_refl _) _
  have hbx : BoxN w3 w2.heap.size 32 [.slice A n C, .slice A' n' C', .int .i64 ep, .int .i64 nx, .slice ua un uc, .slice ha hn hc] := by rw [← hw3]; exact BoxN.new _ _ _
  have HT3 : Hid (∀ W, Below w3.heap.size w3 W → (BoxN W w2.heap.size 32 [.slice A n C, .slice A' n' C', .int .i64 ep, .int .i64 nx, .slice ua un uc, .slice ha hn hc] ∧ SvAt W w.heap.size A n C X A' n' C' Y ua un uc l ha hn hc hs) ∧ (Seg W a len zs ∧ RecT W ∧ ErrN W) ∧ Below w.heap.size w W) := fun W h => by
    have h2 : Below w2.heap.size w2 W := hb23.trans (h.mono hb23.size)
    have h3 : Below w.heap.size w W := hb2.trans (h2.mono hb2.size)
    exact ⟨⟨hbx.stays h, hsv.stays h2⟩, HR.out W h3, h3⟩
  clear hdr hsv hsg hb2 hb23 hbx hw3 HR
  go_upto_region 4 with fail
  rw [HE3.out]
  clear HE3
  generalize w2.heap.size = b3 at *
  have HB0 : Hid (Below w3.heap.size w3 w3) := Below.refl _ _
  obtain ⟨x0, x1, x2, x3, x4, x5⟩ := (show _ ∧ _ ∧ _ ∧ _ ∧ _ ∧ _ from ⟨BoxN.cell (HT3.out w3 HB0.out).1.1 0 rfl, BoxN.cell (HT3.out w3 HB0.out).1.1 1 rfl, BoxN.cell (HT3.out w3 HB0.out).1.1 2 rfl, BoxN.cell (HT3.out w3 HB0.out).1.1 3 rfl, BoxN.cell (HT3.out w3 HB0.out).1.1 4 rfl, BoxN.cell (HT3.out w3 HB0.out).1.1 5 rfl⟩)
  have HP := (show Hid _ from (HT3.out w3 HB0.out).1.2.pre HSo.out)
  have hq1 := HP.out.2.2.1
  have hq2 := HP.out.2.2.2.1
  have hq3 := HP.out.2.2.2.2.2.2.2.1
  have hq4 := HP.out.2.2.2.2.2.2.2.2.2.2.2.2
  go_wp2_with fail
  refine (implSyncAll_any A n C X A' n' C' Y ep nx ua un uc w.heap.size l ha hn hc hs w3 HP.out.1 HP.out.2.1 (by omega) (by omega) HP.out.2.2.2.2.1 HP.out.2.2.2.2.2.1 HP.out.2.2.2.2.2.2.1 (by omega) (fun e he => by have := HP.out.2.2.2.2.2.2.2.2.1 e he; omega) HP.out.2.2.2.2.2.2.2.2.2.2.2.1 (by omega) (HT3.out w3 HB0.out).1.2.sto.now.sl (HT3.out w3 HB0.out).2.1.2.1 (HT3.out w3 HB0.out).2.1.2.2).mono ?_
  rintro e w4 ⟨⟨v, u, rfl, hans⟩, hb4⟩
  obtain ⟨t1, t2, t3, t4⟩ := told_sync HSo.out
  rw [t1, t2, t3] at hans
  obtain ⟨a1, n1, c1, a1', n1', c1', u1, un1, uc1, l1, h1, hn1, hc1, pa, pn, pc, rfl, rfl, hv1, hm1, hp1, _⟩ := hans
  obtain rfl : hn1 = 0 := by have := hv1.held.len; simpa using this.symm
  obtain rfl : hn = pn := by have h1 := hp1.len; have h2 := (HT3.out w3 HB0.out).1.2.held.len; omega
  have HSx : Hid (SGV 34 X X ep nx (l1.map UE.u) []) := by show SGV _ _ _ _ _ _ _; rw [hm1]; exact t4
  have HM1 : Hid (l1.map UE.u = l.map UE.u) := hm1
  obtain ⟨w5, hw5⟩ : ∃ w5, w4.alloc (.cells #[.slice a1 n1 c1, .slice a1' n1' c1', .int .i64 ep, .int .i64 nx, .slice u1 un1 uc1, .slice h1 0 hc1] 32) = w5 := ⟨_, rfl⟩
  have HE5 : Hid (w4.alloc (.cells #[.slice a1 n1 c1, .slice a1' n1' c1', .int .i64 ep, .int .i64 nx, .slice u1 un1 uc1, .slice h1 0 hc1] 32) = w5) := hw5
  have hb45 : Below w4.heap.size w4 w5 := by rw [← hw5]; exact (Below.refl _ _).alloc (Nat.le_refl _) _
  have hbx : BoxN w5 w4.heap.size 32 [.slice a1 n1 c1, .slice a1' n1' c1', .int .i64 ep, .int .i64 nx, .slice u1 un1 uc1, .slice h1 0 hc1] := by rw [← hw5]; exact BoxN.new _ _ _
  have HT5 : Hid (∀ W, Below w5.heap.size w5 W → (BoxN W w4.heap.size 32 [.slice a1 n1 c1, .slice a1' n1' c1', .int .i64 ep, .int .i64 nx, .slice u1 un1 uc1, .slice h1 0 hc1] ∧ SvAt W w3.heap.size a1 n1 c1 X a1' n1' c1' X u1 un1 uc1 l1 h1 0 hc1 []) ∧ OwnH W w3.heap.size pa hn pc hs ∧ (BoxN W b3 32 [.slice A n C, .slice A' n' C', .int .i64 ep, .int .i64 nx, .slice ua un uc, .slice ha hn hc] ∧ SvAt W w.heap.size A n C X A' n' C' Y ua un uc l ha hn hc hs) ∧ (Seg W a len zs ∧ RecT W ∧ ErrN W) ∧ Below w.heap.size w W) := fun W h => by
    have h2 : Below w4.heap.size w4 W := hb45.trans (h.mono hb45.size)
    have h3 : Below w3.heap.size w3 W := hb4.trans (h2.mono hb4.size)
    exact ⟨⟨hbx.stays h, hv1.stays h2⟩, hp1.below h2, HT3.out W h3⟩
  clear hv1 hm1 hp1 hb4 hb45 hbx hw5 t1 t2 t3 t4 HT3 HB0 HP hq1 hq2 hq3 hq4 x0 x1 x2 x3 x4 x5
  go_upto_region 5 with fail
  rw [HE5.out]
  clear HE5
  generalize w4.heap.size = b4 at *
  have HBd : Hid (Below w5.heap.size w5 w5.drew) := (Below.refl _ _).drew
  have HBz : Hid (Below w5.heap.size w5 (w5.drew.alloc (.cells #[.slice none 0 0, .slice none 0 0, .int .i64 0, .int .i64 0, .slice none 0 0, .slice none 0 0] 32))) := HBd.out.alloc (Nat.le_refl _) _
  have HZa : Hid (BoxN (w5.drew.alloc (.cells #[.slice none 0 0, .slice none 0 0, .int .i64 0, .int .i64 0, .slice none 0 0, .slice none 0 0] 32)) w5.heap.size 32 [.slice none 0 0, .slice none 0 0, .int .i64 0, .int .i64 0, .slice none 0 0, .slice none 0 0] ∧ w5.heap.size ≤ w5.heap.size) := ⟨BoxN.new w5.drew 32 [.slice none 0 0, .slice none 0 0, .int .i64 0, .int .i64 0, .slice none 0 0, .slice none 0 0], Nat.le_refl _⟩
  have HQz : Hid (∀ o, Below w5.heap.size w5 ((w5.alloc o).drew)) := fun o => ((Below.refl _ _).alloc (Nat.le_refl _) o).drew
  obtain ⟨k0, k1, k2, k3, k4, k5⟩ := (show _ ∧ _ ∧ _ ∧ _ ∧ _ ∧ _ from ⟨BoxN.cell (HT5.out _ HBd.out).1.1 0 rfl, BoxN.cell (HT5.out _ HBd.out).1.1 1 rfl, BoxN.cell (HT5.out _ HBd.out).1.1 2 rfl, BoxN.cell (HT5.out _ HBd.out).1.1 3 rfl, BoxN.cell (HT5.out _ HBd.out).1.1 4 rfl, BoxN.cell (HT5.out _ HBd.out).1.1 5 rfl⟩)
  have q0 : ∀ o, (w5.alloc o).drew.cell? ⟨b4, 0, none⟩ = _ := fun o => BoxN.cell (HT5.out _ (HQz.out o)).1.1 0 rfl
  have q1 : ∀ o, (w5.alloc o).drew.cell? ⟨b4, 1, none⟩ = _ := fun o => BoxN.cell (HT5.out _ (HQz.out o)).1.1 1 rfl
  have q2 : ∀ o, (w5.alloc o).drew.cell? ⟨b4, 2, none⟩ = _ := fun o => BoxN.cell (HT5.out _ (HQz.out o)).1.1 2 rfl
  have q3 : ∀ o, (w5.alloc o).drew.cell? ⟨b4, 3, none⟩ = _ := fun o => BoxN.cell (HT5.out _ (HQz.out o)).1.1 3 rfl
  have q4 : ∀ o, (w5.alloc o).drew.cell? ⟨b4, 4, none⟩ = _ := fun o => BoxN.cell (HT5.out _ (HQz.out o)).1.1 4 rfl
  have q5 : ∀ o, (w5.alloc o).drew.cell? ⟨b4, 5, none⟩ = _ := fun o => BoxN.cell (HT5.out _ (HQz.out o)).1.1 5 rfl
  go_cut [6, 7] from 17 (fun v6 v7 W => ∃ (p : Nat) (a3 : Option Addr) (n3 c3 : Nat) (X3 : List ByteArray) (a3' : Option Addr) (n3' c3' : Nat) (Y3 : List ByteArray) (ep3 nx3 : Int) (u3 : Option Addr) (un3 uc3 : Nat) (l3 : List UE) (h3 : Option Addr) (hc3 : Nat), v6 = .pointer (some ⟨p, 0, none⟩) ∧ v7 = .bool true ∧ Hid (BoxN W p 32 [.slice a3 n3 c3, .slice a3' n3' c3', .int .i64 ep3, .int .i64 nx3, .slice u3 un3 uc3, .slice h3 0 hc3]) ∧ Hid (SvAt W w5.heap.size a3 n3 c3 X3 a3' n3' c3' Y3 u3 un3 uc3 l3 h3 0 hc3 []) ∧ Hid (SGV 35 X3 Y3 ep3 nx3 (l3.map UE.u) [] ∧ l3.map UE.u = l.map UE.u) ∧ Hid (Below w5.heap.size w5 W))
  case first =>
    go_region_held3 (fun W => W.cell? ⟨b4, 0, none⟩ = some (.slice a1 n1 c1) ∧ W.cell? ⟨b4, 1, none⟩ = some (.slice a1' n1' c1') ∧ W.cell? ⟨b4, 2, none⟩ = some (.int .i64 ep) ∧ W.cell? ⟨b4, 3, none⟩ = some (.int .i64 nx) ∧ W.cell? ⟨b4, 4, none⟩ = some (.slice u1 un1 uc1) ∧ W.cell? ⟨b4, 5, none⟩ = some (.slice h1 0 hc1)) (first | with_reducible exact ⟨k0, k1, k2, k3, k4, k5⟩ | with_reducible exact ⟨q0 _, q1 _, q2 _, q3 _, q4 _, q5 _⟩ | with_reducible exact ⟨e0, e1, e2, e3, e4, e5⟩ | with_reducible exact ⟨r0 _, r1 _, r2 _, r3 _, r4 _, r5 _⟩ | with_reducible exact ⟨m0, m1, m2, m3, m4, m5⟩ | with_reducible exact ⟨n0_ _, n1_ _, n2_ _, n3_ _, n4_ _, n5_ _⟩ | with_reducible exact ⟨t0 _ _ _ _ _ _, t1 _ _ _ _ _ _, t2 _ _ _ _ _ _, t3 _ _ _ _ _ _, t4 _ _ _ _ _ _, t5 _ _ _ _ _ _⟩ | fail) (first
      | (go_at_call 8
         first
           | (refine (drawKept_any a len cap zs w5.drew (HT5.out _ HBd.out).2.2.2.1.1 hl).mono ?_; rintro e y1 ⟨⟨ka, kc, ks, rfl, hbo⟩, hb1⟩
              have HB1 : Hid (Below w5.heap.size w5 y1) := HBd.out.trans (hb1.mono HBd.out.size))
           | (refine (drawKept_any a len cap zs (w5.drew.alloc (.cells #[.slice none 0 0, .slice none 0 0, .int .i64 0, .int .i64 0, .slice none 0 0, .slice none 0 0] 32)) (HT5.out _ HBz.out).2.2.2.1.1 hl).mono ?_; rintro e y1 ⟨⟨ka, kc, ks, rfl, hbo⟩, hb1⟩
              have HB1 : Hid (Below w5.heap.size w5 y1) := HBz.out.trans (hb1.mono HBz.out.size)
              have HZ1 : Hid (BoxN y1 w5.heap.size 32 [.slice none 0 0, .slice none 0 0, .int .i64 0, .int .i64 0, .slice none 0 0, .slice none 0 0] ∧ w5.heap.size ≤ w5.heap.size) := ⟨BoxN.stays HZa.out.1 hb1, Nat.le_refl _⟩)
         have HBo : Hid (Bools y1 ka 30 ks) := OwnBo.strs hbo
         have HBa : Hid (∀ o, Bools (y1.alloc o) ka 30 ks) := fun o => OwnBo.strs (OwnBo.below hbo ((Below.refl _ _).alloc (Nat.le_refl _) _))
         have HBb : Hid (∀ o, Below w5.heap.size w5 (y1.alloc o)) := fun o => HB1.out.alloc HB1.out.size o
         have hy1 : w5.heap.size ≤ y1.heap.size := HB1.out.size
         have e0 := BoxN.cell (HT5.out _ HB1.out).1.1 0 rfl
         have r0 : ∀ o, (y1.alloc o).cell? ⟨b4, 0, none⟩ = _ := fun o => BoxN.cell (HT5.out _ (HBb.out o)).1.1 0 rfl
         have e1 := BoxN.cell (HT5.out _ HB1.out).1.1 1 rfl
         have r1 : ∀ o, (y1.alloc o).cell? ⟨b4, 1, none⟩ = _ := fun o => BoxN.cell (HT5.out _ (HBb.out o)).1.1 1 rfl
         have e2 := BoxN.cell (HT5.out _ HB1.out).1.1 2 rfl
         have r2 : ∀ o, (y1.alloc o).cell? ⟨b4, 2, none⟩ = _ := fun o => BoxN.cell (HT5.out _ (HBb.out o)).1.1 2 rfl
         have e3 := BoxN.cell (HT5.out _ HB1.out).1.1 3 rfl
         have r3 : ∀ o, (y1.alloc o).cell? ⟨b4, 3, none⟩ = _ := fun o => BoxN.cell (HT5.out _ (HBb.out o)).1.1 3 rfl
         have e4 := BoxN.cell (HT5.out _ HB1.out).1.1 4 rfl
         have r4 : ∀ o, (y1.alloc o).cell? ⟨b4, 4, none⟩ = _ := fun o => BoxN.cell (HT5.out _ (HBb.out o)).1.1 4 rfl
         have e5 := BoxN.cell (HT5.out _ HB1.out).1.1 5 rfl
         have r5 : ∀ o, (y1.alloc o).cell? ⟨b4, 5, none⟩ = _ := fun o => BoxN.cell (HT5.out _ (HBb.out o)).1.1 5 rfl
         clear hbo hb1)
      | (go_at_call 7
         first
           | (have HP := (show Hid _ from (HT5.out y1 HB1.out).1.2.pre HSx.out)
              have hq1 := HP.out.2.2.1
              have hq2 := HP.out.2.2.2.1
              have hq3 := HP.out.2.2.2.2.2.2.2.1
              have hq4 := HP.out.2.2.2.2.2.2.2.2.2.2.2.2
              refine (implCrash_any a1 n1 c1 X a1' n1' c1' X ep nx u1 un1 uc1 w3.heap.size l1 h1 0 hc1 [] ka 30 kc ks y1 HP.out.1 HP.out.2.1 (by omega) (by omega) HP.out.2.2.2.2.1 HP.out.2.2.2.2.2.1 HP.out.2.2.2.2.2.2.1 (by omega) (fun e he => by have := HP.out.2.2.2.2.2.2.2.2.1 e he; omega) HP.out.2.2.2.2.2.2.2.2.2.2.2.1 (by omega) HBo.out (by omega) (HT5.out y1 HB1.out).1.2.sto.now.sl (HT5.out y1 HB1.out).2.2.2.1.2.1 (HT5.out y1 HB1.out).2.2.2.1.2.2).mono ?_; rintro e y2 ⟨⟨v, rfl, hans⟩, hb2⟩
              have HB2 : Hid (Below w5.heap.size w5 y2) := HB1.out.trans (hb2.mono HB1.out.size)
              have hlo : w5.heap.size ≤ y1.heap.size := hy1
              try (have HZ2 : Hid (BoxN y2 w5.heap.size 32 [.slice none 0 0, .slice none 0 0, .int .i64 0, .int .i64 0, .slice none 0 0, .slice none 0 0] ∧ w5.heap.size ≤ w5.heap.size) := ⟨BoxN.stays HZ1.out.1 hb2, HZ1.out.2⟩))
           | (have HP := (show Hid _ from (HT5.out (y1.alloc (.cells #[.slice none 0 0, .slice none 0 0, .int .i64 0, .int .i64 0, .slice none 0 0, .slice none 0 0] 32)) (HBb.out _)).1.2.pre HSx.out)
              have hq1 := HP.out.2.2.1
              have hq2 := HP.out.2.2.2.1
              have hq3 := HP.out.2.2.2.2.2.2.2.1
              have hq4 := HP.out.2.2.2.2.2.2.2.2.2.2.2.2
              refine (implCrash_any a1 n1 c1 X a1' n1' c1' X ep nx u1 un1 uc1 w3.heap.size l1 h1 0 hc1 [] ka 30 kc ks (y1.alloc (.cells #[.slice none 0 0, .slice none 0 0, .int .i64 0, .int .i64 0, .slice none 0 0, .slice none 0 0] 32)) HP.out.1 HP.out.2.1 (by omega) (by omega) HP.out.2.2.2.2.1 HP.out.2.2.2.2.2.1 HP.out.2.2.2.2.2.2.1 (by omega) (fun e he => by have := HP.out.2.2.2.2.2.2.2.2.1 e he; omega) HP.out.2.2.2.2.2.2.2.2.2.2.2.1 (by omega) (HBa.out _) (by omega) (HT5.out (y1.alloc (.cells #[.slice none 0 0, .slice none 0 0, .int .i64 0, .int .i64 0, .slice none 0 0, .slice none 0 0] 32)) (HBb.out _)).1.2.sto.now.sl (HT5.out (y1.alloc (.cells #[.slice none 0 0, .slice none 0 0, .int .i64 0, .int .i64 0, .slice none 0 0, .slice none 0 0] 32)) (HBb.out _)).2.2.2.1.2.1 (HT5.out (y1.alloc (.cells #[.slice none 0 0, .slice none 0 0, .int .i64 0, .int .i64 0, .slice none 0 0, .slice none 0 0] 32)) (HBb.out _)).2.2.2.1.2.2).mono ?_; rintro e y2 ⟨⟨v, rfl, hans⟩, hb2⟩
              have HB2 : Hid (Below w5.heap.size w5 y2) := (HBb.out (.cells #[.slice none 0 0, .slice none 0 0, .int .i64 0, .int .i64 0, .slice none 0 0, .slice none 0 0] 32)).trans (hb2.mono (HBb.out (.cells #[.slice none 0 0, .slice none 0 0, .int .i64 0, .int .i64 0, .slice none 0 0, .slice none 0 0] 32)).size)
              have hlo : w5.heap.size ≤ (y1.alloc (.cells #[.slice none 0 0, .slice none 0 0, .int .i64 0, .int .i64 0, .slice none 0 0, .slice none 0 0] 32)).heap.size := (HBb.out (.cells #[.slice none 0 0, .slice none 0 0, .int .i64 0, .int .i64 0, .slice none 0 0, .slice none 0 0] 32)).size
              have HZ2 : Hid (BoxN y2 y1.heap.size 32 [.slice none 0 0, .slice none 0 0, .int .i64 0, .int .i64 0, .slice none 0 0, .slice none 0 0] ∧ w5.heap.size ≤ y1.heap.size) := ⟨BoxN.stays (BoxN.new y1 32 [.slice none 0 0, .slice none 0 0, .int .i64 0, .int .i64 0, .slice none 0 0, .slice none 0 0]) hb2, hy1⟩)
         obtain ⟨ep3, nx3, hcr, hsg3⟩ := told_crash HSx.out (by omega) ks
         rw [hcr] at hans ⊢
         dsimp only at hans ⊢
         obtain ⟨a3, n3, c3, a3', n3', c3', u3, un3, uc3, l3, h3, hn3, hc3, rfl, hv3, hm3, _⟩ := hans
         obtain rfl : hn3 = 0 := by have := hv3.held.len; simpa using this.symm
         have HV3 : Hid (SvAt y2 w5.heap.size a3 n3 c3 (fallX X X ks) a3' n3' c3' (fallY X X ks) u3 un3 uc3 l3 h3 0 hc3 []) := hv3.low hlo
         have HS3 : Hid (SGV 35 (fallX X X ks) (fallY X X ks) ep3 nx3 (l3.map UE.u) [] ∧ l3.map UE.u = l.map UE.u) := by show _ ∧ _; rw [hm3]; exact ⟨hsg3, HM1.out⟩
         have HBb2 : Hid (∀ o, Below w5.heap.size w5 (y2.alloc o)) := fun o => HB2.out.alloc HB2.out.size o
         have m0 := BoxN.cell (HT5.out _ HB2.out).1.1 0 rfl
         have n0_ : ∀ o, (y2.alloc o).cell? ⟨b4, 0, none⟩ = _ := fun o => BoxN.cell (HT5.out _ (HBb2.out o)).1.1 0 rfl
         have m1 := BoxN.cell (HT5.out _ HB2.out).1.1 1 rfl
         have n1_ : ∀ o, (y2.alloc o).cell? ⟨b4, 1, none⟩ = _ := fun o => BoxN.cell (HT5.out _ (HBb2.out o)).1.1 1 rfl
         have m2 := BoxN.cell (HT5.out _ HB2.out).1.1 2 rfl
         have n2_ : ∀ o, (y2.alloc o).cell? ⟨b4, 2, none⟩ = _ := fun o => BoxN.cell (HT5.out _ (HBb2.out o)).1.1 2 rfl
         have m3 := BoxN.cell (HT5.out _ HB2.out).1.1 3 rfl
         have n3_ : ∀ o, (y2.alloc o).cell? ⟨b4, 3, none⟩ = _ := fun o => BoxN.cell (HT5.out _ (HBb2.out o)).1.1 3 rfl
         have m4 := BoxN.cell (HT5.out _ HB2.out).1.1 4 rfl
         have n4_ : ∀ o, (y2.alloc o).cell? ⟨b4, 4, none⟩ = _ := fun o => BoxN.cell (HT5.out _ (HBb2.out o)).1.1 4 rfl
         have m5 := BoxN.cell (HT5.out _ HB2.out).1.1 5 rfl
         have n5_ : ∀ o, (y2.alloc o).cell? ⟨b4, 5, none⟩ = _ := fun o => BoxN.cell (HT5.out _ (HBb2.out o)).1.1 5 rfl
         try (have t0 := fun (v0 v1 v2 v3 v4 v5 : Value) => BoxN.cell (HT5.out _ (far6B HB2.out HZ2.out.2 v0 v1 v2 v3 v4 v5)).1.1 0 rfl
              have t1 := fun (v0 v1 v2 v3 v4 v5 : Value) => BoxN.cell (HT5.out _ (far6B HB2.out HZ2.out.2 v0 v1 v2 v3 v4 v5)).1.1 1 rfl
              have t2 := fun (v0 v1 v2 v3 v4 v5 : Value) => BoxN.cell (HT5.out _ (far6B HB2.out HZ2.out.2 v0 v1 v2 v3 v4 v5)).1.1 2 rfl
              have t3 := fun (v0 v1 v2 v3 v4 v5 : Value) => BoxN.cell (HT5.out _ (far6B HB2.out HZ2.out.2 v0 v1 v2 v3 v4 v5)).1.1 3 rfl
              have t4 := fun (v0 v1 v2 v3 v4 v5 : Value) => BoxN.cell (HT5.out _ (far6B HB2.out HZ2.out.2 v0 v1 v2 v3 v4 v5)).1.1 4 rfl
              have t5 := fun (v0 v1 v2 v3 v4 v5 : Value) => BoxN.cell (HT5.out _ (far6B HB2.out HZ2.out.2 v0 v1 v2 v3 v4 v5)).1.1 5 rfl
              have z0 := BoxN.cell HZ2.out.1 0 rfl
              have z1 := BoxN.cell HZ2.out.1 1 rfl
              have z2 := BoxN.cell HZ2.out.1 2 rfl
              have z3 := BoxN.cell HZ2.out.1 3 rfl
              have z4 := BoxN.cell HZ2.out.1 4 rfl
              have z5 := BoxN.cell HZ2.out.1 5 rfl
              have g0 := BoxN.frozen HZ2.out.1 0
              have g1 := BoxN.frozen HZ2.out.1 1
              have g2 := BoxN.frozen HZ2.out.1 2
              have g3 := BoxN.frozen HZ2.out.1 3
              have g4 := BoxN.frozen HZ2.out.1 4
              have g5 := BoxN.frozen HZ2.out.1 5)
         clear hv3 hm3 hsg3 hcr hb2 HP hq1 hq2 hq3 hq4)
      | fail)
    all_goals
      first
        | (have HU := svUp6 HZ2.out HV3.out HB2.out ep3 nx3
           revert HU
           generalize World.setCell (World.setCell (World.setCell (World.setCell (World.setCell (World.setCell y2 _ _) _ _) _ _) _ _) _ _) _ _ = W9
           intro HU)
        | (have HU := svNew6 HV3.out HB2.out HB2.out.size ep3 nx3
           revert HU
           generalize World.alloc y2 _ = W9
           intro HU)
      have H1 : Hid (BoxN W9 _ _ _) := HU.1
      have H2 : Hid (SvAt W9 _ _ _ _ _ _ _ _ _ _ _ _ _ _ _ _ _) := HU.2.1
      have H3 : Hid (Below _ _ W9) := HU.2.2
      clear HU HV3 HB1 HB2 HBb HBb2 HBd HBz HZa HQz HT5 HBo HBa
      go_wp2_with fail
      go_meet
      exact ⟨_, _, _, _, _, _, _, _, _, _, _, _, _, _, _, _, _, rfl, rfl, H1, H2, HS3, H3⟩
  case rest =>
  obtain ⟨w6, hw6⟩ : ∃ w6, wc = w6 := ⟨_, rfl⟩
  rw [hw6] at hcut ⊢
  clear hw6 HBd HBz HZa HQz k0 k1 k2 k3 k4 k5 q0 q1 q2 q3 q4 q5
  obtain ⟨p, a3, n3, c3, X3, a3', n3', c3', Y3, ep3, nx3, u3, un3, uc3, l3, h3, hc3, rfl, rfl, HBp, HSp, HS3, HBw⟩ := hcut
  have HF : Hid (∀ W, Below w6.heap.size w6 W → (BoxN W p 32 [.slice a3 n3 c3, .slice a3' n3' c3', .int .i64 ep3, .int .i64 nx3, .slice u3 un3 uc3, .slice h3 0 hc3] ∧ SvAt W w5.heap.size a3 n3 c3 X3 a3' n3' c3' Y3 u3 un3 uc3 l3 h3 0 hc3 []) ∧ (BoxN W b4 32 [.slice a1 n1 c1, .slice a1' n1' c1', .int .i64 ep, .int .i64 nx, .slice u1 un1 uc1, .slice h1 0 hc1] ∧ SvAt W w3.heap.size a1 n1 c1 X a1' n1' c1' X u1 un1 uc1 l1 h1 0 hc1 []) ∧ OwnH W w3.heap.size pa hn pc hs ∧ (BoxN W b3 32 [.slice A n C, .slice A' n' C', .int .i64 ep, .int .i64 nx, .slice ua un uc, .slice ha hn hc] ∧ SvAt W w.heap.size A n C X A' n' C' Y ua un uc l ha hn hc hs) ∧ (Seg W a len zs ∧ RecT W ∧ ErrN W) ∧ Below w.heap.size w W) := fun W h =>
    ⟨⟨HBp.out.stays h, HSp.out.stays h⟩, HT5.out W (HBw.out.trans (h.mono HBw.out.size))⟩
  have HB6 : Hid (Below w6.heap.size w6 w6) := Below.refl _ _
  clear HBp HSp HBw HT5
  have hh5 := BoxN.cell (HF.out _ HB6.out).2.2.2.1.1 5 rfl
  have hfew : hn ≤ 2097152 := by have h1 := (HF.out _ HB6.out).2.2.1.len; have h2 := HSo.out.few; omega
  go_wp2_with fail
  refine (sameHe_same pa ha hn pc hc hs w6 (HF.out _ HB6.out).2.2.1.helds (HF.out _ HB6.out).2.2.2.1.2.held.helds hfew).mono ?_
  rintro e y1 ⟨rfl, kk, hy1⟩
  have HB1 : Hid (Below w6.heap.size w6 y1) := by show Below _ _ _; rw [hy1]; exact below_drewN HB6.out kk
  clear hy1 hh5
  obtain ⟨e0, e1, e2, e3, e4, e5⟩ := (show _ ∧ _ ∧ _ ∧ _ ∧ _ ∧ _ from ⟨BoxN.cell (HF.out _ HB1.out).2.1.1 0 rfl, BoxN.cell (HF.out _ HB1.out).2.1.1 1 rfl, BoxN.cell (HF.out _ HB1.out).2.1.1 2 rfl, BoxN.cell (HF.out _ HB1.out).2.1.1 3 rfl, BoxN.cell (HF.out _ HB1.out).2.1.1 4 rfl, BoxN.cell (HF.out _ HB1.out).2.1.1 5 rfl⟩)
  have HP := (show Hid _ from (HF.out _ HB1.out).2.1.2.pre HSx.out)
  have hq1 := HP.out.2.2.1
  have hq2 := HP.out.2.2.2.1
  have hq3 := HP.out.2.2.2.2.2.2.2.1
  have hq4 := HP.out.2.2.2.2.2.2.2.2.2.2.2.2
  go_wp2_with fail
  refine (implSvok_any a1 n1 c1 X a1' n1' c1' X ep nx u1 un1 uc1 w3.heap.size l1 h1 0 hc1 [] y1 HP.out.1 HP.out.2.1 (by omega) (by omega) HP.out.2.2.2.2.1 HP.out.2.2.2.2.2.1 HP.out.2.2.2.2.2.2.1 (by omega) HP.out.2.2.2.2.2.2.2.2.2.2.2.1 (by omega) (HF.out _ HB1.out).2.1.2.sto.now.sl (HF.out _ HB1.out).2.2.2.2.1.2.1 (HF.out _ HB1.out).2.2.2.2.1.2.2).mono ?_
  rintro e y2 ⟨rfl, hb2⟩
  rw [HSx.out.ok]
  have HB2 : Hid (Below w6.heap.size w6 y2) := HB1.out.trans (hb2.mono HB1.out.size)
  clear hb2 HP hq1 hq2 hq3 hq4 e0 e1 e2 e3 e4 e5 HB1
  have m4 := BoxN.cell (HF.out _ HB2.out).1.1 4 rfl
  have s4 := BoxN.cell (HF.out _ HB2.out).2.2.2.1.1 4 rfl
  have HP := (show Hid _ from (HF.out _ HB2.out).1.2.pre HS3.out.1)
  have hq1 := HP.out.2.2.1
  have hq2 := HP.out.2.2.2.1
  have hq3 := HP.out.2.2.2.2.2.2.2.1
  have hq4 := HP.out.2.2.2.2.2.2.2.2.2.2.2.2
  go_wp2_with fail
  refine (sameUs_same u3 un3 uc3 w5.heap.size l3 ua un uc w.heap.size l y2 (HF.out _ HB2.out).1.2.sto.ups (HF.out _ HB2.out).2.2.2.1.2.sto.ups (HF.out _ HB2.out).1.2.sto.len (HF.out _ HB2.out).2.2.2.1.2.sto.len HS3.out.2 (by omega) (fun e he => by have := HP.out.2.2.2.2.2.2.2.2.1 e he; omega)).mono ?_
  rintro e y3 ⟨rfl, kk3, hy3⟩
  have HB3 : Hid (Below w6.heap.size w6 y3) := by show Below _ _ _; rw [hy3]; exact below_drewN HB2.out kk3
  clear hy3 HP hq1 hq2 hq3 hq4 m4 s4 HB2
  have HP := (show Hid _ from (HF.out _ HB3.out).1.2.pre HS3.out.1)
  have hq1 := HP.out.2.2.1
  have hq2 := HP.out.2.2.2.1
  have hq3 := HP.out.2.2.2.2.2.2.2.1
  have hq4 := HP.out.2.2.2.2.2.2.2.2.2.2.2.2
  obtain ⟨e0, e1, e2, e3, e4, e5⟩ := (show _ ∧ _ ∧ _ ∧ _ ∧ _ ∧ _ from ⟨BoxN.cell (HF.out _ HB3.out).1.1 0 rfl, BoxN.cell (HF.out _ HB3.out).1.1 1 rfl, BoxN.cell (HF.out _ HB3.out).1.1 2 rfl, BoxN.cell (HF.out _ HB3.out).1.1 3 rfl, BoxN.cell (HF.out _ HB3.out).1.1 4 rfl, BoxN.cell (HF.out _ HB3.out).1.1 5 rfl⟩)
  go_wp2_with fail
  refine (implSvok_any a3 n3 c3 X3 a3' n3' c3' Y3 ep3 nx3 u3 un3 uc3 w5.heap.size l3 h3 0 hc3 [] y3 HP.out.1 HP.out.2.1 (by omega) (by omega) HP.out.2.2.2.2.1 HP.out.2.2.2.2.2.1 HP.out.2.2.2.2.2.2.1 (by omega) HP.out.2.2.2.2.2.2.2.2.2.2.2.1 (by omega) (HF.out _ HB3.out).1.2.sto.now.sl (HF.out _ HB3.out).2.2.2.2.1.2.1 (HF.out _ HB3.out).2.2.2.2.1.2.2).mono ?_
  rintro e y4 ⟨rfl, hb4⟩
  rw [HS3.out.1.ok]
  have HB4 : Hid (Below w6.heap.size w6 y4) := HB3.out.trans (hb4.mono HB3.out.size)
  clear hb4 HP hq1 hq2 hq3 hq4 e0 e1 e2 e3 e4 e5 HB3
  have r5 := BoxN.cell (HF.out _ HB4.out).1.1 5 rfl
  have HBf : Hid (Below w.heap.size w y4) := (HF.out _ HB4.out).2.2.2.2.2
  go_wp2_with fail
  go_ret
  exact ⟨rfl, HBf.out⟩

end Go.Proofs.YtlkgopoicpnacaaGreatDoor

namespace Go.Proofs.YtlkgopoicpnacaaGreatDoor
open Go.RowKit Go.ChangeShapes Go.WideShapes
set_option linter.unusedVariables false

/-- A row of the table, as it is read. -/
def rcD {H : Type} (k : Nat) : DataW H := .agg [.lit (.int .i64 (rMost k)), .lit (.int .i64 (rLo k)), .lit (.int .i64 (rHi k))]

/-- The table, as it is read. -/
def rcTabD {H : Type} : DataW H := .agg ((List.range 5).map rcD)

theorem rcInt_of {H : Type} {enc : TypeId × Value → H} {w : World} {base fuel : Nat} {sp : Nat → Bool} {held : Bool} {x : Value} {n : Int} {p : List MemPlace}
    (h : DataW.trod enc Tryz.prog w base sp held fuel 3 [x] = some (.lit (.int .i64 n), p)) : x = .int .i64 n := by
  obtain ⟨z, e1, e2, _⟩ := DataW.trod_int Tryz.underlying3 h
  simp only [Prod.mk.injEq, DataW.lit.injEq, Lit.int.injEq] at e2
  rw [e2.1.2]
  simpa using e1

theorem rcCellsE : Tryz.prog.cellsOf 149 = 3 := by kernel_rfl
theorem rcCellsI : Tryz.prog.cellsOf 3 = 1 := by kernel_rfl
theorem rcCellsT : Tryz.prog.cellsOf 150 = 15 := by kernel_rfl

theorem rcThree {l : List Value} (h : l.length = 3) : ∃ a b c, l = [a, b, c] := by
  rcases l with _ | ⟨a, _ | ⟨b, _ | ⟨c, _ | ⟨d, r⟩⟩⟩⟩
  · cases h
  · cases h
  · cases h
  · exact ⟨a, b, c, rfl⟩
  · exact absurd h (by simp)

theorem rcRow_of {H : Type} {enc : TypeId × Value → H} {w : World} {base fuel : Nat} {sp : Nat → Bool} {held : Bool} {cs : List Value} {k : Nat} {p : List MemPlace}
    (h : DataW.trod enc Tryz.prog w base sp held fuel 149 cs = some (rcD k, p)) : cs = [.int .i64 (rMost k), .int .i64 (rLo k), .int .i64 (rHi k)] := by
  cases fuel with
  | zero => simp [DataW.trod] at h
  | succ fuel =>
    simp only [DataW.trod, Tryz.underlying149, rcCellsE] at h
    split at h
    · rename_i hl
      obtain ⟨a, b, c, rfl⟩ := rcThree hl
      simp [rcCellsI, rcD, Option.bind_eq_some_iff] at h
      obtain ⟨r1, p1, h1, l, ⟨r2, p2, h2, l2, ⟨r3, p3, h3, rfl⟩, rfl⟩, ⟨e1, e2⟩, _⟩ := h
      simp at e2
      obtain ⟨e2, e3⟩ := e2
      subst e1 e2 e3
      rw [rcInt_of h1, rcInt_of h2, rcInt_of h3]
    · cases h

theorem rcG : Tryz.prog.globalNamed "loop.example/g00199/impl.recForms" = some 0 := by kernel_rfl
theorem rcGT : (Tryz.prog.globals[0]?).map (·.type) = some 150 := by kernel_rfl

theorem recT_of_laid {W : World} {rest : List (String × DataW Unit)} (h : laidMet Tryz.prog (("loop.example/g00199/impl.recForms", rcTabD) :: rest) W) : RecT W := by
  obtain ⟨ps, ⟨g', t', cs, fuel, p, q, hg', ht', hvar, hd, _, _⟩, _⟩ := h
  obtain rfl := Option.some.inj (rcG.symm.trans hg')
  obtain rfl := Option.some.inj (rcGT.symm.trans ht')
  have hcell := fun i => World.var?_cell rcG hvar i
  have hrow : ∀ k, k < 5 → (cs.toList.drop (k * 3)).take 3 = [.int .i64 (rMost k), .int .i64 (rLo k), .int .i64 (rHi k)] := by
    intro k hk
    cases fuel with
    | zero => simp [DataW.trod] at hd
    | succ fuel =>
      simp only [DataW.trod, Tryz.underlying150, rcCellsE, rcCellsT] at hd
      split at hd
      · obtain ⟨xs, hm, hx⟩ := Option.map_eq_some_iff.1 hd
        have hxs : xs.map (·.1) = (List.range 5).map rcD := by
          have := congrArg Prod.fst hx
          simpa [rcTabD] using this
        obtain ⟨b, hb, hf⟩ := Lib.mapM_at hm k k (by simp [hk])
        have h2 : (xs.map (·.1))[k]? = some b.1 := by simp [hb]
        rw [hxs, List.getElem?_map, List.getElem?_range hk] at h2
        simp only [Option.map_some, Option.some.injEq] at h2
        obtain ⟨b1, b2⟩ := b
        dsimp only at h2
        subst h2
        exact rcRow_of hf
      · cases hd
  refine ⟨?_, fun k hk => ?_⟩
  · have h0 := hrow 0 (by omega)
    have := hcell 0
    have h1 : cs[0]? = some (.int .i64 (rMost 0)) := by
      have := congrArg (·[0]?) h0
      simpa using this
    rw [h1] at this
    exact lt_of_cell this
  · have h0 := hrow k (by omega)
    rw [hcell, hcell, hcell]
    have h1 := congrArg (·[0]?) h0
    have h2 := congrArg (·[1]?) h0
    have h3 := congrArg (·[2]?) h0
    simp only [List.getElem?_take, List.getElem?_drop] at h1 h2 h3
    simp at h1 h2 h3
    exact ⟨h1, h2, h3⟩

end Go.Proofs.YtlkgopoicpnacaaGreatDoor

namespace Go.Proofs.YtlkgopoicpnacaaGreatDoor
open Go.RowKit
set_option linter.unusedVariables false

theorem errG : Tryz.prog.globalNamed "loop.example/g00199/impl.errNoFit" = some 1 := by kernel_rfl

theorem errN_of_var {W : World} (h : ∃ t p, W.var? Tryz.prog "loop.example/g00199/impl.errNoFit" = some #[.iface t p]) : ErrN W := by
  obtain ⟨t, p, h⟩ := h
  have c := World.var?_cell errG h 0
  have c' : W.cell? ⟨1, 0, none⟩ = some (.iface t p) := by rw [c]; rfl
  refine ⟨?_, t, p, c'⟩
  rw [World.var?, errG] at h
  cases hg : W.heap[(1 : Nat)]? with
  | none => simp [hg] at h
  | some o => exact (Array.getElem?_eq_some_iff.1 hg).1

end Go.Proofs.YtlkgopoicpnacaaGreatDoor
