/- Uploads that say the same are the same to the laws. The test that lets greater arguments pass. The law that an upload that is made in a drawn store is there, empty; dropped it is gone; there already it is refused; under its table and its error. From what the row lists of the program's table of kinds to its cells: no statement of the program but its table of types. From what the row lists of the program's error to the cell that holds it. -/
import Derived.Test.YtjaihnmhojabfaaGreatDoorM44
import Derived.Test.YtjaihnmhojabfaaGreatDoorM03
import Derived.Test.YtjaihnmhojabfaaGreatDoorM04
import Derived.BigQuiet
import Derived.Test.YtjaihnmhojabfaaGreatDoorM01
import Derived.Test.YtjaihnmhojabfaaGreatDoorM25
import Derived.Test.YtjaihnmhojabfaaGreatDoorM26
import Derived.Test.YtjaihnmhojabfaaGreatDoorM22
import Derived.Test.YtjaihnmhojabfaaGreatDoorM41
import Derived.Test.YtjaihnmhojabfaaGreatDoorM36
import Derived.LaidLaws
import Derived.LaidHandle
import Derived.Lib.LaidTab
import Derived.Lib.SmallJoins
import Derived.OpenShut
import Derived.ChangeOld
import Derived.FnData
namespace Go.Proofs.YtjaihnmhojabfaaGreatDoor
open Go.RowKit
set_option linter.unusedVariables false

set_option maxRecDepth 10000 in
set_option maxHeartbeats 3200000 in
theorem sameUs_same (a : Option Addr) (n c lo : Nat) (l : List UE) (b : Option Addr) (m d lo' : Nat) (l' : List UE) (w : World) (h : UpRow w lo (.slice a n c) l) (h' : UpRow w lo' (.slice b m d) l') (hn : n = l.length) (hm : m = l'.length) (he : l.map UE.u = l'.map UE.u) (hl : n ≤ 1099511627776) (hz : ∀ e ∈ l, e.n ≤ 1099511627776) :
    Calls Tryz.prog 10 #[.slice a n c, .slice b m d] w fun e w' => e = .returned (.bool true) ∧ ∃ k, w' = w.drewN k := by
  obtain rfl : n = m := by
    have := congrArg List.length he
    rw [List.length_map, List.length_map] at this
    omega
  have HX : Hid (∀ k : Nat, UpRow (w.drewN k) lo (.slice a n c) l ∧ UpRow (w.drewN k) lo' (.slice b n d) l') := fun k => ⟨h.stays (below_drewN (Below.refl _ _) k), h'.stays (below_drewN (Below.refl _ _) k)⟩
  have HN : Hid (n = l.length) := hn
  have HM : Hid (n = l'.length) := hm
  have HE : Hid (l.map UE.u = l'.map UE.u) := he
  have HZ : Hid (∀ e ∈ l, e.n ≤ 1099511627776) := hz
  clear h h' hn hm he hz
  have hne : ((n : Int) != (n : Int)) = false := by simp
  go_enter Tryz.func10, Tryz.ntmps10
  go_wp2_with fail
  go_loopw [5] (fun i wr => ∃ k : Nat, k ≤ n ∧ i = .int .i64 k ∧ Hid (∃ q, wr = w.drewN q)) (fun i _ => n - (intOf i).toNat)
  case atStart => exact ⟨0, Nat.zero_le _, rfl, ⟨0, rfl⟩⟩
  case round =>
    obtain ⟨k, hk, rfl, HW⟩ := hrel
    by_cases hlt : k < n
    · have hkl : k < l.length := by rw [← HN.out]; exact hlt
      have hkm : k < l'.length := by rw [← HM.out]; exact hlt
      have HR : Hid (UpRow wr lo (.slice a n c) l ∧ UpRow wr lo' (.slice b n d) l') := by obtain ⟨q, rfl⟩ := HW.out; exact HX.out q
      obtain ⟨g, rfl, g0, g1, g2, g3, _⟩ := HR.out.1.at HN.out hkl
      obtain ⟨q, rfl, q0, q1, q2, q3, _⟩ := HR.out.2.at HM.out hkm
      have HU : Hid ((l[k]).u = (l'[k]).u) := by
        show _ = _
        have h1 := congrArg (fun z => z[k]?) HE.out
        simpa only [List.getElem?_map, List.getElem?_eq_getElem hkl, List.getElem?_eq_getElem hkm, Option.map_some, Option.some.injEq] using h1
      have HSx : Hid (Seg wr (l[k]).a (l[k]).n (l[k]).u.zs) := (HR.out.1.2.1 _ (List.getElem_mem hkl)).seg
      have HSy : Hid (Seg wr (l'[k]).a (l'[k]).n (l'[k]).u.zs) := (HR.out.2.2.1 _ (List.getElem_mem hkm)).seg
      have hzx : (l[k]).n ≤ 1099511627776 := HZ.out _ (List.getElem_mem hkl)
      generalize l[k] = x at *
      generalize l'[k] = y at *
      have hxy : x.n = y.n := by have h1 := HSx.out.1; have h2 := HSy.out.1; rw [HU.out] at h1; omega
      rw [← HU.out] at q0 q1 q3 HSy
      rw [← hxy] at q2 HSy
      have HSt : Hid (∀ j : Nat, Calls Tryz.prog 17 #[.slice x.a x.n x.c, .slice y.a x.n y.c] (wr.drewN j) fun e w' => e = .returned (.bool true) ∧ ∃ n, w' = (wr.drewN j).drewN n) := fun j => sameB_same x.a y.a x.n x.c y.c x.u.zs _ (HSx.out.below (below_drewN (Below.refl _ _) j)) (HSy.out.below (below_drewN (Below.refl _ _) j)) hzx
      have hki : (k : Int) < (n : Int) := by omega
      have hk0 : (0 : Int) ≤ (k : Int) := by omega
      have hw1 : (x.u.want != x.u.want) = false := by simp
      have hd1 : (x.u.done != x.u.done) = false := by simp
      clear hxy HU HR HSx HSy hkl hkm
      go_wp2_with fail
      go_quiet (first | (go_at_call 17; exact Calls.quiet_of (HSt.out _)))
      have HQ : Hid (∃ q, wr.drewN nq = w.drewN q) := by
        obtain ⟨q, rfl⟩ := HW.out
        exact ⟨_, World.drewN_drewN _ _ _⟩
      go_wp2_with fail
      go_roundw
      case rel => exact ⟨k + 1, by omega, by go_num, HQ⟩
      case measure => simp [intOf]; omega
    · go_wp2_with fail
      go_ret
      exact ⟨rfl, HW.out⟩

end Go.Proofs.YtjaihnmhojabfaaGreatDoor

namespace Go.Proofs.YtjaihnmhojabfaaGreatDoor
open Go.RowKit
set_option linter.unusedVariables false

set_option maxHeartbeats 400000 in
theorem big_any (a : Option Addr) (len cap : Nat) (w : World) (hl : len ≤ maxLen) :
    Calls Tryz.prog 6 #[.slice a len cap] w fun e w' => e = .returned (.bool (decide ((1048576 : Int) < (len : Int)))) ∧ w' = w := by
  go_enter Tryz.func6, Tryz.ntmps6
  go_wp2
  go_ret
  exact ⟨rfl, rfl⟩

end Go.Proofs.YtjaihnmhojabfaaGreatDoor

namespace Go.Proofs.YtjaihnmhojabfaaGreatDoor
open Go.RowKit
set_option linter.unusedVariables false

set_option maxRecDepth 10000 in
set_option maxHeartbeats 12800000 in
theorem lawMade_any (a : Option Addr) (len cap : Nat) (zs : List Int) (w : World) (hm : len ≤ maxLen) (hs : Seg w a len zs) (ht : RecT w) (he : ErrN w) :
    Calls Tryz.prog 3 #[.slice a len cap] w fun e w' => e = .returned (.bool true) ∧ Below w.heap.size w w' := by
  have HR : Hid (∀ W, Below w.heap.size w W → Seg W a len zs ∧ RecT W ∧ ErrN W) := fun W h => ⟨hs.below h, ht.below h, he.below h⟩
  clear hs ht he
  by_cases hbig : (1048576 : Int) < (len : Int)
  · have hd : Hid (decide ((1048576 : Int) < (len : Int)) = true) := by show _ = _; simpa using hbig
    go_enter Tryz.func3, Tryz.ntmps3
    go_wp2_with fail
    refine (big_any a len cap w hm).mono ?_
    rintro e w1 ⟨rfl, hw1⟩
    subst w1
    rw [hd.out]
    go_wp2_with fail
    go_ret
    exact ⟨rfl, Below.refl _ _⟩
  have hd : Hid (decide ((1048576 : Int) < (len : Int)) = false) := by show _ = _; simpa using hbig
  have hl : len ≤ 1099511627776 := by omega
  clear hbig
  go_enter Tryz.func3, Tryz.ntmps3
  go_wp2_with fail
  refine (big_any a len cap w hm).mono ?_
  rintro e w1 ⟨rfl, hw1⟩
  subst w1
  rw [hd.out]
  clear hd
  go_wp2_with fail
  refine (drawMake_any a len cap zs w (HR.out w (Below.refl _ _)).1 hl).mono ?_
  rintro e w2 ⟨⟨v, id, want, rfl, hdr, hid, hwant⟩, hb2⟩
  obtain ⟨X, Y, ep, nx, us, hans, hbn⟩ := hdr
  obtain ⟨a0, c0, a0', c0', u0, uc0, l0, rfl, hs0, hm0⟩ := hans.get
  subst hm0
  have HBn : Hid (Bnd X Y ep nx (l0.map UE.u)) := hbn
  have HId : Hid (id.size ≤ maxLen) := by
    show _ ≤ _
    have : 3 ≤ maxLen := by decide
    omega
  have hwb : -9223372036854775808 ≤ want ∧ want ≤ 9223372036854775807 := by omega
  obtain ⟨M, hM⟩ : ∃ M, (l0.map UE.u).length = M := ⟨_, rfl⟩
  rw [hM] at hs0 ⊢
  have hM11 : M ≤ 11 := by have := hbn.2.2.2.1; omega
  have hX2 : X.length ≤ 200 := hbn.1
  have hY2 : Y.length ≤ 200 := hbn.2.1
  have hba : Below w2.heap.size w2 (w2.alloc (.cells #[.slice a0 X.length c0, .slice a0' Y.length c0', .int .i64 ep, .int .i64 nx, .slice u0 M uc0] 29)) := (Below.refl _ _).alloc (Nat.le_refl _) _
  have HT : Hid (∀ W, Below (w2.alloc (.cells #[.slice a0 X.length c0, .slice a0' Y.length c0', .int .i64 ep, .int .i64 nx, .slice u0 M uc0] 29)).heap.size (w2.alloc (.cells #[.slice a0 X.length c0, .slice a0' Y.length c0', .int .i64 ep, .int .i64 nx, .slice u0 M uc0] 29)) W → BoxN W w2.heap.size 29 [.slice a0 X.length c0, .slice a0' Y.length c0', .int .i64 ep, .int .i64 nx, .slice u0 M uc0] ∧ StoAt W w.heap.size a0 X.length c0 X a0' Y.length c0' Y u0 M uc0 l0 ∧ RecT W ∧ ErrN W ∧ Below w.heap.size w W) := fun W h => by
    have hy : Below w2.heap.size w2 W := hba.trans (h.mono hba.size)
    have g : Below w.heap.size w W := hb2.trans (hy.mono hb2.size)
    exact ⟨(BoxN.new w2 _ _).stays h, hs0.stays hy, (HR.out W g).2.1, (HR.out W g).2.2, g⟩
  clear hans hs0 hb2 hba HR hM hbn hid hwant
  go_upto_region 4 with fail
  obtain ⟨w4, hw4⟩ : ∃ w4, w2.alloc (.cells #[.slice a0 X.length c0, .slice a0' Y.length c0', .int .i64 ep, .int .i64 nx, .slice u0 M uc0] 29) = w4 := ⟨_, rfl⟩
  rw [hw4] at HT ⊢
  clear hw4
  obtain ⟨bs, hbs⟩ : ∃ bs, w2.heap.size = bs := ⟨_, rfl⟩
  rw [hbs] at HT ⊢
  clear hbs
  have HB4 : Hid (Below w4.heap.size w4 w4) := Below.refl _ _
  have HP := (show Hid _ from (HT.out _ HB4.out).2.1.preB HBn.out)
  obtain ⟨d0, d1, d2, d3, d4⟩ := (show _ ∧ _ ∧ _ ∧ _ ∧ _ from ⟨BoxN.cell (HT.out _ HB4.out).1 0 rfl, BoxN.cell (HT.out _ HB4.out).1 1 rfl, BoxN.cell (HT.out _ HB4.out).1 2 rfl, BoxN.cell (HT.out _ HB4.out).1 3 rfl, BoxN.cell (HT.out _ HB4.out).1 4 rfl⟩)
  go_wp2_with fail
  refine (implMake_any a0 X.length c0 X a0' Y.length c0' Y ep nx u0 M uc0 w.heap.size l0 id want w4 HP.out.1 HP.out.2.1 (by omega) (by omega) HP.out.2.2.2.2.1 HP.out.2.2.2.2.2.1 HP.out.2.2.2.2.2.2.1 (by omega) (fun e he => by have := HP.out.2.2.2.2.2.2.2.2.1 e he; omega) HId.out (HT.out _ HB4.out).2.1.now.sl (HT.out _ HB4.out).2.2.1 (HT.out _ HB4.out).2.2.2.1).mono ?_
  rintro e w5 ⟨⟨v, rfl, hans⟩, hb5⟩
  obtain ⟨A1, hA1⟩ : ∃ A1, makeA X Y ep nx (l0.map UE.u) id want = A1 := ⟨_, rfl⟩
  rw [hA1] at hans ⊢
  have HA1 : Hid (makeA X Y ep nx (l0.map UE.u) id want = A1) := hA1
  clear hA1
  obtain ⟨a1, c1, a1', c1', u1, uc1, l1, rfl, hs1, hm1⟩ := hans.get
  obtain ⟨N1, hN1⟩ : ∃ N1, A1.X.length = N1 := ⟨_, rfl⟩
  obtain ⟨M1, hM1⟩ : ∃ M1, A1.us.length = M1 := ⟨_, rfl⟩
  obtain ⟨nx1, hnx1⟩ : ∃ nx1, A1.nx = nx1 := ⟨_, rfl⟩
  obtain ⟨cc1, hcc1⟩ : ∃ cc1, A1.c = cc1 := ⟨_, rfl⟩
  rw [hN1, hM1, hnx1, hcc1]
  rw [hN1, hM1] at hs1
  have HE1 : Hid (A1.X.length = N1 ∧ A1.us.length = M1 ∧ A1.nx = nx1 ∧ A1.c = cc1) := ⟨hN1, hM1, hnx1, hcc1⟩
  have HM1 : Hid (l1.map UE.u = A1.us) := hm1
  have hba : Below w5.heap.size w5 (w5.alloc (.cells #[.slice a1 N1 c1, .slice a1' Y.length c1', .int .i64 ep, .int .i64 nx1, .slice u1 M1 uc1] 29)) := (Below.refl _ _).alloc (Nat.le_refl _) _
  have HT5 : Hid (∀ W, Below (w5.alloc (.cells #[.slice a1 N1 c1, .slice a1' Y.length c1', .int .i64 ep, .int .i64 nx1, .slice u1 M1 uc1] 29)).heap.size (w5.alloc (.cells #[.slice a1 N1 c1, .slice a1' Y.length c1', .int .i64 ep, .int .i64 nx1, .slice u1 M1 uc1] 29)) W → Below w4.heap.size w4 W ∧ BoxN W w5.heap.size 29 [.slice a1 N1 c1, .slice a1' Y.length c1', .int .i64 ep, .int .i64 nx1, .slice u1 M1 uc1] ∧ StoAt W w4.heap.size a1 N1 c1 A1.X a1' Y.length c1' Y u1 M1 uc1 l1) := fun W h => by
    have hy : Below w5.heap.size w5 W := hba.trans (h.mono hba.size)
    exact ⟨hb5.trans (hy.mono hb5.size), (BoxN.new w5 _ _).stays h, hs1.stays hy⟩
  clear hans hs1 hm1 hb5 hba hN1 hM1 hnx1 hcc1 HP HB4 d0 d1 d2 d3 d4
  go_upto_region 5 with fail
  obtain ⟨w6, hw6⟩ : ∃ w6, w5.alloc (.cells #[.slice a1 N1 c1, .slice a1' Y.length c1', .int .i64 ep, .int .i64 nx1, .slice u1 M1 uc1] 29) = w6 := ⟨_, rfl⟩
  rw [hw6] at HT5 ⊢
  clear hw6
  obtain ⟨bx, hbx⟩ : ∃ bx, w5.heap.size = bx := ⟨_, rfl⟩
  rw [hbx] at HT5 ⊢
  clear hbx
  have HB6 : Hid (Below w4.heap.size w4 w6) := (HT5.out _ (Below.refl _ _)).1
  have HP := (show Hid _ from (HT.out _ HB6.out).2.1.preB HBn.out)
  obtain ⟨d0, d1, d2, d3, d4⟩ := (show _ ∧ _ ∧ _ ∧ _ ∧ _ from ⟨BoxN.cell (HT.out _ HB6.out).1 0 rfl, BoxN.cell (HT.out _ HB6.out).1 1 rfl, BoxN.cell (HT.out _ HB6.out).1 2 rfl, BoxN.cell (HT.out _ HB6.out).1 3 rfl, BoxN.cell (HT.out _ HB6.out).1 4 rfl⟩)
  go_wp2_with fail
  refine (specMake_any a0 X.length c0 X a0' Y.length c0' Y ep nx u0 M uc0 w.heap.size l0 id want w6 HP.out.1 HP.out.2.1 (by omega) (by omega) HP.out.2.2.2.2.1 HP.out.2.2.2.2.2.1 HP.out.2.2.2.2.2.2.1 (by omega) (fun e he => by have := HP.out.2.2.2.2.2.2.2.2.1 e he; omega) HId.out hwb).mono ?_
  rintro e w7 ⟨⟨v, rfl, hans⟩, hb7⟩
  rw [HA1.out] at hans ⊢
  rw [HE1.out.2.2.2]
  obtain ⟨a2, c2, a2', c2', u2, uc2, l2, rfl, hs2, hm2⟩ := hans.get
  obtain ⟨o2, ho2⟩ : ∃ o2, (Obj.cells #[.slice a2 A1.X.length c2, .slice a2' Y.length c2', .int .i64 ep, .int .i64 A1.nx, .slice u2 A1.us.length uc2] 29) = o2 := ⟨_, rfl⟩
  have HB8 : Hid (Below w6.heap.size w6 (w7.alloc o2)) := hb7.alloc hb7.size _
  clear hans hs2 hm2 hb7 HP HB6 d0 d1 d2 d3 d4
  go_upto_region 6 with fail
  obtain ⟨w8, hw8⟩ : ∃ w8, w7.alloc o2 = w8 := ⟨_, rfl⟩
  rw [hw8] at HB8 ⊢
  clear hw8 ho2
  have hne : (cc1 != cc1) = false := by simp
  have heq : (cc1 == cc1) = true := by simp
  by_cases h0 : cc1 = 0
  case neg =>
    have hz0 : (cc1 != 0) = true := by simpa using h0
    have hno : A1 = ⟨X, nx, l0.map UE.u, A1.c⟩ := by
      have h9 : (makeA X Y ep nx (l0.map UE.u) id want).c ≠ 0 := by rw [HA1.out, HE1.out.2.2.2]; exact h0
      have := makeA_no h9
      rw [HA1.out] at this
      exact this
    have HU : Hid (l1.map UE.u = l0.map UE.u) := by show _ = _; rw [HM1.out, hno]
    have hMM : M1 = M := by
      have h1 := (HT5.out _ HB8.out).2.2.len
      have h2 := (HT.out _ (HT5.out _ HB8.out).1).2.1.len
      have h3 := congrArg List.length HU.out
      rw [List.length_map, List.length_map] at h3
      omega
    have HP := (show Hid _ from (HT.out _ (HT5.out _ HB8.out).1).2.1.preB HBn.out)
    have HS : Hid (Calls Tryz.prog 10 #[.slice u1 M1 uc1, .slice u0 M uc0] w8 fun e w' => e = .returned (.bool true) ∧ ∃ k, w' = w8.drewN k) := sameUs_same u1 M1 uc1 w4.heap.size l1 u0 M uc0 w.heap.size l0 w8 (HT5.out _ HB8.out).2.2.ups (HT.out _ (HT5.out _ HB8.out).1).2.1.ups (HT5.out _ HB8.out).2.2.len (HT.out _ (HT5.out _ HB8.out).1).2.1.len HU.out (by omega) (fun e he => by have := sizes_same HU.out (HT5.out _ HB8.out).2.2.ups (HT.out _ (HT5.out _ HB8.out).1).2.1.ups (fun e he => HP.out.2.2.2.2.2.2.2.2.1 e he) e he; omega)
    have HBw : Hid (Below w.heap.size w w8) := (HT.out _ (HT5.out _ HB8.out).1).2.2.2.2
    have x4 := BoxN.cell (HT5.out _ HB8.out).2.1 4 rfl
    have s4 := BoxN.cell (HT.out _ (HT5.out _ HB8.out).1).1 4 rfl
    clear hno HU hMM HP HT HT5 HB8 HE1 HM1 HA1
    go_wp2_with fail
    refine HS.out.mono ?_
    rintro e w9 ⟨rfl, k, rfl⟩
    go_wp2_with fail
    go_ret
    exact ⟨rfl, below_drewN HBw.out k⟩
  subst h0
  have HAll := (show Hid _ from made_all HA1.out HE1.out.2.2.2)
  have HSx : Hid (SOk A1.X Y ep nx1 (l1.map UE.u)) := by show SOk _ _ _ _ _; rw [HM1.out, ← HE1.out.2.2.1]; exact HAll.out.1
  have HP1 := (show Hid _ from (HT5.out _ HB8.out).2.2.pre HSx.out)
  have hM1' : M1 ≤ 10 := HP1.out.2.2.2.2.2.2.2.1
  have hN1' : N1 ≤ 200 := HP1.out.2.2.1
  obtain ⟨x0, x1, x2, x3, x4⟩ := (show _ ∧ _ ∧ _ ∧ _ ∧ _ from ⟨BoxN.cell (HT5.out _ HB8.out).2.1 0 rfl, BoxN.cell (HT5.out _ HB8.out).2.1 1 rfl, BoxN.cell (HT5.out _ HB8.out).2.1 2 rfl, BoxN.cell (HT5.out _ HB8.out).2.1 3 rfl, BoxN.cell (HT5.out _ HB8.out).2.1 4 rfl⟩)
  go_wp2_with fail
  refine (implUpAt_any a1 N1 c1 a1' Y.length c1' ep nx1 u1 M1 uc1 w4.heap.size l1 id w8 HP1.out.2.2.2.2.2.1 HP1.out.2.2.2.2.2.2.1 (by omega) (fun e he => by have := HP1.out.2.2.2.2.2.2.2.2.1 e he; omega)).mono ?_
  rintro e w9 ⟨⟨UA, UC, rfl, hown⟩, hb9⟩
  rw [HM1.out, HAll.out.2.1, HAll.out.2.2.1]
  dsimp only [List.length_nil]
  have hba : Below w9.heap.size w9 (w9.alloc (.cells #[.string id, .int .i64 want, .slice UA 0 UC, .bool false] 36)) := (Below.refl _ _).alloc (Nat.le_refl _) _
  have HT9 : Hid (∀ W, Below (w9.alloc (.cells #[.string id, .int .i64 want, .slice UA 0 UC, .bool false] 36)).heap.size (w9.alloc (.cells #[.string id, .int .i64 want, .slice UA 0 UC, .bool false] 36)) W → Below w6.heap.size w6 W ∧ BoxN W w9.heap.size 36 [.string id, .int .i64 want, .slice UA 0 UC, .bool false]) := fun W h => by
    have hy : Below w9.heap.size w9 W := hba.trans (h.mono hba.size)
    exact ⟨HB8.out.trans ((hb9.trans (hy.mono hb9.size)).mono HB8.out.size), (BoxN.new w9 _ _).stays h⟩
  clear hown hb9 hba HB8 HP1 x0 x1 x2 x3 x4
  go_upto_region 9 with fail
  obtain ⟨w10, hw10⟩ : ∃ w10, w9.alloc (.cells #[.string id, .int .i64 want, .slice UA 0 UC, .bool false] 36) = w10 := ⟨_, rfl⟩
  rw [hw10] at HT9 ⊢
  clear hw10
  obtain ⟨bu, hbu⟩ : ∃ bu, w9.heap.size = bu := ⟨_, rfl⟩
  rw [hbu] at HT9 ⊢
  clear hbu
  have HBa : Hid (Below w6.heap.size w6 w10) := (HT9.out _ (Below.refl _ _)).1
  have HP1 := (show Hid _ from (HT5.out _ HBa.out).2.2.pre HSx.out)
  obtain ⟨x0, x1, x2, x3, x4⟩ := (show _ ∧ _ ∧ _ ∧ _ ∧ _ from ⟨BoxN.cell (HT5.out _ HBa.out).2.1 0 rfl, BoxN.cell (HT5.out _ HBa.out).2.1 1 rfl, BoxN.cell (HT5.out _ HBa.out).2.1 2 rfl, BoxN.cell (HT5.out _ HBa.out).2.1 3 rfl, BoxN.cell (HT5.out _ HBa.out).2.1 4 rfl⟩)
  go_wp2_with fail
  refine (implMake_any a1 N1 c1 A1.X a1' Y.length c1' Y ep nx1 u1 M1 uc1 w4.heap.size l1 id want w10 HP1.out.1 HP1.out.2.1 (by omega) (by omega) HP1.out.2.2.2.2.1 HP1.out.2.2.2.2.2.1 HP1.out.2.2.2.2.2.2.1 (by omega) (fun e he => by have := HP1.out.2.2.2.2.2.2.2.2.1 e he; omega) HId.out (HT5.out _ HBa.out).2.2.now.sl (HT.out _ (HT5.out _ HBa.out).1).2.2.1 (HT.out _ (HT5.out _ HBa.out).1).2.2.2.1).mono ?_
  rintro e w11 ⟨⟨v, rfl, hans⟩, hb11⟩
  have hagain : (makeA A1.X Y ep nx1 (l1.map UE.u) id want).c = 3 := by rw [HM1.out, ← HE1.out.2.2.1]; exact HAll.out.2.2.2.1
  rw [hagain]
  obtain ⟨a2, c2, a2', c2', u2, uc2, l2, rfl, hs2, hm2⟩ := hans.get
  obtain ⟨o2, ho2⟩ : ∃ o2, (Obj.cells #[.slice a2 (makeA A1.X Y ep nx1 (l1.map UE.u) id want).X.length c2, .slice a2' Y.length c2', .int .i64 ep, .int .i64 (makeA A1.X Y ep nx1 (l1.map UE.u) id want).nx, .slice u2 (makeA A1.X Y ep nx1 (l1.map UE.u) id want).us.length uc2] 29) = o2 := ⟨_, rfl⟩
  have HBb : Hid (Below w10.heap.size w10 (w11.alloc o2)) := hb11.alloc hb11.size _
  clear hans hs2 hm2 hb11 HP1 HBa hagain x0 x1 x2 x3 x4
  go_upto_region 10 with fail
  obtain ⟨w12, hw12⟩ : ∃ w12, w11.alloc o2 = w12 := ⟨_, rfl⟩
  rw [hw12] at HBb ⊢
  clear hw12 ho2
  have HBc : Hid (Below w6.heap.size w6 w12) := (HT9.out _ HBb.out).1
  have HP1 := (show Hid _ from (HT5.out _ HBc.out).2.2.pre HSx.out)
  obtain ⟨x0, x1, x2, x3, x4⟩ := (show _ ∧ _ ∧ _ ∧ _ ∧ _ from ⟨BoxN.cell (HT5.out _ HBc.out).2.1 0 rfl, BoxN.cell (HT5.out _ HBc.out).2.1 1 rfl, BoxN.cell (HT5.out _ HBc.out).2.1 2 rfl, BoxN.cell (HT5.out _ HBc.out).2.1 3 rfl, BoxN.cell (HT5.out _ HBc.out).2.1 4 rfl⟩)
  go_wp2_with fail
  refine (implDropUp_any a1 N1 c1 A1.X a1' Y.length c1' Y ep nx1 u1 M1 uc1 w4.heap.size l1 id w12 HP1.out.1 HP1.out.2.1 (by omega) (by omega) HP1.out.2.2.2.2.1 HP1.out.2.2.2.2.2.1 HP1.out.2.2.2.2.2.2.1 (by omega) (fun e he => by have := HP1.out.2.2.2.2.2.2.2.2.1 e he; omega) HId.out (HT5.out _ HBc.out).2.2.now.sl (HT.out _ (HT5.out _ HBc.out).1).2.2.1 (HT.out _ (HT5.out _ HBc.out).1).2.2.2.1).mono ?_
  rintro e w13 ⟨⟨v, rfl, hans⟩, hb13⟩
  obtain ⟨D, hD⟩ : ∃ D, dropA A1.X Y ep nx1 (l1.map UE.u) id = D := ⟨_, rfl⟩
  rw [hD] at hans ⊢
  have HDr : Hid ((D.c = 0 ∧ D.us = l0.map UE.u) ∨ D.c = 5) := by
    have h := HAll.out.2.2.2.2
    rw [← HM1.out, HE1.out.2.2.1, hD] at h
    exact h
  clear hD
  obtain ⟨a3, c3, a3', c3', u3, uc3, l3, rfl, hs3, hm3⟩ := hans.get
  obtain ⟨N3, hN3⟩ : ∃ N3, D.X.length = N3 := ⟨_, rfl⟩
  obtain ⟨M3, hM3⟩ : ∃ M3, D.us.length = M3 := ⟨_, rfl⟩
  obtain ⟨nx3, hnx3⟩ : ∃ nx3, D.nx = nx3 := ⟨_, rfl⟩
  obtain ⟨cc3, hcc3⟩ : ∃ cc3, D.c = cc3 := ⟨_, rfl⟩
  rw [hcc3] at HDr
  rw [hN3, hM3, hnx3, hcc3]
  rw [hN3, hM3] at hs3
  have HM3 : Hid (l3.map UE.u = D.us) := hm3
  have hba : Below w13.heap.size w13 (w13.alloc (.cells #[.slice a3 N3 c3, .slice a3' Y.length c3', .int .i64 ep, .int .i64 nx3, .slice u3 M3 uc3] 29)) := (Below.refl _ _).alloc (Nat.le_refl _) _
  have HT13 : Hid (∀ W, Below (w13.alloc (.cells #[.slice a3 N3 c3, .slice a3' Y.length c3', .int .i64 ep, .int .i64 nx3, .slice u3 M3 uc3] 29)).heap.size (w13.alloc (.cells #[.slice a3 N3 c3, .slice a3' Y.length c3', .int .i64 ep, .int .i64 nx3, .slice u3 M3 uc3] 29)) W → Below w10.heap.size w10 W ∧ BoxN W w13.heap.size 29 [.slice a3 N3 c3, .slice a3' Y.length c3', .int .i64 ep, .int .i64 nx3, .slice u3 M3 uc3] ∧ StoAt W w12.heap.size a3 N3 c3 D.X a3' Y.length c3' Y u3 M3 uc3 l3) := fun W h => by
    have hy : Below w13.heap.size w13 W := hba.trans (h.mono hba.size)
    exact ⟨HBb.out.trans ((hb13.trans (hy.mono hb13.size)).mono HBb.out.size), (BoxN.new w13 _ _).stays h, hs3.stays hy⟩
  clear hans hs3 hm3 hb13 hba hN3 hM3 hnx3 hcc3 HP1 HBc HBb x0 x1 x2 x3 x4
  go_upto_region 11 with fail
  obtain ⟨w14, hw14⟩ : ∃ w14, w13.alloc (.cells #[.slice a3 N3 c3, .slice a3' Y.length c3', .int .i64 ep, .int .i64 nx3, .slice u3 M3 uc3] 29) = w14 := ⟨_, rfl⟩
  rw [hw14] at HT13 ⊢
  clear hw14
  obtain ⟨by_, hby⟩ : ∃ by_, w13.heap.size = by_ := ⟨_, rfl⟩
  rw [hby] at HT13 ⊢
  clear hby
  have HBd : Hid (Below w10.heap.size w10 w14) := (HT13.out _ (Below.refl _ _)).1
  have HBe : Hid (Below w6.heap.size w6 w14) := (HT9.out _ HBd.out).1
  have HP1 := (show Hid _ from (HT5.out _ HBe.out).2.2.pre HSx.out)
  have u1_ := BoxN.cell (HT9.out _ HBd.out).2 1 rfl
  have u2_ := BoxN.cell (HT9.out _ HBd.out).2 2 rfl
  have u3_ := BoxN.cell (HT9.out _ HBd.out).2 3 rfl
  obtain ⟨x0, x1, x2, x3, x4⟩ := (show _ ∧ _ ∧ _ ∧ _ ∧ _ from ⟨BoxN.cell (HT5.out _ HBe.out).2.1 0 rfl, BoxN.cell (HT5.out _ HBe.out).2.1 1 rfl, BoxN.cell (HT5.out _ HBe.out).2.1 2 rfl, BoxN.cell (HT5.out _ HBe.out).2.1 3 rfl, BoxN.cell (HT5.out _ HBe.out).2.1 4 rfl⟩)
  have hww : (want == want) = true := by simp
  go_wp2_with fail
  refine (implSok_any a1 N1 c1 A1.X a1' Y.length c1' Y ep nx1 u1 M1 uc1 w4.heap.size l1 w14 HP1.out.1 HP1.out.2.1 (by omega) (by omega) HP1.out.2.2.2.2.1 HP1.out.2.2.2.2.2.1 HP1.out.2.2.2.2.2.2.1 (by omega) (HT5.out _ HBe.out).2.2.now.sl (HT.out _ (HT5.out _ HBe.out).1).2.2.1 (HT.out _ (HT5.out _ HBe.out).1).2.2.2.1).mono ?_
  rintro e w15 ⟨rfl, hb15⟩
  rw [decB_true HSx.out]
  have HBf : Hid (Below w14.heap.size w14 w15) := hb15
  have HT15 := (show Hid _ from HT13.out _ HBf.out)
  have y4 := BoxN.cell HT15.out.2.1 4 rfl
  have s4 := BoxN.cell (HT.out _ (HT5.out _ (HT9.out _ HT15.out.1).1).1).1 4 rfl
  have HBw : Hid (Below w.heap.size w w15) := (HT.out _ (HT5.out _ (HT9.out _ HT15.out.1).1).1).2.2.2.2
  by_cases h5 : cc3 = 0
  case neg =>
    have h55 : cc3 = 5 := by
      rcases HDr.out with ⟨h, _⟩ | h
      · exact absurd h h5
      · exact h
    subst h55
    clear hb15 HDr HP1 HBd HBe HBf HT15 HT HT5 HT9 HT13 HAll HSx HM1 HM3 HE1 HA1 HBn h5 x0 x1 x2 x3 x4 u1_ u2_ u3_
    go_wp2_with fail
    go_ret
    exact ⟨rfl, HBw.out⟩
  subst h5
  have HU : Hid (l3.map UE.u = l0.map UE.u) := by
    show _ = _
    rw [HM3.out]
    rcases HDr.out with ⟨_, h⟩ | h
    · exact h
    · cases h
  have HSt0 := (show Hid _ from (HT.out _ (HT5.out _ (HT9.out _ HT15.out.1).1).1).2.1)
  have HP := (show Hid _ from HSt0.out.preB HBn.out)
  have hMM : M3 = M := by
    have h1 := HT15.out.2.2.len
    have h2 := HSt0.out.len
    have h3 := congrArg List.length HU.out
    rw [List.length_map, List.length_map] at h3
    omega
  have HS : Hid (Calls Tryz.prog 10 #[.slice u3 M3 uc3, .slice u0 M uc0] w15 fun e w' => e = .returned (.bool true) ∧ ∃ k, w' = w15.drewN k) := sameUs_same u3 M3 uc3 w12.heap.size l3 u0 M uc0 w.heap.size l0 w15 HT15.out.2.2.ups HSt0.out.ups HT15.out.2.2.len HSt0.out.len HU.out (by omega) (fun e he => by have := sizes_same HU.out HT15.out.2.2.ups HSt0.out.ups (fun e he => HP.out.2.2.2.2.2.2.2.2.1 e he) e he; omega)
  clear hb15 HDr HP HP1 HBd HBe HBf HT15 HT HT5 HT9 HT13 HAll HSx HM1 HM3 HE1 HA1 HBn HSt0 HU hMM x0 x1 x2 x3 x4 u1_ u2_ u3_
  go_wp2_with fail
  refine HS.out.mono ?_
  rintro e w16 ⟨rfl, k, rfl⟩
  go_wp2_with fail
  go_ret
  exact ⟨rfl, below_drewN HBw.out k⟩

end Go.Proofs.YtjaihnmhojabfaaGreatDoor

namespace Go.Proofs.YtjaihnmhojabfaaGreatDoor
open Go.RowKit Go.ChangeShapes Go.WideShapes
set_option linter.unusedVariables false

/-- A row of the table, as it is read. -/
def rcD {H : Type} (k : Nat) : DataW H := .agg [.lit (.int .i64 (rMost k)), .lit (.int .i64 (rLo k)), .lit (.int .i64 (rHi k))]

/-- The table, as it is read. -/
def rcTabD {H : Type} : DataW H := .agg ((List.range 5).map rcD)

theorem rcInt_of {H : Type} {enc : TypeId × Value → H} {w : World} {base fuel : Nat} {sp : Nat → Bool} {held : Bool} {x : Value} {n : Int} {p : List MemPlace}
    (h : DataW.trod enc Tryz.prog w base sp held fuel 3 [x] = some (.lit (.int .i64 n), p)) : x = .int .i64 n := by
  obtain ⟨z, e1, e2, _⟩ := DataW.trod_int Tryz.underlying3 h
  simp only [Prod.mk.injEq, DataW.lit.injEq, Lit.int.injEq] at e2
  rw [e2.1.2]
  simpa using e1

theorem rcCellsE : Tryz.prog.cellsOf 144 = 3 := by kernel_rfl
theorem rcCellsI : Tryz.prog.cellsOf 3 = 1 := by kernel_rfl
theorem rcCellsT : Tryz.prog.cellsOf 145 = 15 := by kernel_rfl

theorem rcThree {l : List Value} (h : l.length = 3) : ∃ a b c, l = [a, b, c] := by
  rcases l with _ | ⟨a, _ | ⟨b, _ | ⟨c, _ | ⟨d, r⟩⟩⟩⟩
  · cases h
  · cases h
  · cases h
  · exact ⟨a, b, c, rfl⟩
  · exact absurd h (by simp)

theorem rcRow_of {H : Type} {enc : TypeId × Value → H} {w : World} {base fuel : Nat} {sp : Nat → Bool} {held : Bool} {cs : List Value} {k : Nat} {p : List MemPlace}
    (h : DataW.trod enc Tryz.prog w base sp held fuel 144 cs = some (rcD k, p)) : cs = [.int .i64 (rMost k), .int .i64 (rLo k), .int .i64 (rHi k)] := by
  cases fuel with
  | zero => simp [DataW.trod] at h
  | succ fuel =>
    simp only [DataW.trod, Tryz.underlying144, rcCellsE] at h
    split at h
    · rename_i hl
      obtain ⟨a, b, c, rfl⟩ := rcThree hl
      simp [rcCellsI, rcD, Option.bind_eq_some_iff] at h
      obtain ⟨r1, p1, h1, l, ⟨r2, p2, h2, l2, ⟨r3, p3, h3, rfl⟩, rfl⟩, ⟨e1, e2⟩, _⟩ := h
      simp at e2
      obtain ⟨e2, e3⟩ := e2
      subst e1 e2 e3
      rw [rcInt_of h1, rcInt_of h2, rcInt_of h3]
    · cases h

theorem rcG : Tryz.prog.globalNamed "loop.example/g00199/impl.recForms" = some 0 := by kernel_rfl
theorem rcGT : (Tryz.prog.globals[0]?).map (·.type) = some 145 := by kernel_rfl

theorem recT_of_laid {W : World} {rest : List (String × DataW Unit)} (h : laidMet Tryz.prog (("loop.example/g00199/impl.recForms", rcTabD) :: rest) W) : RecT W := by
  obtain ⟨ps, ⟨g', t', cs, fuel, p, q, hg', ht', hvar, hd, _, _⟩, _⟩ := h
  obtain rfl := Option.some.inj (rcG.symm.trans hg')
  obtain rfl := Option.some.inj (rcGT.symm.trans ht')
  have hcell := fun i => World.var?_cell rcG hvar i
  have hrow : ∀ k, k < 5 → (cs.toList.drop (k * 3)).take 3 = [.int .i64 (rMost k), .int .i64 (rLo k), .int .i64 (rHi k)] := by
    intro k hk
    cases fuel with
    | zero => simp [DataW.trod] at hd
    | succ fuel =>
      simp only [DataW.trod, Tryz.underlying145, rcCellsE, rcCellsT] at hd
      split at hd
      · obtain ⟨xs, hm, hx⟩ := Option.map_eq_some_iff.1 hd
        have hxs : xs.map (·.1) = (List.range 5).map rcD := by
          have := congrArg Prod.fst hx
          simpa [rcTabD] using this
        obtain ⟨b, hb, hf⟩ := Lib.mapM_at hm k k (by simp [hk])
        have h2 : (xs.map (·.1))[k]? = some b.1 := by simp [hb]
        rw [hxs, List.getElem?_map, List.getElem?_range hk] at h2
        simp only [Option.map_some, Option.some.injEq] at h2
        obtain ⟨b1, b2⟩ := b
        dsimp only at h2
        subst h2
        exact rcRow_of hf
      · cases hd
  refine ⟨?_, fun k hk => ?_⟩
  · have h0 := hrow 0 (by omega)
    have := hcell 0
    have h1 : cs[0]? = some (.int .i64 (rMost 0)) := by
      have := congrArg (·[0]?) h0
      simpa using this
    rw [h1] at this
    exact lt_of_cell this
  · have h0 := hrow k (by omega)
    rw [hcell, hcell, hcell]
    have h1 := congrArg (·[0]?) h0
    have h2 := congrArg (·[1]?) h0
    have h3 := congrArg (·[2]?) h0
    simp only [List.getElem?_take, List.getElem?_drop] at h1 h2 h3
    simp at h1 h2 h3
    exact ⟨h1, h2, h3⟩

end Go.Proofs.YtjaihnmhojabfaaGreatDoor

namespace Go.Proofs.YtjaihnmhojabfaaGreatDoor
open Go.RowKit
set_option linter.unusedVariables false

theorem errG : Tryz.prog.globalNamed "loop.example/g00199/impl.errNoFit" = some 1 := by kernel_rfl

theorem errN_of_var {W : World} (h : ∃ t p, W.var? Tryz.prog "loop.example/g00199/impl.errNoFit" = some #[.iface t p]) : ErrN W := by
  obtain ⟨t, p, h⟩ := h
  have c := World.var?_cell errG h 0
  have c' : W.cell? ⟨1, 0, none⟩ = some (.iface t p) := by rw [c]; rfl
  refine ⟨?_, t, p, c'⟩
  rw [World.var?, errG] at h
  cases hg : W.heap[(1 : Nat)]? with
  | none => simp [hg] at h
  | some o => exact (Array.getElem?_eq_some_iff.1 hg).1

end Go.Proofs.YtjaihnmhojabfaaGreatDoor
