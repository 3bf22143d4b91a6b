/- The law that of a drawn store made sure, with something written since, behind any crash it opens, and each upload has what was sure, and perhaps more of what came; under its table and its error. From what the row lists of the program's table of kinds to its cells: no statement of the program but its table of types. From what the row lists of the program's error to the cell that holds it. -/
import Derived.Test.YtiigdcpjelbdjaaGreatDoorM25
import Derived.Test.YtiigdcpjelbdjaaGreatDoorM25
import Derived.Test.YtiigdcpjelbdjaaGreatDoorM25
import Derived.Test.YtiigdcpjelbdjaaGreatDoorM42
import Derived.Test.YtiigdcpjelbdjaaGreatDoorM43
import Derived.Test.YtiigdcpjelbdjaaGreatDoorM45
import Derived.Test.YtiigdcpjelbdjaaGreatDoorM45
import Derived.Test.YtiigdcpjelbdjaaGreatDoorM41
import Derived.Test.YtiigdcpjelbdjaaGreatDoorM45
import Derived.Test.YtiigdcpjelbdjaaGreatDoorM45
import Derived.Test.YtiigdcpjelbdjaaGreatDoorM45
import Derived.Test.YtiigdcpjelbdjaaGreatDoorM45
import Derived.BigQuiet
import Derived.Lib.SlBytesConst
import Derived.Test.YtiigdcpjelbdjaaGreatDoorM37
import Derived.LaidLaws
import Derived.LaidHandle
import Derived.Lib.LaidTab
import Derived.Lib.SmallJoins
import Derived.OpenShut
import Derived.ChangeOld
import Derived.Test.YtiigdcpjelbdjaaGreatDoorM27
import Derived.FnData
namespace Go.Proofs.YtiigdcpjelbdjaaGreatDoor
open Go.RowKit
set_option linter.unusedVariables false

/-- The thirty bytes that are put. -/
def thirty : List Int := [97, 98, 99, 100, 101, 102, 103, 104, 105, 106, 107, 108, 109, 110, 111, 112, 113, 114, 115, 116, 117, 118, 119, 120, 121, 122, 48, 49, 50, 51]
theorem thirty_len : thirty.length = 30 := rfl
theorem thirty_ok : ∀ x ∈ thirty, 0 ≤ x ∧ x ≤ 255 := by decide

theorem thirty_seg (w : World) : Seg (w.alloc (.cells #[.int .u8 97, .int .u8 98, .int .u8 99, .int .u8 100, .int .u8 101, .int .u8 102, .int .u8 103, .int .u8 104, .int .u8 105, .int .u8 106, .int .u8 107, .int .u8 108, .int .u8 109, .int .u8 110, .int .u8 111, .int .u8 112, .int .u8 113, .int .u8 114, .int .u8 115, .int .u8 116, .int .u8 117, .int .u8 118, .int .u8 119, .int .u8 120, .int .u8 121, .int .u8 122, .int .u8 48, .int .u8 49, .int .u8 50, .int .u8 51] 5 (30, 31))) (some ⟨w.heap.size, 0, none⟩) 30 thirty := by
  refine ⟨rfl, thirty_ok, .inr ⟨w.heap.size, 0, rfl, by simp, fun i hi => ?_⟩⟩
  rw [Nat.zero_add, World.cell?_alloc_mark]
  have e : (#[.int .u8 97, .int .u8 98, .int .u8 99, .int .u8 100, .int .u8 101, .int .u8 102, .int .u8 103, .int .u8 104, .int .u8 105, .int .u8 106, .int .u8 107, .int .u8 108, .int .u8 109, .int .u8 110, .int .u8 111, .int .u8 112, .int .u8 113, .int .u8 114, .int .u8 115, .int .u8 116, .int .u8 117, .int .u8 118, .int .u8 119, .int .u8 120, .int .u8 121, .int .u8 122, .int .u8 48, .int .u8 49, .int .u8 50, .int .u8 51] : Array Value) = (thirty.map (Value.int .u8)).toArray := rfl
  rw [e]
  simp only [List.getElem?_toArray, List.getElem?_map, List.getD_eq_getElem?_getD]
  rw [List.getElem?_eq_getElem (show i < thirty.length by rw [thirty_len]; exact hi)]
  rfl

theorem makeA_sok {X Y : List ByteArray} {ep nx : Int} {us : List U} {id : ByteArray} {want : Int} (h : SOk X Y ep nx us) : SOk (makeA X Y ep nx us id want).X Y ep (makeA X Y ep nx us id want).nx (makeA X Y ep nx us id want).us := by
  by_cases hc : (makeA X Y ep nx us id want).c = 0
  · obtain ⟨_, hk, hl, us', hf, he⟩ := makeA_yes hc
    rw [he]
    exact wrote_ok (rs := [makeR id want]) h (fun r hr => by rw [List.mem_singleton.1 hr]; exact ⟨hk.1, hk.2, by simp [makeR]⟩) hl hf
  · rw [makeA_no hc]
    exact h

section
variable {w8 W : World} {B p lo : Nat} {A2 : Option Addr} {n2 C2 : Nat} {X2 : List ByteArray} {A2' : Option Addr} {n2' C2' : Nat} {Y2 : List ByteArray} {ua2 : Option Addr} {un2 uc2 : Nat} {l2 : List UE}

theorem up5 {vs : List Value} (hz : BoxN W p 29 vs ∧ B ≤ p) (h5 : vs.length = 5) (hs : StoAt W lo A2 n2 C2 X2 A2' n2' C2' Y2 ua2 un2 uc2 l2) (hb : Below B w8 W) (ep2 nx2 : Int) :
    BoxN (((((W.setCell ⟨p, 0, none⟩ (.slice A2 n2 C2)).setCell ⟨p, 1, none⟩ (.slice A2' n2' C2')).setCell ⟨p, 2, none⟩ (.int .i64 ep2)).setCell ⟨p, 3, none⟩ (.int .i64 nx2)).setCell ⟨p, 4, none⟩ (.slice ua2 un2 uc2)) p 29 [.slice A2 n2 C2, .slice A2' n2' C2', .int .i64 ep2, .int .i64 nx2, .slice ua2 un2 uc2] ∧ StoAt (((((W.setCell ⟨p, 0, none⟩ (.slice A2 n2 C2)).setCell ⟨p, 1, none⟩ (.slice A2' n2' C2')).setCell ⟨p, 2, none⟩ (.int .i64 ep2)).setCell ⟨p, 3, none⟩ (.int .i64 nx2)).setCell ⟨p, 4, none⟩ (.slice ua2 un2 uc2)) lo A2 n2 C2 X2 A2' n2' C2' Y2 ua2 un2 uc2 l2 ∧ Below B w8 (((((W.setCell ⟨p, 0, none⟩ (.slice A2 n2 C2)).setCell ⟨p, 1, none⟩ (.slice A2' n2' C2')).setCell ⟨p, 2, none⟩ (.int .i64 ep2)).setCell ⟨p, 3, none⟩ (.int .i64 nx2)).setCell ⟨p, 4, none⟩ (.slice ua2 un2 uc2)) := by
  obtain ⟨b0, hp⟩ := hz
  match vs, h5 with
  | [v0, v1, v2, v3, v4], _ =>
  have b1 := b0.set 0 (.slice A2 n2 C2)
  have b2 := b1.set 1 (.slice A2' n2' C2')
  have b3 := b2.set 2 (.int .i64 ep2)
  have b4 := b3.set 3 (.int .i64 nx2)
  have b5 := b4.set 4 (.slice ua2 un2 uc2)
  exact ⟨b5, ((((hs.setBox b0 _).setBox b1 _).setBox b2 _).setBox b3 _).setBox b4 _, ((((hb.setCell hp _).setCell hp _).setCell hp _).setCell hp _).setCell hp _⟩

theorem far5B (hb : Below B w8 W) (hp : B ≤ p) (v0 v1 v2 v3 v4 : Value) : Below B w8 (((((W.setCell ⟨p, 0, none⟩ (v0)).setCell ⟨p, 1, none⟩ (v1)).setCell ⟨p, 2, none⟩ (v2)).setCell ⟨p, 3, none⟩ (v3)).setCell ⟨p, 4, none⟩ (v4)) := ((((hb.setCell hp _).setCell hp _).setCell hp _).setCell hp _).setCell hp _

theorem upu4 {vs : List Value} (hz : BoxN W p 42 vs ∧ B ≤ p) (h4 : vs.length = 4) (hb : Below B w8 W) {lo2 : Nat} {a : Option Addr} {n c : Nat} {zs : List Int} (ho : Owns W lo2 a n c zs) (id : ByteArray) (want : Int) (dn : Bool) :
    BoxN ((((W.setCell ⟨p, 0, none⟩ (.string id)).setCell ⟨p, 1, none⟩ (.int .i64 want)).setCell ⟨p, 2, none⟩ (.slice a n c)).setCell ⟨p, 3, none⟩ (.bool dn)) p 42 [.string id, .int .i64 want, .slice a n c, .bool dn] ∧ Owns ((((W.setCell ⟨p, 0, none⟩ (.string id)).setCell ⟨p, 1, none⟩ (.int .i64 want)).setCell ⟨p, 2, none⟩ (.slice a n c)).setCell ⟨p, 3, none⟩ (.bool dn)) lo2 a n c zs ∧ Below B w8 ((((W.setCell ⟨p, 0, none⟩ (.string id)).setCell ⟨p, 1, none⟩ (.int .i64 want)).setCell ⟨p, 2, none⟩ (.slice a n c)).setCell ⟨p, 3, none⟩ (.bool dn)) := by
  obtain ⟨b0, hp⟩ := hz
  match vs, h4 with
  | [v0, v1, v2, v3], _ =>
  have b1 := b0.set 0 (.string id)
  have b2 := b1.set 1 (.int .i64 want)
  have b3 := b2.set 2 (.slice a n c)
  have b4 := b3.set 3 (.bool dn)
  have n0 := ho.other (show W.heap[p]? = _ from b0) (by decide)
  exact ⟨b4, owns_set (owns_set (owns_set (owns_set ho n0) n0) n0) n0, (((hb.setCell hp _).setCell hp _).setCell hp _).setCell hp _⟩

theorem far4B (hb : Below B w8 W) (hp : B ≤ p) (v0 v1 v2 v3 : Value) : Below B w8 ((((W.setCell ⟨p, 0, none⟩ (v0)).setCell ⟨p, 1, none⟩ (v1)).setCell ⟨p, 2, none⟩ (v2)).setCell ⟨p, 3, none⟩ (v3)) := (((hb.setCell hp _).setCell hp _).setCell hp _).setCell hp _

theorem upuNew (hb : Below B w8 W) (hB : B ≤ W.heap.size) {lo2 : Nat} {a : Option Addr} {n c : Nat} {zs : List Int} (ho : Owns W lo2 a n c zs) (id : ByteArray) (want : Int) (dn : Bool) :
    BoxN (W.alloc (.cells #[.string id, .int .i64 want, .slice a n c, .bool dn] 42)) W.heap.size 42 [.string id, .int .i64 want, .slice a n c, .bool dn] ∧ Owns (W.alloc (.cells #[.string id, .int .i64 want, .slice a n c, .bool dn] 42)) lo2 a n c zs ∧ Below B w8 (W.alloc (.cells #[.string id, .int .i64 want, .slice a n c, .bool dn] 42)) :=
  ⟨BoxN.new _ _ _, ho.below ((Below.refl _ _).alloc (Nat.le_refl _) _), hb.alloc hB _⟩

theorem upNew (hs : StoAt W lo A2 n2 C2 X2 A2' n2' C2' Y2 ua2 un2 uc2 l2) (hb : Below B w8 W) (hB : B ≤ W.heap.size) (ep2 nx2 : Int) :
    BoxN (W.alloc (.cells #[.slice A2 n2 C2, .slice A2' n2' C2', .int .i64 ep2, .int .i64 nx2, .slice ua2 un2 uc2] 29)) W.heap.size 29 [.slice A2 n2 C2, .slice A2' n2' C2', .int .i64 ep2, .int .i64 nx2, .slice ua2 un2 uc2] ∧ StoAt (W.alloc (.cells #[.slice A2 n2 C2, .slice A2' n2' C2', .int .i64 ep2, .int .i64 nx2, .slice ua2 un2 uc2] 29)) lo A2 n2 C2 X2 A2' n2' C2' Y2 ua2 un2 uc2 l2 ∧ Below B w8 (W.alloc (.cells #[.slice A2 n2 C2, .slice A2' n2' C2', .int .i64 ep2, .int .i64 nx2, .slice ua2 un2 uc2] 29)) :=
  ⟨BoxN.new _ _ _, hs.stays ((Below.refl _ _).alloc (Nat.le_refl _) _), hb.alloc hB _⟩
end

theorem gotU_at {us : List U} {id : ByteArray} {p : Nat} {u : U} (h : atU us id = some p) (hu : us[p]? = some u) : gotU us id = u := by
  rw [gotU, h]
  simp [List.getD_eq_getElem?_getD, hu]

set_option maxRecDepth 10000 in
set_option maxHeartbeats 12800000 in
theorem lawDur_any (a : Option Addr) (len cap : Nat) (zs : List Int) (w : World) (hm : len ≤ maxLen) (hs : Seg w a len zs) (ht : RecT w) (he : ErrN w) :
    Calls Tryz.prog 3 #[.slice a len cap] w fun e w' => e = .returned (.bool true) ∧ Below w.heap.size w w' := by
  have HR : Hid (∀ W, Below w.heap.size w W → Seg W a len zs ∧ RecT W ∧ ErrN W) := fun W h => ⟨hs.below h, ht.below h, he.below h⟩
  clear hs ht he
  by_cases hbig : (1048576 : Int) < (len : Int)
  · have hd : Hid (decide ((1048576 : Int) < (len : Int)) = true) := by show _ = _; simpa using hbig
    go_enter Tryz.func3, Tryz.ntmps3
    go_wp2_with fail
    refine (big_any a len cap w hm).mono ?_
    rintro e w1 ⟨rfl, hw1⟩
    subst w1
    rw [hd.out]
    go_wp2_with fail
    go_ret
    exact ⟨rfl, Below.refl _ _⟩
  have hd : Hid (decide ((1048576 : Int) < (len : Int)) = false) := by show _ = _; simpa using hbig
  have hl : len ≤ 1099511627776 := by omega
  clear hbig
  go_enter Tryz.func3, Tryz.ntmps3
  go_wp2_with fail
  refine (big_any a len cap w hm).mono ?_
  rintro e w1 ⟨rfl, hw1⟩
  subst w1
  rw [hd.out]
  clear hd
  go_wp2_with fail
  refine (drawStore_any a len cap zs w (HR.out w (Below.refl _ _)).1 hl).mono ?_
  rintro e w2 ⟨⟨v, rfl, X, Y, ep, nx, us, hans, hsg⟩, hb2⟩
  obtain ⟨a0, c0, a0', c0', u0, uc0, l0, rfl, hs0, hm0⟩ := hans.get
  subst hm0
  have HB2 : Hid (Below w.heap.size w w2) := hb2
  have HSg : Hid (SG 46 X Y ep nx (l0.map UE.u)) := hsg
  have HP0 := (show Hid _ from hs0.pre hsg.ok)
  have HSl0 := (show Hid _ from hs0.now.sl)
  have hq0 := HP0.out.2.2.1
  have hq1 := HP0.out.2.2.2.1
  have hq2 := HP0.out.2.2.2.2.2.2.2.1
  obtain ⟨M, hM⟩ : ∃ M, (l0.map UE.u).length = M := ⟨_, rfl⟩
  have HM : Hid ((l0.map UE.u).length = M) := hM
  rw [hM] at HP0 hq2 ⊢
  clear hans hs0 hb2 hsg hM
  go_wp2_with fail
  refine (implSync_any a0 X.length c0 X a0' Y.length c0' Y ep nx u0 M uc0 w.heap.size l0 w2 HP0.out.1 HP0.out.2.1 (by omega) (by omega) HP0.out.2.2.2.2.1 HP0.out.2.2.2.2.2.1 HP0.out.2.2.2.2.2.2.1 (by omega) (fun e he => by have := HP0.out.2.2.2.2.2.2.2.2.1 e he; omega) HSl0.out (HR.out w2 HB2.out).2.1 (HR.out w2 HB2.out).2.2).mono ?_
  rintro e w3 ⟨⟨v, rfl, hans⟩, hb3⟩
  rw [HSg.out.sync.1] at hans
  obtain ⟨a1, c1, a1', c1', u1, uc1, l1, rfl, hs1, hm1⟩ := hans.get
  rw [HM.out] at hs1 ⊢
  have HS1 : Hid (SG 46 X X ep nx (l1.map UE.u)) := by show SG _ _ _ _ _ _; rw [hm1]; exact HSg.out.sync.2
  have HM1 : Hid ((l1.map UE.u).length = M) := by show _ = _; rw [hm1]; exact HM.out
  have hb4 : Below w3.heap.size w3 (w3.alloc (.cells #[.slice a1 X.length c1, .slice a1' X.length c1', .int .i64 ep, .int .i64 nx, .slice u1 M uc1] 29)) := (Below.refl _ _).alloc (Nat.le_refl _) _
  have HB4 : Hid (Below w.heap.size w (w3.alloc (.cells #[.slice a1 X.length c1, .slice a1' X.length c1', .int .i64 ep, .int .i64 nx, .slice u1 M uc1] 29))) := (HB2.out.trans (hb3.mono HB2.out.size)).trans (hb4.mono (Nat.le_trans HB2.out.size hb3.size))
  have HX4 : Hid (BoxN (w3.alloc (.cells #[.slice a1 X.length c1, .slice a1' X.length c1', .int .i64 ep, .int .i64 nx, .slice u1 M uc1] 29)) w3.heap.size 29 [.slice a1 X.length c1, .slice a1' X.length c1', .int .i64 ep, .int .i64 nx, .slice u1 M uc1]) := BoxN.new _ _ _
  have HA4 : Hid (StoAt (w3.alloc (.cells #[.slice a1 X.length c1, .slice a1' X.length c1', .int .i64 ep, .int .i64 nx, .slice u1 M uc1] 29)) w2.heap.size a1 X.length c1 X a1' X.length c1' X u1 M uc1 l1) := hs1.stays hb4
  clear hans hs1 hm1 hb3 hb4 HSg HP0 HSl0 HM HB2
  go_upto_region 4 with fail
  obtain ⟨w4, hw4⟩ : ∃ w4, w3.alloc (.cells #[.slice a1 X.length c1, .slice a1' X.length c1', .int .i64 ep, .int .i64 nx, .slice u1 M uc1] 29) = w4 := ⟨_, rfl⟩
  rw [hw4] at HB4 HX4 HA4 ⊢
  clear hw4
  generalize w3.heap.size = b3 at *
  have HP1 := (show Hid _ from HA4.out.pre HS1.out.ok)
  have HPn1 : Hid (∀ e ∈ l1, e.n ≤ 4800) := HP1.out.2.2.2.2.2.2.2.2.1
  have hq3 := HP1.out.2.2.1
  have hq4 := HP1.out.2.2.2.2.2.2.2.1
  obtain ⟨d0, d1, d2, d3, d4⟩ := (show _ ∧ _ ∧ _ ∧ _ ∧ _ from ⟨BoxN.cell HX4.out 0 rfl, BoxN.cell HX4.out 1 rfl, BoxN.cell HX4.out 2 rfl, BoxN.cell HX4.out 3 rfl, BoxN.cell HX4.out 4 rfl⟩)
  go_wp2_with (go_at_call 7; refine (implMake_any a1 X.length c1 X a1' X.length c1' X ep nx u1 M uc1 w2.heap.size l1 ⟨#[110, 101, 119]⟩ 30 w4 HP1.out.1 HP1.out.2.1 (by omega) (by omega) HP1.out.2.2.2.2.1 HP1.out.2.2.2.2.2.1 HP1.out.2.2.2.2.2.2.1 (by omega) (fun e he => by have := HP1.out.2.2.2.2.2.2.2.2.1 e he; omega) (by decide) HA4.out.now.sl (HR.out w4 HB4.out).2.1 (HR.out w4 HB4.out).2.2).mono ?_; rintro e w5 ⟨⟨v, rfl, hans⟩, hb5⟩; refine Hid.out ?_)
  refine hidden ?_
  obtain ⟨A1, hA1⟩ : ∃ A1, makeA X X ep nx (l1.map UE.u) ⟨#[110, 101, 119]⟩ 30 = A1 := ⟨_, rfl⟩
  rw [hA1] at hans ⊢
  have HA1 : Hid (makeA X X ep nx (l1.map UE.u) newId 30 = A1) := hA1
  have HO1 : Hid (SOk A1.X X ep A1.nx A1.us) := by show SOk _ _ _ _ _; rw [← hA1]; exact makeA_sok HS1.out.ok
  obtain ⟨a2, c2, a2', c2', u2, uc2, l2, rfl, hs2, hm2⟩ := hans.get
  have hb6 : Below w5.heap.size w5 (w5.alloc (.cells #[.slice a2 A1.X.length c2, .slice a2' X.length c2', .int .i64 ep, .int .i64 A1.nx, .slice u2 A1.us.length uc2] 29)) := (Below.refl _ _).alloc (Nat.le_refl _) _
  have HB6 : Hid (Below w.heap.size w (w5.alloc (.cells #[.slice a2 A1.X.length c2, .slice a2' X.length c2', .int .i64 ep, .int .i64 A1.nx, .slice u2 A1.us.length uc2] 29))) := (HB4.out.trans (hb5.mono HB4.out.size)).trans (hb6.mono (Nat.le_trans HB4.out.size hb5.size))
  have HX6 : Hid (BoxN (w5.alloc (.cells #[.slice a2 A1.X.length c2, .slice a2' X.length c2', .int .i64 ep, .int .i64 A1.nx, .slice u2 A1.us.length uc2] 29)) b3 29 [.slice a1 X.length c1, .slice a1' X.length c1', .int .i64 ep, .int .i64 nx, .slice u1 M uc1]) := (HX4.out.stays hb5).stays hb6
  have HA6 : Hid (StoAt (w5.alloc (.cells #[.slice a2 A1.X.length c2, .slice a2' X.length c2', .int .i64 ep, .int .i64 A1.nx, .slice u2 A1.us.length uc2] 29)) w2.heap.size a1 X.length c1 X a1' X.length c1' X u1 M uc1 l1) := (HA4.out.stays hb5).stays hb6
  have HY6 : Hid (BoxN (w5.alloc (.cells #[.slice a2 A1.X.length c2, .slice a2' X.length c2', .int .i64 ep, .int .i64 A1.nx, .slice u2 A1.us.length uc2] 29)) w5.heap.size 29 [.slice a2 A1.X.length c2, .slice a2' X.length c2', .int .i64 ep, .int .i64 A1.nx, .slice u2 A1.us.length uc2]) := BoxN.new _ _ _
  have HC6 : Hid (StoAt (w5.alloc (.cells #[.slice a2 A1.X.length c2, .slice a2' X.length c2', .int .i64 ep, .int .i64 A1.nx, .slice u2 A1.us.length uc2] 29)) w4.heap.size a2 A1.X.length c2 A1.X a2' X.length c2' X u2 A1.us.length uc2 l2) := hs2.stays hb6
  have HM2 : Hid (l2.map UE.u = A1.us) := hm2
  have hb34 : b3 < w5.heap.size := Nat.lt_of_lt_of_le HX4.out.lt hb5.size
  have hwb4 : w.heap.size ≤ w5.heap.size := Nat.le_trans HB4.out.size hb5.size
  clear hans hs2 hm2 hb5 hb6 HX4 HA4 HB4 HP1 hA1 d0 d1 d2 d3 d4
  go_upto_region 5 with fail
  obtain ⟨w6, hw6⟩ : ∃ w6, w5.alloc (.cells #[.slice a2 A1.X.length c2, .slice a2' X.length c2', .int .i64 ep, .int .i64 A1.nx, .slice u2 A1.us.length uc2] 29) = w6 := ⟨_, rfl⟩
  rw [hw6] at HB6 HX6 HA6 HY6 HC6 ⊢
  clear hw6
  generalize w5.heap.size = b4 at *
  have HP2 := (show Hid _ from StoAt.pre (ep := ep) (nx := A1.nx) HC6.out (by rw [HM2.out]; exact HO1.out))
  have hq5 := HP2.out.2.2.1
  have hq6 := HP2.out.2.2.2.2.2.2.2.1
  obtain ⟨d0, d1, d2, d3, d4⟩ := (show _ ∧ _ ∧ _ ∧ _ ∧ _ from ⟨BoxN.cell HY6.out 0 rfl, BoxN.cell HY6.out 1 rfl, BoxN.cell HY6.out 2 rfl, BoxN.cell HY6.out 3 rfl, BoxN.cell HY6.out 4 rfl⟩)
  have hb7 : Below w6.heap.size w6 (w6.alloc (.cells #[.int .u8 97, .int .u8 98, .int .u8 99, .int .u8 100, .int .u8 101, .int .u8 102, .int .u8 103, .int .u8 104, .int .u8 105, .int .u8 106, .int .u8 107, .int .u8 108, .int .u8 109, .int .u8 110, .int .u8 111, .int .u8 112, .int .u8 113, .int .u8 114, .int .u8 115, .int .u8 116, .int .u8 117, .int .u8 118, .int .u8 119, .int .u8 120, .int .u8 121, .int .u8 122, .int .u8 48, .int .u8 49, .int .u8 50, .int .u8 51] 5 (30, 31))) := (Below.refl _ _).alloc (Nat.le_refl _) _
  have HO7 : Hid (Seg (w6.alloc (.cells #[.int .u8 97, .int .u8 98, .int .u8 99, .int .u8 100, .int .u8 101, .int .u8 102, .int .u8 103, .int .u8 104, .int .u8 105, .int .u8 106, .int .u8 107, .int .u8 108, .int .u8 109, .int .u8 110, .int .u8 111, .int .u8 112, .int .u8 113, .int .u8 114, .int .u8 115, .int .u8 116, .int .u8 117, .int .u8 118, .int .u8 119, .int .u8 120, .int .u8 121, .int .u8 122, .int .u8 48, .int .u8 49, .int .u8 50, .int .u8 51] 5 (30, 31))) (some ⟨w6.heap.size, 0, none⟩) 30 thirty) := thirty_seg w6
  have HCP : Hid (Calls Tryz.prog 8 #[.agg #[.slice a2 A1.X.length c2, .slice a2' X.length c2', .int .i64 ep, .int .i64 A1.nx, .slice u2 A1.us.length uc2], .string ⟨#[110, 101, 119]⟩, .int .i64 0, .slice (some ⟨w6.heap.size, 0, none⟩) 30 30] (w6.alloc (.cells #[.int .u8 97, .int .u8 98, .int .u8 99, .int .u8 100, .int .u8 101, .int .u8 102, .int .u8 103, .int .u8 104, .int .u8 105, .int .u8 106, .int .u8 107, .int .u8 108, .int .u8 109, .int .u8 110, .int .u8 111, .int .u8 112, .int .u8 113, .int .u8 114, .int .u8 115, .int .u8 116, .int .u8 117, .int .u8 118, .int .u8 119, .int .u8 120, .int .u8 121, .int .u8 122, .int .u8 48, .int .u8 49, .int .u8 50, .int .u8 51] 5 (30, 31))) fun e w' => WAns (w6.alloc (.cells #[.int .u8 97, .int .u8 98, .int .u8 99, .int .u8 100, .int .u8 101, .int .u8 102, .int .u8 103, .int .u8 104, .int .u8 105, .int .u8 106, .int .u8 107, .int .u8 108, .int .u8 109, .int .u8 110, .int .u8 111, .int .u8 112, .int .u8 113, .int .u8 114, .int .u8 115, .int .u8 116, .int .u8 117, .int .u8 118, .int .u8 119, .int .u8 120, .int .u8 121, .int .u8 122, .int .u8 48, .int .u8 49, .int .u8 50, .int .u8 51] 5 (30, 31))).heap.size X ep (putA A1.X X ep A1.nx A1.us newId 0 thirty) e w' ∧ Below (w6.alloc (.cells #[.int .u8 97, .int .u8 98, .int .u8 99, .int .u8 100, .int .u8 101, .int .u8 102, .int .u8 103, .int .u8 104, .int .u8 105, .int .u8 106, .int .u8 107, .int .u8 108, .int .u8 109, .int .u8 110, .int .u8 111, .int .u8 112, .int .u8 113, .int .u8 114, .int .u8 115, .int .u8 116, .int .u8 117, .int .u8 118, .int .u8 119, .int .u8 120, .int .u8 121, .int .u8 122, .int .u8 48, .int .u8 49, .int .u8 50, .int .u8 51] 5 (30, 31))).heap.size (w6.alloc (.cells #[.int .u8 97, .int .u8 98, .int .u8 99, .int .u8 100, .int .u8 101, .int .u8 102, .int .u8 103, .int .u8 104, .int .u8 105, .int .u8 106, .int .u8 107, .int .u8 108, .int .u8 109, .int .u8 110, .int .u8 111, .int .u8 112, .int .u8 113, .int .u8 114, .int .u8 115, .int .u8 116, .int .u8 117, .int .u8 118, .int .u8 119, .int .u8 120, .int .u8 121, .int .u8 122, .int .u8 48, .int .u8 49, .int .u8 50, .int .u8 51] 5 (30, 31))) w') := by
    have hb67 : Below w.heap.size w (w6.alloc (.cells #[.int .u8 97, .int .u8 98, .int .u8 99, .int .u8 100, .int .u8 101, .int .u8 102, .int .u8 103, .int .u8 104, .int .u8 105, .int .u8 106, .int .u8 107, .int .u8 108, .int .u8 109, .int .u8 110, .int .u8 111, .int .u8 112, .int .u8 113, .int .u8 114, .int .u8 115, .int .u8 116, .int .u8 117, .int .u8 118, .int .u8 119, .int .u8 120, .int .u8 121, .int .u8 122, .int .u8 48, .int .u8 49, .int .u8 50, .int .u8 51] 5 (30, 31))) := HB6.out.trans (hb7.mono HB6.out.size)
    have h := implPutUp_any a2 A1.X.length c2 A1.X a2' X.length c2' X ep A1.nx u2 A1.us.length uc2 w4.heap.size l2 newId 0 (some ⟨w6.heap.size, 0, none⟩) 30 30 thirty (w6.alloc (.cells #[.int .u8 97, .int .u8 98, .int .u8 99, .int .u8 100, .int .u8 101, .int .u8 102, .int .u8 103, .int .u8 104, .int .u8 105, .int .u8 106, .int .u8 107, .int .u8 108, .int .u8 109, .int .u8 110, .int .u8 111, .int .u8 112, .int .u8 113, .int .u8 114, .int .u8 115, .int .u8 116, .int .u8 117, .int .u8 118, .int .u8 119, .int .u8 120, .int .u8 121, .int .u8 122, .int .u8 48, .int .u8 49, .int .u8 50, .int .u8 51] 5 (30, 31))) (HP2.out.1.below hb7) (HP2.out.2.1.below hb7) (by omega) (by omega) HP2.out.2.2.2.2.1 (HP2.out.2.2.2.2.2.1.stays hb7) HP2.out.2.2.2.2.2.2.1 (by omega) (fun e he => by have := HP2.out.2.2.2.2.2.2.2.2.1 e he; omega) (by decide) HO7.out (Nat.le_refl _) (by decide) HC6.out.now.sl (HR.out _ hb67).2.1 (HR.out _ hb67).2.2
    rw [HM2.out] at h
    exact h
  obtain ⟨A2, hA2⟩ : ∃ A2, putA A1.X X ep A1.nx A1.us newId 0 thirty = A2 := ⟨_, rfl⟩
  rw [hA2] at HCP
  have HDur : Hid (okD A2.X X = true ∧ ∀ ks, ∃ e n usj, openO (fallX A2.X X ks) (fallY A2.X X ks) = some (e, n, usj) ∧ Lasts (l1.map UE.u) usj A2.us) := ⟨(durable HS1.out (by omega) [] thirty_len thirty_ok HA1.out hA2).1, fun ks => (durable HS1.out (by omega) ks thirty_len thirty_ok HA1.out hA2).2⟩
  clear hA2
  have hcv := Lib.run_convert_bytes_const (P := Tryz.prog) w6 22 5 #[.int .u8 97, .int .u8 98, .int .u8 99, .int .u8 100, .int .u8 101, .int .u8 102, .int .u8 103, .int .u8 104, .int .u8 105, .int .u8 106, .int .u8 107, .int .u8 108, .int .u8 109, .int .u8 110, .int .u8 111, .int .u8 112, .int .u8 113, .int .u8 114, .int .u8 115, .int .u8 116, .int .u8 117, .int .u8 118, .int .u8 119, .int .u8 120, .int .u8 121, .int .u8 122, .int .u8 48, .int .u8 49, .int .u8 50, .int .u8 51] 30 30 Tryz.underlying22 Tryz.underlying5
  go_wp2_with (go_at_call 8; refine HCP.out.mono ?_; rintro e w7 ⟨⟨v, rfl, hans⟩, hbp⟩; refine Hid.out ?_)
  refine hidden ?_
  obtain ⟨a3, c3, a3', c3', u3, uc3, l3, rfl, hs3, hm3⟩ := hans.get
  have h67 : Below w6.heap.size w6 w7 := hb7.trans (hbp.mono hb7.size)
  have hY7 := HY6.out.stays h67
  obtain ⟨m0, m1, m2, m3, m4⟩ := (show _ ∧ _ ∧ _ ∧ _ ∧ _ from ⟨BoxN.cell hY7 0 rfl, BoxN.cell hY7 1 rfl, BoxN.cell hY7 2 rfl, BoxN.cell hY7 3 rfl, BoxN.cell hY7 4 rfl⟩)
  obtain ⟨f0, f1, f2, f3, f4⟩ := (show _ ∧ _ ∧ _ ∧ _ ∧ _ from ⟨BoxN.frozen hY7 0, BoxN.frozen hY7 1, BoxN.frozen hY7 2, BoxN.frozen hY7 3, BoxN.frozen hY7 4⟩)
  have y1 := hY7.set 0 (.slice a3 A2.X.length c3)
  have y2 := y1.set 1 (.slice a3' X.length c3')
  have y3 := y2.set 2 (.int .i64 ep)
  have y4 := y3.set 3 (.int .i64 A2.nx)
  have HY8 : Hid (BoxN (((((w7.setCell ⟨b4, 0, none⟩ (.slice a3 A2.X.length c3)).setCell ⟨b4, 1, none⟩ (.slice a3' X.length c3')).setCell ⟨b4, 2, none⟩ (.int .i64 ep)).setCell ⟨b4, 3, none⟩ (.int .i64 A2.nx)).setCell ⟨b4, 4, none⟩ (.slice u3 A2.us.length uc3)) b4 29 [.slice a3 A2.X.length c3, .slice a3' X.length c3', .int .i64 ep, .int .i64 A2.nx, .slice u3 A2.us.length uc3]) := y4.set 4 (.slice u3 A2.us.length uc3)
  have HX8 : Hid (BoxN (((((w7.setCell ⟨b4, 0, none⟩ (.slice a3 A2.X.length c3)).setCell ⟨b4, 1, none⟩ (.slice a3' X.length c3')).setCell ⟨b4, 2, none⟩ (.int .i64 ep)).setCell ⟨b4, 3, none⟩ (.int .i64 A2.nx)).setCell ⟨b4, 4, none⟩ (.slice u3 A2.us.length uc3)) b3 29 [.slice a1 X.length c1, .slice a1' X.length c1', .int .i64 ep, .int .i64 nx, .slice u1 M uc1]) := (((((HX6.out.stays h67).other (by omega) _).other (by omega) _).other (by omega) _).other (by omega) _).other (by omega) _
  have HA8 : Hid (StoAt (((((w7.setCell ⟨b4, 0, none⟩ (.slice a3 A2.X.length c3)).setCell ⟨b4, 1, none⟩ (.slice a3' X.length c3')).setCell ⟨b4, 2, none⟩ (.int .i64 ep)).setCell ⟨b4, 3, none⟩ (.int .i64 A2.nx)).setCell ⟨b4, 4, none⟩ (.slice u3 A2.us.length uc3)) w2.heap.size a1 X.length c1 X a1' X.length c1' X u1 M uc1 l1) := (((((HA6.out.stays h67).setBox hY7 _).setBox y1 _).setBox y2 _).setBox y3 _).setBox y4 _
  have HC8 : Hid (StoAt (((((w7.setCell ⟨b4, 0, none⟩ (.slice a3 A2.X.length c3)).setCell ⟨b4, 1, none⟩ (.slice a3' X.length c3')).setCell ⟨b4, 2, none⟩ (.int .i64 ep)).setCell ⟨b4, 3, none⟩ (.int .i64 A2.nx)).setCell ⟨b4, 4, none⟩ (.slice u3 A2.us.length uc3)) (w6.alloc (.cells #[.int .u8 97, .int .u8 98, .int .u8 99, .int .u8 100, .int .u8 101, .int .u8 102, .int .u8 103, .int .u8 104, .int .u8 105, .int .u8 106, .int .u8 107, .int .u8 108, .int .u8 109, .int .u8 110, .int .u8 111, .int .u8 112, .int .u8 113, .int .u8 114, .int .u8 115, .int .u8 116, .int .u8 117, .int .u8 118, .int .u8 119, .int .u8 120, .int .u8 121, .int .u8 122, .int .u8 48, .int .u8 49, .int .u8 50, .int .u8 51] 5 (30, 31))).heap.size a3 A2.X.length c3 A2.X a3' X.length c3' X u3 A2.us.length uc3 l3) := ((((hs3.setBox hY7 _).setBox y1 _).setBox y2 _).setBox y3 _).setBox y4 _
  have HB8 : Hid (Below w.heap.size w (((((w7.setCell ⟨b4, 0, none⟩ (.slice a3 A2.X.length c3)).setCell ⟨b4, 1, none⟩ (.slice a3' X.length c3')).setCell ⟨b4, 2, none⟩ (.int .i64 ep)).setCell ⟨b4, 3, none⟩ (.int .i64 A2.nx)).setCell ⟨b4, 4, none⟩ (.slice u3 A2.us.length uc3))) := (((((HB6.out.trans (h67.mono HB6.out.size)).setCell hwb4 _).setCell hwb4 _).setCell hwb4 _).setCell hwb4 _).setCell hwb4 _
  clear hcv hans hs3 hm3 hbp hb7 h67 hY7 y1 y2 y3 y4 HX6 HA6 HY6 HC6 HB6 HP2 HCP HO7 HO1 HA1 HM2 d0 d1 d2 d3 d4
  go_upto_region 6 with fail
  obtain ⟨w8, hw8⟩ : ∃ w8, (((((w7.setCell ⟨b4, 0, none⟩ (.slice a3 A2.X.length c3)).setCell ⟨b4, 1, none⟩ (.slice a3' X.length c3')).setCell ⟨b4, 2, none⟩ (.int .i64 ep)).setCell ⟨b4, 3, none⟩ (.int .i64 A2.nx)).setCell ⟨b4, 4, none⟩ (.slice u3 A2.us.length uc3)) = w8 := ⟨_, rfl⟩
  rw [hw8] at HY8 HX8 HA8 HC8 HB8 ⊢
  clear hw8 m0 m1 m2 m3 m4 f0 f1 f2 f3 f4
  have hXl : X.length ≤ 200 := HS1.out.ok.nums.2.2.2
  have hAl : A2.X.length ≤ 200 := (okD_iff.1 HDur.out.1).2.1
  have HT : Hid (∀ W, Below w8.heap.size w8 W → BoxN W b3 29 [.slice a1 X.length c1, .slice a1' X.length c1', .int .i64 ep, .int .i64 nx, .slice u1 M uc1] ∧ StoAt W w2.heap.size a1 X.length c1 X a1' X.length c1' X u1 M uc1 l1 ∧ BoxN W b4 29 [.slice a3 A2.X.length c3, .slice a3' X.length c3', .int .i64 ep, .int .i64 A2.nx, .slice u3 A2.us.length uc3] ∧ (Strs W a3 A2.X.length A2.X ∧ Strs W a3' X.length X) ∧ (Seg W a len zs ∧ RecT W ∧ ErrN W) ∧ Below w.heap.size w W) := fun W h => by
    have hw := HB8.out.trans (h.mono HB8.out.size)
    exact ⟨HX8.out.stays h, HA8.out.stays h, HY8.out.stays h, ⟨(HC8.out.stays h).now.strs, (HC8.out.stays h).sure.strs⟩, HR.out W hw, hw⟩
  clear HX8 HA8 HY8 HC8 HB8 HR
  go_cut [6, 7] from 30 (fun v6 v7 W => ∃ (p : Nat) (a4 : Option Addr) (c4 : Nat) (a4' : Option Addr) (c4' : Nat) (ep4 nx4 : Int) (u4 : Option Addr) (uc4 : Nat) (l4 : List UE) (FX : List ByteArray) (usj : List U), v6 = .pointer (some ⟨p, 0, none⟩) ∧ v7 = .bool true ∧ Hid (BoxN W p 29 [.slice a4 FX.length c4, .slice a4' FX.length c4', .int .i64 ep4, .int .i64 nx4, .slice u4 usj.length uc4]) ∧ Hid (StoAt W w8.heap.size a4 FX.length c4 FX a4' FX.length c4' FX u4 usj.length uc4 l4 ∧ l4.map UE.u = usj) ∧ Hid (SOk FX FX ep4 nx4 usj) ∧ Hid (Lasts (l1.map UE.u) usj A2.us) ∧ Hid (Below w8.heap.size w8 W))
  case first =>
    have HBd : Hid (Below w8.heap.size w8 w8.drew) := (Below.refl _ _).drew
    have HBz : Hid (Below w8.heap.size w8 (w8.drew.alloc (.cells #[.slice none 0 0, .slice none 0 0, .int .i64 0, .int .i64 0, .slice none 0 0] 29))) := HBd.out.alloc (Nat.le_refl _) _
    have HZa : Hid (BoxN (w8.drew.alloc (.cells #[.slice none 0 0, .slice none 0 0, .int .i64 0, .int .i64 0, .slice none 0 0] 29)) w8.heap.size 29 [.slice none 0 0, .slice none 0 0, .int .i64 0, .int .i64 0, .slice none 0 0] ∧ w8.heap.size ≤ w8.heap.size) := ⟨BoxN.new w8.drew 29 [.slice none 0 0, .slice none 0 0, .int .i64 0, .int .i64 0, .slice none 0 0], Nat.le_refl _⟩
    have c0 := (HT.out _ HBd.out).2.2.1.cell 0 rfl
    have c1_ := (HT.out _ HBd.out).2.2.1.cell 1 rfl
    have q0 : ∀ o, (w8.alloc o).drew.cell? ⟨b4, 0, none⟩ = _ := fun o => (HT.out _ (((Below.refl _ _).alloc (Nat.le_refl _) o).drew)).2.2.1.cell 0 rfl
    have q1 : ∀ o, (w8.alloc o).drew.cell? ⟨b4, 1, none⟩ = _ := fun o => (HT.out _ (((Below.refl _ _).alloc (Nat.le_refl _) o).drew)).2.2.1.cell 1 rfl
    go_region_held3 (fun W => W.cell? ⟨b4, 0, none⟩ = some (.slice a3 A2.X.length c3) ∧ W.cell? ⟨b4, 1, none⟩ = some (.slice a3' X.length c3')) (first | with_reducible exact ⟨c0, c1_⟩ | with_reducible exact ⟨q0 _, q1 _⟩ | with_reducible exact ⟨e0, e1⟩ | with_reducible exact ⟨r0 _, r1 _⟩ | with_reducible exact ⟨m0, m1⟩ | with_reducible exact ⟨n0 _, n1 _⟩ | with_reducible exact ⟨k0, k1⟩ | with_reducible exact ⟨o0 _, o1 _⟩ | with_reducible exact ⟨t0 _ _ _ _ _, t1 _ _ _ _ _⟩) (first
      | (go_at_call 11
         first
           | (refine (drawKept_any a len cap zs w8.drew (HT.out _ HBd.out).2.2.2.2.1.1 hl).mono ?_; rintro e y1 ⟨⟨ka, kc, ks, rfl, hbo⟩, hb1⟩
              have HB1 : Hid (Below w8.heap.size w8 y1) := HBd.out.trans (hb1.mono HBd.out.size))
           | (refine (drawKept_any a len cap zs (w8.drew.alloc (.cells #[.slice none 0 0, .slice none 0 0, .int .i64 0, .int .i64 0, .slice none 0 0] 29)) (HT.out _ HBz.out).2.2.2.2.1.1 hl).mono ?_; rintro e y1 ⟨⟨ka, kc, ks, rfl, hbo⟩, hb1⟩
              have HB1 : Hid (Below w8.heap.size w8 y1) := HBz.out.trans (hb1.mono HBz.out.size)
              have HZ1 := (show Hid _ from And.intro (BoxN.stays HZa.out.1 hb1) HZa.out.2))
         have hs1 : w8.heap.size ≤ y1.heap.size := HB1.out.size
         have HBa : Hid (∀ o, Below w8.heap.size w8 (y1.alloc o)) := fun o => HB1.out.alloc HB1.out.size o
         have HBo : Hid (Bools y1 ka 30 ks) := OwnBo.strs hbo
         have HBo2 : Hid (∀ o, Bools (y1.alloc o) ka 30 ks) := fun o => OwnBo.strs (OwnBo.below hbo ((Below.refl _ _).alloc (Nat.le_refl _) _))
         have e0 := (HT.out _ HB1.out).2.2.1.cell 0 rfl
         have e1 := (HT.out _ HB1.out).2.2.1.cell 1 rfl
         have r0 : ∀ o, (y1.alloc o).cell? ⟨b4, 0, none⟩ = _ := fun o => (HT.out _ (HBa.out o)).2.2.1.cell 0 rfl
         have r1 : ∀ o, (y1.alloc o).cell? ⟨b4, 1, none⟩ = _ := fun o => (HT.out _ (HBa.out o)).2.2.1.cell 1 rfl
         clear hbo)
      | (go_at_call 10
         first
           | (refine (implFall_any a3 A2.X.length c3 A2.X a3' X.length c3' X ka 30 kc ks y1 (HT.out _ HB1.out).2.2.2.1.1 (HT.out _ HB1.out).2.2.2.1.2 HBo.out (by omega) (by omega) (by omega)).mono ?_; rintro e y2 ⟨⟨v, rfl, hans⟩, hb2⟩
              have HB2 : Hid (Below w8.heap.size w8 y2) := HB1.out.trans (hb2.mono HB1.out.size)
              try (have HZ2 := (show Hid _ from And.intro (BoxN.stays HZ1.out.1 hb2) HZ1.out.2)))
           | (refine (implFall_any a3 A2.X.length c3 A2.X a3' X.length c3' X ka 30 kc ks (y1.alloc (.cells #[.slice none 0 0, .slice none 0 0, .int .i64 0, .int .i64 0, .slice none 0 0] 29)) (HT.out _ (HBa.out _)).2.2.2.1.1 (HT.out _ (HBa.out _)).2.2.2.1.2 (HBo2.out _) (by omega) (by omega) (by omega)).mono ?_; rintro e y2 ⟨⟨v, rfl, hans⟩, hb2⟩
              have HB2 : Hid (Below w8.heap.size w8 y2) := (HBa.out _).trans (hb2.mono (HBa.out _).size)
              have HZ2 := (show Hid _ from And.intro (BoxN.stays (BoxN.new y1 29 [.slice none 0 0, .slice none 0 0, .int .i64 0, .int .i64 0, .slice none 0 0]) hb2) hs1))
         obtain ⟨fe1, fe2⟩ := fall_same ks HDur.out.1
         have HDk := (show Hid _ from HDur.out.2 ks)
         rw [fe1, fe2] at hans HDk
         have HFz : Hid ((fallL A2.X X ks).length ≤ 200 ∧ ∀ x ∈ fallL A2.X X ks, x.size ≤ 1048576) := by
           have h := fall_small HDur.out.1 ks
           rw [fe1] at h
           exact ⟨h.1, h.2.2⟩
         obtain ⟨FX, hFX⟩ : ∃ FX, fallL A2.X X ks = FX := ⟨_, rfl⟩
         rw [hFX] at hans HDk HFz
         obtain ⟨Fa, Fc, Fa', Fc', rfl, fo1, fo2, fap⟩ := hans
         have hf1 := HFz.out.1
         have hs2 : w8.heap.size ≤ y2.heap.size := HB2.out.size
         have HBb : Hid (∀ o, Below w8.heap.size w8 (y2.alloc o)) := fun o => HB2.out.alloc HB2.out.size o
         have HFo : Hid (∀ W, Below y2.heap.size y2 W → Strs W Fa FX.length FX ∧ Strs W Fa' FX.length FX) := fun W h => ⟨OwnSt.strs (OwnSt.below fo1 h), OwnSt.strs (OwnSt.below fo2 h)⟩
         have m0 := (HT.out _ HB2.out).2.2.1.cell 0 rfl
         have m1 := (HT.out _ HB2.out).2.2.1.cell 1 rfl
         have n0 : ∀ o, (y2.alloc o).cell? ⟨b4, 0, none⟩ = _ := fun o => (HT.out _ (HBb.out o)).2.2.1.cell 0 rfl
         have n1 : ∀ o, (y2.alloc o).cell? ⟨b4, 1, none⟩ = _ := fun o => (HT.out _ (HBb.out o)).2.2.1.cell 1 rfl
         clear fo1 fo2 fap hFX fe1 fe2)
      | (go_at_call 9
         first
           | (refine (implOpen_any Fa FX.length Fc FX Fa' FX.length Fc' FX y2 (HFo.out _ (Below.refl _ _)).1 (HFo.out _ (Below.refl _ _)).2 (by omega) (by omega) HFz.out.2 (HT.out _ HB2.out).2.2.2.2.1.2.1 (HT.out _ HB2.out).2.2.2.2.1.2.2).mono ?_; rintro e y3 ⟨hop, hb3⟩
              have HB3 : Hid (Below w8.heap.size w8 y3) := HB2.out.trans (hb3.mono HB2.out.size)
              try (have HZ3 := (show Hid _ from And.intro (BoxN.stays HZ2.out.1 hb3) HZ2.out.2)))
           | (refine (implOpen_any Fa FX.length Fc FX Fa' FX.length Fc' FX (y2.alloc (.cells #[.slice none 0 0, .slice none 0 0, .int .i64 0, .int .i64 0, .slice none 0 0] 29)) (HFo.out _ ((Below.refl _ _).alloc (Nat.le_refl _) _)).1 (HFo.out _ ((Below.refl _ _).alloc (Nat.le_refl _) _)).2 (by omega) (by omega) HFz.out.2 (HT.out _ (HBb.out _)).2.2.2.2.1.2.1 (HT.out _ (HBb.out _)).2.2.2.2.1.2.2).mono ?_; rintro e y3 ⟨hop, hb3⟩
              have HB3 : Hid (Below w8.heap.size w8 y3) := (HBb.out _).trans (hb3.mono (HBb.out _).size)
              have HZ3 := (show Hid _ from And.intro (BoxN.stays (BoxN.new y2 29 [.slice none 0 0, .slice none 0 0, .int .i64 0, .int .i64 0, .slice none 0 0]) hb3) hs2))
         obtain ⟨ep4, nx4, usj, hoo, hla⟩ := HDk.out
         rw [OpenAns, hoo] at hop
         obtain ⟨v, rfl, hans3⟩ := hop
         obtain ⟨a4, c4, a4', c4', u4, uc4, l4, rfl, hs4, hm4⟩ := hans3.get
         have HSo : Hid (SOk FX FX ep4 (nx4 : Int) usj) := (open_ok hoo).1
         have HLa : Hid (Lasts (l1.map UE.u) usj A2.us) := hla
         have HL4 : Hid (w8.heap.size ≤ y2.heap.size ∧ w8.heap.size ≤ (y2.alloc (.cells #[.slice none 0 0, .slice none 0 0, .int .i64 0, .int .i64 0, .slice none 0 0] 29)).heap.size) := ⟨hs2, (HBb.out _).size⟩
         have k0 := (HT.out _ HB3.out).2.2.1.cell 0 rfl
         have k1 := (HT.out _ HB3.out).2.2.1.cell 1 rfl
         have o0 : ∀ o, (y3.alloc o).cell? ⟨b4, 0, none⟩ = _ := fun o => (HT.out _ (HB3.out.alloc HB3.out.size o)).2.2.1.cell 0 rfl
         have o1 : ∀ o, (y3.alloc o).cell? ⟨b4, 1, none⟩ = _ := fun o => (HT.out _ (HB3.out.alloc HB3.out.size o)).2.2.1.cell 1 rfl
         try (have t0 := fun (v0 v1 v2 v3 v4 : Value) => BoxN.cell (HT.out _ (far5B HB3.out HZ3.out.2 v0 v1 v2 v3 v4)).2.2.1 0 rfl
              have t1 := fun (v0 v1 v2 v3 v4 : Value) => BoxN.cell (HT.out _ (far5B HB3.out HZ3.out.2 v0 v1 v2 v3 v4)).2.2.1 1 rfl)
         try (have z0 := BoxN.cell HZ3.out.1 0 rfl
              have z1 := BoxN.cell HZ3.out.1 1 rfl
              have z2 := BoxN.cell HZ3.out.1 2 rfl
              have z3 := BoxN.cell HZ3.out.1 3 rfl
              have z4 := BoxN.cell HZ3.out.1 4 rfl
              have g0 := BoxN.frozen HZ3.out.1 0
              have g1 := BoxN.frozen HZ3.out.1 1
              have g2 := BoxN.frozen HZ3.out.1 2
              have g3 := BoxN.frozen HZ3.out.1 3
              have g4 := BoxN.frozen HZ3.out.1 4)
         clear hla hoo)
      | fail)
    all_goals
      have hs5 : StoAt y3 w8.heap.size a4 FX.length c4 FX a4' FX.length c4' FX u4 usj.length uc4 l4 := hs4.low (by first | exact HL4.out.1 | exact HL4.out.2)
      first
        | (have HU := up5 HZ3.out rfl hs5 HB3.out ep4 (nx4 : Int))
        | (have HU := upNew hs5 HB3.out HB3.out.size ep4 (nx4 : Int))
      have H1 := (show Hid _ from HU.1)
      have H2 := (show Hid _ from And.intro HU.2.1 hm4)
      have H3 := (show Hid _ from HU.2.2)
      clear HU hs5 hs4 hm4 hans3 hb1 hb2 hb3 HBd HBz HZa HB1 HB2 HB3 HBa HBb HBo HBo2 HFo HFz HDk HL4 c0 c1_ q0 q1 e0 e1 r0 r1 m0 m1 n0 n1 k0 k1 o0 o1
      go_wp2_with fail
      go_meet
      exact ⟨_, a4, c4, a4', c4', ep4, nx4, u4, uc4, l4, FX, usj, rfl, rfl, H1, H2, HSo, HLa, H3⟩
  case rest =>
  obtain ⟨p, a4, c4, a4', c4', ep4, nx4, u4, uc4, l4, FX, usj, rfl, rfl, HUb, HUs, HSo, HLa, HBu⟩ := hcut
  obtain ⟨w9, hw9⟩ : ∃ w9, wc = w9 := ⟨_, rfl⟩
  rw [hw9] at HUb HUs HBu ⊢
  clear hw9
  have HLs : Hid ((l1.map UE.u).length = M) := HM1
  have hU1 : M ≤ usj.length := by have h1 := HLa.out.least; have h2 := HLs.out; omega
  have hU2 : usj.length ≤ A2.us.length := HLa.out.most
  have HP4 := (show Hid _ from StoAt.pre (ep := ep4) (nx := nx4) HUs.out.1 (by rw [HUs.out.2]; exact HSo.out))
  have hq7 := HP4.out.2.2.1
  have hq8 := HP4.out.2.2.2.2.2.2.2.1
  have HDb : Hid (decB (SOk FX FX ep4 nx4 (l4.map UE.u)) = true) := decB_true (by rw [HUs.out.2]; exact HSo.out)
  have hi1 : ¬ (usj.length : Int) < (M : Int) := by omega
  have hi2 : ¬ (A2.us.length : Int) < (usj.length : Int) := by omega
  have HT9 := (show Hid _ from HT.out w9 HBu.out)
  obtain ⟨p0, p1, p2, p3, p4⟩ := (show _ ∧ _ ∧ _ ∧ _ ∧ _ from ⟨BoxN.cell HUb.out 0 rfl, BoxN.cell HUb.out 1 rfl, BoxN.cell HUb.out 2 rfl, BoxN.cell HUb.out 3 rfl, BoxN.cell HUb.out 4 rfl⟩)
  have s4 := HT9.out.1.cell 4 rfl
  have x4 := HT9.out.2.2.1.cell 4 rfl
  go_upto_region 7 with fail
  go_wp2_with (go_at_call 12; refine (implSok_any a4 FX.length c4 FX a4' FX.length c4' FX ep4 nx4 u4 usj.length uc4 w8.heap.size l4 w9 HP4.out.1 HP4.out.2.1 (by omega) (by omega) HP4.out.2.2.2.2.1 HP4.out.2.2.2.2.2.1 HP4.out.2.2.2.2.2.2.1 (by omega) HUs.out.1.now.sl HT9.out.2.2.2.2.1.2.1 HT9.out.2.2.2.2.1.2.2).mono ?_; rintro e w10 ⟨rfl, hb10⟩; rw [HDb.out]; have HX10 := (HUb.out.stays hb10); obtain ⟨r0, r1, r2, r3, r4⟩ := (show _ ∧ _ ∧ _ ∧ _ ∧ _ from ⟨BoxN.cell HX10 0 rfl, BoxN.cell HX10 1 rfl, BoxN.cell HX10 2 rfl, BoxN.cell HX10 3 rfl, BoxN.cell HX10 4 rfl⟩); have HB10 : Below w8.heap.size w8 w10 := HBu.out.trans (hb10.mono HBu.out.size); have y4 := (HT.out w10 HB10).1.cell 4 rfl; have z4 := (HT.out w10 HB10).2.2.1.cell 4 rfl)
  have HBw : Hid (Below w8.heap.size w8 w10) := HB10
  have HUb2 : Hid (BoxN w10 p 29 [.slice a4 FX.length c4, .slice a4' FX.length c4', .int .i64 ep4, .int .i64 nx4, .slice u4 usj.length uc4]) := HX10
  have HUs2 : Hid (StoAt w10 w8.heap.size a4 FX.length c4 FX a4' FX.length c4' FX u4 usj.length uc4 l4) := HUs.out.1.stays hb10
  have HU4 : Hid (l4.map UE.u = usj) := HUs.out.2
  have HT2 : Hid (∀ W, Below w10.heap.size w10 W → BoxN W b3 29 [.slice a1 X.length c1, .slice a1' X.length c1', .int .i64 ep, .int .i64 nx, .slice u1 M uc1] ∧ StoAt W w2.heap.size a1 X.length c1 X a1' X.length c1' X u1 M uc1 l1 ∧ BoxN W p 29 [.slice a4 FX.length c4, .slice a4' FX.length c4', .int .i64 ep4, .int .i64 nx4, .slice u4 usj.length uc4] ∧ UpRow W w8.heap.size (.slice u4 usj.length uc4) l4 ∧ Below w.heap.size w W) := fun W h => by
    have h8 := HBw.out.trans (h.mono HBw.out.size)
    exact ⟨(HT.out W h8).1, (HT.out W h8).2.1, HUb2.out.stays h, (HUs2.out.stays h).ups, (HT.out W h8).2.2.2.2.2⟩
  have HPz : Hid (∀ e ∈ l4, e.n ≤ 4800) := HP4.out.2.2.2.2.2.2.2.2.1
  have HPl : Hid (usj.length = l4.length) := HP4.out.2.2.2.2.2.2.1
  have hu10 : usj.length ≤ 10 := hq8
  clear HX10 hb10 HB10 r0 r1 r2 r3 r4 y4 z4 p0 p1 p2 p3 p4 s4 x4 HT9 HP4 HDb HUb HUs HBu HT HUb2 HUs2 HBw HSo
  have hdc1 : decide (usj.length < M) = false := by simp; omega
  have hdc2 : decide (A2.us.length < usj.length) = false := by simp; omega
  go_wp2_with fail
  try simp only [hdc1, hdc2, Bool.or_false]
  clear hi1 hi2 hU1 hU2 hdc1 hdc2
  go_loopw [8] (fun v wr => ∃ j : Nat, v = .int .i64 (j : Int) ∧ j ≤ M ∧ Hid (Below w10.heap.size w10 wr)) (fun v _ => M - (intOf v).toNat)
  case atStart => exact ⟨0, rfl, Nat.zero_le _, Below.refl _ _⟩
  case round =>
    obtain ⟨j, rfl, hjM, HW⟩ := hrel
    have s4 := (HT2.out wr HW.out).1.cell 4 rfl
    by_cases hj : j < M
    case neg =>
      obtain rfl : j = M := by omega
      obtain ⟨p0, p1, p2, p3, p4⟩ := (show _ ∧ _ ∧ _ ∧ _ ∧ _ from ⟨BoxN.cell (HT2.out wr HW.out).2.2.1 0 rfl, BoxN.cell (HT2.out wr HW.out).2.2.1 1 rfl, BoxN.cell (HT2.out wr HW.out).2.2.1 2 rfl, BoxN.cell (HT2.out wr HW.out).2.2.1 3 rfl, BoxN.cell (HT2.out wr HW.out).2.2.1 4 rfl⟩)
      go_wp2_with (go_at_call 13; refine (implUpAt_any a4 FX.length c4 a4' FX.length c4' ep4 nx4 u4 usj.length uc4 w8.heap.size l4 ⟨#[110, 101, 119]⟩ wr (HT2.out wr HW.out).2.2.2.1 HPl.out (by omega) (fun e he => by have := HPz.out e he; omega)).mono ?_; rintro e y1 ⟨⟨UA, UC, rfl, hown⟩, hb1⟩; refine Hid.out ?_)
      refine hidden ?_
      have HBf : Hid (Below w.heap.size w y1) := (HT2.out wr HW.out).2.2.2.2.trans (hb1.mono (HT2.out wr HW.out).2.2.2.2.size)
      have HNw : Hid ((atU (l4.map UE.u) ⟨#[110, 101, 119]⟩).isSome = false ∨ ((gotU (l4.map UE.u) ⟨#[110, 101, 119]⟩).zs.length = 0 ∨ (gotU (l4.map UE.u) ⟨#[110, 101, 119]⟩).zs.length = 24 ∨ (gotU (l4.map UE.u) ⟨#[110, 101, 119]⟩).zs.length = 30)) := by
        show _ ∨ _
        rw [HU4.out]
        cases hat : atU usj ⟨#[110, 101, 119]⟩ with
        | none => left; rfl
        | some q =>
          right
          obtain ⟨hq, _⟩ := atU_is hat
          rw [gotU_at hat (List.getElem?_eq_getElem hq)]
          exact HLa.out.news q _ hat (List.getElem?_eq_getElem hq)
      generalize (gotU (l4.map UE.u) ⟨#[110, 101, 119]⟩).zs.length = Z at *
      generalize (atU (l4.map UE.u) ⟨#[110, 101, 119]⟩).isSome = ob at *
      clear hown HW HT2 s4
      have hbf2 := fun o => Below.alloc HBf.out HBf.out.size o
      rcases HNw.out with rfl | h
      · go_wp2_with fail
        go_ret
        exact ⟨rfl, hbf2 _⟩
      · cases ob with
        | false =>
          go_wp2_with fail
          go_ret
          exact ⟨rfl, hbf2 _⟩
        | true =>
          rcases h with rfl | rfl | rfl
          all_goals
            go_wp2_with fail
            go_ret
            exact ⟨rfl, hbf2 _⟩
    have hji : (j : Int) < (M : Int) := by omega
    have hj0 : (0 : Int) ≤ (j : Int) := by omega
    have hlen : M = l1.length := by have := HLs.out; rw [List.length_map] at this; exact this.symm
    have hjl : j < l1.length := by omega
    obtain ⟨g, hg, _⟩ := (HT2.out wr HW.out).2.1.ups.at hlen hjl
    have HEl : Hid (∀ W, Below w10.heap.size w10 W → W.cell? ⟨g, j * 4, none⟩ = some (.string (l1[j]).u.id) ∧ W.cell? ⟨g, j * 4 + 1, none⟩ = some (.int .i64 (l1[j]).u.want) ∧ W.cell? ⟨g, j * 4 + 2, none⟩ = some (.slice (l1[j]).a (l1[j]).n (l1[j]).c) ∧ W.cell? ⟨g, j * 4 + 3, none⟩ = some (.bool (l1[j]).u.done) ∧ Seg W (l1[j]).a (l1[j]).n (l1[j]).u.zs) := fun W h => by
      obtain ⟨g', hg', h0, h1, h2, h3, _⟩ := (HT2.out W h).2.1.ups.at hlen hjl
      rw [hg] at hg'
      injection hg' with hg'
      injection hg' with hg' _ _
      subst hg'
      exact ⟨h0, h1, h2, h3, ((HT2.out W h).2.1.ups.2.1 _ (List.getElem_mem hjl)).seg⟩
    have HSa : Hid (∃ q, atU (l4.map UE.u) (l1[j]).u.id = some q ∧ gotU (l4.map UE.u) (l1[j]).u.id = (l1[j]).u) := by
      obtain ⟨q, h1, h2⟩ := HLa.out.same _ (List.mem_map_of_mem (f := UE.u) (List.getElem_mem hjl))
      rw [← HU4.out] at h1 h2
      exact ⟨q, h1, gotU_at h1 h2⟩
    have hxn : (l1[j]).n ≤ 4800 := HPn1.out _ (List.getElem_mem hjl)
    subst hg
    generalize l1[j] = x at *
    clear hlen hjl
    have HZx : Hid (x.u.zs.length = x.n) := (HEl.out wr HW.out).2.2.2.2.1
    have HCU : Hid (∀ W, Below w10.heap.size w10 W → Calls Tryz.prog 13 #[.agg #[.slice a4 FX.length c4, .slice a4' FX.length c4', .int .i64 ep4, .int .i64 nx4, .slice u4 usj.length uc4], .string x.u.id] W fun e w' => (∃ UA UC, e = .returned (.tuple #[.agg #[.string x.u.id, .int .i64 x.u.want, .slice UA x.n UC, .bool x.u.done], .bool true]) ∧ Owns w' W.heap.size UA x.n UC x.u.zs) ∧ Below W.heap.size W w') := fun W h => by
      obtain ⟨q, h1, h2⟩ := HSa.out
      refine (implUpAt_any a4 FX.length c4 a4' FX.length c4' ep4 nx4 u4 usj.length uc4 w8.heap.size l4 x.u.id W (HT2.out W h).2.2.2.1 HPl.out (by omega) (fun e he => by have := HPz.out e he; omega)).mono ?_
      rintro e w' ⟨⟨UA, UC, rfl, hown⟩, hb⟩
      rw [h2, HZx.out] at hown
      rw [h2, HZx.out, h1]
      exact ⟨⟨UA, UC, rfl, hown⟩, hb⟩
    have HS7 : Hid (∀ W, Below w10.heap.size w10 W → W.cell? ⟨p, 0, none⟩ = some (.slice a4 FX.length c4) ∧ W.cell? ⟨p, 1, none⟩ = some (.slice a4' FX.length c4') ∧ W.cell? ⟨p, 2, none⟩ = some (.int .i64 ep4) ∧ W.cell? ⟨p, 3, none⟩ = some (.int .i64 nx4) ∧ W.cell? ⟨p, 4, none⟩ = some (.slice u4 usj.length uc4) ∧ W.cell? ⟨b3, 4, none⟩ = some (.slice (some ⟨g, 0, none⟩) M uc1) ∧ W.cell? ⟨g, j * 4, none⟩ = some (.string x.u.id)) := fun W h => ⟨(HT2.out W h).2.2.1.cell 0 rfl, (HT2.out W h).2.2.1.cell 1 rfl, (HT2.out W h).2.2.1.cell 2 rfl, (HT2.out W h).2.2.1.cell 3 rfl, (HT2.out W h).2.2.1.cell 4 rfl, (HT2.out W h).1.cell 4 rfl, (HEl.out W h).1⟩
    clear HSa s4
    have s4 := (HT2.out wr HW.out).1.cell 4 rfl
    go_upto_region 12 with fail
    go_cut [9, 10] from 71 to 117 (fun v9 v10 W => ∃ (q : Nat) (UA : Option Addr) (UC lo2 : Nat), v9 = .pointer (some ⟨q, 0, none⟩) ∧ v10 = .bool true ∧ Hid (BoxN W q 42 [.string x.u.id, .int .i64 x.u.want, .slice UA x.n UC, .bool x.u.done]) ∧ Hid (Owns W lo2 UA x.n UC x.u.zs) ∧ Hid (Below w10.heap.size w10 W))
    case first =>
      have hB0 : Hid (Below w10.heap.size w10 wr.drew) := HW.out.drew
      have hB0a : Hid (∀ o, Below w10.heap.size w10 ((wr.alloc o).drew)) := fun o => (HW.out.alloc HW.out.size o).drew
      have hB0z : Hid (Below w10.heap.size w10 (wr.drew.alloc (.cells #[.string ⟨#[]⟩, .int .i64 0, .slice none 0 0, .bool false] 42))) := hB0.out.alloc hB0.out.size _
      have hwr : w10.heap.size ≤ wr.heap.size := HW.out.size
      have c0 := (HS7.out _ hB0.out).1
      have c1_ := (HS7.out _ hB0.out).2.1
      have c2_ := (HS7.out _ hB0.out).2.2.1
      have c3_ := (HS7.out _ hB0.out).2.2.2.1
      have c4_ := (HS7.out _ hB0.out).2.2.2.2.1
      have c5_ := (HS7.out _ hB0.out).2.2.2.2.2.1
      have c6_ := (HS7.out _ hB0.out).2.2.2.2.2.2
      go_region_held3 (fun W => W.cell? ⟨p, 0, none⟩ = some (.slice a4 FX.length c4) ∧ W.cell? ⟨p, 1, none⟩ = some (.slice a4' FX.length c4') ∧ W.cell? ⟨p, 2, none⟩ = some (.int .i64 ep4) ∧ W.cell? ⟨p, 3, none⟩ = some (.int .i64 nx4) ∧ W.cell? ⟨p, 4, none⟩ = some (.slice u4 usj.length uc4) ∧ W.cell? ⟨b3, 4, none⟩ = some (.slice (some ⟨g, 0, none⟩) M uc1) ∧ W.cell? ⟨g, j * 4, none⟩ = some (.string x.u.id)) (first | with_reducible exact HS7.out _ hB0.out | with_reducible exact HS7.out _ (hB0a.out _) | with_reducible exact HS7.out _ hB1.out | with_reducible exact HS7.out _ (hB1a.out _) | with_reducible exact HS7.out _ (hB1s.out _ _ _ _)) (first
        | (go_at_call 13
           first
             | (refine (HCU.out wr.drew hB0.out).mono ?_; rintro e y1 ⟨⟨UA, UC, rfl, hown⟩, hb1⟩
                have hB1 : Hid (Below w10.heap.size w10 y1) := hB0.out.trans (hb1.mono hB0.out.size))
             | (refine (HCU.out (wr.drew.alloc (.cells #[.string ⟨#[]⟩, .int .i64 0, .slice none 0 0, .bool false] 42)) hB0z.out).mono ?_; rintro e y1 ⟨⟨UA, UC, rfl, hown⟩, hb1⟩
                have hB1 : Hid (Below w10.heap.size w10 y1) := hB0z.out.trans (hb1.mono hB0z.out.size)
                have HZ1 : Hid (BoxN y1 wr.heap.size 42 [.string ⟨#[]⟩, .int .i64 0, .slice none 0 0, .bool false] ∧ w10.heap.size ≤ wr.heap.size) := ⟨BoxN.stays (BoxN.new wr.drew 42 [.string ⟨#[]⟩, .int .i64 0, .slice none 0 0, .bool false]) hb1, hwr⟩
                have z0 := BoxN.cell HZ1.out.1 0 rfl
                have z1 := BoxN.cell HZ1.out.1 1 rfl
                have z2 := BoxN.cell HZ1.out.1 2 rfl
                have z3 := BoxN.cell HZ1.out.1 3 rfl
                have g0 := BoxN.frozen HZ1.out.1 0
                have g1 := BoxN.frozen HZ1.out.1 1
                have g2 := BoxN.frozen HZ1.out.1 2
                have g3 := BoxN.frozen HZ1.out.1 3
                have hB1s : Hid (∀ v0 v1 v2 v3, Below w10.heap.size w10 ((((y1.setCell ⟨wr.heap.size, 0, none⟩ v0).setCell ⟨wr.heap.size, 1, none⟩ v1).setCell ⟨wr.heap.size, 2, none⟩ v2).setCell ⟨wr.heap.size, 3, none⟩ v3)) := fun v0 v1 v2 v3 => far4B hB1.out HZ1.out.2 v0 v1 v2 v3)
           have hB1a : Hid (∀ o, Below w10.heap.size w10 (y1.alloc o)) := fun o => hB1.out.alloc hB1.out.size o
           have HOw := (show Hid _ from hown)
           clear hown)
        | fail)
      all_goals
        first
          | (have HU := upu4 HZ1.out rfl hB1.out HOw.out x.u.id x.u.want x.u.done)
          | (have HU := upuNew hB1.out hB1.out.size HOw.out x.u.id x.u.want x.u.done)
        have H1 := (show Hid _ from HU.1)
        have H2 := (show Hid _ from HU.2.1)
        have H3 := (show Hid _ from HU.2.2)
        clear HU HOw hB0 hB0a hB0z hB1 hB1a hb1 c0 c1_ c2_ c3_ c4_ c5_ c6_ HS7 HCU
        go_wp2_with fail
        go_meet
        exact ⟨_, UA, UC, _, rfl, rfl, H1, H2, H3⟩
    case rest =>
    obtain ⟨wd, hwd⟩ : ∃ wd, wc = wd := ⟨_, rfl⟩
    rw [hwd] at hcut ⊢
    clear hwd HS7 HCU s4
    obtain ⟨q, UA, UC, lo2, rfl, rfl, HQb, HQo, HQw⟩ := hcut
    have s4 := (HT2.out wd HQw.out).1.cell 4 rfl
    obtain ⟨_, g1, g2, g3, hsg⟩ := HEl.out wd HQw.out
    have HSx : Hid (Seg wd x.a x.n x.u.zs) := hsg
    have q1 := HQb.out.cell 1 rfl
    have q2 := HQb.out.cell 2 rfl
    have q3 := HQb.out.cell 3 rfl
    clear hsg
    have HSt : Hid (∀ k : Nat, Calls Tryz.prog 14 #[.slice UA x.n UC, .slice x.a x.n x.c] (wd.drewN k) fun e w' => e = .returned (.bool true) ∧ ∃ n, w' = (wd.drewN k).drewN n) := fun k => sameB_same UA x.a x.n UC x.c x.u.zs _ ((HQo.out.below (below_drewN (Below.refl _ _) k)).seg) (HSx.out.below (below_drewN (Below.refl _ _) k)) (by omega)
    have hw1 : (x.u.want != x.u.want) = false := by simp
    have hd1 : (x.u.done != x.u.done) = false := by simp
    go_upto_region 13 with fail
    go_quiet (first | (go_at_call 14; exact Calls.quiet_of (HSt.out _)))
    have HBq : Hid (Below w10.heap.size w10 (wd.drewN nq)) := below_drewN HQw.out nq
    go_wp2_with fail
    go_roundw
    case rel => exact ⟨j + 1, by go_num, by omega, HBq⟩
    case measure => simp [intOf]; omega

end Go.Proofs.YtiigdcpjelbdjaaGreatDoor

namespace Go.Proofs.YtiigdcpjelbdjaaGreatDoor
open Go.RowKit Go.ChangeShapes Go.WideShapes
set_option linter.unusedVariables false

/-- A row of the table, as it is read. -/
def rcD {H : Type} (k : Nat) : DataW H := .agg [.lit (.int .i64 (rMost k)), .lit (.int .i64 (rLo k)), .lit (.int .i64 (rHi k))]

/-- The table, as it is read. -/
def rcTabD {H : Type} : DataW H := .agg ((List.range 5).map rcD)

theorem rcInt_of {H : Type} {enc : TypeId × Value → H} {w : World} {base fuel : Nat} {sp : Nat → Bool} {held : Bool} {x : Value} {n : Int} {p : List MemPlace}
    (h : DataW.trod enc Tryz.prog w base sp held fuel 3 [x] = some (.lit (.int .i64 n), p)) : x = .int .i64 n := by
  obtain ⟨z, e1, e2, _⟩ := DataW.trod_int Tryz.underlying3 h
  simp only [Prod.mk.injEq, DataW.lit.injEq, Lit.int.injEq] at e2
  rw [e2.1.2]
  simpa using e1

theorem rcCellsE : Tryz.prog.cellsOf 126 = 3 := by kernel_rfl
theorem rcCellsI : Tryz.prog.cellsOf 3 = 1 := by kernel_rfl
theorem rcCellsT : Tryz.prog.cellsOf 127 = 15 := by kernel_rfl

theorem rcThree {l : List Value} (h : l.length = 3) : ∃ a b c, l = [a, b, c] := by
  rcases l with _ | ⟨a, _ | ⟨b, _ | ⟨c, _ | ⟨d, r⟩⟩⟩⟩
  · cases h
  · cases h
  · cases h
  · exact ⟨a, b, c, rfl⟩
  · exact absurd h (by simp)

theorem rcRow_of {H : Type} {enc : TypeId × Value → H} {w : World} {base fuel : Nat} {sp : Nat → Bool} {held : Bool} {cs : List Value} {k : Nat} {p : List MemPlace}
    (h : DataW.trod enc Tryz.prog w base sp held fuel 126 cs = some (rcD k, p)) : cs = [.int .i64 (rMost k), .int .i64 (rLo k), .int .i64 (rHi k)] := by
  cases fuel with
  | zero => simp [DataW.trod] at h
  | succ fuel =>
    simp only [DataW.trod, Tryz.underlying126, rcCellsE] at h
    split at h
    · rename_i hl
      obtain ⟨a, b, c, rfl⟩ := rcThree hl
      simp [rcCellsI, rcD, Option.bind_eq_some_iff] at h
      obtain ⟨r1, p1, h1, l, ⟨r2, p2, h2, l2, ⟨r3, p3, h3, rfl⟩, rfl⟩, ⟨e1, e2⟩, _⟩ := h
      simp at e2
      obtain ⟨e2, e3⟩ := e2
      subst e1 e2 e3
      rw [rcInt_of h1, rcInt_of h2, rcInt_of h3]
    · cases h

theorem rcG : Tryz.prog.globalNamed "loop.example/g00199/impl.recForms" = some 0 := by kernel_rfl
theorem rcGT : (Tryz.prog.globals[0]?).map (·.type) = some 127 := by kernel_rfl

theorem recT_of_laid {W : World} {rest : List (String × DataW Unit)} (h : laidMet Tryz.prog (("loop.example/g00199/impl.recForms", rcTabD) :: rest) W) : RecT W := by
  obtain ⟨ps, ⟨g', t', cs, fuel, p, q, hg', ht', hvar, hd, _, _⟩, _⟩ := h
  obtain rfl := Option.some.inj (rcG.symm.trans hg')
  obtain rfl := Option.some.inj (rcGT.symm.trans ht')
  have hcell := fun i => World.var?_cell rcG hvar i
  have hrow : ∀ k, k < 5 → (cs.toList.drop (k * 3)).take 3 = [.int .i64 (rMost k), .int .i64 (rLo k), .int .i64 (rHi k)] := by
    intro k hk
    cases fuel with
    | zero => simp [DataW.trod] at hd
    | succ fuel =>
      simp only [DataW.trod, Tryz.underlying127, rcCellsE, rcCellsT] at hd
      split at hd
      · obtain ⟨xs, hm, hx⟩ := Option.map_eq_some_iff.1 hd
        have hxs : xs.map (·.1) = (List.range 5).map rcD := by
          have := congrArg Prod.fst hx
          simpa [rcTabD] using this
        obtain ⟨b, hb, hf⟩ := Lib.mapM_at hm k k (by simp [hk])
        have h2 : (xs.map (·.1))[k]? = some b.1 := by simp [hb]
        rw [hxs, List.getElem?_map, List.getElem?_range hk] at h2
        simp only [Option.map_some, Option.some.injEq] at h2
        obtain ⟨b1, b2⟩ := b
        dsimp only at h2
        subst h2
        exact rcRow_of hf
      · cases hd
  refine ⟨?_, fun k hk => ?_⟩
  · have h0 := hrow 0 (by omega)
    have := hcell 0
    have h1 : cs[0]? = some (.int .i64 (rMost 0)) := by
      have := congrArg (·[0]?) h0
      simpa using this
    rw [h1] at this
    exact lt_of_cell this
  · have h0 := hrow k (by omega)
    rw [hcell, hcell, hcell]
    have h1 := congrArg (·[0]?) h0
    have h2 := congrArg (·[1]?) h0
    have h3 := congrArg (·[2]?) h0
    simp only [List.getElem?_take, List.getElem?_drop] at h1 h2 h3
    simp at h1 h2 h3
    exact ⟨h1, h2, h3⟩

end Go.Proofs.YtiigdcpjelbdjaaGreatDoor

namespace Go.Proofs.YtiigdcpjelbdjaaGreatDoor
open Go.RowKit
set_option linter.unusedVariables false

theorem errG : Tryz.prog.globalNamed "loop.example/g00199/impl.errNoFit" = some 1 := by kernel_rfl

theorem errN_of_var {W : World} (h : ∃ t p, W.var? Tryz.prog "loop.example/g00199/impl.errNoFit" = some #[.iface t p]) : ErrN W := by
  obtain ⟨t, p, h⟩ := h
  have c := World.var?_cell errG h 0
  have c' : W.cell? ⟨1, 0, none⟩ = some (.iface t p) := by rw [c]; rfl
  refine ⟨?_, t, p, c'⟩
  rw [World.var?, errG] at h
  cases hg : W.heap[(1 : Nat)]? with
  | none => simp [hg] at h
  | some o => exact (Array.getElem?_eq_some_iff.1 hg).1

end Go.Proofs.YtiigdcpjelbdjaaGreatDoor
