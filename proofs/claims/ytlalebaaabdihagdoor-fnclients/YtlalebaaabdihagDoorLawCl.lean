/- The law that a drawn client's request is right; told how far it is it goes on from there; cut off it asks. -/
import Derived.Test.YtlalebaaabdihagDoorDrawClH
import Derived.Test.YtlalebaaabdihagDoorCrcNxt
import Derived.Test.YtlalebaaabdihagDoorHearI
import Derived.Test.YtlalebaaabdihagDoorCutI
import Derived.Test.YtlalebaaabdihagDoorNextI
import Derived.Test.YtlalebaaabdihagDoorReqTabI
import Derived.Test.YtlalebaaabdihagDoorSameB
import Derived.Test.YtlalebaaabdihagDoorLawBig
import Derived.Test.YtlalebaaabdihagDoorSegCut
import Derived.BigQuiet
namespace Go.Proofs.YtlalebaaabdihagDoor
open Go.RowKit
set_option linter.unusedVariables false

set_option maxRecDepth 10000 in
set_option maxHeartbeats 12800000 in
theorem lawClients_any (a : Option Addr) (len cap : Nat) (zs : List Int) (w : World) (hm : len ≤ maxLen) (hs : Seg w a len zs) (ht : TurnT w) (hmt : MethT w) :
    Calls Tryd.prog 3 #[.slice a len cap] w fun e w' => e = .returned (.bool true) ∧ Below w.heap.size w w' := by
  have HR : Hid (∀ W, Below w.heap.size w W → TurnT W ∧ MethT W) := fun W h => ⟨ht.below h, hmt.below h⟩
  have HS : Hid (Seg w a len zs) := hs
  clear hs ht hmt
  by_cases hbig : (1048576 : Int) < (len : Int)
  · have hd : Hid (decide ((1048576 : Int) < (len : Int)) = true) := by show _ = _; simpa using hbig
    go_enter Tryd.func3, Tryd.ntmps3
    go_wp2_with fail
    refine (big_any a len cap w hm).mono ?_
    rintro e w1 ⟨rfl, hw1⟩
    subst w1
    rw [hd.out]
    go_wp2_with fail
    go_ret
    exact ⟨rfl, Below.refl _ _⟩
  have hd : Hid (decide ((1048576 : Int) < (len : Int)) = false) := by show _ = _; simpa using hbig
  have hl : len ≤ 1099511627776 := by omega
  have hmx : 1099511627776 ≤ maxLen := by decide
  clear hbig
  go_enter Tryd.func3, Tryd.ntmps3
  go_wp2_with fail
  refine (big_any a len cap w hm).mono ?_
  rintro e w1 ⟨rfl, hw1⟩
  subst w1
  rw [hd.out]
  clear hd
  go_wp2_with fail
  refine (drawHear_any a len cap zs w HS.out hl).mono ?_
  rintro e w2 ⟨⟨id, xa, n, xc, ys, st, off, q, r, rfl, ho, hid, hn⟩, hb2⟩
  have hid2 : id.size ≤ maxLen := by omega
  have hid3 : id.size ≤ 9223372036854775807 := by omega
  obtain ⟨w3, hw3⟩ : ∃ w3, (w2.alloc (.cells #[.string id, .slice xa n xc, .int .i64 st, .int .i64 off] 25)).alloc (.cells #[.int .i64 q, .int .i64 r] 27) = w3 := ⟨_, rfl⟩
  obtain ⟨b3, hb3⟩ : ∃ b3, w2.heap.size = b3 := ⟨_, rfl⟩
  have h23 : Below w2.heap.size w2 w3 := by rw [← hw3]; exact ((Below.refl _ _).alloc (Nat.le_refl _) _).alloc (by simp) _
  have hq3 : BoxN w3 b3 25 [.string id, .slice xa n xc, .int .i64 st, .int .i64 off] := by rw [← hw3, ← hb3]; exact (BoxN.new _ _ _).alloc _
  have hr3 : BoxN w3 (b3 + 1) 27 [.int .i64 q, .int .i64 r] := by
    rw [← hw3, ← hb3]
    have := BoxN.new (w2.alloc (.cells #[.string id, .slice xa n xc, .int .i64 st, .int .i64 off] 25)) 27 [.int .i64 q, .int .i64 r]
    rwa [World.size_alloc] at this
  have HT : Hid (∀ W, Below w3.heap.size w3 W → BoxN W b3 25 [.string id, .slice xa n xc, .int .i64 st, .int .i64 off] ∧ BoxN W (b3 + 1) 27 [.int .i64 q, .int .i64 r] ∧ Owns W w.heap.size xa n xc ys ∧ TurnT W ∧ MethT W ∧ Below w.heap.size w W) := fun W h => by
    have h2 : Below w2.heap.size w2 W := h23.trans (h.mono h23.size)
    have h0 : Below w.heap.size w W := hb2.trans (h2.mono hb2.size)
    exact ⟨hq3.stays h, hr3.stays h, ho.below h2, (HR.out W h0).1, (HR.out W h0).2, h0⟩
  have HA : Hid ((xa = none ∧ n = 0 ∧ xc = 0) ∨ ∃ b o, xa = some ⟨b, o, none⟩ ∧ n ≤ xc) := by
    rcases ho.1.2 with ⟨e, _⟩ | ⟨g, cp, cur, e, _, _, hc, _⟩
    · injection e with e1 e2 e3
      exact .inl ⟨e1, e2, e3⟩
    · injection e with e1 e2 e3
      exact .inr ⟨g, 0, e1, by omega⟩
  have HYs : Hid (∀ x ∈ ys, 0 ≤ x ∧ x ≤ 255) := ho.2
  have Hw3 : Hid (Below w3.heap.size w3 w3) := Below.refl _ _
  have HW3 : Hid (_ = w3) := hw3
  have HBb : Hid (_ = b3) := hb3
  clear hw3 hb3 h23 hq3 hr3 ho hid hb2 HR HS
  go_upto_region 4 with fail
  rw [HW3.out, HBb.out]
  clear HW3 HBb
  obtain ⟨S, hS⟩ : ∃ S, (hearC id n st off q r).1 = S := ⟨_, rfl⟩
  obtain ⟨O, hO⟩ : ∃ O, (hearC id n st off q r).2 = O := ⟨_, rfl⟩
  have HSO : Hid ((hearC id n st off q r).1 = S ∧ (hearC id n st off q r).2 = O) := ⟨hS, hO⟩
  clear hS hO
  have hSS : (S != S) = false := by simp
  have hOO : (O != O) = false := by simp
  have c0 := (HT.out _ Hw3.out).1.cell 0 rfl
  have c1 := (HT.out _ Hw3.out).1.cell 1 rfl
  have c2 := (HT.out _ Hw3.out).1.cell 2 rfl
  have c3 := (HT.out _ Hw3.out).1.cell 3 rfl
  have d0 := (HT.out _ Hw3.out).2.1.cell 0 rfl
  have d1 := (HT.out _ Hw3.out).2.1.cell 1 rfl
  go_wp2_with fail
  refine (implHearR_any id xa n xc ys st off q r w3 (HT.out _ Hw3.out).2.2.1.seg hid2 (by omega) (HT.out _ Hw3.out).2.2.2.1).mono ?_
  rw [HSO.out.1, HSO.out.2]
  rintro e yw5 ⟨⟨pa, pc, rfl, ho⟩, hb⟩
  obtain ⟨w5, hw5⟩ : ∃ w5, yw5.alloc (.cells #[.string id, .slice pa n pc, .int .i64 S, .int .i64 O] 25) = w5 := ⟨_, rfl⟩
  obtain ⟨b5, hb5⟩ : ∃ b5, yw5.heap.size = b5 := ⟨_, rfl⟩
  have hy : Below yw5.heap.size yw5 w5 := by rw [← hw5]; exact (Below.refl _ _).alloc (Nat.le_refl _) _
  have hq : BoxN w5 b5 25 [.string id, .slice pa n pc, .int .i64 S, .int .i64 O] := by rw [← hw5, ← hb5]; exact BoxN.new _ _ _
  have HQp : Hid (BoxN w5 b5 25 [.string id, .slice pa n pc, .int .i64 S, .int .i64 O] ∧ Seg w5 pa n ys) := ⟨hq, (ho.below hy).seg⟩
  have HGw5 : Hid (Below w3.heap.size w3 w5) := hb.trans (hy.mono hb.size)
  have Hw5 : Hid (Below w3.heap.size w3 w5) := Hw3.out.trans (HGw5.out.mono Hw3.out.size)
  have HE1 : Hid (_ = w5) := hw5
  have HE2 : Hid (_ = b5) := hb5
  clear hw5 hb5 hy hq ho hb c0 c1 c2 c3 d0 d1
  go_upto_region 5 with fail
  rw [HE1.out, HE2.out]
  clear HE1 HE2
  have c0 := (HT.out _ Hw5.out).1.cell 0 rfl
  have c1 := (HT.out _ Hw5.out).1.cell 1 rfl
  have c2 := (HT.out _ Hw5.out).1.cell 2 rfl
  have c3 := (HT.out _ Hw5.out).1.cell 3 rfl
  have d0 := (HT.out _ Hw5.out).2.1.cell 0 rfl
  have d1 := (HT.out _ Hw5.out).2.1.cell 1 rfl
  go_wp2_with fail
  refine (specHearR_any id xa n xc ys st off q r w5 (HT.out _ Hw5.out).2.2.1.seg hid2 (by omega)).mono ?_
  rw [HSO.out.1, HSO.out.2]
  rintro e yw7 ⟨⟨sa, sc, rfl, ho⟩, hb⟩
  obtain ⟨w7, hw7⟩ : ∃ w7, yw7.alloc (.cells #[.string id, .slice sa n sc, .int .i64 S, .int .i64 O] 25) = w7 := ⟨_, rfl⟩
  obtain ⟨b7, hb7⟩ : ∃ b7, yw7.heap.size = b7 := ⟨_, rfl⟩
  have hy : Below yw7.heap.size yw7 w7 := by rw [← hw7]; exact (Below.refl _ _).alloc (Nat.le_refl _) _
  have hq : BoxN w7 b7 25 [.string id, .slice sa n sc, .int .i64 S, .int .i64 O] := by rw [← hw7, ← hb7]; exact BoxN.new _ _ _
  have HQs : Hid (BoxN w7 b7 25 [.string id, .slice sa n sc, .int .i64 S, .int .i64 O] ∧ Seg w7 sa n ys) := ⟨hq, (ho.below hy).seg⟩
  have HGw7 : Hid (Below w5.heap.size w5 w7) := hb.trans (hy.mono hb.size)
  have Hw7 : Hid (Below w3.heap.size w3 w7) := Hw5.out.trans (HGw7.out.mono Hw5.out.size)
  have HE1 : Hid (_ = w7) := hw7
  have HE2 : Hid (_ = b7) := hb7
  clear hw7 hb7 hy hq ho hb c0 c1 c2 c3 d0 d1
  go_upto_region 6 with fail
  rw [HE1.out, HE2.out]
  clear HE1 HE2
  have HQp7 : Hid (BoxN w7 b5 25 [.string id, .slice pa n pc, .int .i64 S, .int .i64 O] ∧ Seg w7 pa n ys) := ⟨HQp.out.1.stays HGw7.out, HQp.out.2.below HGw7.out⟩
  clear HGw5 HGw7 HQp Hw5
  have c0 := (HT.out _ Hw7.out).1.cell 0 rfl
  have c1 := (HT.out _ Hw7.out).1.cell 1 rfl
  have c2 := (HT.out _ Hw7.out).1.cell 2 rfl
  have c3 := (HT.out _ Hw7.out).1.cell 3 rfl
  have d0 := HQp7.out.1.cell 0 rfl
  have d1 := HQp7.out.1.cell 1 rfl
  have d2 := HQp7.out.1.cell 2 rfl
  have d3 := HQp7.out.1.cell 3 rfl
  have g0 := HQs.out.1.cell 0 rfl
  have g1 := HQs.out.1.cell 1 rfl
  have g2 := HQs.out.1.cell 2 rfl
  have g3 := HQs.out.1.cell 3 rfl
  have hself : (id.toList != id.toList) = false := by simp
  have hself2 : (id.toList == id.toList) = true := by simp
  go_wp2_with fail
  refine (sameB_same pa xa n pc xc ys w7 HQp7.out.2 (HT.out _ Hw7.out).2.2.1.seg (by omega)).mono ?_
  rintro e w8 ⟨rfl, k8, hk8⟩
  have hb8 : Below w7.heap.size w7 w8 := by rw [hk8]; exact below_drewN (Below.refl _ _) _
  have Hw8 : Hid (Below w3.heap.size w3 w8) := Hw7.out.trans (hb8.mono Hw7.out.size)
  have HQp8 : Hid (BoxN w8 b5 25 [.string id, .slice pa n pc, .int .i64 S, .int .i64 O]) := HQp7.out.1.stays hb8
  clear hk8 hb8 HQp7 HQs Hw7 c0 c1 c2 c3 d0 d1 d2 d3 g0 g1 g2 g3
  have c0 := (HT.out _ Hw8.out).1.cell 0 rfl
  have c1 := (HT.out _ Hw8.out).1.cell 1 rfl
  have c2 := (HT.out _ Hw8.out).1.cell 2 rfl
  have c3 := (HT.out _ Hw8.out).1.cell 3 rfl
  have d0 := HQp8.out.cell 0 rfl
  have d1 := HQp8.out.cell 1 rfl
  have d2 := HQp8.out.cell 2 rfl
  have d3 := HQp8.out.cell 3 rfl
  go_wp2_with fail
  refine (implNext_any id xa n xc ys st off w8 (HT.out _ Hw8.out).2.2.1.seg hid2 (by omega) (fun _ _ => HA.out)).mono ?_
  obtain ⟨P0, hP0⟩ : ∃ x, askOp id n st off = x := ⟨_, rfl⟩
  obtain ⟨P1, hP1⟩ : ∃ x, askI id n st off = x := ⟨_, rfl⟩
  obtain ⟨P2, hP2⟩ : ∃ x, askN id n ys st off = x := ⟨_, rfl⟩
  obtain ⟨K, hK⟩ : ∃ x, askK id n st off = x := ⟨_, rfl⟩
  obtain ⟨DZ, hDZ⟩ : ∃ x, askZ id n ys st off = x := ⟨_, rfl⟩
  obtain ⟨B, hB⟩ : ∃ x, wayC id n st off = x := ⟨_, rfl⟩
  have HP : Hid (askOp id n st off = P0 ∧ askI id n st off = P1 ∧ askN id n ys st off = P2 ∧ askK id n st off = K ∧ askZ id n ys st off = DZ ∧ wayC id n st off = B) := ⟨hP0, hP1, hP2, hK, hDZ, hB⟩
  rw [hP0, hP1, hP2, hK, hDZ, hB]
  clear hP0 hP1 hP2 hK hDZ hB
  rintro e y9 ⟨⟨na, nc, rfl, ho⟩, hb⟩
  obtain ⟨w9, hw9⟩ : ∃ w9, y9.alloc (.cells #[.int .i64 P0, .string P1, .int .i64 P2] 33) = w9 := ⟨_, rfl⟩
  obtain ⟨b9, hb9⟩ : ∃ b9, y9.heap.size = b9 := ⟨_, rfl⟩
  have hy : Below y9.heap.size y9 w9 := by rw [← hw9]; exact (Below.refl _ _).alloc (Nat.le_refl _) _
  have hq : BoxN w9 b9 33 [.int .i64 P0, .string P1, .int .i64 P2] := by rw [← hw9, ← hb9]; exact BoxN.new _ _ _
  have hg9 : Below w8.heap.size w8 w9 := hb.trans (hy.mono hb.size)
  have HQ9 : Hid (BoxN w9 b9 33 [.int .i64 P0, .string P1, .int .i64 P2] ∧ Seg w9 na K DZ ∧ BoxN w9 b5 25 [.string id, .slice pa n pc, .int .i64 S, .int .i64 O]) := ⟨hq, (ho.below hy).seg, HQp8.out.stays hg9⟩
  have Hw9 : Hid (Below w3.heap.size w3 w9) := Hw8.out.trans (hg9.mono Hw8.out.size)
  have HE1 : Hid (_ = w9) := hw9
  have HE2 : Hid (_ = b9) := hb9
  clear hw9 hb9 hy hq ho hb hg9 HQp8 Hw8 c0 c1 c2 c3 d0 d1 d2 d3
  go_upto_region 9 with fail
  rw [HE1.out, HE2.out]
  clear HE1 HE2
  have c0 := (HT.out _ Hw9.out).1.cell 0 rfl
  have c1 := (HT.out _ Hw9.out).1.cell 1 rfl
  have c2 := (HT.out _ Hw9.out).1.cell 2 rfl
  have c3 := (HT.out _ Hw9.out).1.cell 3 rfl
  go_wp2_with fail
  refine (specClOk_any id xa n xc st off w9 hid2 (by omega)).mono ?_
  rintro e w10 ⟨rfl, hb10⟩
  have Hw10 : Hid (Below w3.heap.size w3 w10) := Hw9.out.trans (hb10.mono Hw9.out.size)
  have HQ10 : Hid (BoxN w10 b9 33 [.int .i64 P0, .string P1, .int .i64 P2] ∧ Seg w10 na K DZ ∧ BoxN w10 b5 25 [.string id, .slice pa n pc, .int .i64 S, .int .i64 O]) := ⟨HQ9.out.1.stays hb10, HQ9.out.2.1.below hb10, HQ9.out.2.2.stays hb10⟩
  clear hb10 HQ9 Hw9 c0 c1 c2 c3
  cases hok : okC id n st off with
  | false =>
    have hno : ¬ wayC id n st off = true := fun h => by have := (wayC_iff.1 h).1; rw [hok] at this; cases this
    obtain rfl : false = B := by rw [← HP.out.2.2.2.2.2]; exact (Bool.not_eq_true _ ▸ hno).symm
    obtain rfl : 0 = K := by rw [← HP.out.2.2.2.1, askK, if_neg (fun h => hno h.1)]
    have HOK : Hid (okC id n st off = false) := hok
    clear hno hok
    have c0 := (HT.out _ Hw10.out).1.cell 0 rfl
    have c1 := (HT.out _ Hw10.out).1.cell 1 rfl
    have c2 := (HT.out _ Hw10.out).1.cell 2 rfl
    have c3 := (HT.out _ Hw10.out).1.cell 3 rfl
    go_wp2_with fail
    refine (implClOk_any id xa n xc st off w10 hid2 (by omega)).mono ?_
    rw [HOK.out]
    rintro e w11 ⟨rfl, hb11⟩
    have HEn : Hid (Below w.heap.size w w11) := (HT.out _ (Hw10.out.trans (hb11.mono Hw10.out.size))).2.2.2.2.2
    clear hb11
    go_wp2_with fail
    go_ret
    exact ⟨rfl, HEn.out⟩
  | true =>
    have HOK : Hid (okC id n st off = true) := hok
    have hkk := okC_iff.1 hok
    have h400 : n ≤ 400 := hkk.2.1
    have hst1 : 1 ≤ st ∧ st ≤ 6 := hkk.2.2.1
    have hof : 0 ≤ off ∧ off ≤ (n : Int) := hkk.2.2.2
    clear hok hkk
    have c0 := (HT.out _ Hw10.out).1.cell 0 rfl
    have c1 := (HT.out _ Hw10.out).1.cell 1 rfl
    have c2 := (HT.out _ Hw10.out).1.cell 2 rfl
    have c3 := (HT.out _ Hw10.out).1.cell 3 rfl
    go_wp2_with fail
    refine (implCutOff_any id xa n xc ys st off w10 (HT.out _ Hw10.out).2.2.1.seg hid2 (by omega)).mono ?_
    obtain ⟨D, hD⟩ : ∃ x, cutC id n st off = x := ⟨_, rfl⟩
    have HD : Hid (cutC id n st off = D) := hD
    rw [hD]
    clear hD
    rintro e y12 ⟨⟨da, dc, rfl, ho⟩, hb⟩
    obtain ⟨w12, hw12⟩ : ∃ w12, y12.alloc (.cells #[.string id, .slice da n dc, .int .i64 D, .int .i64 off] 25) = w12 := ⟨_, rfl⟩
    obtain ⟨b12, hb12⟩ : ∃ b12, y12.heap.size = b12 := ⟨_, rfl⟩
    have hy : Below y12.heap.size y12 w12 := by rw [← hw12]; exact (Below.refl _ _).alloc (Nat.le_refl _) _
    have hq : BoxN w12 b12 25 [.string id, .slice da n dc, .int .i64 D, .int .i64 off] := by rw [← hw12, ← hb12]; exact BoxN.new _ _ _
    have hg : Below w10.heap.size w10 w12 := hb.trans (hy.mono hb.size)
    have HQ12 : Hid (BoxN w12 b9 33 [.int .i64 P0, .string P1, .int .i64 P2] ∧ Seg w12 na K DZ ∧ BoxN w12 b5 25 [.string id, .slice pa n pc, .int .i64 S, .int .i64 O] ∧ BoxN w12 b12 25 [.string id, .slice da n dc, .int .i64 D, .int .i64 off]) := ⟨HQ10.out.1.stays hg, HQ10.out.2.1.below hg, HQ10.out.2.2.stays hg, hq⟩
    have Hw12 : Hid (Below w3.heap.size w3 w12) := Hw10.out.trans (hg.mono Hw10.out.size)
    have HE1 : Hid (_ = w12) := hw12
    have HE2 : Hid (_ = b12) := hb12
    clear hw12 hb12 hy hq ho hb hg HQ10 Hw10 c0 c1 c2 c3
    go_upto_region 12 with fail
    rw [HE1.out, HE2.out]
    clear HE1 HE2
    have c0 := (HT.out _ Hw12.out).1.cell 0 rfl
    have c1 := (HT.out _ Hw12.out).1.cell 1 rfl
    have c2 := (HT.out _ Hw12.out).1.cell 2 rfl
    have c3 := (HT.out _ Hw12.out).1.cell 3 rfl
    have d0 := HQ12.out.2.2.1.cell 0 rfl
    have d1 := HQ12.out.2.2.1.cell 1 rfl
    have d2 := HQ12.out.2.2.1.cell 2 rfl
    have d3 := HQ12.out.2.2.1.cell 3 rfl
    have g0 := HQ12.out.2.2.2.cell 0 rfl
    have g1 := HQ12.out.2.2.2.cell 1 rfl
    have g2 := HQ12.out.2.2.2.cell 2 rfl
    have g3 := HQ12.out.2.2.2.cell 3 rfl
    have k0 := HQ12.out.1.cell 0 rfl
    have k1 := HQ12.out.1.cell 1 rfl
    have k2 := HQ12.out.1.cell 2 rfl
    have HHe : Hid (okC id n S O = true) := by
      have h := okC_hear (q := q) (r := r) HOK.out
      rw [HSO.out.1, HSO.out.2] at h
      exact h
    by_cases hov : st = 5 ∨ st = 6
    · have hno : ¬ wayC id n st off = true := fun h => by have := wayC_iff.1 h; omega
      obtain rfl : false = B := by rw [← HP.out.2.2.2.2.2]; exact (Bool.not_eq_true _ ▸ hno).symm
      obtain rfl : st = D := by rw [← HD.out, cutC, if_neg hno]
      clear hno
      have hdd : (st != st) = false := by simp
      rcases hov with rfl | rfl
      all_goals
        go_wp2_with fail
        refine (implClOk_any id pa n pc S O w12 hid2 (by omega)).mono ?_
        rw [HHe.out]
        rintro e w13 ⟨rfl, hb13⟩
        have HEn : Hid (Below w.heap.size w w13) := (HT.out _ (Hw12.out.trans (hb13.mono Hw12.out.size))).2.2.2.2.2
        clear hb13
        go_wp2_with fail
        go_ret
        exact ⟨rfl, HEn.out⟩
    · have hwy : wayC id n st off = true := wayC_iff.2 ⟨HOK.out, by omega, by omega⟩
      obtain rfl : true = B := by rw [← HP.out.2.2.2.2.2]; exact hwy.symm
      obtain rfl : (2 : Int) = D := by rw [← HD.out, cutC, if_pos hwy]
      obtain rfl : st = P0 := by rw [← HP.out.1, askOp, if_pos hwy]
      obtain rfl : id = P1 := by rw [← HP.out.2.1, askI, if_pos hwy]
      have HRq : Hid (reqB st id.data.toList P2 = true) := by
        have h := reqB_next (zs := ys) HYs.out hwy
        rw [HP.out.2.2.1] at h
        exact h
      have HWy : Hid (wayC id n st off = true) := hwy
      have e5 : (st == 5) = false := by simp; omega
      have e6 : (st == 6) = false := by simp; omega
      clear hwy
      by_cases h3 : st = 3
      case neg =>
        have e3 : (st != 3) = true := by simpa using h3
        clear h3
        go_wp2_with fail
        refine (implReqOk_any st id P2 w12 hid3 (HT.out _ Hw12.out).2.2.2.2.1).mono ?_
        rw [HRq.out]
        rintro e w13 ⟨rfl, hb13⟩
        have Hw13 : Hid (Below w3.heap.size w3 w13) := Hw12.out.trans (hb13.mono Hw12.out.size)
        have HQ13 : Hid (BoxN w13 b9 33 [.int .i64 st, .string id, .int .i64 P2] ∧ Seg w13 na K DZ ∧ BoxN w13 b5 25 [.string id, .slice pa n pc, .int .i64 S, .int .i64 O] ∧ BoxN w13 b12 25 [.string id, .slice da n dc, .int .i64 2, .int .i64 off]) := ⟨HQ12.out.1.stays hb13, HQ12.out.2.1.below hb13, HQ12.out.2.2.1.stays hb13, HQ12.out.2.2.2.stays hb13⟩
        clear hb13 c0 c1 c2 c3 d0 d1 d2 d3 g0 g1 g2 g3 k0 k1 k2
        have c0 := (HT.out _ Hw13.out).1.cell 0 rfl
        have c1 := (HT.out _ Hw13.out).1.cell 1 rfl
        have c2 := (HT.out _ Hw13.out).1.cell 2 rfl
        have c3 := (HT.out _ Hw13.out).1.cell 3 rfl
        have d0 := HQ13.out.2.2.1.cell 0 rfl
        have d1 := HQ13.out.2.2.1.cell 1 rfl
        have d2 := HQ13.out.2.2.1.cell 2 rfl
        have d3 := HQ13.out.2.2.1.cell 3 rfl
        have g0 := HQ13.out.2.2.2.cell 0 rfl
        have g1 := HQ13.out.2.2.2.cell 1 rfl
        have g2 := HQ13.out.2.2.2.cell 2 rfl
        have g3 := HQ13.out.2.2.2.cell 3 rfl
        have k0 := HQ13.out.1.cell 0 rfl
        have k1 := HQ13.out.1.cell 1 rfl
        have k2 := HQ13.out.1.cell 2 rfl
        go_wp2_with fail
        refine (implClOk_any id pa n pc S O w13 hid2 (by omega)).mono ?_
        rw [HHe.out]
        rintro e w14 ⟨rfl, hb14⟩
        have Hw14 : Hid (Below w3.heap.size w3 w14) := Hw13.out.trans (hb14.mono Hw13.out.size)
        have HQ14 : Hid (BoxN w14 b9 33 [.int .i64 st, .string id, .int .i64 P2] ∧ Seg w14 na K DZ) := ⟨HQ13.out.1.stays hb14, HQ13.out.2.1.below hb14⟩
        clear hb14 c0 c1 c2 c3 d0 d1 d2 d3 g0 g1 g2 g3 k0 k1 k2 HQ13
        have c0 := (HT.out _ Hw14.out).1.cell 0 rfl
        have c1 := (HT.out _ Hw14.out).1.cell 1 rfl
        have c2 := (HT.out _ Hw14.out).1.cell 2 rfl
        have c3 := (HT.out _ Hw14.out).1.cell 3 rfl
        have k0 := HQ14.out.1.cell 0 rfl
        have k1 := HQ14.out.1.cell 1 rfl
        have k2 := HQ14.out.1.cell 2 rfl
        go_wp2_with fail
        go_ret
        exact ⟨rfl, (HT.out _ Hw14.out).2.2.2.2.2⟩
      subst h3
      obtain rfl : off = P2 := by rw [← HP.out.2.2.1, askN, if_pos HWy.out]; rfl
      obtain ⟨f, rfl⟩ : ∃ f : Nat, off = (f : Int) := ⟨off.toNat, by omega⟩
      have hKK : K = pieceK n f := by rw [← HP.out.2.2.2.1, askK, if_pos ⟨HWy.out, rfl⟩]
      have hDD : DZ = pieceC ys f := by rw [← HP.out.2.2.2.2.1, askZ, if_pos ⟨HWy.out, rfl⟩]
      have hkm : pieceK n f = min 24 (n - f) := rfl
      obtain ⟨t, ht⟩ : ∃ t, f + K = t := ⟨_, rfl⟩
      have t1 : f ≤ t := by omega
      have t2 : t ≤ n := by omega
      have t4 : t - f ≤ 24 := by omega
      have e24 : (f : Int) + ((t - f : Nat) : Int) = (t : Int) := by omega
      have hK2 : K = t - f := by omega
      have hoo : ((f : Int) == (f : Int)) = true := by simp
      have HDZ : Hid (DZ = (ys.drop f).take (t - f)) := by
        show _ = _
        rw [hDD, pieceC, Int.toNat_natCast]
        by_cases h5 : 24 ≤ n - f
        · rw [show t - f = 24 by omega]
        · have hl : (ys.drop f).length = n - f := by rw [List.length_drop, (HT.out _ Hw12.out).2.2.1.seg.1]
          rw [List.take_of_length_le (by omega), List.take_of_length_le (by omega)]
      clear hKK hDD hkm ht
      rcases HA.out with ⟨rfl, rfl, rfl⟩ | ⟨b, o, rfl, hxc⟩
      · obtain rfl : f = 0 := by omega
        obtain rfl : t = 0 := by omega
        obtain rfl : K = 0 := by omega
        obtain rfl : DZ = [] := by rw [HDZ.out]; simp
        clear e24 t1 t2 t4 hK2
        go_wp2_with fail
        refine (implReqOk_any 3 id 0 w12 hid3 (HT.out _ Hw12.out).2.2.2.2.1).mono ?_
        rw [show reqB 3 id.data.toList 0 = true from HRq.out]
        rintro e w13 ⟨rfl, hb13⟩
        have Hw13 : Hid (Below w3.heap.size w3 w13) := Hw12.out.trans (hb13.mono Hw12.out.size)
        have HQ13 : Hid (BoxN w13 b9 33 [.int .i64 3, .string id, .int .i64 0] ∧ Seg w13 na 0 [] ∧ BoxN w13 b5 25 [.string id, .slice pa 0 pc, .int .i64 S, .int .i64 O] ∧ BoxN w13 b12 25 [.string id, .slice da 0 dc, .int .i64 2, .int .i64 0]) := ⟨HQ12.out.1.stays hb13, HQ12.out.2.1.below hb13, HQ12.out.2.2.1.stays hb13, HQ12.out.2.2.2.stays hb13⟩
        clear hb13 c0 c1 c2 c3 d0 d1 d2 d3 g0 g1 g2 g3 k0 k1 k2
        have c0 := (HT.out _ Hw13.out).1.cell 0 rfl
        have c1 := (HT.out _ Hw13.out).1.cell 1 rfl
        have c2 := (HT.out _ Hw13.out).1.cell 2 rfl
        have c3 := (HT.out _ Hw13.out).1.cell 3 rfl
        have d0 := HQ13.out.2.2.1.cell 0 rfl
        have d1 := HQ13.out.2.2.1.cell 1 rfl
        have d2 := HQ13.out.2.2.1.cell 2 rfl
        have d3 := HQ13.out.2.2.1.cell 3 rfl
        have g0 := HQ13.out.2.2.2.cell 0 rfl
        have g1 := HQ13.out.2.2.2.cell 1 rfl
        have g2 := HQ13.out.2.2.2.cell 2 rfl
        have g3 := HQ13.out.2.2.2.cell 3 rfl
        have k0 := HQ13.out.1.cell 0 rfl
        have k1 := HQ13.out.1.cell 1 rfl
        have k2 := HQ13.out.1.cell 2 rfl
        go_wp2_with fail
        refine (implClOk_any id pa 0 pc S O w13 hid2 (by omega)).mono ?_
        rw [HHe.out]
        rintro e w14 ⟨rfl, hb14⟩
        have Hw14 : Hid (Below w3.heap.size w3 w14) := Hw13.out.trans (hb14.mono Hw13.out.size)
        have HQ14 : Hid (BoxN w14 b9 33 [.int .i64 3, .string id, .int .i64 0] ∧ Seg w14 na 0 []) := ⟨HQ13.out.1.stays hb14, HQ13.out.2.1.below hb14⟩
        clear hb14 c0 c1 c2 c3 d0 d1 d2 d3 g0 g1 g2 g3 k0 k1 k2 HQ13
        have c0 := (HT.out _ Hw14.out).1.cell 0 rfl
        have c1 := (HT.out _ Hw14.out).1.cell 1 rfl
        have c2 := (HT.out _ Hw14.out).1.cell 2 rfl
        have c3 := (HT.out _ Hw14.out).1.cell 3 rfl
        have k0 := HQ14.out.1.cell 0 rfl
        have k1 := HQ14.out.1.cell 1 rfl
        have k2 := HQ14.out.1.cell 2 rfl
        go_wp2_with fail
        refine (sameB_same na none 0 nc (0) [] w14 HQ14.out.2 ⟨rfl, by simp, .inl rfl⟩ (by omega)).mono ?_
        rintro e w15 ⟨rfl, k15, hk15⟩
        have HEn : Hid (Below w.heap.size w w15) := by rw [hk15]; exact below_drewN (HT.out _ Hw14.out).2.2.2.2.2 _
        clear hk15
        go_wp2_with fail
        go_ret
        exact ⟨rfl, HEn.out⟩
      · subst hK2
        have HSg : Hid (∀ W o', Below w3.heap.size w3 W → (o' = o + f ∨ t - f = 0) → Seg W (some ⟨b, o', none⟩) (t - f) DZ) := fun W o' hb ho => by
          have h := seg_cut (HT.out W hb).2.2.1.seg f (t - f) o' (by omega) ho
          rw [← HDZ.out] at h
          exact h
        have t3 : t ≤ xc := by omega
        by_cases hft : f < t
        · have hfx : f < xc := by omega
          go_wp2_with fail
          refine (implReqOk_any 3 id (f : Int) w12 hid3 (HT.out _ Hw12.out).2.2.2.2.1).mono ?_
          rw [HRq.out]
          rintro e w13 ⟨rfl, hb13⟩
          have Hw13 : Hid (Below w3.heap.size w3 w13) := Hw12.out.trans (hb13.mono Hw12.out.size)
          have HQ13 : Hid (BoxN w13 b9 33 [.int .i64 3, .string id, .int .i64 (f : Int)] ∧ Seg w13 na (t - f) DZ ∧ BoxN w13 b5 25 [.string id, .slice pa n pc, .int .i64 S, .int .i64 O] ∧ BoxN w13 b12 25 [.string id, .slice da n dc, .int .i64 2, .int .i64 (f : Int)]) := ⟨HQ12.out.1.stays hb13, HQ12.out.2.1.below hb13, HQ12.out.2.2.1.stays hb13, HQ12.out.2.2.2.stays hb13⟩
          clear hb13 c0 c1 c2 c3 d0 d1 d2 d3 g0 g1 g2 g3 k0 k1 k2
          have c0 := (HT.out _ Hw13.out).1.cell 0 rfl
          have c1 := (HT.out _ Hw13.out).1.cell 1 rfl
          have c2 := (HT.out _ Hw13.out).1.cell 2 rfl
          have c3 := (HT.out _ Hw13.out).1.cell 3 rfl
          have d0 := HQ13.out.2.2.1.cell 0 rfl
          have d1 := HQ13.out.2.2.1.cell 1 rfl
          have d2 := HQ13.out.2.2.1.cell 2 rfl
          have d3 := HQ13.out.2.2.1.cell 3 rfl
          have g0 := HQ13.out.2.2.2.cell 0 rfl
          have g1 := HQ13.out.2.2.2.cell 1 rfl
          have g2 := HQ13.out.2.2.2.cell 2 rfl
          have g3 := HQ13.out.2.2.2.cell 3 rfl
          have k0 := HQ13.out.1.cell 0 rfl
          have k1 := HQ13.out.1.cell 1 rfl
          have k2 := HQ13.out.1.cell 2 rfl
          go_wp2_with fail
          refine (implClOk_any id pa n pc S O w13 hid2 (by omega)).mono ?_
          rw [HHe.out]
          rintro e w14 ⟨rfl, hb14⟩
          have Hw14 : Hid (Below w3.heap.size w3 w14) := Hw13.out.trans (hb14.mono Hw13.out.size)
          have HQ14 : Hid (BoxN w14 b9 33 [.int .i64 3, .string id, .int .i64 (f : Int)] ∧ Seg w14 na (t - f) DZ) := ⟨HQ13.out.1.stays hb14, HQ13.out.2.1.below hb14⟩
          clear hb14 c0 c1 c2 c3 d0 d1 d2 d3 g0 g1 g2 g3 k0 k1 k2 HQ13
          have c0 := (HT.out _ Hw14.out).1.cell 0 rfl
          have c1 := (HT.out _ Hw14.out).1.cell 1 rfl
          have c2 := (HT.out _ Hw14.out).1.cell 2 rfl
          have c3 := (HT.out _ Hw14.out).1.cell 3 rfl
          have k0 := HQ14.out.1.cell 0 rfl
          have k1 := HQ14.out.1.cell 1 rfl
          have k2 := HQ14.out.1.cell 2 rfl
          go_wp2_with fail
          refine (sameB_same na (some ⟨b, o + f, none⟩) (t - f) nc (xc - f) DZ w14 HQ14.out.2 (HSg.out _ _ Hw14.out (.inl rfl)) (by omega)).mono ?_
          rintro e w15 ⟨rfl, k15, hk15⟩
          have HEn : Hid (Below w.heap.size w w15) := by rw [hk15]; exact below_drewN (HT.out _ Hw14.out).2.2.2.2.2 _
          clear hk15
          go_wp2_with fail
          go_ret
          exact ⟨rfl, HEn.out⟩
        · obtain rfl : f = t := by omega
          obtain rfl : DZ = [] := by rw [HDZ.out]; simp
          have hff : f - f = 0 := by omega
          have HQ12 : Hid (BoxN w12 b9 33 [.int .i64 3, .string id, .int .i64 (f : Int)] ∧ Seg w12 na 0 [] ∧ BoxN w12 b5 25 [.string id, .slice pa n pc, .int .i64 S, .int .i64 O] ∧ BoxN w12 b12 25 [.string id, .slice da n dc, .int .i64 2, .int .i64 (f : Int)]) := by
            have h := HQ12.out
            rw [hff] at h
            exact h
          rw [hff]
          clear hff e24 HSg HDZ
          by_cases hfx : f < xc
          · skip
            go_wp2_with fail
            refine (implReqOk_any 3 id (f : Int) w12 hid3 (HT.out _ Hw12.out).2.2.2.2.1).mono ?_
            rw [HRq.out]
            rintro e w13 ⟨rfl, hb13⟩
            have Hw13 : Hid (Below w3.heap.size w3 w13) := Hw12.out.trans (hb13.mono Hw12.out.size)
            have HQ13 : Hid (BoxN w13 b9 33 [.int .i64 3, .string id, .int .i64 (f : Int)] ∧ Seg w13 na 0 [] ∧ BoxN w13 b5 25 [.string id, .slice pa n pc, .int .i64 S, .int .i64 O] ∧ BoxN w13 b12 25 [.string id, .slice da n dc, .int .i64 2, .int .i64 (f : Int)]) := ⟨HQ12.out.1.stays hb13, HQ12.out.2.1.below hb13, HQ12.out.2.2.1.stays hb13, HQ12.out.2.2.2.stays hb13⟩
            clear hb13 c0 c1 c2 c3 d0 d1 d2 d3 g0 g1 g2 g3 k0 k1 k2
            have c0 := (HT.out _ Hw13.out).1.cell 0 rfl
            have c1 := (HT.out _ Hw13.out).1.cell 1 rfl
            have c2 := (HT.out _ Hw13.out).1.cell 2 rfl
            have c3 := (HT.out _ Hw13.out).1.cell 3 rfl
            have d0 := HQ13.out.2.2.1.cell 0 rfl
            have d1 := HQ13.out.2.2.1.cell 1 rfl
            have d2 := HQ13.out.2.2.1.cell 2 rfl
            have d3 := HQ13.out.2.2.1.cell 3 rfl
            have g0 := HQ13.out.2.2.2.cell 0 rfl
            have g1 := HQ13.out.2.2.2.cell 1 rfl
            have g2 := HQ13.out.2.2.2.cell 2 rfl
            have g3 := HQ13.out.2.2.2.cell 3 rfl
            have k0 := HQ13.out.1.cell 0 rfl
            have k1 := HQ13.out.1.cell 1 rfl
            have k2 := HQ13.out.1.cell 2 rfl
            go_wp2_with fail
            refine (implClOk_any id pa n pc S O w13 hid2 (by omega)).mono ?_
            rw [HHe.out]
            rintro e w14 ⟨rfl, hb14⟩
            have Hw14 : Hid (Below w3.heap.size w3 w14) := Hw13.out.trans (hb14.mono Hw13.out.size)
            have HQ14 : Hid (BoxN w14 b9 33 [.int .i64 3, .string id, .int .i64 (f : Int)] ∧ Seg w14 na 0 []) := ⟨HQ13.out.1.stays hb14, HQ13.out.2.1.below hb14⟩
            clear hb14 c0 c1 c2 c3 d0 d1 d2 d3 g0 g1 g2 g3 k0 k1 k2 HQ13
            have c0 := (HT.out _ Hw14.out).1.cell 0 rfl
            have c1 := (HT.out _ Hw14.out).1.cell 1 rfl
            have c2 := (HT.out _ Hw14.out).1.cell 2 rfl
            have c3 := (HT.out _ Hw14.out).1.cell 3 rfl
            have k0 := HQ14.out.1.cell 0 rfl
            have k1 := HQ14.out.1.cell 1 rfl
            have k2 := HQ14.out.1.cell 2 rfl
            go_wp2_with fail
            refine (sameB_same na (some ⟨b, o + f, none⟩) 0 nc (xc - f) [] w14 HQ14.out.2 ⟨rfl, by simp, .inl rfl⟩ (by omega)).mono ?_
            rintro e w15 ⟨rfl, k15, hk15⟩
            have HEn : Hid (Below w.heap.size w w15) := by rw [hk15]; exact below_drewN (HT.out _ Hw14.out).2.2.2.2.2 _
            clear hk15
            go_wp2_with fail
            go_ret
            exact ⟨rfl, HEn.out⟩
          · obtain rfl : f = xc := by omega
            go_wp2_with fail
            refine (implReqOk_any 3 id (f : Int) w12 hid3 (HT.out _ Hw12.out).2.2.2.2.1).mono ?_
            rw [HRq.out]
            rintro e w13 ⟨rfl, hb13⟩
            have Hw13 : Hid (Below w3.heap.size w3 w13) := Hw12.out.trans (hb13.mono Hw12.out.size)
            have HQ13 : Hid (BoxN w13 b9 33 [.int .i64 3, .string id, .int .i64 (f : Int)] ∧ Seg w13 na 0 [] ∧ BoxN w13 b5 25 [.string id, .slice pa n pc, .int .i64 S, .int .i64 O] ∧ BoxN w13 b12 25 [.string id, .slice da n dc, .int .i64 2, .int .i64 (f : Int)]) := ⟨HQ12.out.1.stays hb13, HQ12.out.2.1.below hb13, HQ12.out.2.2.1.stays hb13, HQ12.out.2.2.2.stays hb13⟩
            clear hb13 c0 c1 c2 c3 d0 d1 d2 d3 g0 g1 g2 g3 k0 k1 k2
            have c0 := (HT.out _ Hw13.out).1.cell 0 rfl
            have c1 := (HT.out _ Hw13.out).1.cell 1 rfl
            have c2 := (HT.out _ Hw13.out).1.cell 2 rfl
            have c3 := (HT.out _ Hw13.out).1.cell 3 rfl
            have d0 := HQ13.out.2.2.1.cell 0 rfl
            have d1 := HQ13.out.2.2.1.cell 1 rfl
            have d2 := HQ13.out.2.2.1.cell 2 rfl
            have d3 := HQ13.out.2.2.1.cell 3 rfl
            have g0 := HQ13.out.2.2.2.cell 0 rfl
            have g1 := HQ13.out.2.2.2.cell 1 rfl
            have g2 := HQ13.out.2.2.2.cell 2 rfl
            have g3 := HQ13.out.2.2.2.cell 3 rfl
            have k0 := HQ13.out.1.cell 0 rfl
            have k1 := HQ13.out.1.cell 1 rfl
            have k2 := HQ13.out.1.cell 2 rfl
            go_wp2_with fail
            refine (implClOk_any id pa n pc S O w13 hid2 (by omega)).mono ?_
            rw [HHe.out]
            rintro e w14 ⟨rfl, hb14⟩
            have Hw14 : Hid (Below w3.heap.size w3 w14) := Hw13.out.trans (hb14.mono Hw13.out.size)
            have HQ14 : Hid (BoxN w14 b9 33 [.int .i64 3, .string id, .int .i64 (f : Int)] ∧ Seg w14 na 0 []) := ⟨HQ13.out.1.stays hb14, HQ13.out.2.1.below hb14⟩
            clear hb14 c0 c1 c2 c3 d0 d1 d2 d3 g0 g1 g2 g3 k0 k1 k2 HQ13
            have c0 := (HT.out _ Hw14.out).1.cell 0 rfl
            have c1 := (HT.out _ Hw14.out).1.cell 1 rfl
            have c2 := (HT.out _ Hw14.out).1.cell 2 rfl
            have c3 := (HT.out _ Hw14.out).1.cell 3 rfl
            have k0 := HQ14.out.1.cell 0 rfl
            have k1 := HQ14.out.1.cell 1 rfl
            have k2 := HQ14.out.1.cell 2 rfl
            go_wp2_with fail
            refine (sameB_same na (some ⟨b, o, none⟩) 0 nc (0) [] w14 HQ14.out.2 ⟨rfl, by simp, .inl rfl⟩ (by omega)).mono ?_
            rintro e w15 ⟨rfl, k15, hk15⟩
            have HEn : Hid (Below w.heap.size w w15) := by rw [hk15]; exact below_drewN (HT.out _ Hw14.out).2.2.2.2.2 _
            clear hk15
            go_wp2_with fail
            go_ret
            exact ⟨rfl, HEn.out⟩

end Go.Proofs.YtlalebaaabdihagDoor
