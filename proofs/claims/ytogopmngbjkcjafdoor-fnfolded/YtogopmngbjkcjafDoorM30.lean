/- A drawn store. For codes of at most 2^40 bytes. A record in a variable of a draw's; no program in it but its table of types. A drawn record, its number bounded. For codes of at most 2^40 bytes. The draw of a list of records. For codes of at most 2^40 bytes. What the program's fold does: what must fit; the upload that must be there. -/
import Derived.Test.YtogopmngbjkcjafDoorM28
import Derived.Test.YtogopmngbjkcjafDoorM29
import Derived.Test.YtogopmngbjkcjafDoorM02
import Derived.Test.YtogopmngbjkcjafDoorM21
import Derived.Test.YtogopmngbjkcjafDoorM13
import Derived.Test.YtogopmngbjkcjafDoorM13
import Derived.Deep.CutBlock
import Derived.Deep.RegionHeld3
import Derived.Test.YtogopmngbjkcjafDoorM22
import Derived.Test.YtogopmngbjkcjafDoorM22
import Derived.Test.YtogopmngbjkcjafDoorM23
import Derived.Test.YtogopmngbjkcjafDoorM11
import Derived.Test.YtogopmngbjkcjafDoorM05
namespace Go.Proofs.YtogopmngbjkcjafDoor
open Go.RowKit
set_option linter.unusedVariables false

/-- A store in a variable b of a draw's, beside the answer's. -/
structure DSu (w W : World) (B c : Nat) (a : Option Addr) (len cap : Nat) (zs : List Int) (b : Nat) (k : Int) (A : Option Addr) (n C : Nat) (X : List ByteArray) (A' : Option Addr) (n' C' : Nat) (Y : List ByteArray) (ep nx : Int) (ua : Option Addr) (un uc : Nat) (l : List UE) : Prop where
  box : BoxN W b 37 [.slice A n C, .slice A' n' C', .int .i64 ep, .int .i64 nx, .slice ua un uc]
  zero : BoxN W w.heap.size 37 [.slice none 0 0, .slice none 0 0, .int .i64 0, .int .i64 0, .slice none 0 0]
  sto : StoAt W (w.heap.size + 1) A n C X A' n' C' Y ua un uc l
  cur : Cur W B c a len cap zs
  grown : w.grownBy W (some c)
  sg : SG k X Y ep nx (l.map UE.u)
  clo : c < w.heap.size
  low : w.heap.size < b

section
variable {w W W' : World} {B c : Nat} {a : Option Addr} {len cap : Nat} {zs : List Int} {b : Nat} {k : Int} {A : Option Addr} {n C : Nat} {X : List ByteArray} {A' : Option Addr} {n' C' : Nat} {Y : List ByteArray} {ep nx : Int} {ua : Option Addr} {un uc : Nat} {l : List UE}

theorem DSu.call (h : DSu w W B c a len cap zs b k A n C X A' n' C' Y ep nx ua un uc l) (hc : Cur W' B c a len cap zs) (hg : W.grownBy W' (some c)) : DSu w W' B c a len cap zs b k A n C X A' n' C' Y ep nx ua un uc l := by
  have h1 := h.clo
  have h2 := h.low
  exact ⟨h.box.grown hg (fun e => by injection e with e; omega), h.zero.grown hg (fun e => by injection e with e; omega), h.sto.moved hg (by omega), hc, gtrans h.grown hg, h.sg, h.clo, h.low⟩

theorem DSu.put (h : DSu w W B c a len cap zs b k A n C X A' n' C' Y ep nx ua un uc l) {A2 : Option Addr} {n2 C2 : Nat} {X2 : List ByteArray} {A2' : Option Addr} {n2' C2' : Nat} {Y2 : List ByteArray} {ep2 nx2 : Int} {ua2 : Option Addr} {un2 uc2 : Nat} {l2 : List UE} {k2 : Int} (hs : StoAt W (w.heap.size + 1) A2 n2 C2 X2 A2' n2' C2' Y2 ua2 un2 uc2 l2) (hsg : SG k2 X2 Y2 ep2 nx2 (l2.map UE.u)) :
    DSu w (((((W.setCell ⟨b, 0, none⟩ (.slice A2 n2 C2)).setCell ⟨b, 1, none⟩ (.slice A2' n2' C2')).setCell ⟨b, 2, none⟩ (.int .i64 ep2)).setCell ⟨b, 3, none⟩ (.int .i64 nx2)).setCell ⟨b, 4, none⟩ (.slice ua2 un2 uc2)) B c a len cap zs b k2 A2 n2 C2 X2 A2' n2' C2' Y2 ep2 nx2 ua2 un2 uc2 l2 := by
  have h1 := h.clo
  have h2 := h.low
  have b0 := h.box
  have b1 := b0.set 0 (.slice A2 n2 C2)
  have b2 := b1.set 1 (.slice A2' n2' C2')
  have b3 := b2.set 2 (.int .i64 ep2)
  have b4 := b3.set 3 (.int .i64 nx2)
  have b5 := b4.set 4 (.slice ua2 un2 uc2)
  refine ⟨b5, ((((h.zero.other (by omega) _).other (by omega) _).other (by omega) _).other (by omega) _).other (by omega) _, ((((hs.setBox b0 _).setBox b1 _).setBox b2 _).setBox b3 _).setBox b4 _, ((((h.cur.put (by omega) _).put (by omega) _).put (by omega) _).put (by omega) _).put (by omega) _, gput (gput (gput (gput (gput h.grown (by omega) _) (by omega) _) (by omega) _) (by omega) _) (by omega) _, hsg, h1, h2⟩

theorem DSu.done (h : DSu w W B c a len cap zs b k A n C X A' n' C' Y ep nx ua un uc l) :
    DrawnS w.heap.size k (.agg #[.slice A n C, .slice A' n' C', .int .i64 ep, .int .i64 nx, .slice ua un uc]) (((((W.setCell ⟨w.heap.size, 0, none⟩ (.slice A n C)).setCell ⟨w.heap.size, 1, none⟩ (.slice A' n' C')).setCell ⟨w.heap.size, 2, none⟩ (.int .i64 ep)).setCell ⟨w.heap.size, 3, none⟩ (.int .i64 nx)).setCell ⟨w.heap.size, 4, none⟩ (.slice ua un uc)) ∧ Cur (((((W.setCell ⟨w.heap.size, 0, none⟩ (.slice A n C)).setCell ⟨w.heap.size, 1, none⟩ (.slice A' n' C')).setCell ⟨w.heap.size, 2, none⟩ (.int .i64 ep)).setCell ⟨w.heap.size, 3, none⟩ (.int .i64 nx)).setCell ⟨w.heap.size, 4, none⟩ (.slice ua un uc)) B c a len cap zs ∧ w.grownBy (((((W.setCell ⟨w.heap.size, 0, none⟩ (.slice A n C)).setCell ⟨w.heap.size, 1, none⟩ (.slice A' n' C')).setCell ⟨w.heap.size, 2, none⟩ (.int .i64 ep)).setCell ⟨w.heap.size, 3, none⟩ (.int .i64 nx)).setCell ⟨w.heap.size, 4, none⟩ (.slice ua un uc)) (some c) := by
  have h1 := h.clo
  have h2 := h.low
  have b0 := h.zero
  have b1 := b0.set 0 (.slice A n C)
  have b2 := b1.set 1 (.slice A' n' C')
  have b3 := b2.set 2 (.int .i64 ep)
  have b4 := b3.set 3 (.int .i64 nx)
  refine ⟨⟨X, Y, ep, nx, l.map UE.u, ⟨A, n, C, A', n', C', ua, un, uc, l, rfl, (((((h.sto.setBox b0 _).setBox b1 _).setBox b2 _).setBox b3 _).setBox b4 _).low (by omega), rfl⟩, h.sg⟩, ((((h.cur.put (by omega) _).put (by omega) _).put (by omega) _).put (by omega) _).put (by omega) _, gput (gput (gput (gput (gput h.grown (by omega) _) (by omega) _) (by omega) _) (by omega) _) (by omega) _⟩
end

set_option maxRecDepth 10000 in
set_option maxHeartbeats 3200000 in
theorem l14Draw_any (B c : Nat) (a : Option Addr) (len cap : Nat) (zs : List Int) (most : Nat) (w : World) (hcur : Cur w B c a len cap zs) (hl : len ≤ 1099511627776) (hm1 : 1 ≤ most) (hm2 : most ≤ 1000) :
    Calls Tryd.prog 9 #[.pointer (some ⟨c, 0, none⟩), .int .i64 (most : Int)] w fun e w' => (∃ v, e = .returned v ∧ DrawnS w.heap.size (most : Int) v w') ∧ Cur w' B c a len cap zs ∧ w.grownBy w' (some c) := by
  have HC : Hid (Cur w B c a len cap zs) := hcur
  clear hcur
  have hcw : c < w.heap.size := HC.out.lt
  obtain ⟨w1, hw1⟩ : ∃ w1, w.alloc (.cells #[.slice none 0 0, .slice none 0 0, .int .i64 0, .int .i64 0, .slice none 0 0] 37) = w1 := ⟨_, rfl⟩
  have HE : Hid (w.alloc (.cells #[.slice none 0 0, .slice none 0 0, .int .i64 0, .int .i64 0, .slice none 0 0] 37) = w1) := hw1
  have HZ1 : Hid (BoxN w1 w.heap.size 37 [.slice none 0 0, .slice none 0 0, .int .i64 0, .int .i64 0, .slice none 0 0]) := by show BoxN _ _ _ _; rw [← hw1]; exact BoxN.new _ _ _
  have HC1 : Hid (Cur w1 B c a len cap zs) := by show Cur _ _ _ _ _ _ _; rw [← hw1]; exact HC.out.new _
  have HG1 : Hid (w.grownBy w1 (some c)) := by show World.grownBy _ _ _; rw [← hw1]; exact World.grownBy_alloc w _ _
  clear hw1 HC
  go_enter Tryd.func9, Tryd.ntmps9
  go_upto_region 1 with fail
  rw [HE.out]
  clear HE
  have hs1 : w.heap.size < w1.heap.size := HZ1.out.lt
  go_wp2_with fail
  refine (l1Int_any B c a len cap zs w1.heap.size 4 4 [30, 30, 8, 0] _ (HC1.out.new _) hl (heap_alloc_new w1 _) (by omega) rfl (by omega) (by omega)).mono ?_
  rintro e w2 ⟨x, rfl, hx, hc2, hg2⟩
  have hN : newN x ≤ 200 := by
    have hx6 : x ≤ 30 := by
      simp only [List.mem_cons, List.not_mem_nil, or_false] at hx
      omega
    rw [newN]
    split <;> omega
  have hg12 : w1.grownBy w2 (some c) := gtrans (World.grownBy_alloc w1 _ _) hg2
  have HSg : Hid (SG 0 (List.replicate (newN x) ⟨#[]⟩) (List.replicate (newN x) ⟨#[]⟩) 0 0 []) := SG.new _ hN
  have HC2 : Hid (Cur w2 B c a len cap zs) := hc2
  have HG2 : Hid (w.grownBy w2 (some c)) := gtrans HG1.out hg12
  have HZ2 : Hid (BoxN w2 w.heap.size 37 [.slice none 0 0, .slice none 0 0, .int .i64 0, .int .i64 0, .slice none 0 0]) := HZ1.out.grown hg12 (fun e => by injection e with e; omega)
  clear hx hN hc2 hg2 hg12 HC1 HG1 HZ1 hs1
  go_wp2_with fail
  refine (specStoreNew_any x w2).mono ?_
  rintro e w3 ⟨⟨v, rfl, hans⟩, hb3⟩
  obtain ⟨A, C, A', C', ua, uc, l, rfl, hs3, hm3⟩ := hans.get
  obtain ⟨X0, hX0⟩ : ∃ X0, List.replicate (newN x) (⟨#[]⟩ : ByteArray) = X0 := ⟨_, rfl⟩
  rw [hX0] at HSg hs3 ⊢
  rw [← hm3] at HSg
  have HD3 : Hid (DSu w (w3.alloc (.cells #[.slice A X0.length C, .slice A' X0.length C', .int .i64 0, .int .i64 0, .slice ua ([] : List U).length uc] 37)) B c a len cap zs w3.heap.size 0 A X0.length C X0 A' X0.length C' X0 0 0 ua ([] : List U).length uc l) := by
    have h2 := HZ2.out.lt
    have hb4 : Below w3.heap.size w3 (w3.alloc (.cells #[.slice A X0.length C, .slice A' X0.length C', .int .i64 0, .int .i64 0, .slice ua ([] : List U).length uc] 37)) := (Below.refl _ _).alloc (Nat.le_refl _) _
    exact ⟨BoxN.new _ _ _, (HZ2.out.stays hb3).stays hb4, (hs3.stays hb4).low h2, (HC2.out.kept (gbelow hb3 none) (by simp)).new _, gnew (gtrans HG2.out (gbelow hb3 _)) _, HSg.out, hcw, Nat.lt_of_lt_of_le h2 hb3.size⟩
  clear hans hs3 hm3 hb3 HC2 HG2 HZ2 HSg hX0
  go_wp2_with fail
  obtain ⟨w4, hw4⟩ : ∃ w4, w3.alloc (.cells #[.slice A X0.length C, .slice A' X0.length C', .int .i64 0, .int .i64 0, .slice ua ([] : List U).length uc] 37) = w4 := ⟨_, rfl⟩
  simp only [List.length_nil] at hw4
  simp only [List.length_nil] at HD3
  rw [hw4] at HD3 ⊢
  clear hw4
  generalize w3.heap.size = b at *
  refine (l1Below_any B c a len cap zs (most : Int) w4 HD3.out.cur hl (by omega) (by omega)).mono ?_
  rintro e w5 ⟨m, rfl, hm0, hmm, hc5, hg5⟩
  obtain ⟨M, rfl⟩ := Int.eq_ofNat_of_zero_le hm0
  have HD5 : Hid (DSu w w5 B c a len cap zs b 0 A X0.length C X0 A' X0.length C' X0 0 0 ua 0 uc l) := HD3.out.call hc5 hg5
  clear hc5 hg5 HD3
  go_wp2_with fail
  go_loopw [6] (fun v wr => ∃ (j : Nat) (K : Int) (A : Option Addr) (n C : Nat) (X : List ByteArray) (A' : Option Addr) (n' C' : Nat) (Y : List ByteArray) (ep nx : Int) (ua : Option Addr) (un uc : Nat) (l : List UE), v = .int .i64 (j : Int) ∧ j ≤ M ∧ Hid (K + (j : Int) ≤ (M : Int)) ∧ Hid (DSu w wr B c a len cap zs b K A n C X A' n' C' Y ep nx ua un uc l)) (fun v _ => (intOf v).toNat)
  case atStart => exact ⟨M, 0, A, X0.length, C, X0, A', X0.length, C', X0, 0, 0, ua, 0, uc, l, rfl, Nat.le_refl _, by show _ ≤ _; omega, HD5⟩
  case round =>
    clear HD5
    obtain ⟨j, K, A, n, C, X, A', n', C', Y, ep, nx, ua, un, uc, l, rfl, hjM, HK, HD⟩ := hrel
    obtain ⟨c0, c1, c2, c3, c4⟩ := (show _ ∧ _ ∧ _ ∧ _ ∧ _ from ⟨HD.out.box.cell 0 rfl, HD.out.box.cell 1 rfl, HD.out.box.cell 2 rfl, HD.out.box.cell 3 rfl, HD.out.box.cell 4 rfl⟩)
    by_cases hj : j = 0
    · subst hj
      obtain ⟨r0, r1, r2, r3, r4⟩ := (show _ ∧ _ ∧ _ ∧ _ ∧ _ from ⟨HD.out.zero.cell 0 rfl, HD.out.zero.cell 1 rfl, HD.out.zero.cell 2 rfl, HD.out.zero.cell 3 rfl, HD.out.zero.cell 4 rfl⟩)
      obtain ⟨f0, f1, f2, f3, f4⟩ := (show _ ∧ _ ∧ _ ∧ _ ∧ _ from ⟨HD.out.zero.frozen 0, HD.out.zero.frozen 1, HD.out.zero.frozen 2, HD.out.zero.frozen 3, HD.out.zero.frozen 4⟩)
      have HR := (show Hid _ from HD.out.done)
      have HKm : Hid (K ≤ (most : Int)) := by show _ ≤ _; have := HK.out; omega
      clear HD
      go_wp2_with fail
      refine bodyPost_ret (v := .agg #[.slice A n C, .slice A' n' C', .int .i64 ep, .int .i64 nx, .slice ua un uc]) (by simp [results, Tryd.f9, go_sem, r0, r1, r2, r3, r4]) rfl ?_
      obtain ⟨X', Y', ep', nx', us', h1, h2⟩ := HR.out.1
      exact ⟨⟨_, rfl, X', Y', ep', nx', us', h1, h2.more HKm.out⟩, HR.out.2⟩
    · have hji : (0 : Int) < (j : Int) := by omega
      have hbl := HD.out.low
      have hbw : b < wr.heap.size := HD.out.box.lt
      go_wp2_with fail
      refine (l14Some_any B c a len cap zs (w.heap.size + 1) K A n C X A' n' C' Y ep nx ua un uc l wr HD.out.cur hl HD.out.sto HD.out.sg (by omega) (by omega)).mono ?_
      rintro e y ⟨⟨v, rfl, X2, Y2, ep2, nx2, us2, hans, hsg⟩, hc2, hg2⟩
      obtain ⟨A2, C2, A2', C2', ua2, uc2, l2, rfl, hs2, hm2⟩ := hans.get
      have hD2 := HD.out.call hc2 hg2
      obtain ⟨m0, m1, m2, m3, m4⟩ := (show _ ∧ _ ∧ _ ∧ _ ∧ _ from ⟨hD2.box.cell 0 rfl, hD2.box.cell 1 rfl, hD2.box.cell 2 rfl, hD2.box.cell 3 rfl, hD2.box.cell 4 rfl⟩)
      obtain ⟨f0, f1, f2, f3, f4⟩ := (show _ ∧ _ ∧ _ ∧ _ ∧ _ from ⟨hD2.box.frozen 0, hD2.box.frozen 1, hD2.box.frozen 2, hD2.box.frozen 3, hD2.box.frozen 4⟩)
      rw [← hm2] at hsg
      have HF : Hid (DSu w (((((y.setCell ⟨b, 0, none⟩ (.slice A2 X2.length C2)).setCell ⟨b, 1, none⟩ (.slice A2' Y2.length C2')).setCell ⟨b, 2, none⟩ (.int .i64 ep2)).setCell ⟨b, 3, none⟩ (.int .i64 nx2)).setCell ⟨b, 4, none⟩ (.slice ua2 us2.length uc2)) B c a len cap zs b (K + 1) A2 X2.length C2 X2 A2' Y2.length C2' Y2 ep2 nx2 ua2 us2.length uc2 l2) := hD2.put hs2 hsg
      have HK2 : Hid (K + 1 + ((j - 1 : Nat) : Int) ≤ (M : Int)) := by show _ ≤ _; have := HK.out; omega
      clear hans hs2 hm2 hsg hc2 hg2 hD2 HD HK c0 c1 c2 c3 c4
      go_wp2_with fail
      go_roundw
      case rel => exact ⟨j - 1, K + 1, _, _, _, _, _, _, _, _, _, _, _, _, _, _, by go_num, by omega, HK2, HF⟩
      case measure => simp [intOf]; omega

set_option maxRecDepth 10000 in
set_option maxHeartbeats 1600000 in
theorem l1Size_any (a : Option Addr) (len cap : Nat) (most : Int) (w : World) (hl : len ≤ 1099511627776) (h0 : 3 ≤ most) (h1 : most ≤ 1000) :
    Calls Tryd.prog 10 #[.slice a len cap, .int .i64 most] w fun e w' => (∃ n : Nat, e = .returned (.int .i64 (n : Int)) ∧ (n : Int) ≤ most) ∧ w' = w := by
  have hq : ((len : Int)).tdiv 12 = ((len / 12 : Nat) : Int) := by rw [Int.tdiv_eq_ediv_of_nonneg (by omega)]; omega
  obtain ⟨Q, hQ⟩ : ∃ Q, len / 12 = Q := ⟨_, rfl⟩
  rw [hQ] at hq
  have hQb : Q ≤ 1099511627776 := by omega
  clear hQ
  go_enter Tryd.func10, Tryd.ntmps10
  by_cases hm : most < 3 + (Q : Int)
  · obtain ⟨m, rfl⟩ := Int.eq_ofNat_of_zero_le (show 0 ≤ most by omega)
    go_wp2_with fail
    go_ret
    exact ⟨⟨m, rfl, Int.le_refl _⟩, rfl⟩
  · go_wp2_with fail
    go_ret
    exact ⟨⟨3 + Q, by congr 1, by omega⟩, rfl⟩

end Go.Proofs.YtogopmngbjkcjafDoor

namespace Go.Proofs.YtogopmngbjkcjafDoor
open Go.RowKit
set_option linter.unusedVariables false

theorem owns_lowV {w : World} {base lo n cap : Nat} {a : Option Addr} {zs : List Int} (h : Owns w base a n cap zs) (hl : lo ≤ base) : Owns w lo a n cap zs := ⟨own_low h.1 hl, h.2⟩

def RV (w W : World) (b : Nat) (e q k : Int) (id : ByteArray) (n : Int) (A : Option Addr) (d C : Nat) (zs : List Int) : Prop :=
  BoxN W b 43 [.int .i64 e, .int .i64 q, .int .i64 k, .string id, .int .i64 n, .slice A d C] ∧ BoxN W w.heap.size 43 [.int .i64 0, .int .i64 0, .int .i64 0, .string ⟨#[]⟩, .int .i64 0, .slice none 0 0] ∧ Owns W (w.heap.size + 1) A d C zs ∧ (∀ q, A.map (·.block) = some q → q ≠ b) ∧ w.heap.size < b

/-- Some record of few bytes, its bytes in memory of its own. -/
def DrawnR (base : Nat) (v : Value) (w' : World) : Prop := ∃ (r : R) (A : Option Addr) (C : Nat), v = .agg #[.int .i64 r.e, .int .i64 r.q, .int .i64 r.k, .string r.id, .int .i64 r.n, .slice A r.zs.length C] ∧ Owns w' base A r.zs.length C r.zs ∧ r.id.size ≤ 9 ∧ r.zs.length ≤ 25

section
variable {w W W' : World} {b : Nat} {e q k : Int} {id : ByteArray} {n : Int} {A : Option Addr} {d C : Nat} {zs : List Int}

theorem RV.grown (h : RV w W b e q k id n A d C zs) {r : Option Nat} (hg : W.grownBy W' r) (hr : ∀ q, r = some q → q < w.heap.size) : RV w W' b e q k id n A d C zs := by
  obtain ⟨h1, h2, h3, h4, h5⟩ := h
  exact ⟨h1.grown hg (fun e => by have := hr _ e; omega), h2.grown hg (fun e => by have := hr _ e; omega), h3.grown hg (fun q e e2 => by have := hr q e; have := (h3.lt q e2).1; omega), h4, h5⟩

theorem RV.new (hq : BoxN W w.heap.size 43 [.int .i64 0, .int .i64 0, .int .i64 0, .string ⟨#[]⟩, .int .i64 0, .slice none 0 0]) (e q k : Int) (id : ByteArray) (n : Int) : RV w (W.alloc (.cells #[.int .i64 e, .int .i64 q, .int .i64 k, .string id, .int .i64 n, .slice none 0 0] 43)) W.heap.size e q k id n none 0 0 [] :=
  ⟨BoxN.new _ _ _, hq.alloc _, ⟨⟨rfl, .inl ⟨rfl, rfl⟩⟩, by simp⟩, by simp, hq.lt⟩

/-- Its number is set. -/
theorem RV.setN (h : RV w W b e q k id n A d C zs) (m : Int) : RV w (W.setCell ⟨b, 4, none⟩ (.int .i64 m)) b e q k id m A d C zs := by
  obtain ⟨h1, h2, h3, h4, h5⟩ := h
  exact ⟨h1.set 4 _, h2.other (by omega) _, owns_set h3 (fun e => h4 b e rfl), h4, h5⟩

theorem RV.setE (h : RV w W b e q k id n A d C zs) (m : Int) : RV w (W.setCell ⟨b, 0, none⟩ (.int .i64 m)) b m q k id n A d C zs := by
  obtain ⟨h1, h2, h3, h4, h5⟩ := h
  exact ⟨h1.set 0 _, h2.other (by omega) _, owns_set h3 (fun e => h4 b e rfl), h4, h5⟩

theorem RV.setQ (h : RV w W b e q k id n A d C zs) (m : Int) : RV w (W.setCell ⟨b, 1, none⟩ (.int .i64 m)) b e m k id n A d C zs := by
  obtain ⟨h1, h2, h3, h4, h5⟩ := h
  exact ⟨h1.set 1 _, h2.other (by omega) _, owns_set h3 (fun e => h4 b e rfl), h4, h5⟩

theorem RV.setK (h : RV w W b e q k id n A d C zs) (m : Int) : RV w (W.setCell ⟨b, 2, none⟩ (.int .i64 m)) b e q m id n A d C zs := by
  obtain ⟨h1, h2, h3, h4, h5⟩ := h
  exact ⟨h1.set 2 _, h2.other (by omega) _, owns_set h3 (fun e => h4 b e rfl), h4, h5⟩

theorem RV.setI (h : RV w W b e q k id n A d C zs) (m : ByteArray) : RV w (W.setCell ⟨b, 3, none⟩ (.string m)) b e q k m n A d C zs := by
  obtain ⟨h1, h2, h3, h4, h5⟩ := h
  exact ⟨h1.set 3 _, h2.other (by omega) _, owns_set h3 (fun e => h4 b e rfl), h4, h5⟩

/-- Its bytes are set. -/
theorem RV.setD (h : RV w W b e q k id n A d C zs) {A' : Option Addr} {d' C' : Nat} {zs' : List Int} {lo : Nat} (ho : Owns W lo A' d' C' zs') (hlo : b < lo) : RV w (W.setCell ⟨b, 5, none⟩ (.slice A' d' C')) b e q k id n A' d' C' zs' := by
  obtain ⟨h1, h2, h3, h4, h5⟩ := h
  have hne : ∀ x, A'.map (·.block) = some x → x ≠ b := fun x hx => by have := (ho.lt x hx).1; omega
  exact ⟨h1.set 5 _, h2.other (by omega) _, owns_lowV (owns_set ho (fun e => hne b e rfl)) (by omega), hne, h5⟩

theorem RV.done (h : RV w W b e q k id n A d C zs) (hi : id.size ≤ 9) (hd : d ≤ 25) : DrawnR w.heap.size (.agg #[.int .i64 e, .int .i64 q, .int .i64 k, .string id, .int .i64 n, .slice A d C]) ((((((W.setCell ⟨w.heap.size, 0, none⟩ (.int .i64 e)).setCell ⟨w.heap.size, 1, none⟩ (.int .i64 q)).setCell ⟨w.heap.size, 2, none⟩ (.int .i64 k)).setCell ⟨w.heap.size, 3, none⟩ (.string id)).setCell ⟨w.heap.size, 4, none⟩ (.int .i64 n)).setCell ⟨w.heap.size, 5, none⟩ (.slice A d C)) := by
  obtain ⟨h1, h2, h3, h4, h5⟩ := h
  have hl := h3.seg.1
  have hA : A.map (·.block) ≠ some w.heap.size := fun e => by have := (h3.lt _ e).1; omega
  refine ⟨⟨e, q, k, id, n, zs⟩, A, C, by dsimp only; rw [hl], ?_, hi, by dsimp only; omega⟩
  dsimp only
  rw [hl]
  exact owns_lowV (owns_set (owns_set (owns_set (owns_set (owns_set (owns_set h3 hA) hA) hA) hA) hA) hA) (by omega)
end

end Go.Proofs.YtogopmngbjkcjafDoor

namespace Go.Proofs.YtogopmngbjkcjafDoor
open Go.RowKit
set_option linter.unusedVariables false

/-- Some record of few bytes and a small number, its bytes in memory of its own. -/
def DrawnRn (base : Nat) (v : Value) (w' : World) : Prop := ∃ (r : R) (A : Option Addr) (C : Nat), v = .agg #[.int .i64 r.e, .int .i64 r.q, .int .i64 r.k, .string r.id, .int .i64 r.n, .slice A r.zs.length C] ∧ Owns w' base A r.zs.length C r.zs ∧ r.id.size ≤ 9 ∧ r.zs.length ≤ 25 ∧ (0 ≤ r.n ∧ r.n ≤ 30)

section
variable {w W W' : World} {b : Nat} {e q k : Int} {id : ByteArray} {n : Int} {A : Option Addr} {d C : Nat} {zs : List Int}

theorem RV.doneN (h : RV w W b e q k id n A d C zs) (hi : id.size ≤ 9) (hd : d ≤ 25) (hn : 0 ≤ n ∧ n ≤ 30) : DrawnRn w.heap.size (.agg #[.int .i64 e, .int .i64 q, .int .i64 k, .string id, .int .i64 n, .slice A d C]) ((((((W.setCell ⟨w.heap.size, 0, none⟩ (.int .i64 e)).setCell ⟨w.heap.size, 1, none⟩ (.int .i64 q)).setCell ⟨w.heap.size, 2, none⟩ (.int .i64 k)).setCell ⟨w.heap.size, 3, none⟩ (.string id)).setCell ⟨w.heap.size, 4, none⟩ (.int .i64 n)).setCell ⟨w.heap.size, 5, none⟩ (.slice A d C)) := by
  obtain ⟨h1, h2, h3, h4, h5⟩ := h
  have hl := h3.seg.1
  have hA : A.map (·.block) ≠ some w.heap.size := fun e => by have := (h3.lt _ e).1; omega
  refine ⟨⟨e, q, k, id, n, zs⟩, A, C, by dsimp only; rw [hl], ?_, hi, by dsimp only; omega, hn⟩
  dsimp only
  rw [hl]
  exact owns_lowV (owns_set (owns_set (owns_set (owns_set (owns_set (owns_set h3 hA) hA) hA) hA) hA) hA) (by omega)

end

def ridsN : List ByteArray := [⟨#[97]⟩, ⟨#[98]⟩, ⟨#[117, 112, 49]⟩]
theorem ridsN_short : ∀ s ∈ ridsN, s.size ≤ 9 := by decide

set_option maxRecDepth 10000 in
set_option maxHeartbeats 3200000 in
theorem l13Rec_num (B c : Nat) (a : Option Addr) (len cap : Nat) (zs : List Int) (seq : Int) (w : World) (hcur : Cur w B c a len cap zs) (hl : len ≤ 1099511627776) :
    Calls Tryd.prog 13 #[.pointer (some ⟨c, 0, none⟩), .int .i64 seq] w fun e w' => (∃ v, e = .returned v ∧ DrawnRn w.heap.size v w') ∧ Cur w' B c a len cap zs ∧ w.grownBy w' (some c) := by
  have HC : Hid (Cur w B c a len cap zs) := hcur
  clear hcur
  have hcw : c < w.heap.size := HC.out.lt
  obtain ⟨w1, hw1⟩ : ∃ w1, w.alloc (.cells #[.int .i64 0, .int .i64 0, .int .i64 0, .string ⟨#[]⟩, .int .i64 0, .slice none 0 0] 43) = w1 := ⟨_, rfl⟩
  have HE : Hid (w.alloc (.cells #[.int .i64 0, .int .i64 0, .int .i64 0, .string ⟨#[]⟩, .int .i64 0, .slice none 0 0] 43) = w1) := hw1
  have HQ1 : Hid (BoxN w1 w.heap.size 43 [.int .i64 0, .int .i64 0, .int .i64 0, .string ⟨#[]⟩, .int .i64 0, .slice none 0 0]) := by show BoxN _ _ _ _; rw [← hw1]; exact BoxN.new _ _ _
  have HC1 : Hid (Cur w1 B c a len cap zs) := by show Cur _ _ _ _ _ _ _; rw [← hw1]; exact HC.out.new _
  have HG1 : Hid (w.grownBy w1 (some c)) := by show World.grownBy _ _ _; rw [← hw1]; exact World.grownBy_alloc w _ _
  clear hw1 HC
  go_enter Tryd.func13, Tryd.ntmps13
  go_wp2_with fail
  rw [HE.out]
  clear HE
  refine (l1Below_any B c a len cap zs 3 w1 HC1.out hl (by omega) (by omega)).mono ?_
  rintro _ w2 ⟨e, rfl, he0, he1, hc2, hg2⟩
  have HQ2 : Hid (BoxN w2 w.heap.size 43 [.int .i64 0, .int .i64 0, .int .i64 0, .string ⟨#[]⟩, .int .i64 0, .slice none 0 0]) := HQ1.out.grown hg2 (fun e => by injection e with e; omega)
  have HC2 : Hid (Cur w2 B c a len cap zs) := hc2
  have HG2 : Hid (w.grownBy w2 (some c)) := gtrans HG1.out hg2
  clear hc2 hg2 HQ1 HC1 HG1
  have hc2w : c < w2.heap.size := HC2.out.lt
  go_wp2_with fail
  refine (l1Int_any B c a len cap zs w2.heap.size 5 5 [1, 2, 2, 3, 4] _ (HC2.out.new _) hl (heap_alloc_new w2 _) (by omega) rfl (by omega) (by omega)).mono ?_
  rintro _ w3 ⟨k, rfl, hk, hc3, hg3⟩
  have hg23 : w2.grownBy w3 (some c) := gtrans (World.grownBy_alloc w2 _ _) hg3
  have HQ3 : Hid (BoxN w3 w.heap.size 43 [.int .i64 0, .int .i64 0, .int .i64 0, .string ⟨#[]⟩, .int .i64 0, .slice none 0 0]) := HQ2.out.grown hg23 (fun e => by injection e with e; omega)
  have HC3 : Hid (Cur w3 B c a len cap zs) := hc3
  have HG3 : Hid (w.grownBy w3 (some c)) := gtrans HG2.out hg23
  clear hk hc3 hg3 hg23 HQ2 HC2 HG2 hc2w
  have hc3w : c < w3.heap.size := HC3.out.lt
  go_wp2_with fail
  refine (l1Str_any B c a len cap zs w3.heap.size 3 3 ridsN _ (HC3.out.new _) hl (heap_alloc_new w3 _) (by omega) rfl (by omega) (by omega)).mono ?_
  rintro _ w4 ⟨id, rfl, hid, hc4, hg4⟩
  have HI9 : Hid (id.size ≤ 9) := ridsN_short id hid
  have hg34 : w3.grownBy w4 (some c) := gtrans (World.grownBy_alloc w3 _ _) hg4
  have HQ4 : Hid (BoxN w4 w.heap.size 43 [.int .i64 0, .int .i64 0, .int .i64 0, .string ⟨#[]⟩, .int .i64 0, .slice none 0 0]) := HQ3.out.grown hg34 (fun e => by injection e with e; omega)
  have HD5 : Hid (RV w (w4.alloc (.cells #[.int .i64 e, .int .i64 seq, .int .i64 k, .string id, .int .i64 0, .slice none 0 0] 43)) w4.heap.size e seq k id 0 none 0 0 []) := RV.new HQ4.out e seq k id 0
  have HC5 : Hid (Cur (w4.alloc (.cells #[.int .i64 e, .int .i64 seq, .int .i64 k, .string id, .int .i64 0, .slice none 0 0] 43)) B c a len cap zs) := hc4.new _
  have HG5 : Hid (w.grownBy (w4.alloc (.cells #[.int .i64 e, .int .i64 seq, .int .i64 k, .string id, .int .i64 0, .slice none 0 0] 43)) (some c)) := gnew (gtrans HG3.out hg34) _
  clear hid hc4 hg4 hg34 HQ3 HC3 HG3 hc3w HQ4
  go_upto_region 2 with fail
  obtain ⟨w5, hw5⟩ : ∃ w5, w4.alloc (.cells #[.int .i64 e, .int .i64 seq, .int .i64 k, .string id, .int .i64 0, .slice none 0 0] 43) = w5 := ⟨_, rfl⟩
  rw [hw5] at HD5 HC5 HG5 ⊢
  clear hw5
  generalize w4.heap.size = b at *
  have hbw : w.heap.size < b := HD5.out.2.2.2.2
  have hbl : b < w5.heap.size := HD5.out.1.lt
  have hc5w : c < w5.heap.size := HC5.out.lt
  have s2 := HD5.out.1.cell 2 rfl
  by_cases hk1 : k = 1
  · subst hk1
    go_wp2_with fail
    refine (l1Int_any B c a len cap zs w5.heap.size 3 3 [0, 5, 30] _ (HC5.out.new _) hl (heap_alloc_new w5 _) (by omega) rfl (by omega) (by omega)).mono ?_
    rintro _ w6 ⟨n, rfl, hn, hc6, hg6⟩
    have HNn : Hid (0 ≤ n ∧ n ≤ 30) := by show _ ∧ _; simp only [List.mem_cons, List.not_mem_nil, or_false] at hn; omega
    have hg56 : w5.grownBy w6 (some c) := gtrans (World.grownBy_alloc w5 _ _) hg6
    have hd6 := HD5.out.grown hg56 (fun q e => by injection e with e; omega)
    have HD7 : Hid (RV w (w6.setCell ⟨b, 4, none⟩ (.int .i64 n)) b e seq 1 id n none 0 0 []) := hd6.setN n
    have HC7 : Hid (Cur (w6.setCell ⟨b, 4, none⟩ (.int .i64 n)) B c a len cap zs) := hc6.put (by omega) _
    have HG7 : Hid (w.grownBy (w6.setCell ⟨b, 4, none⟩ (.int .i64 n)) (some c)) := gput (gtrans HG5.out hg56) (by omega) _
    have q4 := hd6.1.cell 4 rfl
    have z4 := hd6.1.frozen 4
    clear hn hc6 hg6 hg56 hd6 HD5 HC5 HG5 s2
    go_upto_region 8 with fail
    obtain ⟨w7, hw7⟩ : ∃ w7, w6.setCell ⟨b, 4, none⟩ (.int .i64 n) = w7 := ⟨_, rfl⟩
    rw [hw7] at HD7 HC7 HG7 ⊢
    clear hw7 q4 z4
    have c0 := HD7.out.1.cell 0 rfl
    have c1 := HD7.out.1.cell 1 rfl
    have c2 := HD7.out.1.cell 2 rfl
    have c3 := HD7.out.1.cell 3 rfl
    have c4 := HD7.out.1.cell 4 rfl
    have c5 := HD7.out.1.cell 5 rfl
    have r0 := HD7.out.2.1.cell 0 rfl
    have r1 := HD7.out.2.1.cell 1 rfl
    have r2 := HD7.out.2.1.cell 2 rfl
    have r3 := HD7.out.2.1.cell 3 rfl
    have r4 := HD7.out.2.1.cell 4 rfl
    have r5 := HD7.out.2.1.cell 5 rfl
    have f0 := HD7.out.2.1.frozen 0
    have f1 := HD7.out.2.1.frozen 1
    have f2 := HD7.out.2.1.frozen 2
    have f3 := HD7.out.2.1.frozen 3
    have f4 := HD7.out.2.1.frozen 4
    have f5 := HD7.out.2.1.frozen 5
    have HR := (show Hid _ from HD7.out.doneN HI9.out (by omega) HNn.out)
    have HCf := (show Hid _ from ((((((HC7.out.put (k := 0) hcw (.int .i64 e)).put (k := 1) hcw (.int .i64 seq)).put (k := 2) hcw (.int .i64 1)).put (k := 3) hcw (.string id)).put (k := 4) hcw (.int .i64 n)).put (k := 5) hcw (.slice none 0 0)))
    have HGf := (show Hid _ from gput (k := 5) (gput (k := 4) (gput (k := 3) (gput (k := 2) (gput (k := 1) (gput (k := 0) HG7.out (Nat.le_refl _) (.int .i64 e)) (Nat.le_refl _) (.int .i64 seq)) (Nat.le_refl _) (.int .i64 1)) (Nat.le_refl _) (.string id)) (Nat.le_refl _) (.int .i64 n)) (Nat.le_refl _) (.slice none 0 0))
    clear HD7 HC7 HG7
    go_wp2_with fail
    refine bodyPost_ret (v := .agg #[.int .i64 e, .int .i64 seq, .int .i64 1, .string id, .int .i64 n, .slice none 0 0]) (by simp [results, Tryd.f13, go_sem, r0, r1, r2, r3, r4, r5]) rfl ?_
    exact ⟨⟨_, rfl, HR.out⟩, HCf.out, HGf.out⟩
  have hk1b : (k == 1) = false := by simpa using hk1
  by_cases hk2 : k = 2
  case neg =>
    have hk2b : (k == 2) = false := by simpa using hk2
    have c0 := HD5.out.1.cell 0 rfl
    have c1 := HD5.out.1.cell 1 rfl
    have c2 := HD5.out.1.cell 2 rfl
    have c3 := HD5.out.1.cell 3 rfl
    have c4 := HD5.out.1.cell 4 rfl
    have c5 := HD5.out.1.cell 5 rfl
    have r0 := HD5.out.2.1.cell 0 rfl
    have r1 := HD5.out.2.1.cell 1 rfl
    have r2 := HD5.out.2.1.cell 2 rfl
    have r3 := HD5.out.2.1.cell 3 rfl
    have r4 := HD5.out.2.1.cell 4 rfl
    have r5 := HD5.out.2.1.cell 5 rfl
    have f0 := HD5.out.2.1.frozen 0
    have f1 := HD5.out.2.1.frozen 1
    have f2 := HD5.out.2.1.frozen 2
    have f3 := HD5.out.2.1.frozen 3
    have f4 := HD5.out.2.1.frozen 4
    have f5 := HD5.out.2.1.frozen 5
    have HR := (show Hid _ from HD5.out.doneN HI9.out (by omega) (by omega))
    have HCf := (show Hid _ from ((((((HC5.out.put (k := 0) hcw (.int .i64 e)).put (k := 1) hcw (.int .i64 seq)).put (k := 2) hcw (.int .i64 k)).put (k := 3) hcw (.string id)).put (k := 4) hcw (.int .i64 0)).put (k := 5) hcw (.slice none 0 0)))
    have HGf := (show Hid _ from gput (k := 5) (gput (k := 4) (gput (k := 3) (gput (k := 2) (gput (k := 1) (gput (k := 0) HG5.out (Nat.le_refl _) (.int .i64 e)) (Nat.le_refl _) (.int .i64 seq)) (Nat.le_refl _) (.int .i64 k)) (Nat.le_refl _) (.string id)) (Nat.le_refl _) (.int .i64 0)) (Nat.le_refl _) (.slice none 0 0))
    clear HD5 HC5 HG5
    go_wp2_with fail
    refine bodyPost_ret (v := .agg #[.int .i64 e, .int .i64 seq, .int .i64 k, .string id, .int .i64 0, .slice none 0 0]) (by simp [results, Tryd.f13, go_sem, r0, r1, r2, r3, r4, r5]) rfl ?_
    exact ⟨⟨_, rfl, HR.out⟩, HCf.out, HGf.out⟩
  subst hk2
  go_wp2_with fail
  refine (l1Int_any B c a len cap zs w5.heap.size 3 3 [0, 3, 24] _ (HC5.out.new _) hl (heap_alloc_new w5 _) (by omega) rfl (by omega) (by omega)).mono ?_
  rintro _ w6 ⟨n, rfl, hn, hc6, hg6⟩
  have HNn : Hid (0 ≤ n ∧ n ≤ 30) := by show _ ∧ _; simp only [List.mem_cons, List.not_mem_nil, or_false] at hn; omega
  have hg56 : w5.grownBy w6 (some c) := gtrans (World.grownBy_alloc w5 _ _) hg6
  have hd6 := HD5.out.grown hg56 (fun q e => by injection e with e; omega)
  have HD7 : Hid (RV w (w6.setCell ⟨b, 4, none⟩ (.int .i64 n)) b e seq 2 id n none 0 0 []) := hd6.setN n
  have HC7 : Hid (Cur (w6.setCell ⟨b, 4, none⟩ (.int .i64 n)) B c a len cap zs) := hc6.put (by omega) _
  have HG7 : Hid (w.grownBy (w6.setCell ⟨b, 4, none⟩ (.int .i64 n)) (some c)) := gput (gtrans HG5.out hg56) (by omega) _
  have q4 := hd6.1.cell 4 rfl
  have z4 := hd6.1.frozen 4
  clear hn hc6 hg6 hg56 hd6 HD5 HC5 HG5 s2
  go_upto_region 7 with fail
  obtain ⟨w7, hw7⟩ : ∃ w7, w6.setCell ⟨b, 4, none⟩ (.int .i64 n) = w7 := ⟨_, rfl⟩
  rw [hw7] at HD7 HC7 HG7 ⊢
  clear hw7 q4 z4
  have hc7w : c < w7.heap.size := HC7.out.lt
  have hb7 : b < w7.heap.size := HD7.out.1.lt
  go_wp2_with fail
  refine (l1Int_any B c a len cap zs w7.heap.size 3 3 [1, 3, 24] _ (HC7.out.new _) hl (heap_alloc_new w7 _) (by omega) rfl (by omega) (by omega)).mono ?_
  rintro _ w8 ⟨m, rfl, hm, hc8, hg8⟩
  obtain ⟨mm, rfl⟩ : ∃ mm : Nat, m = (mm : Int) := by
    simp only [List.mem_cons, List.not_mem_nil, or_false] at hm
    exact ⟨m.toNat, by omega⟩
  have hm24 : mm ≤ 24 := by
    simp only [List.mem_cons, List.not_mem_nil, or_false] at hm
    omega
  have hg78 : w7.grownBy w8 (some c) := gtrans (World.grownBy_alloc w7 _ _) hg8
  have HD8 : Hid (RV w w8 b e seq 2 id n none 0 0 []) := HD7.out.grown hg78 (fun q e => by injection e with e; omega)
  have HC8 : Hid (Cur w8 B c a len cap zs) := hc8
  have HG8 : Hid (w.grownBy w8 (some c)) := gtrans HG7.out hg78
  clear hm hc8 hg8 hg78 HD7 HC7 HG7
  have hb8 : b < w8.heap.size := HD8.out.1.lt
  go_wp2_with fail
  refine (l1Bytes_any B c a len cap zs mm w8 HC8.out hl (by omega)).mono ?_
  rintro _ w9 ⟨g, cp, ds, rfl, _, ho9, hc9, hg9⟩
  have hd9 := HD8.out.grown hg9 (fun q e => by injection e with e; omega)
  have HD10 : Hid (RV w (w9.setCell ⟨b, 5, none⟩ (.slice (some ⟨g, 0, none⟩) mm cp)) b e seq 2 id n (some ⟨g, 0, none⟩) mm cp ds) := hd9.setD ho9 hb8
  have HC10 : Hid (Cur (w9.setCell ⟨b, 5, none⟩ (.slice (some ⟨g, 0, none⟩) mm cp)) B c a len cap zs) := hc9.put (by omega) _
  have HG10 : Hid (w.grownBy (w9.setCell ⟨b, 5, none⟩ (.slice (some ⟨g, 0, none⟩) mm cp)) (some c)) := gput (gtrans HG8.out hg9) (by omega) _
  have q5 := hd9.1.cell 5 rfl
  have z5 := hd9.1.frozen 5
  clear ho9 hc9 hg9 hd9 HD8 HC8 HG8
  go_upto_region 8 with fail
  obtain ⟨w10, hw10⟩ : ∃ w10, w9.setCell ⟨b, 5, none⟩ (.slice (some ⟨g, 0, none⟩) mm cp) = w10 := ⟨_, rfl⟩
  rw [hw10] at HD10 HC10 HG10 ⊢
  clear hw10 q5 z5
  have c0 := HD10.out.1.cell 0 rfl
  have c1 := HD10.out.1.cell 1 rfl
  have c2 := HD10.out.1.cell 2 rfl
  have c3 := HD10.out.1.cell 3 rfl
  have c4 := HD10.out.1.cell 4 rfl
  have c5 := HD10.out.1.cell 5 rfl
  have r0 := HD10.out.2.1.cell 0 rfl
  have r1 := HD10.out.2.1.cell 1 rfl
  have r2 := HD10.out.2.1.cell 2 rfl
  have r3 := HD10.out.2.1.cell 3 rfl
  have r4 := HD10.out.2.1.cell 4 rfl
  have r5 := HD10.out.2.1.cell 5 rfl
  have f0 := HD10.out.2.1.frozen 0
  have f1 := HD10.out.2.1.frozen 1
  have f2 := HD10.out.2.1.frozen 2
  have f3 := HD10.out.2.1.frozen 3
  have f4 := HD10.out.2.1.frozen 4
  have f5 := HD10.out.2.1.frozen 5
  have HR := (show Hid _ from HD10.out.doneN HI9.out (by omega) HNn.out)
  have HCf := (show Hid _ from ((((((HC10.out.put (k := 0) hcw (.int .i64 e)).put (k := 1) hcw (.int .i64 seq)).put (k := 2) hcw (.int .i64 2)).put (k := 3) hcw (.string id)).put (k := 4) hcw (.int .i64 n)).put (k := 5) hcw (.slice (some ⟨g, 0, none⟩) mm cp)))
  have HGf := (show Hid _ from gput (k := 5) (gput (k := 4) (gput (k := 3) (gput (k := 2) (gput (k := 1) (gput (k := 0) HG10.out (Nat.le_refl _) (.int .i64 e)) (Nat.le_refl _) (.int .i64 seq)) (Nat.le_refl _) (.int .i64 2)) (Nat.le_refl _) (.string id)) (Nat.le_refl _) (.int .i64 n)) (Nat.le_refl _) (.slice (some ⟨g, 0, none⟩) mm cp))
  clear HD10 HC10 HG10
  go_wp2_with fail
  refine bodyPost_ret (v := .agg #[.int .i64 e, .int .i64 seq, .int .i64 2, .string id, .int .i64 n, .slice (some ⟨g, 0, none⟩) mm cp]) (by simp [results, Tryd.f13, go_sem, r0, r1, r2, r3, r4, r5]) rfl ?_
  exact ⟨⟨_, rfl, HR.out⟩, HCf.out, HGf.out⟩

end Go.Proofs.YtogopmngbjkcjafDoor

namespace Go.Proofs.YtogopmngbjkcjafDoor
open Go.RowKit
set_option linter.unusedVariables false

/-- Records that are drawn: few, of few bytes, their numbers bounded. -/
def FoldDrawn (lo : Nat) (v : Value) (w' : World) : Prop := ∃ (ra : Option Addr) (M rc : Nat) (rs : List RE), v = .slice ra M rc ∧ RcRow w' lo (.slice ra M rc) rs ∧ M = rs.length ∧ M ≤ 201 ∧ (∀ e ∈ rs, e.n ≤ 25) ∧ ∀ e ∈ rs, 0 ≤ e.r.n ∧ e.r.n ≤ 1000000000

set_option maxRecDepth 10000 in
set_option maxHeartbeats 1600000 in
theorem l1Size_posF (a : Option Addr) (len cap : Nat) (most : Int) (w : World) (hl : len ≤ 1099511627776) (h0 : 3 ≤ most) (h1 : most ≤ 1000) :
    Calls Tryd.prog 10 #[.slice a len cap, .int .i64 most] w fun e w' => (∃ n : Nat, e = .returned (.int .i64 (n : Int)) ∧ 1 ≤ n ∧ (n : Int) ≤ most) ∧ w' = w := by
  have hq : ((len : Int)).tdiv 12 = ((len / 12 : Nat) : Int) := by rw [Int.tdiv_eq_ediv_of_nonneg (by omega)]; omega
  obtain ⟨Q, hQ⟩ : ∃ Q, len / 12 = Q := ⟨_, rfl⟩
  rw [hQ] at hq
  have hQb : Q ≤ 1099511627776 := by omega
  clear hQ
  go_enter Tryd.func10, Tryd.ntmps10
  by_cases hm : most < 3 + (Q : Int)
  · obtain ⟨m, rfl⟩ := Int.eq_ofNat_of_zero_le (show 0 ≤ most by omega)
    go_wp2_with fail
    go_ret
    exact ⟨⟨m, rfl, by omega, Int.le_refl _⟩, rfl⟩
  · go_wp2_with fail
    go_ret
    exact ⟨⟨3 + Q, by congr 1, by omega, by omega⟩, rfl⟩

theorem shape_ofR {w : World} {base n : Nat} {v : Value} {xs : List Value} (h : w.ownsRow base 43 6 v n xs) : ∃ a cap, v = .slice a n cap := by
  rcases h.2 with ⟨rfl, rfl⟩ | ⟨g, cap, cur, rfl, _⟩
  · exact ⟨_, _, rfl⟩
  · exact ⟨_, _, rfl⟩

set_option maxRecDepth 10000 in
set_option maxHeartbeats 6400000 in
theorem drawFold_any (a : Option Addr) (len cap : Nat) (zs : List Int) (w : World) (hs : Seg w a len zs) (hl : len ≤ 1099511627776) :
    Calls Tryd.prog 5 #[.slice a len cap] w fun e w' => (∃ v, e = .returned v ∧ FoldDrawn w.heap.size v w') ∧ Below w.heap.size w w' := by
  obtain ⟨i0, hi, hz0, hz1, hz2⟩ := info_parts info_rec
  have HS : Hid (Seg w a len zs) := hs
  clear hs
  go_enter Tryd.func5, Tryd.ntmps5
  go_wp2_with fail
  refine (l1New_any a len cap zs w HS.out hl).mono ?_
  rintro e w2 ⟨rfl, hc2, hb2⟩
  obtain ⟨cc, hcc⟩ : ∃ cc, w.heap.size = cc := ⟨_, rfl⟩
  rw [hcc] at hc2 ⊢
  have HC2 : Hid (Cur w2 cc cc a len cap zs) := hc2
  have HB2 : Hid (Below cc w w2) := by show Below _ _ _; rw [← hcc]; exact hb2
  have HCc : Hid (w.heap.size = cc) := hcc
  clear hc2 hb2 HS hcc
  have hcl : cc < w2.heap.size := HC2.out.lt
  go_wp2_with fail
  refine (l1Size_posF a len cap 20 w2 hl (by omega) (by omega)).mono ?_
  rintro e w2 ⟨⟨n, rfl, hn1, hn⟩, rfl⟩
  go_wp2_with fail
  refine (l14Draw_any cc cc a len cap zs n w2 HC2.out hl hn1 (by omega)).mono ?_
  rintro e w4 ⟨⟨v, rfl, X, Y, ep, nx, us, hans, hsg⟩, hc4, hg4⟩
  obtain ⟨A, C, A', C', ua, uc, l, rfl, hs4, hm4⟩ := hans.get
  have hX2 : X.length ≤ 200 := hsg.ok.nums.2.2.2
  have HXz : Hid (∀ x ∈ X, x.size ≤ 1048576) := fun x hx => by have := (okD_iff.1 hsg.ok.1).2.2.1 x hx; omega
  have hsz4 := hg4.size
  have hba : Below w4.heap.size w4 (w4.alloc (.cells #[.slice A X.length C, .slice A' Y.length C', .int .i64 ep, .int .i64 nx, .slice ua us.length uc] 37)) := (Below.refl _ _).alloc (Nat.le_refl _) _
  have hb4 : Below cc w w4 := HB2.out.grown hg4 (by omega) (fun k e => by injection e with e; omega)
  have HD : Hid (Cur (w4.alloc (.cells #[.slice A X.length C, .slice A' Y.length C', .int .i64 ep, .int .i64 nx, .slice ua us.length uc] 37)) cc cc a len cap zs ∧ Below cc w (w4.alloc (.cells #[.slice A X.length C, .slice A' Y.length C', .int .i64 ep, .int .i64 nx, .slice ua us.length uc] 37)) ∧ BoxN (w4.alloc (.cells #[.slice A X.length C, .slice A' Y.length C', .int .i64 ep, .int .i64 nx, .slice ua us.length uc] 37)) w4.heap.size 37 [.slice A X.length C, .slice A' Y.length C', .int .i64 ep, .int .i64 nx, .slice ua us.length uc] ∧ Strs (w4.alloc (.cells #[.slice A X.length C, .slice A' Y.length C', .int .i64 ep, .int .i64 nx, .slice ua us.length uc] 37)) A X.length X) := ⟨hc4.new _, hb4.alloc (by omega) _, BoxN.new _ _ _, (hs4.stays hba).now.strs⟩
  clear hans hs4 hm4 hc4 hg4 hba hb4 hsg HC2 HB2
  go_upto_region 3 with fail
  obtain ⟨w5, hw5⟩ : ∃ w5, w4.alloc (.cells #[.slice A X.length C, .slice A' Y.length C', .int .i64 ep, .int .i64 nx, .slice ua us.length uc] 37) = w5 := ⟨_, rfl⟩
  rw [hw5] at HD ⊢
  clear hw5
  obtain ⟨b, hb⟩ : ∃ b, w4.heap.size = b := ⟨_, rfl⟩
  rw [hb] at HD ⊢
  clear hb hsz4
  have c0 := BoxN.cell HD.out.2.2.1 0 rfl
  have c1 := BoxN.cell HD.out.2.2.1 1 rfl
  go_wp2_with fail
  refine (specScan_any A X.length C X A' Y.length C' w5 HD.out.2.2.2 (by omega) HXz.out).mono ?_
  rintro e w6 ⟨⟨v, rs, rfl, hrow, hlm⟩, hb6⟩
  obtain ⟨ra, rc, rfl⟩ := hrow.shape
  have hsh : ∀ e ∈ rs, e.n ≤ 24 := rows_short hrow hlm (scanFrom_ok X 0 0).2
  have hln : rs.length ≤ 200 := by
    have h1 := (scanFrom_ok X 0 0).1
    have h3 := congrArg List.length hlm
    rw [List.length_map] at h3
    have h4 : (scanR X).length = (scanFrom 0 0 X).length := rfl
    omega
  have hnr : ∀ e ∈ rs, 0 ≤ e.r.n ∧ e.r.n ≤ 1000000000 := fun e he => (okRec_iff (scan_allok X e.r (by rw [← hlm]; exact List.mem_map_of_mem he))).2.2.2.2.1
  have hc6 : Cur w6 cc cc a len cap zs := HD.out.1.kept (gbelow hb6 none) (by simp)
  have hw5s : cc < w5.heap.size := HD.out.1.lt
  obtain ⟨M, hM⟩ : ∃ M, rs.length = M := ⟨_, rfl⟩
  rw [hM] at hrow hln ⊢
  have HR : Hid (RcRow w6 (cc + 1) (.slice ra M rc) rs ∧ M = rs.length ∧ (∀ e ∈ rs, e.n ≤ 24) ∧ ∀ e ∈ rs, 0 ≤ e.r.n ∧ e.r.n ≤ 1000000000) := ⟨hrow.low (by omega), hM.symm, hsh, hnr⟩
  have HC6 : Hid (Cur w6 cc cc a len cap zs) := hc6
  have HB6 : Hid (Below cc w w6) := HD.out.2.1.trans (hb6.mono (by omega))
  clear hrow hlm hb6 hsh hnr hc6 hM HD HXz c0 c1
  go_wp2_with fail
  refine (l1Once_any cc cc a len cap zs 3 w6 HC6.out hl (by omega) (by omega)).mono ?_
  rintro e w7 ⟨bb, rfl, hc7, hg7⟩
  have HC7 : Hid (Cur w7 cc cc a len cap zs) := hc7
  have hcw6 : cc < w6.heap.size := HC6.out.lt
  have HB7 : Hid (Below cc w w7) := HB6.out.grown hg7 (by omega) (fun k e => by injection e with e; omega)
  have HR7 : Hid (RcRow w7 (cc + 1) (.slice ra M rc) rs) := HR.out.1.grown hg7 (fun q e e2 => by injection e with e; have := (HR.out.1.lts.1 q e2).1; omega) (fun x hx q e e2 => by injection e with e; have := (HR.out.1.lts.2 x hx q e2).1; omega)
  clear hc7 hg7 HC6 HB6
  cases bb with
  | false =>
    have HF : Hid (FoldDrawn cc (.slice ra M rc) w7) := ⟨ra, M, rc, rs, rfl, HR7.out.low (by omega), HR.out.2.1, by omega, fun e he => by have := HR.out.2.2.1 e he; omega, HR.out.2.2.2⟩
    clear HR HR7 HC7
    go_wp2_with fail
    go_ret
    exact ⟨⟨_, rfl, by rw [HCc.out]; exact HF.out⟩, by rw [HCc.out]; exact HB7.out⟩
  | true =>
  have hcw7 : cc < w7.heap.size := HC7.out.lt
  go_wp2_with fail
  refine (l13Rec_num cc cc a len cap zs (M : Int) w7 HC7.out hl).mono ?_
  rintro e w8 ⟨⟨v, rfl, r, RA, RCp, rfl, hor, hid9, hz25, hrn⟩, hc8, hg8⟩
  obtain ⟨D, hD⟩ : ∃ D, r.zs.length = D := ⟨_, rfl⟩
  rw [hD] at hor hz25 ⊢
  obtain ⟨o, ho⟩ : ∃ o, (Obj.cells #[.int .i64 r.e, .int .i64 r.q, .int .i64 r.k, .string r.id, .int .i64 r.n, .slice RA D RCp] 43) = o := ⟨_, rfl⟩
  have hr8 : RcRow w8 (cc + 1) (.slice ra M rc) rs := HR7.out.grown hg8 (fun q e e2 => by injection e with e; have := (HR7.out.lts.1 q e2).1; omega) (fun x hx q e e2 => by injection e with e; have := (HR7.out.lts.2 x hx q e2).1; omega)
  have HR8 : Hid (RcRow w8 (cc + 1) (.slice ra M rc) rs) := hr8
  have HRo : Hid ((w8.alloc (.cells #[.int .i64 r.e, .int .i64 r.q, .int .i64 r.k, .string r.id, .int .i64 r.n, .slice RA D RCp] 43)).ownsRow (cc + 1) 43 6 (.slice ra M rc) M (reCells rs)) := by
    have h := (hr8.stays ((Below.refl _ _).alloc (Nat.le_refl _) (.cells #[.int .i64 r.e, .int .i64 r.q, .int .i64 r.k, .string r.id, .int .i64 r.n, .slice RA D RCp] 43))).1
    rw [← HR.out.2.1] at h
    exact h
  have HOr : Hid (Owns w8 w7.heap.size RA D RCp r.zs ∧ D ≤ 25 ∧ (0 ≤ r.n ∧ r.n ≤ 30)) := ⟨hor, hz25, hrn⟩
  have HB8 : Hid (Below cc w w8) := HB7.out.grown hg8 (by omega) (fun k e => by injection e with e; omega)
  have hlt : ∀ x ∈ rs, ∀ q, x.a.map (·.block) = some q → q < w7.heap.size := fun x hx q hq => (HR7.out.lts.2 x hx q hq).2
  have hsz8 := hg8.size
  have HLt : Hid (∀ x ∈ rs, ∀ q, x.a.map (·.block) = some q → q < w7.heap.size) := hlt
  clear hor hid9 hz25 hrn hc8 hg8 hD hr8 hlt HR7 HC7 HB7 ho
  go_wp2_with (at_builtin; refine wpList_append_own _ rfl _ _ 24 rfl (cc + 1) 43 i0 (.agg #[.int .i64 0, .int .i64 0, .int .i64 0, .string ⟨#[]⟩, .int .i64 0, .slice none 0 0]) 6 72 Tryd.underlying24 hi hz0 hz1 hz2 rfl (by decide) (.slice ra M rc) M (reCells rs) rfl HRo.out ⟨w8.heap.size, 0, none⟩ 1 1 (RE.cells ⟨r, RA, D, RCp⟩) rfl rfl (six_new w8 r RA D RCp) (six_one r RA D RCp) (by unfold maxLen; omega) (by omega) (by simp; omega) ?_; intro v6 w9 hown9 hg9 _; refine Hid.out ?_)
  refine hidden ?_
  obtain ⟨v6a, v6c, hv6⟩ := shape_ofR hown9
  subst hv6
  have hsn := RcRow.snoc (e := ⟨r, RA, D, RCp⟩) HR8.out HOr.out.1 (by omega) HLt.out (by rw [← HR.out.2.1]; exact hown9) hg9
  have HF : Hid (FoldDrawn cc (.slice v6a (M + 1) v6c) w9) := by
    refine ⟨v6a, M + 1, v6c, _, rfl, hsn.low (by omega), by rw [List.length_append, ← HR.out.2.1]; rfl, by omega, fun e he => ?_, fun e he => ?_⟩
    · rcases List.mem_append.1 he with he | he
      · have := HR.out.2.2.1 e he; omega
      · obtain rfl : e = ⟨r, RA, D, RCp⟩ := by simpa using he
        exact HOr.out.2.1
    · rcases List.mem_append.1 he with he | he
      · exact HR.out.2.2.2 e he
      · obtain rfl : e = ⟨r, RA, D, RCp⟩ := by simpa using he
        have := HOr.out.2.2
        dsimp only
        omega
  have HBf : Hid (Below cc w w9) := by
    have h1 := HB8.out.alloc (by omega) (.cells #[.int .i64 r.e, .int .i64 r.q, .int .i64 r.k, .string r.id, .int .i64 r.n, .slice RA D RCp] 43)
    exact h1.grown hg9 (by rw [World.size_alloc]; omega) (fun k e => by have := (HR8.out.lts.1 k e).1; omega)
  clear hown9 hg9 hsn HRo HOr HR HR8 HB8 HLt
  go_wp2_with fail
  go_ret
  exact ⟨⟨_, rfl, by rw [HCc.out]; exact HF.out⟩, by rw [HCc.out]; exact HBf.out⟩

end Go.Proofs.YtogopmngbjkcjafDoor

namespace Go.Proofs.YtogopmngbjkcjafDoor
open Go.RowKit
set_option linter.unusedVariables false

/-- The variable holds an error. -/
def ErrN (w : World) : Prop := 0 < w.heap.size ∧ ∃ t v, w.cell? ⟨0, 0, none⟩ = some (.iface t v)

theorem ErrN.below {w W : World} (h : ErrN w) (hb : Below w.heap.size w W) : ErrN W := by
  obtain ⟨h1, t, v, h2⟩ := h
  exact ⟨Nat.lt_of_lt_of_le h1 hb.size, t, v, (hb.cell (p := ⟨0, 0, none⟩) h1).trans h2⟩

/-- A call gave up by a panic. -/
def Pan (e : Ending) : Prop := ∃ t v, e = .panicked [{ v := .iface t v, recovered := false }]

theorem mustFit_yes (w : World) : Calls Tryd.prog 28 #[.bool true] w fun e w' => e = .returned (.tuple #[]) ∧ w' = w := by
  go_enter Tryd.func28, Tryd.ntmps28
  go_wp2_with fail
  go_end0
  exact ⟨rfl, rfl⟩

theorem mustFit_no (w : World) (h : ErrN w) : Calls Tryd.prog 28 #[.bool false] w fun e w' => Pan e ∧ w' = w := by
  obtain ⟨_, t, v, hc⟩ := h
  go_enter Tryd.func28, Tryd.ntmps28
  go_wp2_with fail
  exact ⟨rfl, ⟨t, v, rfl⟩, rfl⟩

/-- What must fit does, or it gives up. -/
theorem mustFit_any (b : Bool) (w : World) (h : ErrN w) : Calls Tryd.prog 28 #[.bool b] w fun e w' => ((b = true ∧ e = .returned (.tuple #[])) ∨ (b = false ∧ Pan e)) ∧ w' = w := by
  cases b with
  | true => exact (mustFit_yes w).mono (fun e w' h => ⟨.inl ⟨rfl, h.1⟩, h.2⟩)
  | false => exact (mustFit_no w h).mono (fun e w' h => ⟨.inr ⟨rfl, h.1⟩, h.2⟩)

/-- The upload that must be there is told, or it gave up. -/
def ThereAns (o : Option Nat) (a : Option Addr) (e : Ending) : Prop := (∃ k g, o = some k ∧ a = some ⟨g, 0, none⟩ ∧ e = .returned (.pointer (some ⟨g, k * 4, none⟩))) ∨ (o = none ∧ Pan e)

set_option maxRecDepth 10000 in
set_option maxHeartbeats 800000 in
theorem implThere_any (fb : Nat) (a : Option Addr) (n c lo : Nat) (id : ByteArray) (l : List UE) (w : World) (hf : BoxN w fb 47 [.slice a n c]) (h : UpRow w lo (.slice a n c) l) (hn : n = l.length) (hl : n ≤ 1099511627776) (he : ErrN w) :
    Calls Tryd.prog 50 #[.pointer (some ⟨fb, 0, none⟩), .string id] w fun e w' => ThereAns (atU (l.map UE.u) id) a e ∧ Below w.heap.size w w' := by
  have HE : Hid (ErrN w) := he
  have HR : Hid (Calls Tryd.prog 48 #[.slice a n c, .string id] w fun e w' => e = .returned (.pointer (reachUO a (atU (l.map UE.u) id))) ∧ Below w.heap.size w w') := implReachU_any a n c lo id l w h hn hl
  have f0 := hf.cell 0 rfl
  cases hk : atU (l.map UE.u) id with
  | none =>
    rw [hk, reachUO_none] at HR
    clear hf h hk hn
    go_enter Tryd.func50, Tryd.ntmps50
    go_wp2_with fail
    refine HR.out.mono ?_
    rintro e w1 ⟨rfl, hb1⟩
    have HB1 : Hid (Below w.heap.size w w1) := hb1
    clear hb1
    go_wp2_with fail
    refine (mustFit_no w1 (HE.out.below HB1.out)).mono ?_
    rintro e w2 ⟨⟨t, v, rfl⟩, rfl⟩
    go_wp2_with fail
    exact ⟨rfl, .inr ⟨rfl, t, v, rfl⟩, HB1.out⟩
  | some k =>
    have hkl : k < (l.map UE.u).length := (atU_is hk).1
    obtain ⟨g, hg⟩ : ∃ g, a = some ⟨g, 0, none⟩ := by
      obtain ⟨g, hg, _⟩ := h.at hn (by simpa using hkl)
      exact ⟨g, hg⟩
    rw [hk, hg] at HR
    clear hf h hk hkl hn
    have HR2 : Hid (Calls Tryd.prog 48 #[.slice (some ⟨g, 0, none⟩) n c, .string id] w fun e w' => e = .returned (.pointer (some ⟨g, k * 4, none⟩)) ∧ Below w.heap.size w w') := HR.out
    subst hg
    clear HR
    go_enter Tryd.func50, Tryd.ntmps50
    go_wp2_with fail
    refine HR2.out.mono ?_
    rintro e w1 ⟨rfl, hb1⟩
    have HB1 : Hid (Below w.heap.size w w1) := hb1
    clear hb1
    go_wp2_with fail
    refine (mustFit_yes w1).mono ?_
    rintro e w2 ⟨rfl, rfl⟩
    go_wp2_with fail
    go_ret
    exact ⟨.inl ⟨k, g, rfl, rfl, rfl⟩, HB1.out⟩

end Go.Proofs.YtogopmngbjkcjafDoor
