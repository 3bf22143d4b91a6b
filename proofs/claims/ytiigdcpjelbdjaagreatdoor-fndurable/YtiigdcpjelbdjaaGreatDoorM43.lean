/- What the program's PutSector answers. What the program's written answers: a store with records behind its last one. What the program's MakeUp answers. What the program's upFor answers. Uploads of a right store fit: no program in it but where UFit is said. A loop over an iterator of one's own, also one that keeps a variable of its own between two rounds: what holds where the loop begins (Ib), ahead of a round (I0), behind it (I1), where it was left (Ix), and where the iterator ended by itself (Ie), all over a state that I choose. No program in it. -/
import Derived.Test.YtiigdcpjelbdjaaGreatDoorM26
import Derived.Test.YtiigdcpjelbdjaaGreatDoorM23
import Derived.Test.YtiigdcpjelbdjaaGreatDoorM35
import Derived.Test.YtiigdcpjelbdjaaGreatDoorM42
import Derived.Test.YtiigdcpjelbdjaaGreatDoorM34
import Derived.Test.YtiigdcpjelbdjaaGreatDoorM42
import Derived.Deep.CutBlock
import Derived.Test.YtiigdcpjelbdjaaGreatDoorM27
import Derived.Test.YtiigdcpjelbdjaaGreatDoorM41
import Derived.Test.YtiigdcpjelbdjaaGreatDoorM05
import Derived.Test.YtiigdcpjelbdjaaGreatDoorM06
import Derived.Test.YtiigdcpjelbdjaaGreatDoorM39
import Derived.Test.YtiigdcpjelbdjaaGreatDoorM22
import Derived.Test.YtiigdcpjelbdjaaGreatDoorM37
import Derived.Test.YtiigdcpjelbdjaaGreatDoorM08
import Derived.Test.YtiigdcpjelbdjaaGreatDoorM07
import Derived.RangeFuncBox
import Derived.RangeFuncLeaves
import Derived.RangeFuncNested
namespace Go.Proofs.YtiigdcpjelbdjaaGreatDoor
open Go.RowKit
set_option linter.unusedVariables false

theorem blkOf_sP (a : Option Addr) (n c : Nat) : blkOf (.slice a n c) = a.map (·.block) := by cases a <;> rfl

set_option maxRecDepth 10000 in
set_option maxHeartbeats 3200000 in
theorem implPutD_any (a : Option Addr) (n ca : Nat) (xs : List ByteArray) (a' : Option Addr) (n' ca' : Nat) (ys : List ByteArray) (i : Int) (s : ByteArray) (w : World) (h1 : Strs w a n xs) (h2 : Strs w a' n' ys) (hn : n ≤ 2097152) (hn' : n' ≤ 2097152) (hs : s.size ≤ maxLen) :
    Calls Tryz.prog 41 #[.agg #[.slice a n ca, .slice a' n' ca'], .int .i64 i, .string s] w fun e w' => (∃ v, e = .returned (.tuple #[v, .bool (mayPut xs ys i s)]) ∧ AnsD w.heap.size (putX xs ys i s) ys v w') ∧ Below w.heap.size w w' := by
  have HX : Hid (∀ W, Below w.heap.size w W → Strs W a n xs ∧ Strs W a' n' ys) := fun W h => ⟨h1.below h, h2.below h⟩
  have HLn : Hid (xs.length = n ∧ ys.length = n') := ⟨h1.1, h2.1⟩
  obtain ⟨W2, hW2⟩ : ∃ W2, (w.alloc (.cells #[.slice a n ca, .slice a' n' ca'] 26)).alloc (.cells #[.slice none 0 0, .slice none 0 0] 26) = W2 := ⟨_, rfl⟩
  have HE : Hid ((w.alloc (.cells #[.slice a n ca, .slice a' n' ca'] 26)).alloc (.cells #[.slice none 0 0, .slice none 0 0] 26) = W2) := hW2
  have HB2 : Hid (Below w.heap.size w W2) := by show Below _ _ _; rw [← hW2]; exact ((Below.refl _ _).alloc (Nat.le_refl _) _).alloc (by simp) _
  have HZ2 : Hid (W2.heap.size = w.heap.size + 2) := by show _ = _; rw [← hW2]; simp
  have HQ1 : Hid (Box2R W2 w.heap.size 26 (.slice a n ca) (.slice a' n' ca')) := by show Box2R _ _ _ _ _; rw [← hW2]; exact (Box2R.new _ _ _ _).alloc _
  have HQ2 : Hid (Box2R W2 (w.heap.size + 1) 26 (.slice none 0 0) (.slice none 0 0)) := by
    show Box2R _ _ _ _ _
    rw [← hW2]
    have := Box2R.new (w.alloc (.cells #[.slice a n ca, .slice a' n' ca'] 26)) 26 (.slice none 0 0) (.slice none 0 0)
    rwa [World.size_alloc] at this
  clear hW2 h1 h2
  go_enter Tryz.func41, Tryz.ntmps41
  go_upto_region 1 with fail
  rw [HE.out]
  clear HE
  obtain ⟨c0, c1⟩ := HQ1.out.cells
  go_wp2_with fail
  refine (implDcopy_any a n ca xs a' n' ca' ys _ (HX.out _ HB2.out).1 (HX.out _ HB2.out).2 hn hn').mono ?_
  rintro e x3 ⟨⟨v, rfl, A, C, A', C', rfl, o1, o2, hap⟩, hb3⟩
  rw [HLn.out.1] at o1 ⊢
  rw [HLn.out.2] at o2 ⊢
  have HD : Hid (DOut w (x3.alloc (.cells #[.slice A n C, .slice A' n' C'] 26)) (.slice a n ca) (.slice a' n' ca') x3.heap.size (.slice A n C) (.slice A' n' C') n n' xs ys) := DOut.new HQ1.out HQ2.out HZ2.out HB2.out hb3 o1 o2 (fun q e e2 => by rw [blkOf_sP] at e e2; exact hap q e e2)
  clear o1 o2 hap hb3 HQ1 HQ2 HB2 HZ2 c0 c1
  go_upto_region 2 with fail
  obtain ⟨W3, hW3⟩ : ∃ W3, x3.alloc (.cells #[.slice A n C, .slice A' n' C'] 26) = W3 := ⟨_, rfl⟩
  rw [hW3] at HD ⊢
  clear hW3
  generalize x3.heap.size = o at *
  obtain ⟨c0, c1⟩ := HD.out.1.cells
  go_wp2_with fail
  refine (implDok_any a n ca xs a' n' ca' ys _ (HX.out _ HD.out.2.2.2.2.2.2.2.2).1 (HX.out _ HD.out.2.2.2.2.2.2.2.2).2 (by omega) (by omega)).mono ?_
  rintro e x4 ⟨rfl, hb4⟩
  have HDx : Hid (DOut w x4 (.slice a n ca) (.slice a' n' ca') o (.slice A n C) (.slice A' n' C') n n' xs ys) := HD.out.stays hb4
  clear hb4 HD c0 c1
  cases hok : okD xs ys
  · have HM : Hid (mayPut xs ys i s = false) := by show _ = _; rw [mayPut, hok]; rfl
    have HP : Hid (putX xs ys i s = xs) := by show _ = _; rw [putX, HM.out]; rfl
    clear hok
    obtain ⟨c0, c1⟩ := HDx.out.2.2.1.cells
    obtain ⟨r0, r1⟩ := HDx.out.2.1.cells
    have f0 := HDx.out.2.1.frozen 0
    have f1 := HDx.out.2.1.frozen 1
    have HR := (show Hid _ from HDx.out.done)
    clear HDx
    go_wp2_with fail
    refine bodyPost_ret (v := .tuple #[.agg #[.slice A n C, .slice A' n' C'], .bool false]) (by simp [results, Tryz.f41, go_sem, r0, r1]) rfl ?_
    exact ⟨⟨_, by rw [HM.out], by rw [HP.out]; exact HR.out.1⟩, HR.out.2⟩
  obtain ⟨c0, c1⟩ := HDx.out.1.cells
  go_wp2_with fail
  refine (implHas_any a n ca a' n' ca' i _ (by omega)).mono ?_
  rintro e x5 ⟨rfl, hb5⟩
  have HD5 : Hid (DOut w x5 (.slice a n ca) (.slice a' n' ca') o (.slice A n C) (.slice A' n' C') n n' xs ys) := HDx.out.stays hb5
  clear hb5 HDx c0 c1
  have HDx := HD5
  clear HD5
  by_cases hin : 0 ≤ i ∧ i ≤ (n : Int) - 1
  case neg =>
    have HM : Hid (mayPut xs ys i s = false) := by show _ = _; rw [mayPut, hok, HLn.out.1, decide_eq_false hin]; rfl
    have HP : Hid (putX xs ys i s = xs) := by show _ = _; rw [putX, HM.out]; rfl
    rw [show hasB n i = false from decide_eq_false (by omega)]
    clear hok hin
    obtain ⟨c0, c1⟩ := HDx.out.2.2.1.cells
    obtain ⟨r0, r1⟩ := HDx.out.2.1.cells
    have f0 := HDx.out.2.1.frozen 0
    have f1 := HDx.out.2.1.frozen 1
    have HR := (show Hid _ from HDx.out.done)
    clear HDx
    go_wp2_with fail
    refine bodyPost_ret (v := .tuple #[.agg #[.slice A n C, .slice A' n' C'], .bool false]) (by simp [results, Tryz.f41, go_sem, r0, r1]) rfl ?_
    exact ⟨⟨_, by rw [HM.out], by rw [HP.out]; exact HR.out.1⟩, HR.out.2⟩
  rw [show hasB n i = true from decide_eq_true (by omega)]
  by_cases hsz : s.size ≤ 64
  case neg =>
    have HM : Hid (mayPut xs ys i s = false) := by show _ = _; rw [mayPut, decide_eq_false hsz, Bool.and_false]
    have HP : Hid (putX xs ys i s = xs) := by show _ = _; rw [putX, HM.out]; rfl
    have hft : fitsD s = false := decide_eq_false hsz
    clear hok hin
    go_wp2_with fail
    refine (implLong_any s _ hs).mono ?_
    rintro e x6 ⟨rfl, rfl⟩
    rw [hft]
    obtain ⟨c0, c1⟩ := HDx.out.2.2.1.cells
    obtain ⟨r0, r1⟩ := HDx.out.2.1.cells
    have f0 := HDx.out.2.1.frozen 0
    have f1 := HDx.out.2.1.frozen 1
    have HR := (show Hid _ from HDx.out.done)
    clear HDx
    go_wp2_with fail
    refine bodyPost_ret (v := .tuple #[.agg #[.slice A n C, .slice A' n' C'], .bool false]) (by simp [results, Tryz.f41, go_sem, r0, r1]) rfl ?_
    exact ⟨⟨_, by rw [HM.out], by rw [HP.out]; exact HR.out.1⟩, HR.out.2⟩
  have HM : Hid (mayPut xs ys i s = true) := by show _ = _; rw [mayPut, hok, HLn.out.1, decide_eq_true hin, decide_eq_true hsz]; rfl
  have hft : fitsD s = true := decide_eq_true hsz
  obtain ⟨K, rfl⟩ := Int.eq_ofNat_of_zero_le hin.1
  have hK : K < n := by omega
  have HP : Hid (putX xs ys (K : Int) s = xs.set K s) := by show _ = _; rw [putX, HM.out, if_pos rfl, Int.toNat_natCast]
  clear hok
  obtain ⟨g, rfl⟩ : ∃ g, A = some ⟨g, 0, none⟩ := by
    rcases HDx.out.2.2.2.1.1.2 with ⟨_, h0⟩ | ⟨g, cap', cur, he, _⟩
    · omega
    · injection he with e1 _ _
      exact ⟨g, e1⟩
  have hKi : (K : Int) < (n : Int) := by omega
  go_wp2_with fail
  refine (implLong_any s _ hs).mono ?_
  rintro e x6 ⟨rfl, rfl⟩
  rw [hft]
  obtain ⟨c0, c1⟩ := HDx.out.2.2.1.cells
  have hcl : (scells xs).length = n := by rw [scells_len, HLn.out.1]
  have fz : x6.frozen? ⟨g, K, none⟩ = false := HDx.out.2.2.2.1.1.frozenAt _
  obtain ⟨u0, hu0⟩ : ∃ u, x6.cell? ⟨g, K, none⟩ = some u := by
    rw [HDx.out.2.2.2.1.1.cellAt _ (by omega)]
    exact ⟨_, List.getElem?_eq_getElem (by omega)⟩
  clear hcl
  have HD6 : Hid (DOut w (x6.setCell ⟨g, K, none⟩ (.string s)) (.slice a n ca) (.slice a' n' ca') o (.slice (some ⟨g, 0, none⟩) n C) (.slice A' n' C') n n' (xs.set K s) ys) := HDx.out.put0 s hs
  clear HDx
  go_upto_region 5 with fail
  obtain ⟨W6, hW6⟩ : ∃ W6, x6.setCell ⟨g, K, none⟩ (.string s) = W6 := ⟨_, rfl⟩
  rw [hW6] at HD6 ⊢
  clear hW6 c0 c1 fz hu0
  have HDx := HD6
  clear HD6
  obtain ⟨c0, c1⟩ := HDx.out.2.2.1.cells
  obtain ⟨r0, r1⟩ := HDx.out.2.1.cells
  have f0 := HDx.out.2.1.frozen 0
  have f1 := HDx.out.2.1.frozen 1
  have HR := (show Hid _ from HDx.out.done)
  clear HDx
  go_wp2_with fail
  refine bodyPost_ret (v := .tuple #[.agg #[.slice (some ⟨g, 0, none⟩) n C, .slice A' n' C'], .bool true]) (by simp [results, Tryz.f41, go_sem, r0, r1]) rfl ?_
  exact ⟨⟨_, by rw [HM.out], by rw [HP.out]; exact HR.out.1⟩, HR.out.2⟩

end Go.Proofs.YtiigdcpjelbdjaaGreatDoor

namespace Go.Proofs.YtiigdcpjelbdjaaGreatDoor
open Go.RowKit
set_option linter.unusedVariables false

/-- One more record that is written. -/
theorem wroteX_step {X : List ByteArray} {ep : Int} {nx : Nat} {rs : List R} {k : Nat} {r : R} (h : rs[k]? = some r) : wroteX X ep nx (rs.take (k + 1)) = (wroteX X ep nx (rs.take k)).set (nx + k) (txU (r.at ep (nx + k)).put) := by
  have hk : k < rs.length := (List.getElem?_eq_some_iff.1 h).1
  rw [List.take_add_one, h]
  show wroteX X ep nx (rs.take k ++ [r]) = _
  rw [wroteX_snoc, List.length_take, Nat.min_eq_left (by omega)]

theorem foldlM_takeW {rs : List R} {us us' : List U} (h : rs.foldlM oneU us = some us') (k : Nat) : ∃ u1, (rs.take k).foldlM oneU us = some u1 := by
  have e : rs = rs.take k ++ rs.drop k := (List.take_append_drop k rs).symm
  rw [e, List.foldlM_append] at h
  cases h1 : (rs.take k).foldlM oneU us with
  | none => rw [h1] at h; cases h
  | some u1 => exact ⟨u1, rfl⟩

set_option maxRecDepth 10000 in
set_option maxHeartbeats 3200000 in
theorem implWritten_any (a : Option Addr) (n ca : Nat) (X : List ByteArray) (a' : Option Addr) (n' ca' : Nat) (Y : List ByteArray) (ep nx : Int) (ua : Option Addr) (un uc lo : Nat) (l : List UE) (ra : Option Addr) (m rc : Nat) (rs : List RE) (us' : List U) (w : World) (h1 : Strs w a n X) (h2 : Strs w a' n' Y) (hn : n ≤ 1048576) (hn' : n' ≤ 1048576) (hzx : ∀ x ∈ X, x.size ≤ 1048576) (hu : UpRow w lo (.slice ua un uc) l) (hun : un = l.length) (hul : un ≤ 1048576) (hz : ∀ e ∈ l, e.n ≤ 1099511627776) (ht : RecT w) (he : ErrN w)
    (hrow : RcsI w ra m rs) (hso : SOk X Y ep nx (l.map UE.u)) (hk : ∀ r ∈ rs.map RE.r, idB r.id.data.toList = true ∧ kindB r.k r.n r.zs.length = true ∧ ∀ x ∈ r.zs, 0 ≤ x ∧ x ≤ 255) (hl : nx + (m : Int) ≤ (X.length : Int)) (ho : (rs.map RE.r).foldlM oneU (l.map UE.u) = some us') :
    Calls Tryz.prog 21 #[.agg #[.slice a n ca, .slice a' n' ca', .int .i64 ep, .int .i64 nx, .slice ua un uc], .slice ra m rc] w fun e w' => (∃ v, e = .returned v ∧ AnsS w.heap.size (wroteX X ep nx.toNat (rs.map RE.r)) Y ep (nx + (m : Int)) us' v w') ∧ Below w.heap.size w w' := by
  have hmm : maxLen < 9223372036854775808 := by decide
  obtain ⟨hen, hn0, hnX, hX200⟩ := hso.nums
  have hY2 : Y.length ≤ 200 := by have := (okD_iff.1 hso.1).1; omega
  obtain ⟨W2, hW2⟩ : ∃ W2, (w.alloc (.cells #[.slice a n ca, .slice a' n' ca', .int .i64 ep, .int .i64 nx, .slice ua un uc] 29)).alloc (.cells #[.slice none 0 0, .slice none 0 0, .int .i64 0, .int .i64 0, .slice none 0 0] 29) = W2 := ⟨_, rfl⟩
  have HE : Hid ((w.alloc (.cells #[.slice a n ca, .slice a' n' ca', .int .i64 ep, .int .i64 nx, .slice ua un uc] 29)).alloc (.cells #[.slice none 0 0, .slice none 0 0, .int .i64 0, .int .i64 0, .slice none 0 0] 29) = W2) := hW2
  have HB2 : Hid (Below w.heap.size w W2) := by show Below _ _ _; rw [← hW2]; exact ((Below.refl _ _).alloc (Nat.le_refl _) _).alloc (by simp) _
  have q1 : BoxN W2 w.heap.size 29 [.slice a n ca, .slice a' n' ca', .int .i64 ep, .int .i64 nx, .slice ua un uc] := by rw [← hW2]; exact (BoxN.new _ _ _).alloc _
  have q2 : BoxN W2 (w.heap.size + 1) 29 [.slice none 0 0, .slice none 0 0, .int .i64 0, .int .i64 0, .slice none 0 0] := by
    rw [← hW2]
    have := BoxN.new (w.alloc (.cells #[.slice a n ca, .slice a' n' ca', .int .i64 ep, .int .i64 nx, .slice ua un uc] 29)) 29 [.slice none 0 0, .slice none 0 0, .int .i64 0, .int .i64 0, .slice none 0 0]
    rwa [World.size_alloc] at this
  have HQ : Hid (∀ W, Below W2.heap.size W2 W → BoxN W w.heap.size 29 [.slice a n ca, .slice a' n' ca', .int .i64 ep, .int .i64 nx, .slice ua un uc] ∧ BoxN W (w.heap.size + 1) 29 [.slice none 0 0, .slice none 0 0, .int .i64 0, .int .i64 0, .slice none 0 0]) := fun W h => ⟨q1.stays h, q2.stays h⟩
  have HX : Hid (∀ W, Below W2.heap.size W2 W → Strs W a n X ∧ Strs W a' n' Y ∧ UpRow W lo (.slice ua un uc) l ∧ RcsI W ra m rs ∧ RecT W ∧ ErrN W) := fun W h => by
    have hw := HB2.out.trans (h.mono HB2.out.size)
    exact ⟨h1.below hw, h2.below hw, hu.stays hw, hrow.below hw, ht.below hw, he.below hw⟩
  have HL : Hid (un = l.length ∧ (∀ e ∈ l, e.n ≤ 1099511627776) ∧ (∀ x ∈ X, x.size ≤ 1048576) ∧ X.length = n ∧ rs.length = m) := ⟨hun, hz, hzx, h1.1, hrow.1⟩
  have HSo : Hid (SOk X Y ep nx (l.map UE.u)) := hso
  have HK : Hid (∀ r ∈ rs.map RE.r, idB r.id.data.toList = true ∧ kindB r.k r.n r.zs.length = true ∧ ∀ x ∈ r.zs, 0 ≤ x ∧ x ≤ 255) := hk
  have HO : Hid ((rs.map RE.r).foldlM oneU (l.map UE.u) = some us') := ho
  have hs2 : w.heap.size + 1 < W2.heap.size := q2.lt
  obtain ⟨M, hM⟩ := Int.eq_ofNat_of_zero_le hn0
  have HMe : Hid (nx.toNat = M) := by show _ = _; omega
  have hmX : M + m ≤ X.length := by omega
  have HXn : Hid (X.length = n) := h1.1
  clear hW2 q1 q2 h1 h2 hu hun hz hzx ht he hrow hso hk ho hnX
  subst hM
  obtain ⟨c0, c1, c2, c3, c4⟩ := (show _ ∧ _ ∧ _ ∧ _ ∧ _ from ⟨(HQ.out _ (Below.refl _ _)).1.cell 0 rfl, (HQ.out _ (Below.refl _ _)).1.cell 1 rfl, (HQ.out _ (Below.refl _ _)).1.cell 2 rfl, (HQ.out _ (Below.refl _ _)).1.cell 3 rfl, (HQ.out _ (Below.refl _ _)).1.cell 4 rfl⟩)
  go_enter Tryz.func21, Tryz.ntmps21
  go_upto_region 1 with fail
  rw [HE.out]
  clear HE
  go_wp2_with fail
  refine (implScopy_any a n ca X a' n' ca' Y ep (M : Int) ua un uc lo l W2 (HX.out _ (Below.refl _ _)).1 (HX.out _ (Below.refl _ _)).2.1 hn hn' (HX.out _ (Below.refl _ _)).2.2.1 HL.out.1 hul HL.out.2.1).mono ?_
  rintro e y1 ⟨⟨v, rfl, hv⟩, hb1⟩
  obtain ⟨b, cb, b', cb', va, vc, l', rfl, hs1, hm1⟩ := hv.get
  rw [List.length_map, ← HL.out.1] at hs1 ⊢
  have HBx : Hid (BoxN (y1.alloc (.cells #[.slice b X.length cb, .slice b' Y.length cb', .int .i64 ep, .int .i64 (M : Int), .slice va un vc] 29)) y1.heap.size 29 [.slice b X.length cb, .slice b' Y.length cb', .int .i64 ep, .int .i64 (M : Int), .slice va un vc]) := BoxN.new _ _ _
  have HSx : Hid (StoAt (y1.alloc (.cells #[.slice b X.length cb, .slice b' Y.length cb', .int .i64 ep, .int .i64 (M : Int), .slice va un vc] 29)) W2.heap.size b X.length cb X b' Y.length cb' Y va un vc l') := hs1.stays ((Below.refl _ _).alloc (Nat.le_refl _) _)
  have HWx : Hid (Below W2.heap.size W2 (y1.alloc (.cells #[.slice b X.length cb, .slice b' Y.length cb', .int .i64 ep, .int .i64 (M : Int), .slice va un vc] 29))) := hb1.alloc hb1.size _
  have hlo : W2.heap.size ≤ y1.heap.size := hb1.size
  clear hv hs1 hb1 hm1 c0 c1 c2 c3 c4
  go_wp2_with fail
  obtain ⟨w1, hw1⟩ : ∃ w1, y1.alloc (.cells #[.slice b X.length cb, .slice b' Y.length cb', .int .i64 ep, .int .i64 (M : Int), .slice va un vc] 29) = w1 := ⟨_, rfl⟩
  rw [hw1] at HBx HSx HWx ⊢
  clear hw1
  generalize y1.heap.size = bo at *
  go_loopw [12] (fun i wr => ∃ (k : Nat) (A A' : Option Addr) (C C' : Nat) (J : Int), k ≤ m ∧ i = .int .i64 (k : Int) ∧ Hid (J = ((M + k : Nat) : Int)) ∧ Hid (BoxN wr bo 29 [.slice A X.length C, .slice A' Y.length C', .int .i64 ep, .int .i64 J, .slice va un vc]) ∧ Hid (StoAt wr W2.heap.size A X.length C (wroteX X ep M ((rs.map RE.r).take k)) A' Y.length C' Y va un vc l') ∧ Hid (Below W2.heap.size W2 wr)) (fun i _ => m - (intOf i).toNat)
  case atStart => exact ⟨0, b, b', cb, cb', (M : Int), Nat.zero_le _, rfl, rfl, HBx, HSx, HWx⟩
  case round =>
    clear HBx HSx HWx
    obtain ⟨k, A, A', C, C', J, hkm, rfl, HJ, HBx, HSx, HWx⟩ := hrel
    have hbo : bo < wr.heap.size := HBx.out.lt
    by_cases hlt : k < m
    case neg =>
      obtain rfl : k = m := by omega
      have HSo2 : Hid (SOk (wroteX X ep M (rs.map RE.r)) Y ep J us') := by
        show SOk _ _ _ _ _
        rw [HJ.out]
        have h := wrote_ok HSo.out HK.out (by rw [List.length_map, HL.out.2.2.2.2]; exact hl) HO.out
        rw [HMe.out, List.length_map, HL.out.2.2.2.2] at h
        rw [show ((M + k : Nat) : Int) = (M : Int) + (k : Int) by omega]
        exact h
      have hsx := HSx.out
      rw [List.take_of_length_le (by rw [List.length_map, HL.out.2.2.2.2]; exact Nat.le_refl _)] at hsx
      obtain ⟨X', hX'⟩ : ∃ X', wroteX X ep M (rs.map RE.r) = X' := ⟨_, rfl⟩
      have HXe : Hid (wroteX X ep M (rs.map RE.r) = X') := hX'
      have HXl' : Hid (X'.length = X.length) := by show _ = _; rw [← hX']; exact wroteX_len _ _ _ _
      rw [hX'] at hsx HSo2
      have HSt : Hid (StoAt wr W2.heap.size A X.length C X' A' Y.length C' Y va un vc l') := hsx
      have hz64 : Hid (∀ x ∈ X', x.size ≤ 1048576) := fun x hx => by have := (okD_iff.1 HSo2.out.1).2.2.1 x hx; omega
      clear hX' hsx HSx HSo HK HO
      obtain ⟨o0, o1, o2, o3, o4⟩ := (show _ ∧ _ ∧ _ ∧ _ ∧ _ from ⟨HBx.out.cell 0 rfl, HBx.out.cell 1 rfl, HBx.out.cell 2 rfl, HBx.out.cell 3 rfl, HBx.out.cell 4 rfl⟩)
      go_wp2_with fail
      refine (implScan_any A X.length C X' A' Y.length C' wr HSt.out.now.strs (by omega) hz64.out (HX.out _ HWx.out).2.2.2.2.1).mono ?_
      rintro _ y2 ⟨⟨v2, rs2, rfl, hrow2, hlm2⟩, hb2⟩
      obtain ⟨ra2, rc2, rfl⟩ := hrow2.shape
      obtain ⟨M2, hM2⟩ : ∃ M2, rs2.length = M2 := ⟨_, rfl⟩
      rw [hM2] at hrow2 ⊢
      have HR2 : Hid (RcRow y2 wr.heap.size (.slice ra2 M2 rc2) rs2 ∧ M2 = rs2.length ∧ rs2.map RE.r = scanR X') := ⟨hrow2, hM2.symm, hlm2⟩
      have HSh : Hid (∀ e ∈ rs2, e.n ≤ 24) := rows_short hrow2 hlm2 (scanFrom_ok X' 0 0).2
      have hM2n : M2 ≤ 1048576 := by
        have h1 := (scanFrom_ok X' 0 0).1
        have h3 := congrArg List.length hlm2
        rw [List.length_map, hM2] at h3
        have h4 : (scanR X').length = (scanFrom 0 0 X').length := rfl
        have h5 := HXl'.out
        omega
      have HB3 : Hid (Below wr.heap.size wr y2) := hb2
      have HW3 : Hid (Below W2.heap.size W2 y2) := HWx.out.trans (hb2.mono HWx.out.size)
      clear hrow2 hlm2 hM2 hb2 o0 o1 o2 o3 o4
      go_wp2_with fail
      refine (implFold_any ra2 M2 rc2 wr.heap.size rs2 24 y2 HR2.out.1 HR2.out.2.1 (by omega) HSh.out (by omega) (by omega) (rows_ns HR2.out.2.2) (HX.out _ HW3.out).2.2.2.2.2).mono ?_
      rintro _ y3 ⟨⟨x3, l3, rfl, hrow3, hm3, h310⟩, hb3⟩
      rw [HR2.out.2.2, foldP_ok, HSo2.out.2.2.1] at hm3 ⊢
      obtain ⟨xa, xc, rfl⟩ := hrow3.shape
      have hb3' : Below wr.heap.size wr y3 := HB3.out.trans (hb3.mono HB3.out.size)
      have hB3 := HBx.out.stays hb3'
      have hS3 := (HSt.out.stays hb3').withUps (hrow3.low (Nat.le_trans HWx.out.size HB3.out.size)) rfl
      have HW4 : Hid (Below W2.heap.size W2 y3) := HW3.out.trans (hb3.mono HW3.out.size)
      obtain ⟨o0, o1, o2, o3, o4⟩ := (show _ ∧ _ ∧ _ ∧ _ ∧ _ from ⟨hB3.cell 0 rfl, hB3.cell 1 rfl, hB3.cell 2 rfl, hB3.cell 3 rfl, hB3.cell 4 rfl⟩)
      have z4 := hB3.frozen 4
      dsimp only [Option.isSome, Option.getD] at hm3 ⊢
      obtain ⟨x5, hx5⟩ : ∃ x5, y3.setCell ⟨bo, 4, none⟩ (.slice xa l3.length xc) = x5 := ⟨_, rfl⟩
      have HE5 : Hid (y3.setCell ⟨bo, 4, none⟩ (.slice xa l3.length xc) = x5) := hx5
      have HB5 : Hid (BoxN x5 bo 29 [.slice A X.length C, .slice A' Y.length C', .int .i64 ep, .int .i64 J, .slice xa l3.length xc]) := by show BoxN _ _ _ _; rw [← hx5]; exact hB3.set 4 _
      have HS5 : Hid (StoAt x5 W2.heap.size A X.length C X' A' Y.length C' Y xa l3.length xc l3) := by show StoAt _ _ _ _ _ _ _ _ _ _ _ _ _ _; rw [← hx5]; exact hS3.setBox hB3 _
      have HW5 : Hid (Below W2.heap.size W2 x5) := by show Below _ _ _; rw [← hx5]; exact HW4.out.setCell hlo _
      have HM3 : Hid (l3.map UE.u = us') := hm3
      clear hx5 hm3 hb3 hb3' hB3 hS3 hrow3 h310 HR2 HSh HB3 HW3 HW4 HSt HBx HWx
      go_upto_region 10 with fail
      rw [HE5.out]
      clear HE5 o0 o1 o2 o3 o4 z4
      have HBw : Hid (Below w.heap.size w x5) := HB2.out.trans (HW5.out.mono HB2.out.size)
      have hqr := (HQ.out _ HW5.out).2
      obtain ⟨o0, o1, o2, o3, o4⟩ := (show _ ∧ _ ∧ _ ∧ _ ∧ _ from ⟨HB5.out.cell 0 rfl, HB5.out.cell 1 rfl, HB5.out.cell 2 rfl, HB5.out.cell 3 rfl, HB5.out.cell 4 rfl⟩)
      obtain ⟨r0, r1, r2, r3, r4⟩ := (show _ ∧ _ ∧ _ ∧ _ ∧ _ from ⟨hqr.cell 0 rfl, hqr.cell 1 rfl, hqr.cell 2 rfl, hqr.cell 3 rfl, hqr.cell 4 rfl⟩)
      obtain ⟨f0, f1, f2, f3, f4⟩ := (show _ ∧ _ ∧ _ ∧ _ ∧ _ from ⟨hqr.frozen 0, hqr.frozen 1, hqr.frozen 2, hqr.frozen 3, hqr.frozen 4⟩)
      clear hqr HQ HX HW5 HB5
      go_wp2_with fail
      refine bodyPost_ret (v := .agg #[.slice A X.length C, .slice A' Y.length C', .int .i64 ep, .int .i64 J, .slice xa l3.length xc]) (by simp [results, Tryz.f21, go_sem, r0, r1, r2, r3, r4]) rfl ?_
      refine ⟨⟨_, rfl, A, X.length, C, A', Y.length, C', xa, l3.length, xc, l3, ?_, ?_, HM3.out⟩, ?_⟩
      · rw [HJ.out, show ((M + k : Nat) : Int) = (M : Int) + (k : Int) by omega]
      · rw [HMe.out, HXe.out]
        exact (((((HS5.out.setLow (by omega) _).setLow (by omega) _).setLow (by omega) _).setLow (by omega) _).setLow (by omega) _).low (by omega)
      · exact ((((HBw.out.setCell (by dsimp only; omega) _).setCell (by dsimp only; omega) _).setCell (by dsimp only; omega) _).setCell (by dsimp only; omega) _).setCell (by dsimp only; omega) _
    have hkl : k < rs.length := by rw [HL.out.2.2.2.2]; exact hlt
    have hki : (k : Int) < (m : Int) := by omega
    have hk0 : (0 : Int) ≤ (k : Int) := by omega
    obtain ⟨rb, ro, rfl, g0, g1, g2, g3, g4, g5⟩ := (HX.out _ HWx.out).2.2.2.1.at hkl
    have HSg : Hid (Seg wr (rs[k]).a (rs[k]).n (rs[k]).r.zs) := (HX.out _ HWx.out).2.2.2.1.2.1 _ (List.getElem_mem hkl)
    have hkr := HK.out (rs[k]).r (List.mem_map_of_mem (List.getElem_mem hkl))
    have hrk : (rs.map RE.r)[k]? = some (rs[k]).r := by rw [List.getElem?_map, List.getElem?_eq_getElem hkl]; rfl
    obtain ⟨u1, hu1⟩ := foldlM_takeW HO.out k
    have hsk : SOk (wroteX X ep M ((rs.map RE.r).take k)) Y ep ((M : Int) + (k : Int)) u1 := by
      have h := wrote_ok (rs := (rs.map RE.r).take k) HSo.out (fun r hr => HK.out r (List.mem_of_mem_take hr)) (by rw [List.length_take, List.length_map]; omega) hu1
      have e1 : ((rs.map RE.r).take k).length = k := by rw [List.length_take, List.length_map]; omega
      rw [HMe.out, e1] at h
      exact h
    have hst := wroteX_step (X := X) (ep := ep) (nx := M) hrk
    generalize rs[k] = x at *
    obtain ⟨Xk, hXk⟩ : ∃ Xk, wroteX X ep M ((rs.map RE.r).take k) = Xk := ⟨_, rfl⟩
    rw [hXk] at HSx hst hsk
    have HXkl : Hid (Xk.length = X.length) := by show _ = _; rw [← hXk]; exact wroteX_len _ _ _ _
    have hok : okRec ep J x.r.k x.r.id x.r.n x.r.zs.length = true := by
      rw [okRec, hkr.1, hkr.2.1, decide_eq_true hen, decide_eq_true (show (0 : Int) ≤ J ∧ J ≤ 199 by have := HJ.out; omega)]
      rfl
    obtain ⟨tx, htx⟩ : ∃ tx, putT ep J x.r.k x.r.id x.r.n x.r.zs = tx := ⟨_, rfl⟩
    have hok' : (x.r.at ep (M + k)).ok = true := by have h := hok; rw [HJ.out] at h; exact h
    have htp : txU (x.r.at ep (M + k)).put = tx := by rw [← htx, HJ.out, ← putT_ok hok']; rfl
    rw [htp] at hst
    have htz : tx.size ≤ 48 := by rw [← htp]; exact put_size hok'
    have HPx : Hid (putX Xk Y J tx = Xk.set (M + k) tx) := by
      show _ = _
      rw [putX, if_pos (by rw [mayPut, hsk.1, decide_eq_true (show (0 : Int) ≤ J ∧ J ≤ (Xk.length : Int) - 1 by have := HXkl.out; have := HJ.out; omega), decide_eq_true (show tx.size ≤ 64 by omega)]; rfl)]
      rw [HJ.out]
      rfl
    have HMay : Hid (mayPut Xk Y J tx = true) := by
      show _ = _
      rw [mayPut, hsk.1, decide_eq_true (show (0 : Int) ≤ J ∧ J ≤ (Xk.length : Int) - 1 by have := HXkl.out; have := HJ.out; omega), decide_eq_true (show tx.size ≤ 64 by omega)]
      rfl
    have HSt' : Hid (wroteX X ep M ((rs.map RE.r).take (k + 1)) = Xk.set (M + k) tx) := hst
    have hid8 : x.r.id.size ≤ 8 := by have := okRec_iff hok; omega
    have hn24 : x.n ≤ 24 := by have h1 := okRec_iff hok; have h2 := HSg.out.1; omega
    obtain ⟨x1, hx1⟩ : ∃ x1, wr.alloc (.cells #[.int .i64 x.r.e, .int .i64 x.r.q, .int .i64 x.r.k, .string x.r.id, .int .i64 x.r.n, .slice x.a x.n x.c] 54) = x1 := ⟨_, rfl⟩
    have HE1 : Hid (wr.alloc (.cells #[.int .i64 x.r.e, .int .i64 x.r.q, .int .i64 x.r.k, .string x.r.id, .int .i64 x.r.n, .slice x.a x.n x.c] 54) = x1) := hx1
    have hb1 : Below wr.heap.size wr x1 := by rw [← hx1]; exact (Below.refl _ _).alloc (Nat.le_refl _) _
    have hR1 : BoxN x1 wr.heap.size 54 [.int .i64 x.r.e, .int .i64 x.r.q, .int .i64 x.r.k, .string x.r.id, .int .i64 x.r.n, .slice x.a x.n x.c] := by rw [← hx1]; exact BoxN.new _ _ _
    have hB1 := HBx.out.stays hb1
    have hS1 := HSx.out.stays hb1
    have hne : bo ≠ wr.heap.size := by omega
    have hQ1 := (HQ.out _ (HWx.out.trans (hb1.mono HWx.out.size))).1
    have s2 := hQ1.cell 2 rfl
    have n3 := hB1.cell 3 rfl
    have r0 := hR1.cell 0 rfl
    have r1 := hR1.cell 1 rfl
    have z0 := hR1.frozen 0
    have z1 := hR1.frozen 1
    obtain ⟨x2, hx2⟩ : ∃ x2, (x1.setCell ⟨wr.heap.size, 0, none⟩ (.int .i64 ep)).setCell ⟨wr.heap.size, 1, none⟩ (.int .i64 J) = x2 := ⟨_, rfl⟩
    have hww : w.heap.size ≠ wr.heap.size := by have := HWx.out.size; omega
    have HE2 : Hid (((x1.setCell ⟨wr.heap.size, 0, none⟩ (.int .i64 ep)).setCell ⟨wr.heap.size, 1, none⟩ (.int .i64 J)).drew = x2.drew) := by show _ = _; rw [← hx2]
    have HR2 : Hid (BoxN x2.drew wr.heap.size 54 [.int .i64 ep, .int .i64 J, .int .i64 x.r.k, .string x.r.id, .int .i64 x.r.n, .slice x.a x.n x.c]) := by show x2.heap[_]? = _; rw [← hx2]; exact (hR1.set 0 _).set 1 _
    have HB2x : Hid (BoxN x2.drew bo 29 [.slice A X.length C, .slice A' Y.length C', .int .i64 ep, .int .i64 J, .slice va un vc]) := by show x2.heap[_]? = _; rw [← hx2]; exact (hB1.other hne _).other hne _
    have HS2 : Hid (StoAt x2.drew W2.heap.size A X.length C Xk A' Y.length C' Y va un vc l') := by
      have h : StoAt x2 W2.heap.size A X.length C Xk A' Y.length C' Y va un vc l' := by
        rw [← hx2]
        exact (hS1.setBox (i := 0) hR1 _).setBox (i := 1) (hR1.set 0 _) _
      exact h.stays (Below.refl _ _).drew
    have HW2 : Hid (Below wr.heap.size wr x2.drew) := by
      have h : Below wr.heap.size wr x2 := by rw [← hx2]; exact (hb1.setCell (Nat.le_refl _) _).setCell (Nat.le_refl _) _
      exact h.drew
    clear hx1 hb1 hR1 hB1 hS1 hQ1 hx2 hsk hst hu1 htp hXk hrk hkr
    go_upto_region 5 with fail
    rw [HE1.out]
    clear HE1 g0 g1 g2 g3 g4 g5
    go_cut [38, 39, 40, 41, 42, 43, 44, 45, 46] from 16 (fun u38 u39 u40 u41 u42 u43 u44 u45 u46 W => (u38 = undef ∧ u39 = undef ∧ u40 = undef ∧ u41 = undef ∧ u42 = undef ∧ u43 = undef ∧ u44 = undef ∧ u45 = undef ∧ u46 = undef) ∧ Hid (BoxN W wr.heap.size 54 [.int .i64 ep, .int .i64 J, .int .i64 x.r.k, .string x.r.id, .int .i64 x.r.n, .slice x.a x.n x.c]) ∧ Hid (BoxN W bo 29 [.slice A X.length C, .slice A' Y.length C', .int .i64 ep, .int .i64 J, .slice va un vc]) ∧ Hid (StoAt W W2.heap.size A X.length C Xk A' Y.length C' Y va un vc l') ∧ Hid (Below wr.heap.size wr W))
    case first =>
      go_region_with fail
      all_goals
        go_wp2_with fail
        go_meet
        rw [HE2.out]
        exact ⟨⟨rfl, rfl, rfl, rfl, rfl, rfl, rfl, rfl, rfl⟩, HR2, HB2x, HS2, HW2⟩
    case rest =>
    obtain ⟨x3, hx3⟩ : ∃ x3, wc = x3 := ⟨_, rfl⟩
    rw [hx3] at hcut ⊢
    obtain ⟨⟨rfl, rfl, rfl, rfl, rfl, rfl, rfl, rfl, rfl⟩, HR3, HB3, HS3, HW3⟩ := hcut
    clear hx3 HE2 HR2 HB2x HS2 HW2 s2 n3 r0 r1 z0 z1
    have HBd : Hid (Below x3.heap.size x3 x3.drew) := (Below.refl _ _).drew
    have hw3s : wr.heap.size ≤ x3.heap.size := HW3.out.size
    have HWW : Hid (Below W2.heap.size W2 x3) := HWx.out.trans (HW3.out.mono HWx.out.size)
    have hw2s : W2.heap.size ≤ x3.heap.size := HWW.out.size
    have HPr : Hid (Calls Tryz.prog 42 #[.agg #[.int .i64 ep, .int .i64 J, .int .i64 x.r.k, .string x.r.id, .int .i64 x.r.n, .slice x.a x.n x.c]] x3.drew fun e w' => e = .returned (.string tx) ∧ Below x3.heap.size x3 w') := by
      have hT : RecT x3.drew := (HX.out _ (HWW.out.trans (HBd.out.mono hw2s))).2.2.2.2.1
      refine (implPutR_any ep J x.r.k x.r.id x.r.n x.a x.n x.c x.r.zs x3.drew ((HSg.out.below HW3.out).below HBd.out) (by unfold maxLen; omega) (by omega) hT).mono ?_
      rintro _ y ⟨rfl, hb⟩
      exact ⟨by rw [htx], HBd.out.trans (hb.mono (Nat.le_refl _))⟩
    have HPs : Hid (∀ W, Below x3.heap.size x3 W → Calls Tryz.prog 41 #[.agg #[.slice A X.length C, .slice A' Y.length C'], .int .i64 J, .string tx] W fun e w' => ∃ A1 C1 A2 C2, e = .returned (.tuple #[.agg #[.slice A1 X.length C1, .slice A2 Y.length C2], .bool true]) ∧ OwnSt w' W.heap.size (.slice A1 X.length C1) X.length (Xk.set (M + k) tx) ∧ OwnSt w' W.heap.size (.slice A2 Y.length C2) Y.length Y ∧ (∀ q, A1.map (·.block) = some q → A2.map (·.block) ≠ some q) ∧ Below W.heap.size W w') := fun W hb => by
      have hs := HS3.out.stays hb
      refine (implPutD_any A X.length C Xk A' Y.length C' Y J tx W hs.now.strs hs.sure.strs (by omega) (by omega) (by unfold maxLen; omega)).mono ?_
      rintro _ z ⟨⟨v, rfl, A1, C1, A2, C2, rfl, ow, ow', hap⟩, hbz⟩
      have hmay : mayPut Xk Y J tx = true := HMay.out
      rw [HPx.out, List.length_set, HXkl.out] at ow
      refine ⟨A1, C1, A2, C2, ?_, ow, ow', hap, hbz⟩
      rw [hmay, HPx.out, List.length_set, HXkl.out]
    clear htx
    obtain ⟨p0, p1, p2, p3, p4, p5⟩ := (show _ ∧ _ ∧ _ ∧ _ ∧ _ ∧ _ from ⟨HR3.out.cell 0 rfl, HR3.out.cell 1 rfl, HR3.out.cell 2 rfl, HR3.out.cell 3 rfl, HR3.out.cell 4 rfl, HR3.out.cell 5 rfl⟩)
    have o0 := HB3.out.cell 0 rfl
    have o1 := HB3.out.cell 1 rfl
    go_upto_region 6 with fail
    go_cut [38, 39, 40, 41, 42, 43, 44, 45, 46] from 16 (fun u38 u39 u40 u41 u42 u43 u44 u45 u46 W => (u38 = undef ∧ u39 = undef ∧ u40 = undef ∧ u41 = undef ∧ u42 = undef ∧ u43 = undef ∧ u44 = undef ∧ u45 = undef ∧ u46 = undef) ∧ ∃ (A1 A2 : Option Addr) (C1 C2 : Nat), Hid (BoxN W bo 29 [.slice A1 X.length C1, .slice A2 Y.length C2, .int .i64 ep, .int .i64 J, .slice va un vc]) ∧ Hid (StoAt W W2.heap.size A1 X.length C1 (Xk.set (M + k) tx) A2 Y.length C2 Y va un vc l') ∧ Hid (Below W2.heap.size W2 W))
    case first =>
      go_region_with (first
        | (go_at_call 42; refine HPr.out.mono ?_; rintro _ y ⟨rfl, hby⟩
           obtain ⟨y0, y1⟩ := (show _ ∧ _ from ⟨(HB3.out.stays hby).cell 0 rfl, (HB3.out.stays hby).cell 1 rfl⟩)
           have y2 := (HR3.out.stays hby).cell 1 rfl)
        | (go_at_call 41; refine (HPs.out y hby).mono ?_; rintro _ z ⟨A1, C1, A2, C2, rfl, ow, ow', hap, hbz⟩
           have hbz' : Below x3.heap.size x3 z := hby.trans (hbz.mono hby.size)
           have hBz := HB3.out.stays hbz'
           obtain ⟨t0, t1⟩ := (show _ ∧ _ from ⟨hBz.cell 0 rfl, hBz.cell 1 rfl⟩)
           obtain ⟨f0, f1⟩ := (show _ ∧ _ from ⟨hBz.frozen 0, hBz.frozen 1⟩))
        | fail)
      all_goals
        have HF1 : Hid (BoxN ((z.setCell ⟨bo, 0, none⟩ (.slice A1 X.length C1)).setCell ⟨bo, 1, none⟩ (.slice A2 Y.length C2)) bo 29 [.slice A1 X.length C1, .slice A2 Y.length C2, .int .i64 ep, .int .i64 J, .slice va un vc]) := (hBz.set 0 _).set 1 _
        have HF2 : Hid (StoAt ((z.setCell ⟨bo, 0, none⟩ (.slice A1 X.length C1)).setCell ⟨bo, 1, none⟩ (.slice A2 Y.length C2)) W2.heap.size A1 X.length C1 (Xk.set (M + k) tx) A2 Y.length C2 Y va un vc l') := by
          have hs := HS3.out.stays hbz'
          have hyl : W2.heap.size ≤ y.heap.size := Nat.le_trans hw2s hby.size
          have h9 : StoAt z W2.heap.size A1 X.length C1 (Xk.set (M + k) tx) A2 Y.length C2 Y va un vc l' := ⟨ow.low hyl, ow'.low hyl, hap, hs.ups, hs.len⟩
          exact (h9.setBox (i := 0) hBz _).setBox (i := 1) (hBz.set 0 _) _
        have HF3 : Hid (Below W2.heap.size W2 ((z.setCell ⟨bo, 0, none⟩ (.slice A1 X.length C1)).setCell ⟨bo, 1, none⟩ (.slice A2 Y.length C2))) := ((HWW.out.trans (hbz'.mono hw2s)).setCell hlo _).setCell hlo _
        clear ow ow' hap hbz hbz' hBz t0 t1 f0 f1 hby y0 y1 y2
        go_wp2_with fail
        go_meet
        exact ⟨⟨rfl, rfl, rfl, rfl, rfl, rfl, rfl, rfl, rfl⟩, A1, A2, C1, C2, HF1, HF2, HF3⟩
    case rest =>
    obtain ⟨x6, hx6⟩ : ∃ x6, wc = x6 := ⟨_, rfl⟩
    rw [hx6] at hcut ⊢
    obtain ⟨⟨rfl, rfl, rfl, rfl, rfl, rfl, rfl, rfl, rfl⟩, A1, A2, C1, C2, HB6, HS6, HW6⟩ := hcut
    clear hx6 HPr HPs HBd HR3 HB3 HS3 HW3 HWW p0 p1 p2 p3 p4 p5 o0 o1
    have n3 := HB6.out.cell 3 rfl
    have f3 := HB6.out.frozen 3
    have HJ1 : Hid (J + 1 = ((M + (k + 1) : Nat) : Int)) := by show _ = _; have := HJ.out; omega
    have HF1 : Hid (BoxN (x6.setCell ⟨bo, 3, none⟩ (.int .i64 (J + 1))) bo 29 [.slice A1 X.length C1, .slice A2 Y.length C2, .int .i64 ep, .int .i64 (J + 1), .slice va un vc]) := HB6.out.set 3 _
    have HF2 : Hid (StoAt (x6.setCell ⟨bo, 3, none⟩ (.int .i64 (J + 1))) W2.heap.size A1 X.length C1 (wroteX X ep M ((rs.map RE.r).take (k + 1))) A2 Y.length C2 Y va un vc l') := by
      show StoAt _ _ _ _ _ _ _ _ _ _ _ _ _ _
      rw [HSt'.out]
      exact HS6.out.setBox HB6.out _
    have HF3 : Hid (Below W2.heap.size W2 (x6.setCell ⟨bo, 3, none⟩ (.int .i64 (J + 1)))) := HW6.out.setCell hlo _
    have hb63 : J + 1 < 9223372036854775808 := by have := HJ.out; omega
    have hb64 : -9223372036854775808 ≤ J + 1 := by have := HJ.out; omega
    clear HB6 HS6 HW6
    go_wp2_with fail
    go_roundw
    case rel => exact ⟨k + 1, A1, A2, C1, C2, J + 1, by omega, by go_num, HJ1, HF1, HF2, HF3⟩
    case measure => simp [intOf]; omega

end Go.Proofs.YtiigdcpjelbdjaaGreatDoor

namespace Go.Proofs.YtiigdcpjelbdjaaGreatDoor
open Go.RowKit
set_option linter.unusedVariables false

set_option maxRecDepth 10000 in
set_option maxHeartbeats 3200000 in
theorem implMake_any (a : Option Addr) (n ca : Nat) (X : List ByteArray) (a' : Option Addr) (n' ca' : Nat) (Y : List ByteArray) (ep nx : Int) (ua : Option Addr) (un uc lo : Nat) (l : List UE) (id : ByteArray) (want : Int) (w : World) (h1 : Strs w a n X) (h2 : Strs w a' n' Y) (hn : n ≤ 1048576) (hn' : n' ≤ 1048576) (hzx : ∀ x ∈ X, x.size ≤ 1048576) (hu : UpRow w lo (.slice ua un uc) l) (hun : un = l.length) (hul : un ≤ 1048576) (hz : ∀ e ∈ l, e.n ≤ 1099511627776) (hid : id.size ≤ maxLen) (hsl : SlOk a n ca) (ht : RecT w) (he : ErrN w) :
    Calls Tryz.prog 7 #[.agg #[.slice a n ca, .slice a' n' ca', .int .i64 ep, .int .i64 nx, .slice ua un uc], .string id, .int .i64 want] w fun e w' => WAns w.heap.size Y ep (makeA X Y ep nx (l.map UE.u) id want) e w' ∧ Below w.heap.size w w' := by
  have hmm : maxLen < 9223372036854775808 := by decide
  obtain ⟨W2, hW2⟩ : ∃ W2, (w.alloc (.cells #[.slice a n ca, .slice a' n' ca', .int .i64 ep, .int .i64 nx, .slice ua un uc] 29)).alloc (.cells #[.slice none 0 0, .slice none 0 0, .int .i64 0, .int .i64 0, .slice none 0 0] 29) = W2 := ⟨_, rfl⟩
  have HE : Hid ((w.alloc (.cells #[.slice a n ca, .slice a' n' ca', .int .i64 ep, .int .i64 nx, .slice ua un uc] 29)).alloc (.cells #[.slice none 0 0, .slice none 0 0, .int .i64 0, .int .i64 0, .slice none 0 0] 29) = W2) := hW2
  have HB2 : Hid (Below w.heap.size w W2) := by show Below _ _ _; rw [← hW2]; exact ((Below.refl _ _).alloc (Nat.le_refl _) _).alloc (by simp) _
  have q1 : BoxN W2 w.heap.size 29 [.slice a n ca, .slice a' n' ca', .int .i64 ep, .int .i64 nx, .slice ua un uc] := by rw [← hW2]; exact (BoxN.new _ _ _).alloc _
  have q2 : BoxN W2 (w.heap.size + 1) 29 [.slice none 0 0, .slice none 0 0, .int .i64 0, .int .i64 0, .slice none 0 0] := by
    rw [← hW2]
    have := BoxN.new (w.alloc (.cells #[.slice a n ca, .slice a' n' ca', .int .i64 ep, .int .i64 nx, .slice ua un uc] 29)) 29 [.slice none 0 0, .slice none 0 0, .int .i64 0, .int .i64 0, .slice none 0 0]
    rwa [World.size_alloc] at this
  have HQ : Hid (∀ W, Below W2.heap.size W2 W → BoxN W w.heap.size 29 [.slice a n ca, .slice a' n' ca', .int .i64 ep, .int .i64 nx, .slice ua un uc] ∧ BoxN W (w.heap.size + 1) 29 [.slice none 0 0, .slice none 0 0, .int .i64 0, .int .i64 0, .slice none 0 0]) := fun W h => ⟨q1.stays h, q2.stays h⟩
  have HX : Hid (∀ W, Below W2.heap.size W2 W → Strs W a n X ∧ Strs W a' n' Y ∧ UpRow W lo (.slice ua un uc) l ∧ RecT W ∧ ErrN W) := fun W h => by
    have hw := HB2.out.trans (h.mono HB2.out.size)
    exact ⟨h1.below hw, h2.below hw, hu.stays hw, ht.below hw, he.below hw⟩
  have HL : Hid (un = l.length ∧ (∀ e ∈ l, e.n ≤ 1099511627776) ∧ (∀ x ∈ X, x.size ≤ 1048576) ∧ X.length = n) := ⟨hun, hz, hzx, h1.1⟩
  have hs2 : w.heap.size + 1 < W2.heap.size := q2.lt
  clear hW2 q1 q2 h1 h2 hu hun hz hzx ht he
  have HA0 : Hid (Below W2.heap.size W2 W2) := Below.refl _ _
  obtain ⟨c0, c1, c2, c3, c4⟩ := (show _ ∧ _ ∧ _ ∧ _ ∧ _ from ⟨(HQ.out _ HA0.out).1.cell 0 rfl, (HQ.out _ HA0.out).1.cell 1 rfl, (HQ.out _ HA0.out).1.cell 2 rfl, (HQ.out _ HA0.out).1.cell 3 rfl, (HQ.out _ HA0.out).1.cell 4 rfl⟩)
  go_enter Tryz.func7, Tryz.ntmps7
  go_upto_region 1 with fail
  rw [HE.out]
  clear HE
  go_wp2_with fail
  refine (implMakeC_any a n ca X a' n' ca' Y ep nx ua un uc lo l id want W2 (HX.out _ HA0.out).1 (HX.out _ HA0.out).2.1 hn hn' HL.out.2.2.1 (HX.out _ HA0.out).2.2.1 HL.out.1 hul hid hsl (HX.out _ HA0.out).2.2.2.1 (HX.out _ HA0.out).2.2.2.2).mono ?_
  rintro _ y1 ⟨rfl, hb1⟩
  have HC1 : Hid (Below W2.heap.size W2 y1) := hb1
  clear hb1 c0 c1 c2 c3 c4
  obtain ⟨cc, hcc⟩ : ∃ cc, (makeA X Y ep nx (l.map UE.u) id want).c = cc := ⟨_, rfl⟩
  rw [hcc]
  obtain ⟨c0, c1, c2, c3, c4⟩ := (show _ ∧ _ ∧ _ ∧ _ ∧ _ from ⟨(HQ.out _ HC1.out).1.cell 0 rfl, (HQ.out _ HC1.out).1.cell 1 rfl, (HQ.out _ HC1.out).1.cell 2 rfl, (HQ.out _ HC1.out).1.cell 3 rfl, (HQ.out _ HC1.out).1.cell 4 rfl⟩)
  by_cases h0 : cc = 0
  case neg =>
    have HRs : Hid (makeA X Y ep nx (l.map UE.u) id want = ⟨X, nx, l.map UE.u, cc⟩) := by
      show _ = _
      have h9 : (makeA X Y ep nx (l.map UE.u) id want).c ≠ 0 := by rw [hcc]; exact h0
      rw [← hcc]
      exact makeA_no h9
    have hd0 : (cc != 0) = true := by simpa using h0
    clear hcc h0
    go_wp2_with fail
    refine (implScopy_any a n ca X a' n' ca' Y ep nx ua un uc lo l y1 (HX.out _ HC1.out).1 (HX.out _ HC1.out).2.1 hn hn' (HX.out _ HC1.out).2.2.1 HL.out.1 hul HL.out.2.1).mono ?_
    rintro _ y2 ⟨⟨v, rfl, hv⟩, hb2⟩
    obtain ⟨b, cb, b', cb', va, vc, l', rfl, hs2', hm2⟩ := hv.get
    have HC2 : Hid (Below W2.heap.size W2 y2) := HC1.out.trans (hb2.mono HC1.out.size)
    have HSt : Hid (StoAt y2 W2.heap.size b X.length cb X b' Y.length cb' Y va (l.map UE.u).length vc l' ∧ l'.map UE.u = l.map UE.u) := ⟨hs2'.low HC1.out.size, hm2⟩
    have HBw : Hid (Below w.heap.size w y2) := HB2.out.trans (HC2.out.mono HB2.out.size)
    obtain ⟨K, hK⟩ : ∃ K, (l.map UE.u).length = K := ⟨_, rfl⟩
    rw [hK] at HSt ⊢
    obtain ⟨r0, r1, r2, r3, r4⟩ := (show _ ∧ _ ∧ _ ∧ _ ∧ _ from ⟨(HQ.out _ HC2.out).2.cell 0 rfl, (HQ.out _ HC2.out).2.cell 1 rfl, (HQ.out _ HC2.out).2.cell 2 rfl, (HQ.out _ HC2.out).2.cell 3 rfl, (HQ.out _ HC2.out).2.cell 4 rfl⟩)
    obtain ⟨f0, f1, f2, f3, f4⟩ := (show _ ∧ _ ∧ _ ∧ _ ∧ _ from ⟨(HQ.out _ HC2.out).2.frozen 0, (HQ.out _ HC2.out).2.frozen 1, (HQ.out _ HC2.out).2.frozen 2, (HQ.out _ HC2.out).2.frozen 3, (HQ.out _ HC2.out).2.frozen 4⟩)
    clear hv hs2' hm2 hb2 HQ HX HC1 HC2 hK c0 c1 c2 c3 c4
    go_wp2_with fail
    refine bodyPost_ret (v := .tuple #[.agg #[.slice b X.length cb, .slice b' Y.length cb', .int .i64 ep, .int .i64 nx, .slice va K vc], .int .i64 cc]) (by simp [results, Tryz.f7, go_sem, r0, r1, r2, r3, r4]) rfl ?_
    refine ⟨?_, ?_⟩
    · rw [WAns, HRs.out]
      exact ⟨_, rfl, b, X.length, cb, b', Y.length, cb', va, K, vc, l', rfl, (((((HSt.out.1.setLow (by omega) _).setLow (by omega) _).setLow (by omega) _).setLow (by omega) _).setLow (by omega) _).low (by omega), HSt.out.2⟩
    · exact ((((HBw.out.setCell (by dsimp only; omega) _).setCell (by dsimp only; omega) _).setCell (by dsimp only; omega) _).setCell (by dsimp only; omega) _).setCell (by dsimp only; omega) _
  subst h0
  obtain ⟨hso, hkk, hroom, us', hfo, hmod⟩ := makeA_yes hcc
  have HRs : Hid (makeA X Y ep nx (l.map UE.u) id want = ⟨wroteX X ep nx.toNat [makeR id want], nx + 1, us', 0⟩) := hmod
  have HSo : Hid (SOk X Y ep nx (l.map UE.u)) := hso
  have HKk : Hid (idB id.data.toList = true ∧ kindB 1 want 0 = true ∧ [makeR id want].foldlM oneU (l.map UE.u) = some us' ∧ nx + 1 ≤ (X.length : Int)) := ⟨hkk.1, hkk.2, hfo, hroom⟩
  clear hcc hso hkk hroom hfo hmod
  obtain ⟨y2, hy2⟩ : ∃ y2, y1.alloc (.cells #[.int .i64 0, .int .i64 0, .int .i64 1, .string id, .int .i64 want, .slice none 0 0] 54) = y2 := ⟨_, rfl⟩
  have HE2 : Hid (y1.alloc (.cells #[.int .i64 0, .int .i64 0, .int .i64 1, .string id, .int .i64 want, .slice none 0 0] 54) = y2) := hy2
  have hb2 : Below y1.heap.size y1 y2 := by rw [← hy2]; exact (Below.refl _ _).alloc (Nat.le_refl _) _
  have hbx : BoxN y2 y1.heap.size 54 [.int .i64 0, .int .i64 0, .int .i64 1, .string id, .int .i64 want, .slice none 0 0] := by rw [← hy2]; exact BoxN.new _ _ _
  have HC2 : Hid (Below W2.heap.size W2 y2) := HC1.out.trans (hb2.mono HC1.out.size)
  have HRow : Hid (RcsI y2 (some ⟨y1.heap.size, 0, none⟩) 1 [⟨makeR id want, none, 0, 0⟩]) := by
    refine ⟨rfl, fun e he => ?_, .inr ⟨y1.heap.size, 0, rfl, hbx.lt, fun i hi => ?_⟩⟩
    · obtain rfl : e = ⟨makeR id want, none, 0, 0⟩ := by simpa using he
      exact ⟨rfl, by simp [makeR], .inl rfl⟩
    · obtain rfl : i = 0 := by simpa using hi
      exact ⟨hbx.cell 0 rfl, hbx.cell 1 rfl, hbx.cell 2 rfl, hbx.cell 3 rfl, hbx.cell 4 rfl, hbx.cell 5 rfl⟩
  have HKs : Hid (∀ r ∈ ([⟨makeR id want, none, 0, 0⟩] : List RE).map RE.r, idB r.id.data.toList = true ∧ kindB r.k r.n r.zs.length = true ∧ ∀ x ∈ r.zs, 0 ≤ x ∧ x ≤ 255) := fun r hr => by
    obtain rfl : r = makeR id want := by simpa using hr
    exact ⟨HKk.out.1, HKk.out.2.1, by simp [makeR]⟩
  have HWr : Hid (Calls Tryz.prog 21 #[.agg #[.slice a n ca, .slice a' n' ca', .int .i64 ep, .int .i64 nx, .slice ua un uc], .slice (some ⟨y1.heap.size, 0, none⟩) 1 1] y2 fun e w' => (∃ v, e = .returned v ∧ AnsS y2.heap.size (wroteX X ep nx.toNat [makeR id want]) Y ep (nx + 1) us' v w') ∧ Below y2.heap.size y2 w') :=
    implWritten_any a n ca X a' n' ca' Y ep nx ua un uc lo l (some ⟨y1.heap.size, 0, none⟩) 1 1 [⟨makeR id want, none, 0, 0⟩] us' y2 (HX.out _ HC2.out).1 (HX.out _ HC2.out).2.1 hn hn' HL.out.2.2.1 (HX.out _ HC2.out).2.2.1 HL.out.1 hul HL.out.2.1 (HX.out _ HC2.out).2.2.2.1 (HX.out _ HC2.out).2.2.2.2 HRow.out HSo.out HKs.out HKk.out.2.2.2 HKk.out.2.2.1
  clear hy2 hb2 hbx
  go_wp2_with fail
  rw [HE2.out]
  refine HWr.out.mono ?_
  rintro _ y3 ⟨⟨v, rfl, hv⟩, hb3⟩
  obtain ⟨b, cb, b', cb', va, vc, l', rfl, hs3, hm3⟩ := hv.get
  have HC3 : Hid (Below W2.heap.size W2 y3) := HC2.out.trans (hb3.mono HC2.out.size)
  obtain ⟨NN, hNN⟩ : ∃ NN, (wroteX X ep nx.toNat [makeR id want]).length = NN := ⟨_, rfl⟩
  obtain ⟨K, hK⟩ : ∃ K, us'.length = K := ⟨_, rfl⟩
  rw [hNN, hK] at hs3
  rw [hNN, hK]
  have HSt : Hid (StoAt y3 W2.heap.size b NN cb (wroteX X ep nx.toNat [makeR id want]) b' Y.length cb' Y va K vc l' ∧ l'.map UE.u = us') := ⟨hs3.low HC2.out.size, hm3⟩
  have HBw : Hid (Below w.heap.size w y3) := HB2.out.trans (HC3.out.mono HB2.out.size)
  obtain ⟨r0, r1, r2, r3, r4⟩ := (show _ ∧ _ ∧ _ ∧ _ ∧ _ from ⟨(HQ.out _ HC3.out).2.cell 0 rfl, (HQ.out _ HC3.out).2.cell 1 rfl, (HQ.out _ HC3.out).2.cell 2 rfl, (HQ.out _ HC3.out).2.cell 3 rfl, (HQ.out _ HC3.out).2.cell 4 rfl⟩)
  obtain ⟨f0, f1, f2, f3, f4⟩ := (show _ ∧ _ ∧ _ ∧ _ ∧ _ from ⟨(HQ.out _ HC3.out).2.frozen 0, (HQ.out _ HC3.out).2.frozen 1, (HQ.out _ HC3.out).2.frozen 2, (HQ.out _ HC3.out).2.frozen 3, (HQ.out _ HC3.out).2.frozen 4⟩)
  clear hv hs3 hm3 hb3 HQ HX HC1 HC2 HC3 hK hNN HWr HRow HE2 c0 c1 c2 c3 c4
  go_wp2_with fail
  refine bodyPost_ret (v := .tuple #[.agg #[.slice b NN cb, .slice b' Y.length cb', .int .i64 ep, .int .i64 (nx + 1), .slice va K vc], .int .i64 0]) (by simp [results, Tryz.f7, go_sem, r0, r1, r2, r3, r4]) rfl ?_
  refine ⟨?_, ?_⟩
  · rw [WAns, HRs.out]
    exact ⟨_, rfl, b, NN, cb, b', Y.length, cb', va, K, vc, l', rfl, (((((HSt.out.1.setLow (by omega) _).setLow (by omega) _).setLow (by omega) _).setLow (by omega) _).setLow (by omega) _).low (by omega), HSt.out.2⟩
  · exact ((((HBw.out.setCell (by dsimp only; omega) _).setCell (by dsimp only; omega) _).setCell (by dsimp only; omega) _).setCell (by dsimp only; omega) _).setCell (by dsimp only; omega) _

end Go.Proofs.YtiigdcpjelbdjaaGreatDoor

namespace Go.Proofs.YtiigdcpjelbdjaaGreatDoor
open Go.RowKit
set_option linter.unusedVariables false

set_option maxRecDepth 10000 in
set_option maxHeartbeats 3200000 in
theorem implUpFor_any (a : Option Addr) (n ca : Nat) (X : List ByteArray) (a' : Option Addr) (n' ca' : Nat) (Y : List ByteArray) (ep nx : Int) (ua : Option Addr) (un uc lo : Nat) (l : List UE) (id : ByteArray) (w : World) (h1 : Strs w a n X) (h2 : Strs w a' n' Y) (hn : n ≤ 1048576) (hn' : n' ≤ 1048576) (hzx : ∀ x ∈ X, x.size ≤ 1048576) (hu : UpRow w lo (.slice ua un uc) l) (hun : un = l.length) (hul : un ≤ 1048576) (hid : id.size ≤ maxLen) (hsl : SlOk a n ca) (ht : RecT w) (he : ErrN w) :
    Calls Tryz.prog 43 #[.agg #[.slice a n ca, .slice a' n' ca', .int .i64 ep, .int .i64 nx, .slice ua un uc], .string id] w fun e w' => e = .returned (.tuple #[.pointer (forP X Y ep nx (l.map UE.u) id ua), .int .i64 (forC X Y ep nx (l.map UE.u) id)]) ∧ Below w.heap.size w w' := by
  have hmm : maxLen < 9223372036854775808 := by decide
  obtain ⟨w0, hw0⟩ : ∃ w0, w.alloc (.cells #[.slice a n ca, .slice a' n' ca', .int .i64 ep, .int .i64 nx, .slice ua un uc] 29) = w0 := ⟨_, rfl⟩
  have HE : Hid (w.alloc (.cells #[.slice a n ca, .slice a' n' ca', .int .i64 ep, .int .i64 nx, .slice ua un uc] 29) = w0) := hw0
  have hB : Below w.heap.size w w0 := by rw [← hw0]; exact (Below.refl _ _).alloc (Nat.le_refl _) _
  have hQ : BoxN w0 w.heap.size 29 [.slice a n ca, .slice a' n' ca', .int .i64 ep, .int .i64 nx, .slice ua un uc] := by rw [← hw0]; exact BoxN.new _ _ _
  have HX : Hid (∀ W, Below w0.heap.size w0 W → BoxN W w.heap.size 29 [.slice a n ca, .slice a' n' ca', .int .i64 ep, .int .i64 nx, .slice ua un uc] ∧ Strs W a n X ∧ Strs W a' n' Y ∧ UpRow W lo (.slice ua un uc) l ∧ Below w.heap.size w W ∧ RecT W ∧ ErrN W) := fun W hb => by
    have hw : Below w.heap.size w W := hB.trans (hb.mono hB.size)
    exact ⟨hQ.stays hb, h1.below hw, h2.below hw, hu.stays hw, hw, ht.below hw, he.below hw⟩
  have HL : Hid (un = l.length ∧ (∀ x ∈ X, x.size ≤ 1048576) ∧ X.length = n) := ⟨hun, hzx, h1.1⟩
  have HA0 : Hid (Below w0.heap.size w0 w0) := Below.refl _ _
  clear hw0 h1 h2 hu hun hzx ht he hB hQ
  obtain ⟨c0, c1, c2, c3, c4⟩ := (show _ ∧ _ ∧ _ ∧ _ ∧ _ from ⟨(HX.out _ HA0.out).1.cell 0 rfl, (HX.out _ HA0.out).1.cell 1 rfl, (HX.out _ HA0.out).1.cell 2 rfl, (HX.out _ HA0.out).1.cell 3 rfl, (HX.out _ HA0.out).1.cell 4 rfl⟩)
  go_enter Tryz.func43, Tryz.ntmps43
  go_upto_region 1 with fail
  rw [HE.out]
  clear HE
  go_wp2_with fail
  refine (implSok_any a n ca X a' n' ca' Y ep nx ua un uc lo l w0 (HX.out _ HA0.out).2.1 (HX.out _ HA0.out).2.2.1 hn hn' HL.out.2.1 (HX.out _ HA0.out).2.2.2.1 HL.out.1 hul hsl (HX.out _ HA0.out).2.2.2.2.2.1 (HX.out _ HA0.out).2.2.2.2.2.2).mono ?_
  rintro _ y1 ⟨rfl, hb1⟩
  have HC1 : Hid (Below w0.heap.size w0 y1) := hb1
  obtain ⟨ok, hok⟩ : ∃ ok, decB (SOk X Y ep nx (l.map UE.u)) = ok := ⟨_, rfl⟩
  rw [hok]
  clear hb1 c0 c1 c2 c3 c4
  cases ok with
  | false =>
    have hno : ¬ (decB (SOk X Y ep nx (l.map UE.u)) = true ∧ idB id.data.toList = true) := fun h => by rw [hok] at h; simp at h
    clear hok
    have HRs : Hid (forP X Y ep nx (l.map UE.u) id ua = none ∧ forC X Y ep nx (l.map UE.u) id = 1) := for_form hno
    have HBw : Hid (Below w.heap.size w y1) := (HX.out _ HC1.out).2.2.2.2.1
    clear HX HC1
    go_wp2_with fail
    refine bodyPost_ret (v := .tuple #[.pointer (none), .int .i64 1]) (by simp [results, Tryz.f43, go_sem]) rfl ?_
    exact ⟨by rw [HRs.out.1, HRs.out.2], HBw.out⟩
  | true =>
  have HDb : Hid (decB (SOk X Y ep nx (l.map UE.u)) = true) := hok
  clear hok
  go_wp2_with fail
  refine (implId_any id y1 (by omega)).mono ?_
  rintro _ y2 ⟨rfl, hb2⟩
  have HC2 : Hid (Below w0.heap.size w0 y2) := HC1.out.trans (hb2.mono HC1.out.size)
  clear hb2 HC1
  cases hidB : idB id.data.toList with
  | false =>
    have hno : ¬ (decB (SOk X Y ep nx (l.map UE.u)) = true ∧ idB id.data.toList = true) := fun h => by rw [hidB] at h; simp at h
    clear hidB
    have HRs : Hid (forP X Y ep nx (l.map UE.u) id ua = none ∧ forC X Y ep nx (l.map UE.u) id = 1) := for_form hno
    have HBw : Hid (Below w.heap.size w y2) := (HX.out _ HC2.out).2.2.2.2.1
    clear HX HC2
    go_wp2_with fail
    refine bodyPost_ret (v := .tuple #[.pointer (none), .int .i64 1]) (by simp [results, Tryz.f43, go_sem]) rfl ?_
    exact ⟨by rw [HRs.out.1, HRs.out.2], HBw.out⟩
  | true =>
  have HId : Hid (idB id.data.toList = true) := hidB
  clear hidB
  obtain ⟨c0, c1, c2, c3, c4⟩ := (show _ ∧ _ ∧ _ ∧ _ ∧ _ from ⟨(HX.out _ HC2.out).1.cell 0 rfl, (HX.out _ HC2.out).1.cell 1 rfl, (HX.out _ HC2.out).1.cell 2 rfl, (HX.out _ HC2.out).1.cell 3 rfl, (HX.out _ HC2.out).1.cell 4 rfl⟩)
  go_wp2_with fail
  refine (implUpIn_any a n ca a' n' ca' ep nx ua un uc lo l id y2 (HX.out _ HC2.out).2.2.2.1 HL.out.1 (by omega)).mono ?_
  rintro _ y3 ⟨rfl, hb3⟩
  have HC3 : Hid (Below w0.heap.size w0 y3) := HC2.out.trans (hb3.mono HC2.out.size)
  clear hb3 HC2 c0 c1 c2 c3 c4
  cases hat : atU (l.map UE.u) id with
  | none =>
    rw [reachUO_none]
    have HRs : Hid (forP X Y ep nx (l.map UE.u) id ua = none ∧ forC X Y ep nx (l.map UE.u) id = 2) := for_none HDb.out HId.out hat
    have HBw : Hid (Below w.heap.size w y3) := (HX.out _ HC3.out).2.2.2.2.1
    clear HX HC3
    go_wp2_with fail
    refine bodyPost_ret (v := .tuple #[.pointer (none), .int .i64 2]) (by simp [results, Tryz.f43, go_sem]) rfl ?_
    exact ⟨by rw [HRs.out.1, HRs.out.2], HBw.out⟩
  | some k =>
  have hkl : k < l.length := by simpa using (atU_is hat).1
  obtain ⟨g, hg, _⟩ := (HX.out _ HC3.out).2.2.2.1.at HL.out.1 hkl
  have hre : reachUO ua (some k) = some ⟨g, k * 4, none⟩ := by rw [hg]; rfl
  have hfp := for_some (ua := ua) HDb.out HId.out hat
  rw [hre] at hfp ⊢
  clear hg hre
  have HRs : Hid (forP X Y ep nx (l.map UE.u) id ua = some ⟨g, k * 4, none⟩ ∧ forC X Y ep nx (l.map UE.u) id = 0) := hfp
  have HBw : Hid (Below w.heap.size w y3) := (HX.out _ HC3.out).2.2.2.2.1
  clear HX HC3
  go_wp2_with fail
  refine bodyPost_ret (v := .tuple #[.pointer (some ⟨g, k * 4, none⟩), .int .i64 0]) (by simp [results, Tryz.f43, go_sem]) rfl ?_
  exact ⟨by rw [HRs.out.1, HRs.out.2], HBw.out⟩

end Go.Proofs.YtiigdcpjelbdjaaGreatDoor

namespace Go.Proofs.YtiigdcpjelbdjaaGreatDoor
open Go.RowKit
set_option linter.unusedVariables false

theorem fold_fit {rs : List R} : ∀ {us us' : List U}, (∀ u ∈ us, UFit u) → (∀ r ∈ rs, r.ok = true) → rs.foldlM oneU us = some us' → ∀ u ∈ us', UFit u := by
  induction rs with
  | nil =>
    intro us us' h1 _ h
    obtain rfl : us = us' := by simpa using h
    exact h1
  | cons r rs ih =>
    intro us us' h1 hr h
    rw [List.foldlM_cons] at h
    cases ho : oneU us r with
    | none => rw [ho] at h; cases h
    | some u1 =>
      rw [ho] at h
      have hrn := okRec_iff (hr r (List.mem_cons_self ..))
      exact ih (oneU_fit (by omega) ho h1) (fun x hx => hr x (List.mem_cons_of_mem _ hx)) h

theorem SOk.fitsU {X Y : List ByteArray} {ep nx : Int} {us : List U} (h : SOk X Y ep nx us) : ∀ u ∈ us, UFit u :=
  fold_fit (us := []) (by simp) (fun r hr => scan_allok X r hr) h.2.2.1

theorem fit_no {u : U} {off : Int} {d : Nat} (h : fitB u off d = false) (hw : 0 ≤ u.want ∧ u.want ≤ 1000000000) : u.done = true ∨ off ≠ (u.zs.length : Int) ∨ u.want < off + (d : Int) := by
  by_cases h1 : u.done = true
  · exact .inl h1
  by_cases h2 : off = (u.zs.length : Int)
  case neg => exact .inr (.inl h2)
  refine .inr (.inr ?_)
  have h3 : u.done = false := by simpa using h1
  rw [fitB, h3] at h
  simp at h
  omega

theorem fit_yes {u : U} {off : Int} {d : Nat} (h : fitB u off d = true) : ¬ (u.done = true ∨ off ≠ (u.zs.length : Int) ∨ u.want < off + (d : Int)) := by
  rw [fitB] at h
  simp at h
  rintro (h1 | h1 | h1)
  · rw [h1] at h; simp at h
  · exact h1 (by omega)
  · omega

end Go.Proofs.YtiigdcpjelbdjaaGreatDoor

namespace Go.Proofs.YtiigdcpjelbdjaaGreatDoor
open Go.RowKit
set_option linter.unusedVariables false

variable {F : Fence} {n : Nat} {P : Program}

/-- The two blocks of a loop: its record at l; at D the list of calls put off, which is empty. -/
def TwoL (l D : Nat) (r : Loop) (W : World) : Prop := W.heap[l]? = some (.loop r) ∧ W.heap[D]? = some (.deferred (some []))

theorem TwoL.keep {B l D : Nat} {r : Loop} {W V : World} (h : TwoL l D r W) (hl : B ≤ l) (hD : B ≤ D) (k : KeepsFrom B W V) : TwoL l D r V := ⟨k.same _ _ hl h.1 rfl, k.same _ _ hD h.2 rfl⟩

theorem TwoL.turn {l D : Nat} {r : Loop} {W : World} (h : TwoL l D r W) (hne : l ≠ D) (q : Loop) : TwoL l D q (W.putObj l (.loop q)) :=
  ⟨World.putObj_heap_same (Array.getElem?_eq_some_iff.1 h.1).1, (World.putObj_heap_other (by omega)).trans h.2⟩

/-- How a round's body is left: it goes on with G, or it jumps by c with X c. -/
def leaves (B : Nat) (W : World) (G : World → Prop) (X : Code → World → Prop) : Exit → Act → World → Prop
  | .normal, _, V => KeepsFrom B W V ∧ G V
  | .ret, _, V => KeepsFrom B W V ∧ X .ret V
  | .exit i, _, V => KeepsFrom B W V ∧ X (.exit i) V
  | .goto t, _, V => KeepsFrom B W V ∧ X (.goto t) V
  | .panic _, _, _ => False
  | .outgrown, _, _ => False

/-- One round, from its body's walk. -/
theorem round_turn {m l D B : Nat} {r : Loop} {args : Array Value} {W : World} {G : World → Prop} {X : Code → World → Prop} {a1 : Act} (hF : F.fn r.fn) (hst : r.state = .ready) (hpe : r.pending = none) (h : TwoL l D r W) (hne : l ≠ D) (hl : B ≤ l) (hD : B ≤ D) (hs : args.size = r.params.size)
    (hassign : ∀ K : Act → World → Prop, K a1 W → r.assign.wpIn (F.inRound l) m P (Exit.then K (fun _ _ _ => False)) { tmps := (r.params.zip args).foldl (fun t (p, v) => t.setIfInBounds p v) r.tmps, defers := [] } W)
    (hbody : r.body.wpIn (F.inRound l) m P (leaves B (W.putObj l (.loop { r with state := .busy })) G X) a1 (W.putObj l (.loop { r with state := .busy }))) :
    YieldAt F m P l args W fun e W' => (e = .returned (.bool true) ∧ ∃ V, G V ∧ TwoL l D { r with state := .busy } V ∧ W' = V.putObj l (.loop r)) ∨
      (e = .returned (.bool false) ∧ ∃ c V, X c V ∧ TwoL l D { r with state := .busy } V ∧ W' = V.putObj l (.loop { r with state := .done, pending := some c })) := by
  have hb := h.turn hne { r with state := .busy }
  have er : ({ r with state := .ready, pending := none } : Loop) = r := by cases r; simp only at hst hpe; subst hst hpe; rfl
  have out : ∀ (c : Code) (V : World), KeepsFrom B (W.putObj l (.loop { r with state := .busy })) V → X c V → ∃ v W', (Instr.endRound l (some c)).run P V = .ok v W' ∧
      ((Ending.returned v = .returned (.bool true) ∧ ∃ V, G V ∧ TwoL l D { r with state := .busy } V ∧ W' = V.putObj l (.loop r)) ∨
       (Ending.returned v = .returned (.bool false) ∧ ∃ c V, X c V ∧ TwoL l D { r with state := .busy } V ∧ W' = V.putObj l (.loop { r with state := .done, pending := some c }))) := fun c V k x =>
    ⟨_, _, run_endRound (some c) (hb.keep hl hD k).1, .inr ⟨rfl, c, V, x, hb.keep hl hD k, rfl⟩⟩
  refine ⟨r.fn, _, r.assign, r.body, run_yield h.1 hs, roundIn_of_wpIn hF (hassign _ ⟨_, run_beginRound h.1 hst, wpIn_mono hbody ?_⟩)⟩
  intro e a3 V hV
  cases e with
  | normal => exact ⟨_, _, run_endRound none (hb.keep hl hD hV.1).1, .inl ⟨rfl, V, hV.2, hb.keep hl hD hV.1, congrArg (fun q => V.putObj l (.loop q)) er⟩⟩
  | ret => exact out _ V hV.1 hV.2
  | exit i => exact out _ V hV.1 hV.2
  | goto t => exact out _ V hV.1 hV.2
  | panic c => exact hV.elim
  | outgrown => exact hV.elim

/-- What the iterator owes: begun with Ib, handed rounds that may be entered from I0 s and leave I1 s (go on) or Ix c s (stop), it returns; it ended by itself with Ie s, or a round was left. L0, L1: the loop's own blocks, which abide whatever keeps what is no cells. -/
def Iter {σ : Type} (F : Fence) (n : Nat) (P : Program) (B gf : Nat) (lb : Array Value) (enc : σ → Array Value) (I0 I1 : σ → World → Prop) (Ix : Code → σ → World → Prop) (Ie : σ → World → Prop) (Ib : World → Prop) : Prop :=
  ∀ (l : Nat) (L0 : World → Prop) (L1 : Code → World → Prop), (∀ V V', L0 V → KeepsFrom B V V' → L0 V') → (∀ c V V', L1 c V → KeepsFrom B V V' → L1 c V') →
    (∀ s W, I0 s W → L0 W → YieldAt F (n - 1) P l (enc s) W fun e W' => (e = .returned (.bool true) ∧ I1 s W' ∧ L0 W') ∨ (e = .returned (.bool false) ∧ ∃ c, Ix c s W' ∧ L1 c W')) →
    ∀ W, Ib W → L0 W → CallsIn F n P gf (#[.func (.yield l) #[] #[]] ++ lb) W fun e W' => (∃ v, e = .returned v) ∧ ((∃ s, Ie s W' ∧ L0 W') ∨ ∃ c s, Ix c s W' ∧ L1 c W')

theorem loop_turns {σ : Type} {g : Operand} {ps : Array Tmp} {assign body : Code} {Q : Exit → Act → World → Prop} {a : Act} {w : World}
    (hro : F.round = none) (h1 : 1 ≤ n) {gf : Nat} {lb : Array Value} (hg : a.eval g = .func (.func gf) #[] lb) (hFg : F.fn gf) (eg : ∀ args w, (callFunc gf args).run P w = .ok (.enter gf args) w)
    (enc : σ → Array Value) (hps : ∀ s, (enc s).size = ps.size) (I0 I1 : σ → World → Prop) (Ix : Code → σ → World → Prop) (Ie : σ → World → Prop) (Ib : World → Prop)
    (hiter : Iter F (n - 1) P w.heap.size gf lb enc I0 I1 Ix Ie Ib)
    (o0 : OwnFrom w.heap.size I0) (o1 : OwnFrom w.heap.size I1) (ox : ∀ c, OwnFrom w.heap.size (Ix c)) (oe : OwnFrom w.heap.size Ie) (ob : OwnFrom w.heap.size (fun (_ : Unit) W => Ib W)) (hs0 : Ib w) (a₁ : σ → Act)
    (hassign : ∀ (l : Nat) (s : σ) (W : World) (K : Act → World → Prop), K (a₁ s) W → assign.wpIn (F.inRound l) (n - 1 - 1) P (Exit.then K (fun _ _ _ => False)) { tmps := (ps.zip (enc s)).foldl (fun t (p, v) => t.setIfInBounds p v) a.tmps, defers := [] } W)
    (hbody : ∀ (l : Nat) (s : σ) (W : World), I0 s W → body.wpIn (F.inRound l) (n - 1 - 1) P (leaves w.heap.size W (I1 s) (fun c => Ix c s)) (a₁ s) W)
    (hdone : ∀ (D : Nat) (s : σ) (W : World), w.heap.size ≤ D → Ie s W → W.heap[D]? = some (.deferred (some [])) → Q .normal { a with defers := { target := .collected D, args := #[] } :: a.defers } W)
    (hstop : ∀ (D : Nat) (c : Code) (s : σ) (W : World), w.heap.size ≤ D → Ix c s W → W.heap[D]? = some (.deferred (some [])) → c.wpIn F n P Q { a with defers := { target := .collected D, args := #[] } :: a.defers } W) :
    (Code.rangeFunc g ps assign body).wpIn F n P Q a w := by
  refine wpIn_rangeFunc fun fn hfn => ?_
  rw [hro]
  obtain ⟨r, hr⟩ : ∃ r : Loop, ({ state := .ready, pending := none, fn, tmps := a.tmps, params := ps, assign, body, defers := w.heap.size } : Loop) = r := ⟨_, rfl⟩
  have hen := run_enterLoop_outer (P := P) (w := w) fn a.tmps ps assign body
  rw [hr] at hen
  have t1 : TwoL (w.heap.size + 1) w.heap.size r ((w.alloc (.deferred (some []))).alloc (.loop r)) := by
    refine ⟨?_, (Below.heap_alloc _ _ _ (by simp)).trans (World.alloc_heap_new w _)⟩
    have := World.alloc_heap_new (w.alloc (.deferred (some []))) (.loop r)
    rwa [World.size_alloc] at this
  obtain ⟨W1, hW⟩ : ∃ W1, (w.alloc (.deferred (some []))).alloc (.loop r) = W1 := ⟨_, rfl⟩
  have hs1 : Ib W1 := by rw [← hW]; exact ob.alloc (s := ()) _ (ob.alloc (s := ()) _ hs0)
  rw [hW] at hen t1
  refine ⟨w.heap.size + 1, [{ target := .collected w.heap.size, args := #[] }], W1, { target := .fn (.func gf) lb, args := #[.func (.yield (w.heap.size + 1)) #[] #[]] }, W1, gf, #[.func (.yield (w.heap.size + 1)) #[] #[]] ++ lb, W1, hen, ?_, ?_, ?_, fun _ => h1, ?_⟩
  · simp only [resolve, hg]
    simp [go_sem]
  · intro f' hf'
    simp [Target.leads] at hf'
    exact hf' ▸ hFg
  · simp [invoke, go_sem, eg]
  · refine (hiter (w.heap.size + 1) (TwoL (w.heap.size + 1) w.heap.size r) (fun c => TwoL (w.heap.size + 1) w.heap.size { r with state := .done, pending := some c })
      (fun V V' h k => h.keep (by omega) (Nat.le_refl _) k) (fun c V V' h k => h.keep (by omega) (Nat.le_refl _) k) ?_ W1 hs1 t1).mono ?_
    · intro s W hi ht
      have hb : I0 s (W.putObj (w.heap.size + 1) (.loop { r with state := .busy })) := o0.putObj _ hi (by omega) ht.1 rfl
      obtain ⟨fn', tm, asg, bo, hy, hR⟩ := round_turn (P := P) (m := n - 1 - 1) (B := w.heap.size) (a1 := a₁ s) (args := enc s) (G := I1 s) (X := fun c => Ix c s) (by rw [← hr]; exact hfn) (by rw [← hr]) (by rw [← hr]) ht (by omega) (by omega) (Nat.le_refl _) (by rw [← hr]; exact hps s)
        (by rw [← hr]; exact fun K hK => hassign _ s W K hK) (by have := hbody (w.heap.size + 1) s _ hb; rw [← hr]; rw [← hr] at this; exact this)
      refine ⟨fn', tm, asg, bo, hy, hR.mono ?_⟩
      rintro e W' (⟨rfl, V, hG, hT, rfl⟩ | ⟨rfl, c, V, hX, hT, rfl⟩)
      · exact .inl ⟨rfl, o1.putObj _ hG (by omega) hT.1 rfl, hT.turn (by omega) _⟩
      · exact .inr ⟨rfl, c, (ox c).putObj _ hX (by omega) hT.1 rfl, hT.turn (by omega) _⟩
    · rintro e W' ⟨⟨v, rfl⟩, ⟨s, hi, ht⟩ | ⟨c, s, hi, ht⟩⟩
      · refine ⟨_, _, run_endLoop ht.1 (by rw [← hr]; simp), ?_⟩
        have := hdone w.heap.size s _ (Nat.le_refl _) (oe.putObj (.loop { r with state := .exhausted }) hi (by omega) ht.1 rfl) ((World.putObj_heap_other (by omega)).trans ht.2)
        rw [← hr] at this ⊢
        exact this
      · refine ⟨_, _, run_endLoop ht.1 (by simp), ?_⟩
        exact hstop w.heap.size c s _ (Nat.le_refl _) ((ox c).putObj _ hi (by omega) ht.1 rfl) ((World.putObj_heap_other (by omega)).trans ht.2)

end Go.Proofs.YtiigdcpjelbdjaaGreatDoor
