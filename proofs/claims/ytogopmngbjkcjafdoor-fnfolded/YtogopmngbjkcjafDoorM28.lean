/- What the draw of one doing in a store gives: a right store again. For codes of at most 2^40 bytes. -/
import Derived.Test.YtogopmngbjkcjafDoorM13
import Derived.Test.YtogopmngbjkcjafDoorM13
import Derived.Test.YtogopmngbjkcjafDoorM13
import Derived.Test.YtogopmngbjkcjafDoorM13
import Derived.Test.YtogopmngbjkcjafDoorM14
import Derived.Test.YtogopmngbjkcjafDoorM24
import Derived.Test.YtogopmngbjkcjafDoorM24
import Derived.Test.YtogopmngbjkcjafDoorM25
import Derived.Test.YtogopmngbjkcjafDoorM25
import Derived.Test.YtogopmngbjkcjafDoorM25
import Derived.Test.YtogopmngbjkcjafDoorM26
import Derived.Test.YtogopmngbjkcjafDoorM26
import Derived.Test.YtogopmngbjkcjafDoorM27
import Derived.Deep.CutBlock
import Derived.Deep.RegionHeld3
namespace Go.Proofs.YtogopmngbjkcjafDoor
open Go.RowKit
set_option linter.unusedVariables false

theorem abc_ne {x : ByteArray} (h : x ∈ ([⟨#[97]⟩, ⟨#[98]⟩, ⟨#[99]⟩] : List ByteArray)) : x ≠ newId ∧ x.size = 1 := by
  simp only [List.mem_cons, List.not_mem_nil, or_false] at h
  rcases h with rfl | rfl | rfl <;> exact ⟨by decide, rfl⟩

theorem owns_cap {w : World} {base n cp g : Nat} {ys : List Int} (h : Owns w base (some ⟨g, 0, none⟩) n cp ys) : n ≤ cp := by
  rcases h.1.2 with ⟨h0, _⟩ | ⟨g1, cap, cur, he, hg, hh, hr⟩
  · cases h0
  · injection he with e1 e2 e3
    subst e3
    omega

set_option maxRecDepth 10000 in
set_option maxHeartbeats 12800000 in
theorem l14Some_any (B c : Nat) (a : Option Addr) (len cap : Nat) (zs : List Int) (lo : Nat) (k : Int) (A : Option Addr) (n C : Nat) (X : List ByteArray) (A' : Option Addr) (n' C' : Nat) (Y : List ByteArray) (ep nx : Int) (ua : Option Addr) (un uc : Nat) (l : List UE) (w : World) (hcur : Cur w B c a len cap zs) (hl : len ≤ 1099511627776) (hst : StoAt w lo A n C X A' n' C' Y ua un uc l) (hsg : SG k X Y ep nx (l.map UE.u)) (hcl : c < lo) (hlw : lo ≤ w.heap.size) :
    Calls Tryd.prog 20 #[.pointer (some ⟨c, 0, none⟩), .agg #[.slice A n C, .slice A' n' C', .int .i64 ep, .int .i64 nx, .slice ua un uc]] w fun e w' => (∃ v, e = .returned v ∧ DrawnS lo (k + 1) v w') ∧ Cur w' B c a len cap zs ∧ w.grownBy w' (some c) := by
  have hmm : 1048576 < maxLen := by decide
  obtain ⟨w1, hw1⟩ : ∃ w1, (w.alloc (.cells #[.slice A n C, .slice A' n' C', .int .i64 ep, .int .i64 nx, .slice ua un uc] 37)).alloc (.cells #[.slice none 0 0, .slice none 0 0, .int .i64 0, .int .i64 0, .slice none 0 0] 37) = w1 := ⟨_, rfl⟩
  have HE : Hid ((w.alloc (.cells #[.slice A n C, .slice A' n' C', .int .i64 ep, .int .i64 nx, .slice ua un uc] 37)).alloc (.cells #[.slice none 0 0, .slice none 0 0, .int .i64 0, .int .i64 0, .slice none 0 0] 37) = w1) := hw1
  have HD1 : Hid (DSt w w1 B c a len cap zs lo k A n C X A' n' C' Y ep nx ua un uc l) := by
    have hb : Below w.heap.size w w1 := by rw [← hw1]; exact ((Below.refl _ _).alloc (Nat.le_refl _) _).alloc (by simp) _
    refine ⟨?_, ?_, hst.stays hb, hcur.kept (gbelow hb none) (by simp), gbelow hb _, hsg, hcl, hlw⟩
    · rw [← hw1]; exact (BoxN.new _ _ _).alloc _
    · rw [← hw1]
      have := BoxN.new (w.alloc (.cells #[.slice A n C, .slice A' n' C', .int .i64 ep, .int .i64 nx, .slice ua un uc] 37)) 37 [.slice none 0 0, .slice none 0 0, .int .i64 0, .int .i64 0, .slice none 0 0]
      rwa [World.size_alloc] at this
  clear hw1 hst hsg hcur
  go_enter Tryd.func20, Tryd.ntmps20
  go_upto_region 1 with fail
  rw [HE.out]
  clear HE
  have hs1 : w.heap.size + 1 < w1.heap.size := HD1.out.zero.lt
  go_wp2_with fail
  refine (l1Str_any B c a len cap zs w1.heap.size 3 3 [⟨#[97]⟩, ⟨#[98]⟩, ⟨#[99]⟩] _ (HD1.out.new _).cur hl (heap_alloc_new w1 _) (by omega) rfl (by omega) (by omega)).mono ?_
  rintro e w2 ⟨id, rfl, hid, hc2, hg2⟩
  have HId : Hid (id ≠ newId ∧ id.size = 1) := abc_ne hid
  have HD2 : Hid (DSt w w2 B c a len cap zs lo k A n C X A' n' C' Y ep nx ua un uc l) := (HD1.out.new _).call hc2 hg2
  clear hid hc2 hg2 HD1 hs1
  go_wp2_with fail
  refine (l1Below_any B c a len cap zs 12 w2 HD2.out.cur hl (by omega) (by omega)).mono ?_
  rintro e w5 ⟨j, rfl, hj0, hj1, hc5, hg5⟩
  have HD : Hid (DSt w w5 B c a len cap zs lo k A n C X A' n' C' Y ep nx ua un uc l) := HD2.out.call hc5 hg5
  clear hc5 hg5 HD2
  obtain ⟨hiS, hin⟩ : Hid (id.size ≤ maxLen) ∧ Hid (id ≠ newId) := ⟨by show _ ≤ _; have := HId.out.2; omega, HId.out.1⟩
  clear HId
  go_upto_block 0 with fail
  go_cut [] from 6 (fun W => ∃ (A : Option Addr) (n C : Nat) (X : List ByteArray) (A' : Option Addr) (n' C' : Nat) (Y : List ByteArray) (ep nx : Int) (ua : Option Addr) (un uc : Nat) (l : List UE), Hid (DSt w W B c a len cap zs lo (k + 1) A n C X A' n' C' Y ep nx ua un uc l))
  case first =>
    have HDd : Hid (DSt w w5.drew B c a len cap zs lo k A n C X A' n' C' Y ep nx ua un uc l) := HD.out.stays (Below.refl _ _).drew
    have hs5 : w.heap.size + 1 < w5.heap.size := HD.out.zero.lt
    have hcw : c < w.heap.size := by omega
    by_cases h01 : j = 0 ∨ j = 1
    · go_upto_if 29 with fail
      go_cut [29] from 30 (fun v W => v = .bool true ∧ Hid (W = w5))
      case first => rcases h01 with rfl | rfl <;> (go_wp2_with fail; go_meet; exact ⟨rfl, rfl⟩)
      case rest =>
      obtain ⟨rfl, HWc⟩ := hcut
      rw [HWc.out]
      clear HWc h01
      obtain ⟨c0, c1, c2, c3, c4⟩ := (show _ ∧ _ ∧ _ ∧ _ ∧ _ from ⟨HDd.out.box.cell 0 rfl, HDd.out.box.cell 1 rfl, HDd.out.box.cell 2 rfl, HDd.out.box.cell 3 rfl, HDd.out.box.cell 4 rfl⟩)
      have q0 : ∀ o, (w5.alloc o).drew.cell? ⟨w.heap.size, 0, none⟩ = _ := fun o => ((HD.out.new o).stays (Below.refl _ _).drew).box.cell 0 rfl
      have q1 : ∀ o, (w5.alloc o).drew.cell? ⟨w.heap.size, 1, none⟩ = _ := fun o => ((HD.out.new o).stays (Below.refl _ _).drew).box.cell 1 rfl
      have q2 : ∀ o, (w5.alloc o).drew.cell? ⟨w.heap.size, 2, none⟩ = _ := fun o => ((HD.out.new o).stays (Below.refl _ _).drew).box.cell 2 rfl
      have q3 : ∀ o, (w5.alloc o).drew.cell? ⟨w.heap.size, 3, none⟩ = _ := fun o => ((HD.out.new o).stays (Below.refl _ _).drew).box.cell 3 rfl
      have q4 : ∀ o, (w5.alloc o).drew.cell? ⟨w.heap.size, 4, none⟩ = _ := fun o => ((HD.out.new o).stays (Below.refl _ _).drew).box.cell 4 rfl
      go_upto_region 8 with fail
      go_region_with (first
        | (go_at_call 35; refine (specMake_any A n C X A' n' C' Y ep nx ua un uc lo l id want y1 HP.out.1 HP.out.2.1 (by omega) (by omega) HP.out.2.2.2.2.1 HP.out.2.2.2.2.2.1 HP.out.2.2.2.2.2.2.1 (by omega) (fun e he => by have := HP.out.2.2.2.2.2.2.2.2.1 e he; omega) hiS.out hwb).mono ?_; rintro e y2 ⟨⟨v, rfl, hans⟩, hb2⟩
           obtain ⟨b, cb, b', cb', va, vc, l', rfl, hs2, hm2⟩ := hans.get
           have hD2 := hD1.stays hb2
           obtain ⟨m0, m1, m2, m3, m4⟩ := (show _ ∧ _ ∧ _ ∧ _ ∧ _ from ⟨hD2.box.cell 0 rfl, hD2.box.cell 1 rfl, hD2.box.cell 2 rfl, hD2.box.cell 3 rfl, hD2.box.cell 4 rfl⟩)
           obtain ⟨f0, f1, f2, f3, f4⟩ := (show _ ∧ _ ∧ _ ∧ _ ∧ _ from ⟨hD2.box.frozen 0, hD2.box.frozen 1, hD2.box.frozen 2, hD2.box.frozen 3, hD2.box.frozen 4⟩))
        | (go_at_call 18; refine (l1Int_any B c a len cap zs _ 4 4 [0, 3, 30, 60] _ (HDd.out.new _).cur hl (heap_alloc_new _ _) (by have := hs5; simp; omega) rfl (by omega) (by omega)).mono ?_; rintro e y1 ⟨want, rfl, hwant, hc1, hg1⟩
           have hD1 := (HDd.out.new _).call hc1 hg1
           have HP := (show Hid _ from hD1.sto.pre hD1.sg.ok)
           have hn2 := HP.out.2.2.1
           have hn3 := HP.out.2.2.2.1
           have hn4 := HP.out.2.2.2.2.2.2.2.1
           have hwb : -9223372036854775808 ≤ want ∧ want ≤ 9223372036854775807 := by simp only [List.mem_cons, List.not_mem_nil, or_false] at hwant; omega
           clear hwant
           obtain ⟨e0, e1, e2, e3, e4⟩ := (show _ ∧ _ ∧ _ ∧ _ ∧ _ from ⟨hD1.box.cell 0 rfl, hD1.box.cell 1 rfl, hD1.box.cell 2 rfl, hD1.box.cell 3 rfl, hD1.box.cell 4 rfl⟩))
        | fail)
      all_goals
        have HF : Hid (DSt w ((((((y2).setCell ⟨w.heap.size, 0, none⟩ (.slice b (makeA X Y ep nx (l.map UE.u) id want).X.length cb)).setCell ⟨w.heap.size, 1, none⟩ (.slice b' Y.length cb')).setCell ⟨w.heap.size, 2, none⟩ (.int .i64 ep)).setCell ⟨w.heap.size, 3, none⟩ (.int .i64 (makeA X Y ep nx (l.map UE.u) id want).nx)).setCell ⟨w.heap.size, 4, none⟩ (.slice va (makeA X Y ep nx (l.map UE.u) id want).us.length vc)) B c a len cap zs lo (k + 1) b (makeA X Y ep nx (l.map UE.u) id want).X.length cb (makeA X Y ep nx (l.map UE.u) id want).X b' Y.length cb' Y ep (makeA X Y ep nx (l.map UE.u) id want).nx va (makeA X Y ep nx (l.map UE.u) id want).us.length vc l') := hD2.put (vs := []) hs2 (by have := hD1.low; have := hD1.zero.lt; omega) (by rw [hm2]; exact (hD1.sg.make hin.out).more (by omega))
        clear hans hs2 hm2 hb2 hD1 hD2 HP hc1 hg1 e0 e1 e2 e3 e4 c0 c1 c2 c3 c4 q0 q1 q2 q3 q4 HDd HD
        go_wp2_with fail
        go_meet
        exact ⟨_, _, _, _, _, _, _, _, _, _, _, _, _, _, HF⟩
    by_cases h25 : 2 ≤ j ∧ j ≤ 5
    · have h25' : j = 2 ∨ j = 3 ∨ j = 4 ∨ j = 5 := by omega
      have hb0 : (j == 0) = false := by simp; omega
      have hb1 : (j == 1) = false := by simp; omega
      clear h25 h01
      go_upto_if 41 with fail
      go_cut [41] from 42 (fun v W => v = .bool true ∧ Hid (W = w5))
      case first => rcases h25' with rfl | rfl | rfl | rfl <;> (go_wp2_with fail; go_meet; exact ⟨rfl, rfl⟩)
      case rest =>
      obtain ⟨rfl, HWc⟩ := hcut
      rw [HWc.out]
      clear HWc h25' hb0 hb1
      obtain ⟨c0, c1, c2, c3, c4⟩ := (show _ ∧ _ ∧ _ ∧ _ ∧ _ from ⟨HD.out.box.cell 0 rfl, HD.out.box.cell 1 rfl, HD.out.box.cell 2 rfl, HD.out.box.cell 3 rfl, HD.out.box.cell 4 rfl⟩)
      have HP0 := (show Hid _ from HD.out.sto.pre HD.out.sg.ok)
      have hun0 := HP0.out.2.2.2.2.2.2.2.1
      go_upto_region 13 with fail
      go_wp2_with (go_at_call 36; refine (specUpAt_any A n C A' n' C' ep nx ua un uc lo l id w5 HP0.out.2.2.2.2.2.1 HP0.out.2.2.2.2.2.2.1 (by omega) (fun e he => by have := HP0.out.2.2.2.2.2.2.2.2.1 e he; omega)).mono ?_; rintro e w6 ⟨⟨UA, UC, rfl, hown⟩, hb6⟩; refine Hid.out ?_)
      refine hidden ?_
      obtain ⟨u, hu⟩ : ∃ u, gotU (l.map UE.u) id = u := ⟨_, rfl⟩
      obtain ⟨okb, hok⟩ : ∃ okb, (atU (l.map UE.u) id).isSome = okb := ⟨_, rfl⟩
      obtain ⟨Z, hZ⟩ : ∃ Z, (gotU (l.map UE.u) id).zs.length = Z := ⟨_, rfl⟩
      have HUf : Hid (0 ≤ u.want ∧ u.want ≤ 1000000000 ∧ Z ≤ 4800 ∧ (okb = true → (Z : Int) ≤ u.want)) := by
        show _ ∧ _
        have h := HD.out.sg.ok
        cases ha : atU (l.map UE.u) id with
        | none =>
          rw [gotU_none ha] at hu hZ
          rw [ha] at hok
          subst hu hZ hok
          exact ⟨by decide, by decide, by decide, fun h9 => by cases h9⟩
        | some kk =>
          have hkl : kk < l.length := by simpa using (atU_is ha).1
          rw [gotU_some ha hkl] at hu hZ
          subst hu hZ
          have hm := List.mem_map_of_mem (f := UE.u) (List.getElem_mem hkl)
          have h1 := h.wants _ hm
          have h2 := h.fits _ hm
          have h3 := (fold_small h.1 h.2.2.1).2 _ hm
          exact ⟨h1.1, h1.2, h3, fun _ => h2.1⟩
      rw [hZ] at hown ⊢
      rw [hok]
      rw [hu] at hown ⊢
      have HO6 : Hid (Owns w6 w5.heap.size UA Z UC u.zs) := hown
      have hd6 := HD.out.stays hb6
      obtain ⟨w7, hw7⟩ : ∃ w7, w6.alloc (.cells #[.string u.id, .int .i64 u.want, .slice UA Z UC, .bool u.done] 30) = w7 := ⟨_, rfl⟩
      have HE7 : Hid (w6.alloc (.cells #[.string u.id, .int .i64 u.want, .slice UA Z UC, .bool u.done] 30) = w7) := hw7
      have hb7 : Below w6.heap.size w6 w7 := by rw [← hw7]; exact (Below.refl _ _).alloc (Nat.le_refl _) _
      have HD7 : Hid (DSt w w7 B c a len cap zs lo k A n C X A' n' C' Y ep nx ua un uc l) := hd6.stays hb7
      have HU7 : Hid (BoxN w7 w6.heap.size 30 [.string u.id, .int .i64 u.want, .slice UA Z UC, .bool u.done]) := by show BoxN _ _ _ _; rw [← hw7]; exact BoxN.new _ _ _
      have HO7 : Hid (Owns w7 w5.heap.size UA Z UC u.zs) := HO6.out.below hb7
      have hub : w5.heap.size ≤ w6.heap.size := hb6.size
      obtain ⟨hw0, hw1, hZ1, HOk⟩ : 0 ≤ u.want ∧ u.want ≤ 1000000000 ∧ Z ≤ 4800 ∧ Hid (okb = true → (Z : Int) ≤ u.want) := HUf.out
      clear hown hd6 hw7 hb7 HO6 HUf c0 c1 c2 c3 c4 hb6 hu hok hZ HP0 HD HDd
      go_upto_region 14 with fail
      rw [HE7.out]
      clear HE7
      generalize w6.heap.size = ub at *
      have hs7 : ub < w7.heap.size := HU7.out.lt
      go_wp2_with (go_at_call 18; refine (l1Int_any B c a len cap zs w7.heap.size 4 4 [1, 3, 24, 30] _ (HD7.out.new _).cur hl (heap_alloc_new w7 _) (by omega) rfl (by omega) (by omega)).mono ?_; rintro e w8 ⟨dn, rfl, hdn, hc8, hg8⟩; refine Hid.out ?_)
      refine hidden ?_
      have HD8 : Hid (DSt w w8 B c a len cap zs lo k A n C X A' n' C' Y ep nx ua un uc l) := (HD7.out.new _).call hc8 hg8
      have HU8 : Hid (BoxN w8 ub 30 [.string u.id, .int .i64 u.want, .slice UA Z UC, .bool u.done]) := (HU7.out.alloc _).grown hg8 (fun e => by injection e with e; omega)
      have HO8 : Hid (Owns w8 w5.heap.size UA Z UC u.zs) := ((HO7.out.below ((Below.refl _ _).alloc (Nat.le_refl _) _)).grown hg8 (fun q e e2 => by injection e with e; have := (HO7.out.lt q e2).1; omega))
      have hdn1 : 1 ≤ dn ∧ dn ≤ 30 := by simp only [List.mem_cons, List.not_mem_nil, or_false] at hdn; omega
      obtain ⟨hdn0, hdn9⟩ := hdn1
      clear hdn hc8 hg8 HD7 HU7 HO7 hs7
      have u1 := HU8.out.cell 1 rfl
      have u2 := HU8.out.cell 2 rfl
      go_upto_region 15 with fail
      go_cut [70] from 55 (fun v W => ∃ bb : Bool, v = .bool bb ∧ Hid (bb = true → okb = true ∧ u.want - (Z : Int) < dn) ∧ Hid (DSt w W B c a len cap zs lo k A n C X A' n' C' Y ep nx ua un uc l) ∧ Hid (BoxN W ub 30 [.string u.id, .int .i64 u.want, .slice UA Z UC, .bool u.done]))
      case first =>
        cases okb with
        | false =>
          go_wp2_with fail
          go_meet
          exact ⟨false, rfl, (fun h => by cases h), HD8, HU8⟩
        | true =>
          by_cases hgt : u.want - (Z : Int) < dn
          case neg =>
            have hgtd : decide (u.want - (Z : Int) < dn) = false := by simpa using hgt
            go_wp2_with fail
            go_meet
            exact ⟨false, rfl, (fun h => by cases h), HD8, HU8⟩
          have hgtd : decide (u.want - (Z : Int) < dn) = true := by simpa using hgt
          go_wp2_with (go_at_call 12; refine (l1Once_any B c a len cap zs 5 w8 HD8.out.cur hl (by omega) (by omega)).mono ?_; rintro e w9 ⟨b5, rfl, hc9, hg9⟩; refine Hid.out ?_)
          refine hidden ?_
          have HD9 : Hid (DSt w w9 B c a len cap zs lo k A n C X A' n' C' Y ep nx ua un uc l) := HD8.out.call hc9 hg9
          have HU9 : Hid (BoxN w9 ub 30 [.string u.id, .int .i64 u.want, .slice UA Z UC, .bool u.done]) := HU8.out.grown hg9 (fun e => by injection e with e; omega)
          clear hc9 hg9 HD8 HU8 HO8 u1 u2
          go_wp2_with fail
          go_meet
          exact ⟨!b5, rfl, (fun _ => ⟨by first | rfl | trivial, hgt⟩), HD9, HU9⟩
      case rest =>
      obtain ⟨bb, rfl, HBb, HD9, HU9⟩ := hcut
      obtain ⟨w9, hw9⟩ : ∃ w9, wc = w9 := ⟨_, rfl⟩
      rw [hw9] at HD9 HU9 ⊢
      clear hw9 HD8 HU8 HO8 u1 u2
      have u1 := HU9.out.cell 1 rfl
      have u2 := HU9.out.cell 2 rfl
      go_upto_if 70 with fail
      go_cut [8] from 55 (fun v W => ∃ m : Nat, v = .int .i64 m ∧ m ≤ 30 ∧ Hid (W = w9))
      case first =>
        cases bb with
        | false =>
          obtain ⟨m, hm⟩ := Int.eq_ofNat_of_zero_le (show 0 ≤ dn by omega)
          go_wp2_with fail
          go_meet
          exact ⟨m, by rw [hm], by omega, rfl⟩
        | true =>
          have hlt := HBb.out rfl
          have hle := HOk.out hlt.1
          obtain ⟨m, hm⟩ := Int.eq_ofNat_of_zero_le (show 0 ≤ u.want - (Z : Int) by omega)
          have HM : Hid (u.want - (Z : Int) = (m : Int)) := hm
          have hm30 : m ≤ 30 := by have := hlt.2; omega
          clear hlt hle hm
          go_wp2_with fail
          go_meet
          exact ⟨m, by rw [HM.out], hm30, rfl⟩
      case rest =>
      obtain ⟨m, rfl, hm30, HWc⟩ := hcut
      rw [HWc.out]
      clear HWc HBb HOk
      have HDd : Hid (DSt w w9.drew B c a len cap zs lo k A n C X A' n' C' Y ep nx ua un uc l) := HD9.out.stays (Below.refl _ _).drew
      have HUd : Hid (BoxN w9.drew ub 30 [.string u.id, .int .i64 u.want, .slice UA Z UC, .bool u.done]) := HU9.out.stays (Below.refl _ _).drew
      obtain ⟨c0, c1, c2, c3, c4⟩ := (show _ ∧ _ ∧ _ ∧ _ ∧ _ from ⟨HDd.out.box.cell 0 rfl, HDd.out.box.cell 1 rfl, HDd.out.box.cell 2 rfl, HDd.out.box.cell 3 rfl, HDd.out.box.cell 4 rfl⟩)
      have u2 := HUd.out.cell 2 rfl
      clear HD9 HU9 u1
      have HMx : Hid (m ≤ maxLen) := by show m ≤ maxLen; unfold maxLen; omega
      have HZi : Hid (-9223372036854775808 ≤ (Z : Int) ∧ (Z : Int) ≤ 9223372036854775807) := by show _ ∧ _; omega
      have hcub : c < ub := by omega
      go_upto_region 17 with fail
      go_region_with (first
        | (go_at_call 37; refine (specPutUp_any A n C X A' n' C' Y ep nx ua un uc lo l id (Z : Int) (some ⟨g, 0, none⟩) m cp ys y1 HP.out.1 HP.out.2.1 (by omega) (by omega) HP.out.2.2.2.2.1 HP.out.2.2.2.2.2.1 HP.out.2.2.2.2.2.2.1 (by omega) (fun e he => by have := HP.out.2.2.2.2.2.2.2.2.1 e he; omega) hiS.out HZi.out HSeg.out HCp.out HMx.out).mono ?_; rintro e y2 ⟨⟨v, rfl, hans⟩, hb2⟩
           obtain ⟨b, cb, b', cb', va, vc, l', rfl, hs2, hm2⟩ := hans.get
           have hD2 := hD1.stays hb2
           obtain ⟨m0, m1, m2, m3, m4⟩ := (show _ ∧ _ ∧ _ ∧ _ ∧ _ from ⟨hD2.box.cell 0 rfl, hD2.box.cell 1 rfl, hD2.box.cell 2 rfl, hD2.box.cell 3 rfl, hD2.box.cell 4 rfl⟩)
           obtain ⟨f0, f1, f2, f3, f4⟩ := (show _ ∧ _ ∧ _ ∧ _ ∧ _ from ⟨hD2.box.frozen 0, hD2.box.frozen 1, hD2.box.frozen 2, hD2.box.frozen 3, hD2.box.frozen 4⟩))
        | (go_at_call 23; refine (l1Bytes_any B c a len cap zs m _ HDd.out.cur hl (by omega)).mono ?_; rintro e y1 ⟨g, cp, ys, rfl, hgb, how, hc1, hg1⟩
           have hD1 := HDd.out.call hc1 hg1
           have hU1 := HUd.out.grown hg1 (fun e => by injection e with e; omega)
           have HP := (show Hid _ from hD1.sto.pre hD1.sg.ok)
           have HOw := (show Hid _ from how)
           have HCp : Hid (m ≤ cp) := owns_cap how
           have HSeg : Hid (Seg y1 (some ⟨g, 0, none⟩) m ys) := how.seg
           have hn2 := HP.out.2.2.1
           have hn3 := HP.out.2.2.2.1
           have hn4 := HP.out.2.2.2.2.2.2.2.1
           have v2 := hU1.cell 2 rfl
           clear how
           obtain ⟨e0, e1, e2, e3, e4⟩ := (show _ ∧ _ ∧ _ ∧ _ ∧ _ from ⟨hD1.box.cell 0 rfl, hD1.box.cell 1 rfl, hD1.box.cell 2 rfl, hD1.box.cell 3 rfl, hD1.box.cell 4 rfl⟩))
        | fail)
      all_goals
        have HF : Hid (DSt w ((((((y2).setCell ⟨w.heap.size, 0, none⟩ (.slice b (putA X Y ep nx (l.map UE.u) id (Z : Int) ys).X.length cb)).setCell ⟨w.heap.size, 1, none⟩ (.slice b' Y.length cb')).setCell ⟨w.heap.size, 2, none⟩ (.int .i64 ep)).setCell ⟨w.heap.size, 3, none⟩ (.int .i64 (putA X Y ep nx (l.map UE.u) id (Z : Int) ys).nx)).setCell ⟨w.heap.size, 4, none⟩ (.slice va (putA X Y ep nx (l.map UE.u) id (Z : Int) ys).us.length vc)) B c a len cap zs lo (k + 1) b (putA X Y ep nx (l.map UE.u) id (Z : Int) ys).X.length cb (putA X Y ep nx (l.map UE.u) id (Z : Int) ys).X b' Y.length cb' Y ep (putA X Y ep nx (l.map UE.u) id (Z : Int) ys).nx va (putA X Y ep nx (l.map UE.u) id (Z : Int) ys).us.length vc l') := hD2.put (vs := []) hs2 (by have := hD1.low; have := hD1.zero.lt; omega) (by rw [hm2]; exact (hD1.sg.put hin.out HOw.out.2).more (by omega))
        clear hans hs2 hm2 hb2 hD1 hD2 hU1 HP HOw HSeg HCp hc1 hg1 e0 e1 e2 e3 e4 c0 c1 c2 c3 c4 HDd HUd u2 v2
        go_wp2_with fail
        go_meet
        exact ⟨_, _, _, _, _, _, _, _, _, _, _, _, _, _, HF⟩
    by_cases h6 : j = 6
    · subst h6
      obtain ⟨c0, c1, c2, c3, c4⟩ := (show _ ∧ _ ∧ _ ∧ _ ∧ _ from ⟨HD.out.box.cell 0 rfl, HD.out.box.cell 1 rfl, HD.out.box.cell 2 rfl, HD.out.box.cell 3 rfl, HD.out.box.cell 4 rfl⟩)
      have HP0 := (show Hid _ from HD.out.sto.pre HD.out.sg.ok)
      have hun0 := HP0.out.2.2.2.2.2.2.2.1
      go_upto_region 19 with fail
      go_wp2_with (go_at_call 36; refine (specUpAt_any A n C A' n' C' ep nx ua un uc lo l id w5 HP0.out.2.2.2.2.2.1 HP0.out.2.2.2.2.2.2.1 (by omega) (fun e he => by have := HP0.out.2.2.2.2.2.2.2.2.1 e he; omega)).mono ?_; rintro e w6 ⟨⟨UA, UC, rfl, hown⟩, hb6⟩; refine Hid.out ?_)
      refine hidden ?_
      obtain ⟨u, hu⟩ : ∃ u, gotU (l.map UE.u) id = u := ⟨_, rfl⟩
      obtain ⟨okb, hok⟩ : ∃ okb, (atU (l.map UE.u) id).isSome = okb := ⟨_, rfl⟩
      obtain ⟨Z, hZ⟩ : ∃ Z, (gotU (l.map UE.u) id).zs.length = Z := ⟨_, rfl⟩
      have HUf : Hid (0 ≤ u.want ∧ u.want ≤ 1000000000 ∧ Z ≤ 4800 ∧ (okb = true → (Z : Int) ≤ u.want)) := by
        show _ ∧ _
        have h := HD.out.sg.ok
        cases ha : atU (l.map UE.u) id with
        | none =>
          rw [gotU_none ha] at hu hZ
          rw [ha] at hok
          subst hu hZ hok
          exact ⟨by decide, by decide, by decide, fun h9 => by cases h9⟩
        | some kk =>
          have hkl : kk < l.length := by simpa using (atU_is ha).1
          rw [gotU_some ha hkl] at hu hZ
          subst hu hZ
          have hm := List.mem_map_of_mem (f := UE.u) (List.getElem_mem hkl)
          have h1 := h.wants _ hm
          have h2 := h.fits _ hm
          have h3 := (fold_small h.1 h.2.2.1).2 _ hm
          exact ⟨h1.1, h1.2, h3, fun _ => h2.1⟩
      rw [hZ] at hown ⊢
      rw [hok]
      rw [hu] at hown ⊢
      have HO6 : Hid (Owns w6 w5.heap.size UA Z UC u.zs) := hown
      have hd6 := HD.out.stays hb6
      obtain ⟨w7, hw7⟩ : ∃ w7, w6.alloc (.cells #[.string u.id, .int .i64 u.want, .slice UA Z UC, .bool u.done] 30) = w7 := ⟨_, rfl⟩
      have HE7 : Hid (w6.alloc (.cells #[.string u.id, .int .i64 u.want, .slice UA Z UC, .bool u.done] 30) = w7) := hw7
      have hb7 : Below w6.heap.size w6 w7 := by rw [← hw7]; exact (Below.refl _ _).alloc (Nat.le_refl _) _
      have HD7 : Hid (DSt w w7 B c a len cap zs lo k A n C X A' n' C' Y ep nx ua un uc l) := hd6.stays hb7
      have HU7 : Hid (BoxN w7 w6.heap.size 30 [.string u.id, .int .i64 u.want, .slice UA Z UC, .bool u.done]) := by show BoxN _ _ _ _; rw [← hw7]; exact BoxN.new _ _ _
      have HO7 : Hid (Owns w7 w5.heap.size UA Z UC u.zs) := HO6.out.below hb7
      have hub : w5.heap.size ≤ w6.heap.size := hb6.size
      obtain ⟨hw0, hw1, hZ1, HOk⟩ : 0 ≤ u.want ∧ u.want ≤ 1000000000 ∧ Z ≤ 4800 ∧ Hid (okb = true → (Z : Int) ≤ u.want) := HUf.out
      clear hown hd6 hw7 hb7 HO6 HUf c0 c1 c2 c3 c4 hb6 hu hok hZ HP0 HD HDd
      go_upto_region 20 with fail
      rw [HE7.out]
      clear HE7
      generalize w6.heap.size = ub at *
      have HDd : Hid (DSt w w7.drew B c a len cap zs lo k A n C X A' n' C' Y ep nx ua un uc l) := HD7.out.stays (Below.refl _ _).drew
      have HUd : Hid (BoxN w7.drew ub 30 [.string u.id, .int .i64 u.want, .slice UA Z UC, .bool u.done]) := HU7.out.stays (Below.refl _ _).drew
      have HOd : Hid (Seg w7.drew UA Z u.zs) := (HO7.out.below (Below.refl _ _).drew).seg
      obtain ⟨c0, c1, c2, c3, c4⟩ := (show _ ∧ _ ∧ _ ∧ _ ∧ _ from ⟨HDd.out.box.cell 0 rfl, HDd.out.box.cell 1 rfl, HDd.out.box.cell 2 rfl, HDd.out.box.cell 3 rfl, HDd.out.box.cell 4 rfl⟩)
      have u2 := HUd.out.cell 2 rfl
      have HP := (show Hid _ from HDd.out.sto.pre HDd.out.sg.ok)
      have hn2 := HP.out.2.2.1
      have hn3 := HP.out.2.2.2.1
      have hn4 := HP.out.2.2.2.2.2.2.2.1
      clear HD7 HU7 HO7
      go_region_with (first
        | (go_at_call 38; refine (specDone_any A n C X A' n' C' Y ep nx ua un uc lo l id _ _ HP.out.1 HP.out.2.1 (by omega) (by omega) HP.out.2.2.2.2.1 HP.out.2.2.2.2.2.1 HP.out.2.2.2.2.2.2.1 (by omega) (fun e he => by have := HP.out.2.2.2.2.2.2.2.2.1 e he; omega) hiS.out).mono ?_; rintro e y2 ⟨⟨v, rfl, hans⟩, hb2⟩
           obtain ⟨b, cb, b', cb', va, vc, l', rfl, hs2, hm2⟩ := hans.get
           have hD2 := HDd.out.stays hb2
           obtain ⟨m0, m1, m2, m3, m4⟩ := (show _ ∧ _ ∧ _ ∧ _ ∧ _ from ⟨hD2.box.cell 0 rfl, hD2.box.cell 1 rfl, hD2.box.cell 2 rfl, hD2.box.cell 3 rfl, hD2.box.cell 4 rfl⟩)
           obtain ⟨f0, f1, f2, f3, f4⟩ := (show _ ∧ _ ∧ _ ∧ _ ∧ _ from ⟨hD2.box.frozen 0, hD2.box.frozen 1, hD2.box.frozen 2, hD2.box.frozen 3, hD2.box.frozen 4⟩))
        | (go_at_call 39; refine (specCrc_any UA Z UC u.zs _ HOd.out (by omega)).mono ?_; rintro e y1 ⟨rfl, rfl⟩)
        | fail)
      all_goals
        have HF : Hid (DSt w ((((((y2).setCell ⟨w.heap.size, 0, none⟩ (.slice b (doneA X Y ep nx (l.map UE.u) id ((crcL u.zs ^^^ 4294967295 : Nat) : Int)).X.length cb)).setCell ⟨w.heap.size, 1, none⟩ (.slice b' Y.length cb')).setCell ⟨w.heap.size, 2, none⟩ (.int .i64 ep)).setCell ⟨w.heap.size, 3, none⟩ (.int .i64 (doneA X Y ep nx (l.map UE.u) id ((crcL u.zs ^^^ 4294967295 : Nat) : Int)).nx)).setCell ⟨w.heap.size, 4, none⟩ (.slice va (doneA X Y ep nx (l.map UE.u) id ((crcL u.zs ^^^ 4294967295 : Nat) : Int)).us.length vc)) B c a len cap zs lo (k + 1) b (doneA X Y ep nx (l.map UE.u) id ((crcL u.zs ^^^ 4294967295 : Nat) : Int)).X.length cb (doneA X Y ep nx (l.map UE.u) id ((crcL u.zs ^^^ 4294967295 : Nat) : Int)).X b' Y.length cb' Y ep (doneA X Y ep nx (l.map UE.u) id ((crcL u.zs ^^^ 4294967295 : Nat) : Int)).nx va (doneA X Y ep nx (l.map UE.u) id ((crcL u.zs ^^^ 4294967295 : Nat) : Int)).us.length vc l') := hD2.put (vs := []) hs2 (Nat.le_trans HDd.out.low (Nat.le_of_lt (Nat.lt_of_succ_lt HDd.out.zero.lt))) (by rw [hm2]; exact (HDd.out.sg.done hin.out).more (by omega))
        clear hans hs2 hm2 hb2 hD2 HP c0 c1 c2 c3 c4 HDd HUd HOd u2
        go_wp2_with fail
        go_meet
        exact ⟨_, _, _, _, _, _, _, _, _, _, _, _, _, _, HF⟩
    by_cases h7 : j = 7
    · subst h7
      go_upto_region 22 with fail
      go_wp2_with (go_at_call 12; refine (l1Once_any B c a len cap zs 3 w5 HD.out.cur hl (by omega) (by omega)).mono ?_; rintro e w6 ⟨bb, rfl, hc6, hg6⟩; refine Hid.out ?_)
      refine hidden ?_
      have HD6 : Hid (DSt w w6 B c a len cap zs lo k A n C X A' n' C' Y ep nx ua un uc l) := HD.out.call hc6 hg6
      clear hc6 hg6 HD HDd
      cases bb with
      | false =>
        have HF := (show Hid _ from HD6.out.more (show k ≤ k + 1 by omega))
        clear HD6
        go_wp2_with fail
        go_meet
        exact ⟨_, _, _, _, _, _, _, _, _, _, _, _, _, _, HF⟩
      | true =>
        obtain ⟨c0, c1, c2, c3, c4⟩ := (show _ ∧ _ ∧ _ ∧ _ ∧ _ from ⟨HD6.out.box.cell 0 rfl, HD6.out.box.cell 1 rfl, HD6.out.box.cell 2 rfl, HD6.out.box.cell 3 rfl, HD6.out.box.cell 4 rfl⟩)
        have HP := (show Hid _ from HD6.out.sto.pre HD6.out.sg.ok)
        have hn2 := HP.out.2.2.1
        have hn3 := HP.out.2.2.2.1
        have hn4 := HP.out.2.2.2.2.2.2.2.1
        have hs6 : w.heap.size + 1 < w6.heap.size := HD6.out.zero.lt
        go_upto_region 23 with fail
        go_wp2_with (go_at_call 40; refine (specDrop_any A n C X A' n' C' Y ep nx ua un uc lo l id w6 HP.out.1 HP.out.2.1 (by omega) (by omega) HP.out.2.2.2.2.1 HP.out.2.2.2.2.2.1 HP.out.2.2.2.2.2.2.1 (by omega) (fun e he => by have := HP.out.2.2.2.2.2.2.2.2.1 e he; omega) hiS.out).mono ?_; rintro e y2 ⟨⟨v, rfl, hans⟩, hb2⟩; refine Hid.out ?_)
        refine hidden ?_
        obtain ⟨b, cb, b', cb', va, vc, l', rfl, hs2, hm2⟩ := hans.get
        have hD2 := HD6.out.stays hb2
        obtain ⟨m0, m1, m2, m3, m4⟩ := (show _ ∧ _ ∧ _ ∧ _ ∧ _ from ⟨hD2.box.cell 0 rfl, hD2.box.cell 1 rfl, hD2.box.cell 2 rfl, hD2.box.cell 3 rfl, hD2.box.cell 4 rfl⟩)
        obtain ⟨f0, f1, f2, f3, f4⟩ := (show _ ∧ _ ∧ _ ∧ _ ∧ _ from ⟨hD2.box.frozen 0, hD2.box.frozen 1, hD2.box.frozen 2, hD2.box.frozen 3, hD2.box.frozen 4⟩)
        have HF : Hid (DSt w ((((((y2).setCell ⟨w.heap.size, 0, none⟩ (.slice b (dropA X Y ep nx (l.map UE.u) id).X.length cb)).setCell ⟨w.heap.size, 1, none⟩ (.slice b' Y.length cb')).setCell ⟨w.heap.size, 2, none⟩ (.int .i64 ep)).setCell ⟨w.heap.size, 3, none⟩ (.int .i64 (dropA X Y ep nx (l.map UE.u) id).nx)).setCell ⟨w.heap.size, 4, none⟩ (.slice va (dropA X Y ep nx (l.map UE.u) id).us.length vc)) B c a len cap zs lo (k + 1) b (dropA X Y ep nx (l.map UE.u) id).X.length cb (dropA X Y ep nx (l.map UE.u) id).X b' Y.length cb' Y ep (dropA X Y ep nx (l.map UE.u) id).nx va (dropA X Y ep nx (l.map UE.u) id).us.length vc l') := hD2.put (vs := []) hs2 (by have := HD6.out.low; omega) (by rw [hm2]; exact (HD6.out.sg.drop hin.out).more (by omega))
        clear hans hs2 hm2 hb2 hD2 HP HD6 c0 c1 c2 c3 c4
        go_wp2_with fail
        go_meet
        exact ⟨_, _, _, _, _, _, _, _, _, _, _, _, _, _, HF⟩
    by_cases h89 : j = 8 ∨ j = 9
    · obtain ⟨c0, c1, c2, c3, c4⟩ := (show _ ∧ _ ∧ _ ∧ _ ∧ _ from ⟨HD.out.box.cell 0 rfl, HD.out.box.cell 1 rfl, HD.out.box.cell 2 rfl, HD.out.box.cell 3 rfl, HD.out.box.cell 4 rfl⟩)
      have HP := (show Hid _ from HD.out.sto.pre HD.out.sg.ok)
      have hn2 := HP.out.2.2.1
      have hn3 := HP.out.2.2.2.1
      have hn4 := HP.out.2.2.2.2.2.2.2.1
      have hsy := (show Hid _ from HD.out.sg.sync)
      rcases h89 with rfl | rfl
      all_goals
        go_wp2_with (go_at_call 41; refine (specSync_any A n C X A' n' C' Y ep nx ua un uc lo l w5 HP.out.1 HP.out.2.1 (by omega) (by omega) HP.out.2.2.2.2.1 HP.out.2.2.2.2.2.1 HP.out.2.2.2.2.2.2.1 (by omega) (fun e he => by have := HP.out.2.2.2.2.2.2.2.2.1 e he; omega)).mono ?_; rintro e y2 ⟨⟨v, rfl, hans⟩, hb2⟩; refine Hid.out ?_)
        refine hidden ?_
        rw [hsy.out.1] at hans
        obtain ⟨b, cb, b', cb', va, vc, l', rfl, hs2, hm2⟩ := hans.get
        rw [List.length_map] at hs2 ⊢
        have hD2 := HD.out.stays hb2
        obtain ⟨m0, m1, m2, m3, m4⟩ := (show _ ∧ _ ∧ _ ∧ _ ∧ _ from ⟨hD2.box.cell 0 rfl, hD2.box.cell 1 rfl, hD2.box.cell 2 rfl, hD2.box.cell 3 rfl, hD2.box.cell 4 rfl⟩)
        obtain ⟨f0, f1, f2, f3, f4⟩ := (show _ ∧ _ ∧ _ ∧ _ ∧ _ from ⟨hD2.box.frozen 0, hD2.box.frozen 1, hD2.box.frozen 2, hD2.box.frozen 3, hD2.box.frozen 4⟩)
        have HF : Hid (DSt w ((((((y2).setCell ⟨w.heap.size, 0, none⟩ (.slice b X.length cb)).setCell ⟨w.heap.size, 1, none⟩ (.slice b' X.length cb')).setCell ⟨w.heap.size, 2, none⟩ (.int .i64 ep)).setCell ⟨w.heap.size, 3, none⟩ (.int .i64 nx)).setCell ⟨w.heap.size, 4, none⟩ (.slice va l.length vc)) B c a len cap zs lo (k + 1) b X.length cb X b' X.length cb' X ep nx va l.length vc l') := hD2.put (vs := []) hs2 (by have := HD.out.low; omega) (by rw [hm2]; exact hsy.out.2.more (by omega))
        clear hans hs2 hm2 hb2 hD2 HP HD HDd hsy c0 c1 c2 c3 c4
        go_wp2_with fail
        go_meet
        exact ⟨_, _, _, _, _, _, _, _, _, _, _, _, _, _, HF⟩
    have hb0 : (j == 0) = false := by simp; omega
    have hb1 : (j == 1) = false := by simp; omega
    have hb2 : (j == 2) = false := by simp; omega
    have hb3 : (j == 3) = false := by simp; omega
    have hb4 : (j == 4) = false := by simp; omega
    have hb5 : (j == 5) = false := by simp; omega
    have hb6 : (j == 6) = false := by simp; omega
    have hb7 : (j == 7) = false := by simp; omega
    have hb8 : (j == 8) = false := by simp; omega
    have hb9 : (j == 9) = false := by simp; omega
    clear h01 h25 h6 h7 h89
    obtain ⟨c0, c1, _, _, _⟩ := (show _ ∧ _ ∧ _ ∧ _ ∧ _ from ⟨HDd.out.box.cell 0 rfl, HDd.out.box.cell 1 rfl, HDd.out.box.cell 2 rfl, HDd.out.box.cell 3 rfl, HDd.out.box.cell 4 rfl⟩)
    have HDa : Hid (DSt w (w5.drew.alloc (.cells #[.slice none 0 0, .slice none 0 0, .int .i64 0, .int .i64 0, .slice none 0 0] 37)) B c a len cap zs lo k A n C X A' n' C' Y ep nx ua un uc l) := HDd.out.new _
    have HZa : Hid (BoxN (w5.drew.alloc (.cells #[.slice none 0 0, .slice none 0 0, .int .i64 0, .int .i64 0, .slice none 0 0] 37)) w5.heap.size 37 [.slice none 0 0, .slice none 0 0, .int .i64 0, .int .i64 0, .slice none 0 0] ∧ w.heap.size + 1 < w5.heap.size) := ⟨BoxN.new w5.drew 37 [.slice none 0 0, .slice none 0 0, .int .i64 0, .int .i64 0, .slice none 0 0], hs5⟩
    have q0 : ∀ o, (w5.alloc o).drew.cell? ⟨w.heap.size, 0, none⟩ = _ := fun o => ((HD.out.new o).stays (Below.refl _ _).drew).box.cell 0 rfl
    have q1 : ∀ o, (w5.alloc o).drew.cell? ⟨w.heap.size, 1, none⟩ = _ := fun o => ((HD.out.new o).stays (Below.refl _ _).drew).box.cell 1 rfl
    clear HD
    go_upto_region 3 with fail
    go_region_held3 (fun W => W.cell? ⟨w.heap.size, 0, none⟩ = some (.slice A n C) ∧ W.cell? ⟨w.heap.size, 1, none⟩ = some (.slice A' n' C')) (first | with_reducible exact ⟨c0, c1⟩ | with_reducible exact ⟨q0 _, q1 _⟩ | with_reducible exact ⟨e0, e1⟩ | with_reducible exact ⟨r0 _, r1 _⟩ | with_reducible exact ⟨m0, m1⟩ | with_reducible exact ⟨n0 _, n1 _⟩ | with_reducible exact ⟨k0, k1⟩ | with_reducible exact ⟨o0 _, o1 _⟩ | with_reducible exact ⟨t0 _ _ _ _ _, t1 _ _ _ _ _⟩) (first
      | (go_at_call 44
         first
           | (refine (l12Kept_any B c a len cap zs w5.drew HDd.out.cur hl).mono ?_; rintro e y1 ⟨⟨ka, m, kc, ks, rfl, hm8, hbo⟩, hc1, hg1⟩
              have hD1 := HDd.out.call hc1 hg1)
           | (refine (l12Kept_any B c a len cap zs (w5.drew.alloc (.cells #[.slice none 0 0, .slice none 0 0, .int .i64 0, .int .i64 0, .slice none 0 0] 37)) HDa.out.cur hl).mono ?_; rintro e y1 ⟨⟨ka, m, kc, ks, rfl, hm8, hbo⟩, hc1, hg1⟩
              have hD1 := HDa.out.call hc1 hg1
              have HZ1 := (show Hid _ from And.intro (BoxN.grown HZa.out.1 hg1 (fun e => by injection e with e; omega)) HZa.out.2))
         have HP := (show Hid _ from hD1.sto.pre hD1.sg.ok)
         have hn2 := HP.out.2.2.1
         have hn3 := HP.out.2.2.2.1
         have hs1 : w.heap.size + 1 < y1.heap.size := hD1.zero.lt
         have HBo : Hid (Bools y1 ka m ks) := OwnBo.strs hbo
         have HBa : Hid (∀ o, Bools (y1.alloc o) ka m ks) := fun o => OwnBo.strs (OwnBo.below hbo ((Below.refl _ _).alloc (Nat.le_refl _) _))
         have e0 := hD1.box.cell 0 rfl
         have e1 := hD1.box.cell 1 rfl
         have r0 : ∀ o, (y1.alloc o).cell? ⟨w.heap.size, 0, none⟩ = _ := fun o => (hD1.new o).box.cell 0 rfl
         have r1 : ∀ o, (y1.alloc o).cell? ⟨w.heap.size, 1, none⟩ = _ := fun o => (hD1.new o).box.cell 1 rfl
         clear hbo)
      | (go_at_call 43
         first
           | (refine (specFall_any A n C X A' n' C' Y ka m kc ks y1 HP.out.1 HP.out.2.1 HBo.out (by omega) (by omega) (by omega)).mono ?_; rintro e y2 ⟨⟨v, rfl, hans⟩, hb2⟩
              have hD2 := hD1.stays hb2
              try (have HZ2 := (show Hid _ from And.intro (BoxN.stays HZ1.out.1 hb2) HZ1.out.2)))
           | (refine (specFall_any A n C X A' n' C' Y ka m kc ks (y1.alloc (.cells #[.slice none 0 0, .slice none 0 0, .int .i64 0, .int .i64 0, .slice none 0 0] 37)) (hD1.new _).sto.now.strs (hD1.new _).sto.sure.strs (HBa.out _) (by omega) (by omega) (by omega)).mono ?_; rintro e y2 ⟨⟨v, rfl, hans⟩, hb2⟩
              have hD2 := (hD1.new _).stays hb2
              have HZ2 := (show Hid _ from And.intro (BoxN.stays (BoxN.new y1 37 [.slice none 0 0, .slice none 0 0, .int .i64 0, .int .i64 0, .slice none 0 0]) hb2) hs1))
         have HFl : Hid ((fallX X Y ks).length ≤ 200 ∧ (fallY X Y ks).length ≤ 400 ∧ ∀ x ∈ fallX X Y ks, x.size ≤ 1048576) := fall_small hD1.sg.ok.1 ks
         obtain ⟨Fa, Fc, Fa', Fc', rfl, fo1, fo2, fap⟩ := hans
         have hf1 := HFl.out.1
         have hf2 := HFl.out.2.1
         have hs2 : w.heap.size + 1 < y2.heap.size := hD2.zero.lt
         have HFo : Hid (∀ W, Below y2.heap.size y2 W → Strs W Fa (fallX X Y ks).length (fallX X Y ks) ∧ Strs W Fa' (fallY X Y ks).length (fallY X Y ks)) := fun W h => ⟨OwnSt.strs (OwnSt.below fo1 h), OwnSt.strs (OwnSt.below fo2 h)⟩
         have m0 := hD2.box.cell 0 rfl
         have m1 := hD2.box.cell 1 rfl
         have n0 : ∀ o, (y2.alloc o).cell? ⟨w.heap.size, 0, none⟩ = _ := fun o => (hD2.new o).box.cell 0 rfl
         have n1 : ∀ o, (y2.alloc o).cell? ⟨w.heap.size, 1, none⟩ = _ := fun o => (hD2.new o).box.cell 1 rfl
         clear fo1 fo2 fap)
      | (go_at_call 42
         first
           | (refine (specOpen_any Fa (fallX X Y ks).length Fc (fallX X Y ks) Fa' (fallY X Y ks).length Fc' (fallY X Y ks) y2 (HFo.out _ (Below.refl _ _)).1 (HFo.out _ (Below.refl _ _)).2 (by omega) (by omega) HFl.out.2.2).mono ?_; rintro e y3 ⟨hop, hb3⟩
              have hD3 := hD2.stays hb3
              try (have HZ3 := (show Hid _ from And.intro (BoxN.stays HZ2.out.1 hb3) HZ2.out.2)))
           | (refine (specOpen_any Fa (fallX X Y ks).length Fc (fallX X Y ks) Fa' (fallY X Y ks).length Fc' (fallY X Y ks) (y2.alloc (.cells #[.slice none 0 0, .slice none 0 0, .int .i64 0, .int .i64 0, .slice none 0 0] 37)) (HFo.out _ ((Below.refl _ _).alloc (Nat.le_refl _) _)).1 (HFo.out _ ((Below.refl _ _).alloc (Nat.le_refl _) _)).2 (by omega) (by omega) HFl.out.2.2).mono ?_; rintro e y3 ⟨hop, hb3⟩
              have hD3 := (hD2.new _).stays hb3
              have HZ3 := (show Hid _ from And.intro (BoxN.stays (BoxN.new y2 37 [.slice none 0 0, .slice none 0 0, .int .i64 0, .int .i64 0, .slice none 0 0]) hb3) hs2))
         obtain ⟨v, rfl, hans3⟩ := hop.get
         obtain ⟨b, cb, b', cb', va, vc, l', rfl, hs3, hm3⟩ := hans3.get
         have hl3 : lo ≤ y2.heap.size := Nat.le_trans hD2.low (Nat.le_of_lt (Nat.lt_of_succ_lt hs2))
         have hl4 : lo ≤ (y2.alloc (.cells #[.slice none 0 0, .slice none 0 0, .int .i64 0, .int .i64 0, .slice none 0 0] 37)).heap.size := Nat.le_trans hl3 (by simp)
         have k0 := hD3.box.cell 0 rfl
         have k1 := hD3.box.cell 1 rfl
         have o0 : ∀ o, (y3.alloc o).cell? ⟨w.heap.size, 0, none⟩ = _ := fun o => (hD3.new o).box.cell 0 rfl
         have o1 : ∀ o, (y3.alloc o).cell? ⟨w.heap.size, 1, none⟩ = _ := fun o => (hD3.new o).box.cell 1 rfl
         try (have t0 := fun (v0 v1 v2 v3 v4 : Value) => (far5 hD3 HZ3.out v0 v1 v2 v3 v4).1
              have t1 := fun (v0 v1 v2 v3 v4 : Value) => (far5 hD3 HZ3.out v0 v1 v2 v3 v4).2
              have z0 := BoxN.cell HZ3.out.1 0 rfl
              have z1 := BoxN.cell HZ3.out.1 1 rfl
              have z2 := BoxN.cell HZ3.out.1 2 rfl
              have z3 := BoxN.cell HZ3.out.1 3 rfl
              have z4 := BoxN.cell HZ3.out.1 4 rfl
              have g0 := BoxN.frozen HZ3.out.1 0
              have g1 := BoxN.frozen HZ3.out.1 1
              have g2 := BoxN.frozen HZ3.out.1 2
              have g3 := BoxN.frozen HZ3.out.1 3
              have g4 := BoxN.frozen HZ3.out.1 4))
      | fail)
    all_goals
      first
        | (have HT := hD3.box5 HZ3.out hs3 (openA (fallX X Y ks) (fallY X Y ks)).ep (openA (fallX X Y ks) (fallY X Y ks)).nx)
        | (have HT := hD3.new5 hs3 (openA (fallX X Y ks) (fallY X Y ks)).ep (openA (fallX X Y ks) (fallY X Y ks)).nx)
      obtain ⟨hT1, hT2, hT3⟩ := HT
      obtain ⟨p0, p1, p2, p3, p4⟩ := (show _ ∧ _ ∧ _ ∧ _ ∧ _ from ⟨hT3.cell 0 rfl, hT3.cell 1 rfl, hT3.cell 2 rfl, hT3.cell 3 rfl, hT3.cell 4 rfl⟩)
      obtain ⟨v0, v1, v2, v3, v4⟩ := (show _ ∧ _ ∧ _ ∧ _ ∧ _ from ⟨hT1.box.cell 0 rfl, hT1.box.cell 1 rfl, hT1.box.cell 2 rfl, hT1.box.cell 3 rfl, hT1.box.cell 4 rfl⟩)
      obtain ⟨f0, f1, f2, f3, f4⟩ := (show _ ∧ _ ∧ _ ∧ _ ∧ _ from ⟨hT1.box.frozen 0, hT1.box.frozen 1, hT1.box.frozen 2, hT1.box.frozen 3, hT1.box.frozen 4⟩)
      have HSo : Hid ((openA (fallX X Y ks) (fallY X Y ks)).ok = true → SG (k + 1) (openA (fallX X Y ks) (fallY X Y ks)).X (openA (fallX X Y ks) (fallY X Y ks)).Y (openA (fallX X Y ks) (fallY X Y ks)).ep (openA (fallX X Y ks) (fallY X Y ks)).nx (l'.map UE.u)) := fun h => by rw [hm3]; exact hD1.sg.openedA ks h
      have HF1 := (show Hid _ from hT1.more (show k ≤ k + 1 by omega))
      have HF2 := (show Hid _ from fun (h : (openA (fallX X Y ks) (fallY X Y ks)).ok = true) => hT1.put (vs := []) hT2 (by first | exact hl3 | exact hl4) (HSo.out h))
      clear hT1 hT2 hT3 HSo hD1 hD2 hD3 hs3 hm3 hop hans3 HP HBo HBa HFl HFo hc1 hg1 hb2 hb3 HDd HDa HZa c0 c1 q0 q1 e0 e1 r0 r1 m0 m1 n0 n1 k0 k1 o0 o1
      cases hokv : (openA (fallX X Y ks) (fallY X Y ks)).ok with
      | false =>
        clear HF2
        go_wp2_with fail
        go_meet
        exact ⟨_, _, _, _, _, _, _, _, _, _, _, _, _, _, HF1⟩
      | true =>
        have HF := (show Hid _ from HF2.out hokv)
        clear HF1 HF2
        go_wp2_with fail
        go_meet
        exact ⟨_, _, _, _, _, _, _, _, _, _, _, _, _, _, HF⟩
  case rest =>
  obtain ⟨wr, hwr⟩ : ∃ wr, wc = wr := ⟨_, rfl⟩
  rw [hwr] at hcut ⊢
  clear hwr HD
  obtain ⟨A, n, C, X, A', n', C', Y, ep, nx, ua, un, uc, l, HD⟩ := hcut
  obtain ⟨c0, c1, c2, c3, c4⟩ := (show _ ∧ _ ∧ _ ∧ _ ∧ _ from ⟨HD.out.box.cell 0 rfl, HD.out.box.cell 1 rfl, HD.out.box.cell 2 rfl, HD.out.box.cell 3 rfl, HD.out.box.cell 4 rfl⟩)
  obtain ⟨r0, r1, r2, r3, r4⟩ := (show _ ∧ _ ∧ _ ∧ _ ∧ _ from ⟨HD.out.zero.cell 0 rfl, HD.out.zero.cell 1 rfl, HD.out.zero.cell 2 rfl, HD.out.zero.cell 3 rfl, HD.out.zero.cell 4 rfl⟩)
  obtain ⟨f0, f1, f2, f3, f4⟩ := (show _ ∧ _ ∧ _ ∧ _ ∧ _ from ⟨HD.out.zero.frozen 0, HD.out.zero.frozen 1, HD.out.zero.frozen 2, HD.out.zero.frozen 3, HD.out.zero.frozen 4⟩)
  have HR := (show Hid _ from HD.out.done)
  clear HD
  go_wp2_with fail
  refine bodyPost_ret (v := .agg #[.slice A n C, .slice A' n' C', .int .i64 ep, .int .i64 nx, .slice ua un uc]) (by simp [results, Tryd.f20, go_sem, r0, r1, r2, r3, r4]) rfl ?_
  exact ⟨⟨_, rfl, HR.out.1⟩, HR.out.2⟩

end Go.Proofs.YtogopmngbjkcjafDoor
