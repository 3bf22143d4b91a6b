/- What the specification's PutFields answers. What the specification's l11Method and l11Name answer: a method, and the name of an op's number. What the specification's l11Id answers. -/
import Derived.Test.YtbaijmkghgnleaaGreatDoorM24
import Derived.Test.YtbaijmkghgnleaaGreatDoorM28
import Derived.Test.YtbaijmkghgnleaaGreatDoorM35
import Derived.Deep.RegionWith
import Derived.Deep.RegionHeld3
import Derived.Deep.Cut
import Derived.Test.YtbaijmkghgnleaaGreatDoorM25
import Derived.Test.YtbaijmkghgnleaaGreatDoorM26
import Derived.Deep.QuietTactic
namespace Go.Proofs.YtbaijmkghgnleaaGreatDoor
open Go.RowKit
set_option linter.unusedVariables false

/-- Behind the call: the table that comes next lies in a variable of its own. -/
def PNx (w W : World) (bb b : Nat) (m : Int) (q : List Int) (ql g c : Nat) (va : Option Addr) (n vc : Nat) (ys : List Fld) (a2 : Option Addr) (n2 c2 : Nat) (zs : List Fld) (ra : Option Addr) (rl rc : Nat) (r : List Int) : Prop :=
  PSt w W bb m q ql g c va n vc ys ∧ Box2 W b 32 (.int .i64 m) (.slice a2 n2 c2) ∧ OwnF W w.heap.size (.slice a2 n2 c2) n2 zs ∧ Owns W w.heap.size ra rl rc r

theorem PNx.new {w W : World} {bb B : Nat} {m : Int} {q : List Int} {ql g c : Nat} {va : Option Addr} {n vc : Nat} {ys : List Fld} {a2 : Option Addr} {n2 c2 : Nat} {zs : List Fld} {ra : Option Addr} {rl rc : Nat} {r : List Int} (h : PSt w W bb m q ql g c va n vc ys) (hB : w.heap.size ≤ B) (ho : OwnF W B (.slice a2 n2 c2) n2 zs) (hr : Owns W B ra rl rc r) :
    PNx w (W.alloc (.cells #[.int .i64 m, .slice a2 n2 c2] 32)) bb W.heap.size m q ql g c va n vc ys a2 n2 c2 zs ra rl rc r := by
  have hn := (Below.refl W.heap.size W).alloc (Nat.le_refl _) (.cells #[.int .i64 m, .slice a2 n2 c2] 32)
  refine ⟨h.stays hn, Box2.new _ _ _ _, ?_, (hr.below hn).low hB⟩
  have := ho.stays hn
  exact ⟨own_down this.1 hB, this.2⟩

theorem PNx.put {w W : World} {bb b B : Nat} {m : Int} {q : List Int} {ql g c : Nat} {va : Option Addr} {n vc : Nat} {ys : List Fld} {a2 : Option Addr} {n2 c2 : Nat} {zs : List Fld} {ra : Option Addr} {rl rc : Nat} {r : List Int} (h : PSt w W bb m q ql g c va n vc ys) (hB : w.heap.size ≤ B) (ho : OwnF W B (.slice a2 n2 c2) n2 zs) (hr : Owns W B ra rl rc r) (hq : Box2 W b 32 (.int .i64 0) (.slice none 0 0)) (h1 : w.heap.size ≤ b) (h2 : bb ≠ b) (h3 : w.heap.size + 1 ≠ b) :
    PNx w ((W.setCell ⟨b, 0, none⟩ (.int .i64 m)).setCell ⟨b, 1, none⟩ (.slice a2 n2 c2)) bb b m q ql g c va n vc ys a2 n2 c2 zs ra rl rc r := by
  obtain ⟨g1, g2, g3, g4, g5, g6⟩ := h
  refine ⟨⟨(g1.setCell (p := ⟨b, 0, none⟩) h1 _).setCell (p := ⟨b, 1, none⟩) h1 _, g2, ?_, ?_, owns_setTwo g5 hq _ _, ownF_setTwo g6 hq _ _⟩, two_set1 (two_set0 hq _) _, ?_, (owns_setTwo hr hq _ _).low hB⟩
  · show _ = _
    rw [set_block_other _ _ _ _ _ h3, set_block_other _ _ _ _ _ h3]
    exact g3
  · show _ = _
    rw [set_block_other _ _ _ _ _ h2, set_block_other _ _ _ _ _ h2]
    exact g4
  · have := ownF_setTwo ho hq (.int .i64 m) (.slice a2 n2 c2)
    exact ⟨own_down this.1 hB, this.2⟩

theorem PNx.app {w W W' : World} {bb b : Nat} {m : Int} {q : List Int} {ql g c : Nat} {va : Option Addr} {n vc : Nat} {ys : List Fld} {a2 : Option Addr} {n2 c2 : Nat} {zs : List Fld} {ra : Option Addr} {rl rc : Nat} {r : List Int} {g' c' : Nat} (h : PNx w W bb b m q ql g c va n vc ys a2 n2 c2 zs ra rl rc r) (hg : W.grownBy W' (some g)) (ho : W'.ownsRow w.heap.size 5 1 (.slice (some ⟨g', 0, none⟩) (ql + rl) c') (ql + rl) (q.map (Value.int .u8) ++ r.map (Value.int .u8))) :
    PSt w W' bb m (q ++ r) (ql + rl) g' c' va n vc ys ∧ Box2 W' b 32 (.int .i64 m) (.slice a2 n2 c2) ∧ OwnF W' w.heap.size (.slice a2 n2 c2) n2 zs := by
  obtain ⟨h1, h2, h3, h4⟩ := h
  obtain ⟨cur, hgb⟩ : ∃ cur : Array Value, W.heap[g]? = some (.cells cur 5 (0, 0)) := by
    rcases h1.2.2.2.2.1.1.2 with ⟨h, _⟩ | ⟨g2, cap2, cur, heq, _, hg2, _⟩
    · cases h
    · injection heq with e3 _ _
      injection e3 with e3
      injection e3 with e3
      subst e3
      exact ⟨cur, hg2⟩
  refine ⟨h1.app hg ho h4.2, h2.grown hg (fun e => ?_), h3.grown hg (.inr (own_other' h3.1 hgb (by decide)))⟩
  have := owns_apart2 h1.2.2.2.2.1 h2
  rw [ownBlock_slice] at this
  exact this e

set_option maxRecDepth 10000 in
set_option maxHeartbeats 3200000 in
theorem specPuts_any (m : Int) (a : Option Addr) (len ca : Nat) (xs : List Fld) (la : Option Addr) (ll lc : Nat) (L : List Fld) (w : World) (hx : Flds w a len xs) (hL : Flds w la ll L) (hl : len + ll + fldBytes xs + fldBytes L ≤ 1048576) :
    Calls Tryz.prog 22 #[.agg #[.int .i64 m, .slice a len ca], .slice la ll lc] w fun e w' => ∃ (q : List Int) (a' : Option Addr) (c' : Nat) (v : Value) (n : Nat) (ys : List Fld), e = .returned (.tuple #[.slice a' q.length c', .agg #[.int .i64 m, v]]) ∧ PutN L m xs ll q ys ∧ Owns w' w.heap.size a' q.length c' q ∧ OwnF w' w.heap.size v n ys ∧ Below w.heap.size w w' := by
  obtain ⟨i0, hi, hz0, hz1, hz2⟩ := info_parts Tryz.info5
  have HX : Hid (Flds w a len xs) := hx
  have HL : Hid (Flds w la ll L) := hL
  have hlen := hx.1
  have hll := hL.1
  clear hx hL
  obtain ⟨w2, hw2⟩ : ∃ w2, ((w.alloc (.cells #[.int .i64 m, .slice a len ca] 32)).alloc (.cells #[.int .i64 0, .slice none 0 0] 32)) = w2 := ⟨_, rfl⟩
  have q1 : Box2 w2 w.heap.size 32 (.int .i64 m) (.slice a len ca) := by rw [← hw2]; exact (Box2.new _ _ _ _).alloc _
  have q2 : Box2 w2 (w.heap.size + 1) 32 (.int .i64 0) (.slice none 0 0) := by
    rw [← hw2]
    have := Box2.new (w.alloc (.cells #[.int .i64 m, .slice a len ca] 32)) 32 (.int .i64 0) (.slice none 0 0)
    rwa [World.size_alloc] at this
  have HB2 : Hid (Below w.heap.size w w2) := by show Below _ _ _; rw [← hw2]; exact ((Below.refl _ _).alloc (Nat.le_refl _) _).alloc (by simp) _
  have HW2 : Hid (w2.heap.size = w.heap.size + 2) := by show _ = _; rw [← hw2]; simp
  have HQ2 : Hid (Box2 w2 (w.heap.size + 1) 32 (.int .i64 0) (.slice none 0 0)) := q2
  obtain ⟨c0, c1, _, _⟩ := q1.cells
  clear q2
  obtain ⟨w3, hw3⟩ : ∃ w3, w2.alloc (.cells #[] 5) = w3 := ⟨_, rfl⟩
  have hb3 : Below w2.heap.size w2 w3 := by rw [← hw3]; exact (Below.refl _ _).alloc (Nat.le_refl _) _
  have HO3 : Hid (Owns w3 w2.heap.size (some ⟨w2.heap.size, 0, none⟩) 0 0 []) := by
    show Owns _ _ _ _ _ _
    rw [← hw3]
    exact ⟨⟨rfl, .inr ⟨w2.heap.size, 0, #[], rfl, Nat.le_refl _, heap_alloc_new w2 _, Nat.le_refl _, by decide, rfl, rfl⟩⟩, by simp⟩
  have HB3 : Hid (Below w2.heap.size w2 w3) := hb3
  obtain ⟨d0, d1, _, _⟩ := (q1.stays hb3).cells
  clear hb3 q1
  go_enter Tryz.func22, Tryz.ntmps22
  go_wp2_with fail
  refine (specCopy_any m a len ca xs _ (HX.out.below (HB2.out.trans (HB3.out.mono HB2.out.size))) (by omega)).mono ?_
  rintro e w4 ⟨v4, rfl, how4, hb4⟩
  obtain ⟨a4, c4, rfl⟩ := how4.shape
  have HS4 : Hid (PSt w (w4.alloc (.cells #[.int .i64 m, .slice a4 len c4] 32)) w4.heap.size m [] 0 w2.heap.size 0 a4 len c4 xs) := by
    have hb24 : Below w2.heap.size w2 w4 := HB3.out.trans (hb4.mono HB3.out.size)
    have hn := (Below.refl w4.heap.size w4).alloc (Nat.le_refl _) (.cells #[.int .i64 m, .slice a4 len c4] 32)
    have hs := HW2.out
    have hs4 := hb24.size
    have hs3 := HB3.out.size
    have hb5 : Below w.heap.size w w4 := HB2.out.trans (hb24.mono HB2.out.size)
    refine ⟨hb5.alloc hb5.size _, by omega, (HQ2.out.stays hb24).stays hn, Box2.new _ _ _ _, ?_, ?_⟩
    · exact ((HO3.out.below hb4).below hn).low (by omega)
    · have := how4.stays hn
      exact ⟨own_down this.1 (by omega), this.2⟩
  clear hb4 how4 HO3 HB3 HQ2 c0 c1 d0 d1 hw2 hw3
  go_wp2_with fail
  obtain ⟨bb, hbb⟩ : ∃ bb, w4.heap.size = bb := ⟨_, rfl⟩
  obtain ⟨w5, hw5⟩ : ∃ w5, w4.alloc (.cells #[.int .i64 m, .slice a4 len c4] 32) = w5 := ⟨_, rfl⟩
  rw [hw5, hbb] at HS4
  rw [hw5, hbb]
  clear hw5 hbb
  go_loopw [6, 8] (fun v i wr => ∃ (k : Nat) (q : List Int) (ql g c : Nat) (va : Option Addr) (n vc : Nat) (ys : List Fld), k ≤ ll ∧ i = .int .i64 k ∧ v = .slice (some ⟨g, 0, none⟩) ql c ∧ Hid (q.length = ql) ∧ Hid (PutN L m xs k q ys) ∧ Hid (PSt w wr bb m q ql g c va n vc ys)) (fun _ i _ => ll - (intOf i).toNat)
  case atStart => exact ⟨0, [], 0, _, 0, a4, len, c4, xs, Nat.zero_le _, rfl, rfl, rfl, ⟨rfl, rfl⟩, HS4⟩
  case round =>
    clear HS4
    obtain ⟨k, q, ql, g, c, va, n, vc, ys, hk, rfl, rfl, HQL, HP, HS⟩ := hrel
    have hfit := HP.out.fits
    have hyn : ys.length = n := HS.out.2.2.2.2.2.len
    have hql := HQL.out
    by_cases hlt : k < ll
    · obtain ⟨ba, oa, x, y, rfl, hba, hfa, ha0, ha1⟩ := HL.out.at hlt
      have ga0 : wr.cell? ⟨ba, oa + k * 2, none⟩ = some (.string x) := (HS.out.1.cell (p := ⟨ba, _, none⟩) hba).trans ha0
      have ga1 : wr.cell? ⟨ba, oa + k * 2 + 1, none⟩ = some (.string y) := (HS.out.1.cell (p := ⟨ba, _, none⟩) hba).trans ha1
      have hst := fldBytes_step L k x y hfa
      have hle := fldBytes_take L (k + 1)
      have hbd : n + (x.size + y.size) + fldBytes ys ≤ 1048576 := by omega
      have hqb : ql + (x.size + y.size + 18) ≤ 100000000 := by omega
      have hxs : x.size ≤ maxLen := by unfold maxLen; omega
      have hys : y.size ≤ maxLen := by unfold maxLen; omega
      have HF : Hid (L[k]? = some (x, y)) := hfa
      clear hfa hst hle hfit hyn hql
      have hki : (k : Int) < (ll : Int) := by omega
      have hk0 : (0 : Int) ≤ (k : Int) := by omega
      have HSd : Hid (PSt w wr.drew bb m q ql g c va n vc ys) := HS.out.stays (Below.refl _ _).drew
      have HSa : Hid (PSt w (wr.drew.alloc (.cells #[.int .i64 0, .slice none 0 0] 32)) bb m q ql g c va n vc ys) := HSd.out.stays ((Below.refl _ _).alloc (Nat.le_refl _) _)
      have HBa : Hid (Box2 (wr.drew.alloc (.cells #[.int .i64 0, .slice none 0 0] 32)) wr.heap.size 32 (.int .i64 0) (.slice none 0 0)) := Box2.new _ _ _ _
      have hlb : bb < wr.heap.size := HS.out.2.2.2.1.lt
      have hlw : w.heap.size + 1 < bb := HS.out.2.1
      have HZ : Hid (w.heap.size ≤ wr.heap.size ∧ bb ≠ wr.heap.size ∧ w.heap.size + 1 ≠ wr.heap.size) := ⟨by omega, by omega, by omega⟩
      have hn1 : ¬ bb = wr.heap.size := by omega
      have hn2 : ¬ wr.heap.size = bb := by omega
      have hn3 : ¬ ba = wr.heap.size := by omega
      have hn4 : ¬ wr.heap.size = ba := by omega
      obtain ⟨u0, u1, _, _⟩ := HS.out.2.2.2.1.cells
      by_cases hsx : (x.toList == [97, 117, 116, 104, 111, 114, 105, 122, 97, 116, 105, 111, 110]) = true
      · have HMd : Hid (fmode x = 3) := by show _ = _; rw [fmode, if_pos hsx]
        go_upto_region 9 with fail
        go_region_held3 (fun W => W.cell? ⟨bb, 0, none⟩ = some (.int .i64 m) ∧ W.cell? ⟨bb, 1, none⟩ = some (.slice va n vc) ∧ W.cell? ⟨ba, oa + k * 2, none⟩ = some (.string x) ∧ W.cell? ⟨ba, oa + k * 2 + 1, none⟩ = some (.string y)) (first | (refine ⟨?_, ?_, ?_, ?_⟩ <;> assumption) | (refine ⟨?_, ?_, ?_, ?_⟩ <;> (simp [go_sem, *]; done)) | go_keep) (first
          | (go_at_call 45; refine (specPutF_any m va n vc ys x y 3 _ (by first | exact HSd.out.2.2.2.2.2.flds | exact HSa.out.2.2.2.2.2.flds) ⟨hxs, hys⟩ hbd).mono ?_; rintro e x2 ⟨r, ra, rc, v2, n2, zs, rfl, hadd, hor, how, hb⟩; obtain ⟨a2, c2, rfl⟩ := how.shape
             first
               | (have hs2 := HSa.out.stays hb
                  have hbx := HBa.out.stays hb
                  have HPut := hidden (PNx.put hs2 HSa.out.1.size how hor hbx HZ.out.1 HZ.out.2.1 HZ.out.2.2)
                  obtain ⟨q0, q1, q2, q3⟩ := hbx.cells)
               | (have hs2 := HSd.out.stays hb
                  have HPut := hidden (PNx.new hs2 HSd.out.1.size how hor)
                  have hlt3 : bb < x2.heap.size := hs2.2.2.2.1.lt
                  have hlt4 : ¬ bb = x2.heap.size := (by omega)
                  have hlt5 : ¬ x2.heap.size = bb := (by omega)
                  have hlt6 : ba < x2.heap.size := (Nat.lt_of_lt_of_le hba hs2.1.size)
                  have hlt7 : ¬ ba = x2.heap.size := (by omega)
                  have hlt8 : ¬ x2.heap.size = ba := (by omega))
               | fail
             obtain ⟨s0, s1, _, _⟩ := hs2.2.2.2.1.cells
             have s2 := (hs2.1.cell (p := ⟨ba, oa + k * 2, none⟩) hba).trans ha0
             have s3 := (hs2.1.cell (p := ⟨ba, oa + k * 2 + 1, none⟩) hba).trans ha1)
          | fail)
        all_goals
          obtain ⟨rl, hrl⟩ : ∃ rl, r.length = rl := ⟨_, rfl⟩
          have HAdd : Hid (PutAns m ys x y (fmode x) r zs) := by show PutAns _ _ _ _ _ _ _; rw [HMd.out]; exact hadd
          have hrl2 : rl ≤ x.size + y.size + 18 := by have := hadd.fits.2.2; omega
          rw [hrl] at HPut ⊢
          have HRL : Hid (r.length = rl) := hrl
          clear hadd hor how hb hrl hs2 u0 u1 ga0 ga1
          have HSrc : Hid (Src Tryz.prog 1 27 (.slice ra rl rc) rl (r.map (Value.int .u8)) _) := Src.ofSeg Tryz.underlying27 HPut.out.2.2.2.seg HPut.out.2.2.2.none
          have hA : ql + rl ≤ maxLen := by unfold maxLen; omega
          have hA2 : (ql + rl) * 1 ≤ 140737488355328 := by omega
          go_wp2_with (at_builtin; refine wpList_append_got rfl _ _ 27 27 rfl w.heap.size 5 i0 (.int .u8 0) 1 1 Tryz.underlying27 hi hz0 hz1 hz2 rfl (by decide) g ql c (q.map (Value.int .u8)) rfl HPut.out.1.2.2.2.2.1.1 (.slice ra rl rc) rl (r.map (Value.int .u8)) rfl HSrc.out hA hA2 HPut.out.1.1.size ?_; intro g' c' x4 hown hgrow; refine Hid.out ?_)
          refine hidden ?_
          have hap := HPut.out.app hgrow hown
          have HS5 := hidden (hap.1.put (Nat.le_refl _) hap.2.2)
          obtain ⟨t0, t1, _, _⟩ := hap.2.1.cells
          obtain ⟨t2, t3, t4, t5⟩ := hap.1.2.2.2.1.cells
          clear hown hgrow HPut HSrc hA hA2 hap
          go_wp2
          go_roundw
          case rel =>
            refine ⟨k + 1, q ++ r, ql + rl, g', c', a2, n2, c2, zs, by omega, by go_num, rfl, ?_, ⟨q, ys, x, y, r, HP.out, HF.out, HAdd.out, rfl⟩, HS5⟩
            show _ = _
            rw [List.length_append, HQL.out, HRL.out]
          case measure => simp [intOf]; omega
      · have HMd : Hid (fmode x = 1) := by show _ = _; rw [fmode, if_neg hsx]
        have hs1 : (x.toList == [97, 117, 116, 104, 111, 114, 105, 122, 97, 116, 105, 111, 110]) = false := by simpa using hsx
        clear hsx
        go_upto_region 9 with fail
        go_region_held3 (fun W => W.cell? ⟨bb, 0, none⟩ = some (.int .i64 m) ∧ W.cell? ⟨bb, 1, none⟩ = some (.slice va n vc) ∧ W.cell? ⟨ba, oa + k * 2, none⟩ = some (.string x) ∧ W.cell? ⟨ba, oa + k * 2 + 1, none⟩ = some (.string y)) (first | (refine ⟨?_, ?_, ?_, ?_⟩ <;> assumption) | (refine ⟨?_, ?_, ?_, ?_⟩ <;> (simp [go_sem, *]; done)) | go_keep) (first
          | (go_at_call 45; refine (specPutF_any m va n vc ys x y 1 _ (by first | exact HSd.out.2.2.2.2.2.flds | exact HSa.out.2.2.2.2.2.flds) ⟨hxs, hys⟩ hbd).mono ?_; rintro e x2 ⟨r, ra, rc, v2, n2, zs, rfl, hadd, hor, how, hb⟩; obtain ⟨a2, c2, rfl⟩ := how.shape
             first
               | (have hs2 := HSa.out.stays hb
                  have hbx := HBa.out.stays hb
                  have HPut := hidden (PNx.put hs2 HSa.out.1.size how hor hbx HZ.out.1 HZ.out.2.1 HZ.out.2.2)
                  obtain ⟨q0, q1, q2, q3⟩ := hbx.cells)
               | (have hs2 := HSd.out.stays hb
                  have HPut := hidden (PNx.new hs2 HSd.out.1.size how hor)
                  have hlt3 : bb < x2.heap.size := hs2.2.2.2.1.lt
                  have hlt4 : ¬ bb = x2.heap.size := (by omega)
                  have hlt5 : ¬ x2.heap.size = bb := (by omega)
                  have hlt6 : ba < x2.heap.size := (Nat.lt_of_lt_of_le hba hs2.1.size)
                  have hlt7 : ¬ ba = x2.heap.size := (by omega)
                  have hlt8 : ¬ x2.heap.size = ba := (by omega))
               | fail
             obtain ⟨s0, s1, _, _⟩ := hs2.2.2.2.1.cells
             have s2 := (hs2.1.cell (p := ⟨ba, oa + k * 2, none⟩) hba).trans ha0
             have s3 := (hs2.1.cell (p := ⟨ba, oa + k * 2 + 1, none⟩) hba).trans ha1)
          | fail)
        all_goals
          obtain ⟨rl, hrl⟩ : ∃ rl, r.length = rl := ⟨_, rfl⟩
          have HAdd : Hid (PutAns m ys x y (fmode x) r zs) := by show PutAns _ _ _ _ _ _ _; rw [HMd.out]; exact hadd
          have hrl2 : rl ≤ x.size + y.size + 18 := by have := hadd.fits.2.2; omega
          rw [hrl] at HPut ⊢
          have HRL : Hid (r.length = rl) := hrl
          clear hadd hor how hb hrl hs2 u0 u1 ga0 ga1
          have HSrc : Hid (Src Tryz.prog 1 27 (.slice ra rl rc) rl (r.map (Value.int .u8)) _) := Src.ofSeg Tryz.underlying27 HPut.out.2.2.2.seg HPut.out.2.2.2.none
          have hA : ql + rl ≤ maxLen := by unfold maxLen; omega
          have hA2 : (ql + rl) * 1 ≤ 140737488355328 := by omega
          go_wp2_with (at_builtin; refine wpList_append_got rfl _ _ 27 27 rfl w.heap.size 5 i0 (.int .u8 0) 1 1 Tryz.underlying27 hi hz0 hz1 hz2 rfl (by decide) g ql c (q.map (Value.int .u8)) rfl HPut.out.1.2.2.2.2.1.1 (.slice ra rl rc) rl (r.map (Value.int .u8)) rfl HSrc.out hA hA2 HPut.out.1.1.size ?_; intro g' c' x4 hown hgrow; refine Hid.out ?_)
          refine hidden ?_
          have hap := HPut.out.app hgrow hown
          have HS5 := hidden (hap.1.put (Nat.le_refl _) hap.2.2)
          obtain ⟨t0, t1, _, _⟩ := hap.2.1.cells
          obtain ⟨t2, t3, t4, t5⟩ := hap.1.2.2.2.1.cells
          clear hown hgrow HPut HSrc hA hA2 hap
          go_wp2
          go_roundw
          case rel =>
            refine ⟨k + 1, q ++ r, ql + rl, g', c', a2, n2, c2, zs, by omega, by go_num, rfl, ?_, ⟨q, ys, x, y, r, HP.out, HF.out, HAdd.out, rfl⟩, HS5⟩
            show _ = _
            rw [List.length_append, HQL.out, HRL.out]
          case measure => simp [intOf]; omega
    · obtain rfl : k = ll := by omega
      have hki : ¬ (k : Int) < (k : Int) := by omega
      obtain ⟨c0, c1, _, _⟩ := HS.out.2.2.2.1.cells
      obtain ⟨c2, c3, c4', c5⟩ := HS.out.2.2.1.cells
      have HFn : Hid _ := HS.out.fin
      clear hfit hyn hql
      go_wp2_with fail
      go_region
      all_goals
        clear c0 c1 c4' c5
        go_wp2_with fail
        refine bodyPost_ret (v := .tuple #[.slice (some ⟨g, 0, none⟩) ql c, .agg #[.int .i64 m, .slice va n vc]]) (by simp [results, Tryz.f22, go_sem, c2, c3]) rfl ?_
        exact ⟨q, _, _, _, n, ys, by rw [HQL.out], HP.out, by rw [HQL.out]; exact HFn.out.2.2.1, HFn.out.2.2.2, HFn.out.1⟩

end Go.Proofs.YtbaijmkghgnleaaGreatDoor

namespace Go.Proofs.YtbaijmkghgnleaaGreatDoor
open Go.RowKit
set_option linter.unusedVariables false

set_option maxRecDepth 10000 in
theorem specMeth_any (op : Int) (w : World) (h : 1 ≤ op ∧ op ≤ 6) : Calls Tryz.prog 46 #[.int .i64 op] w fun e w' => e = .returned (.string (methT op)) ∧ Below w.heap.size w w' := by
  have hop : op = 1 ∨ op = 2 ∨ op = 3 ∨ op = 4 ∨ op = 5 ∨ op = 6 := by omega
  clear h
  have HB : Hid (Below w.heap.size w (w.alloc (.cells #[.string ⟨#[]⟩, .string ⟨#[80, 79, 83, 84]⟩, .string ⟨#[72, 69, 65, 68]⟩, .string ⟨#[80, 65, 84, 67, 72]⟩, .string ⟨#[80, 85, 84]⟩, .string ⟨#[71, 69, 84]⟩, .string ⟨#[68, 69, 76, 69, 84, 69]⟩] 9))) := (Below.refl _ _).alloc (Nat.le_refl _) _
  rcases hop with rfl | rfl | rfl | rfl | rfl | rfl
  all_goals
    go_enter Tryz.func46, Tryz.ntmps46
    go_wp2
    go_ret
    exact ⟨rfl, HB.out⟩

theorem specName_any (op : Int) (w : World) : Calls Tryz.prog 47 #[.int .i64 op] w fun e w' => e = .returned (.string (nameT op)) ∧ w' = w := by
  by_cases h1 : op = 1
  · subst h1
    go_enter Tryz.func47, Tryz.ntmps47
    go_wp2
    go_ret
    exact ⟨rfl, rfl⟩
  by_cases h3 : op = 3
  · subst h3
    go_enter Tryz.func47, Tryz.ntmps47
    go_wp2
    go_ret
    exact ⟨rfl, rfl⟩
  by_cases h4 : op = 4
  · subst h4
    go_enter Tryz.func47, Tryz.ntmps47
    go_wp2
    go_ret
    exact ⟨rfl, rfl⟩
  have HM : Hid (nameT op = ⟨#[]⟩) := by show _ = _; rw [nameT, if_neg h1, if_neg h3, if_neg h4]
  have k1 : (op == 1) = false := by simpa using h1
  have k3 : (op == 3) = false := by simpa using h3
  have k4 : (op == 4) = false := by simpa using h4
  rw [HM.out]
  go_enter Tryz.func47, Tryz.ntmps47
  go_wp2
  go_ret
  exact ⟨rfl, rfl⟩

end Go.Proofs.YtbaijmkghgnleaaGreatDoor

namespace Go.Proofs.YtbaijmkghgnleaaGreatDoor
open Go.RowKit
set_option linter.unusedVariables false

theorem str_at (s : ByteArray) (k : Nat) (h : k < s.size) : s.data.toList[k]'(by rw [Array.length_toList]; exact h) = s[k] := by
  rw [Array.getElem_toList]
  rfl

set_option maxRecDepth 10000 in
set_option maxHeartbeats 800000 in
theorem specId_any (s : ByteArray) (w : World) (hm : s.size ≤ 9223372036854775807) :
    Calls Tryz.prog 43 #[.string s] w fun e w' => e = .returned (.bool (idB s.data.toList)) ∧ w' = w := by
  have HL : Hid (s.data.toList.length = s.size) := Array.length_toList
  go_enter Tryz.func43, Tryz.ntmps43
  go_wp2_with fail
  go_loop [3] (fun v => ∃ k : Nat, k ≤ s.size ∧ v = .int .i64 k ∧ Hid (∀ j (hj : j < s.data.toList.length), j < k → idC s.data.toList[j] = true)) (fun v => s.size - (intOf v).toNat)
  case atStart => exact ⟨0, Nat.zero_le _, rfl, fun j _ hj => absurd hj (Nat.not_lt_zero _)⟩
  case round =>
    obtain ⟨k, hk, rfl, HN⟩ := hrel
    by_cases hlt : k < s.size
    · have hki : (k : Int) < (s.size : Int) := by omega
      have hc0 : (0 : Int) ≤ (s[k].toNat : Int) := by omega
      have hc1 : (s[k].toNat : Int) ≤ 255 := by have := s[k].toNat_lt; omega
      have HA : Hid (idC (s.data.toList[k]'(by rw [Array.length_toList]; exact hlt)) = ((decide (97 ≤ s[k].toNat) && decide (s[k].toNat ≤ 122)) || (decide (48 ≤ s[k].toNat) && decide (s[k].toNat ≤ 57)))) := by show _ = _; rw [str_at s k hlt, idC]
      have HG : Hid (idC (s.data.toList[k]'(by rw [Array.length_toList]; exact hlt)) = true → ∀ j (hj : j < s.data.toList.length), j < k + 1 → idC s.data.toList[j] = true) := fun h j hj hjk => by
        by_cases e : j = k
        · subst e; exact h
        · exact HN.out j hj (by omega)
      have HBd : Hid (idC (s.data.toList[k]'(by rw [Array.length_toList]; exact hlt)) = false → idB s.data.toList = false) := fun h => idB_bad (by rw [Array.length_toList]; exact hlt) h
      by_cases h1 : 97 ≤ s[k].toNat ∧ s[k].toNat ≤ 122
      · have HT : Hid (∀ j (hj : j < s.data.toList.length), j < k + 1 → idC s.data.toList[j] = true) := HG.out (by rw [HA.out, decide_eq_true h1.1, decide_eq_true h1.2]; rfl)
        have HI : Hid (∀ W : World, Calls Tryz.prog 20 #[.int .i64 (s[k].toNat : Int), .int .i64 97, .int .i64 122] W fun e w' => e = .returned (.bool true) ∧ w' = W) := fun W => l1In_yes _ _ _ W (by omega) (by omega)
        clear h1 HA HG HBd HN
        go_wp2_with (go_at_call 20; refine (HI.out _).mono ?_; rintro e w' ⟨rfl, rfl⟩)
        go_round
        case rel => exact ⟨k + 1, by omega, by go_num, HT⟩
        case measure => simp [intOf]; omega
      have HI : Hid (∀ W : World, Calls Tryz.prog 20 #[.int .i64 (s[k].toNat : Int), .int .i64 97, .int .i64 122] W fun e w' => e = .returned (.bool false) ∧ w' = W) := fun W => l1In_no _ _ _ W (by omega)
      by_cases h2 : 48 ≤ s[k].toNat ∧ s[k].toNat ≤ 57
      · have HT : Hid (∀ j (hj : j < s.data.toList.length), j < k + 1 → idC s.data.toList[j] = true) := HG.out (by rw [HA.out, decide_eq_true h2.1, decide_eq_true h2.2]; simp)
        have HI2 : Hid (∀ W : World, Calls Tryz.prog 20 #[.int .i64 (s[k].toNat : Int), .int .i64 48, .int .i64 57] W fun e w' => e = .returned (.bool true) ∧ w' = W) := fun W => l1In_yes _ _ _ W (by omega) (by omega)
        clear h1 h2 HA HG HBd HN
        go_wp2_with (go_at_call 20; first | (with_reducible refine (HI.out _).mono ?_; rintro e w' ⟨rfl, rfl⟩) | (with_reducible refine (HI2.out _).mono ?_; rintro e w' ⟨rfl, rfl⟩))
        go_round
        case rel => exact ⟨k + 1, by omega, by go_num, HT⟩
        case measure => simp [intOf]; omega
      · have HF : Hid (idB s.data.toList = false) := HBd.out (by rw [HA.out, Bool.or_eq_false_iff, Bool.and_eq_false_iff, Bool.and_eq_false_iff]; simp only [decide_eq_false_iff_not]; omega)
        have HI2 : Hid (∀ W : World, Calls Tryz.prog 20 #[.int .i64 (s[k].toNat : Int), .int .i64 48, .int .i64 57] W fun e w' => e = .returned (.bool false) ∧ w' = W) := fun W => l1In_no _ _ _ W (by omega)
        clear h1 h2 HA HG HBd HN
        go_wp2_with (go_at_call 20; first | (with_reducible refine (HI.out _).mono ?_; rintro e w' ⟨rfl, rfl⟩) | (with_reducible refine (HI2.out _).mono ?_; rintro e w' ⟨rfl, rfl⟩))
        go_ret
        exact ⟨ret_bool HF.out.symm, rfl⟩
    · have hkl : k = s.size := by omega
      subst hkl
      have HE : Hid (idB s.data.toList = (decide ((1 : Int) ≤ (s.size : Int)) && decide ((s.size : Int) ≤ 8))) := by
        show _ = _
        rw [idB_good fun j hj => HN.out j hj (by rw [HL.out] at hj; exact hj), HL.out, Bool.eq_iff_iff]
        simp only [decide_eq_true_eq, Bool.and_eq_true]
        omega
      clear HN
      go_wp2_with fail
      refine (l1In_any (s.size : Int) 1 8 w).mono ?_
      rintro e w1 ⟨rfl, hw1⟩
      subst hw1
      go_wp2_with fail
      go_ret
      exact ⟨ret_bool HE.out.symm, rfl⟩

end Go.Proofs.YtbaijmkghgnleaaGreatDoor
