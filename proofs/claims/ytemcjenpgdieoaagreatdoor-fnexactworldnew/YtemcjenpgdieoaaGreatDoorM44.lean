/- What the specification's WorldNew answers. -/
import Derived.Test.YtemcjenpgdieoaaGreatDoorM37
import Derived.Test.YtemcjenpgdieoaaGreatDoorM42
import Derived.Test.YtemcjenpgdieoaaGreatDoorM43
import Derived.Test.YtemcjenpgdieoaaGreatDoorM43
import Derived.Test.YtemcjenpgdieoaaGreatDoorM13
import Derived.Test.YtemcjenpgdieoaaGreatDoorM39
import Derived.Deep.CutBlock
import Derived.Shelf.Abstract
import Derived.Deep.RegionHeld3
namespace Go.Proofs.YtemcjenpgdieoaaGreatDoor
open Go.RowKit
set_option linter.unusedVariables false

/-- Whether a new world is right. -/
noncomputable def wdB (M : Nat) (us : List Cu) : Bool := svB (List.replicate M ⟨#[]⟩) (List.replicate M ⟨#[]⟩) 0 0 [] [] && clsB us

/-- How many sectors, and which clients, it has. -/
noncomputable def wdM (M : Nat) (us : List Cu) : Nat := if wdB M us = true then M else 0
noncomputable def wdU (M : Nat) (us : List Cu) : List Cu := if wdB M us = true then us else []

theorem wdM_yes {M : Nat} {us : List Cu} (h : wdB M us = true) : wdM M us = M ∧ wdU M us = us := ⟨if_pos h, if_pos h⟩
theorem wdM_no {M : Nat} {us : List Cu} (h : wdB M us = false) : wdM M us = 0 ∧ wdU M us = [] := ⟨if_neg (by rw [h]; decide), if_neg (by rw [h]; decide)⟩

theorem like_cls {l l' : List CE} (h : l'.map CE.u = l.map CE.u) (h1 : ∀ e ∈ l, e.n = e.u.zs.length) (h2 : ∀ e ∈ l', e.n = e.u.zs.length) (hz : ∀ e ∈ l, e.u.id.size ≤ maxLen ∧ e.n ≤ 1048576) : ∀ e ∈ l', e.u.id.size ≤ maxLen ∧ e.n ≤ 1048576 := by
  intro e he
  have hm : e.u ∈ l.map CE.u := by rw [← h]; exact List.mem_map_of_mem he
  obtain ⟨x, hx, hxe⟩ := List.mem_map.1 hm
  have := hz x hx
  rw [h2 e he, ← hxe, ← h1 x hx]
  exact this

set_option maxRecDepth 10000 in
set_option maxHeartbeats 3200000 in
theorem specWdNew_any (n : Int) (M : Nat) (hM : newN n = M) (hMb : M ≤ 1048576) (a : Option Addr) (k c lo : Nat) (l : List CE) (w : World) (h : ClRow w lo (.slice a k c) l) (hk : k = l.length) (hl : k ≤ 1048576) (hz : ∀ e ∈ l, e.u.id.size ≤ maxLen ∧ e.n ≤ 1048576) :
    Calls Tryz.prog 5 #[.int .i64 n, .slice a k c] w fun e w' => (∃ v, e = .returned v ∧ AnsWd w.heap.size (wdM M (l.map CE.u)) (wdU M (l.map CE.u)) v w') ∧ Below w.heap.size w w' := by
  obtain ⟨w0, hw0⟩ : ∃ w0, w.alloc (.cells #[.slice none 0 0, .slice none 0 0, .int .i64 0, .int .i64 0, .slice none 0 0, .slice none 0 0, .slice none 0 0, .slice none 0 0, .slice none 0 0, .slice none 0 0, .slice none 0 0] 38) = w0 := ⟨_, rfl⟩
  have HE : Hid (w.alloc (.cells #[.slice none 0 0, .slice none 0 0, .int .i64 0, .int .i64 0, .slice none 0 0, .slice none 0 0, .slice none 0 0, .slice none 0 0, .slice none 0 0, .slice none 0 0, .slice none 0 0] 38) = w0) := hw0
  have hB : Below w.heap.size w w0 := by rw [← hw0]; exact (Below.refl _ _).alloc (Nat.le_refl _) _
  have q1 : BoxN w0 w.heap.size 38 [.slice none 0 0, .slice none 0 0, .int .i64 0, .int .i64 0, .slice none 0 0, .slice none 0 0, .slice none 0 0, .slice none 0 0, .slice none 0 0, .slice none 0 0, .slice none 0 0] := by rw [← hw0]; exact BoxN.new _ _ _
  have hs2 : w.heap.size < w0.heap.size := q1.lt
  have HX : Hid (∀ W, Below w.heap.size w W → ClRow W lo (.slice a k c) l) := fun W hb => h.stays hb
  have HZ : Hid (k = l.length ∧ (∀ e ∈ l, e.u.id.size ≤ maxLen ∧ e.n ≤ 1048576) ∧ (∀ e ∈ l, e.n = e.u.zs.length)) := ⟨hk, hz, h.len⟩
  have HB0 : Hid (Below w.heap.size w w0) := hB
  have HQ1 : Hid (BoxN w0 w.heap.size 38 [.slice none 0 0, .slice none 0 0, .int .i64 0, .int .i64 0, .slice none 0 0, .slice none 0 0, .slice none 0 0, .slice none 0 0, .slice none 0 0, .slice none 0 0, .slice none 0 0]) := q1
  obtain ⟨i0, hi, hz0, hz1, hz2⟩ := info_parts info_cl
  obtain ⟨i4, hi4, jb0, jb1, jb2⟩ := info_parts info_bool
  obtain ⟨i3, hi3, ji0, ji1, ji2⟩ := info_parts Tryz.info3
  clear hw0 hB q1 h hk hz
  go_enter Tryz.func5, Tryz.ntmps5
  go_upto_region 1 with fail
  rw [HE.out]
  clear HE
  go_wp2_with fail
  refine (specServerNew_any n w0).mono ?_
  rw [hM]
  rintro _ x1 ⟨⟨sa, sc, sa', sc', su, suc, rfl, hs1⟩, hb1⟩
  obtain ⟨x2, hx2⟩ : ∃ x2, x1.alloc (.cells #[.slice sa M sc, .slice sa' M sc', .int .i64 0, .int .i64 0, .slice su 0 suc, .slice none 0 0, .slice none 0 0, .slice none 0 0, .slice none 0 0, .slice none 0 0, .slice none 0 0] 38) = x2 := ⟨_, rfl⟩
  obtain ⟨bw, hbw⟩ : ∃ bw, x1.heap.size = bw := ⟨_, rfl⟩
  have HE2 : Hid (x1.alloc (.cells #[.slice sa M sc, .slice sa' M sc', .int .i64 0, .int .i64 0, .slice su 0 suc, .slice none 0 0, .slice none 0 0, .slice none 0 0, .slice none 0 0, .slice none 0 0, .slice none 0 0] 38) = x2 ∧ x1.heap.size = bw) := ⟨hx2, hbw⟩
  have h12 : Below x1.heap.size x1 x2 := by rw [← hx2]; exact (Below.refl _ _).alloc (Nat.le_refl _) _
  have HB2 : Hid (Below w.heap.size w x2) := HB0.out.trans ((hb1.trans (h12.mono hb1.size)).mono HB0.out.size)
  have hv2 : BoxN x2 bw 38 [.slice sa M sc, .slice sa' M sc', .int .i64 0, .int .i64 0, .slice su 0 suc, .slice none 0 0, .slice none 0 0, .slice none 0 0, .slice none 0 0, .slice none 0 0, .slice none 0 0] := by rw [← hx2, ← hbw]; exact BoxN.new _ _ _
  have hbl : w0.heap.size ≤ bw := by rw [← hbw]; exact hb1.size
  have HL2 : Hid (WdL x2 w0.heap.size bw w.heap.size M sa sc sa' sc' su suc none 0 0 none 0 0 none 0 0 []) := ⟨hv2, (HQ1.out.stays hb1).stays h12, by omega, hs1.stays h12, ⟨⟨rfl, .inl ⟨rfl, rfl⟩⟩, by simp, List.Pairwise.nil⟩, rfl, ⟨rfl, .inl ⟨rfl, rfl⟩⟩, ⟨rfl, .inl ⟨rfl, rfl⟩⟩⟩
  clear hx2 hbw h12 hb1 hs1 HQ1 hv2
  go_upto_region 2 with fail
  rw [HE2.out.1, HE2.out.2]
  clear HE2
  go_wp2_with fail
  go_loopw [6] (fun v wr => ∃ (j : Nat) (ca : Option Addr) (cc : Nat) (ba : Option Addr) (bc : Nat) (za : Option Addr) (zc : Nat) (l' : List CE), j ≤ k ∧ v = .int .i64 j ∧ Hid (WdL wr w0.heap.size bw w.heap.size M sa sc sa' sc' su suc ca j cc ba j bc za j zc l') ∧ Hid (l'.map CE.u = (l.map CE.u).take j) ∧ Hid (Below w.heap.size w wr)) (fun v _ => k - (intOf v).toNat)
  case atStart => exact ⟨0, none, 0, none, 0, none, 0, [], Nat.zero_le _, rfl, HL2, rfl, HB2⟩
  case round =>
    clear HL2 HB2
    obtain ⟨j, ca, cc, ba, bc, za, zc, l', hj, rfl, HL, HM, HB⟩ := hrel
    have hsz : w0.heap.size ≤ wr.heap.size := by have := HL.out.box.lt; omega
    by_cases hlt : j < k
    · have hjl : j < l.length := by rw [← HZ.out.1]; exact hlt
      have hji : (j : Int) < (k : Int) := by omega
      have hj0 : (0 : Int) ≤ (j : Int) := by omega
      obtain ⟨g, rfl, g0, g1, g2, g3, _⟩ := (HX.out _ HB.out).at HZ.out.1 hjl
      have HSg : Hid (Seg wr (l[j]).a (l[j]).n (l[j]).u.zs) := ((HX.out _ HB.out).2.1 (l[j]) (List.getElem_mem hjl)).seg
      have hen : (l[j]).n ≤ 1048576 := (HZ.out.2.1 _ (List.getElem_mem hjl)).2
      have HM2 : Hid (l'.map CE.u ++ [(l[j]).u] = (l.map CE.u).take (j + 1)) := by show _ = _; rw [List.take_add_one, List.getElem?_map, List.getElem?_eq_getElem hjl, HM.out]; rfl
      clear HM
      generalize l[j] = e at *
      have HCU : Hid (Calls Tryz.prog 15 #[.agg #[.string e.u.id, .slice e.a e.n e.c, .int .i64 e.u.st, .int .i64 e.u.off]] wr.drew fun ee y1 => ∃ A C, ee = .returned (.agg #[.string e.u.id, .slice A e.n C, .int .i64 e.u.st, .int .i64 e.u.off]) ∧ Owns y1 wr.heap.size A e.n C e.u.zs ∧ Below wr.heap.size wr y1) := by
        refine (copyClS_any e.u.id e.u.st e.u.off e.a e.n e.c e.u.zs wr.drew (HSg.out.below (Below.refl _ _).drew) hen).mono ?_
        rintro _ y1 ⟨A, C, rfl, ho1, hb1⟩
        exact ⟨A, C, rfl, ho1, (Below.refl wr.heap.size wr).drew.trans (hb1.mono (Nat.le_refl _))⟩
      have q6 := HL.out.box.cell 6 rfl
      have HEnt : Hid (∀ args w, (callFunc 15 args).run Tryz.prog w = .ok (.enter 15 args) w) := enters_of Tryz.func15 (by kernel_rfl) rfl
      clear HSg
      go_upto_region 5 with fail
      go_region_law (first
        | (refine step_append_own rfl (.tmp 17) (.tmp 23) 33 rfl w0.heap.size 51 i0 (.agg #[.string ⟨#[]⟩, .slice none 0 0, .int .i64 0, .int .i64 0]) 4 56 Tryz.underlying33 hi hz0 hz1 hz2 rfl (by decide) (.slice ca j cc) j (ceCells l') rfl (HR1.alloc _) ⟨y1.heap.size, 0, none⟩ 1 1 (CE.cells ⟨e.u, A, e.n, C⟩) rfl rfl (four_newC y1 e.u A e.n C) (four_oneC e.u A e.n C) (by unfold maxLen; omega) (by omega) (by simp; omega) ?_; intro v2 y2 hown2 hg2
           obtain ⟨v2a, v2c, hv2⟩ := shape_ofB hown2
           subst hv2
           have hw2 := HG2 _ _ _ hown2 hg2
           have q6y := hw2.1.cell 6 rfl
           have f6y := hw2.1.frozen 6)
        | (refine step_call_any rfl 15 (.tmp 21) 51 rfl HEnt.out _ rfl _ HCU.out ?_; rintro _ y1 ⟨A, C, rfl, ho1, hb1'⟩; refine ⟨_, rfl, ?_⟩
           have HL1 := HL.out.stays hb1'
           have hy1 : wr.heap.size ≤ y1.heap.size := hb1'.size
           have HR1 : y1.ownsRow w0.heap.size 51 4 (.slice ca j cc) j (ceCells l') := (by have h9 := HL1.cls.1; rw [← HL1.len] at h9; exact h9)
           have q6b := HL1.box.cell 6 rfl
           have q6c := (HL1.box.alloc (.cells #[.string e.u.id, .slice A e.n C, .int .i64 e.u.st, .int .i64 e.u.off] 51)).cell 6 rfl
           have HG2 : ∀ (a2 : Option Addr) (c2 : Nat) (y2 : World), y2.ownsRow w0.heap.size 51 4 (.slice a2 (j + 1) c2) (j + 1) (ceCells l' ++ CE.cells ⟨e.u, A, e.n, C⟩) → (y1.alloc (.cells #[.string e.u.id, .slice A e.n C, .int .i64 e.u.st, .int .i64 e.u.off] 51)).grownBy y2 (Value.slice ca j cc).ownBlock → BoxN y2 bw 38 [.slice sa M sc, .slice sa' M sc', .int .i64 0, .int .i64 0, .slice su 0 suc, .slice none 0 0, .slice ca j cc, .slice ba j bc, .slice none 0 0, .slice none 0 0, .slice za j zc] ∧ WdL (y2.setCell ⟨bw, 6, none⟩ (.slice a2 (j + 1) c2)) w0.heap.size bw w.heap.size M sa sc sa' sc' su suc a2 (j + 1) c2 ba j bc za j zc (l' ++ [⟨e.u, A, e.n, C⟩]) ∧ Below w.heap.size w (y2.setCell ⟨bw, 6, none⟩ (.slice a2 (j + 1) c2)) := (fun a2 c2 y2 hown2 hg2 => ⟨box_keptE HL1.box (keptE_app (v := .slice ca j cc) HL1.cls.1 hg2 (by decide)), HL1.client ho1 hsz (fun x hx q hq => (HL.out.cls.lts.2 x hx q hq).2) hown2 hg2, (((HB.out.trans (hb1'.mono HB.out.size)).alloc (by have := HB.out.size; omega) _).grown hg2 (by simp; have := HB.out.size; omega) (fun q hq => by have := (HL1.cls.lts.1 q hq).1; have := HB0.out.size; omega)).setCell (by dsimp only; have := HB0.out.size; omega) _⟩))
        | fail)
      all_goals
        have HL3 : Hid (WdL (y2.setCell ⟨bw, 6, none⟩ (.slice v2a (j + 1) v2c)) w0.heap.size bw w.heap.size M sa sc sa' sc' su suc v2a (j + 1) v2c ba j bc za j zc (l' ++ [⟨e.u, A, e.n, C⟩])) := hw2.2.1
        have HB3 : Hid (Below w.heap.size w (y2.setCell ⟨bw, 6, none⟩ (.slice v2a (j + 1) v2c))) := hw2.2.2
        have HM3 : Hid ((l' ++ [(⟨e.u, A, e.n, C⟩ : CE)]).map CE.u = (l.map CE.u).take (j + 1)) := by show _ = _; rw [List.map_append]; exact HM2.out
        clear HG2 HL1 HR1 hown2 hg2 hw2 q6b q6c hb1' ho1 q6y f6y HM2 HCU HL HB g0 g1 g2 g3 q6
        obtain ⟨x3, hx3⟩ : ∃ x3, y2.setCell ⟨bw, 6, none⟩ (.slice v2a (j + 1) v2c) = x3 := ⟨_, rfl⟩
        rw [hx3] at HL3 HB3 ⊢
        clear hx3
        have q7 := HL3.out.box.cell 7 rfl
        have HOb : Hid ((x3.alloc (.cells #[.bool false] 4)).ownsRow w0.heap.size 4 1 (.slice ba j bc) j (bcells (List.replicate j false))) := HL3.out.busy.alloc _
        have hs3 : w0.heap.size ≤ x3.heap.size := by have := HL3.out.box.lt; omega
        have hs3' : w0.heap.size ≤ (x3.alloc (.cells #[.bool false] 4)).heap.size := by simp; omega
        have HN3 : Hid (∀ j v, ([.bool false] : List Value)[j]? = some v → (x3.alloc (.cells #[.bool false] 4)).cell? ((⟨x3.heap.size, 0, none⟩ : Addr).add j) = some v) := fun i v hv => by
          match i, hv with
          | 0, hv => simp at hv; subst hv; simp [Addr.add]
        go_upto_region 7 with (at_builtin; refine wpList_append_own _ rfl _ _ 34 rfl w0.heap.size 4 i4 (.bool false) 1 1 Tryz.underlying34 hi4 jb0 jb1 jb2 rfl (by decide) (.slice ba j bc) j (bcells (List.replicate j false)) rfl HOb.out ⟨x3.heap.size, 0, none⟩ 1 1 [.bool false] rfl rfl HN3.out (by simp [Value.oneCell']) (by unfold maxLen; omega) (by omega) hs3' ?_; intro v4 y4 hown4 hg4 _; obtain ⟨v4a, v4c, hv4⟩ := shape_ofB hown4; subst hv4; have hb4 := box_keptE HL3.out.box (keptE_app (v := .slice ba j bc) HL3.out.busy hg4 (by decide)); have q7y := hb4.cell 7 rfl; have f7y := hb4.frozen 7)
        have HL4 : Hid (WdL (y4.setCell ⟨bw, 7, none⟩ (.slice v4a (j + 1) v4c)) w0.heap.size bw w.heap.size M sa sc sa' sc' su suc v2a (j + 1) v2c v4a (j + 1) v4c za j zc (l' ++ [⟨e.u, A, e.n, C⟩])) := HL3.out.more hown4 hg4
        have HB4 : Hid (Below w.heap.size w (y4.setCell ⟨bw, 7, none⟩ (.slice v4a (j + 1) v4c))) := ((HB3.out.alloc (by omega) _).grown hg4 (by simp; omega) (fun q hq => by have := (HL3.out.busy.lt q hq).1; omega)).setCell (by dsimp only; omega) _
        clear hown4 hg4 hb4 q7y f7y q7 HOb HN3 HL3 HB3 hs3 hs3'
        obtain ⟨x4, hx4⟩ : ∃ x4, y4.setCell ⟨bw, 7, none⟩ (.slice v4a (j + 1) v4c) = x4 := ⟨_, rfl⟩
        rw [hx4] at HL4 HB4 ⊢
        clear hx4
        have q10 := HL4.out.box.cell 10 rfl
        have HOi : Hid ((x4.alloc (.cells #[.int .i64 (-1)] 3)).ownsRow w0.heap.size 3 1 (.slice za j zc) j (icells (List.replicate j (-1)))) := HL4.out.best.alloc _
        have hs4 : w0.heap.size ≤ x4.heap.size := by have := HL4.out.box.lt; omega
        have hs4' : w0.heap.size ≤ (x4.alloc (.cells #[.int .i64 (-1)] 3)).heap.size := by simp; omega
        have HN4 : Hid (∀ j v, ([.int .i64 (-1)] : List Value)[j]? = some v → (x4.alloc (.cells #[.int .i64 (-1)] 3)).cell? ((⟨x4.heap.size, 0, none⟩ : Addr).add j) = some v) := fun i v hv => by
          match i, hv with
          | 0, hv => simp at hv; subst hv; simp [Addr.add]
        go_wp2_with (at_builtin; refine wpList_append_own _ rfl _ _ 36 rfl w0.heap.size 3 i3 (.int .i64 0) 1 8 Tryz.underlying36 hi3 ji0 ji1 ji2 rfl (by decide) (.slice za j zc) j (icells (List.replicate j (-1))) rfl HOi.out ⟨x4.heap.size, 0, none⟩ 1 1 [.int .i64 (-1)] rfl rfl HN4.out (by simp [Value.oneCell']) (by unfold maxLen; omega) (by omega) hs4' ?_; intro v5 y5 hown5 hg5 _; obtain ⟨v5a, v5c, hv5⟩ := shape_ofB hown5; subst hv5; have hb5 := box_keptE HL4.out.box (keptE_app (v := .slice za j zc) HL4.out.best hg5 (by decide)); have q10y := hb5.cell 10 rfl; have f10y := hb5.frozen 10)
        have HL5 : Hid (WdL (y5.setCell ⟨bw, 10, none⟩ (.slice v5a (j + 1) v5c)) w0.heap.size bw w.heap.size M sa sc sa' sc' su suc v2a (j + 1) v2c v4a (j + 1) v4c v5a (j + 1) v5c (l' ++ [⟨e.u, A, e.n, C⟩])) := HL4.out.told hown5 hg5
        have HB5 : Hid (Below w.heap.size w (y5.setCell ⟨bw, 10, none⟩ (.slice v5a (j + 1) v5c))) := ((HB4.out.alloc (by omega) _).grown hg5 (by simp; omega) (fun q hq => by have := (HL4.out.best.lt q hq).1; omega)).setCell (by dsimp only; omega) _
        clear hown5 hg5 hb5 q10y f10y q10 HOi HN4 HL4 HB4 hs4 hs4'
        go_roundw
        case rel => exact ⟨j + 1, v2a, v2c, v4a, v4c, v5a, v5c, l' ++ [⟨e.u, A, e.n, C⟩], by omega, by go_num, HL5, HM3, HB5⟩
        case measure => simp [intOf]; omega
    · obtain rfl : j = k := by omega
      have HF : Hid (l'.map CE.u = l.map CE.u) := by show _ = _; rw [HM.out, List.take_of_length_le (by rw [List.length_map, ← HZ.out.1]; exact Nat.le_refl _)]
      have HZ2 : Hid (∀ e ∈ l', e.u.id.size ≤ maxLen ∧ e.n ≤ 1048576) := like_cls HF.out HZ.out.2.2 HL.out.cls.len HZ.out.2.1
      clear HM
      have hv := HL.out.box
      have q0 := hv.cell 0 rfl
      have q1 := hv.cell 1 rfl
      have q2 := hv.cell 2 rfl
      have q3 := hv.cell 3 rfl
      have q4 := hv.cell 4 rfl
      have q5 := hv.cell 5 rfl
      have q6 := hv.cell 6 rfl
      have q7 := hv.cell 7 rfl
      have q8 := hv.cell 8 rfl
      have q9 := hv.cell 9 rfl
      have q10 := hv.cell 10 rfl
      clear hv
      go_wp2_with fail
      refine (specWdOk_any sa sa' su none ca ba none none za M sc M sc' suc 0 j cc bc 0 0 zc 0 0 w0.heap.size (List.replicate M ⟨#[]⟩) (List.replicate M ⟨#[]⟩) l' wr HL.out.sto HL.out.cls HL.out.len (by omega) HZ2.out hMb hMb (fun x hx => by rw [List.eq_of_mem_replicate hx]; decide)).mono ?_
      rw [HF.out]
      rintro _ x5 ⟨rfl, hb5⟩
      have HL6 : Hid (WdL x5 w0.heap.size bw w.heap.size M sa sc sa' sc' su suc ca j cc ba j bc za j zc l') := HL.out.stays hb5
      have HB6 : Hid (Below w.heap.size w x5) := HB.out.trans (hb5.mono HB.out.size)
      have hWB : wdB M (l.map CE.u) = (svB (List.replicate M ⟨#[]⟩) (List.replicate M ⟨#[]⟩) 0 0 [] [] && clsB (l.map CE.u)) := rfl
      rw [← hWB]
      clear hb5 HL HB hWB q0 q1 q2 q3 q4 q5 q6 q7 q8 q9 q10
      have hr := HL6.out.res
      have r0 := hr.cell 0 rfl
      have f0 := hr.frozen 0
      have r1 := hr.cell 1 rfl
      have f1 := hr.frozen 1
      have r2 := hr.cell 2 rfl
      have f2 := hr.frozen 2
      have r3 := hr.cell 3 rfl
      have f3 := hr.frozen 3
      have r4 := hr.cell 4 rfl
      have f4 := hr.frozen 4
      have r5 := hr.cell 5 rfl
      have f5 := hr.frozen 5
      have r6 := hr.cell 6 rfl
      have f6 := hr.frozen 6
      have r7 := hr.cell 7 rfl
      have f7 := hr.frozen 7
      have r8 := hr.cell 8 rfl
      have f8 := hr.frozen 8
      have r9 := hr.cell 9 rfl
      have f9 := hr.frozen 9
      have r10 := hr.cell 10 rfl
      have f10 := hr.frozen 10
      clear hr
      cases hwb : wdB M (l.map CE.u)
      case false =>
        have HW : Hid (wdM M (l.map CE.u) = 0 ∧ wdU M (l.map CE.u) = []) := wdM_no hwb
        clear hwb
        go_wp2_with fail
        refine bodyPost_ret (v := .agg #[.slice none 0 0, .slice none 0 0, .int .i64 0, .int .i64 0, .slice none 0 0, .slice none 0 0, .slice none 0 0, .slice none 0 0, .slice none 0 0, .slice none 0 0, .slice none 0 0]) (by simp [results, Tryz.f5, go_sem, r0, r1, r2, r3, r4, r5, r6, r7, r8, r9, r10]) rfl ?_
        rw [HW.out.1, HW.out.2]
        exact ⟨⟨_, rfl, AnsWd.zero _ _⟩, (((((((((((HB6.out.setCell (by dsimp only; omega) _).setCell (by dsimp only; omega) _).setCell (by dsimp only; omega) _).setCell (by dsimp only; omega) _).setCell (by dsimp only; omega) _).setCell (by dsimp only; omega) _).setCell (by dsimp only; omega) _).setCell (by dsimp only; omega) _).setCell (by dsimp only; omega) _).setCell (by dsimp only; omega) _).setCell (by dsimp only; omega) _)⟩
      case true =>
        have HW : Hid (wdM M (l.map CE.u) = M ∧ wdU M (l.map CE.u) = l.map CE.u) := wdM_yes hwb
        clear hwb
        have hv := HL6.out.box
        have q0 := hv.cell 0 rfl
        have q1 := hv.cell 1 rfl
        have q2 := hv.cell 2 rfl
        have q3 := hv.cell 3 rfl
        have q4 := hv.cell 4 rfl
        have q5 := hv.cell 5 rfl
        have q6 := hv.cell 6 rfl
        have q7 := hv.cell 7 rfl
        have q8 := hv.cell 8 rfl
        have q9 := hv.cell 9 rfl
        have q10 := hv.cell 10 rfl
        clear hv
        go_wp2_with fail
        refine bodyPost_ret (v := .agg #[.slice sa M sc, .slice sa' M sc', .int .i64 0, .int .i64 0, .slice su 0 suc, .slice none 0 0, .slice ca j cc, .slice ba j bc, .slice none 0 0, .slice none 0 0, .slice za j zc]) (by simp [results, Tryz.f5, go_sem, r0, r1, r2, r3, r4, r5, r6, r7, r8, r9, r10]) rfl ?_
        rw [HW.out.1, HW.out.2]
        have hk : ∀ t, t ≠ 38 → KeptE t x5 (((((((((((x5.setCell ⟨w.heap.size, 0, none⟩ (.slice sa M sc)).setCell ⟨w.heap.size, 1, none⟩ (.slice sa' M sc')).setCell ⟨w.heap.size, 2, none⟩ (.int .i64 0)).setCell ⟨w.heap.size, 3, none⟩ (.int .i64 0)).setCell ⟨w.heap.size, 4, none⟩ (.slice su 0 suc)).setCell ⟨w.heap.size, 5, none⟩ (.slice none 0 0)).setCell ⟨w.heap.size, 6, none⟩ (.slice ca j cc)).setCell ⟨w.heap.size, 7, none⟩ (.slice ba j bc)).setCell ⟨w.heap.size, 8, none⟩ (.slice none 0 0)).setCell ⟨w.heap.size, 9, none⟩ (.slice none 0 0)).setCell ⟨w.heap.size, 10, none⟩ (.slice za j zc)) := fun t ht => kept_eleven HL6.out.res (Ne.symm ht) _ _ _ _ _ _ _ _ _ _ _
        refine ⟨⟨_, rfl, sa, sc, sa', sc', su, suc, none, 0, ca, cc, ba, bc, none, 0, none, 0, za, zc, j, l', rfl, ?_, HF.out, by rw [List.length_map]; exact HZ.out.1⟩, (((((((((((HB6.out.setCell (by dsimp only; omega) _).setCell (by dsimp only; omega) _).setCell (by dsimp only; omega) _).setCell (by dsimp only; omega) _).setCell (by dsimp only; omega) _).setCell (by dsimp only; omega) _).setCell (by dsimp only; omega) _).setCell (by dsimp only; omega) _).setCell (by dsimp only; omega) _).setCell (by dsimp only; omega) _).setCell (by dsimp only; omega) _)⟩
        exact WdAt.low ⟨HL6.out.sto.keptE (hk _ (by decide)) (hk _ (by decide)) (hk _ (by decide)), HL6.out.cls.keptE (hk _ (by decide)) (hk _ (by decide)), HL6.out.len, ownsRow_keptE HL6.out.busy (hk _ (by decide)), ownsRow_keptE HL6.out.best (hk _ (by decide))⟩ (by omega)

end Go.Proofs.YtemcjenpgdieoaaGreatDoor
