/- What the specification's l14One answers. -/
import Derived.Test.YtlkgopoicpnacaaGreatDoorM08
import Derived.Test.YtlkgopoicpnacaaGreatDoorM08
import Derived.Test.YtlkgopoicpnacaaGreatDoorM08
import Derived.Test.YtlkgopoicpnacaaGreatDoorM08
import Derived.ArgAppend
namespace Go.Proofs.YtlkgopoicpnacaaGreatDoor
open Go.RowKit
set_option linter.unusedVariables false

/-- What l14One answers. -/
def OneAns (base : Nat) (o : Option (List U)) (v : Value) (w' : World) : Prop := match o with
  | none => ∃ x, v = .tuple #[x, .bool false]
  | some L => ∃ x l', v = .tuple #[x, .bool true] ∧ UpRow w' base x l' ∧ l'.map UE.u = L

theorem wpList_append_runs {P : Program} {w : World} {ops : Array Oper} {rest : List Oper} {o : Oper} {a : Act} {Q : Exit → Act → World → Prop} (hgd : o.guard = none) (s x : Operand) (t : TypeId)
    (ho : o.op = .call { callee := .builtin .append, args := #[s, x], argTypes := #[t, t] }) (u v : Value) (hs : a.eval s = u) (hx : a.eval x = v) {v' : Value} {w' : World}
    (hr : (Builtin.append_ #[t, t] o.type #[u, v]).run P w = .ok v' w') (h : wpList P ops Q rest (a.put o.dst v') w') : wpList P ops Q (o :: rest) a w := by
  refine wpList_plain hgd fun K hK => ?_
  unfold Oper.wp execOp
  simp only [ho, resolve, invoke, builtin, Sem.run_bind, Sem.run_pure, Result.andThen_ok, List.map_toArray, List.map_cons, List.map_nil, hs, hx, hr]
  exact hK _ _ h


set_option maxRecDepth 10000 in
set_option maxHeartbeats 3200000 in
theorem specOne_any (a : Option Addr) (n c lo : Nat) (l : List UE) (r : R) (A : Option Addr) (d C : Nat) (w : World) (h : UpRow w lo (.slice a n c) l) (hn : n = l.length) (hl : n ≤ 100000) (hz : ∀ e ∈ l, e.n ≤ 1099511627776) (hs : Seg w A d r.zs) (hd : d ≤ 1099511627776) :
    Calls Tryz.prog 104 #[.slice a n c, .agg #[.int .i64 r.e, .int .i64 r.q, .int .i64 r.k, .string r.id, .int .i64 r.n, .slice A d C]] w fun e w' => (∃ v, e = .returned v ∧ OneAns w.heap.size (oneU (l.map UE.u) r) v w') ∧ Below w.heap.size w w' := by
  have hmm : maxLen < 9223372036854775808 := by decide
  obtain ⟨w0, hw0⟩ : ∃ w0, w.alloc (.cells #[.int .i64 r.e, .int .i64 r.q, .int .i64 r.k, .string r.id, .int .i64 r.n, .slice A d C] 107) = w0 := ⟨_, rfl⟩
  have HE : Hid (w.alloc (.cells #[.int .i64 r.e, .int .i64 r.q, .int .i64 r.k, .string r.id, .int .i64 r.n, .slice A d C] 107) = w0) := hw0
  have HQ : Hid (BoxN w0 w.heap.size 107 [.int .i64 r.e, .int .i64 r.q, .int .i64 r.k, .string r.id, .int .i64 r.n, .slice A d C]) := by show BoxN _ _ _ _; rw [← hw0]; exact BoxN.new _ _ _
  have HB : Hid (Below w.heap.size w w0) := by show Below _ _ _; rw [← hw0]; exact (Below.refl _ _).alloc (Nat.le_refl _) _
  have HX : Hid (∀ W, Below w0.heap.size w0 W → UpRow W lo (.slice a n c) l ∧ BoxN W w.heap.size 107 [.int .i64 r.e, .int .i64 r.q, .int .i64 r.k, .string r.id, .int .i64 r.n, .slice A d C] ∧ Seg W A d r.zs ∧ Below w.heap.size w W) := fun W hb => ⟨(h.stays HB.out).stays hb, HQ.out.stays hb, (hs.below HB.out).below hb, HB.out.trans (hb.mono HB.out.size)⟩
  have HN : Hid (n = l.length) := hn
  have HZ : Hid (∀ e ∈ l, e.n ≤ 1099511627776) := hz
  have HDl : Hid (r.zs.length = d) := hs.1
  have hww : w.heap.size < w0.heap.size := HQ.out.lt
  clear hw0 h hn hz hs HB HQ
  have HA0 : Hid (Below w0.heap.size w0 w0) := Below.refl _ _
  obtain ⟨c0, c1, c2, c3, c4, c5⟩ := (show _ ∧ _ ∧ _ ∧ _ ∧ _ ∧ _ from ⟨(HX.out _ HA0.out).2.1.cell 0 rfl, (HX.out _ HA0.out).2.1.cell 1 rfl, (HX.out _ HA0.out).2.1.cell 2 rfl, (HX.out _ HA0.out).2.1.cell 3 rfl, (HX.out _ HA0.out).2.1.cell 4 rfl, (HX.out _ HA0.out).2.1.cell 5 rfl⟩)
  go_enter Tryz.func104, Tryz.ntmps104
  go_upto_region 1 with fail
  rw [HE.out]
  clear HE
  go_wp2_with fail
  refine (specAtU_any a n c lo r.id l w0 (HX.out _ HA0.out).1 HN.out (by omega)).mono ?_
  rintro _ y ⟨rfl, hy⟩
  rw [hy]
  clear hy y
  by_cases hk1 : r.k = 1
  · have hk1b : (r.k == 1) = true := by simpa using hk1
    have HO : Hid (oneU (l.map UE.u) r = if atU (l.map UE.u) r.id = none ∧ (l.map UE.u).length < 10 then some (makeU (l.map UE.u) ⟨r.id, r.n, [], false⟩) else none) := if_pos hk1
    have HLn : Hid ((l.map UE.u).length = n) := by show _ = _; rw [List.length_map, HN.out]
    have HAt : Hid (∀ k, atU (l.map UE.u) r.id = some k → atI (l.map UE.u) r.id = (k : Int)) := fun k h => by rw [atI, h]
    have HAn : Hid (atU (l.map UE.u) r.id = none → atI (l.map UE.u) r.id = -1) := fun h => by rw [atI, h]
    rw [hk1] at c2
    cases hat : atU (l.map UE.u) r.id with
    | some k =>
      rw [HAt.out k hat]
      have hkn : ¬ (k : Int) < 0 := by omega
      have HF : Hid (oneU (l.map UE.u) r = none) := by show _ = _; rw [HO.out, hat]; rfl
      clear HO HAt HAn hat hk1 hk1b
      go_wp2_with fail
      refine (specMakeU_any a n c lo l r.id r.n w0 (HX.out _ HA0.out).1 HN.out hl HZ.out).mono ?_
      rintro _ y1 ⟨⟨v1, L, rfl, hrow, hmp⟩, hb1⟩
      have HB1 : Hid (Below w.heap.size w y1) := (HX.out y1 hb1).2.2.2
      clear hrow hmp hb1
      go_wp2_with fail
      go_ret2
      exact ⟨⟨_, rfl, by rw [HF.out]; exact ⟨_, rfl⟩⟩, HB1.out⟩
    | none =>
      rw [HAn.out hat]
      by_cases h10 : n < 10
      · have HF : Hid (oneU (l.map UE.u) r = some (makeU (l.map UE.u) ⟨r.id, r.n, [], false⟩)) := by show _ = _; rw [HO.out, if_pos ⟨hat, by rw [HLn.out]; exact h10⟩]
        have h10i : (n : Int) < 10 := by omega
        clear HO HAt HAn hat hk1 hk1b
        go_wp2_with fail
        refine (specMakeU_any a n c lo l r.id r.n w0 (HX.out _ HA0.out).1 HN.out hl HZ.out).mono ?_
        rintro _ y1 ⟨⟨v1, L, rfl, hrow, hmp⟩, hb1⟩
        have HB1 : Hid (Below w.heap.size w y1) := (HX.out y1 hb1).2.2.2
        have HR1 : Hid (UpRow y1 w.heap.size v1 L) := hrow.low (by omega)
        have HM1 : Hid (L.map UE.u = makeU (l.map UE.u) ⟨r.id, r.n, [], false⟩) := hmp
        clear hrow hmp hb1
        go_wp2_with fail
        go_ret2
        exact ⟨⟨_, rfl, by rw [HF.out]; exact ⟨_, L, rfl, HR1.out, HM1.out⟩⟩, HB1.out⟩
      · have HF : Hid (oneU (l.map UE.u) r = none) := by show _ = _; rw [HO.out, if_neg (fun h => h10 (by have := h.2; rw [HLn.out] at this; exact this))]
        have h10i : ¬ (n : Int) < 10 := by omega
        have hdec : decide ((n : Int) < 10) = false := decide_eq_false h10i
        clear HO HAt HAn hat hk1 hk1b
        go_wp2_with fail
        refine (specMakeU_any a n c lo l r.id r.n w0 (HX.out _ HA0.out).1 HN.out hl HZ.out).mono ?_
        rintro _ y1 ⟨⟨v1, L, rfl, hrow, hmp⟩, hb1⟩
        have HB1 : Hid (Below w.heap.size w y1) := (HX.out y1 hb1).2.2.2
        clear hrow hmp hb1
        go_wp2_with fail
        go_ret2
        exact ⟨⟨_, rfl, by rw [HF.out]; exact ⟨_, rfl⟩⟩, HB1.out⟩
  have hk1b : (r.k == 1) = false := by simpa using hk1
  cases hat : atU (l.map UE.u) r.id with
  | none =>
    have HF : Hid (oneU (l.map UE.u) r = none) := by show _ = _; rw [oneU, if_neg hk1, hat]
    rw [show atI (l.map UE.u) r.id = -1 by rw [atI, hat]]
    have HB1 : Hid (Below w.heap.size w w0) := (HX.out w0 HA0.out).2.2.2
    clear hat hk1
    go_wp2_with fail
    go_ret2
    exact ⟨⟨_, rfl, by rw [HF.out]; exact ⟨_, rfl⟩⟩, HB1.out⟩
  | some k =>
    rw [show atI (l.map UE.u) r.id = (k : Int) by rw [atI, hat]]
    have hkl : k < l.length := by obtain ⟨h1, _⟩ := atU_is hat; simpa using h1
    have HO : Hid (oneU (l.map UE.u) r = if r.k = 2 then (if (l[k]).u.done = true ∨ r.n ≠ ((l[k]).u.zs.length : Int) ∨ (l[k]).u.want < r.n + (r.zs.length : Int) then none else some ((l.map UE.u).set k { (l[k]).u with zs := (l[k]).u.zs ++ r.zs })) else if r.k = 3 then (if (l[k]).u.done = true ∨ ((l[k]).u.zs.length : Int) ≠ (l[k]).u.want then none else some ((l.map UE.u).set k { (l[k]).u with done := true })) else if r.k = 4 then some ((l.map UE.u).eraseIdx k) else none) := by
      show _ = _
      rw [oneU, if_neg hk1, hat]
      dsimp only
      rw [List.getElem?_map, List.getElem?_eq_getElem hkl]
      rfl
    have hkn : k < n := by rw [HN.out]; exact hkl
    have hki : (k : Int) < (n : Int) := by omega
    have hk0 : (0 : Int) ≤ (k : Int) := by omega
    have hk0' : ¬ (k : Int) < 0 := by omega
    clear hat hk1
    go_wp2_with fail
    refine (specCopyU_any a n c lo l w0 (HX.out _ HA0.out).1 HN.out (by omega) HZ.out).mono ?_
    rintro _ y1 ⟨⟨v1, L, rfl, hrow, hmp, hsm⟩, hb1⟩
    clear c0 c1 c2 c3 c4 c5
    have hLn : L.length = n := by have h1 := congrArg List.length hmp; rw [List.length_map, List.length_map] at h1; rw [h1, HN.out]
    obtain ⟨va, vc, hve⟩ := hrow.shape
    rw [hLn] at hve
    subst hve
    have hkL : k < L.length := by omega
    have hLk : (L[k]).u = (l[k]).u := by
      have h1 := congrArg (fun x => x[k]?) hmp
      simp only [List.getElem?_map, List.getElem?_eq_getElem hkL, List.getElem?_eq_getElem hkl] at h1
      simpa using h1
    rw [← hLk] at HO
    obtain ⟨g, rfl, _⟩ := hrow.at hLn.symm hkL
    have HR1 : Hid (UpRow y1 w0.heap.size (.slice (some ⟨g, 0, none⟩) n vc) L) := hrow
    have HM1 : Hid (L.map UE.u = l.map UE.u) := hmp
    have HB1 : Hid (Below w0.heap.size w0 y1) := hb1
    have hen2 : (L[k]).n ≤ 1099511627776 := by
      have h1 := (hrow.2.1 (L[k]) (List.getElem_mem hkL)).seg.1
      have h2 := ((HX.out _ HB1.out).1.2.1 (l[k]) (List.getElem_mem hkl)).seg.1
      have h3 := HZ.out (l[k]) (List.getElem_mem hkl)
      rw [hLk] at h1
      omega
    obtain ⟨gd, hgd⟩ := hsm (L[k]) (List.getElem_mem hkL)
    clear hrow hmp hb1 hLk hsm
    go_upto_region 8 with fail
    have HSp : Hid (L = L.take k ++ L[k] :: L.drop (k + 1)) := by
      show _ = _
      rw [← List.drop_eq_getElem_cons hkL, List.take_append_drop]
    have HSe : Hid (∀ u : U, (L.map UE.u).set k u = (L.take k).map UE.u ++ u :: (L.drop (k + 1)).map UE.u) := fun u => by
      rw [List.map_take, List.map_drop, List.set_eq_take_append_cons_drop, if_pos (by simpa using hkL)]
    have htk : (L.take k).length = k := by simp; omega
    have HRs : Hid (UpRow y1 w0.heap.size (.slice (some ⟨g, 0, none⟩) n vc) (L.take k ++ L[k] :: L.drop (k + 1))) := by rw [← HSp.out]; exact HR1.out
    have hls : (L.take k ++ L[k] :: L.drop (k + 1)).length = n := by rw [← HSp.out]; exact hLn
    obtain ⟨g1, hg1, e0, e1, e2, e3, ef⟩ := HR1.out.at hLn.symm hkL
    obtain rfl : g = g1 := by injection hg1 with h1; injection h1
    have HDk : Hid (Owns y1 w0.heap.size (L[k]).a (L[k]).n (L[k]).c (L[k]).u.zs) := HR1.out.2.1 (L[k]) (List.getElem_mem hkL)
    have HDa : Hid (∀ q, (L[k]).a.map (·.block) = some q → q ≠ g) := fun q hq hqg => HR1.out.rowApart (HR1.out.2.1 (L[k]) (List.getElem_mem hkL)) g rfl (by rw [← hqg]; exact hq)
    obtain ⟨c0, c1, c2, c3, c4, c5⟩ := (show _ ∧ _ ∧ _ ∧ _ ∧ _ ∧ _ from ⟨(HX.out _ HB1.out).2.1.cell 0 rfl, (HX.out _ HB1.out).2.1.cell 1 rfl, (HX.out _ HB1.out).2.1.cell 2 rfl, (HX.out _ HB1.out).2.1.cell 3 rfl, (HX.out _ HB1.out).2.1.cell 4 rfl, (HX.out _ HB1.out).2.1.cell 5 rfl⟩)
    have HEn : Hid ((L[k]).n = (L[k]).u.zs.length) := (HR1.out.2.1 (L[k]) (List.getElem_mem hkL)).seg.1.symm
    have HBw : Hid (Below w.heap.size w y1) := (HX.out y1 HB1.out).2.2.2
    rw [HM1.out.symm] at HO
    clear hg1
    by_cases hk2 : r.k = 2
    · rw [if_pos hk2, HDl.out] at HO
      rw [hk2] at c2
      cases hdn : (L[k]).u.done
      case true =>
        have HF : Hid (oneU (l.map UE.u) r = none) := by show _ = _; rw [← HM1.out, HO.out, if_pos (.inl hdn)]
        rw [hdn] at e3
        clear HO
        go_wp2_with fail
        go_quiet (fail)
        have HBq : Hid (Below w.heap.size w (y1.drewN nq)) := below_drewN HBw.out nq
        go_wp2_with fail
        go_ret2
        exact ⟨⟨_, rfl, by rw [HF.out]; exact ⟨_, rfl⟩⟩, HBq.out⟩
      rw [hdn] at e3
      by_cases hrn : r.n = ((L[k]).n : Int)
      case neg =>
        have HF : Hid (oneU (l.map UE.u) r = none) := by show _ = _; rw [← HM1.out, HO.out, if_pos (.inr (.inl (by rw [← HEn.out]; exact hrn)))]
        have hnb : (r.n != ((L[k]).n : Int)) = true := by simpa using hrn
        clear HO
        go_wp2_with fail
        go_quiet (fail)
        have HBq : Hid (Below w.heap.size w (y1.drewN nq)) := below_drewN HBw.out nq
        go_wp2_with fail
        go_ret2
        exact ⟨⟨_, rfl, by rw [HF.out]; exact ⟨_, rfl⟩⟩, HBq.out⟩
      have hnb : (r.n != ((L[k]).n : Int)) = false := by simpa using hrn
      have HRn : Hid (r.n = ((L[k]).n : Int)) := hrn
      have hwr : IntKind.i64.wrap (r.n + (d : Int)) = r.n + (d : Int) := IntWalk.i64_in _ (by omega)
      by_cases hwt : (L[k]).u.want < r.n + (d : Int)
      case pos =>
        have HF : Hid (oneU (l.map UE.u) r = none) := by show _ = _; rw [← HM1.out, HO.out, if_pos (.inr (.inr hwt))]
        have hwd : decide ((L[k]).u.want < r.n + (d : Int)) = true := decide_eq_true hwt
        clear HO hrn
        go_wp2_with fail
        go_quiet (fail)
        have HBq : Hid (Below w.heap.size w (y1.drewN nq)) := below_drewN HBw.out nq
        go_wp2_with fail
        go_ret2
        exact ⟨⟨_, rfl, by rw [HF.out]; exact ⟨_, rfl⟩⟩, HBq.out⟩
      have HF : Hid (oneU (l.map UE.u) r = some ((L.map UE.u).set k { (L[k]).u with zs := (L[k]).u.zs ++ r.zs })) := by show _ = _; rw [← HM1.out, HO.out, if_neg (by rw [hdn, ← HEn.out]; rintro (h | h | h); (· cases h); (· exact h hrn); (· exact hwt h))]
      have hwd : decide ((L[k]).u.want < r.n + (d : Int)) = false := decide_eq_false hwt
      clear HO hwt hrn
      go_wp2_with fail
      go_quiet (fail)
      go_upto_region 13 with fail
      clear hwr hwd hnb hdn
      obtain ⟨W, hW⟩ : ∃ W, y1.drewN nq = W := ⟨_, rfl⟩
      have hbW : Below y1.heap.size y1 W.drew := by rw [← hW]; exact (below_drewN (Below.refl _ _) nq).drew
      have HbW : Hid (Below y1.heap.size y1 W.drew) := hbW
      rw [hW]
      clear hW e0 e1 e2 e3 ef c0 c1 c2 c3 c4 c5
      have hgl : g < y1.heap.size := (HR1.out.lts.1 g rfl).2
      have hwl : w.heap.size < y1.heap.size := by have := HB1.out.size; omega
      obtain ⟨g2, q1, p0, p1, p2, p3, pf⟩ := (HR1.out.stays HbW.out).at hLn.symm hkL
      obtain rfl : g = g2 := by injection q1 with h1; injection h1
      have hXW := HX.out W.drew (HB1.out.trans (HbW.out.mono HB1.out.size))
      have c5 := hXW.2.1.cell 5 rfl
      have HSr : Hid (Src Tryz.prog 1 22 (.slice A d C) d (r.zs.map (Value.int .u8)) W.drew) := hXW.2.2.1.src
      have HZr : Hid (∀ x ∈ r.zs, 0 ≤ x ∧ x ≤ 255) := hXW.2.2.1.2.1
      have HOd : Hid (Owns W.drew w0.heap.size (some ⟨gd, 0, none⟩) (L[k]).n (L[k]).c (L[k]).u.zs) := by rw [← hgd]; exact HDk.out.below HbW.out
      rw [hgd] at p2
      have HL0 : Hid (w0.heap.size ≤ W.drew.heap.size) := by have h1 := HB1.out.size; have h2 := HbW.out.size; show _ ≤ _; omega
      obtain ⟨j0, ji, jz0, jz1, jz2⟩ := info_parts Tryz.info5
      clear q1 hXW hbW
      have hgdg : gd ≠ g := HDa.out gd (by rw [hgd]; rfl)
      have hgdl : w0.heap.size ≤ gd := (HOd.out.lt gd rfl).1
      have HRW : Hid (UpRow W.drew w0.heap.size (.slice (some ⟨g, 0, none⟩) n vc) (L.take k ++ L[k] :: L.drop (k + 1))) := HRs.out.stays HbW.out
      have HWs : Hid (Below w.heap.size w W.drew) := HBw.out.trans (HbW.out.mono HBw.out.size)
      have hgW : g < W.drew.heap.size := by have := HbW.out.size; omega
      have hwg : w0.heap.size ≤ g := (HR1.out.lts.1 g rfl).1
      go_region_law (refine step_append_loc rfl (.tmp 75) (.tmp 77) 22 22 rfl w0.heap.size 5 j0 (.int .u8 0) 1 1 Tryz.underlying22 ji jz0 jz1 jz2 rfl (by decide) gd (L[k]).n (L[k]).c ((L[k]).u.zs.map (Value.int .u8)) rfl HOd.out.1 (.slice A d C) d (r.zs.map (Value.int .u8)) rfl HSr.out (by unfold maxLen; omega) (by omega) HL0.out ?_; intro gA CA w3 hown3 hg3 hw3; have s2 : w3.cell? ⟨g, k * 4 + 2, none⟩ = some (.slice (some ⟨gd, 0, none⟩) (L[k]).n (L[k]).c) := (by rw [grown_cell hg3 hgW (fun h => hgdg (by injection h with h; exact h.symm))]; exact p2); have sf : w3.frozen? ⟨g, k * 4 + 2, none⟩ = false := (by rw [grown_frozen hg3 hgW (fun h => hgdg (by injection h with h; exact h.symm))]; exact pf _))
      all_goals
        have hoA : Owns w3 w0.heap.size (some ⟨gA, 0, none⟩) ((L[k]).n + d) CA ((L[k]).u.zs ++ r.zs) := ⟨by rw [List.map_append]; exact hown3, fun x hx => by
          rcases List.mem_append.1 hx with hx | hx
          · exact HOd.out.2 x hx
          · exact HZr.out x hx⟩
        have HG : Hid (UpRow (w3.setCell ⟨g, k * 4 + 2, none⟩ (.slice (some ⟨gA, 0, none⟩) ((L[k]).n + d) CA)) w.heap.size (.slice (some ⟨g, 0, none⟩) n vc) (L.take k ++ (⟨{ (L[k]).u with zs := (L[k]).u.zs ++ r.zs }, some ⟨gA, 0, none⟩, (L[k]).n + d, CA⟩ : UE) :: L.drop (k + 1))) := by
          have h1 := HRW.out.grew hls hoA (by rw [hgd]; exact hg3) (by
            rcases hw3 with h | h
            · left; rw [hgd, h]
            · right; intro q hq; injection hq with hq; have : gA = q := hq; omega)
          rw [htk] at h1
          exact UpRow.low h1 (by omega)
        have HBf : Hid (Below w.heap.size w (w3.setCell ⟨g, k * 4 + 2, none⟩ (.slice (some ⟨gA, 0, none⟩) ((L[k]).n + d) CA))) := (HWs.out.grown hg3 HWs.out.size (fun q hq => by injection hq with hq; omega)).setCell (by dsimp only; omega) _
        clear hoA hown3 hg3 hw3 s2 sf
        go_wp2_with fail
        go_ret2
        exact ⟨⟨_, rfl, by rw [HF.out]; exact ⟨_, _, rfl, HG.out, by rw [HSe.out, List.map_append, List.map_cons]⟩⟩, HBf.out⟩
    have hk2b : (r.k == 2) = false := by simpa using hk2
    rw [if_neg hk2] at HO
    by_cases hk3 : r.k = 3
    · rw [if_pos hk3] at HO
      rw [hk3] at c2
      cases hdn : (L[k]).u.done
      case true =>
        have HF : Hid (oneU (l.map UE.u) r = none) := by show _ = _; rw [← HM1.out, HO.out, if_pos (.inl hdn)]
        rw [hdn] at e3
        clear HO
        go_wp2_with fail
        go_quiet (fail)
        have HBq : Hid (Below w.heap.size w (y1.drewN nq)) := below_drewN HBw.out nq
        go_wp2_with fail
        go_ret2
        exact ⟨⟨_, rfl, by rw [HF.out]; exact ⟨_, rfl⟩⟩, HBq.out⟩
      case false =>
      rw [hdn] at e3
      by_cases hwt : ((L[k]).n : Int) = (L[k]).u.want
      case neg =>
        have HF : Hid (oneU (l.map UE.u) r = none) := by show _ = _; rw [← HM1.out, HO.out, if_pos (.inr (by rw [← HEn.out]; exact hwt))]
        have hwb : (((L[k]).n : Int) != (L[k]).u.want) = true := by simpa using hwt
        clear HO
        go_wp2_with fail
        go_quiet (fail)
        have HBq : Hid (Below w.heap.size w (y1.drewN nq)) := below_drewN HBw.out nq
        go_wp2_with fail
        go_ret2
        exact ⟨⟨_, rfl, by rw [HF.out]; exact ⟨_, rfl⟩⟩, HBq.out⟩
      have HF : Hid (oneU (l.map UE.u) r = some ((L.map UE.u).set k { (L[k]).u with done := true })) := by show _ = _; rw [← HM1.out, HO.out, if_neg (by rw [hdn, ← HEn.out]; simpa using hwt)]
      have hwb : (((L[k]).n : Int) != (L[k]).u.want) = false := by simpa using hwt
      have HFin : Hid (∀ W, Below y1.heap.size y1 W → UpRow (W.setCell ⟨g, k * 4 + 3, none⟩ (.bool true)) w.heap.size (.slice (some ⟨g, 0, none⟩) n vc) (L.take k ++ { L[k] with u := { (L[k]).u with done := true } } :: L.drop (k + 1)) ∧ Below w.heap.size w (W.setCell ⟨g, k * 4 + 3, none⟩ (.bool true))) := fun W hb => by
        have h1 := ((HRs.out.stays hb).doned hls true).1
        rw [htk] at h1
        have hgl : w0.heap.size ≤ g := (HR1.out.lts.1 g rfl).1
        exact ⟨h1.low (by omega), (HBw.out.trans (hb.mono HBw.out.size)).setCell (by dsimp only; omega) _⟩
      clear HO
      go_wp2_with fail
      go_quiet (fail)
      have HQ := (show Hid _ from HFin.out (y1.drewN nq) (below_drewN (Below.refl _ _) nq))
      have z3 := ef (k * 4 + 3)
      go_wp2_with fail
      go_ret2
      exact ⟨⟨_, rfl, by rw [HF.out]; exact ⟨_, _, rfl, HQ.out.1, by rw [HSe.out, List.map_append, List.map_cons]⟩⟩, HQ.out.2⟩
    have hk3b : (r.k == 3) = false := by simpa using hk3
    rw [if_neg hk3] at HO
    by_cases hk4 : r.k = 4
    · rw [if_pos hk4] at HO
      rw [hk4] at c2
      have HF : Hid (oneU (l.map UE.u) r = some ((L.map UE.u).eraseIdx k)) := by show _ = _; rw [← HM1.out]; exact HO.out
      clear HO
      obtain ⟨i0, hi, hz0, hz1, hz2⟩ := info_parts info_up
      obtain ⟨M, hM⟩ : ∃ M, k + 1 + M = n := ⟨n - (k + 1), by omega⟩
      have hul := ueCells_len L
      have hud := ueCells_len (L.drop (k + 1))
      have hdl : (L.drop (k + 1)).length = M := by simp; omega
      have hrow : y1.drew.ownsRow w0.heap.size 64 4 (.slice (some ⟨g, 0, none⟩) n vc) n (ueCells L) := by
        have h1 := HR1.out.1
        rw [hLn] at h1
        exact h1
      have hcat : ueCells L = ueCells (L.take (k + 1)) ++ ueCells (L.drop (k + 1)) := by rw [← ueCells_append, List.take_append_drop]
      have hnc : n ≤ vc := by
        rcases HR1.out.1.2 with ⟨h0, _⟩ | ⟨g', cap', cur, he, hb, hg, hnc, hcm, hcs, htk⟩
        · cases h0
        · injection he with _ _ q3
          rw [hLn] at hnc
          omega
      have hcell : ∀ j, j < n * 4 → y1.drew.cell? ⟨g, j, none⟩ = (ueCells L)[j]? := fun j hj => hrow.cellAt _ hj
      have hnews : ∀ j u, (ueCells (L.drop (k + 1)))[j]? = some u → y1.drew.cell? ((⟨g, (k + 1) * 4, none⟩ : Addr).add j) = some u := fun j u hj => by
        have hj2 : j < M * 4 := by
          have h1 := (List.getElem?_eq_some_iff.1 hj).1
          rw [hud, hdl] at h1
          exact h1
        have hp : (⟨g, (k + 1) * 4, none⟩ : Addr).add j = ⟨g, (k + 1) * 4 + j, none⟩ := by unfold Addr.add; split <;> simp_all
        have htl : (ueCells (L.take (k + 1))).length = (k + 1) * 4 := by rw [ueCells_len]; congr 1; simp; omega
        rw [hp, hcell _ (by omega), hcat, List.getElem?_append_right (by omega), htl, show (k + 1) * 4 + j - (k + 1) * 4 = j by omega]
        exact hj
      have HFin : Hid (UpRow (y1.drew.setCells g (0 + k * 4) (ueCells (L.drop (k + 1)))) w.heap.size (.slice (some ⟨g, 0, none⟩) (k + M) vc) (L.take k ++ L.drop (k + 1)) ∧ Below w.heap.size w (y1.drew.setCells g (0 + k * 4) (ueCells (L.drop (k + 1))))) := by
        obtain ⟨r1, r2⟩ := row_setCells (ueCells (L.drop (k + 1))) y1.drew (ueCells L) (0 + k * 4) hrow
        have hwg : w0.heap.size ≤ g := (HR1.out.lts.1 g rfl).1
        have r3 := row_short r1 (m := k + M) (by omega)
        have hkt : (ueCells (L.take k)).length = k * 4 := by rw [ueCells_len, htk]
        have e1 : (setAll (ueCells L) (0 + k * 4) (ueCells (L.drop (k + 1)))).take ((k + M) * 4) = ueCells (L.take k ++ L.drop (k + 1)) := by
          rw [setAll_eq _ _ _ (by rw [hud, hul, hdl]; omega), Nat.zero_add, ueCells_append]
          have e2 : (ueCells L).take (k * 4) = ueCells (L.take k) := by
            have e3 : ueCells L = ueCells (L.take k) ++ ueCells (L.drop k) := by rw [← ueCells_append, List.take_append_drop]
            rw [e3, ← hkt, List.take_left]
          rw [e2, List.take_append_of_le_length (by rw [List.length_append, hkt, hud, hdl]; omega), List.take_of_length_le (by rw [List.length_append, hkt, hud, hdl]; omega)]
        rw [e1] at r3
        have hBd : Below w.heap.size w y1.drew := HBw.out.drew
        refine ⟨⟨?_, fun e he => ?_, ?_⟩, hBd.grown r2 hBd.size (fun q hq => by injection hq with hq; omega)⟩
        · rw [show (L.take k ++ L.drop (k + 1)).length = k + M by rw [List.length_append, htk, hdl]]
          exact own_low r3 (by omega)
        · have hin : e ∈ L := by
            rcases List.mem_append.1 he with h | h
            · exact List.mem_of_mem_take h
            · exact List.mem_of_mem_drop h
          have ho := HR1.out.2.1 e hin
          exact (((ho.below (Below.refl _ _).drew).grown r2 (fun q hq hq2 => HR1.out.rowApart ho g rfl (by injection hq with hq; rw [hq]; exact hq2)))).low (by omega)
        · have hp := HR1.out.2.2
          refine hp.sublist ?_
          rw [← List.eraseIdx_eq_take_drop_succ]
          exact List.eraseIdx_sublist ..
      have HMp : Hid ((L.take k ++ L.drop (k + 1)).map UE.u = (L.map UE.u).eraseIdx k) := by
        show _ = _
        rw [List.eraseIdx_eq_take_drop_succ, List.map_append, List.map_take, List.map_drop]
      have hkv : (k : Int) ≤ (vc : Int) := by omega
      have hwk : IntKind.i64.wrap ((k : Int) + 1) = ((k + 1 : Nat) : Int) := by rw [IntWalk.i64_in _ (by omega)]; omega
      have hk1n : ((k + 1 : Nat) : Int) ≤ (n : Int) := by omega
      by_cases hcv : vc = k + 1
      · obtain rfl : M = 0 := by omega
        have hd0 : L.drop (k + 1) = [] := List.eq_nil_of_length_eq_zero hdl
        have hr := run_append_room_cells (P := Tryz.prog) y1.drew 27 27 64 i0 Tryz.underlying27 hi g 0 k vc ⟨g, 0, none⟩ 0 0 [] (by simp) (by simp) (by simp) (by omega) (by simp) (by simp)
        rw [hz1] at hr
        have hr2 : (Builtin.append_ #[27, 27] 27 #[.slice (some ⟨g, 0, none⟩) k vc, .slice (some ⟨g, 0, none⟩) 0 0]).run Tryz.prog y1.drew = .ok (.slice (some ⟨g, 0, none⟩) (k + 0) vc) y1.drew := hr
        rw [hd0] at HFin HMp
        clear hnews hcell hrow hcat hr
        subst hcv
        obtain rfl : n = k + 1 := by omega
        go_upto_region 19 with fail
        refine wp_region_still_tail 7 (by kernel_rfl) (by kernel_rfl) ?_
        simp only [List.take_succ_cons, List.take_zero, List.drop_succ_cons, List.drop_zero]
        have hv4 : (0 : Int) ≤ (k : Int) + 1 := by omega
        have hv5 : ((k : Int) + 1).toNat = k + 1 := by omega
        have hv8 : (k : Int) ≤ (k : Int) + 1 := by omega
        repeat still_step
        refine wpStill_nil ?_
        go_wp2_with (at_builtin; refine wpList_append_runs rfl (.tmp 107) (.tmp 111) 27 rfl _ _ rfl rfl (by first | exact hr2 | simpa using hr2) ?_; refine Hid.out ?_)
        refine hidden ?_
        go_wp2_with fail
        go_ret2
        exact ⟨⟨_, rfl, by rw [HF.out]; exact ⟨_, _, rfl, HFin.out.1, HMp.out⟩⟩, HFin.out.2⟩
      · have hr := run_append_room_cells (P := Tryz.prog) y1.drew 27 27 64 i0 Tryz.underlying27 hi g 0 k vc ⟨g, (k + 1) * 4, none⟩ M (vc - (k + 1)) (ueCells (L.drop (k + 1))) (by rw [hz1, hud, hdl]) hnews (ueCells_one _) (by omega) (fun j hj => by rw [hud, hdl] at hj; rw [hz1, Nat.zero_add, hcell _ (by omega)]; simp; rw [hul, hLn]; omega) (fun j _ => hrow.frozenAt _)
        rw [hz1] at hr
        have hMn : M = n - (k + 1) := by omega
        rw [hMn] at hr HFin
        rw [Nat.zero_add] at HFin
        clear hnews hcell hrow hcat hMn
        go_upto_region 19 with fail
        refine wp_region_still_tail 7 (by kernel_rfl) (by kernel_rfl) ?_
        simp only [List.take_succ_cons, List.take_zero, List.drop_succ_cons, List.drop_zero]
        have hv1 : k + 1 < vc := by omega
        have hv2 : (k : Int) + 1 < (vc : Int) := by omega
        have hv3 : (k : Int) + 1 ≤ (n : Int) := by omega
        have hv4 : (0 : Int) ≤ (k : Int) + 1 := by omega
        have hv5 : ((k : Int) + 1).toNat = k + 1 := by omega
        repeat still_step
        refine wpStill_nil ?_
        go_wp2_with (at_builtin; refine wpList_append_runs rfl (.tmp 107) (.tmp 111) 27 rfl _ _ rfl rfl (by first | exact hr | simpa using hr) ?_; refine Hid.out ?_)
        refine hidden ?_
        go_wp2_with fail
        go_ret2
        exact ⟨⟨_, rfl, by rw [HF.out]; exact ⟨_, _, rfl, HFin.out.1, HMp.out⟩⟩, HFin.out.2⟩
    have hk4b : (r.k == 4) = false := by simpa using hk4
    rw [if_neg hk4] at HO
    have HF : Hid (oneU (l.map UE.u) r = none) := by show _ = _; rw [← HM1.out]; exact HO.out
    clear HO
    go_wp2_with fail
    go_ret2
    exact ⟨⟨_, rfl, by rw [HF.out]; exact ⟨_, rfl⟩⟩, HBw.out⟩

end Go.Proofs.YtlkgopoicpnacaaGreatDoor
