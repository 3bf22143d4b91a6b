/- A region that draws its order, whose operations only read and whose callees leave all that was there: walked once, in the order of the text. No program in it. The marks of a row of uploads, asked for. Uploads held against themselves. -/
import Derived.Test.YtogopmngbjkcjatDoorM01
import Derived.Deep.QuietTactic
import Derived.Test.YtogopmngbjkcjatDoorM12
import Derived.Test.YtogopmngbjkcjatDoorM09
import Derived.Test.YtogopmngbjkcjatDoorM04
namespace Go.Proofs.YtogopmngbjkcjatDoor
open Go.RowKit

/-- A world in which all that lay in w is as it was. -/
structure Past (w : World) where
  world : World
  below : Below w.heap.size w world

theorem wp_region_past {P : Program} {id : Nat} {Q : Exit → Act → World → Prop} {a : Act} {w : World} {l : List Oper} (hm : P.follows .mixedOrders = true) (hB : Region.lexB .any l.toArray = true)
    (h : wpQuiet P l.toArray (fun w' => ∃ p : Past w, w' = p.world) (fun a' => ∀ w', (∃ p : Past w, w' = p.world) → Q .normal a' w') l a) : (Code.region id l.toArray true).wp P Q a w :=
  wp_region_quiet (C := fun w' => ∃ p : Past w, w' = p.world) hm hB ⟨⟨w.drew, (Below.refl _ _).drew⟩, rfl⟩ (by simpa using h)

theorem calls_past {P : Program} {f : FuncId} {args : Array Value} {w : World} {p : Past w} {v : Value}
    (h : Calls P f args p.world fun e w' => e = .returned v ∧ Below p.world.heap.size p.world w') : Calls P f args p.world fun e w'' => e = .returned v ∧ ∃ p : Past w, w'' = p.world :=
  h.mono fun _ w' ⟨he, hb⟩ => ⟨he, ⟨w', p.below.trans (hb.mono p.below.size)⟩, rfl⟩

/-- One operation that is wanted. -/
theorem quiet_do {P : Program} {ops : Array Oper} {C : World → Prop} {Q : Act → Prop} {a : Act} {o : Oper} {rest : List Oper} (hw : Region.wanted o (yielded ops a.tmps) = true)
    (h : ∀ K : Act → Prop, (∀ a, wpQuiet P ops C Q rest a → K a) → o.quiet P a C K) : wpQuiet P ops C Q (o :: rest) a :=
  wpQuiet_step fun K hK => by rw [if_pos hw]; exact h K hK

/-- One that is not. -/
theorem quiet_skip {P : Program} {ops : Array Oper} {C : World → Prop} {Q : Act → Prop} {a : Act} {o : Oper} {rest : List Oper} (hw : Region.wanted o (yielded ops a.tmps) = false)
    (h : ∀ K : Act → Prop, (∀ a, wpQuiet P ops C Q rest a → K a) → K (a.put o.dst undef)) : wpQuiet P ops C Q (o :: rest) a :=
  wpQuiet_step fun K hK => by rw [if_neg (by rw [hw]; simp)]; exact h K hK

/-- One that is not: what is behind it. -/
theorem quiet_past {P : Program} {ops : Array Oper} {C : World → Prop} {Q : Act → Prop} {a : Act} {o : Oper} {rest : List Oper} (hw : Region.wanted o (yielded ops a.tmps) = false) (h : wpQuiet P ops C Q rest (a.put o.dst undef)) : wpQuiet P ops C Q (o :: rest) a :=
  quiet_skip hw fun _ hK => hK _ h

/-- As wp_region_past, the region's row hidden behind a name: then what an unwanted operation would do is not looked at. -/
theorem wp_region_pastO {P : Program} {id : Nat} {Q : Exit → Act → World → Prop} {a : Act} {w : World} {l : List Oper} (hm : P.follows .mixedOrders = true) (hB : Region.lexB .any l.toArray = true)
    (h : ∀ ops : Array Oper, Hid (ops = l.toArray) → wpQuiet P ops (fun w' => ∃ p : Past w, w' = p.world) (fun a' => ∀ w', (∃ p : Past w, w' = p.world) → Q .normal a' w') l a) : (Code.region id l.toArray true).wp P Q a w :=
  wp_region_past hm hB (h _ rfl)

theorem past_some (w : World) : Nonempty (Past w) := ⟨⟨w, Below.refl _ _⟩⟩

theorem Past.cell {w : World} (p : Past w) {a : Addr} {v : Value} (hb : a.block < w.heap.size) (h : w.cell? a = some v) : p.world.cell? a = some v := (p.below.cell hb).trans h

end Go.Proofs.YtogopmngbjkcjatDoor

namespace Go.Proofs.YtogopmngbjkcjatDoor
open Go.RowKit
set_option linter.unusedVariables false

theorem held_intU (base : Nat) (a : Option Addr) (n cap k : Nat) (kk : Int) (w : World) (h : Owns w base a n cap (marks k n)) (hn : n ≤ 2199023255552) (hk : k ≤ 2199023255552) (hkk : kk = (k : Int)) :
    Calls Tryd.prog 39 #[.slice a n cap, .int .i64 kk] w fun e w' => e = .returned (.int .i64 ((k + n : Nat) : Int)) ∧ w' = w := by
  subst hkk
  exact held_any base a n cap k w h hn hk

set_option maxRecDepth 10000 in
set_option maxHeartbeats 3200000 in
theorem heldUpS_any (base : Nat) (a : Option Addr) (n cap k : Nat) (l : List UE) (w : World) (h : UpRow w base (.slice a n cap) (mkUp k l)) (hn : l.length = n) (hk : mkUEnd k l ≤ 2199023255552) (hnb : n ≤ 1099511627776) :
    Calls Tryd.prog 19 #[.slice a n cap, .int .i64 (k : Int)] w fun e w' => e = .returned (.int .i64 (mkUEnd k l : Int)) ∧ Below w.heap.size w w' := by
  have HO : Hid (UpRow w base (.slice a n cap) (mkUp k l)) := h
  have HN : Hid (l.length = n) := hn
  have HK : Hid (mkUEnd k l ≤ 2199023255552) := hk
  clear h hn hk
  go_enter Tryd.func19, Tryd.ntmps19
  go_wp2
  go_loopw [1, 5] (fun v i wr => ∃ j : Nat, j ≤ n ∧ i = .int .i64 j ∧ v = .int .i64 (mkUEnd k (l.take j) : Int) ∧ Hid (Below w.heap.size w wr)) (fun _ i _ => n - (intOf i).toNat)
  case atStart => exact ⟨0, Nat.zero_le _, rfl, rfl, Below.refl _ _⟩
  case round =>
    obtain ⟨j, hj, rfl, rfl, HW⟩ := hrel
    by_cases hlt : j < n
    · have hjl : j < l.length := by have := HN.out; omega
      have ht : l.take (j + 1) = l.take j ++ [l[j]] := List.take_succ_eq_append_getElem hjl
      have hml : (mkUp k (l.take j)).length = j := by rw [mkUp_len, List.length_take]; omega
      have HEnd : Hid (mkUEnd k (l.take (j + 1)) = mkUEnd k (l.take j) + 3 + (l[j]).n) := by show _ = _; rw [ht, mkUEnd_append]; rfl
      have hKb : mkUEnd k (l.take j) + 3 + (l[j]).n ≤ 2199023255552 := by
        have h1 := HK.out
        rw [← List.take_append_drop (j + 1) l, mkUEnd_append] at h1
        have h2 := mkUEnd_ge (mkUEnd k (l.take (j + 1))) (l.drop (j + 1))
        have h3 := HEnd.out
        omega
      have hFr : mkUp k l = mkUp k (l.take j) ++ mkU1 (mkUEnd k (l.take j)) (l[j]) :: mkUp (mkUEnd k (l.take j) + 3 + (l[j]).n) (l.drop (j + 1)) := by
        have hd : l = l.take j ++ l[j] :: l.drop (j + 1) := by rw [← List.drop_eq_getElem_cons hjl]; exact (List.take_append_drop j l).symm
        rw [show mkUp k l = mkUp k (l.take j ++ l[j] :: l.drop (j + 1)) from congrArg (mkUp k) hd, mkUp_append]
        rfl
      have hlen : (mkUp k l).length = n := by rw [mkUp_len]; exact HN.out
      have hge : (mkUp k l)[j]'(by omega) = mkU1 (mkUEnd k (l.take j)) (l[j]) := by
        have h1 : (mkUp k l)[j]? = some (mkU1 (mkUEnd k (l.take j)) (l[j])) := by
          rw [hFr, List.getElem?_append_right (by omega), hml, Nat.sub_self]
          rfl
        rw [List.getElem?_eq_getElem (by omega)] at h1
        exact Option.some.inj h1
      have HAt : Hid (∀ W, Below w.heap.size w W → ∃ g, a = some ⟨g, 0, none⟩ ∧ W.cell? ⟨g, j * 4, none⟩ = some (.string (mt (mkUEnd k (l.take j)))) ∧ W.cell? ⟨g, j * 4 + 1, none⟩ = some (.int .i64 ((mkUEnd k (l.take j) : Int) + 1)) ∧ W.cell? ⟨g, j * 4 + 2, none⟩ = some (.slice (l[j]).a (l[j]).n (l[j]).c) ∧ W.cell? ⟨g, j * 4 + 3, none⟩ = some (.bool (mbU (mkUEnd k (l.take j) + 2 + (l[j]).n))) ∧ Owns W base (l[j]).a (l[j]).n (l[j]).c (marks (mkUEnd k (l.take j) + 2) (l[j]).n)) := fun W hb => by
        have hO := HO.out.stays hb
        have hat := hO.at hlen.symm (i := j) (by omega)
        have hin := hO.2.1 ((mkUp k l)[j]'(by omega)) (List.getElem_mem _)
        rw [hge] at hat hin
        obtain ⟨g, h1, h2, h3, h4, h5, _⟩ := hat
        exact ⟨g, h1, h2, h3, h4, h5, hin⟩
      clear hge hFr ht hml hlen
      generalize mkUEnd k (l.take j) = K at *
      generalize l[j] = e at *
      obtain ⟨r, ea, en, ec⟩ := e
      dsimp only at *
      obtain ⟨g, rfl, _⟩ := HAt.out _ HW.out
      have hKi : (K : Int) ≤ 2199023255552 := by omega
      have hji : (j : Int) < (n : Int) := by omega
      have hj0 : (0 : Int) ≤ (j : Int) := by omega
      have hC : ∀ P : Past wr, P.world.cell? ⟨g, j * 4, none⟩ = some (.string (mt K)) := fun P => by
        obtain ⟨g', hg, h1, _⟩ := HAt.out _ (HW.out.trans (P.below.mono HW.out.size))
        injection hg with hg
        injection hg with hg
        subst hg
        exact h1
      have HTx : Hid (∀ P : Past wr, Calls Tryd.prog 37 #[.int .i64 (K : Int)] P.world fun e w' => e = .returned (.string (mt K)) ∧ Below P.world.heap.size P.world w') := fun P => markText_any K P.world (by omega)
      have hnp := past_some wr
      generalize mt K = T3 at *
      have n3 : (T3.toList != T3.toList) = false := by simp
      go_wp2_with fail
      refine wp_region_past (by kernel_rfl) (by kernel_rfl) ?_
      repeat (quiet_step ((first | (go_at_call 37; with_reducible exact calls_past (HTx.out _)) | fail)))
      refine wpQuiet_nil ?_
      rintro _ ⟨z, rfl⟩
      have HB2 : Hid (Below w.heap.size w z.world) := HW.out.trans (z.below.mono HW.out.size)
      obtain ⟨x1, hx1⟩ : ∃ x1, z.world = x1 := ⟨_, rfl⟩
      rw [hx1] at HB2 ⊢
      clear hx1 z hnp hC HTx HW
      obtain ⟨g', hg, _, c1, c2, c3, ho⟩ := HAt.out _ HB2.out
      injection hg with hg
      injection hg with hg
      subst hg
      have HE : Hid (Owns x1 base ea en ec (marks (K + 2) en)) := ho
      have n1 : ((K : Int) + 1 != (K : Int) + 1) = false := by simp
      clear ho HAt
      go_wp2_with fail
      refine (held_intU base ea en ec (K + 2) _ _ HE.out (by omega) (by omega) (by omega)).mono ?_
      rintro _ x1 ⟨rfl, rfl⟩
      obtain ⟨K4, hK4⟩ : ∃ K4, K + 2 + en = K4 := ⟨_, rfl⟩
      have HK4 : Hid (K + 2 + en = K4) := hK4
      rw [hK4] at c3 ⊢
      have hmb := mbU_is K4
      have hK4i : (K4 : Int) ≤ 2199023255552 := by omega
      have hK4p : ¬ (K4 : Int) < 0 := by omega
      have n4 : (mbU K4 != mbU K4) = false := by simp
      clear hK4
      go_wp2
      go_roundw
      case rel =>
        refine ⟨j + 1, by omega, by go_num, ?_, HB2⟩
        rw [HEnd.out]
        have := HK4.out
        go_num
      case measure => simp [intOf]; omega
    · have hjn : j = n := by omega
      subst hjn
      have hl := HN.out
      have HE : Hid (mkUEnd k (l.take j) = mkUEnd k l) := by show _ = _; rw [List.take_of_length_le (by omega)]
      generalize mkUEnd k (l.take j) = K at *
      go_wp2
      go_ret
      exact ⟨ret_int (by rw [HE.out]), HW.out⟩

end Go.Proofs.YtogopmngbjkcjatDoor

namespace Go.Proofs.YtogopmngbjkcjatDoor
open Go.RowKit
set_option linter.unusedVariables false

set_option maxRecDepth 10000 in
set_option maxHeartbeats 1600000 in
theorem eqUp_same (x y : UE) (w : World) (hx : Seg w x.a x.n x.u.zs) (hy : Seg w y.a y.n y.u.zs) (hu : x.u = y.u) (hl : x.n ≤ 1099511627776) :
    Calls Tryd.prog 35 #[.agg #[.string x.u.id, .int .i64 x.u.want, .slice x.a x.n x.c, .bool x.u.done], .agg #[.string y.u.id, .int .i64 y.u.want, .slice y.a y.n y.c, .bool y.u.done]] w fun r w' => r = .returned (.bool true) ∧ Below w.heap.size w w' := by
  obtain ⟨u, a, n, c⟩ := x
  obtain ⟨u', b, m, d⟩ := y
  dsimp only at *
  subst hu
  obtain rfl : n = m := by rw [← hx.1, ← hy.1]
  have HX : Hid (Seg w a n u.zs) := hx
  have HY : Hid (Seg w b n u.zs) := hy
  clear hx hy
  have n1 : (u.want != u.want) = false := by simp
  have n2 : (u.id.toList != u.id.toList) = false := by simp
  have n3 : (u.done != u.done) = false := by simp
  go_enter Tryd.func35, Tryd.ntmps35
  go_wp2_with fail
  have hba : Below w.heap.size w ((w.alloc (.cells #[.string u.id, .int .i64 u.want, .slice a n c, .bool u.done] 71)).alloc (.cells #[.string u.id, .int .i64 u.want, .slice b n d, .bool u.done] 71)) := ((Below.refl _ _).alloc (Nat.le_refl _) _).alloc (by simp) _
  refine (eqByteS_same a b n c d u.zs _ (HX.out.below hba) (HY.out.below hba) hl).mono ?_
  rintro r x3 ⟨rfl, st3⟩
  have HB3 : Hid (Below w.heap.size w x3) := Still.below st3 hba
  clear hba
  obtain ⟨k, hk⟩ := st3
  subst hk
  go_wp2
  go_ret
  exact ⟨rfl, HB3.out⟩

set_option maxRecDepth 10000 in
set_option maxHeartbeats 1600000 in
theorem eqUpS_same (a : Option Addr) (n c lo : Nat) (l : List UE) (b : Option Addr) (m d lo' : Nat) (l' : List UE) (w : World) (h : UpRow w lo (.slice a n c) l) (h' : UpRow w lo' (.slice b m d) l') (hn : n = l.length) (hm : m = l'.length) (he : l.map UE.u = l'.map UE.u) (hl : n ≤ 1099511627776) (hz : ∀ e ∈ l, e.n ≤ 1099511627776) :
    Calls Tryd.prog 15 #[.slice a n c, .slice b m d] w fun e w' => e = .returned (.bool true) ∧ Below w.heap.size w w' := by
  obtain rfl : n = m := by
    have := congrArg List.length he
    rw [List.length_map, List.length_map] at this
    omega
  have HX : Hid (∀ W, Below w.heap.size w W → UpRow W lo (.slice a n c) l ∧ UpRow W lo' (.slice b n d) l') := fun W hb => ⟨h.stays hb, h'.stays hb⟩
  have HN : Hid (n = l.length) := hn
  have HM : Hid (n = l'.length) := hm
  have HE : Hid (l.map UE.u = l'.map UE.u) := he
  have HZ : Hid (∀ e ∈ l, e.n ≤ 1099511627776) := hz
  clear h h' hn hm he hz
  have hne : ((n : Int) != (n : Int)) = false := by simp
  go_enter Tryd.func15, Tryd.ntmps15
  go_wp2
  go_loopw [5] (fun i wr => ∃ k : Nat, k ≤ n ∧ i = .int .i64 k ∧ Hid (Below w.heap.size w wr)) (fun i _ => n - (intOf i).toNat)
  case atStart => exact ⟨0, Nat.zero_le _, rfl, Below.refl _ _⟩
  case round =>
    obtain ⟨k, hk, rfl, HW⟩ := hrel
    by_cases hlt : k < n
    · have hkl : k < l.length := by rw [← HN.out]; exact hlt
      have hkm : k < l'.length := by rw [← HM.out]; exact hlt
      obtain ⟨g, rfl, g0, g1, g2, g3, _⟩ := (HX.out _ HW.out).1.at HN.out hkl
      obtain ⟨q, rfl, q0, q1, q2, q3, _⟩ := (HX.out _ HW.out).2.at HM.out hkm
      have HU : Hid ((l[k]).u = (l'[k]).u) := by
        show _ = _
        have h1 := congrArg (fun z => z[k]?) HE.out
        simpa only [List.getElem?_map, List.getElem?_eq_getElem hkl, List.getElem?_eq_getElem hkm, Option.map_some, Option.some.injEq] using h1
      have HC : Hid (∀ P : Past wr, Calls Tryd.prog 35 #[.agg #[.string (l[k]).u.id, .int .i64 (l[k]).u.want, .slice (l[k]).a (l[k]).n (l[k]).c, .bool (l[k]).u.done], .agg #[.string (l'[k]).u.id, .int .i64 (l'[k]).u.want, .slice (l'[k]).a (l'[k]).n (l'[k]).c, .bool (l'[k]).u.done]] P.world fun r w' => r = .returned (.bool true) ∧ Below P.world.heap.size P.world w') := fun P => by
        have hb := HW.out.trans (P.below.mono HW.out.size)
        exact eqUp_same (l[k]) (l'[k]) P.world ((HX.out _ hb).1.2.1 _ (List.getElem_mem hkl)).seg ((HX.out _ hb).2.2.1 _ (List.getElem_mem hkm)).seg HU.out (HZ.out _ (List.getElem_mem hkl))
      have hki : (k : Int) < (n : Int) := by omega
      have hk0 : (0 : Int) ≤ (k : Int) := by omega
      have hgl := lt_of_cell g0
      have hql := lt_of_cell q0
      have x0 : ∀ P : Past wr, P.world.cell? ⟨g, k * 4, none⟩ = some (.string (l[k]).u.id) := fun P => P.cell hgl g0
      have x1 : ∀ P : Past wr, P.world.cell? ⟨g, k * 4 + 1, none⟩ = some (.int .i64 (l[k]).u.want) := fun P => P.cell hgl g1
      have x2 : ∀ P : Past wr, P.world.cell? ⟨g, k * 4 + 2, none⟩ = some (.slice (l[k]).a (l[k]).n (l[k]).c) := fun P => P.cell hgl g2
      have x3 : ∀ P : Past wr, P.world.cell? ⟨g, k * 4 + 3, none⟩ = some (.bool (l[k]).u.done) := fun P => P.cell hgl g3
      have y0 : ∀ P : Past wr, P.world.cell? ⟨q, k * 4, none⟩ = some (.string (l'[k]).u.id) := fun P => P.cell hql q0
      have y1 : ∀ P : Past wr, P.world.cell? ⟨q, k * 4 + 1, none⟩ = some (.int .i64 (l'[k]).u.want) := fun P => P.cell hql q1
      have y2 : ∀ P : Past wr, P.world.cell? ⟨q, k * 4 + 2, none⟩ = some (.slice (l'[k]).a (l'[k]).n (l'[k]).c) := fun P => P.cell hql q2
      have y3 : ∀ P : Past wr, P.world.cell? ⟨q, k * 4 + 3, none⟩ = some (.bool (l'[k]).u.done) := fun P => P.cell hql q3
      have hnp := past_some wr
      clear g0 g1 g2 g3 q0 q1 q2 q3 HU
      generalize l[k] = x at *
      generalize l'[k] = y at *
      go_wp2_with fail
      refine wp_region_past (by kernel_rfl) (by kernel_rfl) ?_
      repeat (quiet_step ((first | (go_at_call 35; with_reducible exact calls_past (HC.out _)) | fail)))
      refine wpQuiet_nil ?_
      rintro _ ⟨z, rfl⟩
      have HB3 : Hid (Below w.heap.size w z.world) := HW.out.trans (z.below.mono HW.out.size)
      go_wp2
      go_roundw
      case rel => exact ⟨k + 1, by omega, by go_num, HB3⟩
      case measure => simp [intOf]; omega
    · go_wp2
      go_ret
      exact ⟨rfl, HW.out⟩

end Go.Proofs.YtogopmngbjkcjatDoor
