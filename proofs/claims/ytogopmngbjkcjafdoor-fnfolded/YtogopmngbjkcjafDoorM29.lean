/- How many sectors a new disk has. No program in it. An append onto a row of the call's own, in a region that draws: where the row lies behind it. No program in it. An append onto a row of the call's own, as an operation in its place: where the row lies behind it. No program in it. What the specification's DiskNew answers. What the specification's StoreNew answers. -/
import Derived.Test.YtogopmngbjkcjafDoorM14
import Derived.Test.YtogopmngbjkcjafDoorM09
import Derived.Test.YtogopmngbjkcjafDoorM15
import Derived.Deep.CutBlock
import Derived.Test.YtogopmngbjkcjafDoorM06
namespace Go.Proofs.YtogopmngbjkcjafDoor
open Go.RowKit
set_option linter.unusedVariables false

/-- How many sectors a new disk has. -/
def newN (n : Int) : Nat := if n ≤ 200 then n.toNat else 0

end Go.Proofs.YtogopmngbjkcjafDoor

namespace Go.Proofs.YtogopmngbjkcjafDoor
open Go.RowKit
set_option linter.unusedVariables false

theorem step_append_where {P : Program} {ops : Array Oper} {o : Oper} {a : Act} {w : World} {K : Act → World → Prop} {Q : Exit → Act → World → Prop} {E : Prop}
    (hg : o.guard = none) (s x : Operand) (t : TypeId) (ho : o.op = .call { callee := .builtin .append, args := #[s, x], argTypes := #[t, t] })
    (base : Nat) (e : TypeId) (i : TypeInfo) (z : Value) (size bytes : Nat) (ht : P.underlying t = some (.slice e)) (hi : P.info? e = some i) (hz : i.zero = some z)
    (hsize : i.size = size) (hby : i.bytes = bytes) (hzs : z.cells.size = size) (hsz : 0 < size)
    (v : Value) (n : Nat) (xs : List Value) (hs : a.eval s = v) (hown : w.ownsRow base e size v n xs)
    (ad : Addr) (m c : Nat) (hm : 0 < m) (news : List Value) (hx : a.eval x = .slice (some ad) m c) (hl : news.length = m * size) (hnews : ∀ j u, news[j]? = some u → w.cell? (ad.add j) = some u) (h1 : ∀ u ∈ news, u.oneCell' = true)
    (h63 : n + m ≤ maxLen) (hbytes : (n + m) * bytes ≤ 140737488355328) (hbase : base ≤ w.heap.size)
    (h : ∀ v' w', w'.ownsRow base e size v' (n + m) (xs ++ news) → w.grownBy w' v.ownBlock → (v'.ownBlock = v.ownBlock ∨ v'.ownBlock = some w.heap.size) → K (a.put o.dst v') w') :
    if Region.wanted o (yielded ops a.tmps) = true then Oper.wp P o a w K Q else E := by
  have hw : Region.wanted o (yielded ops a.tmps) = true := by simp [Region.wanted, hg]
  rw [if_pos hw]
  obtain ⟨v', w', hr, h2, h3, _⟩ := run_append_own (P := P) w base t o.type e i z size bytes ht hi hz hsize hby hzs hsz v n xs hown ad m c news hl hnews h1 h63 hbytes hbase
  have hsmall : n + m ≤ 9223372036854775807 := by simp only [maxLen] at h63; omega
  have key : v'.ownBlock = v.ownBlock ∨ v'.ownBlock = some w.heap.size := by
    subst hsize
    subst hby
    rcases hown.2 with ⟨rfl, rfl⟩ | ⟨g, cap, cur, rfl, hbg, hg2, hnc, hcm, hcs, htake⟩
    · have hr2 := run_append_nil (P := P) w t o.type e i z ht hi hz ad m c news hl hnews (by omega) (by omega) (by have hb := hbytes; simp only [Nat.zero_add] at hb; omega)
      rw [hr] at hr2
      injection hr2 with e1 _
      rw [e1]
      exact .inr rfl
    · by_cases hroom : n + m ≤ cap
      · have hfit : n * i.size + news.length ≤ cur.size := by rw [hl, hcs, ← Nat.add_mul]; exact Nat.mul_le_mul_right _ hroom
        have hr2 := run_append_room (P := P) w t o.type e i ht hi g n cap cur hg2 ad m c news hl hnews h1 hroom hfit
        rw [hr] at hr2
        injection hr2 with e1 _
        rw [e1]
        exact .inl rfl
      · have holds : ∀ j u, xs[j]? = some u → w.cell? ((⟨g, 0, none⟩ : Addr).add j) = some u := hown.cells (g := g) rfl
        have hr2 := run_append_grow (P := P) w t o.type e i z ht hi hz ⟨g, 0, none⟩ n cap xs hown.1 holds ad m c news hl hnews (by omega) (by omega) (growslice_fits (by omega) hbytes)
        rw [hr] at hr2
        injection hr2 with e1 _
        rw [e1]
        exact .inr rfl
  unfold Oper.wp execOp
  simp only [ho, resolve, invoke, builtin, Sem.run_bind, Sem.run_pure, Result.andThen_ok, List.map_toArray, List.map_cons, List.map_nil, hs, hx, hr]
  exact h v' w' h2 h3 key

end Go.Proofs.YtogopmngbjkcjafDoor

namespace Go.Proofs.YtogopmngbjkcjafDoor
open Go.RowKit
set_option linter.unusedVariables false

theorem wpList_append_where {P : Program} {w : World} {ops : Array Oper} {rest : List Oper} {o : Oper} {a : Act} {Q : Exit → Act → World → Prop} (hgd : o.guard = none) (s x : Operand) (t : TypeId)
    (ho : o.op = .call { callee := .builtin .append, args := #[s, x], argTypes := #[t, t] })
    (base : Nat) (e : TypeId) (i : TypeInfo) (z : Value) (size bytes : Nat) (ht : P.underlying t = some (.slice e)) (hi : P.info? e = some i) (hz : i.zero = some z)
    (hsize : i.size = size) (hby : i.bytes = bytes) (hzs : z.cells.size = size) (hsz : 0 < size)
    (v : Value) (n : Nat) (xs : List Value) (hs : a.eval s = v) (hown : w.ownsRow base e size v n xs)
    (ad : Addr) (m c : Nat) (hm : 0 < m) (news : List Value) (hx : a.eval x = .slice (some ad) m c) (hl : news.length = m * size) (hnews : ∀ j u, news[j]? = some u → w.cell? (ad.add j) = some u) (h1 : ∀ u ∈ news, u.oneCell' = true)
    (h63 : n + m ≤ maxLen) (hbytes : (n + m) * bytes ≤ 140737488355328) (hbase : base ≤ w.heap.size)
    (h : ∀ v' w', w'.ownsRow base e size v' (n + m) (xs ++ news) → w.grownBy w' v.ownBlock → (v'.ownBlock = v.ownBlock ∨ v'.ownBlock = some w.heap.size) → wpList P ops Q rest (a.put o.dst v') w') : wpList P ops Q (o :: rest) a w := by
  refine wpList_plain hgd fun K hK => ?_
  have := step_append_where (ops := ops) (E := True) (Q := Q) (K := K) hgd s x t ho base e i z size bytes ht hi hz hsize hby hzs hsz v n xs hs hown ad m c hm news hx hl hnews h1 h63 hbytes hbase (fun v' w' h2 h3 h4 => hK _ _ (h v' w' h2 h3 h4))
  rwa [if_pos (by simp [Region.wanted, hgd])] at this

end Go.Proofs.YtogopmngbjkcjafDoor

namespace Go.Proofs.YtogopmngbjkcjafDoor
open Go.RowKit
set_option linter.unusedVariables false

theorem blkOf_own (v : Value) : v.ownBlock = blkOf v := by
  cases v with
  | slice a n c => cases a <;> rfl
  | _ => rfl

/-- A disk that grows in a variable, beside a variable for the answer. -/
def DN (w W : World) (v0 v1 : Value) (k0 k1 : Nat) (X Y : List ByteArray) : Prop :=
  Box2R W (w.heap.size + 1) 35 v0 v1 ∧ Box2R W w.heap.size 35 (.slice none 0 0) (.slice none 0 0) ∧ OwnSt W (w.heap.size + 2) v0 k0 X ∧ OwnSt W (w.heap.size + 2) v1 k1 Y ∧ (∀ q, blkOf v0 = some q → blkOf v1 ≠ some q) ∧ Below w.heap.size w W

section
variable {w W w2 : World} {v0 v1 v2 : Value} {k0 k1 k2 : Nat} {X Y Z : List ByteArray}

theorem DN.push0 (h : DN w W v0 v1 k0 k1 X Y) (o : Obj) (ho : OwnSt w2 (w.heap.size + 2) v2 k2 Z) (hg : (W.alloc o).grownBy w2 v0.ownBlock) (hw : v2.ownBlock = v0.ownBlock ∨ v2.ownBlock = some (W.alloc o).heap.size) :
    DN w (w2.setCell ⟨w.heap.size + 1, 0, none⟩ v2) v2 v1 k2 k1 Z Y := by
  obtain ⟨h1, h2, h3, h4, h5, h6⟩ := h
  rw [blkOf_own, blkOf_own] at hw
  rw [blkOf_own] at hg
  have hlt0 : ∀ q, blkOf v0 = some q → w.heap.size + 2 ≤ q := fun q e => (h3.lt q e).1
  have hlt2 : ∀ q, blkOf v2 = some q → w.heap.size + 2 ≤ q := fun q e => (ho.lt q e).1
  have g1 := (h1.alloc o).grown hg (fun e => by have := hlt0 _ e; omega)
  have g2 := (h2.alloc o).grown hg (fun e => by have := hlt0 _ e; omega)
  have g4 := (h4.below ((Below.refl _ _).alloc (Nat.le_refl _) o)).kept hg (fun q e e2 => h5 q e e2)
  have hsz := h1.lt
  refine ⟨g1.set0 _, g2.other (by omega) _, ho.setCell (fun e => by have := hlt2 _ e; omega) _, g4.setCell (fun e => by have := (h4.lt _ e).1; omega) _, ?_, ?_⟩
  · intro q e e2
    rcases hw with hw | hw
    · exact h5 q (hw ▸ e) e2
    · rw [hw, World.size_alloc] at e
      injection e with e
      have := (h4.lt _ e2).2
      omega
  · exact ((h6.alloc h6.size o).grown hg (by have := h6.size; simp; omega) (fun q e => by have := hlt0 _ e; omega)).setCell (by dsimp only; omega) _

theorem DN.push1 (h : DN w W v0 v1 k0 k1 X Y) (o : Obj) (ho : OwnSt w2 (w.heap.size + 2) v2 k2 Z) (hg : (W.alloc o).grownBy w2 v1.ownBlock) (hw : v2.ownBlock = v1.ownBlock ∨ v2.ownBlock = some (W.alloc o).heap.size) :
    DN w (w2.setCell ⟨w.heap.size + 1, 1, none⟩ v2) v0 v2 k0 k2 X Z := by
  obtain ⟨h1, h2, h3, h4, h5, h6⟩ := h
  rw [blkOf_own, blkOf_own] at hw
  rw [blkOf_own] at hg
  have hlt0 : ∀ q, blkOf v1 = some q → w.heap.size + 2 ≤ q := fun q e => (h4.lt q e).1
  have hlt2 : ∀ q, blkOf v2 = some q → w.heap.size + 2 ≤ q := fun q e => (ho.lt q e).1
  have g1 := (h1.alloc o).grown hg (fun e => by have := hlt0 _ e; omega)
  have g2 := (h2.alloc o).grown hg (fun e => by have := hlt0 _ e; omega)
  have g3 := (h3.below ((Below.refl _ _).alloc (Nat.le_refl _) o)).kept hg (fun q e e2 => h5 q e2 e)
  have hsz := h1.lt
  refine ⟨g1.set1 _, g2.other (by omega) _, g3.setCell (fun e => by have := (h3.lt _ e).1; omega) _, ho.setCell (fun e => by have := hlt2 _ e; omega) _, ?_, ?_⟩
  · intro q e e2
    rcases hw with hw | hw
    · exact h5 q e (hw ▸ e2)
    · rw [hw, World.size_alloc] at e2
      injection e2 with e2
      have := (h3.lt _ e).2
      omega
  · exact ((h6.alloc h6.size o).grown hg (by have := h6.size; simp; omega) (fun q e => by have := hlt0 _ e; omega)).setCell (by dsimp only; omega) _
end

theorem srow_shape {w : World} {base n : Nat} {v : Value} {xs : List Value} (h : w.ownsRow base 9 1 v n xs) : ∃ a cap, v = .slice a n cap := by
  rcases h.2 with ⟨rfl, rfl⟩ | ⟨g, cap, cur, rfl, _⟩
  · exact ⟨_, _, rfl⟩
  · exact ⟨_, _, rfl⟩

theorem str_new (W : World) (x : ByteArray) : ∀ j v, [Value.string x][j]? = some v → (W.alloc (.cells #[.string x] 9)).cell? ((⟨W.heap.size, 0, none⟩ : Addr).add j) = some v := by
  intro j v hj
  obtain rfl : j = 0 := by have := (List.getElem?_eq_some_iff.1 hj).1; simpa using this
  rw [Addr.add_lit, cell_of_row _ _ _ _ _ _ (heap_alloc_new W (.cells #[.string x] 9))]
  simpa using hj

set_option maxRecDepth 10000 in
set_option maxHeartbeats 1600000 in
theorem specDnew_any (n : Int) (w : World) :
    Calls Tryd.prog 33 #[.int .i64 n] w fun e w' => (∃ v, e = .returned v ∧ AnsD w.heap.size (List.replicate (newN n) ⟨#[]⟩) (List.replicate (newN n) ⟨#[]⟩) v w') ∧ Below w.heap.size w w' := by
  obtain ⟨i0, hi, hz0, hz1, hz2⟩ := info_parts info_string
  obtain ⟨W0, hW0⟩ : ∃ W0, (w.alloc (Obj.cells #[Value.slice none 0 0, Value.slice none 0 0] 35)).alloc (Obj.cells #[Value.slice none 0 0, Value.slice none 0 0] 35) = W0 := ⟨_, rfl⟩
  have HE : Hid ((w.alloc (Obj.cells #[Value.slice none 0 0, Value.slice none 0 0] 35)).alloc (Obj.cells #[Value.slice none 0 0, Value.slice none 0 0] 35) = W0) := hW0
  have HD0 : Hid (DN w W0 (.slice none 0 0) (.slice none 0 0) 0 0 (List.replicate 0 ⟨#[]⟩) (List.replicate 0 ⟨#[]⟩)) := by
    show DN _ _ _ _ _ _ _ _
    have hr : ∀ W : World, OwnSt W (w.heap.size + 2) (.slice none 0 0) 0 (List.replicate 0 ⟨#[]⟩) := fun W => ⟨⟨rfl, .inl ⟨rfl, rfl⟩⟩, by simp⟩
    refine ⟨?_, ?_, hr _, hr _, by simp [blkOf], ?_⟩
    · have := Box2R.new (w.alloc (Obj.cells #[Value.slice none 0 0, Value.slice none 0 0] 35)) 35 (.slice none 0 0) (.slice none 0 0)
      rw [World.size_alloc, hW0] at this
      exact this
    · rw [← hW0]
      exact (Box2R.new _ _ _ _).alloc _
    · rw [← hW0]
      exact ((Below.refl _ _).alloc (Nat.le_refl _) _).alloc (by simp) _
  clear hW0
  go_enter Tryd.func33, Tryd.ntmps33
  go_wp2_with fail
  rw [HE.out]
  clear HE
  go_loopw [4] (fun i wr => ∃ k : Nat, k ≤ newN n ∧ i = .int .i64 (k : Int) ∧ Hid (∃ v0 v1, DN w wr v0 v1 k k (List.replicate k ⟨#[]⟩) (List.replicate k ⟨#[]⟩))) (fun i _ => newN n - (intOf i).toNat)
  case atStart => exact ⟨0, Nat.zero_le _, rfl, ⟨_, _, HD0.out⟩⟩
  case round =>
    clear HD0
    obtain ⟨k, hk, rfl, HD⟩ := hrel
    obtain ⟨v0, v1, hd⟩ := HD.out
    have HDN : Hid (DN w wr v0 v1 k k (List.replicate k ⟨#[]⟩) (List.replicate k ⟨#[]⟩)) := hd
    clear HD hd
    by_cases hlt : k < newN n
    · have hn2 : n ≤ 200 := by
        by_cases h : n ≤ 200
        · exact h
        · rw [newN, if_neg h] at hlt
          omega
      have hkn : (k : Int) < n := by
        rw [newN, if_pos hn2] at hlt
        omega
      have hk200 : k ≤ 200 := by omega
      have HRp : Hid (scells (List.replicate (k + 1) (⟨#[]⟩ : ByteArray)) = scells (List.replicate k ⟨#[]⟩) ++ [.string ⟨#[]⟩]) := by
        show _ = _
        rw [List.replicate_succ', scells_append]
        rfl
      have HRm : Hid (∀ x ∈ List.replicate (k + 1) (⟨#[]⟩ : ByteArray), x.size ≤ maxLen) := fun x hx => by
        rw [(List.mem_replicate.1 hx).2]
        exact Nat.zero_le _
      obtain ⟨d0, d1⟩ := HDN.out.1.cells
      have hsz : w.heap.size + 2 ≤ wr.heap.size := HDN.out.1.lt
      have HO1 : Hid ((wr.alloc (.cells #[.string ⟨#[]⟩] 9)).ownsRow (w.heap.size + 2) 9 1 v0 k (scells (List.replicate k ⟨#[]⟩))) := HDN.out.2.2.1.1.alloc _
      go_wp2_with (at_builtin; refine wpList_append_where rfl _ _ 33 rfl (w.heap.size + 2) 9 i0 (.string ⟨#[]⟩) 1 16 Tryd.underlying33 hi hz0 hz1 hz2 rfl (by decide) v0 k (scells (List.replicate k ⟨#[]⟩)) rfl HO1.out ⟨wr.heap.size, 0, none⟩ 1 1 (by decide) [.string ⟨#[]⟩] rfl rfl (str_new wr ⟨#[]⟩) (by simp [Value.oneCell']) (by unfold maxLen; omega) (by omega) (by simp; omega) ?_; intro v2 w2 hown2 hgrow2 hw2; obtain ⟨A2, C2, rfl⟩ := srow_shape hown2; refine Hid.out ?_)
      refine hidden ?_
      have HD2 : Hid (DN w (w2.setCell ⟨w.heap.size + 1, 0, none⟩ (.slice A2 (k + 1) C2)) (.slice A2 (k + 1) C2) v1 (k + 1) k (List.replicate (k + 1) ⟨#[]⟩) (List.replicate k ⟨#[]⟩)) := HDN.out.push0 _ ⟨by rw [HRp.out]; exact hown2, HRm.out⟩ hgrow2 hw2
      have hbx : Box2R w2 (w.heap.size + 1) 35 v0 v1 := (HDN.out.1.alloc _).grown hgrow2 (fun e => by rw [blkOf_own] at e; have := (HDN.out.2.2.1.lt _ e).1; omega)
      obtain ⟨e0, e1⟩ := hbx.cells
      have f0 := hbx.frozen 0
      clear hown2 hgrow2 hw2 HO1 hbx d0 d1
      go_upto_region 6 with fail
      obtain ⟨W3, hW3⟩ : ∃ W3, w2.setCell ⟨w.heap.size + 1, 0, none⟩ (.slice A2 (k + 1) C2) = W3 := ⟨_, rfl⟩
      rw [hW3] at HD2 ⊢
      clear hW3 HDN e0 e1 f0 hsz
      obtain ⟨d0, d1⟩ := HD2.out.1.cells
      have hsz : w.heap.size + 2 ≤ W3.heap.size := HD2.out.1.lt
      have HO1 : Hid ((W3.alloc (.cells #[.string ⟨#[]⟩] 9)).ownsRow (w.heap.size + 2) 9 1 v1 k (scells (List.replicate k ⟨#[]⟩))) := HD2.out.2.2.2.1.1.alloc _
      go_wp2_with (at_builtin; refine wpList_append_where rfl _ _ 33 rfl (w.heap.size + 2) 9 i0 (.string ⟨#[]⟩) 1 16 Tryd.underlying33 hi hz0 hz1 hz2 rfl (by decide) v1 k (scells (List.replicate k ⟨#[]⟩)) rfl HO1.out ⟨W3.heap.size, 0, none⟩ 1 1 (by decide) [.string ⟨#[]⟩] rfl rfl (str_new W3 ⟨#[]⟩) (by simp [Value.oneCell']) (by unfold maxLen; omega) (by omega) (by simp; omega) ?_; intro v3 w4 hown4 hgrow4 hw4; obtain ⟨A3, C3, rfl⟩ := srow_shape hown4; refine Hid.out ?_)
      refine hidden ?_
      have HD4 : Hid (DN w (w4.setCell ⟨w.heap.size + 1, 1, none⟩ (.slice A3 (k + 1) C3)) (.slice A2 (k + 1) C2) (.slice A3 (k + 1) C3) (k + 1) (k + 1) (List.replicate (k + 1) ⟨#[]⟩) (List.replicate (k + 1) ⟨#[]⟩)) := HD2.out.push1 _ ⟨by rw [HRp.out]; exact hown4, HRm.out⟩ hgrow4 hw4
      have hbx : Box2R w4 (w.heap.size + 1) 35 (.slice A2 (k + 1) C2) v1 := (HD2.out.1.alloc _).grown hgrow4 (fun e => by rw [blkOf_own] at e; have := (HD2.out.2.2.2.1.lt _ e).1; omega)
      obtain ⟨p0, p1⟩ := hbx.cells
      have f1 := hbx.frozen 1
      clear hown4 hgrow4 hw4 HO1 hbx d0 d1 HD2
      go_wp2_with fail
      go_roundw
      case rel => exact ⟨k + 1, by omega, by go_num, ⟨_, _, HD4.out⟩⟩
      case measure => simp [intOf]; omega
    · have hkN : k = newN n := by omega
      have HN : Hid (newN n = k) := hkN.symm
      have hend : ¬ ((k : Int) < n) ∨ ((k : Int) < n ∧ 200 < n) := by
        by_cases h : n ≤ 200
        · rw [newN, if_pos h] at hkN
          omega
        · omega
      clear hlt hkN hk
      obtain ⟨A0, C0, rfl⟩ := HDN.out.2.2.1.shape
      obtain ⟨A1, C1, rfl⟩ := HDN.out.2.2.2.1.shape
      obtain ⟨d0, d1⟩ := HDN.out.1.cells
      obtain ⟨r0, r1⟩ := HDN.out.2.1.cells
      have f0 := HDN.out.2.1.frozen 0
      have f1 := HDN.out.2.1.frozen 1
      have HR : Hid (AnsD w.heap.size (List.replicate (newN n) ⟨#[]⟩) (List.replicate (newN n) ⟨#[]⟩) (.agg #[.slice A0 k C0, .slice A1 k C1]) ((wr.setCell ⟨w.heap.size, 0, none⟩ (.slice A0 k C0)).setCell ⟨w.heap.size, 1, none⟩ (.slice A1 k C1)) ∧ Below w.heap.size w ((wr.setCell ⟨w.heap.size, 0, none⟩ (.slice A0 k C0)).setCell ⟨w.heap.size, 1, none⟩ (.slice A1 k C1))) := by
        obtain ⟨h1, h2, h3, h4, h5, h6⟩ := HDN.out
        have n0 : blkOf (.slice A0 k C0) ≠ some w.heap.size := fun e => by have := (h3.lt _ e).1; omega
        have n1 : blkOf (.slice A1 k C1) ≠ some w.heap.size := fun e => by have := (h4.lt _ e).1; omega
        refine ⟨AnsD.mk' (by rw [HN.out]; simp) (by rw [HN.out]; simp) ?_ ?_ ?_, (h6.setCell (Nat.le_refl _) _).setCell (Nat.le_refl _) _⟩
        · rw [HN.out]
          exact ((h3.setCell n0 _).setCell n0 _).low (by omega)
        · rw [HN.out]
          exact ((h4.setCell n1 _).setCell n1 _).low (by omega)
        · intro q e e2
          refine h5 q ?_ ?_
          · cases A0 <;> simp_all [blkOf]
          · cases A1 <;> simp_all [blkOf]
      clear HDN HN
      rcases hend with hend | ⟨hend, hbig⟩
      all_goals
        go_wp2_with fail
        refine bodyPost_ret (v := .agg #[.slice A0 k C0, .slice A1 k C1]) (by simp [results, Tryd.f33, go_sem, r0, r1]) rfl ?_
        exact ⟨⟨_, rfl, HR.out.1⟩, HR.out.2⟩

end Go.Proofs.YtogopmngbjkcjafDoor

namespace Go.Proofs.YtogopmngbjkcjafDoor
open Go.RowKit
set_option linter.unusedVariables false

set_option maxRecDepth 10000 in
set_option maxHeartbeats 1600000 in
theorem specStoreNew_any (n : Int) (w : World) :
    Calls Tryd.prog 17 #[.int .i64 n] w fun e w' => (∃ v, e = .returned v ∧ AnsS w.heap.size (List.replicate (newN n) ⟨#[]⟩) (List.replicate (newN n) ⟨#[]⟩) 0 0 [] v w') ∧ Below w.heap.size w w' := by
  obtain ⟨w0, hw0⟩ : ∃ w0, w.alloc (.cells #[.slice none 0 0, .slice none 0 0, .int .i64 0, .int .i64 0, .slice none 0 0] 37) = w0 := ⟨_, rfl⟩
  have HE : Hid (w.alloc (.cells #[.slice none 0 0, .slice none 0 0, .int .i64 0, .int .i64 0, .slice none 0 0] 37) = w0) := hw0
  have HB : Hid (Below w.heap.size w w0) := by show Below _ _ _; rw [← hw0]; exact (Below.refl _ _).alloc (Nat.le_refl _) _
  have HR : Hid (BoxN w0 w.heap.size 37 [.slice none 0 0, .slice none 0 0, .int .i64 0, .int .i64 0, .slice none 0 0]) := by show BoxN _ _ _ _; rw [← hw0]; exact BoxN.new _ _ _
  have hlt : w.heap.size < w0.heap.size := HR.out.lt
  clear hw0
  have HC : Hid (Calls Tryd.prog 33 #[.int .i64 n] w0 fun e w' => (∃ v, e = .returned v ∧ AnsD w0.heap.size (List.replicate (newN n) ⟨#[]⟩) (List.replicate (newN n) ⟨#[]⟩) v w') ∧ Below w0.heap.size w0 w') := specDnew_any n w0
  obtain ⟨RX, hRX⟩ : ∃ RX : List ByteArray, List.replicate (newN n) ⟨#[]⟩ = RX := ⟨_, rfl⟩
  rw [hRX] at HC ⊢
  obtain ⟨M, hM⟩ : ∃ M, RX.length = M := ⟨_, rfl⟩
  unfold AnsD at HC
  rw [hM] at HC
  clear hRX hM
  go_enter Tryd.func17, Tryd.ntmps17
  go_upto_region 1 with fail
  rw [HE.out]
  clear HE
  go_wp2_with fail
  refine HC.out.mono ?_
  rintro e x ⟨⟨v, rfl, A, C, A', C', rfl, o1, o2, hap⟩, hb⟩
  have HB1 : Hid (Below w.heap.size w x) := HB.out.trans (hb.mono HB.out.size)
  have HS : Hid (StoAt x w0.heap.size A M C RX A' M C' RX none 0 0 []) := ⟨o1, o2, hap, ⟨⟨rfl, .inl ⟨rfl, rfl⟩⟩, by simp, by simp⟩, rfl⟩
  have hR := HR.out.stays hb
  clear o1 o2 hap hb HC HB HR
  have a0 := hR.cell 0 rfl
  have a1 := hR.cell 1 rfl
  have a2 := hR.cell 2 rfl
  have a3 := hR.cell 3 rfl
  have a4 := hR.cell 4 rfl
  have e0 := hR.frozen 0
  have e1 := hR.frozen 1
  have e2 := hR.frozen 2
  have e3 := hR.frozen 3
  have e4 := hR.frozen 4
  go_wp2_with fail
  refine bodyPost_ret (v := .agg #[.slice A M C, .slice A' M C', .int .i64 0, .int .i64 0, .slice none 0 0]) (by simp [results, Tryd.f17, go_sem, a0, a1, a2, a3, a4]) rfl ?_
  refine ⟨⟨_, rfl, A, M, C, A', M, C', none, 0, 0, [], rfl, ?_, rfl⟩, ?_⟩
  · exact (((((HS.out.setLow (by omega) _).setLow (by omega) _).setLow (by omega) _).setLow (by omega) _).setLow (by omega) _).low (by omega)
  · exact ((((HB1.out.setCell (by dsimp only; omega) _).setCell (by dsimp only; omega) _).setCell (by dsimp only; omega) _).setCell (by dsimp only; omega) _).setCell (by dsimp only; omega) _

end Go.Proofs.YtogopmngbjkcjafDoor
