/- Answers that wait, as what is appended. No statement of the program but its table of types. The library's Clone of answers that wait: the same in memory of its own. A sector of a store in memory is put; its variable's cells are written. No statement of the program but its table of types. An answer that is a disk: its rows lie in memory from base on, and apart. No program in it. An append onto a row of the call's own from a slice that may be nil: as an operation, as a step of a region that draws. No program in it. The library's Clone of texts, and the program's copy of a disk: the same in memory of its own. What the program's copy of a disk answers. What the program's copy of an upload answers. -/
import Derived.Test.YtemcjenpgdieoaaGreatDoorM07
import Derived.Deep.AppendSrc
import Derived.Lib.SliceRun
import Derived.Deep.RegionHeld3
import Derived.Test.YtemcjenpgdieoaaGreatDoorM05
import Derived.Deep.RegionLaw
import Derived.Laws.AppendOwn
import Derived.WalkKit
import Derived.Deep.CutBlock
import Derived.Test.YtemcjenpgdieoaaGreatDoorM04
import Derived.Test.YtemcjenpgdieoaaGreatDoorM03
import Derived.Test.YtemcjenpgdieoaaGreatDoorM30
namespace Go.Proofs.YtemcjenpgdieoaaGreatDoor
open Go.RowKit
set_option linter.unusedVariables false

theorem helds_nil {w : World} {a : Option Addr} {n : Nat} {l : List Hd} (h : Helds w a n l) (ha : a = none) : n = 0 := by
  rcases h.2.2 with h0 | ⟨b, off, he, _⟩
  · exact h0
  · rw [ha] at he; cases he

theorem helds_src {w : World} {a : Option Addr} {n : Nat} {l : List Hd} (hs : Helds w a n l) : ∀ ad, a = some ad → ∀ j u, (heCells l)[j]? = some u → w.cell? (ad.add j) = some u := by
  intro ad ha j u hj
  have hl2 : j < l.length * 3 := by
    by_cases h : j < l.length * 3
    · exact h
    · rw [List.getElem?_eq_none (by rw [heCells_len]; omega)] at hj; cases hj
  rcases hs.2.2 with h | ⟨b, off, h, hlt, hc⟩
  · have := hs.1; omega
  · rw [ha] at h
    injection h with h
    subst h
    obtain ⟨i, e⟩ : ∃ i, j = i * 3 ∨ j = i * 3 + 1 ∨ j = i * 3 + 2 := ⟨j / 3, by omega⟩
    rcases e with rfl | rfl | rfl
    · have hk : i < l.length := by omega
      rw [(heCells_at l i hk).1] at hj
      rw [← hj, ← (hc i hk).1]
      by_cases hi0 : i = 0
      · subst hi0
        simp [Addr.add]
      · simp [Addr.add, show ¬ i * 3 = 0 by omega]
    · have hk : i < l.length := by omega
      rw [(heCells_at l i hk).2.1] at hj
      rw [← hj, ← (hc i hk).2.1]
      simp [Addr.add, Nat.add_assoc]
    · have hk : i < l.length := by omega
      rw [(heCells_at l i hk).2.2] at hj
      rw [← hj, ← (hc i hk).2.2]
      simp [Addr.add, Nat.add_assoc]

theorem ownH_shape {w : World} {base size n : Nat} {e : TypeId} {v : Value} {xs : List Value} (h : w.ownsRow base e size v n xs) : ∃ a cap, v = .slice a n cap := by
  rcases h.2 with ⟨rfl, rfl⟩ | ⟨g, cap, cur, rfl, _⟩
  · exact ⟨_, _, rfl⟩
  · exact ⟨_, _, rfl⟩

/-- Answers that wait, as what is appended. -/
theorem Helds.src {w : World} {a : Option Addr} {n c : Nat} {l : List Hd} (h : Helds w a n l) : Src Tryz.prog 3 30 (.slice a n c) n (heCells l) w := by
  cases a with
  | none =>
    have h0 := helds_nil h rfl
    subst h0
    have : l = [] := List.eq_nil_of_length_eq_zero h.1
    subst this
    exact Src.ofNil _ Tryz.underlying30 c
  | some ad => exact Src.ofSlice _ Tryz.underlying30 ad n c _ (by rw [heCells_len, h.1]) (helds_src h ad rfl) (heCells_one l)

end Go.Proofs.YtemcjenpgdieoaaGreatDoor

namespace Go.Proofs.YtemcjenpgdieoaaGreatDoor
open Go.RowKit
set_option linter.unusedVariables false

set_option maxRecDepth 10000 in
set_option maxHeartbeats 400000 in
theorem cloneH_any (a : Option Addr) (len cap : Nat) (l : List Hd) (w : World) (hs : Helds w a len l) (hl : len ≤ 1048576) :
    Calls Tryz.prog 68 #[.slice a len cap] w fun e w' => ∃ a' cap', e = .returned (.slice a' len cap') ∧ OwnH w' w.heap.size a' len cap' l ∧ Below w.heap.size w w' := by
  obtain ⟨i0, hi, hz0, hz1, hz2⟩ := info_parts info_held
  have qT : ∀ (w : World) (a : Option Addr) (n c n' c' : Nat), (binOp .eql 30 (.slice a n c) (.slice none n' c')).run Tryz.prog w = .ok (.bool a.isNone) w := fun w a n c n' c' => Lib.run_eql_slice_nil w _ _ a n c n' c' Tryz.underlying30
  cases a with
  | none =>
    have h0 := helds_nil hs rfl
    subst h0
    obtain rfl : l = [] := List.eq_nil_of_length_eq_zero hs.1
    go_enter Tryz.func68, Tryz.ntmps68
    go_wp2
    go_ret
    exact ⟨none, 0, rfl, ⟨World.ownsRow_nil _ _ _ _, by simp⟩, Below.refl _ _⟩
  | some ad =>
    have hzl : l.length = len := hs.1
    have HR : Hid (∀ s ∈ l, hd64 s) := hs.2.1
    have HS1 : Hid (Helds (w.alloc (.cells #[] 88)) (some ad) len l) := hs.below ((Below.refl _ _).alloc (Nat.le_refl _) _)
    have HO1 : Hid ((w.alloc (.cells #[] 88)).ownsRow w.heap.size 88 3 (.slice (some ⟨w.heap.size, 0, none⟩) 0 0) 0 []) := World.ownsRow_lit w #[] 0 (Nat.le_refl _) (Nat.zero_le _) rfl
    clear hs
    go_enter Tryz.func68, Tryz.ntmps68
    go_wp2_with (at_builtin; refine wpList_append_own _ rfl _ _ 30 rfl w.heap.size 88 i0 (.agg #[.int .i64 0, .int .i64 0, .int .i64 0]) 3 24 Tryz.underlying30 hi hz0 hz1 hz2 rfl (by decide) (.slice (some ⟨w.heap.size, 0, none⟩) 0 0) 0 [] rfl HO1.out ad len cap (heCells l) rfl (by rw [heCells_len, hzl]) (helds_src HS1.out ad rfl) (heCells_one l) (by unfold maxLen; omega) (by omega) (by simp) ?_; intro v1 w1 hown1 hgrow1 _; refine Hid.out ?_)
    refine hidden ?_
    have HB1 : Hid (Below w.heap.size w w1) := ((Below.refl _ _).alloc (Nat.le_refl _) _).grown hgrow1 (by simp) (by simp [Value.ownBlock])
    obtain ⟨a1, c1, rfl⟩ := ownH_shape hown1
    have HO2 : Hid (w1.ownsRow w.heap.size 88 3 (.slice a1 len c1) len (heCells l)) := by
      show World.ownsRow _ _ _ _ _ _ _
      have h := hown1
      rw [Nat.zero_add] at h
      simpa using h
    have hll : 0 + len = len := Nat.zero_add _
    rw [hll]
    clear hown1 hgrow1
    go_wp2_with fail
    go_ret
    exact ⟨_, _, rfl, ⟨HO2.out, HR.out⟩, HB1.out⟩

end Go.Proofs.YtemcjenpgdieoaaGreatDoor

namespace Go.Proofs.YtemcjenpgdieoaaGreatDoor
open Go.RowKit
set_option linter.unusedVariables false

theorem texts_at {W : World} {base n C : Nat} {A : Option Addr} {X : List ByteArray} (h : OwnSt W base (.slice A n C) n X) (hn : 0 < n) : ∃ g, A = some ⟨g, 0, none⟩ := by
  rcases h.1.2 with ⟨_, h0⟩ | ⟨g, cap', cur, he, _⟩
  · omega
  · injection he with e1 _ _
    exact ⟨g, e1⟩

/-- A cell of a row of texts, and that it is not frozen. -/
theorem texts_cell {W : World} {base g n C : Nat} {X : List ByteArray} (h : OwnSt W base (.slice (some ⟨g, 0, none⟩) n C) n X) {k : Nat} (hk : k < n) : ∃ x, X[k]? = some x ∧ W.cell? ⟨g, k, none⟩ = some (.string x) ∧ W.frozen? ⟨g, k, none⟩ = false := by
  have hl := h.len
  have hkx : k < X.length := by omega
  refine ⟨X[k], List.getElem?_eq_getElem hkx, ?_, h.1.frozenAt k⟩
  have := h.1.cellAt k (by rw [Nat.mul_one]; exact hk)
  rw [this, scells, List.getElem?_map, List.getElem?_eq_getElem hkx]
  rfl

theorem scells_put (l : List ByteArray) (k : Nat) (x : ByteArray) : (scells l).set k (.string x) = scells (l.set k x) := by rw [scells, scells, List.map_set]

/-- A sector is put. -/
theorem StoAt.putNow {W : World} {base g : Nat} {n ca : Nat} {X : List ByteArray} {a' : Option Addr} {n' ca' : Nat} {Y : List ByteArray} {ua : Option Addr} {un uc : Nat} {l : List UE} (h : StoAt W base (some ⟨g, 0, none⟩) n ca X a' n' ca' Y ua un uc l) (k : Nat) (x : ByteArray) (hx : x.size ≤ maxLen) : StoAt (W.setCell ⟨g, k, none⟩ (.string x)) base (some ⟨g, 0, none⟩) n ca (X.set k x) a' n' ca' Y ua un uc l := by
  have hst := h.now.1.stored k (.string x)
  have hg : W.grownBy (W.setCell ⟨g, k, none⟩ (.string x)) (some g) := hst.2
  refine ⟨⟨?_, fun y hy => ?_⟩, h.sure.setCell (fun e => ?_) _, h.apart, h.ups.keptS h.now hg, h.len⟩
  · rw [← scells_put]
    exact hst.1
  · rcases List.mem_or_eq_of_mem_set hy with h2 | rfl
    · exact h.now.2 y h2
    · exact hx
  · rw [blk_own] at e
    exact h.apart g rfl e

/-- The uploads of a store are put down anew, in their row or in new ones. -/
theorem StoAt.upsTo {W W' : World} {base : Nat} {a : Option Addr} {n ca : Nat} {X : List ByteArray} {a' : Option Addr} {n' ca' : Nat} {Y : List ByteArray} {ua : Option Addr} {un uc : Nat} {l : List UE} {ua' : Option Addr} {un' uc' : Nat} {l' : List UE} (h : StoAt W base a n ca X a' n' ca' Y ua un uc l) (hg : W.grownBy W' (Value.slice ua un uc).ownBlock) (hu : UpRow W' base (.slice ua' un' uc') l') (hl : un' = l'.length) : StoAt W' base a n ca X a' n' ca' Y ua' un' uc' l' :=
  ⟨h.now.keptR h.ups.1 (by decide) hg, h.sure.keptR h.ups.1 (by decide) hg, h.apart, hu, hl⟩

/-- The store has other uploads. -/
theorem StoAt.withUps {W : World} {base : Nat} {a : Option Addr} {n ca : Nat} {X : List ByteArray} {a' : Option Addr} {n' ca' : Nat} {Y : List ByteArray} {ua : Option Addr} {un uc : Nat} {l : List UE} {ua' : Option Addr} {un' uc' : Nat} {l' : List UE} (h : StoAt W base a n ca X a' n' ca' Y ua un uc l) (hu : UpRow W base (.slice ua' un' uc') l') (hl : un' = l'.length) : StoAt W base a n ca X a' n' ca' Y ua' un' uc' l' :=
  ⟨h.now, h.sure, h.apart, hu, hl⟩

/-- A cell of a variable is written that is of none of the rows' types. -/
theorem StoAt.setBox {W : World} {base b i : Nat} {t : TypeId} {a : Option Addr} {n ca : Nat} {X : List ByteArray} {a' : Option Addr} {n' ca' : Nat} {Y : List ByteArray} {ua : Option Addr} {un uc : Nat} {l : List UE} {vs : List Value} (h : StoAt W base a n ca X a' n' ca' Y ua un uc l) (hb : BoxN W b t vs) (u : Value) (h0 : t ≠ 9 := by decide) (h1 : t ≠ 147 := by decide) (h2 : t ≠ 5 := by decide) : StoAt (W.setCell ⟨b, i, none⟩ u) base a n ca X a' n' ca' Y ua un uc l := by
  refine ⟨h.now.setCell (fun e => ?_) u, h.sure.setCell (fun e => ?_) u, h.apart, h.ups.setBox hb h1 h2, h.len⟩
  · exact hb.noRow h.now.1 h0 (by rw [ownBlock_sU]; rw [blk_own] at e; exact e)
  · exact hb.noRow h.sure.1 h0 (by rw [ownBlock_sU]; rw [blk_own] at e; exact e)

end Go.Proofs.YtemcjenpgdieoaaGreatDoor

namespace Go.Proofs.YtemcjenpgdieoaaGreatDoor
open Go.RowKit
set_option linter.unusedVariables false

def AnsD (base : Nat) (X Y : List ByteArray) (v : Value) (w' : World) : Prop :=
  ∃ A C A' C', v = .agg #[.slice A X.length C, .slice A' Y.length C'] ∧ OwnSt w' base (.slice A X.length C) X.length X ∧ OwnSt w' base (.slice A' Y.length C') Y.length Y ∧ ∀ q, A.map (·.block) = some q → A'.map (·.block) ≠ some q

theorem AnsD.mk' {base : Nat} {X Y : List ByteArray} {w' : World} {A A' : Option Addr} {n C n' C' : Nat} (hn : X.length = n) (hn' : Y.length = n') (h1 : OwnSt w' base (.slice A n C) n X) (h2 : OwnSt w' base (.slice A' n' C') n' Y) (hne : ∀ q, A.map (·.block) = some q → A'.map (·.block) ≠ some q) : AnsD base X Y (.agg #[.slice A n C, .slice A' n' C']) w' := by
  subst hn hn'
  exact ⟨A, C, A', C', rfl, h1, h2, hne⟩

/-- Texts as what is appended. -/
theorem Strs.src {w : World} {a : Option Addr} {n c : Nat} {l : List ByteArray} (h : Strs w a n l) : Src Tryz.prog 1 24 (.slice a n c) n (scells l) w := by
  cases a with
  | none =>
    have h0 := h.none_nil rfl
    subst h0
    have : l = [] := List.eq_nil_of_length_eq_zero h.1
    subst this
    exact Src.ofNil _ Tryz.underlying24 c
  | some ad => exact Src.ofSlice _ Tryz.underlying24 ad n c _ (by rw [scells_len, h.1, Nat.mul_one]) (h.cells ad rfl) (scells_one l)

theorem cellD_kept {Y : World} {b b' i k : Nat} {v u : Value} (hne : b ≠ b') (h : Y.cell? ⟨b, i, none⟩ = some v) : (Y.setCell ⟨b', k, none⟩ u).cell? ⟨b, i, none⟩ = some v := by
  have e := set_block_ne Y b b' k u hne
  simp only [World.cell?] at h ⊢
  rw [e]
  exact h

end Go.Proofs.YtemcjenpgdieoaaGreatDoor

namespace Go.Proofs.YtemcjenpgdieoaaGreatDoor
open Go.RowKit
set_option linter.unusedVariables false

theorem run_append_src {P : Program} (w : World) (base : Nat) (t ty e : TypeId) (i : TypeInfo) (z : Value) (size bytes : Nat) (ht : P.underlying t = some (.slice e)) (hi : P.info? e = some i) (hz : i.zero = some z)
    (hsize : i.size = size) (hby : i.bytes = bytes) (hzs : z.cells.size = size) (hsz : 0 < size)
    (g n cap : Nat) (xs : List Value) (hown : w.ownsRow base e size (.slice (some ⟨g, 0, none⟩) n cap) n xs)
    (src : Option Addr) (m c : Nat) (news : List Value) (hnone : src = none → m = 0) (hl : news.length = m * size) (hnews : ∀ ad, src = some ad → ∀ j u, news[j]? = some u → w.cell? (ad.add j) = some u) (h1 : ∀ u ∈ news, u.oneCell' = true)
    (h63 : n + m ≤ maxLen) (hbytes : (n + m) * bytes ≤ 140737488355328) (hbase : base ≤ w.heap.size) :
    ∃ v' w', (Builtin.append_ #[t, t] ty #[.slice (some ⟨g, 0, none⟩) n cap, .slice src m c]).run P w = .ok v' w' ∧ w'.ownsRow base e size v' (n + m) (xs ++ news) ∧ w.grownBy w' (some g) := by
  cases src with
  | some ad =>
    obtain ⟨v', w', hr, r1, r2, _⟩ := run_append_own (P := P) w base t ty e i z size bytes ht hi hz hsize hby hzs hsz (.slice (some ⟨g, 0, none⟩) n cap) n xs hown ad m c news hl (hnews ad rfl) h1 h63 hbytes hbase
    exact ⟨v', w', hr, r1, r2⟩
  | none =>
    obtain rfl := hnone rfl
    obtain rfl : news = [] := List.eq_nil_of_length_eq_zero (by simpa using hl)
    have hcap : n ≤ cap := by
      rcases hown.2 with ⟨h, _⟩ | ⟨g', cap', cur, h, _, _, hc, _⟩
      · cases h
      · injection h with _ _ h3
        omega
    have hr := run_append_room_src (P := P) w t t ty e i ht hi g 0 n cap (.slice none 0 c) 0 [] (Src.ofNil w ht c) (by omega) (by intro j hj; simp at hj) (by intro j hj; simp at hj)
    refine ⟨_, _, hr, ?_, ?_⟩
    · rw [List.append_nil]
      exact hown
    · exact ⟨rfl, rfl, rfl, Nat.le_refl _, fun _ _ _ => rfl⟩

theorem wp_append_src {P : Program} {o : Oper} {a : Act} {w : World} {K : Act → World → Prop} {Q : Exit → Act → World → Prop} (s x : Operand) (t : TypeId)
    (ho : o.op = .call { callee := .builtin .append, args := #[s, x], argTypes := #[t, t] })
    (base : Nat) (e : TypeId) (i : TypeInfo) (z : Value) (size bytes : Nat) (ht : P.underlying t = some (.slice e)) (hi : P.info? e = some i) (hz : i.zero = some z)
    (hsize : i.size = size) (hby : i.bytes = bytes) (hzs : z.cells.size = size) (hsz : 0 < size)
    (g n cap : Nat) (xs : List Value) (hs : a.eval s = .slice (some ⟨g, 0, none⟩) n cap) (hown : w.ownsRow base e size (.slice (some ⟨g, 0, none⟩) n cap) n xs)
    (src : Option Addr) (m c : Nat) (news : List Value) (hx : a.eval x = .slice src m c) (hnone : src = none → m = 0) (hl : news.length = m * size) (hnews : ∀ ad, src = some ad → ∀ j u, news[j]? = some u → w.cell? (ad.add j) = some u) (h1 : ∀ u ∈ news, u.oneCell' = true)
    (h63 : n + m ≤ maxLen) (hbytes : (n + m) * bytes ≤ 140737488355328) (hbase : base ≤ w.heap.size)
    (h : ∀ v' w', w'.ownsRow base e size v' (n + m) (xs ++ news) → w.grownBy w' (some g) → K (a.put o.dst v') w') : o.wp P a w K Q := by
  obtain ⟨v', w', hr, h2, h3⟩ := run_append_src (P := P) w base t o.type e i z size bytes ht hi hz hsize hby hzs hsz g n cap xs hown src m c news hnone hl hnews h1 h63 hbytes hbase
  unfold Oper.wp execOp
  simp only [ho, resolve, invoke, builtin, Sem.run_bind, Sem.run_pure, Result.andThen_ok, List.map_toArray, List.map_cons, List.map_nil, hs, hx, hr]
  exact h v' w' h2 h3

theorem step_append_src {P : Program} {ops : Array Oper} {o : Oper} {a : Act} {w : World} {K : Act → World → Prop} {Q : Exit → Act → World → Prop} {E : Prop} (hg : o.guard = none) (s x : Operand) (t : TypeId)
    (ho : o.op = .call { callee := .builtin .append, args := #[s, x], argTypes := #[t, t] })
    (base : Nat) (e : TypeId) (i : TypeInfo) (z : Value) (size bytes : Nat) (ht : P.underlying t = some (.slice e)) (hi : P.info? e = some i) (hz : i.zero = some z)
    (hsize : i.size = size) (hby : i.bytes = bytes) (hzs : z.cells.size = size) (hsz : 0 < size)
    (g n cap : Nat) (xs : List Value) (hs : a.eval s = .slice (some ⟨g, 0, none⟩) n cap) (hown : w.ownsRow base e size (.slice (some ⟨g, 0, none⟩) n cap) n xs)
    (src : Option Addr) (m c : Nat) (news : List Value) (hx : a.eval x = .slice src m c) (hnone : src = none → m = 0) (hl : news.length = m * size) (hnews : ∀ ad, src = some ad → ∀ j u, news[j]? = some u → w.cell? (ad.add j) = some u) (h1 : ∀ u ∈ news, u.oneCell' = true)
    (h63 : n + m ≤ maxLen) (hbytes : (n + m) * bytes ≤ 140737488355328) (hbase : base ≤ w.heap.size)
    (h : ∀ v' w', w'.ownsRow base e size v' (n + m) (xs ++ news) → w.grownBy w' (some g) → K (a.put o.dst v') w') :
    if Region.wanted o (yielded ops a.tmps) = true then Oper.wp P o a w K Q else E := by
  have hw : Region.wanted o (yielded ops a.tmps) = true := by simp [Region.wanted, hg]
  rw [if_pos hw]
  exact wp_append_src s x t ho base e i z size bytes ht hi hz hsize hby hzs hsz g n cap xs hs hown src m c news hx hnone hl hnews h1 h63 hbytes hbase h

theorem step_call_any {P : Program} {ops : Array Oper} {o : Oper} {a : Act} {w : World} {K : Act → World → Prop} {Q : Exit → Act → World → Prop} {E : Prop}
    (hg : o.guard = none) (f : FuncId) (x : Operand) (t : TypeId) (ho : o.op = .call { callee := .value (.func f), args := #[x], argTypes := #[t] })
    (hent : ∀ args w, (callFunc f args).run P w = .ok (.enter f args) w) (u : Value) (hx : a.eval x = u) (R : Ending → World → Prop)
    (hc : Calls P f #[u] w R) (h : ∀ e w', R e w' → ∃ v, e = .returned v ∧ K (a.put o.dst v) w') :
    if Region.wanted o (yielded ops a.tmps) = true then Oper.wp P o a w K Q else E := by
  have hw : Region.wanted o (yielded ops a.tmps) = true := by simp [Region.wanted, hg]
  rw [if_pos hw]
  have hf : a.eval (.func f) = .func (.func f) #[] #[] := rfl
  unfold Oper.wp
  simp [execOp, ho, resolve, invoke, Deferred.ofValue, hent, hf, hx, Oper.upon_enter]
  refine hc.mono ?_
  intro e w' hr
  obtain ⟨v, rfl, hk⟩ := h e w' hr
  exact hk

end Go.Proofs.YtemcjenpgdieoaaGreatDoor

namespace Go.Proofs.YtemcjenpgdieoaaGreatDoor
open Go.RowKit
set_option linter.unusedVariables false

theorem cloneRow_shape {w : World} {base n : Nat} {v : Value} {xs : List Value} (h : w.ownsRow base 9 1 v n xs) : ∃ a cap, v = .slice a n cap := by
  rcases h.2 with ⟨rfl, rfl⟩ | ⟨g, cap, cur, rfl, _⟩
  · exact ⟨_, _, rfl⟩
  · exact ⟨_, _, rfl⟩

set_option maxRecDepth 10000 in
set_option maxHeartbeats 400000 in
theorem cloneS_any (a : Option Addr) (len cap : Nat) (l : List ByteArray) (w : World) (hs : Strs w a len l) (hl : len ≤ 2097152) :
    Calls Tryz.prog 132 #[.slice a len cap] w fun e w' => (∃ a' cap', e = .returned (.slice a' len cap') ∧ OwnSt w' w.heap.size (.slice a' len cap') len l) ∧ Below w.heap.size w w' := by
  obtain ⟨i0, hi, hz0, hz1, hz2⟩ := info_parts info_string
  have qT : ∀ (w : World) (a : Option Addr) (n c n' c' : Nat), (binOp .eql 24 (.slice a n c) (.slice none n' c')).run Tryz.prog w = .ok (.bool a.isNone) w := fun w a n c n' c' => Lib.run_eql_slice_nil w _ _ a n c n' c' Tryz.underlying24
  cases a with
  | none =>
    have h0 := hs.none_nil rfl
    subst h0
    obtain rfl : l = [] := List.eq_nil_of_length_eq_zero hs.1
    go_enter Tryz.func132, Tryz.ntmps132
    go_wp2
    go_ret
    exact ⟨⟨none, 0, rfl, ⟨World.ownsRow_nil _ _ _ _, by simp⟩⟩, Below.refl _ _⟩
  | some ad =>
    have hzl : l.length = len := hs.1
    have HR : Hid (∀ x ∈ l, x.size ≤ maxLen) := hs.2.1
    have HS1 : Hid (Strs (w.alloc (.cells #[] 9)) (some ad) len l) := hs.below ((Below.refl _ _).alloc (Nat.le_refl _) _)
    have HO1 : Hid ((w.alloc (.cells #[] 9)).ownsRow w.heap.size 9 1 (.slice (some ⟨w.heap.size, 0, none⟩) 0 0) 0 []) := World.ownsRow_lit w #[] 0 (Nat.le_refl _) (Nat.zero_le _) rfl
    clear hs
    go_enter Tryz.func132, Tryz.ntmps132
    go_wp2_with (at_builtin; refine wpList_append_own _ rfl _ _ 24 rfl w.heap.size 9 i0 (.string ⟨#[]⟩) 1 16 Tryz.underlying24 hi hz0 hz1 hz2 rfl (by decide) (.slice (some ⟨w.heap.size, 0, none⟩) 0 0) 0 [] rfl HO1.out ad len cap (scells l) rfl (by rw [scells_len, hzl, Nat.mul_one]) (HS1.out.cells ad rfl) (scells_one l) (by unfold maxLen; omega) (by omega) (by simp) ?_; intro v1 w1 hown1 hgrow1 _; refine Hid.out ?_)
    refine hidden ?_
    have HB1 : Hid (Below w.heap.size w w1) := ((Below.refl _ _).alloc (Nat.le_refl _) _).grown hgrow1 (by simp) (by simp [Value.ownBlock])
    obtain ⟨a1, c1, rfl⟩ := cloneRow_shape hown1
    have HO2 : Hid (w1.ownsRow w.heap.size 9 1 (.slice a1 len c1) len (scells l)) := by
      show World.ownsRow _ _ _ _ _ _ _
      have h := hown1
      rw [Nat.zero_add] at h
      simpa using h
    have hll : 0 + len = len := Nat.zero_add _
    rw [hll]
    clear hown1 hgrow1
    go_wp2_with fail
    go_ret
    exact ⟨⟨_, _, rfl, ⟨HO2.out, HR.out⟩⟩, HB1.out⟩

end Go.Proofs.YtemcjenpgdieoaaGreatDoor

namespace Go.Proofs.YtemcjenpgdieoaaGreatDoor
open Go.RowKit
set_option linter.unusedVariables false

theorem blkOf_sC (a : Option Addr) (n c : Nat) : blkOf (.slice a n c) = a.map (·.block) := by cases a <;> rfl

set_option maxRecDepth 10000 in
set_option maxHeartbeats 3200000 in
theorem implDcopy_any (a : Option Addr) (n ca : Nat) (xs : List ByteArray) (a' : Option Addr) (n' ca' : Nat) (ys : List ByteArray) (w : World) (h1 : Strs w a n xs) (h2 : Strs w a' n' ys) (hn : n ≤ 2097152) (hn' : n' ≤ 2097152) :
    Calls Tryz.prog 115 #[.agg #[.slice a n ca, .slice a' n' ca']] w fun e w' => (∃ v, e = .returned v ∧ AnsD w.heap.size xs ys v w') ∧ Below w.heap.size w w' := by
  have HLn : Hid (xs.length = n ∧ ys.length = n') := ⟨h1.1, h2.1⟩
  obtain ⟨W2, hW2⟩ : ∃ W2, (w.alloc (.cells #[.slice a n ca, .slice a' n' ca'] 26)).alloc (.cells #[.slice none 0 0, .slice none 0 0] 26) = W2 := ⟨_, rfl⟩
  have HE : Hid ((w.alloc (.cells #[.slice a n ca, .slice a' n' ca'] 26)).alloc (.cells #[.slice none 0 0, .slice none 0 0] 26) = W2) := hW2
  have HB2 : Hid (Below w.heap.size w W2) := by show Below _ _ _; rw [← hW2]; exact ((Below.refl _ _).alloc (Nat.le_refl _) _).alloc (by simp) _
  have HZ2 : Hid (W2.heap.size = w.heap.size + 2) := by show _ = _; rw [← hW2]; simp
  have q1 : Box2R W2 w.heap.size 26 (.slice a n ca) (.slice a' n' ca') := by rw [← hW2]; exact (Box2R.new _ _ _ _).alloc _
  have q2 : Box2R W2 (w.heap.size + 1) 26 (.slice none 0 0) (.slice none 0 0) := by
    rw [← hW2]
    have := Box2R.new (w.alloc (.cells #[.slice a n ca, .slice a' n' ca'] 26)) 26 (.slice none 0 0) (.slice none 0 0)
    rwa [World.size_alloc] at this
  have HQ : Hid (∀ W, Below W2.heap.size W2 W → Box2R W w.heap.size 26 (.slice a n ca) (.slice a' n' ca') ∧ Box2R W (w.heap.size + 1) 26 (.slice none 0 0) (.slice none 0 0)) := fun W h => ⟨q1.stays h, q2.stays h⟩
  have HX : Hid (∀ W, Below W2.heap.size W2 W → Strs W a n xs ∧ Strs W a' n' ys) := fun W h => by
    have hw := HB2.out.trans (h.mono HB2.out.size)
    exact ⟨h1.below hw, h2.below hw⟩
  have HBd : Hid (Below W2.heap.size W2 W2.drew) := (Below.refl _ _).drew
  clear hW2 q1 q2 h1 h2
  have hne : w.heap.size ≠ w.heap.size + 1 := by omega
  have hs2 : w.heap.size + 1 < W2.heap.size := by have := HZ2.out; omega
  go_enter Tryz.func115, Tryz.ntmps115
  go_upto_region 1 with fail
  rw [HE.out]
  clear HE
  obtain ⟨c0, c1⟩ := (HQ.out _ (Below.refl _ _)).1.cells
  go_region_held3 (fun W => W.cell? ⟨w.heap.size, 0, none⟩ = some (.slice a n ca) ∧ W.cell? ⟨w.heap.size, 1, none⟩ = some (.slice a' n' ca')) (first | (refine ⟨?_, ?_⟩ <;> assumption) | (refine ⟨?_, ?_⟩ <;> (exact cellD_kept hne (cellD_kept hne (by assumption)))) | go_keep) (first
    | (go_at_call 132; refine (cloneS_any a' n' ca' ys _ (HX.out _ hB1).2 hn').mono ?_; rintro e y2 ⟨⟨A2, C2, rfl, own2⟩, hb2⟩
       have hB2 : Below W2.heap.size W2 y2 := hB1.trans (hb2.mono hB1.size)
       obtain ⟨m0, m1⟩ := (HQ.out _ hB2).1.cells
       obtain ⟨r0, r1⟩ := (HQ.out _ hB2).2.cells
       have f0 := (HQ.out _ hB2).2.frozen 0
       have f1 := (HQ.out _ hB2).2.frozen 1)
    | (go_at_call 132; refine (cloneS_any a n ca xs _ (HX.out _ HBd.out).1 hn).mono ?_; rintro e y1 ⟨⟨A1, C1, rfl, own1⟩, hb1⟩
       have hB1 : Below W2.heap.size W2 y1 := HBd.out.trans (hb1.mono (Nat.le_refl _))
       obtain ⟨e0, e1⟩ := (HQ.out _ hB1).1.cells)
    | fail)
  all_goals
    have HF : Hid (AnsD w.heap.size xs ys (.agg #[.slice A1 n C1, .slice A2 n' C2]) ((y2.setCell ⟨w.heap.size + 1, 0, none⟩ (.slice A1 n C1)).setCell ⟨w.heap.size + 1, 1, none⟩ (.slice A2 n' C2)) ∧ Below w.heap.size w ((y2.setCell ⟨w.heap.size + 1, 0, none⟩ (.slice A1 n C1)).setCell ⟨w.heap.size + 1, 1, none⟩ (.slice A2 n' C2))) := by
      have hz := HZ2.out
      have o1 : OwnSt y2 W2.heap.size (.slice A1 n C1) n xs := own1.below hb2
      have o2 : OwnSt y2 W2.heap.size (.slice A2 n' C2) n' ys := own2.low (by have := hB1.size; omega)
      have n1 : blkOf (.slice A1 n C1) ≠ some (w.heap.size + 1) := fun e => by have := (o1.lt _ e).1; omega
      have n2 : blkOf (.slice A2 n' C2) ≠ some (w.heap.size + 1) := fun e => by have := (o2.lt _ e).1; omega
      have hbw := HB2.out.trans (hB2.mono HB2.out.size)
      refine ⟨AnsD.mk' HLn.out.1 HLn.out.2 (((o1.setCell n1 _).setCell n1 _).low (by omega)) (((o2.setCell n2 _).setCell n2 _).low (by omega)) ?_, (hbw.setCell (by dsimp only; omega) _).setCell (by dsimp only; omega) _⟩
      intro q e1 e2
      rw [← blkOf_sC A1 n C1] at e1
      rw [← blkOf_sC A2 n' C2] at e2
      have := (own1.lt q e1).2
      have := (own2.lt q e2).1
      omega
    clear own1 own2 hb1 hb2 hB1 hB2 e0 e1 m0 m1
    go_wp2_with fail
    refine bodyPost_ret (v := .agg #[.slice A1 n C1, .slice A2 n' C2]) (by simp [results, Tryz.f115, go_sem, r0, r1]) rfl ?_
    exact ⟨⟨_, rfl, HF.out.1⟩, HF.out.2⟩

end Go.Proofs.YtemcjenpgdieoaaGreatDoor

namespace Go.Proofs.YtemcjenpgdieoaaGreatDoor
open Go.RowKit
set_option linter.unusedVariables false

set_option maxRecDepth 10000 in
set_option maxHeartbeats 800000 in
theorem implCopyUp_any (x : UE) (w : World) (hs : Seg w x.a x.n x.u.zs) (hl : x.n ≤ 1099511627776) :
    Calls Tryz.prog 117 #[.agg #[.string x.u.id, .int .i64 x.u.want, .slice x.a x.n x.c, .bool x.u.done]] w fun e w' => (∃ A C, e = .returned (.agg #[.string x.u.id, .int .i64 x.u.want, .slice A x.n C, .bool x.u.done]) ∧ Owns w' w.heap.size A x.n C x.u.zs) ∧ Below w.heap.size w w' := by
  obtain ⟨w0, hw0⟩ : ∃ w0, (w.alloc (.cells #[.string x.u.id, .int .i64 x.u.want, .slice x.a x.n x.c, .bool x.u.done] 147)).alloc (.cells #[.string ⟨#[]⟩, .int .i64 0, .slice none 0 0, .bool false] 147) = w0 := ⟨_, rfl⟩
  have HE : Hid ((w.alloc (.cells #[.string x.u.id, .int .i64 x.u.want, .slice x.a x.n x.c, .bool x.u.done] 147)).alloc (.cells #[.string ⟨#[]⟩, .int .i64 0, .slice none 0 0, .bool false] 147) = w0) := hw0
  have HB : Hid (Below w.heap.size w w0) := by show Below _ _ _; rw [← hw0]; exact ((Below.refl _ _).alloc (Nat.le_refl _) _).alloc (by simp) _
  have HQ : Hid (BoxN w0 w.heap.size 147 [.string x.u.id, .int .i64 x.u.want, .slice x.a x.n x.c, .bool x.u.done]) := by show BoxN _ _ _ _; rw [← hw0]; exact (BoxN.new _ _ _).alloc _
  have HR : Hid (BoxN w0 (w.heap.size + 1) 147 [.string ⟨#[]⟩, .int .i64 0, .slice none 0 0, .bool false]) := by
    show BoxN _ _ _ _
    rw [← hw0]
    have := BoxN.new (w.alloc (.cells #[.string x.u.id, .int .i64 x.u.want, .slice x.a x.n x.c, .bool x.u.done] 147)) 147 [.string ⟨#[]⟩, .int .i64 0, .slice none 0 0, .bool false]
    rw [World.size_alloc] at this
    exact this
  have HS : Hid (Seg w0 x.a x.n x.u.zs) := hs.below HB.out
  have hwl : w.heap.size + 1 < w0.heap.size := HR.out.lt
  clear hw0 hs
  have c2 := HQ.out.cell 2 rfl
  go_enter Tryz.func117, Tryz.ntmps117
  go_upto_region 1 with fail
  rw [HE.out]
  clear HE
  go_wp2_with fail
  refine (cloneB_any x.a x.n x.c x.u.zs w0 HS.out hl).mono ?_
  rintro _ w1 ⟨A, C, rfl, ho1, hb1⟩
  have hq := HQ.out.stays hb1
  have hr := HR.out.stays hb1
  have HB1 : Hid (Below w.heap.size w w1) := HB.out.trans (hb1.mono HB.out.size)
  have HO1 : Hid (Owns w1 w0.heap.size A x.n C x.u.zs) := ho1
  have b0 := hq.cell 0 rfl
  have b1 := hq.cell 1 rfl
  have b2 := hq.cell 2 rfl
  have b3 := hq.cell 3 rfl
  have z2 := hq.frozen 2
  have a0 := hr.cell 0 rfl
  have a1 := hr.cell 1 rfl
  have a2 := hr.cell 2 rfl
  have a3 := hr.cell 3 rfl
  have f0 := hr.frozen 0
  have f1 := hr.frozen 1
  have f2 := hr.frozen 2
  have f3 := hr.frozen 3
  have hA1 : A.map (·.block) ≠ some w.heap.size := fun e => by have := (ho1.lt _ e).1; omega
  have hA2 : A.map (·.block) ≠ some (w.heap.size + 1) := fun e => by have := (ho1.lt _ e).1; omega
  clear hq hr ho1 hb1 c2 HQ HR
  go_wp2_with fail
  refine bodyPost_ret (v := .agg #[.string x.u.id, .int .i64 x.u.want, .slice A x.n C, .bool x.u.done]) (by simp [results, Tryz.f117, go_sem, a0, a1, a2, a3]) rfl ?_
  refine ⟨⟨A, C, rfl, ?_⟩, ?_⟩
  · exact (owns_set (owns_set (owns_set (owns_set (owns_set HO1.out hA1) hA2) hA2) hA2) hA2).low (by omega)
  · exact ((((HB1.out.setCell (by dsimp only; omega) _).setCell (by dsimp only; omega) _).setCell (by dsimp only; omega) _).setCell (by dsimp only; omega) _).setCell (by dsimp only; omega) _

end Go.Proofs.YtemcjenpgdieoaaGreatDoor
