/- A variable of any number of cells: no program in it. What the program's fold does: what must fit; the upload that must be there. An upload more in a row. No statement of the program but its table of types. An append onto a row of the call's own of whatever may be appended, a text's bytes too: as an operation. No program in it. A row of uploads in a block with room behind them: copies into it, an append of one; a row that is cut and cleared. No program in it but its table of types. -/
import Derived.Test.YtogopmngbjkcjavGreatDoorM01
import Derived.Test.YtogopmngbjkcjavGreatDoorM05
import Derived.Test.YtogopmngbjkcjavGreatDoorM03
import Derived.Deep.AppendSrc
import Derived.Laws.AppendOwn
import Derived.WalkKit
import Derived.Lib.AppendZerosOnto
import Derived.Lib.SliceRun
namespace Go.Proofs.YtogopmngbjkcjavGreatDoor
open Go.RowKit
set_option linter.unusedVariables false

/-- The block holds a variable of these cells. -/
def BoxN (W : World) (b : Nat) (t : TypeId) (vs : List Value) : Prop := W.heap[b]? = some (.cells vs.toArray t (0, 0))

section
variable {W W' : World} {b : Nat} {t : TypeId} {vs : List Value}

theorem BoxN.lt (h : BoxN W b t vs) : b < W.heap.size := (Array.getElem?_eq_some_iff.1 h).1
theorem BoxN.stays (h : BoxN W b t vs) (hb : Below W.heap.size W W') : BoxN W' b t vs := (hb.block b h.lt).trans h
theorem BoxN.alloc (h : BoxN W b t vs) (o : Obj) : BoxN (W.alloc o) b t vs := h.stays ((Below.refl _ _).alloc (Nat.le_refl _) _)
theorem BoxN.new (W : World) (t : TypeId) (vs : List Value) : BoxN (W.alloc (.cells vs.toArray t)) W.heap.size t vs := heap_alloc_new W _

theorem BoxN.cell (h : BoxN W b t vs) (i : Nat) {v : Value} (hv : vs[i]? = some v) : W.cell? ⟨b, i, none⟩ = some v := by
  have h' : W.heap[b]? = some (.cells vs.toArray t (0, 0)) := h
  rw [cell_of_row _ _ _ _ _ _ h', ← hv]
  simp

theorem BoxN.frozen (h : BoxN W b t vs) (i : Nat) : W.frozen? ⟨b, i, none⟩ = false := by simp [World.frozen?, show W.heap[b]? = _ from h]
theorem BoxN.grown {r : Option Nat} (h : BoxN W b t vs) (hg : W.grownBy W' r) (hr : r ≠ some b) : BoxN W' b t vs := (hg.block b h.lt (Ne.symm hr)).trans h

theorem BoxN.set (h : BoxN W b t vs) (i : Nat) (v : Value) : BoxN (W.setCell ⟨b, i, none⟩ v) b t (vs.set i v) := by
  show (W.setCell ⟨b, i, none⟩ v).heap[b]? = _
  rw [setCell_eq_setRow W b i _ t (0, 0) _ h, setRow_heap W b _ _ t (0, 0) h]
  simp

theorem BoxN.other {b' k : Nat} (h : BoxN W b t vs) (hne : b ≠ b') (v : Value) : BoxN (W.setCell ⟨b', k, none⟩ v) b t vs := (set_block_ne W b b' k v hne).trans h
end

end Go.Proofs.YtogopmngbjkcjavGreatDoor

namespace Go.Proofs.YtogopmngbjkcjavGreatDoor
open Go.RowKit
set_option linter.unusedVariables false

/-- The variable holds an error. -/
def ErrN (w : World) : Prop := 3 < w.heap.size ∧ ∃ t v, w.cell? ⟨3, 0, none⟩ = some (.iface t v)

theorem ErrN.below {w W : World} (h : ErrN w) (hb : Below w.heap.size w W) : ErrN W := by
  obtain ⟨h1, t, v, h2⟩ := h
  exact ⟨Nat.lt_of_lt_of_le h1 hb.size, t, v, (hb.cell (p := ⟨3, 0, none⟩) h1).trans h2⟩

/-- A call gave up by a panic. -/
def Pan (e : Ending) : Prop := ∃ t v, e = .panicked [{ v := .iface t v, recovered := false }]

theorem mustFit_yes (w : World) : Calls Tryz.prog 159 #[.bool true] w fun e w' => e = .returned (.tuple #[]) ∧ w' = w := by
  go_enter Tryz.func159, Tryz.ntmps159
  go_wp2_with fail
  go_end0
  exact ⟨rfl, rfl⟩

theorem mustFit_no (w : World) (h : ErrN w) : Calls Tryz.prog 159 #[.bool false] w fun e w' => Pan e ∧ w' = w := by
  obtain ⟨_, t, v, hc⟩ := h
  go_enter Tryz.func159, Tryz.ntmps159
  go_wp2_with fail
  exact ⟨rfl, ⟨t, v, rfl⟩, rfl⟩

/-- What must fit does, or it gives up. -/
theorem mustFit_any (b : Bool) (w : World) (h : ErrN w) : Calls Tryz.prog 159 #[.bool b] w fun e w' => ((b = true ∧ e = .returned (.tuple #[])) ∨ (b = false ∧ Pan e)) ∧ w' = w := by
  cases b with
  | true => exact (mustFit_yes w).mono (fun e w' h => ⟨.inl ⟨rfl, h.1⟩, h.2⟩)
  | false => exact (mustFit_no w h).mono (fun e w' h => ⟨.inr ⟨rfl, h.1⟩, h.2⟩)

/-- The upload that must be there is told, or it gave up. -/
def ThereAns (o : Option Nat) (a : Option Addr) (e : Ending) : Prop := (∃ k g, o = some k ∧ a = some ⟨g, 0, none⟩ ∧ e = .returned (.pointer (some ⟨g, k * 4, none⟩))) ∨ (o = none ∧ Pan e)

set_option maxRecDepth 10000 in
set_option maxHeartbeats 800000 in
theorem implThere_any (fb : Nat) (a : Option Addr) (n c lo : Nat) (id : ByteArray) (l : List UE) (w : World) (hf : BoxN w fb 158 [.slice a n c]) (h : UpRow w lo (.slice a n c) l) (hn : n = l.length) (hl : n ≤ 1099511627776) (he : ErrN w) :
    Calls Tryz.prog 172 #[.pointer (some ⟨fb, 0, none⟩), .string id] w fun e w' => ThereAns (atU (l.map UE.u) id) a e ∧ Below w.heap.size w w' := by
  have HE : Hid (ErrN w) := he
  have HR : Hid (Calls Tryz.prog 167 #[.slice a n c, .string id] w fun e w' => e = .returned (.pointer (reachUO a (atU (l.map UE.u) id))) ∧ Below w.heap.size w w') := implReachU_any a n c lo id l w h hn hl
  have f0 := hf.cell 0 rfl
  cases hk : atU (l.map UE.u) id with
  | none =>
    rw [hk, reachUO_none] at HR
    clear hf h hk hn
    go_enter Tryz.func172, Tryz.ntmps172
    go_wp2_with fail
    refine HR.out.mono ?_
    rintro e w1 ⟨rfl, hb1⟩
    have HB1 : Hid (Below w.heap.size w w1) := hb1
    clear hb1
    go_wp2_with fail
    refine (mustFit_no w1 (HE.out.below HB1.out)).mono ?_
    rintro e w2 ⟨⟨t, v, rfl⟩, rfl⟩
    go_wp2_with fail
    exact ⟨rfl, .inr ⟨rfl, t, v, rfl⟩, HB1.out⟩
  | some k =>
    have hkl : k < (l.map UE.u).length := (atU_is hk).1
    obtain ⟨g, hg⟩ : ∃ g, a = some ⟨g, 0, none⟩ := by
      obtain ⟨g, hg, _⟩ := h.at hn (by simpa using hkl)
      exact ⟨g, hg⟩
    rw [hk, hg] at HR
    clear hf h hk hkl hn
    have HR2 : Hid (Calls Tryz.prog 167 #[.slice (some ⟨g, 0, none⟩) n c, .string id] w fun e w' => e = .returned (.pointer (some ⟨g, k * 4, none⟩)) ∧ Below w.heap.size w w') := HR.out
    subst hg
    clear HR
    go_enter Tryz.func172, Tryz.ntmps172
    go_wp2_with fail
    refine HR2.out.mono ?_
    rintro e w1 ⟨rfl, hb1⟩
    have HB1 : Hid (Below w.heap.size w w1) := hb1
    clear hb1
    go_wp2_with fail
    refine (mustFit_yes w1).mono ?_
    rintro e w2 ⟨rfl, rfl⟩
    go_wp2_with fail
    go_ret
    exact ⟨.inl ⟨k, g, rfl, rfl, rfl⟩, HB1.out⟩

end Go.Proofs.YtogopmngbjkcjavGreatDoor

namespace Go.Proofs.YtogopmngbjkcjavGreatDoor
open Go.RowKit
set_option linter.unusedVariables false

theorem info_up : (Tryz.prog.info? 118).map (fun i => (i.zero, i.size, i.bytes)) = some (some (.agg #[.string ⟨#[]⟩, .int .i64 0, .slice none 0 0, .bool false]), 4, 56) := by kernel_rfl

theorem four_new (W : World) (u : U) (a : Option Addr) (n c : Nat) : ∀ j x, (UE.cells ⟨u, a, n, c⟩)[j]? = some x → (W.alloc (.cells #[.string u.id, .int .i64 u.want, .slice a n c, .bool u.done] 118)).cell? ((⟨W.heap.size, 0, none⟩ : Addr).add j) = some x := by
  intro j x hj
  match j, hj with
  | 0, hj => simp [UE.cells] at hj; subst hj; simp [Addr.add]
  | 1, hj => simp [UE.cells] at hj; subst hj; simp [Addr.add]
  | 2, hj => simp [UE.cells] at hj; subst hj; simp [Addr.add]
  | 3, hj => simp [UE.cells] at hj; subst hj; simp [Addr.add]

theorem four_one (u : U) (a : Option Addr) (n c : Nat) : ∀ x ∈ UE.cells ⟨u, a, n, c⟩, x.oneCell' = true := by
  intro x hx
  simp [UE.cells] at hx
  rcases hx with rfl | rfl | rfl | rfl <;> rfl

/-- An upload more in a row. -/
theorem UpRow.snoc {W W' : World} {base B : Nat} {v v' : Value} {l : List UE} {e : UE} {o : Obj} (h : UpRow W base v l) (he : Owns W B e.a e.n e.c e.u.zs) (hB : base ≤ B) (hl : ∀ x ∈ l, ∀ q, x.a.map (·.block) = some q → q < B) (ho : W'.ownsRow base 118 4 v' (l.length + 1) (ueCells l ++ UE.cells e)) (hg : (W.alloc o).grownBy W' v.ownBlock) : UpRow W' base v' (l ++ [e]) := by
  have hb : Below W.heap.size W (W.alloc o) := (Below.refl _ _).alloc (Nat.le_refl _) _
  have h1 := h.stays hb
  refine ⟨?_, ?_, ?_⟩
  · rw [List.length_append, ueCells_append, show ueCells [e] = UE.cells e by simp [ueCells]]
    exact ho
  · intro x hx
    rcases List.mem_append.1 hx with hx | hx
    · exact (h1.2.1 x hx).grown hg (fun q hq => h1.rowApart (h1.2.1 x hx) q hq)
    · obtain rfl : x = e := by simpa using hx
      exact ((he.below hb).grown hg (fun q hq => h1.rowApart (he.below hb) q hq)).low hB
  · rw [List.pairwise_append]
    refine ⟨h.2.2, by simp, fun x hx y hy q hq hq2 => ?_⟩
    obtain rfl : y = e := by simpa using hy
    have h2 := hl x hx q hq
    have h3 := (he.lt q hq2).1
    omega

end Go.Proofs.YtogopmngbjkcjavGreatDoor

namespace Go.Proofs.YtogopmngbjkcjavGreatDoor
open Go.RowKit
set_option linter.unusedVariables false

theorem run_room_any {P : Program} (w : World) (t tx ty e : TypeId) (i : TypeInfo) (ht : P.underlying t = some (.slice e)) (hi : P.info? e = some i)
    (g sLen sCap : Nat) (cur : Array Value) (hg : w.heap[g]? = some (.cells cur e (0, 0))) (x : Value) (m : Nat) (news : List Value) (hs : Src P i.size tx x m news w)
    (hroom : sLen + m ≤ sCap) (hfit : sLen * i.size + news.length ≤ cur.size) :
    (Builtin.append_ #[t, tx] ty #[.slice (some ⟨g, 0, none⟩) sLen sCap, x]).run P w =
      .ok (.slice (some ⟨g, 0, none⟩) (sLen + m) sCap) (w.setRow g (cur.toList.take (sLen * i.size) ++ news ++ cur.toList.drop (sLen * i.size + news.length)).toArray) := by
  have hst := run_storeCells_at P g (sLen * i.size) e news 0 cur w hg (by simpa using hfit) hs.one
  simp only [Nat.add_zero] at hst
  rcases hs.kind with ⟨e', hk⟩ | hk <;> simp [Builtin.append_, run_underlying ht, run_underlying hk, sizeOf, typeInfo, hi, hs.len, hroom, hs.cells, Addr.add_lit, hst]

theorem run_append_any {P : Program} (w : World) (base : Nat) (t tx ty e : TypeId) (i : TypeInfo) (z : Value) (size bytes : Nat) (ht : P.underlying t = some (.slice e)) (hi : P.info? e = some i) (hz : i.zero = some z)
    (hsize : i.size = size) (hby : i.bytes = bytes) (hzs : z.cells.size = size) (hsz : 0 < size)
    (g n cap : Nat) (xs : List Value) (hown : w.ownsRow base e size (.slice (some ⟨g, 0, none⟩) n cap) n xs)
    (x : Value) (m : Nat) (news : List Value) (hs : Src P size tx x m news w)
    (h63 : n + m ≤ maxLen) (hbytes : (n + m) * bytes ≤ 140737488355328) (hbase : base ≤ w.heap.size) :
    ∃ v' w', (Builtin.append_ #[t, tx] ty #[.slice (some ⟨g, 0, none⟩) n cap, x]).run P w = .ok v' w' ∧ w'.ownsRow base e size v' (n + m) (xs ++ news) ∧ w.grownBy w' (some g) := by
  subst hsize
  subst hby
  have hsmall : n + m ≤ 9223372036854775807 := by simp only [maxLen] at h63; omega
  have hl := hs.newsLen
  have hlen : (xs ++ news).length = (n + m) * i.size := by rw [List.length_append, hown.1, hl, Nat.add_mul]
  rcases hown.2 with ⟨h, _⟩ | ⟨g', cap', cur, heq, hbg, hg, hnc, hcm, hcs, htake⟩
  · cases h
  · injection heq with e1 e2 e3
    injection e1 with e1
    injection e1 with e1
    subst e1
    subst e3
    by_cases hroom : n + m ≤ cap
    · have hfit : n * i.size + news.length ≤ cur.size := by rw [hl, hcs, ← Nat.add_mul]; exact Nat.mul_le_mul_right _ hroom
      have hr := run_room_any w t tx ty e i ht hi g n cap cur hg x m news hs hroom hfit
      refine ⟨_, _, hr, ⟨hlen, .inr ⟨g, cap, _, rfl, hbg, setRow_heap w g cur _ e _ hg, hroom, hcm, ?_, ?_⟩⟩, ⟨rfl, rfl, rfl, by simp, fun k _ hk => setRow_other w g k _ (fun e => hk (by simp [e]))⟩⟩
      · simp only [List.size_toArray, List.length_append, List.length_take, List.length_drop, Array.length_toList]
        omega
      · rw [htake, ← hlen]
        exact List.take_left
    · have holds : ∀ j u, xs[j]? = some u → w.cell? ((⟨g, 0, none⟩ : Addr).add j) = some u := hown.cells (g := g) rfl
      have hold := run_firstCells_some (P := P) w.drew i.size n ⟨g, 0, none⟩ n cap xs hown.1 (by simpa using holds)
      have hr := run_append_grow_src (P := P) w t tx ty e i z ht hi hz (some ⟨g, 0, none⟩) n cap xs hold x m news hs (by omega) (by omega) (growslice_fits (by omega) hbytes)
      have hge := grownCap_ge w (n + m) cap e
      have hcm' : grownCap w (n + m) cap e ≤ maxLen := grownCap_le_maxLen w (n + m) cap e h63
      refine ⟨_, _, hr, ⟨hlen, .inr ⟨w.heap.size, _, _, rfl, hbase, heap_alloc_new w.drew _, hge, hcm', ?_, ?_⟩⟩, ⟨rfl, rfl, rfl, by simp, fun k hk _ => heap_alloc_old w.drew _ hk⟩⟩
      · simp only [Array.size_append, List.size_toArray, size_zeroCells, hzs, hlen, ← Nat.add_mul]
        congr 1
        omega
      · simp only [Array.toList_append]
        rw [← hlen]
        exact List.take_left

theorem wpList_append_any {P : Program} {w : World} {ops : Array Oper} {rest : List Oper} {o : Oper} {a : Act} {Q : Exit → Act → World → Prop} (hgd : o.guard = none) (s x : Operand) (t tx : TypeId)
    (ho : o.op = .call { callee := .builtin .append, args := #[s, x], argTypes := #[t, tx] })
    (base : Nat) (e : TypeId) (i : TypeInfo) (z : Value) (size bytes : Nat) (ht : P.underlying t = some (.slice e)) (hi : P.info? e = some i) (hz : i.zero = some z)
    (hsize : i.size = size) (hby : i.bytes = bytes) (hzs : z.cells.size = size) (hsz : 0 < size)
    (g n cap : Nat) (xs : List Value) (hs : a.eval s = .slice (some ⟨g, 0, none⟩) n cap) (hown : w.ownsRow base e size (.slice (some ⟨g, 0, none⟩) n cap) n xs)
    (u : Value) (m : Nat) (news : List Value) (hx : a.eval x = u) (hsrc : Src P size tx u m news w)
    (h63 : n + m ≤ maxLen) (hbytes : (n + m) * bytes ≤ 140737488355328) (hbase : base ≤ w.heap.size)
    (h : ∀ v' w', w'.ownsRow base e size v' (n + m) (xs ++ news) → w.grownBy w' (some g) → wpList P ops Q rest (a.put o.dst v') w') : wpList P ops Q (o :: rest) a w := by
  refine wpList_plain hgd fun K hK => ?_
  obtain ⟨v', w', hr, h2, h3⟩ := run_append_any (P := P) w base t tx o.type e i z size bytes ht hi hz hsize hby hzs hsz g n cap xs hown u m news hsrc h63 hbytes hbase
  unfold Oper.wp execOp
  simp only [ho, resolve, invoke, builtin, Sem.run_bind, Sem.run_pure, Result.andThen_ok, List.map_toArray, List.map_cons, List.map_nil, hs, hx, hr]
  exact hK _ _ (h v' w' h2 h3)

end Go.Proofs.YtogopmngbjkcjavGreatDoor

namespace Go.Proofs.YtogopmngbjkcjavGreatDoor
open Go.RowKit
set_option linter.unusedVariables false

/-- A row of uploads of the call's own: its cells alone. -/
def OwnU (w : World) (base : Nat) (a : Option Addr) (n cap : Nat) (l : List UE) : Prop := w.ownsRow base 118 4 (.slice a n cap) n (ueCells l)

theorem OwnU.len {w : World} {base n cap : Nat} {a : Option Addr} {l : List UE} (h : OwnU w base a n cap l) : l.length = n := by
  have h1 : (ueCells l).length = n * 4 := h.1
  rw [ueCells_len] at h1
  omega

theorem OwnU.below {w w' : World} {base n cap : Nat} {a : Option Addr} {l : List UE} (h : OwnU w base a n cap l) (hb : Below w.heap.size w w') : OwnU w' base a n cap l := own_below h hb

theorem OwnU.lt {w : World} {base n cap : Nat} {a : Option Addr} {l : List UE} (h : OwnU w base a n cap l) : ∀ q, a.map (·.block) = some q → base ≤ q ∧ q < w.heap.size := fun q hq => World.ownsRow.lt h q (by rw [ownBlock_sU]; exact hq)

theorem OwnU.kept {w w' : World} {base n cap : Nat} {a : Option Addr} {l : List UE} {r : Option Nat} (h : OwnU w base a n cap l) (hg : w.grownBy w' r) (hr : ∀ q, r = some q → a.map (·.block) ≠ some q) : OwnU w' base a n cap l := by
  refine World.ownsRow.kept h hg ?_
  rw [ownBlock_sU]
  cases e : a.map (·.block) with
  | none => exact .inl rfl
  | some k => exact .inr (fun h2 => hr k h2.symm e)

/-- A block of uploads, with all its cells. -/
def RowU (w : World) (g C : Nat) (cs : List Value) : Prop := w.heap[g]? = some (.cells cs.toArray 118 (0, 0)) ∧ cs.length = C * 4

theorem OwnU.row {w : World} {base g n C : Nat} {l : List UE} (h : OwnU w base (some ⟨g, 0, none⟩) n C l) : ∃ rest, RowU w g C (ueCells l ++ rest) ∧ base ≤ g ∧ n ≤ C ∧ C ≤ maxLen := by
  rcases h.2 with ⟨h0, _⟩ | ⟨g', cap', cur, he, hb, hg, hn, hm, hc, ht⟩
  · cases h0
  · injection he with e1 e2 e3
    injection e1 with e1
    injection e1 with e1
    subst e1
    subst e3
    refine ⟨cur.toList.drop (n * 4), ⟨?_, ?_⟩, hb, hn, hm⟩
    · rw [← ht, List.take_append_drop]
      simpa using hg
    · rw [← ht, List.take_append_drop]
      simpa using hc

theorem RowU.own {w : World} {base g n C : Nat} {l : List UE} {rest : List Value} (h : RowU w g C (ueCells l ++ rest)) (hb : base ≤ g) (hc : C ≤ maxLen) (hl : l.length = n) : OwnU w base (some ⟨g, 0, none⟩) n C l := by
  have h2 := h.2
  rw [List.length_append, ueCells_len] at h2
  refine ⟨by rw [ueCells_len, hl], .inr ⟨g, C, _, rfl, hb, h.1, by omega, hc, by simpa using h.2, ?_⟩⟩
  have : n * 4 = (ueCells l).length := by rw [ueCells_len, hl]
  rw [this]
  simp

theorem RowU.cell {w : World} {g C : Nat} {cs : List Value} (h : RowU w g C cs) (j : Nat) : w.cell? ⟨g, j, none⟩ = cs[j]? := by
  rw [cell_of_row w g j _ _ (0, 0) h.1]
  simp

theorem RowU.lt {w : World} {g C : Nat} {cs : List Value} (h : RowU w g C cs) : g < w.heap.size := (Array.getElem?_eq_some_iff.1 h.1).1

theorem ueCells_drop (l : List UE) (i : Nat) : ueCells (l.drop i) = (ueCells l).drop (i * 4) := by
  by_cases h : i ≤ l.length
  · have e : ueCells l = ueCells (l.take i) ++ ueCells (l.drop i) := by rw [← ueCells_append, List.take_append_drop]
    have hl : (ueCells (l.take i)).length = i * 4 := by rw [ueCells_len, List.length_take]; omega
    rw [e, ← hl, List.drop_left]
  · rw [List.drop_of_length_le (by omega), List.drop_of_length_le (by rw [ueCells_len]; omega)]
    rfl

/-- The cells of a row from the i-th upload on. -/
theorem OwnU.src {w : World} {base g n C : Nat} {l : List UE} (h : OwnU w base (some ⟨g, 0, none⟩) n C l) (i : Nat) : ∀ j v, (ueCells (l.drop i))[j]? = some v → w.cell? ((⟨g, i * 4, none⟩ : Addr).add j) = some v := by
  intro j v hj
  rw [ueCells_drop, List.getElem?_drop] at hj
  have hlt := (List.getElem?_eq_some_iff.1 hj).1
  have hc := World.ownsRow.cellAt h (i * 4 + j) (by rw [ueCells_len] at hlt; have := h.len; omega)
  rw [Addr.add_lit]
  exact hc.trans hj

theorem OwnU.src0 {w : World} {base g n C : Nat} {l : List UE} (h : OwnU w base (some ⟨g, 0, none⟩) n C l) (i : Nat) : ∀ j v, (ueCells (l.take i))[j]? = some v → w.cell? ((⟨g, 0, none⟩ : Addr).add j) = some v := by
  intro j v hj
  have e : ueCells l = ueCells (l.take i) ++ ueCells (l.drop i) := by rw [← ueCells_append, List.take_append_drop]
  have hlt := (List.getElem?_eq_some_iff.1 hj).1
  have hj2 : (ueCells l)[j]? = some v := by rw [e, List.getElem?_append_left hlt]; exact hj
  have hlt2 := (List.getElem?_eq_some_iff.1 hj2).1
  have hc := World.ownsRow.cellAt h j (by rw [ueCells_len] at hlt2; have := h.len; omega)
  rw [Addr.add_lit, Nat.zero_add]
  exact hc.trans hj2

/-- 'copy' of uploads into a row. -/
theorem copyU_run (w : World) (dT sT ty : TypeId) (hu : Tryz.prog.underlying dT = some (.slice 118)) (g C o dLen dCap : Nat) (P T S : List Value) (a : Addr) (sLen sCap : Nat) (zs : List UE)
    (hr : RowU w g C (P ++ T ++ S)) (hT : T.length = zs.length * 4) (ho : P.length = o) (hk : zs.length = Nat.min sLen dLen) (hsrc : ∀ j v, (ueCells zs)[j]? = some v → w.cell? (a.add j) = some v) :
    ∃ w2, (Builtin.copy_ #[dT, sT] ty #[.slice (some ⟨g, o, none⟩) dLen dCap, .slice (some a) sLen sCap]).run Tryz.prog w = .ok (goInt zs.length) w2 ∧ RowU w2 g C (P ++ ueCells zs ++ S) ∧ w.grownBy w2 (some g) := by
  obtain ⟨i0, hi, hz0, hz1, hz2⟩ := info_parts info_up
  have hl := run_loadCells_list (P := Tryz.prog) w a (ueCells zs) hsrc
  have hst := run_storeCells_at Tryz.prog g o _ (ueCells zs) 0 _ w hr.1 (by simp [ueCells_len, hT]; omega) (ueCells_one zs)
  have hzl := ueCells_len zs
  refine ⟨w.setRow g (P ++ ueCells zs ++ S).toArray, ?_, ⟨setRow_heap w g _ _ _ _ hr.1, ?_⟩, ⟨rfl, rfl, rfl, by simp, fun k _ hk => setRow_other w g k _ (fun e => hk (by simp [e]))⟩⟩
  · have e1 : ((P ++ T ++ S).toArray.toList.take (o + 0) ++ ueCells zs ++ (P ++ T ++ S).toArray.toList.drop (o + 0 + (ueCells zs).length)).toArray = (P ++ ueCells zs ++ S).toArray := by
      subst ho
      rw [hzl, ← hT]
      simp [List.drop_append]
    rw [e1] at hst
    rw [hzl] at hl
    simp [Builtin.copy_, run_underlying hu, Builtin.lenOf, Builtin.firstCells, sizeOf, typeInfo, hi, hz1, ← hk, hl, hst]
  · have := hr.2
    simp only [List.length_append] at this ⊢
    omega

/-- An append of uploads onto a row of the call's own, or onto none. -/
theorem appU_run (w : World) (base : Nat) (t tx ty : TypeId) (ht : Tryz.prog.underlying t = some (.slice 118)) (a : Option Addr) (n cap : Nat) (l : List UE) (hown : OwnU w base a n cap l)
    (x : Value) (m : Nat) (zs : List UE) (hs : Src Tryz.prog 4 tx x m (ueCells zs) w) (hm : 0 < m) (h63 : n + m ≤ 2097152) (hbase : base ≤ w.heap.size) :
    ∃ A' C' w', (Builtin.append_ #[t, tx] ty #[.slice a n cap, x]).run Tryz.prog w = .ok (.slice A' (n + m) C') w' ∧ OwnU w' base A' (n + m) C' (l ++ zs) ∧ w.grownBy w' (a.map (·.block)) := by
  obtain ⟨i0, hi, hz0, hz1, hz2⟩ := info_parts info_up
  rcases hown.2 with ⟨h0, hn0⟩ | ⟨g, cap', cur, he, hb, hg, hn, hmx, hc, htk⟩
  · injection h0 with e1 e2 e3
    subst e1 e2 e3
    have hl0 : l = [] := List.eq_nil_of_length_eq_zero hown.len
    subst hl0
    have hs' : Src Tryz.prog i0.size tx x m (ueCells zs) w := by rw [hz1]; exact hs
    have hr := run_append_grow_src (P := Tryz.prog) w t tx ty 118 i0 _ ht hi hz0 none 0 0 [] (run_firstCells_none w.drew i0.size 0 0 0) x m (ueCells zs) hs' (by omega) (by omega) (growslice_fits (by omega) (by rw [hz2]; omega))
    have hge := grownCap_ge w (0 + m) 0 118
    have hcm' : grownCap w (0 + m) 0 118 ≤ maxLen := grownCap_le_maxLen w (0 + m) 0 _ (by unfold maxLen; omega)
    have hl2 := hs.newsLen
    refine ⟨_, _, _, hr, ⟨by rw [List.nil_append, hl2]; omega, .inr ⟨w.heap.size, _, _, rfl, hbase, heap_alloc_new w.drew _, hge, hcm', ?_, ?_⟩⟩, ⟨rfl, rfl, rfl, by simp, fun k hk _ => heap_alloc_old w.drew _ hk⟩⟩
    · simp only [Array.size_append, List.size_toArray, List.nil_append, size_zeroCells, hl2]
      show m * 4 + (_ - _) * 4 = _
      omega
    · simp only [Array.toList_append, List.nil_append]
      have : (0 + m) * 4 = (ueCells zs).length := by rw [hl2]; omega
      rw [this]
      exact List.take_left
  · injection he with e1 e2 e3
    subst e1 e3
    obtain ⟨v', w', hr, ho', hg'⟩ := run_append_any (P := Tryz.prog) w base t tx ty 118 i0 _ 4 56 ht hi hz0 hz1 hz2 rfl (by decide) g n cap (ueCells l) hown x m (ueCells zs) hs (by unfold maxLen; omega) (by omega) hbase
    obtain ⟨A', C', rfl⟩ : ∃ A' C', v' = .slice A' (n + m) C' := by
      rcases ho'.2 with ⟨rfl, h0⟩ | ⟨g, cap, cur, rfl, _⟩
      · rw [h0]; exact ⟨_, _, rfl⟩
      · exact ⟨_, _, rfl⟩
    exact ⟨A', C', w', hr, by rw [OwnU, ueCells_append]; exact ho', hg'⟩

/-- 'clear' of uploads in a row. -/
theorem clearU_run (w : World) (t ty : TypeId) (hu : Tryz.prog.underlying t = some (.slice 118)) (g C o m c : Nat) (P T S : List Value) (hr : RowU w g C (P ++ T ++ S)) (hT : T.length = m * 4) (ho : P.length = o) (hm : 0 < m) :
    ∃ w2 Z, (Builtin.clear_ #[t] ty #[.slice (some ⟨g, o, none⟩) m c]).run Tryz.prog w = .ok (.tuple #[]) w2 ∧ RowU w2 g C (P ++ Z) ∧ w.grownBy w2 (some g) := by
  obtain ⟨i0, hi, hz0, hz1, hz2⟩ := info_parts info_up
  have hv : ∀ w, (zeroValue 118).run Tryz.prog w = .ok (.agg #[.string ⟨#[]⟩, .int .i64 0, .slice none 0 0, .bool false]) w := fun w => by simp [zeroValue, typeInfo, hi, hz0]
  obtain ⟨cs, hcs⟩ : ∃ cs, (Builtin.zeroCells (Value.agg #[.string ⟨#[]⟩, .int .i64 0, .slice none 0 0, .bool false]).cells m) = cs := ⟨_, rfl⟩
  have hcl : cs.size = m * 4 := by
    rw [← hcs, size_zeroCells]
    rfl
  have h1 : ∀ v ∈ cs.toList, v.oneCell' = true := by
    intro v hv'
    rw [← hcs] at hv'
    simp only [Builtin.zeroCells, Value.cells, Array.toList_map, List.mem_map] at hv'
    obtain ⟨k, _, hk⟩ := hv'
    rw [← hk]
    have : k % 4 = 0 ∨ k % 4 = 1 ∨ k % 4 = 2 ∨ k % 4 = 3 := by omega
    rcases this with h | h | h | h <;> simp [h, Value.oneCell']
  have hst := run_storeCells_at Tryz.prog g o _ cs.toList 0 _ w hr.1 (by simp [hcl, hT]; omega) h1
  obtain ⟨m', rfl⟩ : ∃ m', m = m' + 1 := ⟨m - 1, by omega⟩
  refine ⟨w.setRow g (P ++ (cs.toList ++ S)).toArray, cs.toList ++ S, ?_, ⟨setRow_heap w g _ _ _ _ hr.1, ?_⟩, ⟨rfl, rfl, rfl, by simp, fun k _ hk => setRow_other w g k _ (fun e => hk (by simp [e]))⟩⟩
  · have e1 : ((P ++ T ++ S).toArray.toList.take (o + 0) ++ cs.toList ++ (P ++ T ++ S).toArray.toList.drop (o + 0 + cs.toList.length)).toArray = (P ++ (cs.toList ++ S)).toArray := by
      have e2 : cs.toList.length = T.length := by rw [Array.length_toList, hcl, hT]
      subst ho
      rw [e2]
      simp [List.drop_append]
    rw [e1] at hst
    simp [Builtin.clear_, run_underlying hu, hv, hcs, hst]
  · have := hr.2
    simp only [List.length_append, Array.length_toList] at this ⊢
    omega

end Go.Proofs.YtogopmngbjkcjavGreatDoor
