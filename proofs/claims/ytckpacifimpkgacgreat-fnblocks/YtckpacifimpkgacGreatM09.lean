/- The program's ring of fields: the oldest dropped, as far as must be. An append onto a row of the call's own from a slice that may be nil: as an operation, as a step of a region that draws. No program in it. The library's Grow of nil, and its Concat of two slices of fields. The library's Concat of two slices of fields. The program's ring of fields: made smaller; its fields as a list; a ring of a table's fields. -/
import Derived.Test.YtckpacifimpkgacGreatM08
import Derived.Deep.RegionLaw
import Derived.Deep.AppendSrc
import Derived.Laws.AppendOwn
import Derived.WalkKit
import Derived.Test.YtckpacifimpkgacGreatM04
import Derived.Test.YtckpacifimpkgacGreatM07
import Derived.Laws.MakeOwn
import Derived.Shelf.Abstract
namespace Go.Proofs.YtckpacifimpkgacGreat
open Go.RowKit
set_option linter.unusedVariables false

theorem RingC.drop {cs : Array Value} {p : Nat} {fs : List Fld} (r : RingC cs p fs) (n : Nat) (hn : fs.length = n + 1) (z : Int) (hz : z = (szL (fs.take n) : Int)) :
    RingC ((cs.setIfInBounds 257 (.int .i64 (n : Int))).setIfInBounds 258 (.int .i64 z)) p (fs.take n) := by
  have hs := r.size
  have hl : (fs.take n).length = n := by rw [List.length_take]; omega
  have g : ∀ j, ((cs.setIfInBounds 257 (.int .i64 (n : Int))).setIfInBounds 258 (.int .i64 z))[j]? = if 258 = j then some (.int .i64 z) else if 257 = j then some (.int .i64 (n : Int)) else cs[j]? := by
    intro j
    rw [set_get _ _ _ _ (by simp; omega), set_get _ _ _ _ (by omega)]
  refine ⟨by simp; omega, r.lt, by have := r.few; omega, ?_, ?_, ?_, ?_, ?_⟩
  · rw [g, if_neg (by omega), if_neg (by omega)]; exact r.front
  · rw [g, if_neg (by omega), if_pos rfl, hl]
  · rw [g, if_pos rfl, hz]
  · intro k hk
    rw [g, if_neg (by omega), if_neg (by omega)]
    exact r.one k hk
  · intro i hi
    have h3 : (p + i) % 128 < 128 := Nat.mod_lt _ (by omega)
    have hi' : i < fs.length := by omega
    rw [g, g, if_neg (by omega), if_neg (by omega), if_neg (by omega), if_neg (by omega), List.getElem_take]
    exact r.slot i hi'

set_option maxRecDepth 10000 in
set_option maxHeartbeats 1600000 in
theorem drop_any (b p : Nat) (fs : List Fld) (n : Nat) (w : World) (h : Ring w b p fs) (hn : fs.length = n + 1) (hs : szL fs ≤ 100000) :
    Calls Tryz.prog 94 #[.pointer (some ⟨b, 0, none⟩)] w fun e w' => ∃ v, e = .returned v ∧ Ring w' b p (fs.take n) ∧ w.grownBy w' (some b) := by
  obtain ⟨cs, hcs, r⟩ := h
  have hbl : b < w.heap.size := (Array.getElem?_eq_some_iff.1 hcs).1
  have hnl : n < fs.length := by omega
  have hst := szL_take_step fs n hnl
  rw [List.take_of_length_le (by omega)] at hst
  obtain ⟨x, hx⟩ : ∃ x, (fs[n]).1 = x := ⟨_, rfl⟩
  obtain ⟨y, hy⟩ : ∃ y, (fs[n]).2 = y := ⟨_, rfl⟩
  have hsl := r.slot n hnl
  rw [hx, hy] at hst hsl
  have hfew := r.few
  have hp := r.lt
  obtain ⟨q, hq⟩ : ∃ q, (p + n) % 128 = q := ⟨_, rfl⟩
  have hq' : q < 128 := by omega
  rw [hq] at hsl
  have G0 := RG.refl hcs
  have c1 := G0.cell r.count
  rw [hn] at c1
  have f1 := G0.free 257
  have HR : Hid (RingC cs p fs) := r
  have HG0 : Hid (RG w b cs w) := G0
  have HS : Hid (cs[q * 2]? = some (.string x) ∧ cs[q * 2 + 1]? = some (.string y)) := hsl
  have HT : Hid (szL fs = szL (fs.take n) + (32 + x.size + y.size)) := hst
  have HZ : Hid ((szL fs : Int) - ((x.size : Int) + (y.size : Int) + 32) = (szL (fs.take n) : Int)) := by show _ = _; omega
  have hci : ((n + 1 : Nat) : Int) = (n : Int) + 1 := by omega
  rw [hci] at c1
  have hni : (n : Int) < 128 := by omega
  clear r hcs hst hsl G0
  go_enter Tryz.func94, Tryz.ntmps94
  go_wp2_with fail
  obtain ⟨V1, hV1⟩ : ∃ V1, w.setCell ⟨b, 257, none⟩ (.int .i64 (n : Int)) = V1 := ⟨_, rfl⟩
  have G1 : RG w b (cs.setIfInBounds 257 (.int .i64 (n : Int))) V1 := by rw [← hV1]; exact HG0.out.set _ _
  rw [hV1]
  have hz := HR.out.size
  have hg : ∀ j, j ≠ 257 → (cs.setIfInBounds 257 (.int .i64 (n : Int)))[j]? = cs[j]? := by
    intro j hj
    rw [set_get _ _ _ _ (by omega), if_neg (by omega)]
  have j2 : (cs.setIfInBounds 257 (.int .i64 (n : Int)))[258]? = some (.int .i64 (szL fs : Int)) := (hg 258 (by omega)).trans HR.out.sum
  have d0 := G1.cell ((hg 256 (by omega)).trans HR.out.front)
  have d1 := G1.cell (k := 257) (v := .int .i64 (n : Int)) (by rw [set_get _ _ _ _ (by omega), if_pos rfl])
  have d2 := G1.cell j2
  have d3 := G1.cell ((hg (q * 2) (by omega)).trans HS.out.1)
  have d4 := G1.cell ((hg (q * 2 + 1) (by omega)).trans HS.out.2)
  have HD0 : Hid (V1.drew.cell? ⟨b, 256, none⟩ = some (.int .i64 (p : Int))) := G1.drew.cell ((hg 256 (by omega)).trans HR.out.front)
  have hT := HT.out
  have hxy : x.size + y.size ≤ 100000 := by omega
  have hsi : (szL fs : Int) ≤ 100000 := by omega
  have hqi : (q : Int) < 128 := by omega
  have HP : Hid (∀ W : World, W.cell? ⟨b, 256, none⟩ = some (.int .i64 (p : Int)) → Calls Tryz.prog 95 #[.pointer (some ⟨b, 0, none⟩), .int .i64 (n : Int)] W fun e w' => e = .returned (.int .i64 ((q : Nat) : Int)) ∧ w' = W) := by
    intro W hW
    have := slot_any b p n W hW hp (by omega)
    rw [hq] at this
    exact this
  clear hg hV1 c1 f1 hT HT
  go_region_with (first
    | (go_at_call 95; refine (HP.out _ HD0.out).mono ?_; rintro e V3 ⟨rfl, rfl⟩)
    | (go_at_call 50; refine (implOf4_any x y _ (by omega)).mono ?_; rintro e V4 ⟨rfl, hb4⟩; have G4 := G1.drew.stays hb4; have n2 := G4.cell j2; have n3 := G4.free 258))
  all_goals
    have G5 := G4.set 258 (.int .i64 ((szL fs : Int) - ((x.size : Int) + (y.size : Int) + 32)))
    clear hb4 G1 d0 d1 d2 d3 d4 n2 n3
    go_wp2_with fail
    go_end0
    have hwr : IntKind.i64.wrap ((szL fs : Int) - ((x.size : Int) + (y.size : Int) + 32)) = (szL fs : Int) - ((x.size : Int) + (y.size : Int) + 32) := by
      have := HZ.out
      simp [IntKind.wrap, go_sem]
      omega
    rw [hwr]
    exact ⟨_, rfl, ⟨_, G5.block, HR.out.drop n hn _ HZ.out⟩, G5.grown⟩

end Go.Proofs.YtckpacifimpkgacGreat

namespace Go.Proofs.YtckpacifimpkgacGreat
open Go.RowKit
set_option linter.unusedVariables false

theorem run_append_src {P : Program} (w : World) (base : Nat) (t ty e : TypeId) (i : TypeInfo) (z : Value) (size bytes : Nat) (ht : P.underlying t = some (.slice e)) (hi : P.info? e = some i) (hz : i.zero = some z)
    (hsize : i.size = size) (hby : i.bytes = bytes) (hzs : z.cells.size = size) (hsz : 0 < size)
    (g n cap : Nat) (xs : List Value) (hown : w.ownsRow base e size (.slice (some ⟨g, 0, none⟩) n cap) n xs)
    (src : Option Addr) (m c : Nat) (news : List Value) (hnone : src = none → m = 0) (hl : news.length = m * size) (hnews : ∀ ad, src = some ad → ∀ j u, news[j]? = some u → w.cell? (ad.add j) = some u) (h1 : ∀ u ∈ news, u.oneCell' = true)
    (h63 : n + m ≤ maxLen) (hbytes : (n + m) * bytes ≤ 140737488355328) (hbase : base ≤ w.heap.size) :
    ∃ v' w', (Builtin.append_ #[t, t] ty #[.slice (some ⟨g, 0, none⟩) n cap, .slice src m c]).run P w = .ok v' w' ∧ w'.ownsRow base e size v' (n + m) (xs ++ news) ∧ w.grownBy w' (some g) := by
  cases src with
  | some ad =>
    obtain ⟨v', w', hr, r1, r2, _⟩ := run_append_own (P := P) w base t ty e i z size bytes ht hi hz hsize hby hzs hsz (.slice (some ⟨g, 0, none⟩) n cap) n xs hown ad m c news hl (hnews ad rfl) h1 h63 hbytes hbase
    exact ⟨v', w', hr, r1, r2⟩
  | none =>
    obtain rfl := hnone rfl
    obtain rfl : news = [] := List.eq_nil_of_length_eq_zero (by simpa using hl)
    have hcap : n ≤ cap := by
      rcases hown.2 with ⟨h, _⟩ | ⟨g', cap', cur, h, _, _, hc, _⟩
      · cases h
      · injection h with _ _ h3
        omega
    have hr := run_append_room_src (P := P) w t t ty e i ht hi g 0 n cap (.slice none 0 c) 0 [] (Src.ofNil w ht c) (by omega) (by intro j hj; simp at hj) (by intro j hj; simp at hj)
    refine ⟨_, _, hr, ?_, ?_⟩
    · rw [List.append_nil]
      exact hown
    · exact ⟨rfl, rfl, rfl, Nat.le_refl _, fun _ _ _ => rfl⟩

theorem wp_append_src {P : Program} {o : Oper} {a : Act} {w : World} {K : Act → World → Prop} {Q : Exit → Act → World → Prop} (s x : Operand) (t : TypeId)
    (ho : o.op = .call { callee := .builtin .append, args := #[s, x], argTypes := #[t, t] })
    (base : Nat) (e : TypeId) (i : TypeInfo) (z : Value) (size bytes : Nat) (ht : P.underlying t = some (.slice e)) (hi : P.info? e = some i) (hz : i.zero = some z)
    (hsize : i.size = size) (hby : i.bytes = bytes) (hzs : z.cells.size = size) (hsz : 0 < size)
    (g n cap : Nat) (xs : List Value) (hs : a.eval s = .slice (some ⟨g, 0, none⟩) n cap) (hown : w.ownsRow base e size (.slice (some ⟨g, 0, none⟩) n cap) n xs)
    (src : Option Addr) (m c : Nat) (news : List Value) (hx : a.eval x = .slice src m c) (hnone : src = none → m = 0) (hl : news.length = m * size) (hnews : ∀ ad, src = some ad → ∀ j u, news[j]? = some u → w.cell? (ad.add j) = some u) (h1 : ∀ u ∈ news, u.oneCell' = true)
    (h63 : n + m ≤ maxLen) (hbytes : (n + m) * bytes ≤ 140737488355328) (hbase : base ≤ w.heap.size)
    (h : ∀ v' w', w'.ownsRow base e size v' (n + m) (xs ++ news) → w.grownBy w' (some g) → K (a.put o.dst v') w') : o.wp P a w K Q := by
  obtain ⟨v', w', hr, h2, h3⟩ := run_append_src (P := P) w base t o.type e i z size bytes ht hi hz hsize hby hzs hsz g n cap xs hown src m c news hnone hl hnews h1 h63 hbytes hbase
  unfold Oper.wp execOp
  simp only [ho, resolve, invoke, builtin, Sem.run_bind, Sem.run_pure, Result.andThen_ok, List.map_toArray, List.map_cons, List.map_nil, hs, hx, hr]
  exact h v' w' h2 h3

theorem step_append_src {P : Program} {ops : Array Oper} {o : Oper} {a : Act} {w : World} {K : Act → World → Prop} {Q : Exit → Act → World → Prop} {E : Prop} (hg : o.guard = none) (s x : Operand) (t : TypeId)
    (ho : o.op = .call { callee := .builtin .append, args := #[s, x], argTypes := #[t, t] })
    (base : Nat) (e : TypeId) (i : TypeInfo) (z : Value) (size bytes : Nat) (ht : P.underlying t = some (.slice e)) (hi : P.info? e = some i) (hz : i.zero = some z)
    (hsize : i.size = size) (hby : i.bytes = bytes) (hzs : z.cells.size = size) (hsz : 0 < size)
    (g n cap : Nat) (xs : List Value) (hs : a.eval s = .slice (some ⟨g, 0, none⟩) n cap) (hown : w.ownsRow base e size (.slice (some ⟨g, 0, none⟩) n cap) n xs)
    (src : Option Addr) (m c : Nat) (news : List Value) (hx : a.eval x = .slice src m c) (hnone : src = none → m = 0) (hl : news.length = m * size) (hnews : ∀ ad, src = some ad → ∀ j u, news[j]? = some u → w.cell? (ad.add j) = some u) (h1 : ∀ u ∈ news, u.oneCell' = true)
    (h63 : n + m ≤ maxLen) (hbytes : (n + m) * bytes ≤ 140737488355328) (hbase : base ≤ w.heap.size)
    (h : ∀ v' w', w'.ownsRow base e size v' (n + m) (xs ++ news) → w.grownBy w' (some g) → K (a.put o.dst v') w') :
    if Region.wanted o (yielded ops a.tmps) = true then Oper.wp P o a w K Q else E := by
  have hw : Region.wanted o (yielded ops a.tmps) = true := by simp [Region.wanted, hg]
  rw [if_pos hw]
  exact wp_append_src s x t ho base e i z size bytes ht hi hz hsize hby hzs hsz g n cap xs hs hown src m c news hx hnone hl hnews h1 h63 hbytes hbase h

theorem step_call_any {P : Program} {ops : Array Oper} {o : Oper} {a : Act} {w : World} {K : Act → World → Prop} {Q : Exit → Act → World → Prop} {E : Prop}
    (hg : o.guard = none) (f : FuncId) (x : Operand) (t : TypeId) (ho : o.op = .call { callee := .value (.func f), args := #[x], argTypes := #[t] })
    (hent : ∀ args w, (callFunc f args).run P w = .ok (.enter f args) w) (u : Value) (hx : a.eval x = u) (R : Ending → World → Prop)
    (hc : Calls P f #[u] w R) (h : ∀ e w', R e w' → ∃ v, e = .returned v ∧ K (a.put o.dst v) w') :
    if Region.wanted o (yielded ops a.tmps) = true then Oper.wp P o a w K Q else E := by
  have hw : Region.wanted o (yielded ops a.tmps) = true := by simp [Region.wanted, hg]
  rw [if_pos hw]
  have hf : a.eval (.func f) = .func (.func f) #[] #[] := rfl
  unfold Oper.wp
  simp [execOp, ho, resolve, invoke, Deferred.ofValue, hent, hf, hx, Oper.upon_enter]
  refine hc.mono ?_
  intro e w' hr
  obtain ⟨v, rfl, hk⟩ := h e w' hr
  exact hk

end Go.Proofs.YtckpacifimpkgacGreat

namespace Go.Proofs.YtckpacifimpkgacGreat
open Go.RowKit
set_option linter.unusedVariables false

/-- An append of new elements onto nil. -/
theorem run_append_made {P : Program} (w : World) (t ti ty e : TypeId) (i : TypeInfo) (z : Value) (ht : P.underlying t = some (.slice e)) (hti : P.underlying ti = some (.int .i64)) (hi : P.info? e = some i) (hz : i.zero = some z)
    (n : Nat) (h0 : 0 < n) (hs : 0 < i.size) (h63 : (n : Int) ≤ 9223372036854775807) (hb : n * i.bytes ≤ 281474976710656) :
    (Builtin.append_ #[t, ti] ty #[.slice none 0 0, .int .i64 n]).run P w = .ok (.slice (some ⟨w.heap.size, 0, none⟩) n (grownCap w n 0 e)) (w.drew.alloc (.cells (Builtin.zeroCells z.cells n ++ Builtin.zeroCells z.cells (grownCap w n 0 e - n)) e)) := by
  have ha : ∀ w : World, (asInt (.int .i64 (n : Int))).run P w = .ok (n : Int) w := fun w => by simp [asInt, asIntOf]
  have hw : IntKind.i64.wrap (n : Int) = (n : Int) := by simp [IntKind.wrap, go_sem]; omega
  have hn : ¬ ((n : Int) < 0) := by omega
  have h1 : ¬ (281474976710656 < (n : Int) * (i.bytes : Int)) := by
    have : ((n * i.bytes : Nat) : Int) ≤ 281474976710656 := by omega
    rw [Int.natCast_mul] at this
    omega
  have h2 : ¬ (n = 0) := by omega
  have h3 : ¬ (n * i.size = 0) := by
    have := Nat.mul_pos h0 hs
    omega
  have h4 : ¬ (9223372036854775807 < (n : Int)) := by omega
  have h5 : Builtin.nextslicecap n 0 = n := by simp [Builtin.nextslicecap, h0]
  have h6 : ¬ (281474976710656 < n * i.bytes) := by omega
  simp [Builtin.append_, run_underlying ht, run_underlying hti, sizeOf, typeInfo, zeroValue, hi, hz, hw, hn, h1, h2, h3, h4, h5, h6, Question.forced, newRow, grownCap, Builtin.firstCells, ha]

theorem size_zeros (z : Array Value) (n : Nat) : (Builtin.zeroCells z n).size = n * z.size := by simp [Builtin.zeroCells]

theorem wpList_append_made {P : Program} (w : World) {ops : Array Oper} {rest : List Oper} {o : Oper} {a : Act} {Q : Exit → Act → World → Prop} (hg : o.guard = none) (s x : Operand) (t ti : TypeId) (ho : o.op = .call { callee := .builtin .append, args := #[s, x], argTypes := #[t, ti] })
    (e : TypeId) (i : TypeInfo) (z : Value) (ht : P.underlying t = some (.slice e)) (hti : P.underlying ti = some (.int .i64)) (hi : P.info? e = some i) (hz : i.zero = some z) (hzs : z.cells.size = i.size)
    (n : Nat) (hs : a.eval s = .slice none 0 0) (hx : a.eval x = .int .i64 n) (h0 : 0 < n) (hs0 : 0 < i.size) (h63 : n ≤ maxLen) (hb : n * i.bytes ≤ 281474976710656)
    (hK : ∀ (cap : Nat) (cur : Array Value), n ≤ cap → cap ≤ maxLen → cur.size = cap * i.size → wpList P ops Q rest (a.put o.dst (.slice (some ⟨w.heap.size, 0, none⟩) n cap)) (w.drew.alloc (.cells cur e))) : wpList P ops Q (o :: rest) a w := by
  refine wpList_plain hg fun K hK' => ?_
  have hr := run_append_made (P := P) w t ti o.type e i z ht hti hi hz n h0 hs0 (by unfold maxLen at h63; omega) hb
  unfold Oper.wp execOp
  simp only [ho, resolve, invoke, builtin, Sem.run_bind, Sem.run_pure, Result.andThen_ok, List.map_toArray, List.map_cons, List.map_nil, hs, hx, hr]
  refine hK' _ _ (hK _ _ (grownCap_ge _ _ _ _) (grownCap_le_maxLen _ _ _ _ h63) ?_)
  have := grownCap_ge w n 0 e
  rw [Array.size_append, size_zeros, size_zeros, hzs, ← Nat.add_mul]
  congr 1
  omega

set_option maxRecDepth 10000 in
set_option maxHeartbeats 800000 in
theorem grow_any (n : Nat) (w : World) (h0 : 0 < n) (hn : n ≤ 2097300) :
    Calls Tryz.prog 88 #[.slice none 0 0, .int .i64 n] w fun e w' => ∃ g cap, e = .returned (.slice (some ⟨g, 0, none⟩) 0 cap) ∧ OwnF w' w.heap.size (.slice (some ⟨g, 0, none⟩) 0 cap) 0 [] ∧ Below w.heap.size w w' := by
  obtain ⟨i0, hi, hz0, hz1, hz2⟩ := info_parts info_field
  have HA : Hid (0 < i0.size ∧ n ≤ maxLen ∧ n * i0.bytes ≤ 281474976710656) := ⟨by rw [hz1]; omega, by unfold maxLen; omega, by rw [hz2]; omega⟩
  have hpos : (0 : Int) < (n : Int) := by omega
  have hbig : (n : Int) ≤ 2097300 := by omega
  go_enter Tryz.func88, Tryz.ntmps88
  go_wp2_with (first | (refine wpList_append_made _ rfl _ _ 24 3 rfl 43 i0 (.agg #[.string ⟨#[]⟩, .string ⟨#[]⟩]) Tryz.underlying24 Tryz.underlying3 hi hz0 (by rw [hz1]; rfl) n rfl rfl h0 HA.out.1 HA.out.2.1 HA.out.2.2 ?_; intro cap cur hc1 hc2 hc3; have hci : (0 : Int) ≤ (cap : Int) := by omega) | fail)
  go_ret
  refine ⟨_, cap, rfl, ⟨?_, fun f hf => by cases hf⟩, (Below.refl _ _).drew.alloc (Nat.le_refl _) _⟩
  rw [hz1] at hc3
  exact World.ownsRow_made w.drew cur cap (Nat.le_refl _) hc2 hc3

end Go.Proofs.YtckpacifimpkgacGreat

namespace Go.Proofs.YtckpacifimpkgacGreat
open Go.RowKit
set_option linter.unusedVariables false

theorem row_some {w : World} {base n : Nat} {e : TypeId} {s : Nat} {v : Value} {xs : List Value} (h : w.ownsRow base e s v n xs) (hn : 0 < n) : ∃ g cap, v = .slice (some ⟨g, 0, none⟩) n cap ∧ base ≤ g ∧ g < w.heap.size := by
  rcases h.2 with ⟨_, h0⟩ | ⟨g, cap, cur, rfl, hb, hg, _⟩
  · omega
  · exact ⟨g, cap, rfl, hb, (Array.getElem?_eq_some_iff.1 hg).1⟩

set_option maxRecDepth 10000 in
set_option maxHeartbeats 1600000 in
theorem concat_any (g c : Nat) (a1 a2 : Option Addr) (n1 n2 c1 c2 : Nat) (xs ys : List Fld) (w : World) (hg : w.heap[g]? = some (.cells #[.slice a1 n1 c1, .slice a2 n2 c2] 24 (0, 0))) (h1 : Flds w a1 n1 xs) (h2 : Flds w a2 n2 ys) (h0 : 0 < n1) (hl1 : n1 ≤ 100) (hl2 : n2 ≤ 2097152) :
    Calls Tryz.prog 72 #[.slice (some ⟨g, 0, none⟩) 2 2] w fun e w' => ∃ g' cap, e = .returned (.slice (some ⟨g', 0, none⟩) (n1 + n2) cap) ∧ OwnF w' w.heap.size (.slice (some ⟨g', 0, none⟩) (n1 + n2) cap) (n1 + n2) (xs ++ ys) ∧ Below w.heap.size w w' := by
  obtain ⟨i0, hi, hz0, hz1, hz2⟩ := info_parts info_field
  have hgl := (Array.getElem?_eq_some_iff.1 hg).1
  have k0 : w.cell? ⟨g, 0, none⟩ = some (.slice a1 n1 c1) := by rw [cell_of_row _ _ _ _ _ _ hg]; rfl
  have k1 : w.cell? ⟨g, 1, none⟩ = some (.slice a2 n2 c2) := by rw [cell_of_row _ _ _ _ _ _ hg]; rfl
  have HK : Hid (∀ W, Below w.heap.size w W → W.cell? ⟨g, 0, none⟩ = some (.slice a1 n1 c1) ∧ W.cell? ⟨g, 1, none⟩ = some (.slice a2 n2 c2) ∧ Flds W a1 n1 xs ∧ Flds W a2 n2 ys) := fun W hW =>
    ⟨(hW.cell (p := ⟨_, _, none⟩) hgl).trans k0, (hW.cell (p := ⟨_, _, none⟩) hgl).trans k1, h1.below hW, h2.below hW⟩
  have HX : Hid (xs.length = n1 ∧ ys.length = n2 ∧ (a1 = none → n1 = 0) ∧ (a2 = none → n2 = 0)) := ⟨h1.1, h2.1, fun h => h1.none_nil h, fun h => h2.none_nil h⟩
  have HS : Hid ((∀ f ∈ xs, f.1.size ≤ maxLen ∧ f.2.size ≤ maxLen) ∧ (∀ f ∈ ys, f.1.size ≤ maxLen ∧ f.2.size ≤ maxLen)) := ⟨h1.2.1, h2.2.1⟩
  have HA : Hid (0 + n1 ≤ maxLen ∧ (0 + n1) * 32 ≤ 140737488355328 ∧ (fieldCells xs).length = n1 * 2 ∧ n1 + n2 ≤ maxLen ∧ (n1 + n2) * 32 ≤ 140737488355328 ∧ (fieldCells ys).length = n2 * 2) := by
    have e1 := h1.1
    have e2 := h2.1
    refine ⟨by unfold maxLen; omega, by omega, by rw [fieldCells_len]; omega, by unfold maxLen; omega, by omega, by rw [fieldCells_len]; omega⟩
  clear h1 h2 hg hgl
  go_enter Tryz.func72, Tryz.ntmps72
  go_wp2_with fail
  go_loopw [3, 11] (fun v i wr => w = wr ∧ ((i = .int .i64 0 ∧ v = .int .i64 0) ∨ (i = .int .i64 1 ∧ v = .int .i64 n1) ∨ (i = .int .i64 2 ∧ v = .int .i64 (n1 + n2 : Nat)))) (fun _ i _ => 2 - (intOf i).toNat)
  case atStart => exact ⟨rfl, .inl ⟨rfl, rfl⟩⟩
  case round =>
    obtain ⟨rfl, ⟨rfl, rfl⟩ | ⟨rfl, rfl⟩ | ⟨rfl, rfl⟩⟩ := hrel
    · go_wp2
      go_roundw
      case rel => exact ⟨by first | rfl | trivial, .inr (.inl ⟨rfl, rfl⟩)⟩
      case measure => simp [intOf]
    · have hp : (0 : Int) ≤ (n1 : Int) + (n2 : Int) := by omega
      go_wp2
      go_roundw
      case rel => exact ⟨by first | rfl | trivial, .inr (.inr ⟨rfl, by go_num⟩)⟩
      case measure => simp [intOf]
    · clear k0 k1
      go_wp2_with fail
      refine (grow_any (n1 + n2) _ (by omega) (by omega)).mono ?_
      rintro e w1 ⟨g1, cap1, rfl, hown1, hb1⟩
      have HO1 : Hid (OwnF w1 w.heap.size (.slice (some ⟨g1, 0, none⟩) 0 cap1) 0 []) := hown1
      have HB1 : Hid (Below w.heap.size w w1) := hb1
      clear hown1 hb1
      go_wp2_with fail
      go_loopw [6, 27] (fun v i wr => Hid (Below w.heap.size w wr) ∧ ((i = .int .i64 0 ∧ ∃ g cap, v = .slice (some ⟨g, 0, none⟩) 0 cap ∧ Hid (OwnF wr w.heap.size (.slice (some ⟨g, 0, none⟩) 0 cap) 0 [])) ∨ (i = .int .i64 1 ∧ ∃ g cap, v = .slice (some ⟨g, 0, none⟩) n1 cap ∧ Hid (OwnF wr w.heap.size (.slice (some ⟨g, 0, none⟩) n1 cap) n1 xs)) ∨ (i = .int .i64 2 ∧ ∃ g cap, v = .slice (some ⟨g, 0, none⟩) (n1 + n2) cap ∧ Hid (OwnF wr w.heap.size (.slice (some ⟨g, 0, none⟩) (n1 + n2) cap) (n1 + n2) (xs ++ ys))))) (fun _ i _ => 2 - (intOf i).toNat)
      case atStart => exact ⟨HB1, .inl ⟨rfl, g1, cap1, rfl, HO1⟩⟩
      case round =>
        clear HO1 HB1
        obtain ⟨HB, ⟨rfl, g2, cap2, rfl, HO⟩ | ⟨rfl, g2, cap2, rfl, HO⟩ | ⟨rfl, g2, cap2, rfl, HO⟩⟩ := hrel
        · have k0 := (HK.out _ HB.out).1
          go_wp2_with (first | (refine wpList_plain rfl fun K hK => ?_; refine wp_append_src (.tmp 31) (.tmp 32) 24 rfl w.heap.size 43 i0 (.agg #[.string ⟨#[]⟩, .string ⟨#[]⟩]) 2 32 Tryz.underlying24 hi hz0 hz1 hz2 rfl (by decide) g2 0 cap2 [] rfl HO.out.1 a1 n1 c1 (fieldCells xs) rfl HX.out.2.2.1 HA.out.2.2.1 (HK.out _ HB.out).2.2.1.cells (fieldCells_one xs) HA.out.1 HA.out.2.1 HB.out.size ?_; intro v4 w4 hown hgrow; obtain ⟨g4, cap4, rfl, hg4, hg4'⟩ := row_some hown (by omega); refine hK _ _ ?_) | fail)
          have hlo : w.heap.size ≤ g2 := (HO.out.1.lt _ rfl).1
          have HB4 : Hid (Below w.heap.size w w4) := HB.out.grown hgrow HB.out.size (fun k hk => by injection hk with hk; omega)
          have HO4 : Hid (OwnF w4 w.heap.size (.slice (some ⟨g4, 0, none⟩) n1 cap4) n1 xs) := by
            refine ⟨?_, HS.out.1⟩
            have := hown
            rw [Nat.zero_add, List.nil_append] at this
            exact this
          clear hown hgrow
          go_roundw
          case rel => exact ⟨HB4, .inr (.inl ⟨rfl, g4, cap4, rfl, HO4⟩)⟩
          case measure => simp [intOf]
        · have k1 := (HK.out _ HB.out).2.1
          go_wp2_with (first | (refine wpList_plain rfl fun K hK => ?_; refine wp_append_src (.tmp 31) (.tmp 32) 24 rfl w.heap.size 43 i0 (.agg #[.string ⟨#[]⟩, .string ⟨#[]⟩]) 2 32 Tryz.underlying24 hi hz0 hz1 hz2 rfl (by decide) g2 n1 cap2 (fieldCells xs) rfl HO.out.1 a2 n2 c2 (fieldCells ys) rfl HX.out.2.2.2 HA.out.2.2.2.2.2 (HK.out _ HB.out).2.2.2.cells (fieldCells_one ys) HA.out.2.2.2.1 HA.out.2.2.2.2.1 HB.out.size ?_; intro v4 w4 hown hgrow; obtain ⟨g4, cap4, rfl, hg4, hg4'⟩ := row_some hown (by omega); refine hK _ _ ?_) | fail)
          have hlo : w.heap.size ≤ g2 := (HO.out.1.lt _ rfl).1
          have HB4 : Hid (Below w.heap.size w w4) := HB.out.grown hgrow HB.out.size (fun k hk => by injection hk with hk; omega)
          have HO4 : Hid (OwnF w4 w.heap.size (.slice (some ⟨g4, 0, none⟩) (n1 + n2) cap4) (n1 + n2) (xs ++ ys)) := by
            refine ⟨?_, fun f hf => ?_⟩
            · rw [fieldCells_append]
              exact hown
            · rcases List.mem_append.1 hf with h | h
              · exact HS.out.1 f h
              · exact HS.out.2 f h
          clear hown hgrow
          go_roundw
          case rel => exact ⟨HB4, .inr (.inr ⟨rfl, g4, cap4, rfl, HO4⟩)⟩
          case measure => simp [intOf]
        · go_wp2
          go_ret
          exact ⟨g2, cap2, rfl, HO.out, HB.out⟩

end Go.Proofs.YtckpacifimpkgacGreat

namespace Go.Proofs.YtckpacifimpkgacGreat
open Go.RowKit Go.Shelf
set_option linter.unusedVariables false

/-- How many of the newest fields are left for most bytes: all, or as many as fit. -/
def Left (most : Int) (fs : List Fld) (k : Nat) : Prop := k ≤ fs.length ∧ (k = 0 ∨ (szL (fs.take k) : Int) ≤ most) ∧ (k = fs.length ∨ most < (szL (fs.take (k + 1)) : Int))

theorem gb_trans {w W V : World} {b : Nat} (h : w.grownBy W (some b)) (k : W.grownBy V (some b)) : w.grownBy V (some b) :=
  ⟨k.os.trans h.os, k.tape.trans h.tape, k.output.trans h.output, Nat.le_trans h.size k.size, fun q hq hne => (k.block q (Nat.lt_of_lt_of_le hq h.size) hne).trans (h.block q hq hne)⟩

/-- The count in the ring's block. -/
def cntIn (b : Nat) (W : World) : Nat := match W.cell? ⟨b, 257, none⟩ with | some (.int _ n) => n.toNat | _ => 0

theorem Ring.cells {W : World} {b p : Nat} {fs : List Fld} (h : Ring W b p fs) : W.cell? ⟨b, 256, none⟩ = some (.int .i64 (p : Int)) ∧ W.cell? ⟨b, 257, none⟩ = some (.int .i64 (fs.length : Int)) ∧ W.cell? ⟨b, 258, none⟩ = some (.int .i64 (szL fs : Int)) := by
  obtain ⟨cs, h, r⟩ := h
  exact ⟨(cell_of_row _ _ _ _ _ _ h).trans r.front, (cell_of_row _ _ _ _ _ _ h).trans r.count, (cell_of_row _ _ _ _ _ _ h).trans r.sum⟩

theorem Ring.cnt {W : World} {b p : Nat} {fs : List Fld} (h : Ring W b p fs) : cntIn b W = fs.length := by
  rw [cntIn, h.cells.2.1]
  exact Int.toNat_natCast _

set_option maxRecDepth 10000 in
set_option maxHeartbeats 1600000 in
theorem shrink_any (b p : Nat) (fs : List Fld) (most : Int) (w : World) (h : Ring w b p fs) (hs : szL fs ≤ 100000) :
    Calls Tryz.prog 80 #[.pointer (some ⟨b, 0, none⟩), .int .i64 most] w fun e w' => ∃ v k, e = .returned v ∧ Left most fs k ∧ Ring w' b p (fs.take k) ∧ w.grownBy w' (some b) := by
  have HR : Hid (Ring w b p fs) := h
  clear h
  go_enter Tryz.func80, Tryz.ntmps80
  go_wp2_with fail
  go_loopw [] (fun wr => ∃ k, k ≤ fs.length ∧ Hid (Ring wr b p (fs.take k)) ∧ Hid (w.grownBy wr (some b)) ∧ Hid (k = fs.length ∨ most < (szL (fs.take (k + 1)) : Int))) (fun wr => cntIn b wr)
  case atStart => exact ⟨fs.length, Nat.le_refl _, by rw [List.take_length]; exact HR, ⟨rfl, rfl, rfl, Nat.le_refl _, fun _ _ _ => rfl⟩, .inl rfl⟩
  case round =>
    clear HR
    obtain ⟨k, hk, HR, HG, HL⟩ := hrel
    have hl : (fs.take k).length = k := by rw [List.length_take]; omega
    obtain ⟨_, c1, c2⟩ := HR.out.cells
    rw [hl] at c1
    have hcn := HR.out.cnt
    rw [hl] at hcn
    have hz : szL (fs.take k) ≤ 100000 := Nat.le_trans (szL_take_le fs k) hs
    cases k with
    | zero =>
      go_wp2
      go_end0
      exact ⟨_, 0, rfl, ⟨Nat.zero_le _, .inl rfl, HL.out⟩, HR.out, HG.out⟩
    | succ n =>
      have hn0 : (0 : Int) < ((n + 1 : Nat) : Int) := by omega
      by_cases hm : most < (szL (fs.take (n + 1)) : Int)
      · go_wp2_with fail
        refine (drop_any b p (fs.take (n + 1)) n _ HR.out hl hz).mono ?_
        rintro e V ⟨v, rfl, hR, hG⟩
        have HR2 : Hid (Ring V b p (fs.take n)) := by
          show Ring _ _ _ _
          have := hR
          rw [List.take_take, show min n (n + 1) = n by omega] at this
          exact this
        have HG2 : Hid (w.grownBy V (some b)) := gb_trans HG.out hG
        have hc2 := HR2.out.cnt
        rw [List.length_take, show min n fs.length = n by omega] at hc2
        clear hR hG c1 c2
        go_wp2
        go_roundw
        case rel => exact ⟨n, by omega, HR2, HG2, .inr hm⟩
        case measure => rw [hcn, hc2]; omega
      · go_wp2
        go_end0
        have hL : Left most fs (n + 1) := ⟨hk, .inr (by omega), HL.out⟩
        first
          | exact ⟨_, n + 1, rfl, hL, HR.out, HG.out⟩
          | exact ⟨⟨_, rfl⟩, n + 1, hL, HR.out, HG.out⟩

theorem step_call_two {P : Program} {ops : Array Oper} {o : Oper} {a : Act} {w : World} {K : Act → World → Prop} {Q : Exit → Act → World → Prop} {E : Prop}
    (hg : o.guard = none) (f : FuncId) (x y : Operand) (t t' : TypeId) (ho : o.op = .call { callee := .value (.func f), args := #[x, y], argTypes := #[t, t'] })
    (hent : ∀ args w, (callFunc f args).run P w = .ok (.enter f args) w) (u v : Value) (hx : a.eval x = u) (hy : a.eval y = v) (R : Ending → World → Prop)
    (hc : Calls P f #[u, v] w R) (h : ∀ e w', R e w' → ∃ v, e = .returned v ∧ K (a.put o.dst v) w') :
    if Region.wanted o (yielded ops a.tmps) = true then Oper.wp P o a w K Q else E := by
  have hw : Region.wanted o (yielded ops a.tmps) = true := by simp [Region.wanted, hg]
  rw [if_pos hw]
  have hf : a.eval (.func f) = .func (.func f) #[] #[] := rfl
  unfold Oper.wp
  simp [execOp, ho, resolve, invoke, Deferred.ofValue, hent, hf, hx, hy, Oper.upon_enter]
  refine hc.mono ?_
  intro e w' hr
  obtain ⟨v, rfl, hk⟩ := h e w' hr
  exact hk

theorem wpList_make_own {P : Program} (w : World) {ops : Array Oper} {rest : List Oper} {o : Oper} {a : Act} {Q : Exit → Act → World → Prop}
    (hg : o.guard = none) (l c : Operand) (t : TypeId) (hop : o.op = Op.makeSlice t l c)
    (e : TypeId) (i : TypeInfo) (z : Value) (h1 : P.underlying t = some (.slice e)) (h2 : P.info? e = some i) (h3 : i.zero = some z) (m : Nat) (hl : a.eval l = .int .i64 0) (hc : a.eval c = .int .i64 (m : Int)) (hb : i.bytes * m ≤ 281474976710656) (hm : m ≤ maxLen)
    (hK : ∀ w', w'.ownsRow w.heap.size e i.size (.slice (some ⟨w.heap.size, 0, none⟩) 0 m) 0 [] → Below w.heap.size w w' → wpList P ops Q rest (a.put o.dst (.slice (some ⟨w.heap.size, 0, none⟩) 0 m)) w') :
    wpList P ops Q (o :: rest) a w := by
  refine wpList_plain hg fun K hK' => ?_
  have hm' : (m : Int) ≤ 9223372036854775807 := by unfold maxLen at hm; omega
  have hr := run_make (P := P) w t e i z h1 h2 h3 .i64 .i64 0 (m : Int) (by omega) (by omega) (by rw [← Int.natCast_mul]; omega) hm'
  simp only [Int.toNat_natCast, Int.toNat_zero] at hr
  unfold Oper.wp
  simp [execOp, hop, hl, hc, hr, Result.andThen]
  refine hK' _ _ (hK _ (World.ownsRow_made w _ m (Nat.le_refl _) hm ?_) ((Below.refl _ _).alloc (Nat.le_refl _) _))
  simp [madeCells]

theorem Ring.at {W : World} {b p : Nat} {fs : List Fld} (h : Ring W b p fs) (i : Nat) (hi : i < fs.length) : W.cell? ⟨b, (p + i) % 128 * 2, none⟩ = some (.string (fs[i]).1) ∧ W.cell? ⟨b, (p + i) % 128 * 2 + 1, none⟩ = some (.string (fs[i]).2) := by
  obtain ⟨cs, h, r⟩ := h
  exact ⟨(cell_of_row _ _ _ _ _ _ h).trans (r.slot i hi).1, (cell_of_row _ _ _ _ _ _ h).trans (r.slot i hi).2⟩

theorem Ring.few {W : World} {b p : Nat} {fs : List Fld} (h : Ring W b p fs) : fs.length ≤ 128 ∧ p < 128 := by
  obtain ⟨cs, h, r⟩ := h
  exact ⟨r.few, r.lt⟩

theorem two_new (w : World) (x y : ByteArray) (t : TypeId) : ∀ ad, (some ⟨w.heap.size, 0, none⟩ : Option Addr) = some ad → ∀ j u, (fieldCells [(x, y)])[j]? = some u → (w.alloc (.cells #[.string x, .string y] t)).cell? (ad.add j) = some u := by
  intro ad e j u hj
  injection e with e
  subst e
  have hadd : (⟨w.heap.size, 0, none⟩ : Addr).add j = ⟨w.heap.size, j, none⟩ := by unfold Addr.add; split <;> simp_all
  rw [hadd, cell_of_row _ _ _ _ _ _ (heap_alloc_new w (.cells #[.string x, .string y] t))]
  simpa [fieldCells] using hj

set_option maxRecDepth 10000 in
set_option maxHeartbeats 1600000 in
theorem list_any (b p : Nat) (fs : List Fld) (w : World) (h : Ring w b p fs) (hf : ∀ f ∈ fs, f.1.size ≤ maxLen ∧ f.2.size ≤ maxLen) :
    Calls Tryz.prog 82 #[.pointer (some ⟨b, 0, none⟩)] w fun e w' => ∃ v, e = .returned v ∧ OwnF w' w.heap.size v fs.length fs ∧ Below w.heap.size w w' := by
  have HR : Hid (Ring w b p fs) := h
  obtain ⟨i0, hi, hz0, hz1, hz2⟩ := info_parts info_field
  obtain ⟨c0, c1, c2⟩ := h.cells
  obtain ⟨hfew, hp⟩ := h.few
  clear h
  have HF : Hid (∀ f ∈ fs, f.1.size ≤ maxLen ∧ f.2.size ≤ maxLen) := hf
  have HMk : Hid (i0.bytes * fs.length ≤ 281474976710656 ∧ fs.length ≤ maxLen) := ⟨by rw [hz2]; omega, by unfold maxLen; omega⟩
  have HEnt : Hid (∀ args w, (callFunc 95 args).run Tryz.prog w = .ok (.enter 95 args) w) := enters_of Tryz.func95 (by kernel_rfl) rfl
  go_enter Tryz.func82, Tryz.ntmps82
  go_wp2_with (first | (refine wpList_make_own _ rfl _ _ 24 rfl 43 i0 (.agg #[.string ⟨#[]⟩, .string ⟨#[]⟩]) Tryz.underlying24 hi hz0 fs.length rfl rfl HMk.out.1 HMk.out.2 ?_; intro w1 hown1 hb1; have c1' := (HR.out.stays hb1).cells.2.1) | fail)
  rw [hz1] at hown1
  have HO1 : Hid (w1.ownsRow w.heap.size 43 2 (.slice (some ⟨w.heap.size, 0, none⟩) 0 fs.length) 0 []) := hown1
  have HB1 : Hid (Below w.heap.size w w1) := hb1
  have HBl : Hid (b < w.heap.size) := HR.out.lt
  clear hown1 hb1 c0 c1 c2 c1'
  go_loopw [3, 14] (fun v i wr => ∃ (k g cap : Nat), k ≤ fs.length ∧ i = .int .i64 (k : Int) ∧ v = .slice (some ⟨g, 0, none⟩) k cap ∧ Hid (wr.ownsRow w.heap.size 43 2 (.slice (some ⟨g, 0, none⟩) k cap) k (fieldCells (fs.take k))) ∧ Hid (Below w.heap.size w wr)) (fun _ i _ => fs.length - (intOf i).toNat)
  case atStart => exact ⟨0, w.heap.size, fs.length, Nat.zero_le _, rfl, rfl, HO1, HB1⟩
  case round =>
    clear HO1 HB1
    obtain ⟨k, g, cap, hk, rfl, rfl, HO, HB⟩ := hrel
    by_cases hlt : k < fs.length
    · have hR := HR.out.stays HB.out
      have hat := hR.at k hlt
      have hpk := slot_any b p k wr.drew hR.cells.1 hp (by omega)
      obtain ⟨q, hq⟩ : ∃ q, (p + k) % 128 = q := ⟨_, rfl⟩
      obtain ⟨x, hx⟩ : ∃ x, (fs[k]).1 = x := ⟨_, rfl⟩
      obtain ⟨y, hy⟩ : ∃ y, (fs[k]).2 = y := ⟨_, rfl⟩
      rw [hq] at hpk hat
      rw [hx, hy] at hat
      obtain ⟨a0, a1⟩ := hat
      have HPk : Hid (Calls Tryz.prog 95 #[.pointer (some ⟨b, 0, none⟩), .int .i64 (k : Int)] wr.drew fun e w' => e = .returned (.int .i64 (q : Int)) ∧ w' = wr.drew) := hpk
      have HNx : Hid (fieldCells (fs.take (k + 1)) = fieldCells (fs.take k) ++ fieldCells [(x, y)]) := by
        show _ = _
        rw [← fieldCells_append, List.take_add_one, List.getElem?_eq_getElem hlt, ← hx, ← hy]
        rfl
      have HOd : Hid ((wr.drew.alloc (.cells #[.string x, .string y] 43)).ownsRow w.heap.size 43 2 (.slice (some ⟨g, 0, none⟩) k cap) k (fieldCells (fs.take k))) := World.ownsRow.alloc (w := wr.drew) HO.out _
      have HAr : Hid (k + 1 ≤ maxLen ∧ (k + 1) * 32 ≤ 140737488355328) := ⟨by unfold maxLen; omega, by omega⟩
      have HSz : Hid (w.heap.size ≤ (wr.drew.alloc (.cells #[.string x, .string y] 43)).heap.size) := by show _ ≤ _; rw [World.size_alloc]; exact Nat.le_succ_of_le HB.out.size
      have HN : Hid (∀ ad, (some ⟨wr.heap.size, 0, none⟩ : Option Addr) = some ad → ∀ j u, (fieldCells [(x, y)])[j]? = some u → (wr.drew.alloc (.cells #[.string x, .string y] 43)).cell? (ad.add j) = some u) := two_new wr.drew x y _
      have hq' : q < 128 := by omega
      have hqi : (q : Int) < 128 := by omega
      have hki : (k : Int) < (fs.length : Int) := by omega
      have hkb : (k : Int) ≤ 128 := by omega
      clear hpk hR hx hy hq
      go_wp2_with fail
      go_region_law (first
        | (refine step_call_two rfl 95 (.tmp 19) (.tmp 20) 124 3 rfl HEnt.out (.pointer (some ⟨b, 0, none⟩)) (.int .i64 (k : Int)) rfl rfl _ HPk.out ?_; rintro e W ⟨rfl, rfl⟩; refine ⟨_, rfl, ?_⟩)
        | (refine step_append_src rfl (.tmp 17) (.tmp 26) 24 rfl w.heap.size 43 i0 (.agg #[.string ⟨#[]⟩, .string ⟨#[]⟩]) 2 32 Tryz.underlying24 hi hz0 hz1 hz2 rfl (by decide) g k cap (fieldCells (fs.take k)) rfl HOd.out (some ⟨wr.heap.size, 0, none⟩) 1 1 (fieldCells [(x, y)]) rfl (fun h => by cases h) rfl HN.out (fieldCells_one _) HAr.out.1 HAr.out.2 HSz.out ?_; intro v4 w4 hown hgrow; obtain ⟨g4, cap4, rfl, hg4, hg4'⟩ := row_some hown (by omega)))
      have hlo : w.heap.size ≤ g := (HO.out.lt _ rfl).1
      have HB4 : Hid (Below w.heap.size w w4) := ((HB.out.drew).alloc HB.out.size _).grown hgrow HSz.out (fun q hq => by injection hq with hq; omega)
      have HO4 : Hid (w4.ownsRow w.heap.size 43 2 (.slice (some ⟨g4, 0, none⟩) (k + 1) cap4) (k + 1) (fieldCells (fs.take (k + 1)))) := by
        show World.ownsRow _ _ _ _ _ _ _
        rw [HNx.out]
        exact hown
      clear hown hgrow
      go_wp2
      go_roundw
      case rel => exact ⟨k + 1, g4, cap4, by omega, by go_num, rfl, HO4, HB4⟩
      case measure => simp [intOf]; omega
    · obtain rfl : k = fs.length := by omega
      have HO2 : Hid (OwnF wr w.heap.size (.slice (some ⟨g, 0, none⟩) fs.length cap) fs.length fs) := by
        refine ⟨?_, HF.out⟩
        have := HO.out
        rw [List.take_length] at this
        exact this
      go_wp2
      go_ret
      exact ⟨_, rfl, HO2.out, HB.out⟩

end Go.Proofs.YtckpacifimpkgacGreat
