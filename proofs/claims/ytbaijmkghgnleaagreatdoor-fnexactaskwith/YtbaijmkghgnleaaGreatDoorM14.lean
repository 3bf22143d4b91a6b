/- An append onto a row of the call's own from a slice that may be nil: as an operation, as a step of a region that draws. No program in it. The library's Grow of nil, and its Concat of two slices of fields. The library's Concat of two slices of fields. -/
import Derived.Deep.RegionLaw
import Derived.Deep.AppendSrc
import Derived.Laws.AppendOwn
import Derived.WalkKit
import Derived.Test.YtbaijmkghgnleaaGreatDoorM05
import Derived.Test.YtbaijmkghgnleaaGreatDoorM10
namespace Go.Proofs.YtbaijmkghgnleaaGreatDoor
open Go.RowKit
set_option linter.unusedVariables false

theorem run_append_src {P : Program} (w : World) (base : Nat) (t ty e : TypeId) (i : TypeInfo) (z : Value) (size bytes : Nat) (ht : P.underlying t = some (.slice e)) (hi : P.info? e = some i) (hz : i.zero = some z)
    (hsize : i.size = size) (hby : i.bytes = bytes) (hzs : z.cells.size = size) (hsz : 0 < size)
    (g n cap : Nat) (xs : List Value) (hown : w.ownsRow base e size (.slice (some ⟨g, 0, none⟩) n cap) n xs)
    (src : Option Addr) (m c : Nat) (news : List Value) (hnone : src = none → m = 0) (hl : news.length = m * size) (hnews : ∀ ad, src = some ad → ∀ j u, news[j]? = some u → w.cell? (ad.add j) = some u) (h1 : ∀ u ∈ news, u.oneCell' = true)
    (h63 : n + m ≤ maxLen) (hbytes : (n + m) * bytes ≤ 140737488355328) (hbase : base ≤ w.heap.size) :
    ∃ v' w', (Builtin.append_ #[t, t] ty #[.slice (some ⟨g, 0, none⟩) n cap, .slice src m c]).run P w = .ok v' w' ∧ w'.ownsRow base e size v' (n + m) (xs ++ news) ∧ w.grownBy w' (some g) := by
  cases src with
  | some ad =>
    obtain ⟨v', w', hr, r1, r2, _⟩ := run_append_own (P := P) w base t ty e i z size bytes ht hi hz hsize hby hzs hsz (.slice (some ⟨g, 0, none⟩) n cap) n xs hown ad m c news hl (hnews ad rfl) h1 h63 hbytes hbase
    exact ⟨v', w', hr, r1, r2⟩
  | none =>
    obtain rfl := hnone rfl
    obtain rfl : news = [] := List.eq_nil_of_length_eq_zero (by simpa using hl)
    have hcap : n ≤ cap := by
      rcases hown.2 with ⟨h, _⟩ | ⟨g', cap', cur, h, _, _, hc, _⟩
      · cases h
      · injection h with _ _ h3
        omega
    have hr := run_append_room_src (P := P) w t t ty e i ht hi g 0 n cap (.slice none 0 c) 0 [] (Src.ofNil w ht c) (by omega) (by intro j hj; simp at hj) (by intro j hj; simp at hj)
    refine ⟨_, _, hr, ?_, ?_⟩
    · rw [List.append_nil]
      exact hown
    · exact ⟨rfl, rfl, rfl, Nat.le_refl _, fun _ _ _ => rfl⟩

theorem wp_append_src {P : Program} {o : Oper} {a : Act} {w : World} {K : Act → World → Prop} {Q : Exit → Act → World → Prop} (s x : Operand) (t : TypeId)
    (ho : o.op = .call { callee := .builtin .append, args := #[s, x], argTypes := #[t, t] })
    (base : Nat) (e : TypeId) (i : TypeInfo) (z : Value) (size bytes : Nat) (ht : P.underlying t = some (.slice e)) (hi : P.info? e = some i) (hz : i.zero = some z)
    (hsize : i.size = size) (hby : i.bytes = bytes) (hzs : z.cells.size = size) (hsz : 0 < size)
    (g n cap : Nat) (xs : List Value) (hs : a.eval s = .slice (some ⟨g, 0, none⟩) n cap) (hown : w.ownsRow base e size (.slice (some ⟨g, 0, none⟩) n cap) n xs)
    (src : Option Addr) (m c : Nat) (news : List Value) (hx : a.eval x = .slice src m c) (hnone : src = none → m = 0) (hl : news.length = m * size) (hnews : ∀ ad, src = some ad → ∀ j u, news[j]? = some u → w.cell? (ad.add j) = some u) (h1 : ∀ u ∈ news, u.oneCell' = true)
    (h63 : n + m ≤ maxLen) (hbytes : (n + m) * bytes ≤ 140737488355328) (hbase : base ≤ w.heap.size)
    (h : ∀ v' w', w'.ownsRow base e size v' (n + m) (xs ++ news) → w.grownBy w' (some g) → K (a.put o.dst v') w') : o.wp P a w K Q := by
  obtain ⟨v', w', hr, h2, h3⟩ := run_append_src (P := P) w base t o.type e i z size bytes ht hi hz hsize hby hzs hsz g n cap xs hown src m c news hnone hl hnews h1 h63 hbytes hbase
  unfold Oper.wp execOp
  simp only [ho, resolve, invoke, builtin, Sem.run_bind, Sem.run_pure, Result.andThen_ok, List.map_toArray, List.map_cons, List.map_nil, hs, hx, hr]
  exact h v' w' h2 h3

theorem step_append_src {P : Program} {ops : Array Oper} {o : Oper} {a : Act} {w : World} {K : Act → World → Prop} {Q : Exit → Act → World → Prop} {E : Prop} (hg : o.guard = none) (s x : Operand) (t : TypeId)
    (ho : o.op = .call { callee := .builtin .append, args := #[s, x], argTypes := #[t, t] })
    (base : Nat) (e : TypeId) (i : TypeInfo) (z : Value) (size bytes : Nat) (ht : P.underlying t = some (.slice e)) (hi : P.info? e = some i) (hz : i.zero = some z)
    (hsize : i.size = size) (hby : i.bytes = bytes) (hzs : z.cells.size = size) (hsz : 0 < size)
    (g n cap : Nat) (xs : List Value) (hs : a.eval s = .slice (some ⟨g, 0, none⟩) n cap) (hown : w.ownsRow base e size (.slice (some ⟨g, 0, none⟩) n cap) n xs)
    (src : Option Addr) (m c : Nat) (news : List Value) (hx : a.eval x = .slice src m c) (hnone : src = none → m = 0) (hl : news.length = m * size) (hnews : ∀ ad, src = some ad → ∀ j u, news[j]? = some u → w.cell? (ad.add j) = some u) (h1 : ∀ u ∈ news, u.oneCell' = true)
    (h63 : n + m ≤ maxLen) (hbytes : (n + m) * bytes ≤ 140737488355328) (hbase : base ≤ w.heap.size)
    (h : ∀ v' w', w'.ownsRow base e size v' (n + m) (xs ++ news) → w.grownBy w' (some g) → K (a.put o.dst v') w') :
    if Region.wanted o (yielded ops a.tmps) = true then Oper.wp P o a w K Q else E := by
  have hw : Region.wanted o (yielded ops a.tmps) = true := by simp [Region.wanted, hg]
  rw [if_pos hw]
  exact wp_append_src s x t ho base e i z size bytes ht hi hz hsize hby hzs hsz g n cap xs hs hown src m c news hx hnone hl hnews h1 h63 hbytes hbase h

theorem step_call_any {P : Program} {ops : Array Oper} {o : Oper} {a : Act} {w : World} {K : Act → World → Prop} {Q : Exit → Act → World → Prop} {E : Prop}
    (hg : o.guard = none) (f : FuncId) (x : Operand) (t : TypeId) (ho : o.op = .call { callee := .value (.func f), args := #[x], argTypes := #[t] })
    (hent : ∀ args w, (callFunc f args).run P w = .ok (.enter f args) w) (u : Value) (hx : a.eval x = u) (R : Ending → World → Prop)
    (hc : Calls P f #[u] w R) (h : ∀ e w', R e w' → ∃ v, e = .returned v ∧ K (a.put o.dst v) w') :
    if Region.wanted o (yielded ops a.tmps) = true then Oper.wp P o a w K Q else E := by
  have hw : Region.wanted o (yielded ops a.tmps) = true := by simp [Region.wanted, hg]
  rw [if_pos hw]
  have hf : a.eval (.func f) = .func (.func f) #[] #[] := rfl
  unfold Oper.wp
  simp [execOp, ho, resolve, invoke, Deferred.ofValue, hent, hf, hx, Oper.upon_enter]
  refine hc.mono ?_
  intro e w' hr
  obtain ⟨v, rfl, hk⟩ := h e w' hr
  exact hk

end Go.Proofs.YtbaijmkghgnleaaGreatDoor

namespace Go.Proofs.YtbaijmkghgnleaaGreatDoor
open Go.RowKit
set_option linter.unusedVariables false

/-- An append of new elements onto nil. -/
theorem run_append_made {P : Program} (w : World) (t ti ty e : TypeId) (i : TypeInfo) (z : Value) (ht : P.underlying t = some (.slice e)) (hti : P.underlying ti = some (.int .i64)) (hi : P.info? e = some i) (hz : i.zero = some z)
    (n : Nat) (h0 : 0 < n) (hs : 0 < i.size) (h63 : (n : Int) ≤ 9223372036854775807) (hb : n * i.bytes ≤ 281474976710656) :
    (Builtin.append_ #[t, ti] ty #[.slice none 0 0, .int .i64 n]).run P w = .ok (.slice (some ⟨w.heap.size, 0, none⟩) n (grownCap w n 0 e)) (w.drew.alloc (.cells (Builtin.zeroCells z.cells n ++ Builtin.zeroCells z.cells (grownCap w n 0 e - n)) e)) := by
  have ha : ∀ w : World, (asInt (.int .i64 (n : Int))).run P w = .ok (n : Int) w := fun w => by simp [asInt, asIntOf]
  have hw : IntKind.i64.wrap (n : Int) = (n : Int) := by simp [IntKind.wrap, go_sem]; omega
  have hn : ¬ ((n : Int) < 0) := by omega
  have h1 : ¬ (281474976710656 < (n : Int) * (i.bytes : Int)) := by
    have : ((n * i.bytes : Nat) : Int) ≤ 281474976710656 := by omega
    rw [Int.natCast_mul] at this
    omega
  have h2 : ¬ (n = 0) := by omega
  have h3 : ¬ (n * i.size = 0) := by
    have := Nat.mul_pos h0 hs
    omega
  have h4 : ¬ (9223372036854775807 < (n : Int)) := by omega
  have h5 : Builtin.nextslicecap n 0 = n := by simp [Builtin.nextslicecap, h0]
  have h6 : ¬ (281474976710656 < n * i.bytes) := by omega
  simp [Builtin.append_, run_underlying ht, run_underlying hti, sizeOf, typeInfo, zeroValue, hi, hz, hw, hn, h1, h2, h3, h4, h5, h6, Question.forced, newRow, grownCap, Builtin.firstCells, ha]

theorem size_zeros (z : Array Value) (n : Nat) : (Builtin.zeroCells z n).size = n * z.size := by simp [Builtin.zeroCells]

theorem wpList_append_made {P : Program} (w : World) {ops : Array Oper} {rest : List Oper} {o : Oper} {a : Act} {Q : Exit → Act → World → Prop} (hg : o.guard = none) (s x : Operand) (t ti : TypeId) (ho : o.op = .call { callee := .builtin .append, args := #[s, x], argTypes := #[t, ti] })
    (e : TypeId) (i : TypeInfo) (z : Value) (ht : P.underlying t = some (.slice e)) (hti : P.underlying ti = some (.int .i64)) (hi : P.info? e = some i) (hz : i.zero = some z) (hzs : z.cells.size = i.size)
    (n : Nat) (hs : a.eval s = .slice none 0 0) (hx : a.eval x = .int .i64 n) (h0 : 0 < n) (hs0 : 0 < i.size) (h63 : n ≤ maxLen) (hb : n * i.bytes ≤ 281474976710656)
    (hK : ∀ (cap : Nat) (cur : Array Value), n ≤ cap → cap ≤ maxLen → cur.size = cap * i.size → wpList P ops Q rest (a.put o.dst (.slice (some ⟨w.heap.size, 0, none⟩) n cap)) (w.drew.alloc (.cells cur e))) : wpList P ops Q (o :: rest) a w := by
  refine wpList_plain hg fun K hK' => ?_
  have hr := run_append_made (P := P) w t ti o.type e i z ht hti hi hz n h0 hs0 (by unfold maxLen at h63; omega) hb
  unfold Oper.wp execOp
  simp only [ho, resolve, invoke, builtin, Sem.run_bind, Sem.run_pure, Result.andThen_ok, List.map_toArray, List.map_cons, List.map_nil, hs, hx, hr]
  refine hK' _ _ (hK _ _ (grownCap_ge _ _ _ _) (grownCap_le_maxLen _ _ _ _ h63) ?_)
  have := grownCap_ge w n 0 e
  rw [Array.size_append, size_zeros, size_zeros, hzs, ← Nat.add_mul]
  congr 1
  omega

set_option maxRecDepth 10000 in
set_option maxHeartbeats 800000 in
theorem grow_any (n : Nat) (w : World) (h0 : 0 < n) (hn : n ≤ 2097300) :
    Calls Tryz.prog 109 #[.slice none 0 0, .int .i64 n] w fun e w' => ∃ g cap, e = .returned (.slice (some ⟨g, 0, none⟩) 0 cap) ∧ OwnF w' w.heap.size (.slice (some ⟨g, 0, none⟩) 0 cap) 0 [] ∧ Below w.heap.size w w' := by
  obtain ⟨i0, hi, hz0, hz1, hz2⟩ := info_parts info_field
  have HA : Hid (0 < i0.size ∧ n ≤ maxLen ∧ n * i0.bytes ≤ 281474976710656) := ⟨by rw [hz1]; omega, by unfold maxLen; omega, by rw [hz2]; omega⟩
  have hpos : (0 : Int) < (n : Int) := by omega
  have hbig : (n : Int) ≤ 2097300 := by omega
  go_enter Tryz.func109, Tryz.ntmps109
  go_wp2_with (first | (refine wpList_append_made _ rfl _ _ 30 3 rfl 69 i0 (.agg #[.string ⟨#[]⟩, .string ⟨#[]⟩]) Tryz.underlying30 Tryz.underlying3 hi hz0 (by rw [hz1]; rfl) n rfl rfl h0 HA.out.1 HA.out.2.1 HA.out.2.2 ?_; intro cap cur hc1 hc2 hc3; have hci : (0 : Int) ≤ (cap : Int) := by omega) | fail)
  go_ret
  refine ⟨_, cap, rfl, ⟨?_, fun f hf => by cases hf⟩, (Below.refl _ _).drew.alloc (Nat.le_refl _) _⟩
  rw [hz1] at hc3
  exact World.ownsRow_made w.drew cur cap (Nat.le_refl _) hc2 hc3

end Go.Proofs.YtbaijmkghgnleaaGreatDoor

namespace Go.Proofs.YtbaijmkghgnleaaGreatDoor
open Go.RowKit
set_option linter.unusedVariables false

theorem row_some {w : World} {base n : Nat} {e : TypeId} {s : Nat} {v : Value} {xs : List Value} (h : w.ownsRow base e s v n xs) (hn : 0 < n) : ∃ g cap, v = .slice (some ⟨g, 0, none⟩) n cap ∧ base ≤ g ∧ g < w.heap.size := by
  rcases h.2 with ⟨_, h0⟩ | ⟨g, cap, cur, rfl, hb, hg, _⟩
  · omega
  · exact ⟨g, cap, rfl, hb, (Array.getElem?_eq_some_iff.1 hg).1⟩

set_option maxRecDepth 10000 in
set_option maxHeartbeats 1600000 in
theorem concat_any (g c : Nat) (a1 a2 : Option Addr) (n1 n2 c1 c2 : Nat) (xs ys : List Fld) (w : World) (hg : w.heap[g]? = some (.cells #[.slice a1 n1 c1, .slice a2 n2 c2] 30 (0, 0))) (h1 : Flds w a1 n1 xs) (h2 : Flds w a2 n2 ys) (h0 : 0 < n1) (hl1 : n1 ≤ 100) (hl2 : n2 ≤ 2097152) :
    Calls Tryz.prog 93 #[.slice (some ⟨g, 0, none⟩) 2 2] w fun e w' => ∃ g' cap, e = .returned (.slice (some ⟨g', 0, none⟩) (n1 + n2) cap) ∧ OwnF w' w.heap.size (.slice (some ⟨g', 0, none⟩) (n1 + n2) cap) (n1 + n2) (xs ++ ys) ∧ Below w.heap.size w w' := by
  obtain ⟨i0, hi, hz0, hz1, hz2⟩ := info_parts info_field
  have hgl := (Array.getElem?_eq_some_iff.1 hg).1
  have k0 : w.cell? ⟨g, 0, none⟩ = some (.slice a1 n1 c1) := by rw [cell_of_row _ _ _ _ _ _ hg]; rfl
  have k1 : w.cell? ⟨g, 1, none⟩ = some (.slice a2 n2 c2) := by rw [cell_of_row _ _ _ _ _ _ hg]; rfl
  have HK : Hid (∀ W, Below w.heap.size w W → W.cell? ⟨g, 0, none⟩ = some (.slice a1 n1 c1) ∧ W.cell? ⟨g, 1, none⟩ = some (.slice a2 n2 c2) ∧ Flds W a1 n1 xs ∧ Flds W a2 n2 ys) := fun W hW =>
    ⟨(hW.cell (p := ⟨_, _, none⟩) hgl).trans k0, (hW.cell (p := ⟨_, _, none⟩) hgl).trans k1, h1.below hW, h2.below hW⟩
  have HX : Hid (xs.length = n1 ∧ ys.length = n2 ∧ (a1 = none → n1 = 0) ∧ (a2 = none → n2 = 0)) := ⟨h1.1, h2.1, fun h => h1.none_nil h, fun h => h2.none_nil h⟩
  have HS : Hid ((∀ f ∈ xs, f.1.size ≤ maxLen ∧ f.2.size ≤ maxLen) ∧ (∀ f ∈ ys, f.1.size ≤ maxLen ∧ f.2.size ≤ maxLen)) := ⟨h1.2.1, h2.2.1⟩
  have HA : Hid (0 + n1 ≤ maxLen ∧ (0 + n1) * 32 ≤ 140737488355328 ∧ (fieldCells xs).length = n1 * 2 ∧ n1 + n2 ≤ maxLen ∧ (n1 + n2) * 32 ≤ 140737488355328 ∧ (fieldCells ys).length = n2 * 2) := by
    have e1 := h1.1
    have e2 := h2.1
    refine ⟨by unfold maxLen; omega, by omega, by rw [fieldCells_len]; omega, by unfold maxLen; omega, by omega, by rw [fieldCells_len]; omega⟩
  clear h1 h2 hg hgl
  go_enter Tryz.func93, Tryz.ntmps93
  go_wp2_with fail
  go_loopw [3, 11] (fun v i wr => w = wr ∧ ((i = .int .i64 0 ∧ v = .int .i64 0) ∨ (i = .int .i64 1 ∧ v = .int .i64 n1) ∨ (i = .int .i64 2 ∧ v = .int .i64 (n1 + n2 : Nat)))) (fun _ i _ => 2 - (intOf i).toNat)
  case atStart => exact ⟨rfl, .inl ⟨rfl, rfl⟩⟩
  case round =>
    obtain ⟨rfl, ⟨rfl, rfl⟩ | ⟨rfl, rfl⟩ | ⟨rfl, rfl⟩⟩ := hrel
    · go_wp2
      go_roundw
      case rel => exact ⟨by first | rfl | trivial, .inr (.inl ⟨rfl, rfl⟩)⟩
      case measure => simp [intOf]
    · have hp : (0 : Int) ≤ (n1 : Int) + (n2 : Int) := by omega
      go_wp2
      go_roundw
      case rel => exact ⟨by first | rfl | trivial, .inr (.inr ⟨rfl, by go_num⟩)⟩
      case measure => simp [intOf]
    · clear k0 k1
      go_wp2_with fail
      refine (grow_any (n1 + n2) _ (by omega) (by omega)).mono ?_
      rintro e w1 ⟨g1, cap1, rfl, hown1, hb1⟩
      have HO1 : Hid (OwnF w1 w.heap.size (.slice (some ⟨g1, 0, none⟩) 0 cap1) 0 []) := hown1
      have HB1 : Hid (Below w.heap.size w w1) := hb1
      clear hown1 hb1
      go_wp2_with fail
      go_loopw [6, 27] (fun v i wr => Hid (Below w.heap.size w wr) ∧ ((i = .int .i64 0 ∧ ∃ g cap, v = .slice (some ⟨g, 0, none⟩) 0 cap ∧ Hid (OwnF wr w.heap.size (.slice (some ⟨g, 0, none⟩) 0 cap) 0 [])) ∨ (i = .int .i64 1 ∧ ∃ g cap, v = .slice (some ⟨g, 0, none⟩) n1 cap ∧ Hid (OwnF wr w.heap.size (.slice (some ⟨g, 0, none⟩) n1 cap) n1 xs)) ∨ (i = .int .i64 2 ∧ ∃ g cap, v = .slice (some ⟨g, 0, none⟩) (n1 + n2) cap ∧ Hid (OwnF wr w.heap.size (.slice (some ⟨g, 0, none⟩) (n1 + n2) cap) (n1 + n2) (xs ++ ys))))) (fun _ i _ => 2 - (intOf i).toNat)
      case atStart => exact ⟨HB1, .inl ⟨rfl, g1, cap1, rfl, HO1⟩⟩
      case round =>
        clear HO1 HB1
        obtain ⟨HB, ⟨rfl, g2, cap2, rfl, HO⟩ | ⟨rfl, g2, cap2, rfl, HO⟩ | ⟨rfl, g2, cap2, rfl, HO⟩⟩ := hrel
        · have k0 := (HK.out _ HB.out).1
          go_wp2_with (first | (refine wpList_plain rfl fun K hK => ?_; refine wp_append_src (.tmp 31) (.tmp 32) 30 rfl w.heap.size 69 i0 (.agg #[.string ⟨#[]⟩, .string ⟨#[]⟩]) 2 32 Tryz.underlying30 hi hz0 hz1 hz2 rfl (by decide) g2 0 cap2 [] rfl HO.out.1 a1 n1 c1 (fieldCells xs) rfl HX.out.2.2.1 HA.out.2.2.1 (HK.out _ HB.out).2.2.1.cells (fieldCells_one xs) HA.out.1 HA.out.2.1 HB.out.size ?_; intro v4 w4 hown hgrow; obtain ⟨g4, cap4, rfl, hg4, hg4'⟩ := row_some hown (by omega); refine hK _ _ ?_) | fail)
          have hlo : w.heap.size ≤ g2 := (HO.out.1.lt _ rfl).1
          have HB4 : Hid (Below w.heap.size w w4) := HB.out.grown hgrow HB.out.size (fun k hk => by injection hk with hk; omega)
          have HO4 : Hid (OwnF w4 w.heap.size (.slice (some ⟨g4, 0, none⟩) n1 cap4) n1 xs) := by
            refine ⟨?_, HS.out.1⟩
            have := hown
            rw [Nat.zero_add, List.nil_append] at this
            exact this
          clear hown hgrow
          go_roundw
          case rel => exact ⟨HB4, .inr (.inl ⟨rfl, g4, cap4, rfl, HO4⟩)⟩
          case measure => simp [intOf]
        · have k1 := (HK.out _ HB.out).2.1
          go_wp2_with (first | (refine wpList_plain rfl fun K hK => ?_; refine wp_append_src (.tmp 31) (.tmp 32) 30 rfl w.heap.size 69 i0 (.agg #[.string ⟨#[]⟩, .string ⟨#[]⟩]) 2 32 Tryz.underlying30 hi hz0 hz1 hz2 rfl (by decide) g2 n1 cap2 (fieldCells xs) rfl HO.out.1 a2 n2 c2 (fieldCells ys) rfl HX.out.2.2.2 HA.out.2.2.2.2.2 (HK.out _ HB.out).2.2.2.cells (fieldCells_one ys) HA.out.2.2.2.1 HA.out.2.2.2.2.1 HB.out.size ?_; intro v4 w4 hown hgrow; obtain ⟨g4, cap4, rfl, hg4, hg4'⟩ := row_some hown (by omega); refine hK _ _ ?_) | fail)
          have hlo : w.heap.size ≤ g2 := (HO.out.1.lt _ rfl).1
          have HB4 : Hid (Below w.heap.size w w4) := HB.out.grown hgrow HB.out.size (fun k hk => by injection hk with hk; omega)
          have HO4 : Hid (OwnF w4 w.heap.size (.slice (some ⟨g4, 0, none⟩) (n1 + n2) cap4) (n1 + n2) (xs ++ ys)) := by
            refine ⟨?_, fun f hf => ?_⟩
            · rw [fieldCells_append]
              exact hown
            · rcases List.mem_append.1 hf with h | h
              · exact HS.out.1 f h
              · exact HS.out.2 f h
          clear hown hgrow
          go_roundw
          case rel => exact ⟨HB4, .inr (.inr ⟨rfl, g4, cap4, rfl, HO4⟩)⟩
          case measure => simp [intOf]
        · go_wp2
          go_ret
          exact ⟨g2, cap2, rfl, HO.out, HB.out⟩

end Go.Proofs.YtbaijmkghgnleaaGreatDoor
