/- A region that draws its order, whose operations only read and whose callees leave all that was there: walked once, in the order of the text. No program in it. What the laws' own functions do with uploads: the size, the copy, the comparison. The copy of uploads. How great rows of texts are. The copy of a row of texts. Rows of texts against themselves. Disks held against themselves. What the laws' own functions do with a disk: the size, the copy. -/
import Derived.Test.YtclkfjlnhcccdaaGreatDoorM01
import Derived.Deep.QuietTactic
import Derived.Test.YtclkfjlnhcccdaaGreatDoorM05
import Derived.Test.YtclkfjlnhcccdaaGreatDoorM04
import Derived.Test.YtclkfjlnhcccdaaGreatDoorM05
import Derived.Test.YtclkfjlnhcccdaaGreatDoorM05
namespace Go.Proofs.YtclkfjlnhcccdaaGreatDoor
open Go.RowKit

/-- A world in which all that lay in w is as it was. -/
structure Past (w : World) where
  world : World
  below : Below w.heap.size w world

theorem wp_region_past {P : Program} {id : Nat} {Q : Exit → Act → World → Prop} {a : Act} {w : World} {l : List Oper} (hm : P.follows .mixedOrders = true) (hB : Region.lexB .any l.toArray = true)
    (h : wpQuiet P l.toArray (fun w' => ∃ p : Past w, w' = p.world) (fun a' => ∀ w', (∃ p : Past w, w' = p.world) → Q .normal a' w') l a) : (Code.region id l.toArray true).wp P Q a w :=
  wp_region_quiet (C := fun w' => ∃ p : Past w, w' = p.world) hm hB ⟨⟨w.drew, (Below.refl _ _).drew⟩, rfl⟩ (by simpa using h)

theorem calls_past {P : Program} {f : FuncId} {args : Array Value} {w : World} {p : Past w} {v : Value}
    (h : Calls P f args p.world fun e w' => e = .returned v ∧ Below p.world.heap.size p.world w') : Calls P f args p.world fun e w'' => e = .returned v ∧ ∃ p : Past w, w'' = p.world :=
  h.mono fun _ w' ⟨he, hb⟩ => ⟨he, ⟨w', p.below.trans (hb.mono p.below.size)⟩, rfl⟩

/-- One operation that is wanted. -/
theorem quiet_do {P : Program} {ops : Array Oper} {C : World → Prop} {Q : Act → Prop} {a : Act} {o : Oper} {rest : List Oper} (hw : Region.wanted o (yielded ops a.tmps) = true)
    (h : ∀ K : Act → Prop, (∀ a, wpQuiet P ops C Q rest a → K a) → o.quiet P a C K) : wpQuiet P ops C Q (o :: rest) a :=
  wpQuiet_step fun K hK => by rw [if_pos hw]; exact h K hK

/-- One that is not. -/
theorem quiet_skip {P : Program} {ops : Array Oper} {C : World → Prop} {Q : Act → Prop} {a : Act} {o : Oper} {rest : List Oper} (hw : Region.wanted o (yielded ops a.tmps) = false)
    (h : ∀ K : Act → Prop, (∀ a, wpQuiet P ops C Q rest a → K a) → K (a.put o.dst undef)) : wpQuiet P ops C Q (o :: rest) a :=
  wpQuiet_step fun K hK => by rw [if_neg (by rw [hw]; simp)]; exact h K hK

/-- One that is not: what is behind it. -/
theorem quiet_past {P : Program} {ops : Array Oper} {C : World → Prop} {Q : Act → Prop} {a : Act} {o : Oper} {rest : List Oper} (hw : Region.wanted o (yielded ops a.tmps) = false) (h : wpQuiet P ops C Q rest (a.put o.dst undef)) : wpQuiet P ops C Q (o :: rest) a :=
  quiet_skip hw fun _ hK => hK _ h

/-- As wp_region_past, the region's row hidden behind a name: then what an unwanted operation would do is not looked at. -/
theorem wp_region_pastO {P : Program} {id : Nat} {Q : Exit → Act → World → Prop} {a : Act} {w : World} {l : List Oper} (hm : P.follows .mixedOrders = true) (hB : Region.lexB .any l.toArray = true)
    (h : ∀ ops : Array Oper, Hid (ops = l.toArray) → wpQuiet P ops (fun w' => ∃ p : Past w, w' = p.world) (fun a' => ∀ w', (∃ p : Past w, w' = p.world) → Q .normal a' w') l a) : (Code.region id l.toArray true).wp P Q a w :=
  wp_region_past hm hB (h _ rfl)

theorem past_some (w : World) : Nonempty (Past w) := ⟨⟨w, Below.refl _ _⟩⟩

theorem Past.cell {w : World} (p : Past w) {a : Addr} {v : Value} (hb : a.block < w.heap.size) (h : w.cell? a = some v) : p.world.cell? a = some v := (p.below.cell hb).trans h

end Go.Proofs.YtclkfjlnhcccdaaGreatDoor

namespace Go.Proofs.YtclkfjlnhcccdaaGreatDoor
open Go.RowKit
set_option linter.unusedVariables false

set_option maxRecDepth 10000 in
set_option maxHeartbeats 800000 in
theorem szUp_any (x : UE) (m : Int) (w : World) (hn : 0 ≤ m) (hn2 : m ≤ 1048576) (hi : x.u.id.size ≤ maxLen) (hl : x.n ≤ maxLen) :
    Calls Tryz.prog 73 #[.agg #[.string x.u.id, .int .i64 x.u.want, .slice x.a x.n x.c, .bool x.u.done], .int .i64 m] w fun r w' => (∃ L : Int, r = .returned (.int .i64 L) ∧ (L < 0 ∨ (x.u.id.size ≤ 1048576 ∧ x.n ≤ 1048576 ∧ 0 ≤ L ∧ L ≤ m))) ∧ Below w.heap.size w w' := by
  have hm : maxLen < 9223372036854775808 := by decide
  have HB : Hid (Below w.heap.size w (w.alloc (.cells #[.string x.u.id, .int .i64 x.u.want, .slice x.a x.n x.c, .bool x.u.done] 104))) := (Below.refl _ _).alloc (Nat.le_refl _) _
  by_cases h1 : m - (x.u.id.size : Int) < 0
  · go_enter Tryz.func73, Tryz.ntmps73
    go_wp2_with fail
    go_ret
    exact ⟨⟨-1, rfl, .inl (by omega)⟩, HB.out⟩
  by_cases h2 : m - (x.u.id.size : Int) - (x.n : Int) < 0
  · go_enter Tryz.func73, Tryz.ntmps73
    go_wp2
    go_ret
    exact ⟨⟨-1, rfl, .inl (by omega)⟩, HB.out⟩
  · go_enter Tryz.func73, Tryz.ntmps73
    go_wp2
    go_ret
    exact ⟨⟨m - (x.u.id.size : Int) - (x.n : Int), rfl, .inr ⟨by omega, by omega, by omega, by omega⟩⟩, HB.out⟩

/-- How great uploads may be. -/
def SzU (n : Nat) (l : List UE) : Prop := n ≤ 1048576 ∧ ∀ e ∈ l, e.u.id.size ≤ 1048576 ∧ e.n ≤ 1048576

set_option maxRecDepth 10000 in
set_option maxHeartbeats 800000 in
theorem szUpS_any (a : Option Addr) (n c : Nat) (l : List UE) (m : Int) (w : World) (hx : UpsI w a n l) (hn : 0 ≤ m) (hn2 : m ≤ 1048576) (hl : n ≤ maxLen) :
    Calls Tryz.prog 41 #[.slice a n c, .int .i64 m] w fun e w' => (∃ L : Int, e = .returned (.int .i64 L) ∧ (L < 0 ∨ (SzU n l ∧ 0 ≤ L ∧ L ≤ m))) ∧ Below w.heap.size w w' := by
  have HX : Hid (UpsI w a n l) := hx
  clear hx
  have hm : maxLen < 9223372036854775808 := by decide
  by_cases h0 : m - n < 0
  · go_enter Tryz.func41, Tryz.ntmps41
    go_wp2
    go_ret
    exact ⟨⟨-1, rfl, .inl (by omega)⟩, Below.refl _ _⟩
  · go_enter Tryz.func41, Tryz.ntmps41
    go_wp2
    go_loopw [1, 5] (fun v i wr => ∃ (k : Nat) (u : Int), k ≤ n ∧ i = .int .i64 k ∧ v = .int .i64 u ∧ 0 ≤ u ∧ u ≤ m ∧ Hid (∀ j (hj : j < l.length), j < k → (l[j]).u.id.size ≤ 1048576 ∧ (l[j]).n ≤ 1048576) ∧ Hid (Below w.heap.size w wr)) (fun _ i _ => n - (intOf i).toNat)
    case atStart => exact ⟨0, m - n, Nat.zero_le _, rfl, rfl, by omega, by omega, fun j _ hj => absurd hj (Nat.not_lt_zero _), Below.refl _ _⟩
    case round =>
      obtain ⟨k, u, hk, rfl, rfl, hu, hum, HJ, HW⟩ := hrel
      by_cases hlt : k < n
      · have hkl : k < l.length := by rw [HX.out.1]; exact hlt
        obtain ⟨b, off, rfl, hb, g0, g1, g2, g3⟩ := (HX.out.below HW.out).at hkl
        have hsz := HX.out.2.1 (l[k]) (List.getElem_mem hkl)
        have HJ2 : Hid ((l[k]).u.id.size ≤ 1048576 ∧ (l[k]).n ≤ 1048576 → ∀ j (hj : j < l.length), j < k + 1 → (l[j]).u.id.size ≤ 1048576 ∧ (l[j]).n ≤ 1048576) := fun h j hj hjk => by
          by_cases e : j = k
          · subst e; exact h
          · exact HJ.out j hj (by omega)
        have hs1 := hsz.1
        have hs2 := hsz.2.1
        clear hsz HJ
        have hki : (k : Int) < (n : Int) := by omega
        have hk0 : (0 : Int) ≤ (k : Int) := by omega
        have hu2 : u ≤ 1048576 := by omega
        generalize l[k] = x at *
        go_wp2_with fail
        refine (szUp_any x u _ hu hu2 hs1 hs2).mono ?_
        rintro e x3 ⟨⟨L, rfl, hL⟩, hb3⟩
        have HB3 : Hid (Below w.heap.size w x3) := HW.out.trans (hb3.mono HW.out.size)
        have HL : Hid (L < 0 ∨ (x.u.id.size ≤ 1048576 ∧ x.n ≤ 1048576 ∧ 0 ≤ L ∧ L ≤ u)) := hL
        clear hb3 hL g0 g1 g2 g3
        by_cases hneg : L < 0
        · go_wp2
          go_ret
          exact ⟨⟨-1, rfl, .inl (by omega)⟩, HB3.out⟩
        · have h4 : x.u.id.size ≤ 1048576 ∧ x.n ≤ 1048576 ∧ 0 ≤ L ∧ L ≤ u := by
            rcases HL.out with h | h
            · exact absurd h hneg
            · exact h
          have HJ3 := HJ2.out ⟨h4.1, h4.2.1⟩
          have hL2 : L ≤ u := h4.2.2.2
          clear h4
          have HJ4 : Hid (∀ j (hj : j < l.length), j < k + 1 → (l[j]).u.id.size ≤ 1048576 ∧ (l[j]).n ≤ 1048576) := HJ3
          clear HJ3
          go_wp2
          go_roundw
          case rel => exact ⟨k + 1, L, by omega, by go_num, rfl, by omega, by omega, HJ4, HB3⟩
          case measure => simp [intOf]; omega
      · have HS : Hid (SzU n l) := ⟨by omega, fun e he => by
          obtain ⟨j, hj, rfl⟩ := List.getElem_of_mem he
          exact HJ.out j hj (by have := HX.out.1; omega)⟩
        clear HJ
        go_wp2
        go_ret
        exact ⟨⟨u, rfl, .inr ⟨HS.out, hu, hum⟩⟩, HW.out⟩

set_option maxRecDepth 10000 in
set_option maxHeartbeats 1600000 in
theorem toUp_any (x : UE) (w : World) (hs : Seg w x.a x.n x.u.zs) (hl : x.n ≤ 1048576) :
    Calls Tryz.prog 79 #[.agg #[.string x.u.id, .int .i64 x.u.want, .slice x.a x.n x.c, .bool x.u.done]] w fun r w' => (∃ g, r = .returned (.agg #[.string x.u.id, .int .i64 x.u.want, .slice (some ⟨g, 0, none⟩) x.n x.n, .bool x.u.done]) ∧ Owns w' w.heap.size (some ⟨g, 0, none⟩) x.n x.n x.u.zs) ∧ Below w.heap.size w w' := by
  have HS : Hid (Seg w x.a x.n x.u.zs) := hs
  clear hs
  obtain ⟨W0, hW0⟩ : ∃ W0, (((w.alloc (.cells #[.string x.u.id, .int .i64 x.u.want, .slice x.a x.n x.c, .bool x.u.done] 104)).alloc (.cells #[.string ⟨#[]⟩, .int .i64 0, .slice none 0 0, .bool false] 112)).alloc (.cells #[.string x.u.id, .int .i64 x.u.want, .slice none 0 0, .bool false] 112)) = W0 := ⟨_, rfl⟩
  have HE : Hid ((((w.alloc (.cells #[.string x.u.id, .int .i64 x.u.want, .slice x.a x.n x.c, .bool x.u.done] 104)).alloc (.cells #[.string ⟨#[]⟩, .int .i64 0, .slice none 0 0, .bool false] 112)).alloc (.cells #[.string x.u.id, .int .i64 x.u.want, .slice none 0 0, .bool false] 112)) = W0) := hW0
  have HB : Hid (Below w.heap.size w W0) := by show Below _ _ _; rw [← hW0]; exact (((Below.refl _ _).alloc (Nat.le_refl _) _).alloc (by simp) _).alloc (by simp; omega) _
  have HZ : Hid (W0.heap.size = w.heap.size + 3) := by show _ = _; rw [← hW0]; simp
  have HI : Hid (BoxN W0 w.heap.size 104 [.string x.u.id, .int .i64 x.u.want, .slice x.a x.n x.c, .bool x.u.done]) := by show BoxN _ _ _ _; rw [← hW0]; exact ((BoxN.new _ _ _).alloc _).alloc _
  have HR : Hid (BoxN W0 (w.heap.size + 1) 112 [.string ⟨#[]⟩, .int .i64 0, .slice none 0 0, .bool false]) := by
    show BoxN _ _ _ _
    rw [← hW0]
    have := (BoxN.new (w.alloc (.cells #[.string x.u.id, .int .i64 x.u.want, .slice x.a x.n x.c, .bool x.u.done] 104)) 112 [.string ⟨#[]⟩, .int .i64 0, .slice none 0 0, .bool false]).alloc (.cells #[.string x.u.id, .int .i64 x.u.want, .slice none 0 0, .bool false] 112)
    rw [World.size_alloc] at this
    exact this
  have HO : Hid (BoxN W0 (w.heap.size + 1 + 1) 112 [.string x.u.id, .int .i64 x.u.want, .slice none 0 0, .bool false]) := by
    show BoxN _ _ _ _
    rw [← hW0]
    have := BoxN.new ((w.alloc (.cells #[.string x.u.id, .int .i64 x.u.want, .slice x.a x.n x.c, .bool x.u.done] 104)).alloc (.cells #[.string ⟨#[]⟩, .int .i64 0, .slice none 0 0, .bool false] 112)) 112 [.string x.u.id, .int .i64 x.u.want, .slice none 0 0, .bool false]
    rw [World.size_alloc, World.size_alloc] at this
    exact this
  clear hW0
  go_enter Tryz.func79, Tryz.ntmps79
  go_wp2_with fail
  rw [HE.out]
  clear HE
  refine (toByteS_any x.a x.n x.c x.u.zs _ (HS.out.below HB.out) (by omega)).mono ?_
  rintro r x3 ⟨rfl, ho3, hb3⟩
  have i3 := HI.out.stays hb3
  have r3 := HR.out.stays hb3
  have o3 := HO.out.stays hb3
  have HO3 : Hid (Owns x3 W0.heap.size (some ⟨W0.heap.size, 0, none⟩) x.n x.n x.u.zs) := ⟨ho3, HS.out.2.1⟩
  have HB3 : Hid (Below w.heap.size w x3) := HB.out.trans (hb3.mono HB.out.size)
  have HL3 : Hid (w.heap.size + 1 + 1 < W0.heap.size) := HO.out.lt
  have i0 := i3.cell 3 rfl
  have a0 := r3.cell 0 rfl
  have a1 := r3.cell 1 rfl
  have a2 := r3.cell 2 rfl
  have a3 := r3.cell 3 rfl
  have fa0 := r3.frozen 0
  have fa1 := r3.frozen 1
  have fa2 := r3.frozen 2
  have fa3 := r3.frozen 3
  have b0 := o3.cell 0 rfl
  have b1 := o3.cell 1 rfl
  have b2 := o3.cell 2 rfl
  have b3 := o3.cell 3 rfl
  have fb2 := o3.frozen 2
  have fb3 := o3.frozen 3
  clear hb3 ho3 r3 o3 i3 HR HO HI
  go_wp2
  refine bodyPost_ret (v := .agg #[.string x.u.id, .int .i64 x.u.want, .slice (some ⟨W0.heap.size, 0, none⟩) x.n x.n, .bool x.u.done]) (by simp [results, Tryz.f79, go_sem, a0, a1, a2, a3]) rfl ?_
  have hz := HZ.out
  refine ⟨⟨_, rfl, ?_⟩, ?_⟩
  · have hA : ((some ⟨W0.heap.size, 0, none⟩ : Option Addr).map (·.block)) ≠ some (w.heap.size + 1) := by simp; omega
    have hB : ((some ⟨W0.heap.size, 0, none⟩ : Option Addr).map (·.block)) ≠ some (w.heap.size + 1 + 1) := by simp; omega
    exact (owns_set (owns_set (owns_set (owns_set (owns_set (owns_set HO3.out hB) hB) hA) hA) hA) hA).low (by omega)
  · exact (((((HB3.out.setCell (by dsimp only; omega) _).setCell (by dsimp only; omega) _).setCell (by dsimp only; omega) _).setCell (by dsimp only; omega) _).setCell (by dsimp only; omega) _).setCell (by dsimp only; omega) _

end Go.Proofs.YtclkfjlnhcccdaaGreatDoor

namespace Go.Proofs.YtclkfjlnhcccdaaGreatDoor
open Go.RowKit
set_option linter.unusedVariables false

/-- An upload of noughts. -/
abbrev unil : UE := ⟨⟨⟨#[]⟩, 0, [], false⟩, none, 0, 0⟩

theorem made_up (n : Nat) : (madeCells #[.string ⟨#[]⟩, .int .i64 0, .slice none 0 0, .bool false] (n * 4)).toList = ueCells (List.replicate n unil) := by
  have hl : (ueCells (List.replicate n unil)).length = n * 4 := by rw [ueCells_len, List.length_replicate]
  apply List.ext_getElem?
  intro j
  by_cases hj : j < n * 4
  · have hq : j / 4 < (List.replicate n unil).length := by rw [List.length_replicate]; omega
    obtain ⟨h0, h1, h2, h3⟩ := ueCells_at (List.replicate n unil) (j / 4) hq
    rw [List.getElem_replicate] at h0 h1 h2 h3
    have : j % 4 = 0 ∨ j % 4 = 1 ∨ j % 4 = 2 ∨ j % 4 = 3 := by omega
    rcases this with h | h | h | h
    · rw [show j / 4 * 4 = j by omega] at h0; rw [h0]; simp [madeCells, hj, h]
    · rw [show j / 4 * 4 + 1 = j by omega] at h1; rw [h1]; simp [madeCells, hj, h]
    · rw [show j / 4 * 4 + 2 = j by omega] at h2; rw [h2]; simp [madeCells, hj, h]
    · rw [show j / 4 * 4 + 3 = j by omega] at h3; rw [h3]; simp [madeCells, hj, h]
  · have h2 : (ueCells (List.replicate n unil))[j]? = none := List.getElem?_eq_none (by omega)
    rw [h2]
    simp [madeCells, hj]

/-- An upload comes into a row, with bytes of its own. -/
theorem UpRow.laid {W W' : World} {base g n c B : Nat} {M D : List UE} {e x : UE} (h : UpRow W base (.slice (some ⟨g, 0, none⟩) n c) (M ++ e :: D)) (hn : (M ++ e :: D).length = n) (hb : Below W.heap.size W W') (hx : Owns W' B x.a x.n x.c x.u.zs) (hB : W.heap.size ≤ B) :
    UpRow ((((W'.setCell ⟨g, M.length * 4, none⟩ (.string x.u.id)).setCell ⟨g, M.length * 4 + 1, none⟩ (.int .i64 x.u.want)).setCell ⟨g, M.length * 4 + 2, none⟩ (.slice x.a x.n x.c)).setCell ⟨g, M.length * 4 + 3, none⟩ (.bool x.u.done)) base (.slice (some ⟨g, 0, none⟩) n c) (M ++ x :: D) ∧ W'.grownBy ((((W'.setCell ⟨g, M.length * 4, none⟩ (.string x.u.id)).setCell ⟨g, M.length * 4 + 1, none⟩ (.int .i64 x.u.want)).setCell ⟨g, M.length * 4 + 2, none⟩ (.slice x.a x.n x.c)).setCell ⟨g, M.length * 4 + 3, none⟩ (.bool x.u.done)) (some g) := by
  have h' := h.stays hb
  have ho : OwnU W' base (some ⟨g, 0, none⟩) n c (M ++ e :: D) := by
    have := h'.1
    rw [hn] at this
    exact this
  have hp := ho.put x
  have hgl : g < W.heap.size := (h.lts.1 g rfl).2
  have hbg : base ≤ W.heap.size := by have := (h.lts.1 g rfl).1; omega
  have hxg : ∀ q, x.a.map (·.block) = some q → W.heap.size ≤ q := fun q hq => Nat.le_trans hB (hx.lt q hq).1
  refine ⟨⟨?_, ?_, ?_⟩, hp.2⟩
  · rw [show (M ++ x :: D).length = n by rw [← hn]; simp]
    exact hp.1
  · intro y hy
    have key : ∀ v ∈ M ++ e :: D, Owns _ base v.a v.n v.c v.u.zs := fun v hv => (h'.2.1 v hv).grown hp.2 (fun q hq => h'.rowApart (h'.2.1 v hv) q (by injection hq with hq; subst hq; rfl))
    rcases List.mem_append.1 hy with hy | hy
    · exact key y (List.mem_append_left _ hy)
    · rcases List.mem_cons.1 hy with rfl | hy
      · exact (hx.grown hp.2 (fun q hq hq2 => by injection hq with hq; have := hxg q hq2; omega)).low (by omega)
      · exact key y (List.mem_append_right _ (List.mem_cons_of_mem _ hy))
  · have h2 := h.2.2
    rw [List.pairwise_append, List.pairwise_cons] at h2 ⊢
    have hold : ∀ v ∈ M ++ e :: D, ∀ q, v.a.map (·.block) = some q → q < W.heap.size := fun v hv q hq => (h.lts.2 v hv q hq).2
    refine ⟨h2.1, ⟨fun y hy q hq hq2 => ?_, h2.2.1.2⟩, fun y hy z hz => ?_⟩
    · have h3 := hxg q hq
      have h4 := hold y (List.mem_append_right _ (List.mem_cons_of_mem _ hy)) q hq2
      omega
    · rcases List.mem_cons.1 hz with rfl | hz
      · intro q hq hq2
        have h3 := hxg q hq2
        have h4 := hold y (List.mem_append_left _ hy) q hq
        omega
      · exact h2.2.2 y hy z (List.mem_cons_of_mem _ hz)

set_option maxRecDepth 10000 in
set_option maxHeartbeats 1600000 in
theorem toUpS_any (a : Option Addr) (n c : Nat) (l : List UE) (w : World) (hx : UpsI w a n l) (hs : SzU n l) :
    Calls Tryz.prog 47 #[.slice a n c] w fun e w' => (∃ g l', e = .returned (.slice (some ⟨g, 0, none⟩) n n) ∧ UpRow w' w.heap.size (.slice (some ⟨g, 0, none⟩) n n) l' ∧ l'.map UE.u = l.map UE.u ∧ ∀ e ∈ l', e.n ≤ 1048576) ∧ Below w.heap.size w w' := by
  obtain ⟨i0, hi, hz0, hz1, hz2⟩ := info_parts info_up
  have HX : Hid (∀ W, Below w.heap.size w W → UpsI W a n l) := fun W hb => hx.below hb
  have HS : Hid (SzU n l) := hs
  have HL : Hid (l.length = n) := hx.1
  have hn : n ≤ 1048576 := hs.1
  clear hx hs
  go_enter Tryz.func47, Tryz.ntmps47
  go_wp2_with (at_make; refine wpList_make_full _ rfl _ _ 33 rfl w.heap.size 112 i0 (.agg #[.string ⟨#[]⟩, .int .i64 0, .slice none 0 0, .bool false]) 4 Tryz.underlying33 hi hz0 hz1 _ _ _ _ n rfl rfl rfl rfl (by rw [hz2]; omega) (by unfold maxLen; omega) (Nat.le_refl _) ?_; intro w1 hown hgrow)
  have hrow : UpRow w1 w.heap.size (.slice (some ⟨w.heap.size, 0, none⟩) n n) (List.replicate n unil) := by
    refine ⟨?_, fun e he => ?_, ?_⟩
    · rw [List.length_replicate, ← made_up]
      exact hown
    · obtain rfl : e = unil := List.eq_of_mem_replicate he
      exact owns_nil _ _
    · rw [List.pairwise_replicate]
      right
      intro q hq
      simp at hq
  have HR : Hid (UpRow w1 w.heap.size (.slice (some ⟨w.heap.size, 0, none⟩) n n) (List.replicate n unil)) := hrow
  have HB : Hid (Below w.heap.size w w1) := (Below.refl _ _).grown hgrow (Nat.le_refl _) (by simp)
  clear hown hgrow hrow
  go_loopw [4] (fun i wr => ∃ (k : Nat) (M : List UE), k ≤ n ∧ i = .int .i64 k ∧ M.length = k ∧ Hid (UpRow wr w.heap.size (.slice (some ⟨w.heap.size, 0, none⟩) n n) (M ++ List.replicate (n - k) unil)) ∧ Hid (M.map UE.u = (l.map UE.u).take k) ∧ Hid (∀ e ∈ M, e.n ≤ 1048576) ∧ Hid (Below w.heap.size w wr)) (fun i _ => n - (intOf i).toNat)
  case atStart => exact ⟨0, [], Nat.zero_le _, rfl, rfl, HR, rfl, (fun e he => absurd he (List.not_mem_nil)), HB⟩
  case round =>
    clear HR HB
    obtain ⟨k, M, hk, rfl, hM, HO, HM, HZ, HB⟩ := hrel
    by_cases hlt : k < n
    · have hkl : k < l.length := by rw [HL.out]; exact hlt
      obtain ⟨b, off, rfl, hb, g0, g1, g2, g3⟩ := (HX.out _ HB.out).at hkl
      have hsg := (HX.out _ HB.out).2.1 (l[k]) (List.getElem_mem hkl)
      have HSg : Hid (Seg wr (l[k]).a (l[k]).n (l[k]).u.zs) := hsg.2.2
      have hen : (l[k]).n ≤ 1048576 := (HS.out.2 _ (List.getElem_mem hkl)).2
      have HM2 : Hid (M.map UE.u ++ [(l[k]).u] = (l.map UE.u).take (k + 1)) := by show _ = _; rw [List.take_add_one, List.getElem?_map, List.getElem?_eq_getElem hkl, HM.out]; rfl
      clear HM hsg
      have hki : (k : Int) < (n : Int) := by omega
      have hk0 : (0 : Int) ≤ (k : Int) := by omega
      generalize l[k] = x at *
      go_wp2_with fail
      refine (toUp_any x _ HSg.out hen).mono ?_
      rintro e x3 ⟨⟨gA, rfl, ho3⟩, hb3⟩
      have hrep : List.replicate (n - k) unil = unil :: List.replicate (n - (k + 1)) unil := by rw [← List.replicate_succ]; congr 1; omega
      have hO := HO.out
      rw [hrep] at hO
      have hOlen : (M ++ unil :: List.replicate (n - (k + 1)) unil).length = n := by simp; omega
      have hgs : w.heap.size < wr.heap.size := (hO.lts.1 _ rfl).2
      have hl3 := hO.laid (x := ⟨x.u, some ⟨gA, 0, none⟩, x.n, x.n⟩) hOlen hb3 ho3 (Nat.le_refl _)
      rw [hM] at hl3
      have hst := (hO.stays hb3).1
      rw [hOlen] at hst
      have hcl : (ueCells (M ++ unil :: List.replicate (n - (k + 1)) unil)).length = n * 4 := by rw [ueCells_len, hOlen]
      have f0 : x3.frozen? ⟨w.heap.size, k * 4, none⟩ = false := hst.frozenAt _
      have f1 : x3.frozen? ⟨w.heap.size, k * 4 + 1, none⟩ = false := hst.frozenAt _
      have f2 : x3.frozen? ⟨w.heap.size, k * 4 + 2, none⟩ = false := hst.frozenAt _
      have f3 : x3.frozen? ⟨w.heap.size, k * 4 + 3, none⟩ = false := hst.frozenAt _
      obtain ⟨u0, hu0⟩ : ∃ u, x3.cell? ⟨w.heap.size, k * 4, none⟩ = some u := by rw [hst.cellAt _ (by omega)]; exact ⟨_, List.getElem?_eq_getElem (by omega)⟩
      obtain ⟨u1, hu1⟩ : ∃ u, x3.cell? ⟨w.heap.size, k * 4 + 1, none⟩ = some u := by rw [hst.cellAt _ (by omega)]; exact ⟨_, List.getElem?_eq_getElem (by omega)⟩
      obtain ⟨u2, hu2⟩ : ∃ u, x3.cell? ⟨w.heap.size, k * 4 + 2, none⟩ = some u := by rw [hst.cellAt _ (by omega)]; exact ⟨_, List.getElem?_eq_getElem (by omega)⟩
      obtain ⟨u3, hu3⟩ : ∃ u, x3.cell? ⟨w.heap.size, k * 4 + 3, none⟩ = some u := by rw [hst.cellAt _ (by omega)]; exact ⟨_, List.getElem?_eq_getElem (by omega)⟩
      have HO3 : Hid (UpRow ((((x3.setCell ⟨w.heap.size, k * 4, none⟩ (.string x.u.id)).setCell ⟨w.heap.size, k * 4 + 1, none⟩ (.int .i64 x.u.want)).setCell ⟨w.heap.size, k * 4 + 2, none⟩ (.slice (some ⟨gA, 0, none⟩) x.n x.n)).setCell ⟨w.heap.size, k * 4 + 3, none⟩ (.bool x.u.done)) w.heap.size (.slice (some ⟨w.heap.size, 0, none⟩) n n) (M ++ [⟨x.u, some ⟨gA, 0, none⟩, x.n, x.n⟩] ++ List.replicate (n - (k + 1)) unil)) := by rw [List.append_assoc]; exact hl3.1
      have HB3 : Hid (Below w.heap.size w ((((x3.setCell ⟨w.heap.size, k * 4, none⟩ (.string x.u.id)).setCell ⟨w.heap.size, k * 4 + 1, none⟩ (.int .i64 x.u.want)).setCell ⟨w.heap.size, k * 4 + 2, none⟩ (.slice (some ⟨gA, 0, none⟩) x.n x.n)).setCell ⟨w.heap.size, k * 4 + 3, none⟩ (.bool x.u.done))) := ((((HB.out.trans (hb3.mono HB.out.size)).setCell (Nat.le_refl _) _).setCell (Nat.le_refl _) _).setCell (Nat.le_refl _) _).setCell (Nat.le_refl _) _
      have HM3 : Hid ((M ++ [(⟨x.u, some ⟨gA, 0, none⟩, x.n, x.n⟩ : UE)]).map UE.u = (l.map UE.u).take (k + 1)) := by show _ = _; rw [List.map_append]; exact HM2.out
      have HZ3 : Hid (∀ e ∈ M ++ [(⟨x.u, some ⟨gA, 0, none⟩, x.n, x.n⟩ : UE)], e.n ≤ 1048576) := fun e he => by
        rcases List.mem_append.1 he with he | he
        · exact HZ.out e he
        · obtain rfl : e = ⟨x.u, some ⟨gA, 0, none⟩, x.n, x.n⟩ := by simpa using he
          exact hen
      clear hl3 hst hcl hO hrep hOlen ho3 hb3 HM2 g0 g1 g2 g3 HO HB
      go_wp2
      go_roundw
      case rel => exact ⟨k + 1, M ++ [⟨x.u, some ⟨gA, 0, none⟩, x.n, x.n⟩], by omega, by go_num, by simp [hM], HO3, HM3, HZ3, HB3⟩
      case measure => simp [intOf]; omega
    · obtain rfl : k = n := by omega
      have HO2 : Hid (UpRow wr w.heap.size (.slice (some ⟨w.heap.size, 0, none⟩) k k) M) := by
        have h := HO.out
        rw [Nat.sub_self, List.replicate_zero, List.append_nil] at h
        exact h
      have HE : Hid (M.map UE.u = l.map UE.u) := by show _ = _; rw [HM.out, List.take_of_length_le (by rw [List.length_map, HL.out]; exact Nat.le_refl _)]
      clear HO HM
      go_wp2
      go_ret
      exact ⟨⟨w.heap.size, M, rfl, HO2.out, HE.out, HZ.out⟩, HB.out⟩

end Go.Proofs.YtclkfjlnhcccdaaGreatDoor

namespace Go.Proofs.YtclkfjlnhcccdaaGreatDoor
open Go.RowKit
set_option linter.unusedVariables false

set_option maxHeartbeats 400000 in
theorem szStrS_any (a : Option Addr) (len ca : Nat) (xs : List ByteArray) (n : Int) (w : World) (hx : Strs w a len xs) (hn : 0 ≤ n) (hn2 : n ≤ 1048576) (hl : len ≤ maxLen) :
    Calls Tryz.prog 72 #[.slice a len ca, .int .i64 n] w fun e w' => (∃ v : Int, e = .returned (.int .i64 v) ∧ v ≤ n ∧ (0 ≤ v → v + (len + strBytes xs) ≤ n)) ∧ Below w.heap.size w w' := by
  have HX : Hid (Strs w a len xs) := hx
  clear hx
  have hm : maxLen < 9223372036854775808 := by decide
  by_cases h0 : n - len < 0
  · go_enter Tryz.func72, Tryz.ntmps72
    go_wp2
    go_ret
    exact ⟨⟨_, rfl, by omega, by omega⟩, Below.refl _ _⟩
  · go_enter Tryz.func72, Tryz.ntmps72
    go_wp2
    go_loopw [1, 5] (fun l i wr => ∃ (k : Nat) (u : Int), k ≤ len ∧ i = .int .i64 k ∧ l = .int .i64 u ∧ 0 ≤ u ∧ u ≤ 1048576 ∧ Hid (u = n - len - strBytes (xs.take k)) ∧ Hid (Below w.heap.size w wr)) (fun _ i _ => len - (intOf i).toNat)
    case atStart => exact ⟨0, n - len, Nat.zero_le _, rfl, rfl, by omega, by omega, by show _ = _; simp [strBytes], Below.refl _ _⟩
    case round =>
      obtain ⟨k, u, hk, rfl, rfl, hu, hu2, HU, HW⟩ := hrel
      by_cases hlt : k < len
      · obtain ⟨ba, oa, x, rfl, hba, hfa, ha0⟩ := HX.out.at hlt
        have ga0 : wr.cell? ⟨ba, oa + k, none⟩ = some (.string x) := (HW.out.cell (p := ⟨ba, _, none⟩) hba).trans ha0
        have hsz := HX.out.2.1 x (List.mem_of_getElem? hfa)
        have HF : Hid (strBytes (xs.take (k + 1)) = strBytes (xs.take k) + x.size) := strBytes_step xs k x hfa
        clear hfa ha0
        have hki : (k : Int) < (len : Int) := by omega
        have hk0 : (0 : Int) ≤ (k : Int) := by omega
        by_cases hneg : u - x.size < 0
        · go_wp2
          go_ret
          exact ⟨⟨_, rfl, by omega, by omega⟩, HW.out⟩
        · go_wp2
          go_roundw
          case rel =>
            refine ⟨k + 1, u - x.size, by omega, by go_num, rfl, by omega, by omega, ?_, HW⟩
            show _ = _
            have h2 := HF.out
            have h3 := HU.out
            omega
          case measure => simp [intOf]; omega
      · go_wp2
        go_ret
        have hkl : k = len := by omega
        have h3 := HU.out
        have h4 := HX.out.1
        rw [List.take_of_length_le (by omega)] at h3
        exact ⟨⟨_, rfl, by omega, by omega⟩, HW.out⟩

end Go.Proofs.YtclkfjlnhcccdaaGreatDoor

namespace Go.Proofs.YtclkfjlnhcccdaaGreatDoor
open Go.RowKit
set_option linter.unusedVariables false

set_option maxHeartbeats 400000 in
theorem toStrS_own (a : Option Addr) (len ca : Nat) (xs : List ByteArray) (w : World) (hx : Strs w a len xs) (hl : len ≤ 1048576) :
    Calls Tryz.prog 78 #[.slice a len ca] w fun e w' => e = .returned (.slice (some ⟨w.heap.size, 0, none⟩) len len) ∧ OwnSt w' w.heap.size (.slice (some ⟨w.heap.size, 0, none⟩) len len) len xs ∧ Below w.heap.size w w' := by
  obtain ⟨i0, hi, hz0, hz1, hz2⟩ := info_parts info_string
  have HS : Hid (Strs w a len xs) := hx
  clear hx
  go_enter Tryz.func78, Tryz.ntmps78
  go_wp2_with (at_make; refine wpList_make_full _ rfl _ _ 22 rfl w.heap.size 9 i0 (.string ⟨#[]⟩) 1 Tryz.underlying22 hi hz0 hz1 _ _ _ _ len rfl rfl rfl rfl (by rw [hz2]; omega) (by unfold maxLen; omega) (Nat.le_refl _) ?_; intro w1 hown hgrow)
  have hrow : w1.ownsRow w.heap.size 9 1 (.slice (some ⟨w.heap.size, 0, none⟩) len len) len (scells (srowTo xs len 0)) := by
    have : (madeCells (Value.string ⟨#[]⟩).cells (len * 1)).toList = scells (srowTo xs len 0) := by
      rw [show (Value.string ⟨#[]⟩).cells = #[Value.string ⟨#[]⟩] from rfl, toList_madeCells_one]
      simp [srowTo, scells]
    rwa [this] at hown
  have hbel : Below w.heap.size w w1 := (Below.refl _ _).grown hgrow (Nat.le_refl _) (by simp)
  have HR := (show Hid _ from hrow)
  have HB := (show Hid _ from hbel)
  clear hown hgrow hrow hbel
  go_loopw [4] (fun i wr => ∃ k : Nat, k ≤ len ∧ i = .int .i64 k ∧ Hid (wr.ownsRow w.heap.size 9 1 (.slice (some ⟨w.heap.size, 0, none⟩) len len) len (scells (srowTo xs len k))) ∧ Hid (Below w.heap.size w wr)) (fun i _ => len - (intOf i).toNat)
  case atStart => exact ⟨0, Nat.zero_le _, rfl, HR, HB⟩
  case round =>
    clear HR HB
    obtain ⟨k, hk, rfl, HO, HB⟩ := hrel
    by_cases hlt : k < len
    · obtain ⟨ba, oa, x, rfl, hba, hfa, ha0⟩ := HS.out.at hlt
      have ga0 : wr.cell? ⟨ba, oa + k, none⟩ = some (.string x) := (HB.out.cell (p := ⟨ba, _, none⟩) hba).trans ha0
      have HF : Hid (xs[k]? = some x) := hfa
      clear hfa ha0
      have hki : (k : Int) < (len : Int) := by omega
      have hk0 : (0 : Int) ≤ (k : Int) := by omega
      have hln : (scells (srowTo xs len k)).length = len := by rw [scells_len, srowTo_len xs len k HS.out.1 hk]
      have f0 : wr.frozen? ⟨w.heap.size, k, none⟩ = false := HO.out.frozenAt _
      obtain ⟨u0, hu0⟩ : ∃ u, wr.cell? ⟨w.heap.size, k, none⟩ = some u := by
        rw [HO.out.cellAt _ (by omega)]
        exact ⟨_, List.getElem?_eq_getElem (by omega)⟩
      clear hln
      go_wp2
      go_roundw
      case rel =>
        refine ⟨k + 1, by omega, by go_num, ?_, ?_⟩
        · have h := (HO.out.stored k (.string x)).1
          rw [scells_set, srowTo_step xs len k x HF.out hlt] at h
          exact h
        · exact HB.out.setCell (Nat.le_refl _) _
      case measure => simp [intOf]; omega
    · go_wp2
      go_ret
      have hkl : k = len := by omega
      subst hkl
      have hl1 := HS.out.1
      have h := HO.out
      rw [show srowTo xs k k = xs by simp [srowTo, List.take_of_length_le (Nat.le_of_eq hl1)]] at h
      exact ⟨rfl, ⟨h, HS.out.2.1⟩, HB.out⟩

end Go.Proofs.YtclkfjlnhcccdaaGreatDoor

namespace Go.Proofs.YtclkfjlnhcccdaaGreatDoor
open Go.RowKit
set_option linter.unusedVariables false

set_option maxHeartbeats 400000 in
theorem eqStrS_same (a b : Option Addr) (len ca cb : Nat) (xs : List ByteArray) (w : World) (hx : Strs w a len xs) (hy : Strs w b len xs) (hla : len ≤ 1099511627776) :
    Calls Tryz.prog 87 #[.slice a len ca, .slice b len cb] w fun e w' => e = .returned (.bool true) ∧ Below w.heap.size w w' := by
  have HX : Hid (Strs w a len xs) := hx
  have HY : Hid (Strs w b len xs) := hy
  clear hx hy
  have hne : ((len : Int) != (len : Int)) = false := by simp
  go_enter Tryz.func87, Tryz.ntmps87
  go_wp2
  go_loopw [5] (fun i wr => ∃ k : Nat, k ≤ len ∧ i = .int .i64 k ∧ Hid (Below w.heap.size w wr)) (fun i _ => len - (intOf i).toNat)
  case atStart => exact ⟨0, Nat.zero_le _, rfl, Below.refl _ _⟩
  case round =>
    obtain ⟨k, hk, rfl, HW⟩ := hrel
    by_cases hlt : k < len
    · obtain ⟨ba, oa, x, rfl, hba, hfa, ha0⟩ := HX.out.at hlt
      obtain ⟨bb, ob, x', rfl, hbb, hfb, hb0⟩ := HY.out.at hlt
      obtain rfl : x = x' := by rw [hfa] at hfb; simpa using hfb
      have ga0 : wr.cell? ⟨ba, oa + k, none⟩ = some (.string x) := (HW.out.cell (p := ⟨ba, _, none⟩) hba).trans ha0
      have gb0 : wr.cell? ⟨bb, ob + k, none⟩ = some (.string x) := (HW.out.cell (p := ⟨bb, _, none⟩) hbb).trans hb0
      clear hfa hfb ha0 hb0
      have hxx : (x.toList != x.toList) = false := by simp
      have hki : (k : Int) < (len : Int) := by omega
      have hk0 : (0 : Int) ≤ (k : Int) := by omega
      go_wp2
      go_quiet (fail)
      go_wp2
      go_roundw
      case rel => exact ⟨k + 1, by omega, by go_num, ⟨HW.out.os, HW.out.tape, HW.out.output, HW.out.size, HW.out.block⟩⟩
      case measure => simp [intOf]; omega
    · go_wp2
      go_ret
      exact ⟨rfl, HW.out⟩

end Go.Proofs.YtclkfjlnhcccdaaGreatDoor

namespace Go.Proofs.YtclkfjlnhcccdaaGreatDoor
open Go.RowKit
set_option linter.unusedVariables false

set_option maxHeartbeats 800000 in
theorem eqDisk_same (a b : Option Addr) (n ca cb : Nat) (xs : List ByteArray) (a' b' : Option Addr) (n' ca' cb' : Nat) (ys : List ByteArray) (w : World) (h1 : Strs w a n xs) (h2 : Strs w b n xs) (h3 : Strs w a' n' ys) (h4 : Strs w b' n' ys) (hn : n ≤ 1099511627776) (hn' : n' ≤ 1099511627776) :
    Calls Tryz.prog 55 #[.agg #[.slice a n ca, .slice a' n' ca'], .agg #[.slice b n cb, .slice b' n' cb']] w fun r w' => r = .returned (.bool true) ∧ Below w.heap.size w w' := by
  have HX : Hid (∀ W, Below w.heap.size w W → Strs W a n xs ∧ Strs W b n xs ∧ Strs W a' n' ys ∧ Strs W b' n' ys) := fun W h => ⟨h1.below h, h2.below h, h3.below h, h4.below h⟩
  clear h1 h2 h3 h4
  go_enter Tryz.func55, Tryz.ntmps55
  go_wp2_with fail
  have hba : Below w.heap.size w ((w.alloc (Obj.cells #[Value.slice a n ca, Value.slice a' n' ca'] 32)).alloc (Obj.cells #[Value.slice b n cb, Value.slice b' n' cb'] 32)) := ((Below.refl _ _).alloc (Nat.le_refl _) _).alloc (by simp) _
  have HA : Hid (Box2R ((w.alloc (Obj.cells #[Value.slice a n ca, Value.slice a' n' ca'] 32)).alloc (Obj.cells #[Value.slice b n cb, Value.slice b' n' cb'] 32)) w.heap.size 32 (.slice a n ca) (.slice a' n' ca')) := (Box2R.new _ _ _ _).alloc _
  have HC : Hid (Box2R ((w.alloc (Obj.cells #[Value.slice a n ca, Value.slice a' n' ca'] 32)).alloc (Obj.cells #[Value.slice b n cb, Value.slice b' n' cb'] 32)) (w.heap.size + 1) 32 (.slice b n cb) (.slice b' n' cb')) := by
    have := Box2R.new (w.alloc (Obj.cells #[Value.slice a n ca, Value.slice a' n' ca'] 32)) 32 (.slice b n cb) (.slice b' n' cb')
    rwa [World.size_alloc] at this
  have HB : Hid (Below w.heap.size w _) := hba
  clear hba
  refine (eqStrS_same a b n ca cb xs _ (HX.out _ HB.out).1 (HX.out _ HB.out).2.1 hn).mono ?_
  rintro r x3 ⟨rfl, hb3⟩
  have HB3 : Hid (Below w.heap.size w x3) := HB.out.trans (hb3.mono HB.out.size)
  obtain ⟨c0, c1⟩ := (HA.out.stays hb3).cells
  obtain ⟨d0, d1⟩ := (HC.out.stays hb3).cells
  clear hb3 HA HC HB
  go_wp2_with fail
  refine (eqStrS_same a' b' n' ca' cb' ys _ (HX.out _ HB3.out).2.2.1 (HX.out _ HB3.out).2.2.2 hn').mono ?_
  rintro r x4 ⟨rfl, hb4⟩
  have HB4 : Hid (Below w.heap.size w x4) := HB3.out.trans (hb4.mono HB3.out.size)
  clear hb4 HB3 c0 c1 d0 d1
  go_wp2_with fail
  go_ret
  exact ⟨rfl, HB4.out⟩

end Go.Proofs.YtclkfjlnhcccdaaGreatDoor

namespace Go.Proofs.YtclkfjlnhcccdaaGreatDoor
open Go.RowKit
set_option linter.unusedVariables false

set_option maxHeartbeats 800000 in
theorem szDisk_any (a : Option Addr) (n ca : Nat) (xs : List ByteArray) (a' : Option Addr) (n' ca' : Nat) (ys : List ByteArray) (m : Int) (w : World) (h1 : Strs w a n xs) (h3 : Strs w a' n' ys) (hm : 0 ≤ m) (hm2 : m ≤ 1048576) (hn : n ≤ maxLen) (hn' : n' ≤ maxLen) :
    Calls Tryz.prog 40 #[.agg #[.slice a n ca, .slice a' n' ca'], .int .i64 m] w fun r w' => (∃ v : Int, r = .returned (.int .i64 v) ∧ v ≤ m ∧ (0 ≤ v → v + (n + strBytes xs) + (n' + strBytes ys) ≤ m)) ∧ Below w.heap.size w w' := by
  have HX : Hid (∀ W, Below w.heap.size w W → Strs W a n xs ∧ Strs W a' n' ys) := fun W h => ⟨h1.below h, h3.below h⟩
  clear h1 h3
  have HA : Hid (Box2R (w.alloc (Obj.cells #[Value.slice a n ca, Value.slice a' n' ca'] 24)) w.heap.size 24 (.slice a n ca) (.slice a' n' ca')) := Box2R.new _ _ _ _
  have HB : Hid (Below w.heap.size w (w.alloc (Obj.cells #[Value.slice a n ca, Value.slice a' n' ca'] 24))) := (Below.refl _ _).alloc (Nat.le_refl _) _
  go_enter Tryz.func40, Tryz.ntmps40
  go_wp2_with fail
  refine (szStrS_any a n ca xs m _ (HX.out _ HB.out).1 hm hm2 hn).mono ?_
  rintro r x3 ⟨⟨v, rfl, hvm, hv⟩, hb3⟩
  have HB3 : Hid (Below w.heap.size w x3) := HB.out.trans (hb3.mono HB.out.size)
  obtain ⟨c0, c1⟩ := (HA.out.stays hb3).cells
  clear hb3 HA HB
  by_cases hneg : v < 0
  · go_wp2_with fail
    go_ret
    exact ⟨⟨_, rfl, by omega, by omega⟩, HB3.out⟩
  have HV : Hid (v + (n + strBytes xs) ≤ m) := hv (by omega)
  clear hv
  go_wp2_with fail
  refine (szStrS_any a' n' ca' ys v _ (HX.out _ HB3.out).2 (by omega) (by omega) hn').mono ?_
  rintro r x4 ⟨⟨v4, rfl, hvm4, hv4⟩, hb4⟩
  have HB4 : Hid (Below w.heap.size w x4) := HB3.out.trans (hb4.mono HB3.out.size)
  have HV4 : Hid (0 ≤ v4 → v4 + (n' + strBytes ys) ≤ v) := hv4
  clear hb4 HB3 c0 c1 hv4
  by_cases hneg4 : v4 < 0
  · go_wp2_with fail
    go_ret
    exact ⟨⟨_, rfl, by omega, by omega⟩, HB4.out⟩
  go_wp2_with fail
  go_ret
  refine ⟨⟨_, rfl, by omega, fun h => ?_⟩, HB4.out⟩
  have h1 := HV.out
  have h2 := HV4.out h
  omega

end Go.Proofs.YtclkfjlnhcccdaaGreatDoor
