/- What the program's GetPrefix answers; nothing that was there is written. For lists of at most 2^40 bytes that are not nil. The program's reader of bits: a closure over the bytes and a place. Reading a code bit by bit with the rows of the lengths: when it is found, when it is not, and when it is the end's own; no program in it. Reading bits in a loop: what stands in memory, and what one more bit does to it. What the program's UnHuff answers: the one text whose code these bytes are, or nothing where there is none. For lists of at most 2^40 bytes. -/
import Derived.Test.YtckpacifimpkgacGreatM14
import Derived.Test.YtckpacifimpkgacGreatM06
import Derived.Test.YtckpacifimpkgacGreatM05
import Derived.Test.YtckpacifimpkgacGreatM02
import Derived.OneCell
namespace Go.Proofs.YtckpacifimpkgacGreat
open Go.RowKit Go.Shelf
set_option linter.unusedVariables false
attribute [local go_sem] Oper.semAt_some

/-- The boxes of sumGroups: its answers (0, 0 and false), the sum A and the count k. -/
def Boxes (h : Nat) (w : World) (A k : Nat) (W : World) : Prop :=
  Boxed W h 3 (.int .i64 0) ∧ Boxed W (h + 1) 3 (.int .i64 0) ∧ Boxed W (h + 2) 4 (.bool false) ∧ Boxed W (h + 3) 3 (.int .i64 A) ∧ Boxed W (h + 4) 3 (.int .i64 k) ∧ Below h w W

theorem boxes_own {β : Type} {h B : Nat} {w : World} (f g : β → Nat) (hw : w.heap.size = h) (hB : h ≤ B) : OwnFrom B (fun s W => Boxes h w (f s) (g s) W) := by
  subst hw
  exact OwnFrom.and (Own.from (boxed_own _ _ (fun _ => .int .i64 0)) _) (OwnFrom.and (Own.from (boxed_own _ _ (fun _ => .int .i64 0)) _) (OwnFrom.and (Own.from (boxed_own _ _ (fun _ => .bool false)) _)
    (OwnFrom.and (Own.from (boxed_own _ _ (fun s => .int .i64 (f s))) _) (OwnFrom.and (Own.from (boxed_own _ _ (fun s => .int .i64 (g s))) _) (ownFrom_below (Nat.le_refl _) hB)))))

/-- The answers of sumGroups are read of their boxes. -/
theorem sum_ret {U : World} {h D : Nat} {x y : Int} {t : Bool} (q0 : Boxed U h 3 (.int .i64 x)) (q1 : Boxed U (h + 1) 3 (.int .i64 y)) (q2 : Boxed U (h + 2) 4 (.bool t)) (hK : U.heap[D]? = some (.deferred (some []))) (tm : Array Value) :
    tm[2]?.getD undef = .pointer (some ⟨h, 0, none⟩) → tm[3]?.getD undef = .pointer (some ⟨h + 1, 0, none⟩) → tm[4]?.getD undef = .pointer (some ⟨h + 2, 0, none⟩) →
    (results Tryz.f59 tm).run Tryz.prog (U.putObj D (.deferred none)) = .ok (.tuple #[.int .i64 x, .int .i64 y, .bool t]) (U.putObj D (.deferred none)) := by
  intro e2 e3 e4
  have k0 := cell_kept q0.cell (grownBy_putObj' _ D (.deferred none)) (fun r e => by cases e; exact ⟨_, hK, rfl⟩)
  have k1 := cell_kept q1.cell (grownBy_putObj' _ D (.deferred none)) (fun r e => by cases e; exact ⟨_, hK, rfl⟩)
  have k2 := cell_kept q2.cell (grownBy_putObj' _ D (.deferred none)) (fun r e => by cases e; exact ⟨_, hK, rfl⟩)
  simp [results, Tryz.f59, go_sem, e2, e3, e4, k0, k1, k2]

set_option maxRecDepth 10000 in
set_option maxHeartbeats 800000 in
theorem sumG_any (b off len cap : Nat) (zs : List Int) (w : World) (hs : Seg w (some ⟨b, off, none⟩) len zs) (hcap : len ≤ cap) (hl : len ≤ 1099511627776) :
    Calls Tryz.prog 59 #[.slice (some ⟨b, off, none⟩) len cap] w fun e w' => e = .returned (.tuple #[.int .i64 (sumG zs).1, .int .i64 (sumG zs).2.1, .bool (sumG zs).2.2]) ∧ Below w.heap.size w w' := by
  have HS : Hid (Seg w (some ⟨b, off, none⟩) len zs) := hs
  have hzl : zs.length = len := hs.1
  clear hs
  refine (callsIn_wide (n := 4)).1 ?_
  refine callsIn_of_wp_marks Tryz.func59 rfl trivial ?_ rfl
  simp only [Tryz.ntmps59, List.size_toArray, List.length_cons, List.length_nil, Nat.reduceAdd, Nat.reduceSub, Array.replicate_succ, Array.replicate_zero, List.push_toArray, List.append_toArray, List.nil_append, List.cons_append]
  gi_wp2_with fail
  refine ⟨trivial, (partsIn_any _ _ _ _ _).mono ?_⟩
  rintro e w1 ⟨rfl, rfl⟩
  gi_wp2_with fail
  simp only [Nat.add_assoc, Nat.reduceAdd]
  obtain ⟨h, hh⟩ : ∃ h, w.heap.size = h := ⟨_, rfl⟩
  obtain ⟨v1, hv1⟩ : ∃ v1, w.alloc (.cells #[.int .i64 0] 3) = v1 := ⟨_, rfl⟩
  obtain ⟨v2, hv2⟩ : ∃ v2, v1.alloc (.cells #[.int .i64 0] 3) = v2 := ⟨_, rfl⟩
  obtain ⟨v3, hv3⟩ : ∃ v3, v2.alloc (.cells #[.bool false] 4) = v3 := ⟨_, rfl⟩
  obtain ⟨v4, hv4⟩ : ∃ v4, v3.alloc (.cells #[.int .i64 0] 3) = v4 := ⟨_, rfl⟩
  obtain ⟨v5, hv5⟩ : ∃ v5, v4.alloc (.cells #[.int .i64 0] 3) = v5 := ⟨_, rfl⟩
  obtain ⟨W0, hW0⟩ : ∃ W0, v5.alloc (.cells #[.slice (some ⟨b, off, none⟩) len cap] 22) = W0 := ⟨_, rfl⟩
  have z1 : v1.heap.size = h + 1 := by rw [← hv1, World.size_alloc, hh]
  have z2 : v2.heap.size = h + 2 := by rw [← hv2, World.size_alloc, z1]
  have z3 : v3.heap.size = h + 3 := by rw [← hv3, World.size_alloc, z2]
  have z4 : v4.heap.size = h + 4 := by rw [← hv4, World.size_alloc, z3]
  have z5 : v5.heap.size = h + 5 := by rw [← hv5, World.size_alloc, z4]
  have hsz0 : W0.heap.size = h + 6 := by rw [← hW0, World.size_alloc, z5]
  have hB0 : Below h w W0 := by
    rw [← hW0, ← hv5, ← hv4, ← hv3, ← hv2, ← hv1]
    exact ((((((Below.refl _ w).alloc (by omega) _).alloc (by simp; omega) _).alloc (by simp; omega) _).alloc (by simp; omega) _).alloc (by simp; omega) _).alloc (by simp; omega) _
  have b0 : Boxed W0 h 3 (.int .i64 0) := by
    have := Boxed.new w 3 (.int .i64 0)
    rw [hh, hv1] at this
    rw [← hW0, ← hv5, ← hv4, ← hv3, ← hv2]
    exact ((((this.alloc _).alloc _).alloc _).alloc _).alloc _
  have b1 : Boxed W0 (h + 1) 3 (.int .i64 0) := by
    have := Boxed.new v1 3 (.int .i64 0)
    rw [z1, hv2] at this
    rw [← hW0, ← hv5, ← hv4, ← hv3]
    exact (((this.alloc _).alloc _).alloc _).alloc _
  have b2 : Boxed W0 (h + 2) 4 (.bool false) := by
    have := Boxed.new v2 4 (.bool false)
    rw [z2, hv3] at this
    rw [← hW0, ← hv5, ← hv4]
    exact ((this.alloc _).alloc _).alloc _
  have b3 : Boxed W0 (h + 3) 3 (.int .i64 0) := by
    have := Boxed.new v3 3 (.int .i64 0)
    rw [z3, hv4] at this
    rw [← hW0, ← hv5]
    exact (this.alloc _).alloc _
  have b4 : Boxed W0 (h + 4) 3 (.int .i64 0) := by
    have := Boxed.new v4 3 (.int .i64 0)
    rw [z4, hv5] at this
    rw [← hW0]
    exact this.alloc _
  have b5 : Boxed W0 (h + 5) 22 (.slice (some ⟨b, off, none⟩) len cap) := by
    have := Boxed.new v5 22 (.slice (some ⟨b, off, none⟩) len cap)
    rw [z5, hW0] at this
    exact this
  rw [hv1, hv2, hv3, hv4, hv5, hW0, hh]
  have BX : Hid (Boxes h w 0 0 W0) := ⟨b0, b1, b2, b3, b4, hB0⟩
  have B5 : Hid (Boxed W0 (h + 5) 22 (.slice (some ⟨b, off, none⟩) len cap)) := b5
  clear hv1 hv2 hv3 hv4 hv5 hW0 z1 z2 z3 z4 z5 b0 b1 b2 b3 b4 b5 hB0
  obtain ⟨mn, hmn⟩ : ∃ mn, min len 4 = mn := ⟨_, rfl⟩
  refine loop_turns rfl (by decide) (gf := 96) (lb := #[.pointer (some ⟨h + 5, 0, none⟩)]) rfl trivial (enters_of Tryz.func96 (by kernel_rfl) rfl) (encP zs) (fun _ => rfl)
    (fun (s : Nat × Nat) W => Boxes h w s.2 s.1 W ∧ s.1 < mn ∧ s.2 < 128 ^ s.1 ∧ Link zs s.1 s.2)
    (fun (s : Nat × Nat) W => Boxes h w (s.2 + partOf zs s.1) (s.1 + 1) W ∧ s.1 < mn ∧ s.2 < 128 ^ s.1 ∧ Link zs s.1 s.2 ∧ moreOf zs s.1 = true)
    (fun c (s : Nat × Nat) W => (Boxed W h 3 (.int .i64 (sg 4 zs 1).1) ∧ Boxed W (h + 1) 3 (.int .i64 (sg 4 zs 1).2.1) ∧ Boxed W (h + 2) 4 (.bool true) ∧ Below h w W) ∧ c = .ret ∧ (sg 4 zs 1).2.2 = true)
    (fun (s : Nat × Nat) W => Boxes h w s.2 s.1 W ∧ s.1 = mn ∧ Link zs s.1 s.2)
    (fun W => Boxes h w 0 0 W ∧ Boxed W (h + 5) 22 (.slice (some ⟨b, off, none⟩) len cap))
    (parts_iter 3 _ (h + 5) b off len cap zs (by decide) hl hzl _ _ _ _ _ ?hb ?h0 ?h1)
    (OwnFrom.and (boxes_own _ _ hh (by omega)) (ownFrom_pure _ _))
    (OwnFrom.and (boxes_own _ _ hh (by omega)) (ownFrom_pure _ _))
    (fun c => OwnFrom.and (OwnFrom.and (Own.from (boxed_own _ _ (fun _ => .int .i64 (sg 4 zs 1).1)) _) (OwnFrom.and (Own.from (boxed_own _ _ (fun _ => .int .i64 (sg 4 zs 1).2.1)) _) (OwnFrom.and (Own.from (boxed_own _ _ (fun _ => .bool true)) _) (ownFrom_below (by omega) (by omega))))) (ownFrom_pure _ _))
    (OwnFrom.and (boxes_own _ _ hh (by omega)) (ownFrom_pure _ _))
    (OwnFrom.and (boxes_own (fun _ => 0) (fun _ => 0) hh (by omega)) (Own.from (boxed_own _ _ (fun _ => .slice (some ⟨b, off, none⟩) len cap)) _))
    ⟨BX.out, B5.out⟩ ?frame ?assign ?body ?done ?stop
  case assign =>
    intro l s W K hK
    gi_wp2
    exact hK
  case hb =>
    rintro W ⟨hx, hb5⟩
    rw [hmn]
    exact ⟨hb5, hcap, fun hp => ⟨hx, hp, by simp, link_start zs⟩, fun hp => ⟨hx, hp.symm, link_start zs⟩⟩
  case h0 =>
    rintro ⟨k, A⟩ W ⟨hx, hk, _⟩
    rw [hmn]
    refine ⟨hk, HS.out.below ?_⟩
    rw [hh]
    exact hx.2.2.2.2.2
  case h1 =>
    rintro ⟨k, A⟩ W ⟨hx, hk, hA, hL, hC⟩
    rw [hmn]
    dsimp only at hx hk hA hL hC
    have hm : 128 ≤ zs.getD k 0 := of_decide_eq_true hC
    have hn : Link zs (k + 1) (A + partOf zs k) := link_next zs k A (zs.getD k 0).toNat (by omega) (by omega) (by omega) (by omega) hL
    exact ⟨fun hp => ⟨_, hx, hp, sum_bound k A _ hA, hn⟩, fun hp => ⟨_, hx, hp, hn⟩⟩
  case body =>
    rintro l ⟨k, A⟩ W ⟨⟨x0, x1, x2, x3, x4, hB⟩, hk, hA, hL⟩
    dsimp only at x0 x1 x2 x3 x4 hk hA hL ⊢
    have hr0 := (HS.out.range k).1
    have hsb : A + partOf zs k < 128 ^ (k + 1) := sum_bound k A (zs.getD k 0).toNat hA
    have hp4 := pow_four (k + 1) (by omega)
    have HA : Hid (A < 128 ^ k) := hA
    have HLk : Hid (Link zs k A) := hL
    have HLS : Hid (moreOf zs k = false → sg 4 zs 1 = (A + partOf zs k, k + 1, true)) := fun h => link_last zs k A (zs.getD k 0).toNat (by omega) (by omega) (by omega) (by have := of_decide_eq_false h; omega) hL
    clear hA hL hr0
    obtain ⟨m, hm⟩ : ∃ m, moreOf zs k = m := ⟨_, rfl⟩
    rw [hm] at HLS ⊢
    generalize partOf zs k = p at *
    have hap : (A : Int) + (p : Int) ≤ 268435456 := by omega
    clear hsb hp4
    have c3 := x3.cell
    have f3 := x3.frozen
    have y3 := x3.set (.int .i64 ((A : Int) + (p : Int)))
    have y4 := x4.other (B' := h + 3) (by omega) (.int .i64 ((A : Int) + (p : Int)))
    have c4 := y4.cell
    have f4 := y4.frozen
    have hk4 : (k : Int) ≤ 4 := by omega
    have ec : ((A + p : Nat) : Int) = (A : Int) + (p : Int) := by omega
    have ek : ((k + 1 : Nat) : Int) = (k : Int) + 1 := by omega
    have z3 := y3.other (B' := h + 4) (by omega) (.int .i64 ((k : Int) + 1))
    have z4 := y4.set (.int .i64 ((k : Int) + 1))
    have z0 := (x0.other (B' := h + 3) (by omega) (.int .i64 ((A : Int) + (p : Int)))).other (B' := h + 4) (by omega) (.int .i64 ((k : Int) + 1))
    have z1 := (x1.other (B' := h + 3) (by omega) (.int .i64 ((A : Int) + (p : Int)))).other (B' := h + 4) (by omega) (.int .i64 ((k : Int) + 1))
    have z2 := (x2.other (B' := h + 3) (by omega) (.int .i64 ((A : Int) + (p : Int)))).other (B' := h + 4) (by omega) (.int .i64 ((k : Int) + 1))
    have zB := (hB.setCell (p := ⟨h + 3, 0, none⟩) (by show h ≤ h + 3; omega) (.int .i64 ((A : Int) + (p : Int)))).setCell (p := ⟨h + 4, 0, none⟩) (by show h ≤ h + 4; omega) (.int .i64 ((k : Int) + 1))
    have zK := ((KeepsOthers.setCell W ⟨h + 3, 0, none⟩ (.int .i64 ((A : Int) + (p : Int)))).trans (KeepsOthers.setCell _ ⟨h + 4, 0, none⟩ (.int .i64 ((k : Int) + 1))))
    have Z : Hid (Boxes h w (A + p) (k + 1) ((W.setCell ⟨h + 3, 0, none⟩ (.int .i64 ((A : Int) + (p : Int)))).setCell ⟨h + 4, 0, none⟩ (.int .i64 ((k : Int) + 1)))) := by
      show Boxes _ _ _ _ _
      unfold Boxes
      rw [ec, ek]
      exact ⟨z0, z1, z2, z3, z4, zB⟩
    have ZK : Hid (KeepsOthers W ((W.setCell ⟨h + 3, 0, none⟩ (.int .i64 ((A : Int) + (p : Int)))).setCell ⟨h + 4, 0, none⟩ (.int .i64 ((k : Int) + 1)))) := zK
    clear x0 x1 x2 x3 x4 y3 y4 hB zB zK
    cases m with
    | true =>
      clear z0 z1 z2 z3 z4 HLS
      gi_wp2
      exact ⟨ZK.out.from _, Z.out, HA.out, HLk.out⟩
    | false =>
      have hsg := HLS.out rfl
      clear HLS
      gi_wp2
      clear c3 f3 c4 f4
      have hmx : Tryz.prog.follows .mixedOrders = true := by kernel_rfl
      generalize ((W.setCell ⟨h + 3, 0, none⟩ (.int .i64 ((A : Int) + (p : Int)))).setCell ⟨h + 4, 0, none⟩ (.int .i64 ((k : Int) + 1))) = V at *
      have c3 := z3.cell
      have c4 := z4.cell
      have c0 := z0.cell
      have f0 := z0.frozen
      have t1 := z1.other (B' := h) (by omega) (.int .i64 ((A : Int) + (p : Int)))
      have t4 := z4.other (B' := h) (by omega) (.int .i64 ((A : Int) + (p : Int)))
      have t2 := (z2.other (B' := h) (by omega) (.int .i64 ((A : Int) + (p : Int)))).other (B' := h + 1) (by omega) (.int .i64 ((k : Int) + 1))
      have c1 := t1.cell
      have f1 := t1.frozen
      have c4' := t4.cell
      have c2 := t2.cell
      have f2 := t2.frozen
      have q0 := ((z0.set (.int .i64 ((A : Int) + (p : Int)))).other (B' := h + 1) (by omega) (.int .i64 ((k : Int) + 1))).other (B' := h + 2) (by omega) (.bool true)
      have q1 := (t1.set (.int .i64 ((k : Int) + 1))).other (B' := h + 2) (by omega) (.bool true)
      have q2 := t2.set (.bool true)
      have qB := ((Z.out.2.2.2.2.2.setCell (p := ⟨h, 0, none⟩) (Nat.le_refl _) (.int .i64 ((A : Int) + (p : Int)))).setCell (p := ⟨h + 1, 0, none⟩) (by show h ≤ h + 1; omega) (.int .i64 ((k : Int) + 1))).setCell (p := ⟨h + 2, 0, none⟩) (by show h ≤ h + 2; omega) (.bool true)
      have qK := ((ZK.out.trans (KeepsOthers.setCell V ⟨h, 0, none⟩ (.int .i64 ((A : Int) + (p : Int))))).trans (KeepsOthers.setCell _ ⟨h + 1, 0, none⟩ (.int .i64 ((k : Int) + 1)))).trans (KeepsOthers.setCell _ ⟨h + 2, 0, none⟩ (.bool true))
      generalize hU : (((V.setCell ⟨h, 0, none⟩ (.int .i64 ((A : Int) + (p : Int)))).setCell ⟨h + 1, 0, none⟩ (.int .i64 ((k : Int) + 1))).setCell ⟨h + 2, 0, none⟩ (.bool true)) = U at q0 q1 q2 qB qK
      have HU : Hid ((((V.setCell ⟨h, 0, none⟩ (.int .i64 ((A : Int) + (p : Int)))).setCell ⟨h + 1, 0, none⟩ (.int .i64 ((k : Int) + 1))).setCell ⟨h + 2, 0, none⟩ (.bool true)) = U) := hU
      have QQ : Hid (Boxed U h 3 (.int .i64 ((A : Int) + (p : Int))) ∧ Boxed U (h + 1) 3 (.int .i64 ((k : Int) + 1)) ∧ Boxed U (h + 2) 4 (.bool true) ∧ Below h w U ∧ KeepsOthers W U) := ⟨q0, q1, q2, qB, qK⟩
      have HSG : Hid (sg 4 zs 1 = (A + p, k + 1, true)) := hsg
      clear q0 q1 q2 qB qK hU hsg z0 z1 z2 z3 z4 t1 t2 t4 Z ZK HA HLk
      gi_region_with_o fail
      all_goals rw [HU.out]
      all_goals clear HU c0 f0 c1 f1 c2 f2 c3 c4 c4'
      all_goals gi_wp2
      all_goals
        obtain ⟨q0, q1, q2, qB, qK⟩ := QQ.out
        rw [HSG.out]
        refine ⟨(qK.trans (KeepsOthers.drew _)).from _, ⟨?_, ?_, q2, qB.drew⟩, rfl, rfl⟩
        · rw [ec]; exact q0
        · rw [ek]; exact q1
  case done =>
    rintro D ⟨k, A⟩ W hD ⟨⟨x0, x1, x2, x3, x4, hB⟩, hk, hL⟩ hK
    have hz := link_end zs k A (by rw [hzl, hmn]; exact hk) hL
    have hg : sumG zs = (0, 0, false) := by unfold sumG; rw [hz]; rfl
    have HG : Hid (sumG zs = (0, 0, false)) := hg
    clear hz hg hL hk
    have c0 := x0.cell
    have f0 := x0.frozen
    have t1 := x1.other (B' := h) (by omega) (.int .i64 0)
    have c1 := t1.cell
    have f1 := t1.frozen
    have t2 := (x2.other (B' := h) (by omega) (.int .i64 0)).other (B' := h + 1) (by omega) (.int .i64 0)
    have c2 := t2.cell
    have f2 := t2.frozen
    have q0 := ((x0.set (.int .i64 0)).other (B' := h + 1) (by omega) (.int .i64 0)).other (B' := h + 2) (by omega) (.bool false)
    have q1 := (t1.set (.int .i64 0)).other (B' := h + 2) (by omega) (.bool false)
    have q2 := t2.set (.bool false)
    have qB := ((hB.setCell (p := ⟨h, 0, none⟩) (Nat.le_refl _) (.int .i64 0)).setCell (p := ⟨h + 1, 0, none⟩) (by show h ≤ h + 1; omega) (.int .i64 0)).setCell (p := ⟨h + 2, 0, none⟩) (by show h ≤ h + 2; omega) (.bool false)
    have qK := (((KeepsOthers.setCell W ⟨h, 0, none⟩ (.int .i64 0)).trans (KeepsOthers.setCell _ ⟨h + 1, 0, none⟩ (.int .i64 0))).trans (KeepsOthers.setCell _ ⟨h + 2, 0, none⟩ (.bool false))).same D _ hK rfl
    gi_wp2
    generalize (((W.setCell ⟨h, 0, none⟩ (.int .i64 0)).setCell ⟨h + 1, 0, none⟩ (.int .i64 0)).setCell ⟨h + 2, 0, none⟩ (.bool false)) = U at q0 q1 q2 qB qK ⊢
    have r0 := sum_ret q0 q1 q2 qK
    refine ⟨by simp, .inl ⟨_, _, rfl, run_takeDeferred qK, ?_⟩⟩
    rw [HG.out]
    refine ⟨_, r0 _ rfl rfl rfl, rfl, ?_⟩
    have := qB.trans (belowK_b (w := W0) (by omega) U D _ (.deferred none) hD qK rfl rfl)
    first | exact this | (rw [hh]; exact this)
  case stop =>
    rintro D c ⟨k, A⟩ W hD ⟨⟨q0, q1, q2, hB⟩, rfl, hok⟩ hK
    have hg : sumG zs = (((sg 4 zs 1).1 : Int), ((sg 4 zs 1).2.1 : Int), true) := by unfold sumG; rw [hok]; rfl
    have HG : Hid (sumG zs = (((sg 4 zs 1).1 : Int), ((sg 4 zs 1).2.1 : Int), true)) := hg
    clear hg hok
    gi_wp2
    have r0 := sum_ret q0 q1 q2 hK
    refine ⟨by simp, .inl ⟨_, _, rfl, run_takeDeferred hK, ?_⟩⟩
    rw [HG.out]
    refine ⟨_, r0 _ rfl rfl rfl, rfl, ?_⟩
    have := hB.trans (belowK_b (w := W0) (by omega) W D _ (.deferred none) hD hK rfl rfl)
    first | exact this | (rw [hh]; exact this)

theorem ret_three {a b c d : Int} {x y : Bool} (h : a = b) (k : c = d) (l : x = y) : Ending.returned (.tuple #[.int .i64 a, .int .i64 c, .bool x]) = .returned (.tuple #[.int .i64 b, .int .i64 d, .bool y]) := by rw [h, k, l]

/-- A slice without its first k bytes. -/
theorem Seg.drop {w : World} {b off len : Nat} {zs : List Int} (h : Seg w (some ⟨b, off, none⟩) len zs) (k : Nat) (hk : k ≤ len) : Seg w (some ⟨b, off + k, none⟩) (len - k) (zs.drop k) := by
  refine ⟨by rw [List.length_drop, h.1], fun x hx => h.2.1 x (List.mem_of_mem_drop hx), ?_⟩
  rcases h.2.2 with h0 | ⟨b', off', e, hb, hc⟩
  · exact .inl (by omega)
  · cases e
    refine .inr ⟨b, off + k, rfl, hb, fun i hi => ?_⟩
    have := hc (k + i) (by omega)
    rw [Nat.add_assoc, this]
    simp [List.getD_eq_getElem?_getD, List.getElem?_drop]

theorem Seg.gone {w : World} {a a' : Option Addr} {len : Nat} {zs : List Int} (h : Seg w a len zs) (k : Nat) (hk : len ≤ k) : Seg w a' (len - k) (zs.drop k) :=
  ⟨by rw [List.length_drop, h.1], fun x hx => h.2.1 x (List.mem_of_mem_drop hx), .inl (by omega)⟩

/-- The three ends of the groups behind a full prefix m. -/
theorem ends (T : List Int) (m : Nat) (p : Int) (hT : ∀ x ∈ T, 0 ≤ x) :
    (∃ S c : Nat, S ≤ 268435456 ∧ c ≤ 4 ∧ m + S ≤ 16777216 ∧ sumG T = ((S : Int), (c : Int), true) ∧ gpf 4 T 1 (m : Int) p = ((m : Int) + (S : Int), p + (c : Int), true)) ∨
    (∃ S c : Nat, S ≤ 268435456 ∧ c ≤ 4 ∧ 16777216 < m + S ∧ sumG T = ((S : Int), (c : Int), true) ∧ gpf 4 T 1 (m : Int) p = (0, 0, false)) ∨
    (sumG T = (0, 0, false) ∧ gpf 4 T 1 (m : Int) p = (0, 0, false)) := by
  have hg := gpf_sg 4 T 1 m p hT
  have e1 : ((1 : Nat) : Int) = 1 := rfl
  rw [e1] at hg
  obtain ⟨hs1, hs2⟩ := sg_small 4 T 1
  have e4 : 128 ^ 4 * 1 = 268435456 := by decide
  rw [e4] at hs1
  rw [hg]
  unfold sumG
  rcases hq : sg 4 T 1 with ⟨S, c, ok⟩
  rw [hq] at hs1 hs2
  dsimp only at hs1 hs2 ⊢
  cases ok with
  | false => exact .inr (.inr ⟨rfl, by simp⟩)
  | true =>
    by_cases hle : m + S ≤ 16777216
    · refine .inl ⟨S, c, by omega, hs2, hle, rfl, ?_⟩
      rw [if_pos ⟨rfl, hle⟩, Int.natCast_add]
    · refine .inr (.inl ⟨S, c, by omega, hs2, by omega, rfl, ?_⟩)
      rw [if_neg (fun h => hle h.2)]

set_option maxRecDepth 10000 in
set_option maxHeartbeats 800000 in
theorem implGpx_yes (b off len cap at_ B : Nat) (zs : List Int) (w : World) (hs : Seg w (some ⟨b, off, none⟩) len zs) (hcap : len ≤ cap) (hl : len ≤ 1099511627776) (h1 : 1 ≤ B) (h8 : B ≤ 8) (hat : at_ < len) :
    Calls Tryz.prog 39 #[.slice (some ⟨b, off, none⟩) len cap, .int .i64 at_, .int .i64 B] w fun e w' => e = .returned (.tuple #[.int .i64 (getPfx zs at_ B).1, .int .i64 (getPfx zs at_ B).2.1, .bool (getPfx zs at_ B).2.2]) ∧ Below w.heap.size w w' := by
  have hzl : zs.length = len := hs.1
  have hcell : w.cell? ⟨b, off + at_, none⟩ = some (.int .u8 (zs.getD at_ 0)) := by
    rcases hs.2.2 with h | ⟨b', off', e, _, h⟩
    · omega
    · cases e
      exact h at_ hat
  have HS : Hid (Seg w (some ⟨b, off, none⟩) len zs) := hs
  obtain ⟨hx0, hx1⟩ := hs.range at_
  clear hs
  have HE : Hid (getPfx zs at_ B = if zs.getD at_ 0 % 2 ^ B < 2 ^ B - 1 then (zs.getD at_ 0 % 2 ^ B, (at_ : Int) + 1, true) else gpf 4 (zs.drop (at_ + 1)) 1 (2 ^ B - 1) ((at_ : Int) + 1)) := by
    show _ = _
    rw [getPfx, if_pos (by omega), Int.toNat_natCast, Int.toNat_natCast]
  generalize getPfx zs at_ B = R at *
  generalize zs.getD at_ 0 = x at *
  obtain ⟨X, rfl⟩ := Int.eq_ofNat_of_zero_le hx0
  have hand := and_mod X B (by omega) h8
  have hps := pow_small B h1 h8
  have HP : Hid (((2 ^ B : Nat) : Int) = (2 : Int) ^ B) := by show _ = _; simp
  have hlast : X % 2 ^ B < 2 ^ B := Nat.mod_lt _ (by omega)
  have HE2 : Hid (R = if X % 2 ^ B < 2 ^ B - 1 then (((X % 2 ^ B : Nat) : Int), (at_ : Int) + 1, true) else gpf 4 (zs.drop (at_ + 1)) 1 ((2 ^ B - 1 : Nat) : Int) ((at_ : Int) + 1)) := by
    show R = _
    rw [HE.out, ← HP.out]
    have e1 : (X : Int) % ((2 ^ B : Nat) : Int) = ((X % 2 ^ B : Nat) : Int) := by omega
    have e2 : ((2 ^ B : Nat) : Int) - 1 = ((2 ^ B - 1 : Nat) : Int) := by omega
    rw [e1, e2]
    by_cases hh : X % 2 ^ B < 2 ^ B - 1
    · rw [if_pos hh, if_pos (by omega)]
    · rw [if_neg hh, if_neg (by omega)]
  clear HE HP
  have HFull : Hid (∀ w : World, Calls Tryz.prog 58 #[.int .i64 B] w fun e w' => e = .returned (.int .i64 ((2 ^ B - 1 : Nat) : Int)) ∧ w' = w) := fun w => full_any B w h1 h8
  generalize hy : X % 2 ^ B = y at *
  generalize hm : 2 ^ B - 1 = m at *
  have hmb : 1 ≤ m ∧ m ≤ 255 ∧ y ≤ m := by omega
  clear hps hlast hy hm
  have hk1 : (1 : Int) ≤ (B : Int) := by omega
  have hk8 : (B : Int) ≤ 8 := by omega
  have ha0 : decide ((at_ : Int) < 0) = false := by simp
  have ha1 : decide ((len : Int) ≤ (at_ : Int)) = false := by simp; omega
  have hali : (at_ : Int) < (len : Int) := by omega
  by_cases hlt : y < m
  · have hd : decide ((y : Int) < (m : Int)) = true := by simp; omega
    have hdp : ((y : Int) < (m : Int)) = True := by simp; omega
    have HR : Hid (R = ((y : Int), (at_ : Int) + 1, true)) := by show R = _; rw [HE2.out, if_pos hlt]
    clear HE2
    go_enter Tryz.func39, Tryz.ntmps39
    go_wp2_with fail
    refine (bitsOk_yes _ _ hk1 hk8).mono ?_
    rintro e w2 ⟨rfl, rfl⟩
    go_wp2_with fail
    refine (HFull.out _).mono ?_
    rintro e w3 ⟨rfl, rfl⟩
    go_wp2_with fail
    go_ret3
    exact ⟨ret_three (by rw [HR.out]) (by rw [HR.out]) (by rw [HR.out]), Below.refl _ _⟩
  · have hd : decide ((y : Int) < (m : Int)) = false := by simp; omega
    have hdp : ((y : Int) < (m : Int)) = False := by simp; omega
    have HR : Hid (R = gpf 4 (zs.drop (at_ + 1)) 1 (m : Int) ((at_ : Int) + 1)) := by show R = _; rw [HE2.out, if_neg hlt]
    clear HE2
    have hym : y = m := by omega
    have HQ := ends (zs.drop (at_ + 1)) m ((at_ : Int) + 1) (fun x hx => (HS.out.2.1 x (List.mem_of_mem_drop hx)).1)
    rw [← HR.out] at HQ
    have HQ' : Hid _ := HQ
    clear HQ HR
    go_enter Tryz.func39, Tryz.ntmps39
    go_wp2_with fail
    refine (bitsOk_yes _ _ hk1 hk8).mono ?_
    rintro e w2 ⟨rfl, rfl⟩
    go_wp2_with fail
    refine (HFull.out _).mono ?_
    rintro e w3 ⟨rfl, rfl⟩
    go_wp2_with fail
    all_goals
      refine (sumG_any _ _ _ _ (zs.drop (at_ + 1)) _ (by first | exact HS.out.drop (at_ + 1) (by omega) | exact HS.out.gone (at_ + 1) (by omega)) (by omega) (by omega)).mono ?_
      rintro e w4 ⟨rfl, hb4⟩
      have HB4 : Hid (Below w3.heap.size w3 w4) := hb4
      clear hb4 hand hcell hd hdp HFull
      rcases HQ'.out with ⟨S, c, hS, hc, hle, e1, e2⟩ | ⟨S, c, hS, hc, hgt, e1, e2⟩ | ⟨e1, e2⟩
    all_goals clear HQ'
    all_goals rw [e1]
    all_goals have E2 : Hid (R = _) := e2
    all_goals clear e1 e2
    all_goals dsimp only
    case inl.inl | inr.inl =>
      have hcmp : decide ((16777216 : Int) < (m : Int) + (S : Int)) = false := by simp; omega
      have hmi : (m : Int) + (S : Int) ≤ 16777216 := by omega
      have hci : (c : Int) ≤ 4 := by omega
      go_wp2_with fail
      go_ret3
      exact ⟨ret_three (by rw [E2.out]) (by rw [E2.out]) (by rw [E2.out]), HB4.out⟩
    case inl.inr.inl | inr.inr.inl =>
      have hcmp : decide ((16777216 : Int) < (m : Int) + (S : Int)) = true := by simp; omega
      have hmi : (m : Int) + (S : Int) ≤ 268435711 := by omega
      have hci : (c : Int) ≤ 4 := by omega
      go_wp2_with fail
      go_ret3
      exact ⟨ret_three (by rw [E2.out]) (by rw [E2.out]) (by rw [E2.out]), HB4.out⟩
    all_goals
      go_wp2_with fail
      go_ret3
      exact ⟨ret_three (by rw [E2.out]) (by rw [E2.out]) (by rw [E2.out]), HB4.out⟩

set_option maxRecDepth 10000 in
set_option maxHeartbeats 400000 in
theorem implGpx_no (a : Option Addr) (len cap : Nat) (at_ bits : Int) (w : World) (hl : len ≤ 1099511627776) (h : ¬ (1 ≤ bits ∧ bits ≤ 8 ∧ 0 ≤ at_ ∧ at_ < (len : Int))) :
    Calls Tryz.prog 39 #[.slice a len cap, .int .i64 at_, .int .i64 bits] w fun e w' => e = .returned (.tuple #[.int .i64 0, .int .i64 0, .bool false]) ∧ w' = w := by
  have HN : Hid (¬ (1 ≤ bits ∧ bits ≤ 8 ∧ 0 ≤ at_ ∧ at_ < (len : Int))) := h
  clear h
  by_cases hb : 1 ≤ bits ∧ bits ≤ 8
  · have HF : Hid (at_ < 0 ∨ (len : Int) ≤ at_) := by
      have := HN.out
      show _ ∨ _
      omega
    obtain ⟨hb1, hb2⟩ := hb
    go_enter Tryz.func39, Tryz.ntmps39
    go_wp2_with fail
    refine (bitsOk_yes _ _ hb1 hb2).mono ?_
    rintro e w2 ⟨rfl, rfl⟩
    by_cases h0 : at_ < 0
    · go_wp2_with fail
      go_ret3
      exact ⟨rfl, rfl⟩
    · have h2 : (len : Int) ≤ at_ := by have := HF.out; omega
      go_wp2_with fail
      go_ret3
      exact ⟨rfl, rfl⟩
  · have HF : Hid (bits < 1 ∨ 8 < bits) := by show _ ∨ _; omega
    clear hb
    go_enter Tryz.func39, Tryz.ntmps39
    go_wp2_with fail
    refine (bitsOk_no _ _ HF.out).mono ?_
    rintro e w2 ⟨rfl, rfl⟩
    go_wp2_with fail
    go_ret3
    exact ⟨rfl, rfl⟩

theorem implGpx_any (b off len cap : Nat) (at_ bits : Int) (zs : List Int) (w : World) (hs : Seg w (some ⟨b, off, none⟩) len zs) (hcap : len ≤ cap) (hl : len ≤ 1099511627776) :
    Calls Tryz.prog 39 #[.slice (some ⟨b, off, none⟩) len cap, .int .i64 at_, .int .i64 bits] w fun e w' => e = .returned (.tuple #[.int .i64 (getPfx zs at_ bits).1, .int .i64 (getPfx zs at_ bits).2.1, .bool (getPfx zs at_ bits).2.2]) ∧ Below w.heap.size w w' := by
  have hz := hs.1
  by_cases h : 1 ≤ bits ∧ bits ≤ 8 ∧ 0 ≤ at_ ∧ at_ < (zs.length : Int)
  · obtain ⟨B, rfl⟩ := Int.eq_ofNat_of_zero_le (show 0 ≤ bits by omega)
    obtain ⟨T, rfl⟩ := Int.eq_ofNat_of_zero_le (show 0 ≤ at_ by omega)
    exact implGpx_yes b off len cap T B zs w hs hcap hl (by omega) (by omega) (by omega)
  · rw [getPfx, if_neg h]
    refine (implGpx_no _ len cap at_ bits w hl (by omega)).mono ?_
    rintro e w' ⟨rfl, rfl⟩
    exact ⟨rfl, Below.refl _ _⟩

end Go.Proofs.YtckpacifimpkgacGreat

namespace Go.Proofs.YtckpacifimpkgacGreat
open Go.RowKit
set_option linter.unusedVariables false

/-- A variable of its own that holds this value. -/
def Var (w : World) (b : Nat) (t : TypeId) (v : Value) : Prop := w.heap[b]? = some (.cells #[v] t (0, 0))
theorem Var.lt {w : World} {b : Nat} {t : TypeId} {v : Value} (h : Var w b t v) : b < w.heap.size := (Array.getElem?_eq_some_iff.1 h).1
theorem Var.cell {w : World} {b : Nat} {t : TypeId} {v : Value} (h : Var w b t v) : w.cell? ⟨b, 0, none⟩ = some v := by
  rw [cell_of_row w b 0 _ t (0, 0) h]
  rfl
theorem Var.frozen {w : World} {b : Nat} {t : TypeId} {v : Value} (h : Var w b t v) : w.frozen? ⟨b, 0, none⟩ = false := by
  have h' : w.heap[b]? = some (.cells #[v] t (0, 0)) := h
  simp [World.frozen?, h']
theorem Var.alloc {w : World} {b : Nat} {t : TypeId} {v : Value} (h : Var w b t v) (o : Obj) : Var (w.alloc o) b t v := heap_kept h o
theorem Var.set {w : World} {b : Nat} {t : TypeId} {v : Value} (h : Var w b t v) (u : Value) : Var (w.setCell ⟨b, 0, none⟩ u) b t u := by
  show _ = _
  rw [setCell_eq_setRow w b 0 _ t (0, 0) _ h, setRow_heap w b _ _ t (0, 0) h]
  rfl
theorem Var.set_other {w : World} {b b' : Nat} {t : TypeId} {v : Value} (h : Var w b t v) (k : Nat) (u : Value) (hne : b ≠ b') : Var (w.setCell ⟨b', k, none⟩ u) b t v := by
  show _ = _
  have h' : w.heap[b]? = some (.cells #[v] t (0, 0)) := h
  simp [World.setCell, Array.getElem?_modify, Ne.symm hne, h']

set_option maxHeartbeats 400000 in
theorem bitsOf_any (a : Option Addr) (len cap : Nat) (w : World) :
    Calls Tryz.prog 103 #[.slice a len cap] w fun e w' => e = .returned (.func (.func 104) #[] #[.pointer (some ⟨w.heap.size + 1, 0, none⟩), .pointer (some ⟨w.heap.size, 0, none⟩)]) ∧ w' = (w.alloc (.cells #[.slice a len cap] 22)).alloc (.cells #[.int .i64 0] 3) := by
  go_enter Tryz.func103, Tryz.ntmps103
  go_wp2
  go_ret
  exact ⟨rfl, rfl⟩

set_option maxRecDepth 10000 in
set_option maxHeartbeats 800000 in
theorem next_end (p q : Nat) (a : Option Addr) (len cap : Nat) (w : World) (hp : Var w p 3 (.int .i64 ((8 * len : Nat) : Int))) (hq : Var w q 22 (.slice a len cap)) (hl : len ≤ 1099511627776) :
    Calls Tryz.prog 104 #[.pointer (some ⟨p, 0, none⟩), .pointer (some ⟨q, 0, none⟩)] w fun e w' => e = .returned (.tuple #[.int .i64 0, .bool false]) ∧ w' = w := by
  have cp := hp.cell
  have cq := hq.cell
  have hli : (len : Int) ≤ 1099511627776 := by omega
  have e8 : ((8 * len : Nat) : Int) = (len : Int) * 8 := by omega
  rw [e8] at cp
  clear hp hq e8
  go_enter Tryz.func104, Tryz.ntmps104
  go_wp2_with fail
  go_ret2
  exact ⟨rfl, rfl⟩

set_option maxRecDepth 10000 in
set_option maxHeartbeats 800000 in
theorem next_bit (p q k : Nat) (a : Option Addr) (len cap : Nat) (zs : List Int) (w : World) (hp : Var w p 3 (.int .i64 (k : Int))) (hq : Var w q 22 (.slice a len cap)) (hs : Seg w a len zs) (hl : len ≤ 1099511627776) (hk : k < 8 * len) :
    Calls Tryz.prog 104 #[.pointer (some ⟨p, 0, none⟩), .pointer (some ⟨q, 0, none⟩)] w fun e w' => e = .returned (.tuple #[.int .i64 (bitAt zs k : Int), .bool true]) ∧ ∃ n, w' = (w.drewN n).setCell ⟨p, 0, none⟩ (.int .i64 ((k : Int) + 1)) := by
  have cp := hp.cell
  have fp := hp.frozen
  have cq := hq.cell
  have hli : (len : Int) ≤ 1099511627776 := by omega
  have hki : (k : Int) < (len : Int) * 8 := by omega
  obtain ⟨b, off, rfl, hb, hcell⟩ : ∃ b off, a = some ⟨b, off, none⟩ ∧ b < w.heap.size ∧ w.cell? ⟨b, off + k / 8, none⟩ = some (.int .u8 (zs.getD (k / 8) 0)) := by
    rcases hs.2.2 with h0 | ⟨b, off, e, hb, hc⟩
    · omega
    · exact ⟨b, off, e, hb, hc (k / 8) (by omega)⟩
  have hrg := hs.range (k / 8)
  obtain ⟨X, hX⟩ := Int.eq_ofNat_of_zero_le hrg.1
  rw [hX] at hcell hrg
  have hx1 : (X : Int) ≤ 255 := hrg.2
  have hbit : bitAt zs k = X / 2 ^ (7 - k % 8) % 2 := by unfold bitAt; rw [hX, Int.toNat_natCast]
  have hand : bits .and .u8 ((X : Int) / 2 ^ (7 - k % 8)) 1 = (bitAt zs k : Int) := by
    have e1 : (X : Int) / 2 ^ (7 - k % 8) = ((X / 2 ^ (7 - k % 8) : Nat) : Int) := by simp
    have h2 : X / 2 ^ (7 - k % 8) ≤ X := Nat.div_le_self _ _
    rw [e1, hbit]
    have := u8_and_nat (X / 2 ^ (7 - k % 8)) 1 (by omega) (by omega)
    rw [Nat.and_one_is_mod] at this
    exact this
  have hb1 := bitAt_le zs k
  clear hs hp hq hrg hX hbit
  generalize bitAt zs k = B at *
  have hB1 : (B : Int) ≤ 1 := by omega
  go_enter Tryz.func104, Tryz.ntmps104
  go_wp2_with fail
  go_quiet (fail)
  have cp2 : (w.drewN nq).cell? ⟨p, 0, none⟩ = some (.int .i64 (k : Int)) := cp
  have fp2 : (w.drewN nq).frozen? ⟨p, 0, none⟩ = false := fp
  clear cp fp cq hcell hand
  go_wp2_with fail
  go_ret2
  exact ⟨rfl, nq, rfl⟩

end Go.Proofs.YtckpacifimpkgacGreat

namespace Go.Proofs.YtckpacifimpkgacGreat
open Go.RowKit
set_option linter.unusedVariables false

theorem rows_at (n : Nat) (hn : n ≤ 30) : rowsI.getD (n * 3) 0 = (countN n : Int) ∧ rowsI.getD (n * 3 + 1) 0 = (firstN n : Int) ∧ rowsI.getD (n * 3 + 2) 0 = (shortN n : Int) := by
  have h0 := rows_nat (n * 3) (by omega)
  have h1 := rows_nat (n * 3 + 1) (by omega)
  have h2 := rows_nat (n * 3 + 2) (by omega)
  unfold countN firstN shortN
  omega

theorem rows_small (n : Nat) (hn : n ≤ 30) : countN n ≤ 1073741824 ∧ firstN n ≤ 1073741824 ∧ shortN n ≤ 1073741824 := by
  have h0 := rows_nat (n * 3) (by omega)
  have h1 := rows_nat (n * 3 + 1) (by omega)
  have h2 := rows_nat (n * 3 + 2) (by omega)
  unfold countN firstN shortN
  omega

theorem no_code (n A : Nat) (h : firstN n + countN n ≤ A) : ∀ c : UInt8, ¬ (lenOf c = n ∧ codeOfB c = A) := by
  rintro c ⟨h1, h2⟩
  have hc : c.toNat < 256 := c.toNat_lt
  have ht := codes_top c.toNat (by omega)
  have e1 : (lensI.getD c.toNat 0).toNat = n := h1
  have e2 : (codesI.getD c.toNat 0).toNat = A := h2
  rw [e1, e2] at ht
  omega

theorem end_len : lensI.getD 256 0 = 30 := by decide +kernel
theorem end_code : codesI.getD 256 0 = 1073741823 := by decide +kernel

theorem found_sym (n A : Nat) (hn : n ≤ 30) (h1 : firstN n ≤ A) (h2 : A < firstN n + countN n) :
    ∃ s : Nat, s < 257 ∧ shortN n + A - firstN n < 257 ∧ rankI.getD (shortN n + A - firstN n) 0 = (s : Int) ∧ ((s = 256 ∧ n = 30 ∧ A = 1073741823) ∨ ∃ c : UInt8, s = c.toNat ∧ lenOf c = n ∧ codeOfB c = A) := by
  obtain ⟨r1, r2, r3, r4, r5⟩ := rank_sym n (by omega) (A - firstN n) (by omega)
  have e : shortN n + A - firstN n = shortN n + (A - firstN n) := by omega
  rw [e]
  obtain ⟨s, hs⟩ := Int.eq_ofNat_of_zero_le r2
  rw [hs] at r3 r4 r5 ⊢
  rw [Int.toNat_natCast] at r4 r5
  have hs7 : s < 257 := by omega
  refine ⟨s, hs7, r1, rfl, ?_⟩
  by_cases h6 : s = 256
  · subst h6
    rw [end_len] at r4
    rw [end_code] at r5
    exact .inl ⟨rfl, by omega, by omega⟩
  · have e2 : (UInt8.ofNat s).toNat = s := by
      have : s < 256 := by omega
      simp
      omega
    refine .inr ⟨UInt8.ofNat s, e2.symm, ?_, ?_⟩
    · unfold lenOf
      rw [e2, r4]
      omega
    · unfold codeOfB
      rw [e2, r5]
      omega

theorem end_none (zs : List Int) (u : List UInt8) (r : List Bool) (h : byteBits zs = textBits u ++ (bitsN 30 1073741823 ++ r)) : ∀ l, ¬ HuffOf l zs := by
  have e : bitsN 30 1073741823 = List.replicate 30 true := bitsN_ones 30
  rw [e] at h
  refine no_text zs u _ ?_ h ?_
  · intro c hc
    have hl := lenOf_range c
    exact free_ones 30 c (List.prefix_of_prefix_length_le hc (List.prefix_append _ _) (by rw [codeBits, bitsN_len, List.length_replicate]; omega))
  · intro p hp he
    have := congrArg List.length he
    rw [List.length_append, List.length_replicate, List.length_replicate] at this
    omega

theorem top_all (A : Nat) (h : A < 2 ^ 30) : A < firstN 30 + countN 30 := by
  rw [first_all]
  omega

theorem first_start : firstN 0 + countN 0 = 0 := by decide +kernel

/-- What a row of the call's own is not: a variable of another type. -/
theorem own_other {w : World} {base n : Nat} {v : Value} {xs : List Value} (h : w.ownsRow base 5 1 v n xs) {p : Nat} {cs : Array Value} {t : TypeId} {fr : Nat × Nat} (hp : w.heap[p]? = some (.cells cs t fr)) (ht : t ≠ 5) : v.ownBlock ≠ some p := by
  rcases h.2 with ⟨rfl, _⟩ | ⟨g, cap, cur, rfl, _, hg, _⟩
  · simp [Value.ownBlock]
  · intro e
    simp only [Value.ownBlock, Option.some.injEq] at e
    subst e
    rw [hg] at hp
    injection hp with hp
    injection hp with _ h2 _
    exact ht h2.symm

end Go.Proofs.YtckpacifimpkgacGreat

namespace Go.Proofs.YtckpacifimpkgacGreat
open Go.RowKit
set_option linter.unusedVariables false

/-- The text so far in a row of the call's own, the place and the bytes in variables of the reader's. -/
structure Reads (w6 : World) (p q : Nat) (a : Option Addr) (len cap : Nat) (w : World) (v : Value) (u : List UInt8) (k : Nat) : Prop where
  own : w.ownsRow w6.heap.size 5 1 v u.length ((asInts u).map (Value.int .u8))
  below : Below w6.heap.size w6 w
  place : Var w p 3 (.int .i64 (k : Int))
  bytes : Var w q 22 (.slice a len cap)
  hp : w6.heap.size ≤ p
  hpq : q ≠ p

variable {w6 w : World} {p q : Nat} {a : Option Addr} {len cap : Nat} {v : Value} {u : List UInt8} {k : Nat}

theorem Reads.alloc (h : Reads w6 p q a len cap w v u k) (o : Obj) : Reads w6 p q a len cap (w.alloc o) v u k :=
  ⟨h.own.alloc o, h.below.alloc h.below.size o, h.place.alloc o, h.bytes.alloc o, h.hp, h.hpq⟩

theorem Reads.moved (h : Reads w6 p q a len cap w v u k) (n : Nat) : Reads w6 p q a len cap ((w.drewN n).setCell ⟨p, 0, none⟩ (.int .i64 ((k : Int) + 1))) v u (k + 1) := by
  have h1 : (w.drewN n).ownsRow w6.heap.size 5 1 v u.length ((asInts u).map (Value.int .u8)) := h.own
  have h2 : Var (w.drewN n) p 3 (.int .i64 (k : Int)) := h.place
  have h3 : Var (w.drewN n) q 22 (.slice a len cap) := h.bytes
  have n1 : v.ownBlock ≠ some p := own_other (cs := #[.int .i64 (k : Int)]) (t := 3) (fr := (0, 0)) h1 h2 (by decide)
  refine ⟨ownsRow_setCell_other h1 (a := ⟨p, 0, none⟩) n1 _, (below_drewN h.below n).setCell h.hp _, ?_, h3.set_other _ _ h.hpq, h.hp, h.hpq⟩
  have e : ((k + 1 : Nat) : Int) = (k : Int) + 1 := by omega
  rw [e]
  exact h2.set _

theorem Reads.grown (h : Reads w6 p q a len cap w v u k) {w' : World} {v' : Value} {c : UInt8} (hown : w'.ownsRow w6.heap.size 5 1 v' (u.length + 1) ((asInts u).map (Value.int .u8) ++ [.int .u8 (c.toNat : Int)])) (hg : w.grownBy w' v.ownBlock) : Reads w6 p q a len cap w' v' (u ++ [c]) k := by
  have n1 : v.ownBlock ≠ some p := own_other (cs := #[.int .i64 (k : Int)]) (t := 3) (fr := (0, 0)) h.own h.place (by decide)
  have n2 : v.ownBlock ≠ some q := own_other (cs := #[.slice a len cap]) (t := 22) (fr := (0, 0)) h.own h.bytes (by decide)
  refine ⟨?_, h.below.grown hg h.below.size (fun k hk => (h.own.lt k hk).1), (hg.block p h.place.lt (Ne.symm n1)).trans h.place, (hg.block q h.bytes.lt (Ne.symm n2)).trans h.bytes, h.hp, h.hpq⟩
  rw [asInts_snoc, List.map_append, List.length_append]
  exact hown

/-- What the reader answers at place k, and where it stands behind it. -/
def Got (zs : List Int) (len k : Nat) (B : Int) (O : Bool) (k' : Nat) : Prop := (k < 8 * len ∧ B = (bitAt zs k : Int) ∧ O = true ∧ k' = k + 1) ∨ (k = 8 * len ∧ B = 0 ∧ O = false ∧ k' = k)

theorem next_any (zs : List Int) (h : Reads w6 p q a len cap w v u k) (hs : Seg w6 a len zs) (hl : len ≤ 1099511627776) (hk : k ≤ 8 * len) :
    Calls Tryz.prog 104 #[.pointer (some ⟨p, 0, none⟩), .pointer (some ⟨q, 0, none⟩)] w fun e w' =>
      ∃ (B : Int) (O : Bool) (k' : Nat), e = .returned (.tuple #[.int .i64 B, .bool O]) ∧ Got zs len k B O k' ∧ Reads w6 p q a len cap w' v u k' := by
  by_cases hlt : k < 8 * len
  · refine (next_bit p q k a len cap zs w h.place h.bytes (hs.below h.below) hl hlt).mono ?_
    rintro e w' ⟨rfl, n, rfl⟩
    exact ⟨_, _, _, rfl, .inl ⟨hlt, rfl, rfl, rfl⟩, h.moved n⟩
  · have e : k = 8 * len := by omega
    have hp : Var w p 3 (.int .i64 ((8 * len : Nat) : Int)) := by rw [← e]; exact h.place
    refine (next_end p q a len cap w hp h.bytes hl).mono ?_
    rintro e' w' ⟨rfl, rfl⟩
    exact ⟨_, _, _, rfl, .inr ⟨e, rfl, rfl, rfl⟩, h⟩

/-- The number in a variable, and 1 for what is true: what is left to read. -/
def numIn (b : Nat) (W : World) : Nat := match W.cell? ⟨b, 0, none⟩ with | some (.int _ x) => x.toNat | _ => 0
def okIn : Value → Nat
  | .bool true => 1
  | _ => 0
theorem numIn_eq {W : World} {b : Nat} {t : TypeId} {x : Int} (h : Var W b t (.int .i64 x)) : numIn b W = x.toNat := by simp [numIn, h.cell]

theorem got_less (zs : List Int) (w' : World) (v' : Value) (u' : List UInt8) (B : Int) (O : Bool) (k' : Nat) (h : Reads w6 p q a len cap w v u (k + 1)) (hg : Got zs len (k + 1) B O k') (h' : Reads w6 p q a len cap w' v' u' k') (hk : k < 8 * len) :
    2 * (8 * len - numIn p w') + okIn (.bool O) < 2 * (8 * len - numIn p w) + okIn (.bool true) := by
  rw [numIn_eq h.place, numIn_eq h'.place, Int.toNat_natCast, Int.toNat_natCast]
  rcases hg with ⟨h1, _, rfl, rfl⟩ | ⟨h1, _, rfl, rfl⟩
  · simp only [okIn]
    omega
  · simp only [okIn]
    omega

end Go.Proofs.YtckpacifimpkgacGreat

namespace Go.Proofs.YtckpacifimpkgacGreat
open Go.RowKit
set_option linter.unusedVariables false

set_option maxRecDepth 10000 in
set_option maxHeartbeats 3200000 in
theorem implUn_any (a : Option Addr) (len cap : Nat) (zs : List Int) (w : World) (hs : Seg w a len zs) (hl : len ≤ 1099511627776) :
    Calls Tryz.prog 97 #[.slice a len cap] w fun e w' =>
      ((∃ t : ByteArray, e = .returned (.tuple #[.string t, .bool true]) ∧ HuffOf t.data.toList zs) ∨ (e = .returned (.tuple #[.string ⟨#[]⟩, .bool false]) ∧ ∀ l, ¬ HuffOf l zs)) ∧ Below w.heap.size w w' := by
  obtain ⟨i0, hi, hz0, hz1, hz2⟩ := info_parts Tryz.info5
  have HS : Hid (Seg w a len zs) := hs
  have hzl : zs.length = len := hs.1
  clear hs
  obtain ⟨Z, hZ⟩ : ∃ Z : List Int, List.replicate 257 0 = Z := ⟨_, rfl⟩
  obtain ⟨Y, hY⟩ : ∃ Y : List Int, List.replicate 93 0 = Y := ⟨_, rfl⟩
  have hz : ∀ w, (zeroValue 136).run Tryz.prog w = .ok (.agg (tabV Z)) w := by rw [← hZ]; exact zeroA
  have hy : ∀ w, (zeroValue 148).run Tryz.prog w = .ok (.agg (tabV Y)) w := by rw [← hY]; exact zeroR
  have hzs : (tabV Z).size = (tabV lensI).size := by rw [tabV_size, tabV_size, ← hZ, List.length_replicate, lens_len]
  have hzr : (tabV Z).size = (tabV rankI).size := by rw [tabV_size, tabV_size, ← hZ, List.length_replicate, rankI_len]
  have hys : (tabV Y).size = (tabV rowsI).size := by rw [tabV_size, tabV_size, ← hY, List.length_replicate, rowsI_len]
  clear hZ hY
  go_enter Tryz.func97, Tryz.ntmps97
  go_wp2_with fail
  refine (implLens_any w).mono ?_
  rintro e w1 ⟨rfl, hw1⟩
  have HB1 : Hid (Below w.heap.size w w1) := by
    show Below _ _ _
    rw [hw1]
    exact (Below.refl _ _).alloc (Nat.le_refl _) _
  clear hw1
  have hg2 := heap_alloc_last w1 (.cells (tabV lensI) 136)
  go_wp2_with (first
    | (refine wpList_store_row rfl 136 _ _ rfl w1.heap.size (tabV lensI) rfl rfl 136 (tabV Z) (heap_alloc_last w1 _) (sizeA lens_len) hzs (tabV_one _) ?_; rw [World.setRow_alloc_new])
    | (refine wpList_load_row rfl 136 _ rfl w1.heap.size rfl 136 (tabV lensI) (0, 0) _ hg2 Tryz.underlying136 rfl (sizeA lens_len) ?_))
  obtain ⟨w2, hw2⟩ : ∃ w2, w1.alloc (.cells (tabV lensI) 136) = w2 := ⟨_, rfl⟩
  have HT2 : Hid (Arr w2 w1.heap.size 136 lensI) := by show Arr _ _ _ _; rw [← hw2]; exact Arr.new w1 _ _
  have HB2 : Hid (Below w.heap.size w w2) := by show Below _ _ _; rw [← hw2]; exact HB1.out.alloc HB1.out.size _
  rw [hw2]
  clear hw2 hg2 hzs HB1
  obtain ⟨h, hh⟩ : ∃ h, w1.heap.size = h := ⟨_, rfl⟩
  rw [hh] at HT2 ⊢
  clear hh
  refine (implRows_any w2).mono ?_
  rintro e w3 ⟨rfl, hb3⟩
  have hg3 : (w3.alloc (.cells (tabV rowsI) 148)).heap[h]? = some (.cells (tabV lensI) 136 (0, 0)) := (HT2.out.stays hb3).alloc _
  have HB3 : Hid (Below w.heap.size w w3) := HB2.out.trans (hb3.mono HB2.out.size)
  clear hb3 HT2 HB2
  go_wp2_with (first
    | (refine wpList_store_row rfl 148 _ _ rfl w3.heap.size (tabV rowsI) rfl rfl 148 (tabV Y) (heap_alloc_last w3 _) (sizeR rowsI_len) hys (tabV_one _) ?_; rw [World.setRow_alloc_new])
    | (refine wpList_load_row rfl 136 _ rfl h rfl 136 (tabV lensI) (0, 0) _ hg3 Tryz.underlying136 rfl (sizeA lens_len) ?_))
  obtain ⟨w4, hw4⟩ : ∃ w4, w3.alloc (.cells (tabV rowsI) 148) = w4 := ⟨_, rfl⟩
  have HR4 : Hid (Arr w4 w3.heap.size 148 rowsI) := by show Arr _ _ _ _; rw [← hw4]; exact Arr.new w3 _ _
  have HB4 : Hid (Below w.heap.size w w4) := by show Below _ _ _; rw [← hw4]; exact HB3.out.alloc HB3.out.size _
  rw [hw4]
  clear hw4 hg3 hys hy HB3
  obtain ⟨r, hr⟩ : ∃ r, w3.heap.size = r := ⟨_, rfl⟩
  rw [hr] at HR4 ⊢
  clear hr
  refine (implRanks_any w4).mono ?_
  rintro e w5 ⟨rfl, hb5⟩
  have HR5 : Hid (Arr w5 r 148 rowsI) := HR4.out.stays hb5
  have HB5 : Hid (Below w.heap.size w w5) := HB4.out.trans (hb5.mono HB4.out.size)
  clear hb5 HR4 HB4
  go_wp2_with (refine wpList_store_row rfl 136 _ _ rfl w5.heap.size (tabV rankI) rfl rfl 136 (tabV Z) (heap_alloc_last w5 _) (sizeA rankI_len) hzr (tabV_one _) ?_; rw [World.setRow_alloc_new]; refine Hid.out ?_)
  refine hidden ?_
  obtain ⟨w6, hw6⟩ : ∃ w6, w5.alloc (.cells (tabV rankI) 136) = w6 := ⟨_, rfl⟩
  have HK6 : Hid (Arr w6 w5.heap.size 136 rankI) := by show Arr _ _ _ _; rw [← hw6]; exact Arr.new w5 _ _
  have HR6 : Hid (Arr w6 r 148 rowsI) := by show Arr _ _ _ _; rw [← hw6]; exact HR5.out.alloc _
  have HB6 : Hid (Below w.heap.size w w6) := by show Below _ _ _; rw [← hw6]; exact HB5.out.alloc HB5.out.size _
  rw [hw6]
  clear hw6 hzr hz HR5 HB5
  obtain ⟨g, hg⟩ : ∃ g, w5.heap.size = g := ⟨_, rfl⟩
  rw [hg] at HK6 ⊢
  clear hg
  have HS6 : Hid (Seg w6 a len zs) := HS.out.below HB6.out
  go_wp2_with fail
  refine (bitsOf_any a len cap (w6.alloc (.cells #[] 5))).mono ?_
  rintro e w8 ⟨rfl, hw8⟩
  have HRd : Hid (Reads w6 (w6.heap.size + 2) (w6.heap.size + 1) a len cap w8 (.slice (some ⟨w6.heap.size, 0, none⟩) 0 0) [] 0) := by
    have h1 : (w6.alloc (.cells #[] 5)).ownsRow w6.heap.size 5 1 (.slice (some ⟨w6.heap.size, 0, none⟩) 0 0) 0 ((asInts []).map (Value.int .u8)) := World.ownsRow_lit w6 #[] 0 (Nat.le_refl _) (Nat.zero_le _) rfl
    refine ⟨?_, ?_, ?_, ?_, by omega, by omega⟩
    · rw [hw8]
      exact (h1.alloc _).alloc _
    · rw [hw8]
      exact (((Below.refl _ _).alloc (Nat.le_refl _) _).alloc (by simp) _).alloc (by simp; omega) _
    · have := heap_alloc_last ((w6.alloc (.cells #[] 5)).alloc (.cells #[.slice a len cap] 22)) (.cells #[.int .i64 0] 3)
      rw [World.size_alloc, World.size_alloc] at this
      rw [hw8]
      exact this
    · have := heap_kept (heap_alloc_last (w6.alloc (.cells #[] 5)) (.cells #[.slice a len cap] 22)) (.cells #[.int .i64 0] 3)
      rw [World.size_alloc] at this
      rw [hw8]
      exact this
  clear hw8
  rw [World.size_alloc]
  obtain ⟨p, hp⟩ : ∃ p, w6.heap.size + 2 = p := ⟨_, rfl⟩
  obtain ⟨q, hq⟩ : ∃ q, w6.heap.size + 1 = q := ⟨_, rfl⟩
  have hp' : w6.heap.size + 1 + 1 = p := hp
  rw [hp, hq] at HRd
  rw [hp', hq]
  clear hp hp' hq
  go_wp2_with fail
  refine (next_any zs HRd.out HS6.out hl (by omega)).mono ?_
  rintro e w9 ⟨B, O, k', rfl, hgot, hrd⟩
  have HG9 : Hid (Got zs len 0 B O k') := hgot
  have HR9 : Hid (Reads w6 p q a len cap w9 (.slice (some ⟨w6.heap.size, 0, none⟩) 0 0) [] k') := hrd
  clear hgot hrd HRd
  have hli : (len : Int) ≤ 1099511627776 := by omega
  go_wp2_with fail
  go_loopw [7, 8, 9, 11, 12] (fun v c l bit ok wr => ∃ (k k' N A : Nat) (u : List UInt8) (B : Int) (O : Bool), Hid (Got zs len k B O k') ∧ bit = .int .i64 B ∧ ok = .bool O ∧ l = .int .i64 N ∧ c = .int .i64 A ∧ N ≤ 29 ∧ Hid (A < 2 ^ N) ∧ Hid (firstN N + countN N ≤ A) ∧ Hid ((byteBits zs).take k = textBits u ++ bitsN N A) ∧ Hid (Free (bitsN N A)) ∧ Hid (Reads w6 p q a len cap wr v u k')) (fun _ _ _ _ ok wr => 2 * (8 * len - numIn p wr) + okIn ok)
  case atStart => exact ⟨0, k', 0, 0, [], B, O, HG9, rfl, rfl, rfl, rfl, by omega, by show 0 < 2 ^ 0; decide, by show _ ≤ _; rw [first_start]; exact Nat.le_refl _, rfl, free_nil, HR9⟩
  case round =>
    clear HG9 HR9
    obtain ⟨k, k1, N, A, u, B, O, HG, rfl, rfl, rfl, rfl, hN, HA, HF, HE, HFr, HRd⟩ := hrel
    rcases HG.out with ⟨hlt, rfl, rfl, rfl⟩ | ⟨hk8, rfl, rfl, rfl⟩
    · have HE2 : Hid ((byteBits zs).take (k + 1) = textBits u ++ bitsN (N + 1) (A * 2 + bitAt zs k)) := by
        show _ = _
        rw [take_bit zs k (by omega), HE.out, push_bit N A _ (bitAt_le zs k), List.append_assoc]
      have hb1 := bitAt_le zs k
      have hA2 : A * 2 + bitAt zs k < 2 ^ (N + 1) := by
        have := HA.out
        rw [Nat.pow_succ]
        omega
      have HA2 : Hid (A * 2 + bitAt zs k < 2 ^ (N + 1)) := hA2
      have hAs : A < 536870912 := by
        have h1 : 2 ^ N ≤ 2 ^ 29 := Nat.pow_le_pow_right (by decide) hN
        have := HA.out
        omega
      have hor : bits .or .i64 ((A : Int) * 2) (bitAt zs k : Int) = ((A * 2 + bitAt zs k : Nat) : Int) := by
        have := or_joinH A 1 (bitAt zs k) (by omega) (by omega) (by omega)
        simpa using this
      have hfirst : firstN (N + 1) ≤ A * 2 + bitAt zs k := by
        rw [first_next N (by omega)]
        have := HF.out
        omega
      have HFP : Hid ((∀ c : UInt8, ¬ (lenOf c = N + 1 ∧ codeOfB c = A * 2 + bitAt zs k)) → Free (bitsN (N + 1) (A * 2 + bitAt zs k))) := fun hno => free_push N A (bitAt zs k) hA2 hb1 HFr.out hno
      have HFo : Hid (∀ c : UInt8, lenOf c = N + 1 → codeOfB c = A * 2 + bitAt zs k → bitsN (N + 1) (A * 2 + bitAt zs k) = codeBits c) := fun c h1 h2 => found N A _ c h1 h2
      have hB1 : (bitAt zs k : Int) ≤ 1 := by omega
      have hA3 : A * 2 + bitAt zs k < 1073741824 := by omega
      clear HA HF HE HFr HG hA2
      obtain ⟨e0, e1, e2⟩ := rows_at (N + 1) (by omega)
      obtain ⟨s0, s1, s2⟩ := rows_small (N + 1) (by omega)
      have hR := HR6.out.below HRd.out.below HR6.out.lt
      have c0 := hR.cell ((N + 1) * 3) (by rw [rowsI_len]; omega)
      have c1 := hR.cell ((N + 1) * 3 + 1) (by rw [rowsI_len]; omega)
      have c2 := hR.cell ((N + 1) * 3 + 2) (by rw [rowsI_len]; omega)
      rw [e0] at c0
      rw [e1] at c1
      rw [e2] at c2
      clear e0 e1 e2 hR
      have HFS : Hid (A * 2 + bitAt zs k < firstN (N + 1) + countN (N + 1) → ∃ s : Nat, s < 257 ∧ shortN (N + 1) + (A * 2 + bitAt zs k) - firstN (N + 1) < 257 ∧ rankI.getD (shortN (N + 1) + (A * 2 + bitAt zs k) - firstN (N + 1)) 0 = (s : Int) ∧ ((s = 256 ∧ N + 1 = 30 ∧ A * 2 + bitAt zs k = 1073741823) ∨ ∃ c : UInt8, s = c.toNat ∧ lenOf c = N + 1 ∧ codeOfB c = A * 2 + bitAt zs k)) := fun h2 => found_sym (N + 1) (A * 2 + bitAt zs k) (by omega) hfirst h2
      have HNo : Hid (firstN (N + 1) + countN (N + 1) ≤ A * 2 + bitAt zs k → N + 1 ≤ 29 ∧ Free (bitsN (N + 1) (A * 2 + bitAt zs k))) := by
        intro h2
        refine ⟨?_, HFP.out (no_code _ _ h2)⟩
        rcases Nat.lt_or_ge N 29 with h | h
        · omega
        · exfalso
          obtain rfl : N = 29 := by omega
          have h30 : firstN (29 + 1) + countN (29 + 1) = 1073741824 := first_all
          omega
      generalize hAA : A * 2 + bitAt zs k = A2 at *
      generalize hf : firstN (N + 1) = fi at *
      generalize hc : countN (N + 1) = co at *
      generalize hsh : shortN (N + 1) = sh at *
      have HFe : Hid (fi + co ≤ A2 → firstN (N + 1) + countN (N + 1) ≤ A2) := fun h => by rw [hf, hc]; exact h
      clear hAA hf hc hsh
      obtain ⟨W1, hW1⟩ : ∃ W1, wr.alloc (.cells #[.int .i64 (co : Int), .int .i64 (fi : Int), .int .i64 (sh : Int)] 147) = W1 := ⟨_, rfl⟩
      have HRd1 : Hid (Reads w6 p q a len cap W1 u7 u (k + 1)) := by show Reads _ _ _ _ _ _ _ _ _ _; rw [← hW1]; exact HRd.out.alloc _
      have hx : W1.heap[wr.heap.size]? = some (.cells #[.int .i64 (co : Int), .int .i64 (fi : Int), .int .i64 (sh : Int)] 147 (0, 0)) := by rw [← hW1]; exact heap_alloc_last wr _
      have x0 : W1.cell? ⟨wr.heap.size, 0, none⟩ = some (.int .i64 (co : Int)) := by rw [cell_of_row _ _ _ _ _ _ hx]; rfl
      have x1 : W1.cell? ⟨wr.heap.size, 1, none⟩ = some (.int .i64 (fi : Int)) := by rw [cell_of_row _ _ _ _ _ _ hx]; rfl
      have x2 : W1.cell? ⟨wr.heap.size, 2, none⟩ = some (.int .i64 (sh : Int)) := by rw [cell_of_row _ _ _ _ _ _ hx]; rfl
      have hli29 : (N : Int) ≤ 29 := by omega
      clear hx HFP
      by_cases hge : fi + co ≤ A2
      · have hgei : (fi : Int) + (co : Int) ≤ (A2 : Int) := by omega
        obtain ⟨hN1, hFr⟩ := HNo.out hge
        have HFr2 : Hid (Free (bitsN (N + 1) A2)) := hFr
        have HF2 : Hid (firstN (N + 1) + countN (N + 1) ≤ A2) := HFe.out hge
        have hN1' : N + 1 ≤ 29 := hN1
        clear hFr HNo HFS HFo HFe hge hN1
        go_wp2_with fail
        refine (next_any zs HRd1.out HS6.out hl (by omega)).mono ?_
        rintro e w10 ⟨B2, O2, k2, rfl, hgot, hrd⟩
        have HG2 : Hid (Got zs len (k + 1) B2 O2 k2) := hgot
        have HR2 : Hid (Reads w6 p q a len cap w10 u7 u k2) := hrd
        clear hgot hrd
        go_wp2_with fail
        go_roundw
        case rel => exact ⟨k + 1, k2, N + 1, A2, u, B2, O2, HG2, rfl, rfl, by go_num, rfl, hN1', HA2, HF2, HE2, HFr2, HR2⟩
        case measure => exact got_less zs w10 u7 u B2 O2 k2 HRd.out HG2.out HR2.out hlt
      · obtain ⟨s, hs7, hI7, hrank, hsym⟩ := HFS.out (by omega)
        have hI0 : fi ≤ sh + A2 := by
          have := hfirst
          omega
        obtain ⟨I, hI⟩ : ∃ I, sh + A2 - fi = I := ⟨_, rfl⟩
        rw [hI] at hI7 hrank
        have hIi : (sh : Int) + (A2 : Int) - (fi : Int) = (I : Int) := by omega
        have hI6 : (I : Int) ≤ 256 := by omega
        have hgei : ¬ (fi : Int) + (co : Int) ≤ (A2 : Int) := by omega
        have hgd : decide ((fi : Int) + (co : Int) ≤ (A2 : Int)) = false := by simp; omega
        have ck : W1.cell? ⟨g, I, none⟩ = some (.int .i64 (s : Int)) := by
          rw [← hrank]
          exact (HK6.out.below HRd1.out.below HK6.out.lt).cell I (by rw [rankI_len]; exact hI7)
        have HSym : Hid ((s = 256 ∧ N + 1 = 30 ∧ A2 = 1073741823) ∨ ∃ c : UInt8, s = c.toNat ∧ lenOf c = N + 1 ∧ codeOfB c = A2) := hsym
        clear hsym hrank hI hI0 HNo HFS HFe hge
        by_cases h6 : s = 256
        · subst h6
          have HNone : Hid (∀ l, ¬ HuffOf l zs) := by
            rcases HSym.out with ⟨_, h30, hA⟩ | ⟨c, h1, _⟩
            · refine end_none zs u ((byteBits zs).drop (k + 1)) ?_
              have := HE2.out
              rw [h30, hA] at this
              rw [← List.append_assoc, ← this, List.take_append_drop]
            · have := c.toNat_lt
              omega
          have HBw : Hid (Below w.heap.size w W1) := HB6.out.trans (HRd1.out.below.mono HB6.out.size)
          go_wp2_with fail
          go_ret2
          exact ⟨.inr ⟨rfl, HNone.out⟩, HBw.out⟩
        · obtain ⟨c, rfl, hc1, hc2⟩ : ∃ c : UInt8, s = c.toNat ∧ lenOf c = N + 1 ∧ codeOfB c = A2 := by
            rcases HSym.out with ⟨h, _⟩ | h
            · exact absurd h h6
            · exact h
          have HE3 : Hid ((byteBits zs).take (k + 1) = textBits (u ++ [c]) ++ bitsN 0 0) := by
            show _ = _
            rw [HE2.out, HFo.out c hc1 hc2, textBits_snoc]
            simp [bitsN]
          have hcn : (c.toNat : Int) ≤ 255 := by have : c.toNat < 256 := c.toNat_lt; omega
          have hc0 : (0 : Int) ≤ (c.toNat : Int) := by omega
          have hc6 : ((c.toNat : Int) == 256) = false := by simp; omega
          have hul : u.length ≤ 8 * len := by
            have h1 := congrArg List.length HE2.out
            rw [List.length_append, List.length_take, byteBits_len] at h1
            have h2 : u.length ≤ (textBits u).length := text_long u
            omega
          have hA : u.length + 1 ≤ maxLen ∧ (u.length + 1) * 1 ≤ 140737488355328 := ⟨by unfold maxLen; omega, by omega⟩
          have HN : Hid (∀ j v, [Value.int .u8 (c.toNat : Int)][j]? = some v → (W1.alloc (.cells #[.int .u8 (c.toNat : Int)] 5)).cell? ((⟨W1.heap.size, 0, none⟩ : Addr).add j) = some v) := one_new W1 _
          have HBs : Hid (w6.heap.size ≤ (W1.alloc (.cells #[.int .u8 (c.toNat : Int)] 5)).heap.size) := by show _ ≤ _; have := HRd1.out.below.size; simp; omega
          clear HFo HE2 HA2 HSym hc1 hc2 hul h6 hs7
          go_wp2_with (at_builtin; refine wpList_append_own _ rfl _ _ 22 rfl w6.heap.size 5 i0 (.int .u8 0) 1 1 Tryz.underlying22 hi hz0 hz1 hz2 rfl (by decide) u7 u.length _ rfl (HRd1.out.own.alloc _) ⟨W1.heap.size, 0, none⟩ 1 1 [.int .u8 (c.toNat : Int)] rfl rfl HN.out (ints_one [(c.toNat : Int)]) hA.1 hA.2 HBs.out ?_; intro v2 w10 hown hgrow _; refine Hid.out ?_)
          refine hidden ?_
          have HRd2 : Hid (Reads w6 p q a len cap w10 v2 (u ++ [c]) (k + 1)) := (HRd1.out.alloc _).grown hown hgrow
          clear hown hgrow HN HBs
          go_wp2_with fail
          refine (next_any zs HRd2.out HS6.out hl (by omega)).mono ?_
          rintro e w11 ⟨B2, O2, k2, rfl, hgot, hrd⟩
          have HG2 : Hid (Got zs len (k + 1) B2 O2 k2) := hgot
          have HR2 : Hid (Reads w6 p q a len cap w11 v2 (u ++ [c]) k2) := hrd
          clear hgot hrd
          go_wp2_with fail
          go_roundw
          case rel => exact ⟨k + 1, k2, 0, 0, u ++ [c], B2, O2, HG2, rfl, rfl, rfl, rfl, by omega, by show 0 < 2 ^ 0; decide, by show _ ≤ _; rw [first_start]; exact Nat.le_refl _, HE3, free_nil, HR2⟩
          case measure => exact got_less zs w11 v2 (u ++ [c]) B2 O2 k2 HRd.out HG2.out HR2.out hlt
    · have HEE : Hid (byteBits zs = textBits u ++ bitsN N A) := by
        show _ = _
        rw [← HE.out, List.take_of_length_le (by rw [byteBits_len, hzl, hk8]; exact Nat.le_refl _)]
      clear HE HG
      have HBw : Hid (Below w.heap.size w wr) := HB6.out.trans (HRd.out.below.mono HB6.out.size)
      by_cases hN7 : 7 < N
      · have HNone : Hid (∀ l, ¬ HuffOf l zs) := no_text zs u _ HFr.out HEE.out (fun p hp he => by
          have := congrArg List.length he
          rw [bitsN_len, List.length_replicate] at this
          omega)
        have hN7i : (8 : Int) ≤ (N : Int) := by omega
        go_wp2_with fail
        go_ret2
        exact ⟨.inr ⟨rfl, HNone.out⟩, HBw.out⟩
      · have hN7i : ¬ (8 : Int) ≤ (N : Int) := by omega
        have hN7d : decide ((8 : Int) ≤ (N : Int)) = false := by simp; omega
        have hNu : (N : Int) ≤ 7 := by omega
        have HOnes : Hid (∀ w, Calls Tryz.prog 93 #[.int .i64 (N : Int)] w fun e w' => e = .returned (.int .u64 ((2 ^ N - 1 : Nat) : Int)) ∧ w' = w) := fun w => onesOf_any N (by omega) w
        have hAs : (A : Int) < 128 := by
          have h1 : 2 ^ N ≤ 2 ^ 7 := Nat.pow_le_pow_right (by decide) (by omega)
          have := HA.out
          omega
        by_cases hones : A = 2 ^ N - 1
        · have HT : Hid (HuffOf u zs) := by
            refine ⟨fun x hx => HS.out.2.1 x hx, N, by omega, ?_⟩
            rw [HEE.out, hones, bitsN_ones]
          have heq : ((A : Int) != ((2 ^ N - 1 : Nat) : Int)) = false := by rw [hones]; simp
          have hconv : (convert 22 9 u7).run Tryz.prog wr = .ok (.string ⟨u.toArray⟩) wr := by
            have HO := HRd.out.own
            rcases HO.2 with ⟨rfl, h0⟩ | ⟨g', cap', cur, rfl, _⟩
            · obtain rfl : u = [] := List.length_eq_zero_iff.1 h0
              exact run_convert_bytes_nil (w := wr) 22 5 Tryz.underlying22 Tryz.underlying5 0 0 9 Tryz.underlying9
            · refine run_convert_bytes_back wr 22 9 5 ⟨g', 0, none⟩ cap' u Tryz.underlying22 Tryz.underlying5 Tryz.underlying9 (fun j hj => ?_)
              have := HO.cellAt j (by omega)
              have ea : (⟨g', 0, none⟩ : Addr).add j = ⟨g', j, none⟩ := by simp [Addr.add]; exact fun h => h.symm
              rw [ea, this]
              simp [asInts, hj]
          generalize 2 ^ N - 1 = OP at *
          clear hones
          go_wp2_with fail
          refine (HOnes.out wr).mono ?_
          rintro e w12 ⟨rfl, hw12⟩
          rw [hw12]
          clear hw12
          go_wp2_with fail
          go_ret2
          exact ⟨.inl ⟨⟨u.toArray⟩, rfl, by simpa using HT.out⟩, HBw.out⟩
        · have HNone : Hid (∀ l, ¬ HuffOf l zs) := no_text zs u _ HFr.out HEE.out (fun p hp he => by
            have := congrArg List.length he
            rw [bitsN_len, List.length_replicate] at this
            subst this
            exact hones (ones_of N A HA.out he))
          have heq : ((A : Int) != ((2 ^ N - 1 : Nat) : Int)) = true := by simp only [bne_iff_ne, ne_eq]; omega
          generalize 2 ^ N - 1 = OP at *
          clear hones
          go_wp2_with fail
          refine (HOnes.out wr).mono ?_
          rintro e w12 ⟨rfl, hw12⟩
          rw [hw12]
          clear hw12
          go_wp2_with fail
          go_ret2
          exact ⟨.inr ⟨rfl, HNone.out⟩, HBw.out⟩

end Go.Proofs.YtckpacifimpkgacGreat
