/- What the program's GetPrefix answers; nothing that was there is written. For lists of at most 2^40 bytes that are not nil. -/
import Derived.Test.YtljhplddgcmmoabGpxIter
namespace Go.Proofs.Ytljhplddgcmmoab
open Go.RowKit Go.Shelf
set_option linter.unusedVariables false
attribute [local go_sem] Oper.semAt_some

/-- The boxes of sumGroups: its answers (0, 0 and false), the sum A and the count k. -/
def Boxes (h : Nat) (w : World) (A k : Nat) (W : World) : Prop :=
  Boxed W h 3 (.int .i64 0) ∧ Boxed W (h + 1) 3 (.int .i64 0) ∧ Boxed W (h + 2) 4 (.bool false) ∧ Boxed W (h + 3) 3 (.int .i64 A) ∧ Boxed W (h + 4) 3 (.int .i64 k) ∧ Below h w W

theorem boxes_own {β : Type} {h B : Nat} {w : World} (f g : β → Nat) (hw : w.heap.size = h) (hB : h ≤ B) : OwnFrom B (fun s W => Boxes h w (f s) (g s) W) := by
  subst hw
  exact OwnFrom.and (Own.from (boxed_own _ _ (fun _ => .int .i64 0)) _) (OwnFrom.and (Own.from (boxed_own _ _ (fun _ => .int .i64 0)) _) (OwnFrom.and (Own.from (boxed_own _ _ (fun _ => .bool false)) _)
    (OwnFrom.and (Own.from (boxed_own _ _ (fun s => .int .i64 (f s))) _) (OwnFrom.and (Own.from (boxed_own _ _ (fun s => .int .i64 (g s))) _) (ownFrom_below (Nat.le_refl _) hB)))))

/-- The answers of sumGroups are read of their boxes. -/
theorem sum_ret {U : World} {h D : Nat} {x y : Int} {t : Bool} (q0 : Boxed U h 3 (.int .i64 x)) (q1 : Boxed U (h + 1) 3 (.int .i64 y)) (q2 : Boxed U (h + 2) 4 (.bool t)) (hK : U.heap[D]? = some (.deferred (some []))) (tm : Array Value) :
    tm[2]?.getD undef = .pointer (some ⟨h, 0, none⟩) → tm[3]?.getD undef = .pointer (some ⟨h + 1, 0, none⟩) → tm[4]?.getD undef = .pointer (some ⟨h + 2, 0, none⟩) →
    (results Try.f85 tm).run Try.prog (U.putObj D (.deferred none)) = .ok (.tuple #[.int .i64 x, .int .i64 y, .bool t]) (U.putObj D (.deferred none)) := by
  intro e2 e3 e4
  have k0 := cell_kept q0.cell (grownBy_putObj' _ D (.deferred none)) (fun r e => by cases e; exact ⟨_, hK, rfl⟩)
  have k1 := cell_kept q1.cell (grownBy_putObj' _ D (.deferred none)) (fun r e => by cases e; exact ⟨_, hK, rfl⟩)
  have k2 := cell_kept q2.cell (grownBy_putObj' _ D (.deferred none)) (fun r e => by cases e; exact ⟨_, hK, rfl⟩)
  simp [results, Try.f85, go_sem, e2, e3, e4, k0, k1, k2]

set_option maxRecDepth 10000 in
set_option maxHeartbeats 800000 in
theorem sumG_any (b off len cap : Nat) (zs : List Int) (w : World) (hs : Seg w (some ⟨b, off, none⟩) len zs) (hcap : len ≤ cap) (hl : len ≤ 1099511627776) :
    Calls Try.prog 85 #[.slice (some ⟨b, off, none⟩) len cap] w fun e w' => e = .returned (.tuple #[.int .i64 (sumG zs).1, .int .i64 (sumG zs).2.1, .bool (sumG zs).2.2]) ∧ Below w.heap.size w w' := by
  have HS : Hid (Seg w (some ⟨b, off, none⟩) len zs) := hs
  have hzl : zs.length = len := hs.1
  clear hs
  refine (callsIn_wide (n := 4)).1 ?_
  refine callsIn_of_wp_marks Try.func85 rfl trivial ?_ rfl
  simp only [Try.ntmps85, List.size_toArray, List.length_cons, List.length_nil, Nat.reduceAdd, Nat.reduceSub, Array.replicate_succ, Array.replicate_zero, List.push_toArray, List.append_toArray, List.nil_append, List.cons_append]
  gi_wp2_with fail
  refine ⟨trivial, (partsIn_any _ _ _ _ _).mono ?_⟩
  rintro e w1 ⟨rfl, rfl⟩
  gi_wp2_with fail
  simp only [Nat.add_assoc, Nat.reduceAdd]
  obtain ⟨h, hh⟩ : ∃ h, w.heap.size = h := ⟨_, rfl⟩
  obtain ⟨v1, hv1⟩ : ∃ v1, w.alloc (.cells #[.int .i64 0] 3) = v1 := ⟨_, rfl⟩
  obtain ⟨v2, hv2⟩ : ∃ v2, v1.alloc (.cells #[.int .i64 0] 3) = v2 := ⟨_, rfl⟩
  obtain ⟨v3, hv3⟩ : ∃ v3, v2.alloc (.cells #[.bool false] 4) = v3 := ⟨_, rfl⟩
  obtain ⟨v4, hv4⟩ : ∃ v4, v3.alloc (.cells #[.int .i64 0] 3) = v4 := ⟨_, rfl⟩
  obtain ⟨v5, hv5⟩ : ∃ v5, v4.alloc (.cells #[.int .i64 0] 3) = v5 := ⟨_, rfl⟩
  obtain ⟨W0, hW0⟩ : ∃ W0, v5.alloc (.cells #[.slice (some ⟨b, off, none⟩) len cap] 22) = W0 := ⟨_, rfl⟩
  have z1 : v1.heap.size = h + 1 := by rw [← hv1, World.size_alloc, hh]
  have z2 : v2.heap.size = h + 2 := by rw [← hv2, World.size_alloc, z1]
  have z3 : v3.heap.size = h + 3 := by rw [← hv3, World.size_alloc, z2]
  have z4 : v4.heap.size = h + 4 := by rw [← hv4, World.size_alloc, z3]
  have z5 : v5.heap.size = h + 5 := by rw [← hv5, World.size_alloc, z4]
  have hsz0 : W0.heap.size = h + 6 := by rw [← hW0, World.size_alloc, z5]
  have hB0 : Below h w W0 := by
    rw [← hW0, ← hv5, ← hv4, ← hv3, ← hv2, ← hv1]
    exact ((((((Below.refl _ w).alloc (by omega) _).alloc (by simp; omega) _).alloc (by simp; omega) _).alloc (by simp; omega) _).alloc (by simp; omega) _).alloc (by simp; omega) _
  have b0 : Boxed W0 h 3 (.int .i64 0) := by
    have := Boxed.new w 3 (.int .i64 0)
    rw [hh, hv1] at this
    rw [← hW0, ← hv5, ← hv4, ← hv3, ← hv2]
    exact ((((this.alloc _).alloc _).alloc _).alloc _).alloc _
  have b1 : Boxed W0 (h + 1) 3 (.int .i64 0) := by
    have := Boxed.new v1 3 (.int .i64 0)
    rw [z1, hv2] at this
    rw [← hW0, ← hv5, ← hv4, ← hv3]
    exact (((this.alloc _).alloc _).alloc _).alloc _
  have b2 : Boxed W0 (h + 2) 4 (.bool false) := by
    have := Boxed.new v2 4 (.bool false)
    rw [z2, hv3] at this
    rw [← hW0, ← hv5, ← hv4]
    exact ((this.alloc _).alloc _).alloc _
  have b3 : Boxed W0 (h + 3) 3 (.int .i64 0) := by
    have := Boxed.new v3 3 (.int .i64 0)
    rw [z3, hv4] at this
    rw [← hW0, ← hv5]
    exact (this.alloc _).alloc _
  have b4 : Boxed W0 (h + 4) 3 (.int .i64 0) := by
    have := Boxed.new v4 3 (.int .i64 0)
    rw [z4, hv5] at this
    rw [← hW0]
    exact this.alloc _
  have b5 : Boxed W0 (h + 5) 22 (.slice (some ⟨b, off, none⟩) len cap) := by
    have := Boxed.new v5 22 (.slice (some ⟨b, off, none⟩) len cap)
    rw [z5, hW0] at this
    exact this
  rw [hv1, hv2, hv3, hv4, hv5, hW0, hh]
  have BX : Hid (Boxes h w 0 0 W0) := ⟨b0, b1, b2, b3, b4, hB0⟩
  have B5 : Hid (Boxed W0 (h + 5) 22 (.slice (some ⟨b, off, none⟩) len cap)) := b5
  clear hv1 hv2 hv3 hv4 hv5 hW0 z1 z2 z3 z4 z5 b0 b1 b2 b3 b4 b5 hB0
  obtain ⟨mn, hmn⟩ : ∃ mn, min len 4 = mn := ⟨_, rfl⟩
  refine loop_turns rfl (by decide) (gf := 92) (lb := #[.pointer (some ⟨h + 5, 0, none⟩)]) rfl trivial (enters_of Try.func92 (by kernel_rfl) rfl) (encP zs) (fun _ => rfl)
    (fun (s : Nat × Nat) W => Boxes h w s.2 s.1 W ∧ s.1 < mn ∧ s.2 < 128 ^ s.1 ∧ Link zs s.1 s.2)
    (fun (s : Nat × Nat) W => Boxes h w (s.2 + partOf zs s.1) (s.1 + 1) W ∧ s.1 < mn ∧ s.2 < 128 ^ s.1 ∧ Link zs s.1 s.2 ∧ moreOf zs s.1 = true)
    (fun c (s : Nat × Nat) W => (Boxed W h 3 (.int .i64 (sg 4 zs 1).1) ∧ Boxed W (h + 1) 3 (.int .i64 (sg 4 zs 1).2.1) ∧ Boxed W (h + 2) 4 (.bool true) ∧ Below h w W) ∧ c = .ret ∧ (sg 4 zs 1).2.2 = true)
    (fun (s : Nat × Nat) W => Boxes h w s.2 s.1 W ∧ s.1 = mn ∧ Link zs s.1 s.2)
    (fun W => Boxes h w 0 0 W ∧ Boxed W (h + 5) 22 (.slice (some ⟨b, off, none⟩) len cap))
    (parts_iter 3 _ (h + 5) b off len cap zs (by decide) hl hzl _ _ _ _ _ ?hb ?h0 ?h1)
    (OwnFrom.and (boxes_own _ _ hh (by omega)) (ownFrom_pure _ _))
    (OwnFrom.and (boxes_own _ _ hh (by omega)) (ownFrom_pure _ _))
    (fun c => OwnFrom.and (OwnFrom.and (Own.from (boxed_own _ _ (fun _ => .int .i64 (sg 4 zs 1).1)) _) (OwnFrom.and (Own.from (boxed_own _ _ (fun _ => .int .i64 (sg 4 zs 1).2.1)) _) (OwnFrom.and (Own.from (boxed_own _ _ (fun _ => .bool true)) _) (ownFrom_below (by omega) (by omega))))) (ownFrom_pure _ _))
    (OwnFrom.and (boxes_own _ _ hh (by omega)) (ownFrom_pure _ _))
    (OwnFrom.and (boxes_own (fun _ => 0) (fun _ => 0) hh (by omega)) (Own.from (boxed_own _ _ (fun _ => .slice (some ⟨b, off, none⟩) len cap)) _))
    ⟨BX.out, B5.out⟩ ?frame ?assign ?body ?done ?stop
  case assign =>
    intro l s W K hK
    gi_wp2
    exact hK
  case hb =>
    rintro W ⟨hx, hb5⟩
    rw [hmn]
    exact ⟨hb5, hcap, fun hp => ⟨hx, hp, by simp, link_start zs⟩, fun hp => ⟨hx, hp.symm, link_start zs⟩⟩
  case h0 =>
    rintro ⟨k, A⟩ W ⟨hx, hk, _⟩
    rw [hmn]
    refine ⟨hk, HS.out.below ?_⟩
    rw [hh]
    exact hx.2.2.2.2.2
  case h1 =>
    rintro ⟨k, A⟩ W ⟨hx, hk, hA, hL, hC⟩
    rw [hmn]
    dsimp only at hx hk hA hL hC
    have hm : 128 ≤ zs.getD k 0 := of_decide_eq_true hC
    have hn : Link zs (k + 1) (A + partOf zs k) := link_next zs k A (zs.getD k 0).toNat (by omega) (by omega) (by omega) (by omega) hL
    exact ⟨fun hp => ⟨_, hx, hp, sum_bound k A _ hA, hn⟩, fun hp => ⟨_, hx, hp, hn⟩⟩
  case body =>
    rintro l ⟨k, A⟩ W ⟨⟨x0, x1, x2, x3, x4, hB⟩, hk, hA, hL⟩
    dsimp only at x0 x1 x2 x3 x4 hk hA hL ⊢
    have hr0 := (HS.out.range k).1
    have hsb : A + partOf zs k < 128 ^ (k + 1) := sum_bound k A (zs.getD k 0).toNat hA
    have hp4 := pow_four (k + 1) (by omega)
    have HA : Hid (A < 128 ^ k) := hA
    have HLk : Hid (Link zs k A) := hL
    have HLS : Hid (moreOf zs k = false → sg 4 zs 1 = (A + partOf zs k, k + 1, true)) := fun h => link_last zs k A (zs.getD k 0).toNat (by omega) (by omega) (by omega) (by have := of_decide_eq_false h; omega) hL
    clear hA hL hr0
    obtain ⟨m, hm⟩ : ∃ m, moreOf zs k = m := ⟨_, rfl⟩
    rw [hm] at HLS ⊢
    generalize partOf zs k = p at *
    have hap : (A : Int) + (p : Int) ≤ 268435456 := by omega
    clear hsb hp4
    have c3 := x3.cell
    have f3 := x3.frozen
    have y3 := x3.set (.int .i64 ((A : Int) + (p : Int)))
    have y4 := x4.other (B' := h + 3) (by omega) (.int .i64 ((A : Int) + (p : Int)))
    have c4 := y4.cell
    have f4 := y4.frozen
    have hk4 : (k : Int) ≤ 4 := by omega
    have ec : ((A + p : Nat) : Int) = (A : Int) + (p : Int) := by omega
    have ek : ((k + 1 : Nat) : Int) = (k : Int) + 1 := by omega
    have z3 := y3.other (B' := h + 4) (by omega) (.int .i64 ((k : Int) + 1))
    have z4 := y4.set (.int .i64 ((k : Int) + 1))
    have z0 := (x0.other (B' := h + 3) (by omega) (.int .i64 ((A : Int) + (p : Int)))).other (B' := h + 4) (by omega) (.int .i64 ((k : Int) + 1))
    have z1 := (x1.other (B' := h + 3) (by omega) (.int .i64 ((A : Int) + (p : Int)))).other (B' := h + 4) (by omega) (.int .i64 ((k : Int) + 1))
    have z2 := (x2.other (B' := h + 3) (by omega) (.int .i64 ((A : Int) + (p : Int)))).other (B' := h + 4) (by omega) (.int .i64 ((k : Int) + 1))
    have zB := (hB.setCell (p := ⟨h + 3, 0, none⟩) (by show h ≤ h + 3; omega) (.int .i64 ((A : Int) + (p : Int)))).setCell (p := ⟨h + 4, 0, none⟩) (by show h ≤ h + 4; omega) (.int .i64 ((k : Int) + 1))
    have zK := ((KeepsOthers.setCell W ⟨h + 3, 0, none⟩ (.int .i64 ((A : Int) + (p : Int)))).trans (KeepsOthers.setCell _ ⟨h + 4, 0, none⟩ (.int .i64 ((k : Int) + 1))))
    have Z : Hid (Boxes h w (A + p) (k + 1) ((W.setCell ⟨h + 3, 0, none⟩ (.int .i64 ((A : Int) + (p : Int)))).setCell ⟨h + 4, 0, none⟩ (.int .i64 ((k : Int) + 1)))) := by
      show Boxes _ _ _ _ _
      unfold Boxes
      rw [ec, ek]
      exact ⟨z0, z1, z2, z3, z4, zB⟩
    have ZK : Hid (KeepsOthers W ((W.setCell ⟨h + 3, 0, none⟩ (.int .i64 ((A : Int) + (p : Int)))).setCell ⟨h + 4, 0, none⟩ (.int .i64 ((k : Int) + 1)))) := zK
    clear x0 x1 x2 x3 x4 y3 y4 hB zB zK
    cases m with
    | true =>
      clear z0 z1 z2 z3 z4 HLS
      gi_wp2
      exact ⟨ZK.out.from _, Z.out, HA.out, HLk.out⟩
    | false =>
      have hsg := HLS.out rfl
      clear HLS
      gi_wp2
      clear c3 f3 c4 f4
      have hmx : Try.prog.follows .mixedOrders = true := by kernel_rfl
      generalize ((W.setCell ⟨h + 3, 0, none⟩ (.int .i64 ((A : Int) + (p : Int)))).setCell ⟨h + 4, 0, none⟩ (.int .i64 ((k : Int) + 1))) = V at *
      have c3 := z3.cell
      have c4 := z4.cell
      have c0 := z0.cell
      have f0 := z0.frozen
      have t1 := z1.other (B' := h) (by omega) (.int .i64 ((A : Int) + (p : Int)))
      have t4 := z4.other (B' := h) (by omega) (.int .i64 ((A : Int) + (p : Int)))
      have t2 := (z2.other (B' := h) (by omega) (.int .i64 ((A : Int) + (p : Int)))).other (B' := h + 1) (by omega) (.int .i64 ((k : Int) + 1))
      have c1 := t1.cell
      have f1 := t1.frozen
      have c4' := t4.cell
      have c2 := t2.cell
      have f2 := t2.frozen
      have q0 := ((z0.set (.int .i64 ((A : Int) + (p : Int)))).other (B' := h + 1) (by omega) (.int .i64 ((k : Int) + 1))).other (B' := h + 2) (by omega) (.bool true)
      have q1 := (t1.set (.int .i64 ((k : Int) + 1))).other (B' := h + 2) (by omega) (.bool true)
      have q2 := t2.set (.bool true)
      have qB := ((Z.out.2.2.2.2.2.setCell (p := ⟨h, 0, none⟩) (Nat.le_refl _) (.int .i64 ((A : Int) + (p : Int)))).setCell (p := ⟨h + 1, 0, none⟩) (by show h ≤ h + 1; omega) (.int .i64 ((k : Int) + 1))).setCell (p := ⟨h + 2, 0, none⟩) (by show h ≤ h + 2; omega) (.bool true)
      have qK := ((ZK.out.trans (KeepsOthers.setCell V ⟨h, 0, none⟩ (.int .i64 ((A : Int) + (p : Int))))).trans (KeepsOthers.setCell _ ⟨h + 1, 0, none⟩ (.int .i64 ((k : Int) + 1)))).trans (KeepsOthers.setCell _ ⟨h + 2, 0, none⟩ (.bool true))
      generalize hU : (((V.setCell ⟨h, 0, none⟩ (.int .i64 ((A : Int) + (p : Int)))).setCell ⟨h + 1, 0, none⟩ (.int .i64 ((k : Int) + 1))).setCell ⟨h + 2, 0, none⟩ (.bool true)) = U at q0 q1 q2 qB qK
      have HU : Hid ((((V.setCell ⟨h, 0, none⟩ (.int .i64 ((A : Int) + (p : Int)))).setCell ⟨h + 1, 0, none⟩ (.int .i64 ((k : Int) + 1))).setCell ⟨h + 2, 0, none⟩ (.bool true)) = U) := hU
      have QQ : Hid (Boxed U h 3 (.int .i64 ((A : Int) + (p : Int))) ∧ Boxed U (h + 1) 3 (.int .i64 ((k : Int) + 1)) ∧ Boxed U (h + 2) 4 (.bool true) ∧ Below h w U ∧ KeepsOthers W U) := ⟨q0, q1, q2, qB, qK⟩
      have HSG : Hid (sg 4 zs 1 = (A + p, k + 1, true)) := hsg
      clear q0 q1 q2 qB qK hU hsg z0 z1 z2 z3 z4 t1 t2 t4 Z ZK HA HLk
      gi_region_with_o fail
      all_goals rw [HU.out]
      all_goals clear HU c0 f0 c1 f1 c2 f2 c3 c4 c4'
      all_goals gi_wp2
      all_goals
        obtain ⟨q0, q1, q2, qB, qK⟩ := QQ.out
        rw [HSG.out]
        refine ⟨(qK.trans (KeepsOthers.drew _)).from _, ⟨?_, ?_, q2, qB.drew⟩, rfl, rfl⟩
        · rw [ec]; exact q0
        · rw [ek]; exact q1
  case done =>
    rintro D ⟨k, A⟩ W hD ⟨⟨x0, x1, x2, x3, x4, hB⟩, hk, hL⟩ hK
    have hz := link_end zs k A (by rw [hzl, hmn]; exact hk) hL
    have hg : sumG zs = (0, 0, false) := by unfold sumG; rw [hz]; rfl
    have HG : Hid (sumG zs = (0, 0, false)) := hg
    clear hz hg hL hk
    have c0 := x0.cell
    have f0 := x0.frozen
    have t1 := x1.other (B' := h) (by omega) (.int .i64 0)
    have c1 := t1.cell
    have f1 := t1.frozen
    have t2 := (x2.other (B' := h) (by omega) (.int .i64 0)).other (B' := h + 1) (by omega) (.int .i64 0)
    have c2 := t2.cell
    have f2 := t2.frozen
    have q0 := ((x0.set (.int .i64 0)).other (B' := h + 1) (by omega) (.int .i64 0)).other (B' := h + 2) (by omega) (.bool false)
    have q1 := (t1.set (.int .i64 0)).other (B' := h + 2) (by omega) (.bool false)
    have q2 := t2.set (.bool false)
    have qB := ((hB.setCell (p := ⟨h, 0, none⟩) (Nat.le_refl _) (.int .i64 0)).setCell (p := ⟨h + 1, 0, none⟩) (by show h ≤ h + 1; omega) (.int .i64 0)).setCell (p := ⟨h + 2, 0, none⟩) (by show h ≤ h + 2; omega) (.bool false)
    have qK := (((KeepsOthers.setCell W ⟨h, 0, none⟩ (.int .i64 0)).trans (KeepsOthers.setCell _ ⟨h + 1, 0, none⟩ (.int .i64 0))).trans (KeepsOthers.setCell _ ⟨h + 2, 0, none⟩ (.bool false))).same D _ hK rfl
    gi_wp2
    generalize (((W.setCell ⟨h, 0, none⟩ (.int .i64 0)).setCell ⟨h + 1, 0, none⟩ (.int .i64 0)).setCell ⟨h + 2, 0, none⟩ (.bool false)) = U at q0 q1 q2 qB qK ⊢
    have r0 := sum_ret q0 q1 q2 qK
    refine ⟨by simp, .inl ⟨_, _, rfl, run_takeDeferred qK, ?_⟩⟩
    rw [HG.out]
    refine ⟨_, r0 _ rfl rfl rfl, rfl, ?_⟩
    have := qB.trans (belowK_b (w := W0) (by omega) U D _ (.deferred none) hD qK rfl rfl)
    first | exact this | (rw [hh]; exact this)
  case stop =>
    rintro D c ⟨k, A⟩ W hD ⟨⟨q0, q1, q2, hB⟩, rfl, hok⟩ hK
    have hg : sumG zs = (((sg 4 zs 1).1 : Int), ((sg 4 zs 1).2.1 : Int), true) := by unfold sumG; rw [hok]; rfl
    have HG : Hid (sumG zs = (((sg 4 zs 1).1 : Int), ((sg 4 zs 1).2.1 : Int), true)) := hg
    clear hg hok
    gi_wp2
    have r0 := sum_ret q0 q1 q2 hK
    refine ⟨by simp, .inl ⟨_, _, rfl, run_takeDeferred hK, ?_⟩⟩
    rw [HG.out]
    refine ⟨_, r0 _ rfl rfl rfl, rfl, ?_⟩
    have := hB.trans (belowK_b (w := W0) (by omega) W D _ (.deferred none) hD hK rfl rfl)
    first | exact this | (rw [hh]; exact this)

theorem ret_three {a b c d : Int} {x y : Bool} (h : a = b) (k : c = d) (l : x = y) : Ending.returned (.tuple #[.int .i64 a, .int .i64 c, .bool x]) = .returned (.tuple #[.int .i64 b, .int .i64 d, .bool y]) := by rw [h, k, l]

/-- A slice without its first k bytes. -/
theorem Seg.drop {w : World} {b off len : Nat} {zs : List Int} (h : Seg w (some ⟨b, off, none⟩) len zs) (k : Nat) (hk : k ≤ len) : Seg w (some ⟨b, off + k, none⟩) (len - k) (zs.drop k) := by
  refine ⟨by rw [List.length_drop, h.1], fun x hx => h.2.1 x (List.mem_of_mem_drop hx), ?_⟩
  rcases h.2.2 with h0 | ⟨b', off', e, hb, hc⟩
  · exact .inl (by omega)
  · cases e
    refine .inr ⟨b, off + k, rfl, hb, fun i hi => ?_⟩
    have := hc (k + i) (by omega)
    rw [Nat.add_assoc, this]
    simp [List.getD_eq_getElem?_getD, List.getElem?_drop]

theorem Seg.gone {w : World} {a a' : Option Addr} {len : Nat} {zs : List Int} (h : Seg w a len zs) (k : Nat) (hk : len ≤ k) : Seg w a' (len - k) (zs.drop k) :=
  ⟨by rw [List.length_drop, h.1], fun x hx => h.2.1 x (List.mem_of_mem_drop hx), .inl (by omega)⟩

/-- The three ends of the groups behind a full prefix m. -/
theorem ends (T : List Int) (m : Nat) (p : Int) (hT : ∀ x ∈ T, 0 ≤ x) :
    (∃ S c : Nat, S ≤ 268435456 ∧ c ≤ 4 ∧ m + S ≤ 16777216 ∧ sumG T = ((S : Int), (c : Int), true) ∧ gpf 4 T 1 (m : Int) p = ((m : Int) + (S : Int), p + (c : Int), true)) ∨
    (∃ S c : Nat, S ≤ 268435456 ∧ c ≤ 4 ∧ 16777216 < m + S ∧ sumG T = ((S : Int), (c : Int), true) ∧ gpf 4 T 1 (m : Int) p = (0, 0, false)) ∨
    (sumG T = (0, 0, false) ∧ gpf 4 T 1 (m : Int) p = (0, 0, false)) := by
  have hg := gpf_sg 4 T 1 m p hT
  have e1 : ((1 : Nat) : Int) = 1 := rfl
  rw [e1] at hg
  obtain ⟨hs1, hs2⟩ := sg_small 4 T 1
  have e4 : 128 ^ 4 * 1 = 268435456 := by decide
  rw [e4] at hs1
  rw [hg]
  unfold sumG
  rcases hq : sg 4 T 1 with ⟨S, c, ok⟩
  rw [hq] at hs1 hs2
  dsimp only at hs1 hs2 ⊢
  cases ok with
  | false => exact .inr (.inr ⟨rfl, by simp⟩)
  | true =>
    by_cases hle : m + S ≤ 16777216
    · refine .inl ⟨S, c, by omega, hs2, hle, rfl, ?_⟩
      rw [if_pos ⟨rfl, hle⟩, Int.natCast_add]
    · refine .inr (.inl ⟨S, c, by omega, hs2, by omega, rfl, ?_⟩)
      rw [if_neg (fun h => hle h.2)]

set_option maxRecDepth 10000 in
set_option maxHeartbeats 800000 in
theorem implGpx_yes (b off len cap at_ B : Nat) (zs : List Int) (w : World) (hs : Seg w (some ⟨b, off, none⟩) len zs) (hcap : len ≤ cap) (hl : len ≤ 1099511627776) (h1 : 1 ≤ B) (h8 : B ≤ 8) (hat : at_ < len) :
    Calls Try.prog 68 #[.slice (some ⟨b, off, none⟩) len cap, .int .i64 at_, .int .i64 B] w fun e w' => e = .returned (.tuple #[.int .i64 (getPfx zs at_ B).1, .int .i64 (getPfx zs at_ B).2.1, .bool (getPfx zs at_ B).2.2]) ∧ Below w.heap.size w w' := by
  have hzl : zs.length = len := hs.1
  have hcell : w.cell? ⟨b, off + at_, none⟩ = some (.int .u8 (zs.getD at_ 0)) := by
    rcases hs.2.2 with h | ⟨b', off', e, _, h⟩
    · omega
    · cases e
      exact h at_ hat
  have HS : Hid (Seg w (some ⟨b, off, none⟩) len zs) := hs
  obtain ⟨hx0, hx1⟩ := hs.range at_
  clear hs
  have HE : Hid (getPfx zs at_ B = if zs.getD at_ 0 % 2 ^ B < 2 ^ B - 1 then (zs.getD at_ 0 % 2 ^ B, (at_ : Int) + 1, true) else gpf 4 (zs.drop (at_ + 1)) 1 (2 ^ B - 1) ((at_ : Int) + 1)) := by
    show _ = _
    rw [getPfx, if_pos (by omega), Int.toNat_natCast, Int.toNat_natCast]
  generalize getPfx zs at_ B = R at *
  generalize zs.getD at_ 0 = x at *
  obtain ⟨X, rfl⟩ := Int.eq_ofNat_of_zero_le hx0
  have hand := and_mod X B (by omega) h8
  have hps := pow_small B h1 h8
  have HP : Hid (((2 ^ B : Nat) : Int) = (2 : Int) ^ B) := by show _ = _; simp
  have hlast : X % 2 ^ B < 2 ^ B := Nat.mod_lt _ (by omega)
  have HE2 : Hid (R = if X % 2 ^ B < 2 ^ B - 1 then (((X % 2 ^ B : Nat) : Int), (at_ : Int) + 1, true) else gpf 4 (zs.drop (at_ + 1)) 1 ((2 ^ B - 1 : Nat) : Int) ((at_ : Int) + 1)) := by
    show R = _
    rw [HE.out, ← HP.out]
    have e1 : (X : Int) % ((2 ^ B : Nat) : Int) = ((X % 2 ^ B : Nat) : Int) := by omega
    have e2 : ((2 ^ B : Nat) : Int) - 1 = ((2 ^ B - 1 : Nat) : Int) := by omega
    rw [e1, e2]
    by_cases hh : X % 2 ^ B < 2 ^ B - 1
    · rw [if_pos hh, if_pos (by omega)]
    · rw [if_neg hh, if_neg (by omega)]
  clear HE HP
  have HFull : Hid (∀ w : World, Calls Try.prog 82 #[.int .i64 B] w fun e w' => e = .returned (.int .i64 ((2 ^ B - 1 : Nat) : Int)) ∧ w' = w) := fun w => full_any B w h1 h8
  generalize hy : X % 2 ^ B = y at *
  generalize hm : 2 ^ B - 1 = m at *
  have hmb : 1 ≤ m ∧ m ≤ 255 ∧ y ≤ m := by omega
  clear hps hlast hy hm
  have hk1 : (1 : Int) ≤ (B : Int) := by omega
  have hk8 : (B : Int) ≤ 8 := by omega
  have ha0 : decide ((at_ : Int) < 0) = false := by simp
  have ha1 : decide ((len : Int) ≤ (at_ : Int)) = false := by simp; omega
  have hali : (at_ : Int) < (len : Int) := by omega
  by_cases hlt : y < m
  · have hd : decide ((y : Int) < (m : Int)) = true := by simp; omega
    have hdp : ((y : Int) < (m : Int)) = True := by simp; omega
    have HR : Hid (R = ((y : Int), (at_ : Int) + 1, true)) := by show R = _; rw [HE2.out, if_pos hlt]
    clear HE2
    go_enter Try.func68, Try.ntmps68
    go_wp2_with fail
    refine (bitsOk_yes _ _ hk1 hk8).mono ?_
    rintro e w2 ⟨rfl, rfl⟩
    go_wp2_with fail
    refine (HFull.out _).mono ?_
    rintro e w3 ⟨rfl, rfl⟩
    go_wp2_with fail
    go_ret3
    exact ⟨ret_three (by rw [HR.out]) (by rw [HR.out]) (by rw [HR.out]), Below.refl _ _⟩
  · have hd : decide ((y : Int) < (m : Int)) = false := by simp; omega
    have hdp : ((y : Int) < (m : Int)) = False := by simp; omega
    have HR : Hid (R = gpf 4 (zs.drop (at_ + 1)) 1 (m : Int) ((at_ : Int) + 1)) := by show R = _; rw [HE2.out, if_neg hlt]
    clear HE2
    have hym : y = m := by omega
    have HQ := ends (zs.drop (at_ + 1)) m ((at_ : Int) + 1) (fun x hx => (HS.out.2.1 x (List.mem_of_mem_drop hx)).1)
    rw [← HR.out] at HQ
    have HQ' : Hid _ := HQ
    clear HQ HR
    go_enter Try.func68, Try.ntmps68
    go_wp2_with fail
    refine (bitsOk_yes _ _ hk1 hk8).mono ?_
    rintro e w2 ⟨rfl, rfl⟩
    go_wp2_with fail
    refine (HFull.out _).mono ?_
    rintro e w3 ⟨rfl, rfl⟩
    go_wp2_with fail
    all_goals
      refine (sumG_any _ _ _ _ (zs.drop (at_ + 1)) _ (by first | exact HS.out.drop (at_ + 1) (by omega) | exact HS.out.gone (at_ + 1) (by omega)) (by omega) (by omega)).mono ?_
      rintro e w4 ⟨rfl, hb4⟩
      have HB4 : Hid (Below w3.heap.size w3 w4) := hb4
      clear hb4 hand hcell hd hdp HFull
      rcases HQ'.out with ⟨S, c, hS, hc, hle, e1, e2⟩ | ⟨S, c, hS, hc, hgt, e1, e2⟩ | ⟨e1, e2⟩
    all_goals clear HQ'
    all_goals rw [e1]
    all_goals have E2 : Hid (R = _) := e2
    all_goals clear e1 e2
    all_goals dsimp only
    case inl.inl | inr.inl =>
      have hcmp : decide ((16777216 : Int) < (m : Int) + (S : Int)) = false := by simp; omega
      have hmi : (m : Int) + (S : Int) ≤ 16777216 := by omega
      have hci : (c : Int) ≤ 4 := by omega
      go_wp2_with fail
      go_ret3
      exact ⟨ret_three (by rw [E2.out]) (by rw [E2.out]) (by rw [E2.out]), HB4.out⟩
    case inl.inr.inl | inr.inr.inl =>
      have hcmp : decide ((16777216 : Int) < (m : Int) + (S : Int)) = true := by simp; omega
      have hmi : (m : Int) + (S : Int) ≤ 268435711 := by omega
      have hci : (c : Int) ≤ 4 := by omega
      go_wp2_with fail
      go_ret3
      exact ⟨ret_three (by rw [E2.out]) (by rw [E2.out]) (by rw [E2.out]), HB4.out⟩
    all_goals
      go_wp2_with fail
      go_ret3
      exact ⟨ret_three (by rw [E2.out]) (by rw [E2.out]) (by rw [E2.out]), HB4.out⟩

set_option maxRecDepth 10000 in
set_option maxHeartbeats 400000 in
theorem implGpx_no (a : Option Addr) (len cap : Nat) (at_ bits : Int) (w : World) (hl : len ≤ 1099511627776) (h : ¬ (1 ≤ bits ∧ bits ≤ 8 ∧ 0 ≤ at_ ∧ at_ < (len : Int))) :
    Calls Try.prog 68 #[.slice a len cap, .int .i64 at_, .int .i64 bits] w fun e w' => e = .returned (.tuple #[.int .i64 0, .int .i64 0, .bool false]) ∧ w' = w := by
  have HN : Hid (¬ (1 ≤ bits ∧ bits ≤ 8 ∧ 0 ≤ at_ ∧ at_ < (len : Int))) := h
  clear h
  by_cases hb : 1 ≤ bits ∧ bits ≤ 8
  · have HF : Hid (at_ < 0 ∨ (len : Int) ≤ at_) := by
      have := HN.out
      show _ ∨ _
      omega
    obtain ⟨hb1, hb2⟩ := hb
    go_enter Try.func68, Try.ntmps68
    go_wp2_with fail
    refine (bitsOk_yes _ _ hb1 hb2).mono ?_
    rintro e w2 ⟨rfl, rfl⟩
    by_cases h0 : at_ < 0
    · go_wp2_with fail
      go_ret3
      exact ⟨rfl, rfl⟩
    · have h2 : (len : Int) ≤ at_ := by have := HF.out; omega
      go_wp2_with fail
      go_ret3
      exact ⟨rfl, rfl⟩
  · have HF : Hid (bits < 1 ∨ 8 < bits) := by show _ ∨ _; omega
    clear hb
    go_enter Try.func68, Try.ntmps68
    go_wp2_with fail
    refine (bitsOk_no _ _ HF.out).mono ?_
    rintro e w2 ⟨rfl, rfl⟩
    go_wp2_with fail
    go_ret3
    exact ⟨rfl, rfl⟩

theorem implGpx_any (b off len cap : Nat) (at_ bits : Int) (zs : List Int) (w : World) (hs : Seg w (some ⟨b, off, none⟩) len zs) (hcap : len ≤ cap) (hl : len ≤ 1099511627776) :
    Calls Try.prog 68 #[.slice (some ⟨b, off, none⟩) len cap, .int .i64 at_, .int .i64 bits] w fun e w' => e = .returned (.tuple #[.int .i64 (getPfx zs at_ bits).1, .int .i64 (getPfx zs at_ bits).2.1, .bool (getPfx zs at_ bits).2.2]) ∧ Below w.heap.size w w' := by
  have hz := hs.1
  by_cases h : 1 ≤ bits ∧ bits ≤ 8 ∧ 0 ≤ at_ ∧ at_ < (zs.length : Int)
  · obtain ⟨B, rfl⟩ := Int.eq_ofNat_of_zero_le (show 0 ≤ bits by omega)
    obtain ⟨T, rfl⟩ := Int.eq_ofNat_of_zero_le (show 0 ≤ at_ by omega)
    exact implGpx_yes b off len cap T B zs w hs hcap hl (by omega) (by omega) (by omega)
  · rw [getPfx, if_neg h]
    refine (implGpx_no _ len cap at_ bits w hl (by omega)).mono ?_
    rintro e w' ⟨rfl, rfl⟩
    exact ⟨rfl, Below.refl _ _⟩

end Go.Proofs.Ytljhplddgcmmoab
