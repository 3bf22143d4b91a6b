/- What the program's with answers: an upload more, at its place. An upload written into a row. No program in it but its table of types. -/
import Derived.Test.YtlkgopoicpnacaaGreatDoorM34
import Derived.Test.YtlkgopoicpnacaaGreatDoorM06
import Derived.Test.YtlkgopoicpnacaaGreatDoorM18
import Derived.Test.YtlkgopoicpnacaaGreatDoorM15
import Derived.Test.YtlkgopoicpnacaaGreatDoorM04
namespace Go.Proofs.YtlkgopoicpnacaaGreatDoor
open Go.RowKit
set_option linter.unusedVariables false

theorem OwnU.at {W : World} {base n c : Nat} {a : Option Addr} {l : List UE} (h : OwnU W base a n c l) {i : Nat} (hi : i < l.length) :
    ∃ g, a = some ⟨g, 0, none⟩ ∧ g < W.heap.size ∧ W.cell? ⟨g, i * 4, none⟩ = some (.string (l[i]).u.id) ∧ W.cell? ⟨g, i * 4 + 1, none⟩ = some (.int .i64 (l[i]).u.want) ∧ W.cell? ⟨g, i * 4 + 2, none⟩ = some (.slice (l[i]).a (l[i]).n (l[i]).c) ∧ W.cell? ⟨g, i * 4 + 3, none⟩ = some (.bool (l[i]).u.done) ∧ ∀ j, W.frozen? ⟨g, j, none⟩ = false := by
  have hn := h.len
  have h' : W.ownsRow base 64 4 (.slice a n c) n (ueCells l) := h
  rcases h'.2 with ⟨_, h0⟩ | ⟨g, cap, cur, he, _⟩
  · omega
  · injection he with e1 e2 e3
    subst e1
    have hl := ueCells_len l
    obtain ⟨h0, h1, h2, h3⟩ := ueCells_at l i hi
    refine ⟨g, rfl, (h.lt g rfl).2, ?_, ?_, ?_, ?_, fun j => h'.frozenAt j⟩
    · rw [h'.cellAt _ (by omega)]; exact h0
    · rw [h'.cellAt _ (by omega)]; exact h1
    · rw [h'.cellAt _ (by omega)]; exact h2
    · rw [h'.cellAt _ (by omega)]; exact h3

set_option maxRecDepth 10000 in
set_option maxHeartbeats 1600000 in
theorem implWithU_any (base : Nat) (A : Option Addr) (n C : Nat) (l : List UE) (x : UE) (w : World) (ho : OwnU w base A n C l) (hn : n ≤ 1048576) (hb : base ≤ w.heap.size) :
    Calls Tryz.prog 113 #[.slice A n C, .agg #[.string x.u.id, .int .i64 x.u.want, .slice x.a x.n x.c, .bool x.u.done]] w fun e w' => ∃ A' C', e = .returned (.slice A' (n + 1) C') ∧ OwnU w' base A' (n + 1) C' (l.take (lessU (l.map UE.u) x.u.id) ++ [x] ++ l.drop (lessU (l.map UE.u) x.u.id)) ∧ w.grownBy w' (A.map (·.block)) := by
  have HO : Hid (OwnU w base A n C l) := ho
  have HL : Hid (l.length = n) := ho.len
  have HBs : Hid (base ≤ w.heap.size) := hb
  have HB0 : Hid (Below w.heap.size w (w.alloc (.cells #[.string x.u.id, .int .i64 x.u.want, .slice x.a x.n x.c, .bool x.u.done] 64))) := (Below.refl _ _).alloc (Nat.le_refl _) _
  have HX0 : Hid (BoxN (w.alloc (.cells #[.string x.u.id, .int .i64 x.u.want, .slice x.a x.n x.c, .bool x.u.done] 64)) w.heap.size 64 [.string x.u.id, .int .i64 x.u.want, .slice x.a x.n x.c, .bool x.u.done]) := BoxN.new _ _ _
  clear ho hb
  go_enter Tryz.func113, Tryz.ntmps113
  go_wp2_with fail
  obtain ⟨w1, hw1⟩ : ∃ w1, w.alloc (.cells #[.string x.u.id, .int .i64 x.u.want, .slice x.a x.n x.c, .bool x.u.done] 64) = w1 := ⟨_, rfl⟩
  rw [hw1] at HB0 HX0 ⊢
  clear hw1
  have hwl : w.heap.size < w1.heap.size := HX0.out.lt
  go_loopw [5] (fun v wr => ∃ k : Nat, k ≤ n ∧ v = .int .i64 k ∧ Hid (Below w1.heap.size w1 wr) ∧ Hid (∀ j (hj : j < (l.map UE.u).length), j < k → ltS ((l.map UE.u)[j]).id x.u.id = true)) (fun v _ => n - (intOf v).toNat)
  case atStart => exact ⟨0, Nat.zero_le _, rfl, Below.refl _ _, fun j _ hj => absurd hj (Nat.not_lt_zero _)⟩
  case round =>
    obtain ⟨k, hk, rfl, HB, HN⟩ := hrel
    have hxr := HX0.out.stays HB.out
    have hwr : w.heap.size < wr.heap.size := Nat.lt_of_lt_of_le hwl HB.out.size
    have hne := past_some wr
    have x5 : ∀ P : Past wr, P.world.cell? ⟨w.heap.size, 0, none⟩ = some (.string x.u.id) := fun P => P.cell hwr (hxr.cell 0 rfl)
    have x6 : ∀ P : Past wr, P.world.cell? ⟨w.heap.size, 1, none⟩ = some (.int .i64 x.u.want) := fun P => P.cell hwr (hxr.cell 1 rfl)
    have x7 : ∀ P : Past wr, P.world.cell? ⟨w.heap.size, 2, none⟩ = some (.slice x.a x.n x.c) := fun P => P.cell hwr (hxr.cell 2 rfl)
    have x8 : ∀ P : Past wr, P.world.cell? ⟨w.heap.size, 3, none⟩ = some (.bool x.u.done) := fun P => P.cell hwr (hxr.cell 3 rfl)
    have HWr : Hid (Below w.heap.size w wr) := HB0.out.trans (HB.out.mono HB0.out.size)
    have HO2 : Hid (OwnU wr base A n C l) := HO.out.below HWr.out
    have m2 := keyMU x.u.id x.u.want x.a x.n x.c x.u.done
    by_cases hlt : k < n
    case neg =>
      have HLs : Hid (lessU (l.map UE.u) x.u.id = k) := lessU_at (by have := HL.out; rw [List.length_map]; omega) HN.out (fun h => by have := HL.out; rw [List.length_map] at h; omega)
      have hkn : ¬ ((k : Int) < (n : Int)) := by omega
      have dk0 : decide ((k : Int) < (n : Int)) = false := by simpa using hkn
      have dk1 : ((k : Int) < (n : Int)) = False := by simpa using hkn
      have dk2 : decide (k < n) = false := by simpa using hlt
      have dk3 : (k < n) = False := by simpa using hlt
      go_wp2_with fail
      go_quiet (fail)
      have hxq : BoxN (wr.drewN nq) w.heap.size 64 [.string x.u.id, .int .i64 x.u.want, .slice x.a x.n x.c, .bool x.u.done] := hxr
      have HZ : Hid (Below w.heap.size w (wr.drewN nq)) := below_drewN HWr.out _
      obtain ⟨W4, hW4⟩ : ∃ W4, wr.drewN nq = W4 := ⟨_, rfl⟩
      rw [hW4] at hxq HZ ⊢
      clear hW4 x5 x6 x7 x8 hxr
      have y5 := hxq.cell 0 rfl
      have y6 := hxq.cell 1 rfl
      have y7 := hxq.cell 2 rfl
      have y8 := hxq.cell 3 rfl
      have HV : Hid ((W4.alloc (.cells #[.string x.u.id, .int .i64 x.u.want, .slice x.a x.n x.c, .bool x.u.done] 64)).heap[W4.heap.size]? = some (.cells #[.string x.u.id, .int .i64 x.u.want, .slice x.a x.n x.c, .bool x.u.done] 64 (0, 0))) := heap_alloc_new W4 _
      have HZ5 : Hid (Below w.heap.size w (W4.alloc (.cells #[.string x.u.id, .int .i64 x.u.want, .slice x.a x.n x.c, .bool x.u.done] 64))) := HZ.out.alloc HZ.out.size _
      have HO5 : Hid (OwnU (W4.alloc (.cells #[.string x.u.id, .int .i64 x.u.want, .slice x.a x.n x.c, .bool x.u.done] 64)) base A n C l) := HO.out.below HZ5.out
      have HN5 : Hid (Option.map (fun a : Addr => a.block) A ≠ some W4.heap.size) := fun e => by have h1 := (HO.out.lt _ e).2; have h2 := HZ.out.size; omega
      clear hxq
      go_wp2_with fail
      refine (insU_any base A n C k l W4.heap.size x _ HO5.out HV.out HN5.out hk hn (Nat.le_trans HBs.out HZ5.out.size)).mono ?_
      rintro e w5 ⟨A5, C5, rfl, ho5, hg5⟩
      have HR : Hid (OwnU w5 base A5 (n + 1) C5 (l.take (lessU (l.map UE.u) x.u.id) ++ [x] ++ l.drop (lessU (l.map UE.u) x.u.id)) ∧ w.grownBy w5 (Option.map (·.block) A)) := by
        refine ⟨by rw [HLs.out]; exact ho5, ⟨hg5.os.trans HZ5.out.os, hg5.tape.trans HZ5.out.tape, hg5.output.trans HZ5.out.output, Nat.le_trans HZ5.out.size hg5.size, fun j hj hne => (hg5.block j (Nat.lt_of_lt_of_le hj HZ5.out.size) hne).trans (HZ5.out.block j hj)⟩⟩
      clear ho5 hg5
      go_wp2_with fail
      go_ret
      exact ⟨_, _, rfl, HR.out.1, HR.out.2⟩
    have hki : (k : Int) < (n : Int) := by omega
    have hkl : k < l.length := by have := HL.out; omega
    obtain ⟨b, rfl, hb, g0, g1, g2, g3, _⟩ := HO2.out.at hkl
    have HA : Hid (((l.map UE.u)[k]'(by rw [List.length_map]; exact hkl)).id = (l[k]).u.id) := by show _ = _; rw [List.getElem_map]
    have m1 := keyMU (l[k]).u.id (l[k]).u.want (l[k]).a (l[k]).n (l[k]).c (l[k]).u.done
    have x1 : ∀ P : Past wr, P.world.cell? ⟨b, k * 4, none⟩ = some (.string (l[k]).u.id) := fun P => P.cell hb g0
    have x2 : ∀ P : Past wr, P.world.cell? ⟨b, k * 4 + 1, none⟩ = some (.int .i64 (l[k]).u.want) := fun P => P.cell hb g1
    have x3 : ∀ P : Past wr, P.world.cell? ⟨b, k * 4 + 2, none⟩ = some (.slice (l[k]).a (l[k]).n (l[k]).c) := fun P => P.cell hb g2
    have x4 : ∀ P : Past wr, P.world.cell? ⟨b, k * 4 + 3, none⟩ = some (.bool (l[k]).u.done) := fun P => P.cell hb g3
    by_cases g : ltS (l[k]).u.id x.u.id = true
    · have HN2 : Hid (∀ j (hj : j < (l.map UE.u).length), j < k + 1 → ltS ((l.map UE.u)[j]).id x.u.id = true) := fun j hj hjk => by
        by_cases e : j = k
        · subst e; rw [HA.out]; exact g
        · exact HN.out j hj (by omega)
      have d5 : Op.bytesLess (l[k]).u.id.toList x.u.id.toList = true := g
      clear HN HA g g0 g1 g2 g3
      generalize l[k] = y at *
      go_wp2_with fail
      refine wp_region_past (by kernel_rfl) (by kernel_rfl) ?_
      repeat (quiet_step ((first | (go_at_call 147; exact calls_past (implKeyU_any _ _ _ _ _ _ _)) | fail)))
      refine wpQuiet_nil ?_
      rintro _ ⟨z, rfl⟩
      have HZ : Hid (Below w1.heap.size w1 z.world) := HB.out.trans (z.below.mono HB.out.size)
      go_wp2_with fail
      go_roundw
      case rel => exact ⟨k + 1, by omega, by go_num, HZ, HN2⟩
      case measure => simp [intOf]; omega
    · have g' : ltS (l[k]).u.id x.u.id = false := by simpa using g
      have HLs : Hid (lessU (l.map UE.u) x.u.id = k) := lessU_at (by rw [List.length_map]; omega) HN.out (fun h => by rw [HA.out]; exact g')
      have d5 : Op.bytesLess (l[k]).u.id.toList x.u.id.toList = false := g'
      clear HN HA g g' g0 g1 g2 g3
      generalize l[k] = y at *
      go_wp2_with fail
      refine wp_region_past (by kernel_rfl) (by kernel_rfl) ?_
      repeat (quiet_step ((first | (go_at_call 147; exact calls_past (implKeyU_any _ _ _ _ _ _ _)) | fail)))
      refine wpQuiet_nil ?_
      rintro _ ⟨z, rfl⟩
      have y5 := x5 z
      have y6 := x6 z
      have y7 := x7 z
      have y8 := x8 z
      have HZ : Hid (Below w.heap.size w z.world) := HWr.out.trans (z.below.mono HWr.out.size)
      obtain ⟨W4, hW4⟩ : ∃ W4, z.world = W4 := ⟨_, rfl⟩
      rw [hW4] at y5 y6 y7 y8 HZ ⊢
      clear hW4 x5 x6 x7 x8 x1 x2 x3 x4
      have HV : Hid ((W4.alloc (.cells #[.string x.u.id, .int .i64 x.u.want, .slice x.a x.n x.c, .bool x.u.done] 64)).heap[W4.heap.size]? = some (.cells #[.string x.u.id, .int .i64 x.u.want, .slice x.a x.n x.c, .bool x.u.done] 64 (0, 0))) := heap_alloc_new W4 _
      have HZ5 : Hid (Below w.heap.size w (W4.alloc (.cells #[.string x.u.id, .int .i64 x.u.want, .slice x.a x.n x.c, .bool x.u.done] 64))) := HZ.out.alloc HZ.out.size _
      have HO5 : Hid (OwnU (W4.alloc (.cells #[.string x.u.id, .int .i64 x.u.want, .slice x.a x.n x.c, .bool x.u.done] 64)) base (some ⟨b, 0, none⟩) n C l) := HO.out.below HZ5.out
      have HN5 : Hid (Option.map (fun a : Addr => a.block) (some (⟨b, 0, none⟩ : Addr)) ≠ some W4.heap.size) := fun e => by have h1 := (HO.out.lt _ e).2; have h2 := HZ.out.size; omega
      go_wp2_with fail
      refine (insU_any base (some ⟨b, 0, none⟩) n C k l W4.heap.size x _ HO5.out HV.out HN5.out hk hn (Nat.le_trans HBs.out HZ5.out.size)).mono ?_
      rintro e w5 ⟨A5, C5, rfl, ho5, hg5⟩
      have HR : Hid (OwnU w5 base A5 (n + 1) C5 (l.take (lessU (l.map UE.u) x.u.id) ++ [x] ++ l.drop (lessU (l.map UE.u) x.u.id)) ∧ w.grownBy w5 (Option.map (fun a : Addr => a.block) (some (⟨b, 0, none⟩ : Addr)))) := by
        refine ⟨by rw [HLs.out]; exact ho5, ⟨hg5.os.trans HZ5.out.os, hg5.tape.trans HZ5.out.tape, hg5.output.trans HZ5.out.output, Nat.le_trans HZ5.out.size hg5.size, fun j hj hne => (hg5.block j (Nat.lt_of_lt_of_le hj HZ5.out.size) hne).trans (HZ5.out.block j hj)⟩⟩
      clear ho5 hg5
      go_wp2_with fail
      go_ret
      exact ⟨_, _, rfl, HR.out.1, HR.out.2⟩

end Go.Proofs.YtlkgopoicpnacaaGreatDoor

namespace Go.Proofs.YtlkgopoicpnacaaGreatDoor
open Go.RowKit
set_option linter.unusedVariables false

/-- An upload is written into a row of the call's own. -/
theorem ueCells_put (M D : List UE) (e x : UE) :
    ((((ueCells (M ++ e :: D)).set (M.length * 4) (.string x.u.id)).set (M.length * 4 + 1) (.int .i64 x.u.want)).set (M.length * 4 + 2) (.slice x.a x.n x.c)).set (M.length * 4 + 3) (.bool x.u.done) = ueCells (M ++ x :: D) := by
  have hl := ueCells_len M
  rw [ueCells_append, ueCells_append, ueCells_cons, ueCells_cons]
  rw [List.set_append_right _ _ (by omega), hl, Nat.sub_self, List.set_cons_zero]
  rw [List.set_append_right _ _ (by omega), hl, show M.length * 4 + 1 - M.length * 4 = 1 by omega]
  rw [List.set_append_right _ _ (by omega), hl, show M.length * 4 + 2 - M.length * 4 = 2 by omega]
  rw [List.set_append_right _ _ (by omega), hl, show M.length * 4 + 3 - M.length * 4 = 3 by omega]
  rfl

theorem OwnU.put {w : World} {base g n C : Nat} {M D : List UE} {e : UE} (h : OwnU w base (some ⟨g, 0, none⟩) n C (M ++ e :: D)) (x : UE) :
    OwnU ((((w.setCell ⟨g, M.length * 4, none⟩ (.string x.u.id)).setCell ⟨g, M.length * 4 + 1, none⟩ (.int .i64 x.u.want)).setCell ⟨g, M.length * 4 + 2, none⟩ (.slice x.a x.n x.c)).setCell ⟨g, M.length * 4 + 3, none⟩ (.bool x.u.done)) base (some ⟨g, 0, none⟩) n C (M ++ x :: D) ∧ w.grownBy ((((w.setCell ⟨g, M.length * 4, none⟩ (.string x.u.id)).setCell ⟨g, M.length * 4 + 1, none⟩ (.int .i64 x.u.want)).setCell ⟨g, M.length * 4 + 2, none⟩ (.slice x.a x.n x.c)).setCell ⟨g, M.length * 4 + 3, none⟩ (.bool x.u.done)) (some g) := by
  have h0 : w.ownsRow base 64 4 (.slice (some ⟨g, 0, none⟩) n C) n (ueCells (M ++ e :: D)) := h
  have h1 := h0.stored (M.length * 4) (.string x.u.id)
  have h2 := h1.1.stored (M.length * 4 + 1) (.int .i64 x.u.want)
  have h3 := h2.1.stored (M.length * 4 + 2) (.slice x.a x.n x.c)
  have h4 := h3.1.stored (M.length * 4 + 3) (.bool x.u.done)
  have h5 := h4.1
  rw [ueCells_put] at h5
  exact ⟨h5, World.grownBy.trans (World.grownBy.trans (World.grownBy.trans h1.2 h2.2) h3.2) h4.2⟩

end Go.Proofs.YtlkgopoicpnacaaGreatDoor
