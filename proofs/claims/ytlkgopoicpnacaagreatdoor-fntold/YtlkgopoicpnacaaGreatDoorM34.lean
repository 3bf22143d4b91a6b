/- The library's Insert of one upload into a row of the call's own. -/
import Derived.Test.YtlkgopoicpnacaaGreatDoorM04
import Derived.Lib.Overlaps
import Derived.Laws.Externs
import Derived.Deep.RegionWith
import Derived.Deep.CutBlock
namespace Go.Proofs.YtlkgopoicpnacaaGreatDoor
open Go.RowKit
set_option linter.unusedVariables false

theorem up_cell {w : World} {vb : Nat} {x : UE} (hv : w.heap[vb]? = some (.cells #[.string x.u.id, .int .i64 x.u.want, .slice x.a x.n x.c, .bool x.u.done] 64 (0, 0))) : ∀ j v, (ueCells [x])[j]? = some v → w.cell? ((⟨vb, 0, none⟩ : Addr).add j) = some v := by
  intro j v hj
  have hlt : j < 4 := by
    have := (List.getElem?_eq_some_iff.1 hj).1
    rw [ueCells_len] at this
    simpa using this
  rw [Addr.add_lit, cell_of_row _ _ _ _ _ _ hv]
  have : j = 0 ∨ j = 1 ∨ j = 2 ∨ j = 3 := by omega
  rcases this with rfl | rfl | rfl | rfl <;> simpa [ueCells, UE.cells] using hj

theorem up_src {w : World} {vb : Nat} {x : UE} (hv : w.heap[vb]? = some (.cells #[.string x.u.id, .int .i64 x.u.want, .slice x.a x.n x.c, .bool x.u.done] 64 (0, 0))) : Src Tryz.prog 4 27 (.slice (some ⟨vb, 0, none⟩) 1 1) 1 (ueCells [x]) w :=
  Src.ofSlice _ Tryz.underlying27 ⟨vb, 0, none⟩ 1 1 _ (by rw [ueCells_len]; rfl) (up_cell hv) (ueCells_one [x])

/-- Where a row that is not empty lies. -/
theorem OwnU.addr' {w : World} {base n cap : Nat} {a : Option Addr} {l : List UE} (h : OwnU w base a n cap l) (hn : 0 < n) : ∃ g, a = some ⟨g, 0, none⟩ := by
  rcases h.2 with ⟨_, h0⟩ | ⟨g, cap', cur, he, _⟩
  · omega
  · injection he with e1 _ _
    exact ⟨g, e1⟩

set_option maxRecDepth 10000 in
/-- An append of zeros onto the first uploads of a row that has no room for them: a new row. -/
theorem growZU_run (w : World) (t tn ty : TypeId) (kn : IntKind) (ht : Tryz.prog.underlying t = some (.slice 64)) (htn : Tryz.prog.underlying tn = some (.int kn)) (base g n C i k : Nat) (l : List UE) (hown : OwnU w base (some ⟨g, 0, none⟩) n C l)
    (hi : i ≤ n) (hk : 0 < k) (hC : C < i + k) (hb : i + k ≤ 2097152) :
    ∃ G Z W1, (Builtin.append_ #[t, tn] ty #[.slice (some ⟨g, 0, none⟩) i C, .int .i64 k]).run Tryz.prog w = .ok (.slice (some ⟨w.heap.size, 0, none⟩) (i + k) G) W1 ∧ RowU W1 w.heap.size G (ueCells (l.take i) ++ Z) ∧ i + k ≤ G ∧ G ≤ maxLen ∧ w.grownBy W1 none := by
  obtain ⟨i0, hi0, hz0, hz1, hz2⟩ := info_parts info_up
  have hln := hown.len
  have hT : (ueCells (l.take i)).length = i * 4 := by rw [ueCells_len, List.length_take]; omega
  have holds : ∀ j u, (ueCells (l.take i))[j]? = some u → w.cell? ((⟨g, 0, none⟩ : Addr).add j) = some u := hown.src0 i
  have hold := run_firstCells_some (P := Tryz.prog) w.drew i0.size i ⟨g, 0, none⟩ i C (ueCells (l.take i)) (by rw [hT, hz1]) (by simpa using holds)
  have hr := Lib.run_append_grow_zeros (P := Tryz.prog) w t tn ty 64 i0 _ .i64 kn ht htn hi0 hz0 (some ⟨g, 0, none⟩) i C (ueCells (l.take i)) hold k hk (by rw [hz1]; decide) hC (by omega) (by rw [hz2]; omega) (growslice_fits hC (by rw [hz2]; omega))
  have hge := grownCap_ge w (i + k) C 64
  have hcm : grownCap w (i + k) C 64 ≤ maxLen := grownCap_le_maxLen w (i + k) C _ (by unfold maxLen; omega)
  refine ⟨_, (Builtin.zeroCells (Value.agg #[.string ⟨#[]⟩, .int .i64 0, .slice none 0 0, .bool false]).cells k).toList ++ (Builtin.zeroCells (Value.agg #[.string ⟨#[]⟩, .int .i64 0, .slice none 0 0, .bool false]).cells (grownCap w (i + k) C 64 - (i + k))).toList, _, hr, ⟨?_, ?_⟩, hge, hcm, ⟨rfl, rfl, rfl, by simp, fun k hk _ => heap_alloc_old w.drew _ hk⟩⟩
  · refine (heap_alloc_new w.drew _).trans ?_
    congr 2
    apply Array.ext'
    simp
  · simp only [List.length_append, hT, Array.length_toList, size_zeroCells]
    have e4 : (Value.agg #[.string ⟨#[]⟩, .int .i64 0, .slice none 0 0, .bool false]).cells.size = 4 := rfl
    rw [e4]
    omega

set_option maxRecDepth 10000 in
set_option maxHeartbeats 1600000 in
theorem insEndU_any (base : Nat) (A : Option Addr) (n C : Nat) (l : List UE) (vb : Nat) (x : UE) (w : World) (ho : OwnU w base A n C l) (hv : w.heap[vb]? = some (.cells #[.string x.u.id, .int .i64 x.u.want, .slice x.a x.n x.c, .bool x.u.done] 64 (0, 0))) (hn : n ≤ 1048576) (hb : base ≤ w.heap.size) :
    Calls Tryz.prog 123 #[.slice A n C, .int .i64 n, .slice (some ⟨vb, 0, none⟩) 1 1] w fun e w' => ∃ A' C', e = .returned (.slice A' (n + 1) C') ∧ OwnU w' base A' (n + 1) C' (l ++ [x]) ∧ w.grownBy w' (A.map (·.block)) := by
  obtain ⟨A', C', w', hr, ho', hg'⟩ := appU_run w base 110 27 110 Tryz.underlying110 A n C l ho _ 1 [x] (up_src hv) (by omega) (by omega) hb
  have HG : Hid (OwnU w' base A' (n + 1) C' (l ++ [x]) ∧ w.grownBy w' (A.map (·.block))) := ⟨ho', hg'⟩
  clear ho' hg'
  go_enter Tryz.func123, Tryz.ntmps123
  go_wp2_with (at_builtin; refine Lib.wpList_append_run _ rfl _ _ _ _ rfl _ _ rfl rfl _ _ hr ?_)
  all_goals
    go_ret
    exact ⟨_, _, rfl, HG.out.1, HG.out.2⟩

set_option maxRecDepth 10000 in
set_option maxHeartbeats 1600000 in
theorem insRoomU_any (base g n C i : Nat) (l : List UE) (vb : Nat) (x : UE) (w : World) (ho : OwnU w base (some ⟨g, 0, none⟩) n C l) (hv : w.heap[vb]? = some (.cells #[.string x.u.id, .int .i64 x.u.want, .slice x.a x.n x.c, .bool x.u.done] 64 (0, 0))) (hne : vb ≠ g) (hi : i < n) (hn : n ≤ 1048576) (hroom : n + 1 ≤ C) :
    Calls Tryz.prog 123 #[.slice (some ⟨g, 0, none⟩) n C, .int .i64 i, .slice (some ⟨vb, 0, none⟩) 1 1] w fun e w' => ∃ A' C', e = .returned (.slice A' (n + 1) C') ∧ OwnU w' base A' (n + 1) C' (l.take i ++ [x] ++ l.drop i) ∧ w.grownBy w' (some g) := by
  obtain ⟨rest, hrow, hbg, hnC, hCm⟩ := ho.row
  have hln := ho.len
  have hov : ∀ lb cb, (callFunc 127 #[.slice (some ⟨vb, 0, none⟩) 1 1, .slice (some ⟨g, (i + 1) * 4, none⟩) lb cb]).run Tryz.prog w = .ok (.value (.bool false)) w := fun lb cb => by
    rw [run_callFunc_extern Tryz.func127 (by kernel_rfl) (by kernel_rfl) (by kernel_rfl) (e := Extern.SlicesOverlaps.overlaps #[27, 27] #[4]) (by kernel_rfl),
      Lib.run_overlaps_apart w 27 4 64 Tryz.underlying27 4 (fun w => by kernel_rfl) ⟨vb, 0, none⟩ ⟨g, (i + 1) * 4, none⟩ 1 1 lb cb hne 64 64 4 (C * 4) (by simp [World.shape?, hv]) (by have h2 := hrow.2; rw [List.length_append] at h2; simp [World.shape?, hrow.1]; exact h2) (by omega) (by simp [World.frozen?, hv]) (by simp [World.frozen?, hv])]
    rfl
  obtain ⟨cs, hcs⟩ : ∃ cs, ueCells l ++ rest = cs := ⟨_, rfl⟩
  have hPd : ueCells (l.take i) ++ ueCells (l.drop i) = ueCells l := by rw [← ueCells_append, List.take_append_drop]
  have hPl : (ueCells (l.take i)).length = i * 4 := by rw [ueCells_len, List.length_take]; omega
  have hDl : (l.drop i).length = n - i := by rw [List.length_drop]; omega
  have hDc : (ueCells (l.drop i)).length = (n - i) * 4 := by rw [ueCells_len, hDl]
  have hcl : cs.length = C * 4 := by rw [← hcs]; exact hrow.2
  have hct : cs.take (i * 4) = ueCells (l.take i) := by rw [← hcs, ← hPd, List.append_assoc, ← hPl, List.take_left]
  rw [hcs] at hrow
  have hsplit : cs = cs.take ((i + 1) * 4) ++ (cs.drop ((i + 1) * 4)).take ((n - i) * 4) ++ cs.drop ((n + 1) * 4) := by
    have e : cs.drop ((n + 1) * 4) = (cs.drop ((i + 1) * 4)).drop ((n - i) * 4) := by rw [List.drop_drop]; congr 1; omega
    rw [e, List.append_assoc, List.take_append_drop, List.take_append_drop]
  obtain ⟨w2, hr2, hrow2, hg2⟩ := copyU_run w.drew 110 110 3 Tryz.underlying110 g C ((i + 1) * 4) (n - i) (C - (i + 1)) (cs.take ((i + 1) * 4)) ((cs.drop ((i + 1) * 4)).take ((n - i) * 4)) (cs.drop ((n + 1) * 4)) ⟨g, i * 4, none⟩ (n + 1 - i) (C - i) (l.drop i)
    (by rw [← hsplit]; exact hrow) (by rw [List.length_take, List.length_drop, hDl]; omega) (by rw [List.length_take]; omega) (by rw [hDl]; simp only [Nat.min_def]; split <;> omega)
    ((ho.below (Below.refl _ _).drew).src i)
  have hsplit2 : cs.take ((i + 1) * 4) = ueCells (l.take i) ++ (cs.take ((i + 1) * 4)).drop (i * 4) := by
    have e : ueCells (l.take i) = (cs.take ((i + 1) * 4)).take (i * 4) := by rw [List.take_take, Nat.min_eq_left (by omega), hct]
    rw [e, List.take_append_drop]
  have hv2 : w2.heap[vb]? = some (.cells #[.string x.u.id, .int .i64 x.u.want, .slice x.a x.n x.c, .bool x.u.done] 64 (0, 0)) := (hg2.block vb (Array.getElem?_eq_some_iff.1 (show w.drew.heap[vb]? = _ from hv)).1 (by simpa using hne)).trans hv
  have hvl : ∀ j v, (ueCells [x])[j]? = some v → w2.cell? ((⟨vb, 0, none⟩ : Addr).add j) = some v := up_cell hv2
  obtain ⟨w3, hr3, hrow3, hg3⟩ := copyU_run w2 110 27 3 Tryz.underlying110 g C (i * 4) (n + 1 - i) (C - i) (ueCells (l.take i)) ((cs.take ((i + 1) * 4)).drop (i * 4)) (ueCells (l.drop i) ++ cs.drop ((n + 1) * 4)) ⟨vb, 0, none⟩ 1 1 [x]
    (by rw [← hsplit2, ← List.append_assoc]; exact hrow2) (by rw [List.length_drop, List.length_take]; simp only [List.length_cons, List.length_nil]; omega) hPl (by simp only [List.length_cons, List.length_nil, Nat.min_def]; split <;> omega) hvl
  have HR : Hid (OwnU w3 base (some ⟨g, 0, none⟩) (n + 1) C (l.take i ++ [x] ++ l.drop i) ∧ w.grownBy w3 (some g)) := by
    refine ⟨RowU.own (rest := cs.drop ((n + 1) * 4)) (by rw [ueCells_append, ueCells_append, List.append_assoc]; rw [List.append_assoc] at hrow3; simpa using hrow3) hbg hCm (by simp; omega), ?_⟩
    · have h1 : w.grownBy w2 (some g) := ⟨hg2.os, hg2.tape, hg2.output, hg2.size, hg2.block⟩
      exact World.grownBy.trans h1 hg3
  clear hrow hrow2 hrow3 hsplit hsplit2 hv hv2 hvl hg2 hg3 ho hcs hct hcl hPd hPl hDl hDc
  have hz2 : ¬ ((i : Int) = (n : Int)) := by omega
  have hw1 : IntKind.i64.wrap ((i : Int) + 1) = (i : Int) + 1 := by rw [IntKind.wrap_i64]; omega
  have t1 : (0 : Int) ≤ (i : Int) + 1 := by omega
  have t3 : ((i : Int) + 1).toNat = i + 1 := by omega
  have t4 : ¬ C = i + 1 := by omega
  have t5 : ¬ C = i := by omega
  have t6 : (i : Int) + 1 ≤ (n : Int) + 1 := by omega
  have t7 : (i : Int) ≤ (n : Int) + 1 := by omega
  go_enter Tryz.func123, Tryz.ntmps123
  go_wp2_with (simp only [hov])
  go_region_with (fail)
  all_goals
    go_wp2_with fail
    go_ret
    exact ⟨_, _, rfl, HR.out.1, HR.out.2⟩

set_option maxRecDepth 10000 in
set_option maxHeartbeats 1600000 in
theorem insGrowU_any (base g n C i : Nat) (l : List UE) (vb : Nat) (x : UE) (w : World) (ho : OwnU w base (some ⟨g, 0, none⟩) n C l) (hv : w.heap[vb]? = some (.cells #[.string x.u.id, .int .i64 x.u.want, .slice x.a x.n x.c, .bool x.u.done] 64 (0, 0))) (hi : i < n) (hn : n ≤ 1048576) (hroom : C < n + 1) (hb : base ≤ w.heap.size) :
    Calls Tryz.prog 123 #[.slice (some ⟨g, 0, none⟩) n C, .int .i64 i, .slice (some ⟨vb, 0, none⟩) 1 1] w fun e w' => ∃ A' C', e = .returned (.slice A' (n + 1) C') ∧ OwnU w' base A' (n + 1) C' (l.take i ++ [x] ++ l.drop i) ∧ w.grownBy w' (some g) := by
  have hnC : n ≤ C := by obtain ⟨_, _, _, h, _⟩ := ho.row; exact h
  have hln := ho.len
  have hglt : g < w.heap.size := (ho.lt g rfl).2
  have hvlt : vb < w.heap.size := (Array.getElem?_eq_some_iff.1 hv).1
  obtain ⟨G, Z, W1, hr1, hrow1, hG, hGm, hg1⟩ := growZU_run w 110 3 110 .i64 Tryz.underlying110 Tryz.underlying3 base g n C i (n + 1 - i) l ho (by omega) (by omega) (by omega) (by omega)
  have hik : i + (n + 1 - i) = n + 1 := by omega
  have hkk : ((n + 1 - i : Nat) : Int) = (n : Int) + 1 - (i : Int) := by omega
  rw [hik] at hr1 hG
  rw [hkk] at hr1
  have hPl : (ueCells (l.take i)).length = i * 4 := by rw [ueCells_len, List.length_take]; omega
  have hDl : (l.drop i).length = n - i := by rw [List.length_drop]; omega
  have hDc : (ueCells (l.drop i)).length = (n - i) * 4 := by rw [ueCells_len, hDl]
  have hZl : Z.length = (G - i) * 4 := by have := hrow1.2; rw [List.length_append, hPl] at this; omega
  have hv1 : W1.heap[vb]? = some (.cells #[.string x.u.id, .int .i64 x.u.want, .slice x.a x.n x.c, .bool x.u.done] 64 (0, 0)) := (hg1.block vb hvlt (by simp)).trans hv
  have hvl : ∀ j v, (ueCells [x])[j]? = some v → W1.cell? ((⟨vb, 0, none⟩ : Addr).add j) = some v := up_cell hv1
  obtain ⟨w2, hr2, hrow2, hg2⟩ := copyU_run W1 110 27 3 Tryz.underlying110 w.heap.size G (i * 4) (n + 1 - i) (G - i) (ueCells (l.take i)) (Z.take 4) (Z.drop 4) ⟨vb, 0, none⟩ 1 1 [x]
    (by rw [List.append_assoc, List.take_append_drop]; exact hrow1) (by rw [List.length_take]; simp only [List.length_cons, List.length_nil]; omega) hPl (by simp only [List.length_cons, List.length_nil, Nat.min_def]; split <;> omega) hvl
  have hg12 : w.grownBy w2 none := World.grownBy.andThen hg1 hg2 (fun j e => .inl (by injection e with e; omega))
  have hls : OwnU w2 base (some ⟨g, 0, none⟩) n C l := ho.kept hg12 (fun k e => by cases e)
  obtain ⟨w3, hr3, hrow3, hg3⟩ := copyU_run w2.drew 110 110 3 Tryz.underlying110 w.heap.size G ((i + 1) * 4) (n - i) (G - (i + 1)) (ueCells (l.take i) ++ ueCells [x]) ((Z.drop 4).take ((n - i) * 4)) ((Z.drop 4).drop ((n - i) * 4)) ⟨g, i * 4, none⟩ (n - i) (C - i) (l.drop i)
    (by rw [List.append_assoc _ ((Z.drop 4).take _), List.take_append_drop]; exact hrow2) (by rw [List.length_take, List.length_drop, hDl]; omega) (by rw [List.length_append, hPl, ueCells_len]; simp only [List.length_cons, List.length_nil]; omega) (by rw [hDl]; simp)
    ((hls.below (Below.refl _ _).drew).src i)
  have HR : Hid (OwnU w3 base (some ⟨w.heap.size, 0, none⟩) (n + 1) G (l.take i ++ [x] ++ l.drop i) ∧ w.grownBy w3 (some g)) := by
    refine ⟨RowU.own (rest := (Z.drop 4).drop ((n - i) * 4)) (by rw [ueCells_append, ueCells_append]; exact hrow3) hb hGm (by simp; omega), ?_⟩
    · have h2 : w2.grownBy w3 (some w.heap.size) := ⟨hg3.os, hg3.tape, hg3.output, hg3.size, hg3.block⟩
      have h3 : w.grownBy w3 none := World.grownBy.andThen hg12 h2 (fun j e => .inl (by injection e with e; omega))
      exact ⟨h3.os, h3.tape, h3.output, h3.size, fun k hk _ => h3.block k hk (by simp)⟩
  clear hrow1 hrow2 hrow3 hv hv1 hvl hg1 hg2 hg3 hg12 hls ho hPl hDl hDc hZl hkk hik
  have hz2 : ¬ ((i : Int) = (n : Int)) := by omega
  have hz3 : (C : Int) < (n : Int) + 1 := by omega
  have hw1 : IntKind.i64.wrap ((i : Int) + 1) = (i : Int) + 1 := by rw [IntKind.wrap_i64]; omega
  have hw2 : IntKind.i64.wrap ((n : Int) + 1) = (n : Int) + 1 := by rw [IntKind.wrap_i64]; omega
  have hw3 : IntKind.i64.wrap ((n : Int) + 1 - (i : Int)) = (n : Int) + 1 - (i : Int) := by rw [IntKind.wrap_i64]; omega
  have t1 : (0 : Int) ≤ (i : Int) + 1 := by omega
  have t3 : ((i : Int) + 1).toNat = i + 1 := by omega
  have t4 : ¬ G = i + 1 := by omega
  have t5 : ¬ G = i := by omega
  have t6 : (i : Int) + 1 ≤ (n : Int) + 1 := by omega
  have t7 : (i : Int) ≤ (n : Int) + 1 := by omega
  have t8 : ¬ C = i := by omega
  go_enter Tryz.func123, Tryz.ntmps123
  go_wp2_with (at_builtin; refine Lib.wpList_append_run _ rfl _ _ _ _ rfl _ _ rfl rfl _ _ hr1 ?_)
  go_region_with (fail)
  all_goals
    go_wp2_with fail
    go_ret
    exact ⟨_, _, rfl, HR.out.1, HR.out.2⟩

/-- One lane is put into a row of the call's own, at a place. -/
theorem insU_any (base : Nat) (A : Option Addr) (n C i : Nat) (l : List UE) (vb : Nat) (x : UE) (w : World) (ho : OwnU w base A n C l) (hv : w.heap[vb]? = some (.cells #[.string x.u.id, .int .i64 x.u.want, .slice x.a x.n x.c, .bool x.u.done] 64 (0, 0))) (hne : A.map (·.block) ≠ some vb) (hi : i ≤ n) (hn : n ≤ 1048576) (hb : base ≤ w.heap.size) :
    Calls Tryz.prog 123 #[.slice A n C, .int .i64 i, .slice (some ⟨vb, 0, none⟩) 1 1] w fun e w' => ∃ A' C', e = .returned (.slice A' (n + 1) C') ∧ OwnU w' base A' (n + 1) C' (l.take i ++ [x] ++ l.drop i) ∧ w.grownBy w' (A.map (·.block)) := by
  by_cases hin : i = n
  · subst hin
    have hl := ho.len
    rw [List.take_of_length_le (by omega), List.drop_of_length_le (by omega), List.append_nil]
    exact insEndU_any base A i C l vb x w ho hv hn hb
  · obtain ⟨g, rfl⟩ := ho.addr' (show 0 < n by omega)
    by_cases hroom : n + 1 ≤ C
    · exact insRoomU_any base g n C i l vb x w ho hv (fun e => hne (by simp [e])) (by omega) hn hroom
    · exact insGrowU_any base g n C i l vb x w ho hv (by omega) hn (by omega) hb

end Go.Proofs.YtlkgopoicpnacaaGreatDoor
