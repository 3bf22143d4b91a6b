/- A copy of bytes into a row of the call's own, at a place. -/
import Derived.Test.YtpjldfpipchmjawOwn
namespace Go.Proofs.Ytpjldfpipchmjaw
open Go.RowKit
set_option linter.unusedVariables false

theorem row_own {w : World} {g n c : Nat} {cur : List Value} {base : Nat} (h : w.heap[g]? = some (.cells cur.toArray 5 (0, 0))) (hb : base ≤ g) (hl : cur.length = c) (hn : n ≤ c) (hc : c ≤ maxLen) : w.ownsRow base 5 1 (.slice (some ⟨g, 0, none⟩) n c) n (cur.take n) :=
  ⟨by simp; omega, .inr ⟨g, c, cur.toArray, rfl, hb, h, hn, hc, by simpa using hl, by simp⟩⟩

/-- 'copy' of bytes into a row of the call's own, at a place. -/
theorem copy_at (w1 : World) (g o dLen dCap len : Nat) (sa : Option Addr) (cap : Nat) (zs cur : List Int) (hs : Seg w1 sa len zs) (hg : w1.heap[g]? = some (.cells (cur.map (Value.int .u8)).toArray 5 (0, 0))) (hd : len ≤ dLen) (hfit : o + len ≤ cur.length) :
    ∃ w2, (Builtin.copy_ #[22, 22] 3 #[.slice (some ⟨g, o, none⟩) dLen dCap, .slice sa len cap]).run Try.prog w1 = .ok (.int .i64 len) w2 ∧
      w2.heap[g]? = some (.cells ((cur.take o ++ zs ++ cur.drop (o + len)).map (Value.int .u8)).toArray 5 (0, 0)) ∧ Below g w1 w2 ∧ w1.grownBy w2 (some g) := by
  obtain ⟨i0, hi, hz0, hz1, hz2⟩ := info_parts Try.info5
  have hzl : zs.length = len := hs.1
  rcases hs.2.2 with h | ⟨b, off, rfl, _⟩
  · subst h
    obtain rfl : zs = [] := List.eq_nil_of_length_eq_zero hs.1
    refine ⟨w1, ?_, by simpa using hg, Below.refl _ _, ⟨rfl, rfl, rfl, Nat.le_refl _, fun _ _ _ => rfl⟩⟩
    cases sa with
    | none => simp [Builtin.copy_, run_underlying Try.underlying22, sizeOf, typeInfo, hi, Builtin.lenOf, Builtin.firstCells, storeCells, goInt]
    | some ad => simp [Builtin.copy_, run_underlying Try.underlying22, sizeOf, typeInfo, hi, Builtin.lenOf, Builtin.firstCells, loadCells, loadCellsFrom, storeCells, goInt]
  · have hr := run_copy_row (P := Try.prog) w1 22 22 3 5 g o dLen dCap ⟨b, off, none⟩ len cap _ 5 (zs.map (Value.int .u8)) Try.underlying22 (by rw [hi]; simp [hz1]) hg (by rw [List.length_map, hzl]; exact (Nat.min_eq_left hd).symm) (cells_ints hs) (by simp [hzl]; omega) (ints_one zs)
    refine ⟨w1.setRow g ((cur.take o ++ zs ++ cur.drop (o + len)).map (Value.int .u8)).toArray, ?_, setRow_heap w1 g _ _ 5 _ hg, below_setRow (Below.refl _ _) (Nat.le_refl _) _, ⟨rfl, rfl, rfl, by simp, fun k _ hk => setRow_other w1 g k _ (fun e => hk (by simp [e]))⟩⟩
    rw [hr]
    simp [goInt, hzl, List.map_take, List.map_drop]

end Go.Proofs.Ytpjldfpipchmjaw
