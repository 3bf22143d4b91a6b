/- The marks of a row of truths, asked for. Rows of truths against themselves. Rows of numbers held against each other. Worlds in which nothing is yet: held against each other, marked, their marks asked for. The library's Clone of truths and of numbers; copies of nothing. The program's copy of a client. What the program's copyEach answers of clients. -/
import Derived.Test.YtemcjenpgdieoaaGreatDoorM37
import Derived.Test.YtemcjenpgdieoaaGreatDoorM36
import Derived.Test.YtemcjenpgdieoaaGreatDoorRows
import Derived.Deep.QuietTactic
import Derived.BigQuiet
import Derived.Test.YtemcjenpgdieoaaGreatDoorM03
import Derived.Test.YtemcjenpgdieoaaGreatDoorM03
import Derived.Test.YtemcjenpgdieoaaGreatDoorM03
import Derived.Test.YtemcjenpgdieoaaGreatDoorM09
import Derived.Lib.SliceRun
import Derived.OwnWalk
import Derived.Test.YtemcjenpgdieoaaGreatDoorM30
import Derived.Test.YtemcjenpgdieoaaGreatDoorM13
import Derived.Deep.CutBlock
import Derived.Test.YtemcjenpgdieoaaGreatDoorM10
namespace Go.Proofs.YtemcjenpgdieoaaGreatDoor
open Go.RowKit
set_option linter.unusedVariables false

set_option maxRecDepth 10000 in
set_option maxHeartbeats 1600000 in
theorem heldBoolS_any (base : Nat) (a : Option Addr) (n cap k : Nat) (w : World) (h : w.ownsRow base 4 1 (.slice a n cap) n (bcells (marksB k n))) (hn : n ≤ 1099511627776) (hk : k ≤ 2199023255552) :
    Calls Tryz.prog 37 #[.slice a n cap, .int .i64 (k : Int)] w fun e w' => e = .returned (.int .i64 ((k + n : Nat) : Int)) ∧ w' = w := by
  have HS : Hid (w.ownsRow base 4 1 (.slice a n cap) n (bcells (marksB k n))) := h
  clear h
  go_enter Tryz.func37, Tryz.ntmps37
  go_wp2
  go_loop [1, 5] (fun v i => ∃ j : Nat, j ≤ n ∧ i = .int .i64 j ∧ v = .int .i64 ((k + j : Nat) : Int)) (fun _ i => n - (intOf i).toNat)
  case atStart => exact ⟨0, Nat.zero_le _, rfl, by go_num⟩
  case round =>
    obtain ⟨j, hj, rfl, rfl⟩ := hrel
    by_cases hlt : j < n
    · obtain ⟨b, rfl⟩ : ∃ g, a = some ⟨g, 0, none⟩ := by
        rcases HS.out.2 with ⟨_, h0⟩ | ⟨g, cap', cur, he, _⟩
        · omega
        · injection he with e1 _ _
          exact ⟨g, e1⟩
      have hc : w.cell? ⟨b, j, none⟩ = some (.bool (mb (k + j))) := by
        rw [HS.out.cellAt j (by omega), bcells, List.getElem?_map, marksB_at k n j hlt]
        rfl
      have hmb : (((k + j : Nat) : Int) % 3 == 0) = mb (k + j) := by
        rw [mb]
        by_cases h : (k + j) % 3 = 0
        · rw [decide_eq_true h, beq_iff_eq]; omega
        · rw [decide_eq_false h, beq_eq_false_iff_ne]; omega
      obtain ⟨K, hK⟩ : ∃ K, k + j = K := ⟨_, rfl⟩
      have hKb : (K : Int) ≤ 4398046511104 := by omega
      have hji : (j : Int) < (n : Int) := by omega
      have HK : Hid (k + j = K) := hK
      rw [hK] at hc hmb ⊢
      generalize mb K = m at *
      have hne : (m != m) = false := by simp
      clear hK
      go_wp2
      go_round
      case rel => exact ⟨j + 1, by omega, by go_num, by have := HK.out; go_num⟩
      case measure => simp [intOf]; omega
    · go_wp2
      go_ret
      have hjn : j = n := by omega
      subst hjn
      exact ⟨rfl, rfl⟩

end Go.Proofs.YtemcjenpgdieoaaGreatDoor

namespace Go.Proofs.YtemcjenpgdieoaaGreatDoor
open Go.RowKit
set_option linter.unusedVariables false

set_option maxHeartbeats 400000 in
theorem eqBoolS_same (a b : Option Addr) (len ca cb : Nat) (xs : List Bool) (w : World) (hx : Bools w a len xs) (hy : Bools w b len xs) (hla : len ≤ 1099511627776) :
    Calls Tryz.prog 23 #[.slice a len ca, .slice b len cb] w fun e w' => e = .returned (.bool true) ∧ Below w.heap.size w w' := by
  have HX : Hid (Bools w a len xs) := hx
  have HY : Hid (Bools w b len xs) := hy
  clear hx hy
  have hne : ((len : Int) != (len : Int)) = false := by simp
  go_enter Tryz.func23, Tryz.ntmps23
  go_wp2
  go_loopw [5] (fun i wr => ∃ k : Nat, k ≤ len ∧ i = .int .i64 k ∧ Hid (Below w.heap.size w wr)) (fun i _ => len - (intOf i).toNat)
  case atStart => exact ⟨0, Nat.zero_le _, rfl, Below.refl _ _⟩
  case round =>
    obtain ⟨k, hk, rfl, HW⟩ := hrel
    by_cases hlt : k < len
    · obtain ⟨ba, oa, x, rfl, hba, hfa, ha0⟩ := HX.out.at hlt
      obtain ⟨bb, ob, x', rfl, hbb, hfb, hb0⟩ := HY.out.at hlt
      obtain rfl : x = x' := by rw [hfa] at hfb; simpa using hfb
      have ga0 : wr.cell? ⟨ba, oa + k, none⟩ = some (.bool x) := (HW.out.cell (p := ⟨ba, _, none⟩) hba).trans ha0
      have gb0 : wr.cell? ⟨bb, ob + k, none⟩ = some (.bool x) := (HW.out.cell (p := ⟨bb, _, none⟩) hbb).trans hb0
      clear hfa hfb ha0 hb0
      have hxx : (x != x) = false := by simp
      have hki : (k : Int) < (len : Int) := by omega
      have hk0 : (0 : Int) ≤ (k : Int) := by omega
      go_wp2
      go_quiet (fail)
      go_wp2
      go_roundw
      case rel => exact ⟨k + 1, by omega, by go_num, ⟨HW.out.os, HW.out.tape, HW.out.output, HW.out.size, HW.out.block⟩⟩
      case measure => simp [intOf]; omega
    · go_wp2
      go_ret
      exact ⟨rfl, HW.out⟩

end Go.Proofs.YtemcjenpgdieoaaGreatDoor

namespace Go.Proofs.YtemcjenpgdieoaaGreatDoor
open Go.RowKit
set_option linter.unusedVariables false

set_option maxHeartbeats 400000 in
theorem eqIntS_same (a b : Option Addr) (len ca cb : Nat) (xs : List Int) (w : World) (hx : SegI w a len xs) (hy : SegI w b len xs) (hla : len ≤ 1099511627776) :
    Calls Tryz.prog 26 #[.slice a len ca, .slice b len cb] w fun e w' => e = .returned (.bool true) ∧ ∃ n, w' = w.drewN n := by
  have HX : Hid (SegI w a len xs) := hx
  have HY : Hid (SegI w b len xs) := hy
  clear hx hy
  have hne : ((len : Int) != (len : Int)) = false := by simp
  go_enter Tryz.func26, Tryz.ntmps26
  go_wp2
  go_loopw [5] (fun i wr => ∃ k : Nat, k ≤ len ∧ i = .int .i64 k ∧ Hid (∃ n, wr = w.drewN n)) (fun i _ => len - (intOf i).toNat)
  case atStart => exact ⟨0, Nat.zero_le _, rfl, ⟨0, rfl⟩⟩
  case round =>
    obtain ⟨k, hk, rfl, HW⟩ := hrel
    by_cases hlt : k < len
    · obtain ⟨ba, oa, rfl, hba, hca⟩ : ∃ b off, a = some ⟨b, off, none⟩ ∧ b < w.heap.size ∧ ∀ i, i < len → w.cell? ⟨b, off + i, none⟩ = some (.int .i64 (xs.getD i 0)) := by
        rcases HX.out.2 with h | h
        · omega
        · exact h
      obtain ⟨bb, ob, rfl, hbb, hcb⟩ : ∃ b' off, b = some ⟨b', off, none⟩ ∧ b' < w.heap.size ∧ ∀ i, i < len → w.cell? ⟨b', off + i, none⟩ = some (.int .i64 (xs.getD i 0)) := by
        rcases HY.out.2 with h | h
        · omega
        · exact h
      have ha : wr.cell? ⟨ba, oa + k, none⟩ = some (.int .i64 (xs.getD k 0)) := by obtain ⟨n, rfl⟩ := HW; exact hca k hlt
      have hb : wr.cell? ⟨bb, ob + k, none⟩ = some (.int .i64 (xs.getD k 0)) := by obtain ⟨n, rfl⟩ := HW; exact hcb k hlt
      clear hca hcb
      have hki : (k : Int) < (len : Int) := by omega
      have hk0 : (0 : Int) ≤ (k : Int) := by omega
      go_wp2
      go_quiet (fail)
      go_wp2
      go_roundw
      case rel =>
        refine ⟨k + 1, by omega, by go_num, ?_⟩
        obtain ⟨n, rfl⟩ := HW.out
        exact ⟨_, World.drewN_drewN _ _ _⟩
      case measure => simp [intOf]; omega
    · go_wp2
      go_ret
      exact ⟨rfl, HW.out⟩

end Go.Proofs.YtemcjenpgdieoaaGreatDoor

namespace Go.Proofs.YtemcjenpgdieoaaGreatDoor
open Go.RowKit
set_option linter.unusedVariables false

/-- A row is as it was where its block lies outside of what is written. -/
theorem ownsRow_within {W W' : World} {lo hi base n size : Nat} {e : TypeId} {v : Value} {xs : List Value} (h : W.ownsRow base e size v n xs) (hw : Within W W' lo hi) (hq : ∀ q, v.ownBlock = some q → q < lo ∨ hi ≤ q) : W'.ownsRow base e size v n xs := by
  refine ⟨h.1, ?_⟩
  rcases h.2 with h0 | ⟨g, cap, cur, he, hg, hh, r⟩
  · exact .inl h0
  · exact .inr ⟨g, cap, cur, he, hg, (hw.block g (Array.getElem?_eq_some_iff.1 hh).1 (hq g (by rw [he]; rfl))).trans hh, r⟩

theorem StoAt.kept0 {W W' : World} {base n ca : Nat} {a : Option Addr} {X : List ByteArray} {a' : Option Addr} {n' ca' : Nat} {Y : List ByteArray} {ua : Option Addr} {un uc : Nat} (h : StoAt W base a n ca X a' n' ca' Y ua un uc []) (k1 : KeptE 9 W W') (k2 : KeptE 147 W W') : StoAt W' base a n ca X a' n' ca' Y ua un uc [] :=
  ⟨⟨ownsRow_keptE h.now.1 k1, h.now.2⟩, ⟨ownsRow_keptE h.sure.1 k1, h.sure.2⟩, h.apart, ⟨ownsRow_keptE h.ups.1 k2, by simp, List.Pairwise.nil⟩, h.len⟩

/-- All rows of a world lie below a bound. -/
def WdIn (x1 x2 x3 x5 x6 x9 : Option Addr) (l : List CE) (b : Nat) : Prop :=
  (∀ q, x1.map (·.block) = some q → q < b) ∧ (∀ q, x2.map (·.block) = some q → q < b) ∧ (∀ q, x3.map (·.block) = some q → q < b) ∧ ((∀ q, x5.map (·.block) = some q → q < b) ∧ ∀ e ∈ l, ∀ q, e.a.map (·.block) = some q → q < b) ∧ (∀ q, x6.map (·.block) = some q → q < b) ∧ ∀ q, x9.map (·.block) = some q → q < b

theorem WdAt.inn {W : World} {base M N : Nat} {x1 x2 x3 x5 x6 x9 : Option Addr} {y1 y2 y3 y5 y6 y9 : Nat} {l : List CE} (h : WdAt W base M x1 y1 x2 y2 x3 y3 x5 y5 x6 y6 x9 y9 N l) : WdIn x1 x2 x3 x5 x6 x9 l W.heap.size :=
  ⟨fun q hq => (h.sto.now.1.lt q (by rw [ownBlock_sU]; exact hq)).2, fun q hq => (h.sto.sure.1.lt q (by rw [ownBlock_sU]; exact hq)).2, fun q hq => (h.sto.ups.1.lt q (by rw [ownBlock_sU]; exact hq)).2, ⟨fun q hq => (h.cls.1.lt q (by rw [ownBlock_sU]; exact hq)).2, fun e he q hq => ((h.cls.2.1 e he).lt q hq).2⟩, fun q hq => (h.busy.lt q (by rw [ownBlock_sU]; exact hq)).2, fun q hq => (h.best.lt q (by rw [ownBlock_sU]; exact hq)).2⟩

/-- A world is as it was where what is written lies ahead of it or behind it. -/
theorem WdAt.out {W W' : World} {base M N b lo hi : Nat} {x1 x2 x3 x5 x6 x9 : Option Addr} {y1 y2 y3 y5 y6 y9 : Nat} {l : List CE} (h : WdAt W base M x1 y1 x2 y2 x3 y3 x5 y5 x6 y6 x9 y9 N l) (hi' : WdIn x1 x2 x3 x5 x6 x9 l b) (hw : Within W W' lo hi) (ho : b ≤ lo ∨ hi ≤ base) : WdAt W' base M x1 y1 x2 y2 x3 y3 x5 y5 x6 y6 x9 y9 N l := by
  have key : ∀ (v : Value) (a : Option Addr), v.ownBlock = a.map (·.block) → (∀ q, a.map (·.block) = some q → base ≤ q ∧ q < W.heap.size) → (∀ q, a.map (·.block) = some q → q < b) → ∀ q, v.ownBlock = some q → q < lo ∨ hi ≤ q := fun v a hv h1 h2 q hq => by
    rw [hv] at hq
    have := h1 q hq
    have := h2 q hq
    omega
  have k1 := key (.slice x1 M y1) x1 (ownBlock_sU _ _ _) (fun q hq => h.sto.now.1.lt q (by rw [ownBlock_sU]; exact hq)) hi'.1
  have k2 := key (.slice x2 M y2) x2 (ownBlock_sU _ _ _) (fun q hq => h.sto.sure.1.lt q (by rw [ownBlock_sU]; exact hq)) hi'.2.1
  have k3 := key (.slice x3 0 y3) x3 (ownBlock_sU _ _ _) (fun q hq => h.sto.ups.1.lt q (by rw [ownBlock_sU]; exact hq)) hi'.2.2.1
  have k5 := key (.slice x5 N y5) x5 (ownBlock_sU _ _ _) (fun q hq => h.cls.1.lt q (by rw [ownBlock_sU]; exact hq)) hi'.2.2.2.1.1
  have k6 := key (.slice x6 N y6) x6 (ownBlock_sU _ _ _) (fun q hq => h.busy.lt q (by rw [ownBlock_sU]; exact hq)) hi'.2.2.2.2.1
  have k9 := key (.slice x9 N y9) x9 (ownBlock_sU _ _ _) (fun q hq => h.best.lt q (by rw [ownBlock_sU]; exact hq)) hi'.2.2.2.2.2
  refine ⟨⟨⟨ownsRow_within h.sto.now.1 hw k1, h.sto.now.2⟩, ⟨ownsRow_within h.sto.sure.1 hw k2, h.sto.sure.2⟩, h.sto.apart, ⟨ownsRow_within h.sto.ups.1 hw k3, by simp, List.Pairwise.nil⟩, h.sto.len⟩, ⟨ownsRow_within h.cls.1 hw k5, fun e he => ⟨ownsRow_within (h.cls.2.1 e he).1 hw (key (.slice e.a e.n e.c) e.a (ownBlock_sU _ _ _) (fun q hq => (h.cls.2.1 e he).lt q hq) (hi'.2.2.2.1.2 e he)), (h.cls.2.1 e he).2⟩, h.cls.2.2⟩, h.len, ownsRow_within h.busy hw k6, ownsRow_within h.best hw k9⟩

theorem ClRow.out {W W' : World} {base b lo hi n c : Nat} {a : Option Addr} {l : List CE} (h : ClRow W base (.slice a n c) l) (hi' : (∀ q, a.map (·.block) = some q → q < b) ∧ ∀ e ∈ l, ∀ q, e.a.map (·.block) = some q → q < b) (hw : Within W W' lo hi) (ho : b ≤ lo ∨ hi ≤ base) : ClRow W' base (.slice a n c) l := by
  refine ⟨ownsRow_within h.1 hw (fun q hq => ?_), fun e he => ⟨ownsRow_within (h.2.1 e he).1 hw (fun q hq => ?_), (h.2.1 e he).2⟩, h.2.2⟩
  · have h1 := h.1.lt q hq
    rw [ownBlock_sU] at hq
    have := hi'.1 q hq
    omega
  · rw [ownBlock_sU] at hq
    have h1 := (h.2.1 e he).lt q hq
    have := hi'.2 e he q hq
    omega

theorem bools_own {w : World} {base n cap : Nat} {a : Option Addr} {l : List Bool} (h : w.ownsRow base 4 1 (.slice a n cap) n (bcells l)) : Bools w a n l := OwnBo.strs ⟨h, trivial⟩

theorem cls_sz {l l' : List CE} (h : l.map CE.u = l'.map CE.u) (h1 : ∀ e ∈ l, e.n = e.u.zs.length) (h2 : ∀ e ∈ l', e.n = e.u.zs.length) {B : Nat} (hz : ∀ e ∈ l', e.n ≤ B) : ∀ e ∈ l, e.n ≤ B := by
  intro e he
  have hm : e.u ∈ l'.map CE.u := by rw [← h]; exact List.mem_map_of_mem he
  obtain ⟨x, hx, hxe⟩ := List.mem_map.1 hm
  rw [h1 e he, ← hxe, ← h2 x hx]
  exact hz x hx

theorem eqWd_any (x1 x2 x3 x4 x5 x6 x7 x8 x9 : Option Addr) (y1 y2 y3 y4 y5 y6 y7 y8 y9 : Nat) (x1' x2' x3' x4' x5' x6' x7' x8' x9' : Option Addr) (y1' y2' y3' y4' y5' y6' y7' y8' y9' : Nat) (M N base base' : Nat) (l l' : List CE) (w : World) (h : WdAt w base M x1 y1 x2 y2 x3 y3 x5 y5 x6 y6 x9 y9 N l) (h' : WdAt w base' M x1' y1' x2' y2' x3' y3' x5' y5' x6' y6' x9' y9' N l') (he : l.map CE.u = l'.map CE.u) (hM : M ≤ 1048576) (hN : N ≤ 1048576) (hz : ∀ e ∈ l, e.n ≤ 1048576) :
    Calls Tryz.prog 8 #[.agg #[.slice x1 M y1, .slice x2 M y2, .int .i64 0, .int .i64 0, .slice x3 0 y3, .slice x4 0 y4, .slice x5 N y5, .slice x6 N y6, .slice x7 0 y7, .slice x8 0 y8, .slice x9 N y9], .agg #[.slice x1' M y1', .slice x2' M y2', .int .i64 0, .int .i64 0, .slice x3' 0 y3', .slice x4' 0 y4', .slice x5' N y5', .slice x6' N y6', .slice x7' 0 y7', .slice x8' 0 y8', .slice x9' N y9']] w fun e w' => e = .returned (.bool true) ∧ Below w.heap.size w w' := by
  refine eqWorld_of x1 x2 x3 x4 x5 x6 x7 x8 x9 M y1 M y2 0 y3 0 y4 N y5 N y6 0 y7 0 y8 N y9 x1' x2' x3' x4' x5' x6' x7' x8' x9' M y1' M y2' 0 y3' 0 y4' N y5' N y6' 0 y7' 0 y8' N y9' 0 0 w ?_ ?_ ?_ ?_ ?_ ?_
  · intro W hb
    exact eqServer_same x1 x1' M y1 y1' (List.replicate M ⟨#[]⟩) x2 x2' M y2 y2' (List.replicate M ⟨#[]⟩) 0 0 x3 0 y3 base [] x3' 0 y3' base' [] x4 x4' 0 y4 y4' [] W (h.stays hb).sto (h'.stays hb).sto rfl (by omega) (by omega) (by omega) (by simp) ⟨rfl, by simp, .inl rfl⟩ ⟨rfl, by simp, .inl rfl⟩ (by omega)
  · intro W hb
    exact eqClientS_same x5 N y5 base l x5' N y5' base' l' W (h.stays hb).cls (h'.stays hb).cls h.len h'.len he (by omega) (fun e he => Nat.le_trans (hz e he) (by decide))
  · intro W hb
    refine (eqBoolS_same x6 x6' N y6 y6' (List.replicate N false) W (bools_own (h.stays hb).busy) (bools_own (h'.stays hb).busy) (by omega)).mono ?_
    exact fun e w' q => q
  · intro W hb
    exact eqWantS_zero x7 x7' y7 y7' W
  · intro W hb
    exact eqHeldS_zero x8 x8' y8 y8' W
  · intro W hb
    refine (eqIntS_same x9 x9' N y9 y9' (List.replicate N (-1)) W (segI_own (h.stays hb).best) (segI_own (h'.stays hb).best) (by omega)).mono ?_
    rintro e w' ⟨rfl, st⟩
    exact ⟨rfl, Still.below st (Below.refl _ _)⟩

/-- The marks of a world in which nothing is yet. -/
structure WdMkd (W : World) (base M : Nat) (x1 : Option Addr) (y1 : Nat) (x2 : Option Addr) (y2 : Nat) (x3 : Option Addr) (y3 : Nat) (x5 : Option Addr) (y5 : Nat) (x6 : Option Addr) (y6 : Nat) (x9 : Option Addr) (y9 N : Nat) (l : List CE) : Prop where
  sto : StoMkd W base 1 x1 M y1 x2 M y2 x3 0 y3 []
  cls : ClRow W base (.slice x5 N y5) (mkCl (1 + M + M) l)
  busy : W.ownsRow base 4 1 (.slice x6 N y6) N (bcells (marksB (mkCEnd (1 + M + M) l) N))
  best : W.ownsRow base 3 1 (.slice x9 N y9) N (icells (marksI (mkCEnd (1 + M + M) l + N) N))

theorem WdMkd.stays {W W' : World} {base M N : Nat} {x1 x2 x3 x5 x6 x9 : Option Addr} {y1 y2 y3 y5 y6 y9 : Nat} {l : List CE} (h : WdMkd W base M x1 y1 x2 y2 x3 y3 x5 y5 x6 y6 x9 y9 N l) (hb : Below W.heap.size W W') : WdMkd W' base M x1 y1 x2 y2 x3 y3 x5 y5 x6 y6 x9 y9 N l :=
  ⟨StoAt.stays h.sto hb, h.cls.stays hb, own_below h.busy hb, own_below h.best hb⟩

/-- The number behind the marks. -/
def wdEnd (M N : Nat) (l : List CE) : Nat := mkCEnd (1 + M + M) l + N + N

theorem wdEnd_le {M N : Nat} {l : List CE} (hM : M ≤ 1048576) (hl : N = l.length) (hN : N ≤ 1048576) (hz : ∀ e ∈ l, e.n ≤ 1048576) : mkCEnd (1 + M + M) l ≤ 1200000000000 := by
  have h1 := mkCEnd_le (1 + M + M) 1048576 l hz
  have h2 : (3 + 1048576) * l.length ≤ (3 + 1048576) * 1048576 := Nat.mul_le_mul_left _ (by omega)
  omega

theorem heldWd_any (x1 x2 x3 x4 x5 x6 x7 x8 x9 : Option Addr) (y1 y2 y3 y4 y5 y6 y7 y8 y9 : Nat) (M N base : Nat) (l : List CE) (w : World) (h : WdMkd w base M x1 y1 x2 y2 x3 y3 x5 y5 x6 y6 x9 y9 N l) (hl : N = l.length) (hM : M ≤ 1048576) (hN : N ≤ 1048576) (hz : ∀ e ∈ l, e.n ≤ 1048576) :
    Calls Tryz.prog 12 #[.agg #[.slice x1 M y1, .slice x2 M y2, .int .i64 0, .int .i64 0, .slice x3 0 y3, .slice x4 0 y4, .slice x5 N y5, .slice x6 N y6, .slice x7 0 y7, .slice x8 0 y8, .slice x9 N y9], .int .i64 1] w fun e w' => e = .returned (.int .i64 (wdEnd M N l : Int)) ∧ Below w.heap.size w w' := by
  have hE := wdEnd_le hM hl hN hz
  refine (heldWorld_of x1 x2 x3 x4 x5 x6 x7 x8 x9 M y1 M y2 0 y3 0 y4 N y5 N y6 0 y7 0 y8 N y9 0 0 1 ((1 + M + M : Nat) : Int) ((mkCEnd (1 + M + M) l : Nat) : Int) ((mkCEnd (1 + M + M) l + N : Nat) : Int) ((mkCEnd (1 + M + M) l + N : Nat) : Int) ((mkCEnd (1 + M + M) l + N : Nat) : Int) ((mkCEnd (1 + M + M) l + N + N : Nat) : Int) w (by omega) (by omega) (by omega) (by omega) (by omega) (by omega) ?_ ?_ ?_ ?_ ?_ ?_)
  · intro W hb
    have k := heldServer_any base x1 M y1 x2 M y2 0 0 x3 0 y3 [] x4 0 y4 1 W ⟨(h.stays hb).sto, helds_zero⟩ (by omega) (by omega) (by omega) (by omega) (by simp only [mkUEnd]; omega) (by omega)
    simpa [mkUEnd] using k
  · intro W hb
    exact heldClientS_any base x5 N y5 (1 + M + M) l W (h.stays hb).cls hl.symm (by omega) (by omega)
  · intro W hb
    refine (heldBoolS_any base x6 N y6 (mkCEnd (1 + M + M) l) W (h.stays hb).busy (by omega) (by omega)).mono ?_
    rintro e w' ⟨rfl, rfl⟩
    exact ⟨rfl, Below.refl _ _⟩
  · intro W hb
    exact heldWantS_zero x7 y7 _ W
  · intro W hb
    exact heldHeldS_zero x8 y8 _ W
  · intro W hb
    refine (heldIntS_any base x9 N y9 (mkCEnd (1 + M + M) l + N) W (h.stays hb).best (by omega) (by omega)).mono ?_
    rintro e w' ⟨rfl, rfl⟩
    exact ⟨rfl, Below.refl _ _⟩

theorem markWd_any (x1 x2 x3 x4 x5 x6 x7 x8 x9 : Option Addr) (y1 y2 y3 y4 y5 y6 y7 y8 y9 : Nat) (M N base : Nat) (l : List CE) (w : World) (h : WdAt w base M x1 y1 x2 y2 x3 y3 x5 y5 x6 y6 x9 y9 N l) (hM : M ≤ 1048576) (hN : N ≤ 1048576) (hz : ∀ e ∈ l, e.n ≤ 1048576) (hi : Nat) (hI : WdIn x1 x2 x3 x5 x6 x9 l hi) (hhi : hi ≤ w.heap.size) :
    Calls Tryz.prog 11 #[.agg #[.slice x1 M y1, .slice x2 M y2, .int .i64 0, .int .i64 0, .slice x3 0 y3, .slice x4 0 y4, .slice x5 N y5, .slice x6 N y6, .slice x7 0 y7, .slice x8 0 y8, .slice x9 N y9], .int .i64 1] w fun e w' => e = .returned (.int .i64 (wdEnd M N l : Int)) ∧ (WdMkd w' base M x1 y1 x2 y2 x3 y3 x5 y5 x6 y6 x9 y9 N l ∧ Within w w' base hi) := by
  have hE := wdEnd_le hM h.len hN hz
  obtain ⟨K, hK⟩ : ∃ K, mkCEnd (1 + M + M) l = K := ⟨_, rfl⟩
  refine (markWorld_of x1 x2 x3 x4 x5 x6 x7 x8 x9 M y1 M y2 0 y3 0 y4 N y5 N y6 0 y7 0 y8 N y9 0 0 1 ((1 + M + M : Nat) : Int) (K : Int) ((K + N : Nat) : Int) ((K + N : Nat) : Int) ((K + N : Nat) : Int) ((K + N + N : Nat) : Int) w
    (fun W => WdAt W base M x1 y1 x2 y2 x3 y3 x5 y5 x6 y6 x9 y9 N l ∧ Within w W base hi ∧ w.heap.size ≤ W.heap.size)
    (fun W => StoMkd W base 1 x1 M y1 x2 M y2 x3 0 y3 [] ∧ ClRow W base (.slice x5 N y5) l ∧ W.ownsRow base 4 1 (.slice x6 N y6) N (bcells (List.replicate N false)) ∧ W.ownsRow base 3 1 (.slice x9 N y9) N (icells (List.replicate N (-1))) ∧ Within w W base hi)
    (fun W => StoMkd W base 1 x1 M y1 x2 M y2 x3 0 y3 [] ∧ ClRow W base (.slice x5 N y5) (mkCl (1 + M + M) l) ∧ W.ownsRow base 4 1 (.slice x6 N y6) N (bcells (List.replicate N false)) ∧ W.ownsRow base 3 1 (.slice x9 N y9) N (icells (List.replicate N (-1))) ∧ Within w W base hi)
    (fun W => StoMkd W base 1 x1 M y1 x2 M y2 x3 0 y3 [] ∧ ClRow W base (.slice x5 N y5) (mkCl (1 + M + M) l) ∧ W.ownsRow base 4 1 (.slice x6 N y6) N (bcells (marksB K N)) ∧ W.ownsRow base 3 1 (.slice x9 N y9) N (icells (List.replicate N (-1))) ∧ Within w W base hi)
    (fun W => StoMkd W base 1 x1 M y1 x2 M y2 x3 0 y3 [] ∧ ClRow W base (.slice x5 N y5) (mkCl (1 + M + M) l) ∧ W.ownsRow base 4 1 (.slice x6 N y6) N (bcells (marksB K N)) ∧ W.ownsRow base 3 1 (.slice x9 N y9) N (icells (List.replicate N (-1))) ∧ Within w W base hi)
    (fun W => StoMkd W base 1 x1 M y1 x2 M y2 x3 0 y3 [] ∧ ClRow W base (.slice x5 N y5) (mkCl (1 + M + M) l) ∧ W.ownsRow base 4 1 (.slice x6 N y6) N (bcells (marksB K N)) ∧ W.ownsRow base 3 1 (.slice x9 N y9) N (icells (List.replicate N (-1))) ∧ Within w W base hi)
    (fun W => WdMkd W base M x1 y1 x2 y2 x3 y3 x5 y5 x6 y6 x9 y9 N l ∧ Within w W base hi)
    ⟨h.stays ((Below.refl _ _).alloc (Nat.le_refl _) _), within_below ((Below.refl _ _).alloc (Nat.le_refl _) _), by simp⟩ ?_ ?_ ?_ ?_ ?_ ?_).mono ?_
  · rintro W ⟨hA, hW, hsz⟩
    have k := markServerN x4 y4 base x1 M y1 (List.replicate M ⟨#[]⟩) x2 M y2 (List.replicate M ⟨#[]⟩) 0 0 x3 y3 1 W hA.sto (by omega) (by omega) (by omega) hi ⟨hI.1, hI.2.1, hI.2.2.1, by simp⟩ (by omega)
    refine k.mono ?_
    rintro e w' ⟨rfl, hm, hk, hw'⟩
    exact ⟨rfl, ⟨hm, hA.cls.keptE (hk _ (by decide)) (hk _ (by decide)), ownsRow_keptE hA.busy (hk _ (by decide)), ownsRow_keptE hA.best (hk _ (by decide)), hW.trans hw'⟩, fun vs hq => box_keptE hq (hk _ (by decide))⟩
  · rintro W ⟨hm, hc, hbo, hio, hW⟩
    refine (markClientS_any base x5 N y5 (1 + M + M) l W hc h.len.symm (by omega) (by omega) hi hI.2.2.2.1).mono ?_
    rintro e w' ⟨rfl, hc', hw', hk⟩
    exact ⟨by rw [hK], ⟨StoAt.kept0 hm (hk _ (by decide) (by decide)) (hk _ (by decide) (by decide)), hc', ownsRow_keptE hbo (hk _ (by decide) (by decide)), ownsRow_keptE hio (hk _ (by decide) (by decide)), hW.trans hw'⟩, fun vs hq => box_keptE hq (hk _ (by decide) (by decide))⟩
  · rintro W ⟨hm, hc, hbo, hio, hW⟩
    refine (markBoolS_any base x6 N y6 K (List.replicate N false) W ⟨hbo, trivial⟩ (by omega) (by omega)).mono ?_
    rintro e w' ⟨rfl, hb', hg⟩
    have hk : ∀ t, t ≠ 4 → KeptE t W w' := fun t ht => keptE_grown (v := .slice x6 N y6) (by rw [ownBlock_sU]; exact hg) hbo (Ne.symm ht)
    exact ⟨rfl, ⟨StoAt.keptE hm (hk _ (by decide)) (hk _ (by decide)) (hk _ (by decide)), hc.keptE (hk _ (by decide)) (hk _ (by decide)), hb'.1, ownsRow_keptE hio (hk _ (by decide)), hW.trans (within_grown hg (fun q hq => ⟨(hbo.lt q (by rw [ownBlock_sU]; exact hq)).1, hI.2.2.2.2.1 q hq⟩))⟩, fun vs hq => box_keptE hq (hk _ (by decide))⟩
  · rintro W ⟨hm, hc, hbo, hio, hW⟩
    refine (markWantS_zero x7 y7 _ W).mono ?_
    rintro e w' ⟨rfl, hb⟩
    exact ⟨rfl, ⟨StoAt.stays hm hb, hc.stays hb, own_below hbo hb, own_below hio hb, hW.trans (within_below hb)⟩, fun vs hq => hq.stays hb⟩
  · rintro W ⟨hm, hc, hbo, hio, hW⟩
    refine (markHS_zero x8 y8 _ W).mono ?_
    rintro e w' ⟨rfl, hb⟩
    exact ⟨rfl, ⟨StoAt.stays hm hb, hc.stays hb, own_below hbo hb, own_below hio hb, hW.trans (within_below hb)⟩, fun vs hq => hq.stays hb⟩
  · rintro W ⟨hm, hc, hbo, hio, hW⟩
    refine (markIntS_any base x9 N y9 (K + N) (List.replicate N (-1)) W hio (by omega) (by omega)).mono ?_
    rintro e w' ⟨rfl, hi', hg⟩
    have hk : ∀ t, t ≠ 3 → KeptE t W w' := fun t ht => keptE_grown (v := .slice x9 N y9) (by rw [ownBlock_sU]; exact hg) hio (Ne.symm ht)
    exact ⟨rfl, ⟨⟨StoAt.keptE hm (hk _ (by decide)) (hk _ (by decide)) (hk _ (by decide)), hc.keptE (hk _ (by decide)) (hk _ (by decide)), by rw [hK]; exact ownsRow_keptE hbo (hk _ (by decide)), by rw [hK]; exact hi'⟩, hW.trans (within_grown hg (fun q hq => ⟨(hio.lt q (by rw [ownBlock_sU]; exact hq)).1, hI.2.2.2.2.2 q hq⟩))⟩, fun vs hq => box_keptE hq (hk _ (by decide))⟩
  · rintro e w' ⟨rfl, hp⟩
    exact ⟨by rw [wdEnd, hK], hp⟩

end Go.Proofs.YtemcjenpgdieoaaGreatDoor

namespace Go.Proofs.YtemcjenpgdieoaaGreatDoor
open Go.RowKit
set_option linter.unusedVariables false

set_option maxRecDepth 10000 in
set_option maxHeartbeats 400000 in
theorem cloneBo_any (lo : Nat) (a : Option Addr) (len cap : Nat) (zs : List Bool) (w : World) (hs : w.ownsRow lo 4 1 (.slice a len cap) len (bcells zs)) (hl : len ≤ 1099511627776) :
    Calls Tryz.prog 65 #[.slice a len cap] w fun e w' => ∃ a' cap', e = .returned (.slice a' len cap') ∧ w'.ownsRow w.heap.size 4 1 (.slice a' len cap') len (bcells zs) ∧ Below w.heap.size w w' := by
  obtain ⟨i0, hi, hz0, hz1, hz2⟩ := info_parts info_bool
  have qT : ∀ (w : World) (a : Option Addr) (n c n' c' : Nat), (binOp .eql 34 (.slice a n c) (.slice none n' c')).run Tryz.prog w = .ok (.bool a.isNone) w := fun w a n c n' c' => Lib.run_eql_slice_nil w _ _ a n c n' c' Tryz.underlying34
  have hzl : (bcells zs).length = len := by have := hs.1; omega
  cases a with
  | none =>
    have h0 : len = 0 := by
      rcases hs.2 with ⟨_, h⟩ | ⟨g, cap', cur, he, _⟩
      · exact h
      · cases he
    subst h0
    have hz : bcells zs = [] := List.eq_nil_of_length_eq_zero hzl
    clear hs
    go_enter Tryz.func65, Tryz.ntmps65
    go_wp2
    go_ret
    exact ⟨none, 0, rfl, by rw [hz]; exact World.ownsRow_nil _ _ _ _, Below.refl _ _⟩
  | some ad =>
    have HC : Hid (∀ j u, (bcells zs)[j]? = some u → (w.alloc (.cells #[] 4)).cell? (ad.add j) = some u) := by
      intro j u hj
      have hl2 : j < len := by have := (List.getElem?_eq_some_iff.1 hj).1; omega
      have hb := own_below hs ((Below.refl _ _).alloc (Nat.le_refl _) (.cells #[] 4))
      rcases hs.2 with ⟨he, _⟩ | ⟨g, cap', cur, he, _⟩
      · cases he
      · injection he with e1 e2 e3
        injection e1 with e1
        subst e1
        rw [Addr.add_lit, Nat.zero_add, hb.cellAt j (by omega)]
        exact hj
    have H1 : Hid (∀ u ∈ bcells zs, u.oneCell' = true) := fun u hu => by
      obtain ⟨x, _, rfl⟩ := List.mem_map.1 hu
      rfl
    have HO1 : Hid ((w.alloc (.cells #[] 4)).ownsRow w.heap.size 4 1 (.slice (some ⟨w.heap.size, 0, none⟩) 0 0) 0 []) := World.ownsRow_lit w #[] 0 (Nat.le_refl _) (Nat.zero_le _) rfl
    clear hs
    go_enter Tryz.func65, Tryz.ntmps65
    go_wp2_with (at_builtin; refine wpList_append_own _ rfl _ _ 34 rfl w.heap.size 4 i0 (.bool false) 1 1 Tryz.underlying34 hi hz0 hz1 hz2 rfl (by decide) (.slice (some ⟨w.heap.size, 0, none⟩) 0 0) 0 [] rfl HO1.out ad len cap (bcells zs) rfl (by omega) HC.out H1.out (by unfold maxLen; omega) (by omega) (by simp) ?_; intro v1 w1 hown1 hgrow1 _; refine Hid.out ?_)
    refine hidden ?_
    have HB1 : Hid (Below w.heap.size w w1) := ((Below.refl _ _).alloc (Nat.le_refl _) _).grown hgrow1 (by simp) (by simp [Value.ownBlock])
    obtain ⟨a1, c1, rfl⟩ := shape_ofB hown1
    have HO2 : Hid (w1.ownsRow w.heap.size 4 1 (.slice a1 len c1) len (bcells zs)) := by
      show World.ownsRow _ _ _ _ _ _ _
      have h := hown1
      rw [Nat.zero_add] at h
      simpa using h
    have hll : 0 + len = len := Nat.zero_add _
    rw [hll]
    clear hown1 hgrow1
    go_wp2_with fail
    go_ret
    exact ⟨_, _, rfl, HO2.out, HB1.out⟩

set_option maxRecDepth 10000 in
set_option maxHeartbeats 400000 in
theorem cloneIn_any (lo : Nat) (a : Option Addr) (len cap : Nat) (zs : List Int) (w : World) (hs : w.ownsRow lo 3 1 (.slice a len cap) len (icells zs)) (hl : len ≤ 1099511627776) :
    Calls Tryz.prog 69 #[.slice a len cap] w fun e w' => ∃ a' cap', e = .returned (.slice a' len cap') ∧ w'.ownsRow w.heap.size 3 1 (.slice a' len cap') len (icells zs) ∧ Below w.heap.size w w' := by
  obtain ⟨i0, hi, hz0, hz1, hz2⟩ := info_parts Tryz.info3
  have qT : ∀ (w : World) (a : Option Addr) (n c n' c' : Nat), (binOp .eql 36 (.slice a n c) (.slice none n' c')).run Tryz.prog w = .ok (.bool a.isNone) w := fun w a n c n' c' => Lib.run_eql_slice_nil w _ _ a n c n' c' Tryz.underlying36
  have hzl : (icells zs).length = len := by have := hs.1; omega
  cases a with
  | none =>
    have h0 : len = 0 := by
      rcases hs.2 with ⟨_, h⟩ | ⟨g, cap', cur, he, _⟩
      · exact h
      · cases he
    subst h0
    have hz : icells zs = [] := List.eq_nil_of_length_eq_zero hzl
    clear hs
    go_enter Tryz.func69, Tryz.ntmps69
    go_wp2
    go_ret
    exact ⟨none, 0, rfl, by rw [hz]; exact World.ownsRow_nil _ _ _ _, Below.refl _ _⟩
  | some ad =>
    have HC : Hid (∀ j u, (icells zs)[j]? = some u → (w.alloc (.cells #[] 3)).cell? (ad.add j) = some u) := by
      intro j u hj
      have hl2 : j < len := by have := (List.getElem?_eq_some_iff.1 hj).1; omega
      have hb := own_below hs ((Below.refl _ _).alloc (Nat.le_refl _) (.cells #[] 3))
      rcases hs.2 with ⟨he, _⟩ | ⟨g, cap', cur, he, _⟩
      · cases he
      · injection he with e1 e2 e3
        injection e1 with e1
        subst e1
        rw [Addr.add_lit, Nat.zero_add, hb.cellAt j (by omega)]
        exact hj
    have H1 : Hid (∀ u ∈ icells zs, u.oneCell' = true) := fun u hu => by
      obtain ⟨x, _, rfl⟩ := List.mem_map.1 hu
      rfl
    have HO1 : Hid ((w.alloc (.cells #[] 3)).ownsRow w.heap.size 3 1 (.slice (some ⟨w.heap.size, 0, none⟩) 0 0) 0 []) := World.ownsRow_lit w #[] 0 (Nat.le_refl _) (Nat.zero_le _) rfl
    clear hs
    go_enter Tryz.func69, Tryz.ntmps69
    go_wp2_with (at_builtin; refine wpList_append_own _ rfl _ _ 36 rfl w.heap.size 3 i0 (.int .i64 0) 1 8 Tryz.underlying36 hi hz0 hz1 hz2 rfl (by decide) (.slice (some ⟨w.heap.size, 0, none⟩) 0 0) 0 [] rfl HO1.out ad len cap (icells zs) rfl (by omega) HC.out H1.out (by unfold maxLen; omega) (by omega) (by simp) ?_; intro v1 w1 hown1 hgrow1 _; refine Hid.out ?_)
    refine hidden ?_
    have HB1 : Hid (Below w.heap.size w w1) := ((Below.refl _ _).alloc (Nat.le_refl _) _).grown hgrow1 (by simp) (by simp [Value.ownBlock])
    obtain ⟨a1, c1, rfl⟩ := shape_ofB hown1
    have HO2 : Hid (w1.ownsRow w.heap.size 3 1 (.slice a1 len c1) len (icells zs)) := by
      show World.ownsRow _ _ _ _ _ _ _
      have h := hown1
      rw [Nat.zero_add] at h
      simpa using h
    have hll : 0 + len = len := Nat.zero_add _
    rw [hll]
    clear hown1 hgrow1
    go_wp2_with fail
    go_ret
    exact ⟨_, _, rfl, HO2.out, HB1.out⟩

set_option maxRecDepth 10000 in
set_option maxHeartbeats 400000 in
theorem eachWz_any (a : Option Addr) (c : Nat) (fv : Value) (w : World) :
    Calls Tryz.prog 66 #[.slice a 0 c, fv] w fun e w' => (∃ a' c', e = .returned (.slice a' 0 c')) ∧ Below w.heap.size w w' := by
  obtain ⟨i0, hi, hz0, hz1, hz2⟩ := info_parts (show (Tryz.prog.info? 77).map (fun i => (i.zero, i.size, i.bytes)) = some (some (.agg #[.int .i64 0, .int .i64 0, .string ⟨#[]⟩, .int .i64 0, .slice none 0 0]), 5, 64) by kernel_rfl)
  go_enter Tryz.func66, Tryz.ntmps66
  go_wp2_with (first | (at_make; refine _root_.Go.wpList_make_own _ rfl _ _ 35 rfl w.heap.size 77 i0 _ 5 Tryz.underlying35 hi hz0 hz1 _ _ _ 0 rfl rfl rfl (by omega) (by unfold maxLen; omega) (Nat.le_refl _) ?_; intro w1 hown1 hg1) | fail)
  have HB0 : Hid (Below w.heap.size w w1) := (Below.refl _ _).grown hg1 (Nat.le_refl _) (fun q hq => by cases hq)
  clear hown1 hg1
  go_loopw [5, 13] (fun o i wr => i = .int .i64 0 ∧ (∃ a' c', o = .slice a' 0 c') ∧ wr = w1) (fun _ _ _ => 0)
  case atStart => exact ⟨rfl, ⟨_, _, rfl⟩, rfl⟩
  case round =>
    obtain ⟨rfl, ⟨a', c', rfl⟩, rfl⟩ := hrel
    go_wp2_with fail
    go_ret
    exact ⟨⟨_, _, rfl⟩, HB0.out⟩

end Go.Proofs.YtemcjenpgdieoaaGreatDoor

namespace Go.Proofs.YtemcjenpgdieoaaGreatDoor
open Go.RowKit
set_option linter.unusedVariables false

set_option maxRecDepth 10000 in
set_option maxHeartbeats 1600000 in
theorem copyClI_any (id : ByteArray) (st off : Int) (a : Option Addr) (len cap : Nat) (zs : List Int) (w : World) (hs : Seg w a len zs) (hl : len ≤ 1048576) :
    Calls Tryz.prog 64 #[.agg #[.string id, .slice a len cap, .int .i64 st, .int .i64 off]] w fun e w' => ∃ a' cap', e = .returned (.agg #[.string id, .slice a' len cap', .int .i64 st, .int .i64 off]) ∧ Owns w' w.heap.size a' len cap' zs ∧ Below w.heap.size w w' := by
  have HS : Hid (Seg w a len zs) := hs
  have hzl := hs.1
  have HN : Hid (a = none → len = 0) := seg_nil hs
  clear hs
  go_enter Tryz.func64, Tryz.ntmps64
  go_upto_region 1 with fail
  obtain ⟨W2, hW2⟩ : ∃ W2, (w.alloc (.cells #[.string id, .slice a len cap, .int .i64 st, .int .i64 off] 51)).alloc (.cells #[.string ⟨#[]⟩, .slice none 0 0, .int .i64 0, .int .i64 0] 51) = W2 := ⟨_, rfl⟩
  have q1 : BoxN W2 w.heap.size 51 [.string id, .slice a len cap, .int .i64 st, .int .i64 off] := by rw [← hW2]; exact (BoxN.new _ _ _).alloc _
  have q2 : BoxN W2 (w.heap.size + 1) 51 [.string ⟨#[]⟩, .slice none 0 0, .int .i64 0, .int .i64 0] := by
    rw [← hW2]
    have := BoxN.new (w.alloc (.cells #[.string id, .slice a len cap, .int .i64 st, .int .i64 off] 51)) 51 [.string ⟨#[]⟩, .slice none 0 0, .int .i64 0, .int .i64 0]
    rwa [World.size_alloc] at this
  have HB2 : Hid (Below w.heap.size w W2) := by show Below _ _ _; rw [← hW2]; exact ((Below.refl _ _).alloc (Nat.le_refl _) _).alloc (by simp) _
  have HW2 : Hid (W2.heap.size = w.heap.size + 2) := by show _ = _; rw [← hW2]; simp
  have HQ : Hid (∀ W, Below W2.heap.size W2 W → BoxN W w.heap.size 51 [.string id, .slice a len cap, .int .i64 st, .int .i64 off] ∧ BoxN W (w.heap.size + 1) 51 [.string ⟨#[]⟩, .slice none 0 0, .int .i64 0, .int .i64 0]) := fun W h => ⟨q1.stays h, q2.stays h⟩
  rw [hW2]
  clear hW2 q1 q2
  obtain ⟨c0, c1, c2, c3⟩ := (show _ ∧ _ ∧ _ ∧ _ from ⟨(HQ.out _ (Below.refl _ _)).1.cell 0 rfl, (HQ.out _ (Below.refl _ _)).1.cell 1 rfl, (HQ.out _ (Below.refl _ _)).1.cell 2 rfl, (HQ.out _ (Below.refl _ _)).1.cell 3 rfl⟩)
  go_wp2_with fail
  refine (cloneB_any a len cap zs _ (HS.out.below HB2.out) (by omega)).mono ?_
  rintro e W4 ⟨a4, k4, rfl, og, hb4⟩
  have HG4 : Hid (Owns W4 W2.heap.size a4 len k4 zs) := og
  have h2 := HW2.out
  have hbw : Below w.heap.size w W4 := HB2.out.trans (hb4.mono HB2.out.size)
  obtain ⟨p1, p2⟩ := HQ.out _ hb4
  have hn0 : a4.map (·.block) ≠ some w.heap.size := fun e => by have h3 := (HG4.out.lt _ e).1; omega
  have hn1 : a4.map (·.block) ≠ some (w.heap.size + 1) := fun e => by have h3 := (HG4.out.lt _ e).1; omega
  obtain ⟨d0, d1, d2, d3⟩ := (show _ ∧ _ ∧ _ ∧ _ from ⟨p1.cell 0 rfl, p1.cell 1 rfl, p1.cell 2 rfl, p1.cell 3 rfl⟩)
  have f1 := p1.frozen 1
  have p3 := p1.set 1 (.slice a4 len k4)
  have p4 : BoxN (W4.setCell ⟨w.heap.size, 1, none⟩ (.slice a4 len k4)) (w.heap.size + 1) 51 [.string ⟨#[]⟩, .slice none 0 0, .int .i64 0, .int .i64 0] := p2.other (by omega) _
  have HG5 : Hid (Owns (W4.setCell ⟨w.heap.size, 1, none⟩ (.slice a4 len k4)) W2.heap.size a4 len k4 zs) := owns_set HG4.out hn0
  have HB5 : Hid (Below w.heap.size w (W4.setCell ⟨w.heap.size, 1, none⟩ (.slice a4 len k4))) := hbw.setCell (p := ⟨w.heap.size, 1, none⟩) (Nat.le_refl _) _
  obtain ⟨W5, hW5⟩ : ∃ W5, W4.setCell ⟨w.heap.size, 1, none⟩ (.slice a4 len k4) = W5 := ⟨_, rfl⟩
  rw [hW5] at p3 p4 HG5 HB5
  have HX5 : Hid (BoxN W5 w.heap.size 51 [.string id, .slice a4 len k4, .int .i64 st, .int .i64 off] ∧ BoxN W5 (w.heap.size + 1) 51 [.string ⟨#[]⟩, .slice none 0 0, .int .i64 0, .int .i64 0]) := ⟨p3, p4⟩
  have HE5 : Hid (W4.setCell ⟨w.heap.size, 1, none⟩ (.slice a4 len k4) = W5) := hW5
  clear og hb4 hbw p1 p2 p3 p4 HG4 hW5
  go_upto_region 2 with fail
  rw [HE5.out]
  clear c0 c1 c2 c3 d0 d1 d2 d3 f1 HE5
  obtain ⟨c0, c1, c2, c3⟩ := (show _ ∧ _ ∧ _ ∧ _ from ⟨HX5.out.1.cell 0 rfl, HX5.out.1.cell 1 rfl, HX5.out.1.cell 2 rfl, HX5.out.1.cell 3 rfl⟩)
  obtain ⟨g0, g1, g2, g3⟩ := (show _ ∧ _ ∧ _ ∧ _ from ⟨HX5.out.2.cell 0 rfl, HX5.out.2.cell 1 rfl, HX5.out.2.cell 2 rfl, HX5.out.2.cell 3 rfl⟩)
  have f0 := HX5.out.2.frozen 0
  have f1 := HX5.out.2.frozen 1
  have f2 := HX5.out.2.frozen 2
  have f3 := HX5.out.2.frozen 3
  have HO6 : Hid (Owns ((((W5.setCell ⟨w.heap.size + 1, 0, none⟩ (.string id)).setCell ⟨w.heap.size + 1, 1, none⟩ (.slice a4 len k4)).setCell ⟨w.heap.size + 1, 2, none⟩ (.int .i64 st)).setCell ⟨w.heap.size + 1, 3, none⟩ (.int .i64 off)) w.heap.size a4 len k4 zs ∧ Below w.heap.size w ((((W5.setCell ⟨w.heap.size + 1, 0, none⟩ (.string id)).setCell ⟨w.heap.size + 1, 1, none⟩ (.slice a4 len k4)).setCell ⟨w.heap.size + 1, 2, none⟩ (.int .i64 st)).setCell ⟨w.heap.size + 1, 3, none⟩ (.int .i64 off))) := by
    refine ⟨(owns_set (owns_set (owns_set (owns_set HG5.out hn1) hn1) hn1) hn1).low (by omega), ?_⟩
    repeat (refine Below.setCell ?_ (by dsimp only; omega) _)
    exact HB5.out
  clear HG5 HB5 HX5 hn0 hn1 h2
  go_wp2
  refine bodyPost_ret (v := .agg #[.string id, .slice a4 len k4, .int .i64 st, .int .i64 off]) (by simp [results, Tryz.f64, go_sem, g0, g1, g2, g3]) rfl ?_
  exact ⟨_, _, rfl, HO6.out.1, HO6.out.2⟩

end Go.Proofs.YtemcjenpgdieoaaGreatDoor

namespace Go.Proofs.YtemcjenpgdieoaaGreatDoor
open Go.RowKit
set_option linter.unusedVariables false

theorem shape_ofC {w : World} {base n : Nat} {v : Value} {xs : List Value} (h : w.ownsRow base 51 4 v n xs) : ∃ a cap, v = .slice a n cap := by
  rcases h.2 with ⟨rfl, h0⟩ | ⟨g, cap, cur, rfl, _⟩
  · rw [h0]; exact ⟨_, _, rfl⟩
  · exact ⟨_, _, rfl⟩

set_option maxRecDepth 10000 in
set_option maxHeartbeats 3200000 in
theorem implEachCl_any (ua : Option Addr) (un uc lo : Nat) (l : List CE) (w : World) (hu : ClRow w lo (.slice ua un uc) l) (hun : un = l.length) (hul : un ≤ 1048576) (hz : ∀ e ∈ l, e.n ≤ 1048576) :
    Calls Tryz.prog 63 #[.slice ua un uc, .func (.func 64) #[] #[]] w fun e w' => (∃ a c l', e = .returned (.slice a un c) ∧ ClRow w' w.heap.size (.slice a un c) l' ∧ l'.map CE.u = l.map CE.u) ∧ Below w.heap.size w w' := by
  have HLn : Hid (un = l.length ∧ ∀ e ∈ l, e.n ≤ 1048576) := ⟨hun, hz⟩
  have HX : Hid (∀ W, Below w.heap.size w W → ClRow W lo (.slice ua un uc) l) := fun W h => hu.stays h
  obtain ⟨i0, hi, hz0, hz1, hz2⟩ := info_parts info_cl
  clear hu hun hz
  go_enter Tryz.func63, Tryz.ntmps63
  go_wp2_with (first | (at_make; refine _root_.Go.wpList_make_own _ rfl _ _ 33 rfl w.heap.size 51 i0 _ 4 Tryz.underlying33 hi hz0 hz1 _ _ _ un rfl rfl (by have := HLn.out.1; omega) (by rw [hz2]; omega) (by unfold maxLen; omega) (Nat.le_refl _) ?_; intro w1 hown1 hg1) | fail)
  have HB0 : Hid (Below w.heap.size w w1) := (Below.refl _ _).grown hg1 (Nat.le_refl _) (fun q hq => by cases hq)
  have HR0 : Hid (ClRow w1 w.heap.size (.slice (some ⟨w.heap.size, 0, none⟩) 0 un) []) := ⟨hown1, by simp, List.Pairwise.nil⟩
  clear hown1 hg1
  go_loopw [5, 13] (fun o i wr => ∃ (k : Nat) (va : Option Addr) (vc : Nat) (l' : List CE), k ≤ un ∧ l'.length = k ∧ i = .int .i64 (k : Int) ∧ o = .slice va k vc ∧ Hid (ClRow wr w.heap.size (.slice va k vc) l') ∧ Hid (l'.map CE.u = (l.map CE.u).take k) ∧ Hid (Below w.heap.size w wr)) (fun _ i _ => un - (intOf i).toNat)
  case atStart => exact ⟨0, _, _, [], Nat.zero_le _, rfl, rfl, rfl, HR0, rfl, HB0⟩
  case round =>
    clear HR0 HB0
    obtain ⟨k, va, vc, l', hk, hlk, rfl, rfl, HRx, HMx, HWx⟩ := hrel
    by_cases hlt : k < un
    case neg =>
      obtain rfl : k = un := by omega
      have HF : Hid (l'.map CE.u = l.map CE.u) := by show _ = _; rw [HMx.out, List.take_of_length_le (by rw [List.length_map, ← HLn.out.1]; exact Nat.le_refl _)]
      clear HMx HX
      go_wp2_with fail
      go_ret
      exact ⟨⟨va, vc, l', rfl, HRx.out, HF.out⟩, HWx.out⟩
    have hkl : k < l.length := by rw [← HLn.out.1]; exact hlt
    have hki : (k : Int) < (un : Int) := by omega
    have hk0 : (0 : Int) ≤ (k : Int) := by omega
    obtain ⟨g, rfl, g0, g1, g2, g3, _⟩ := (HX.out _ HWx.out).at HLn.out.1 hkl
    have HSg : Hid (Seg wr (l[k]).a (l[k]).n (l[k]).u.zs) := ((HX.out _ HWx.out).2.1 (l[k]) (List.getElem_mem hkl)).seg
    have hen : (l[k]).n ≤ 1048576 := HLn.out.2 _ (List.getElem_mem hkl)
    have HM2 : Hid (l'.map CE.u ++ [(l[k]).u] = (l.map CE.u).take (k + 1)) := by show _ = _; rw [List.take_add_one, List.getElem?_map, List.getElem?_eq_getElem hkl, HMx.out]; rfl
    clear HMx
    generalize l[k] = e at *
    obtain ⟨x1, hx1⟩ : ∃ x1, wr.alloc (.cells #[.string e.u.id, .slice e.a e.n e.c, .int .i64 e.u.st, .int .i64 e.u.off] 51) = x1 := ⟨_, rfl⟩
    have HE1 : Hid (wr.alloc (.cells #[.string e.u.id, .slice e.a e.n e.c, .int .i64 e.u.st, .int .i64 e.u.off] 51) = x1) := hx1
    have hb1 : Below wr.heap.size wr x1 := by rw [← hx1]; exact (Below.refl _ _).alloc (Nat.le_refl _) _
    have hU1 : BoxN x1 wr.heap.size 51 [.string e.u.id, .slice e.a e.n e.c, .int .i64 e.u.st, .int .i64 e.u.off] := by rw [← hx1]; exact BoxN.new _ _ _
    have HB1 : Hid (Below w.heap.size w x1) := HWx.out.trans (hb1.mono HWx.out.size)
    have HR1 : Hid (ClRow x1 w.heap.size (.slice va k vc) l') := HRx.out.stays hb1
    have HG1 : Hid (Seg x1 e.a e.n e.u.zs) := HSg.out.below hb1
    have hx1s : w.heap.size ≤ x1.heap.size := HB1.out.size
    have u0 := hU1.cell 0 rfl
    have u1 := hU1.cell 1 rfl
    have u2 := hU1.cell 2 rfl
    have u3 := hU1.cell 3 rfl
    clear hx1 hb1 hU1 HSg HWx HRx
    go_upto_region 5 with fail
    rw [HE1.out]
    clear HE1 g0 g1 g2 g3
    go_wp2_with fail
    refine (copyClI_any e.u.id e.u.st e.u.off e.a e.n e.c e.u.zs x1 HG1.out hen).mono ?_
    rintro _ y1 ⟨A, C, rfl, ho1, hb1'⟩
    have hy1 : x1.heap.size ≤ y1.heap.size := hb1'.size
    have hS0 := HR1.out.stays hb1'
    have hS1 : y1.ownsRow w.heap.size 51 4 (.slice va k vc) k (ceCells l') := by have := hS0.1; rw [hlk] at this; exact this
    have HG2 : Hid (∀ (v2 : Value) (y2 : World), y2.ownsRow w.heap.size 51 4 v2 (k + 1) (ceCells l' ++ CE.cells ⟨e.u, A, e.n, C⟩) → (y1.alloc (.cells #[.string e.u.id, .slice A e.n C, .int .i64 e.u.st, .int .i64 e.u.off] 51)).grownBy y2 (Value.slice va k vc).ownBlock → ClRow y2 w.heap.size v2 (l' ++ [⟨e.u, A, e.n, C⟩]) ∧ Below w.heap.size w y2) := (fun v2 y2 hown2 hg2 => ⟨hS0.snoc ho1 hx1s (fun x hx q hq => (HR1.out.lts.2 x hx q hq).2) (by rw [hlk]; exact hown2) hg2, ((HB1.out.trans (hb1'.mono hx1s)).alloc (by omega) _).grown hg2 (by simp; omega) (fun q hq => (hS0.lts.1 q hq).1)⟩)
    have HN1 := four_newC y1 e.u A e.n C
    have HO1 : Hid ((y1.alloc (.cells #[.string e.u.id, .slice A e.n C, .int .i64 e.u.st, .int .i64 e.u.off] 51)).ownsRow w.heap.size 51 4 (.slice va k vc) k (ceCells l')) := hS1.alloc _
    have hbw : w.heap.size ≤ (y1.alloc (.cells #[.string e.u.id, .slice A e.n C, .int .i64 e.u.st, .int .i64 e.u.off] 51)).heap.size := by simp; omega
    clear hS0 hS1 hb1' ho1 u0 u1 u2 u3
    go_wp2_with (at_builtin; refine wpList_append_own _ rfl _ _ 33 rfl w.heap.size 51 i0 (.agg #[.string ⟨#[]⟩, .slice none 0 0, .int .i64 0, .int .i64 0]) 4 56 Tryz.underlying33 hi hz0 hz1 hz2 rfl (by decide) (.slice va k vc) k (ceCells l') rfl HO1.out ⟨y1.heap.size, 0, none⟩ 1 1 (CE.cells ⟨e.u, A, e.n, C⟩) rfl rfl HN1 (four_oneC e.u A e.n C) (by unfold maxLen; omega) (by omega) hbw ?_; intro v2 y2 hown2 hg2 _; obtain ⟨v2a, v2c, hv2⟩ := shape_ofC hown2; subst hv2; have HR3 := HG2.out _ _ hown2 hg2; clear hown2 hg2)
    have HR4 : Hid (ClRow y2 w.heap.size (.slice v2a (k + 1) v2c) (l' ++ [⟨e.u, A, e.n, C⟩])) := HR3.1
    have HR5 : Hid (Below w.heap.size w y2) := HR3.2
    have HM3 : Hid ((l' ++ [(⟨e.u, A, e.n, C⟩ : CE)]).map CE.u = (l.map CE.u).take (k + 1)) := by show _ = _; rw [List.map_append]; exact HM2.out
    clear HG2 HM2 HR3 HN1 HO1
    go_roundw
    case rel => exact ⟨k + 1, v2a, v2c, l' ++ [⟨e.u, A, e.n, C⟩], by omega, by simp [hlk], by go_num, rfl, HR4, HM3, HR5⟩
    case measure => simp [intOf]; omega

end Go.Proofs.YtemcjenpgdieoaaGreatDoor
