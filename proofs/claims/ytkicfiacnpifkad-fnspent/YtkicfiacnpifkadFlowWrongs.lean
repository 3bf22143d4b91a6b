/- Lanes that are wrong by themselves, and whether lanes ascend: the program's answers. -/
import Derived.Test.YtkicfiacnpifkadOwn
import Derived.Deep.QuietTactic
import Derived.Test.YtkicfiacnpifkadFlowReach
namespace Go.Proofs.Ytkicfiacnpifkad
open Go.RowKit

/-- A world in which all that lay in w is as it was. -/
structure Past (w : World) where
  world : World
  below : Below w.heap.size w world

theorem wp_region_past {P : Program} {id : Nat} {Q : Exit → Act → World → Prop} {a : Act} {w : World} {l : List Oper} (hm : P.follows .mixedOrders = true) (hB : Region.lexB .any l.toArray = true)
    (h : wpQuiet P l.toArray (fun w' => ∃ p : Past w, w' = p.world) (fun a' => ∀ w', (∃ p : Past w, w' = p.world) → Q .normal a' w') l a) : (Code.region id l.toArray true).wp P Q a w :=
  wp_region_quiet (C := fun w' => ∃ p : Past w, w' = p.world) hm hB ⟨⟨w.drew, (Below.refl _ _).drew⟩, rfl⟩ (by simpa using h)

theorem calls_past {P : Program} {f : FuncId} {args : Array Value} {w : World} {p : Past w} {v : Value}
    (h : Calls P f args p.world fun e w' => e = .returned v ∧ Below p.world.heap.size p.world w') : Calls P f args p.world fun e w'' => e = .returned v ∧ ∃ p : Past w, w'' = p.world :=
  h.mono fun _ w' ⟨he, hb⟩ => ⟨he, ⟨w', p.below.trans (hb.mono p.below.size)⟩, rfl⟩

/-- One operation that is wanted. -/
theorem quiet_do {P : Program} {ops : Array Oper} {C : World → Prop} {Q : Act → Prop} {a : Act} {o : Oper} {rest : List Oper} (hw : Region.wanted o (yielded ops a.tmps) = true)
    (h : ∀ K : Act → Prop, (∀ a, wpQuiet P ops C Q rest a → K a) → o.quiet P a C K) : wpQuiet P ops C Q (o :: rest) a :=
  wpQuiet_step fun K hK => by rw [if_pos hw]; exact h K hK

/-- One that is not. -/
theorem quiet_skip {P : Program} {ops : Array Oper} {C : World → Prop} {Q : Act → Prop} {a : Act} {o : Oper} {rest : List Oper} (hw : Region.wanted o (yielded ops a.tmps) = false)
    (h : ∀ K : Act → Prop, (∀ a, wpQuiet P ops C Q rest a → K a) → K (a.put o.dst undef)) : wpQuiet P ops C Q (o :: rest) a :=
  wpQuiet_step fun K hK => by rw [if_neg (by rw [hw]; simp)]; exact h K hK

theorem past_some (w : World) : Nonempty (Past w) := ⟨⟨w, Below.refl _ _⟩⟩

theorem Past.cell {w : World} (p : Past w) {a : Addr} {v : Value} (hb : a.block < w.heap.size) (h : w.cell? a = some v) : p.world.cell? a = some v := (p.below.cell hb).trans h

end Go.Proofs.Ytkicfiacnpifkad

namespace Go.Proofs.Ytkicfiacnpifkad
open Go.RowKit
set_option linter.unusedVariables false

/-- A lane that is wrong by itself. -/
def wrongL (p q : Int) : Bool := decide (p < 1) || decide (q < -2147483647) || decide (2147483647 < q)

theorem implWrong_any (p q : Int) (w : World) : Calls Try.prog 44 #[.agg #[.int .i64 p, .int .i64 q]] w fun e w' => e = .returned (.bool (wrongL p q)) ∧ Below w.heap.size w w' := by
  have HB : Hid (Below w.heap.size w (w.alloc (.cells #[.int .i64 p, .int .i64 q] 47))) := (Below.refl _ _).alloc (Nat.le_refl _) _
  by_cases h1 : p < 1
  · have HR : Hid (wrongL p q = true) := by show _ = _; simp [wrongL, h1]
    go_enter Try.func44, Try.ntmps44
    go_wp2_with fail
    go_ret
    exact ⟨ret_bool HR.out.symm, HB.out⟩
  by_cases h2 : q < -2147483647
  · have HR : Hid (wrongL p q = true) := by show _ = _; simp [wrongL, h2]
    go_enter Try.func44, Try.ntmps44
    go_wp2_with fail
    go_ret
    exact ⟨ret_bool HR.out.symm, HB.out⟩
  have HR : Hid (wrongL p q = decide (2147483647 < q)) := by show _ = _; simp [wrongL, h1, h2]
  go_enter Try.func44, Try.ntmps44
  go_wp2_with fail
  go_ret
  exact ⟨ret_bool HR.out.symm, HB.out⟩

theorem implWin_any (n : Int) (w : World) : Calls Try.prog 41 #[.int .i64 n] w fun e w' => e = .returned (.bool (decide (0 ≤ n ∧ n ≤ 2147483647))) ∧ w' = w := by
  by_cases h1 : 0 ≤ n
  · have HR : Hid (decide (0 ≤ n ∧ n ≤ 2147483647) = decide (n ≤ 2147483647)) := by show _ = _; simp [h1]
    rw [HR.out]
    go_enter Try.func41, Try.ntmps41
    go_wp2_with fail
    go_ret
    exact ⟨rfl, rfl⟩
  · have HR : Hid (decide (0 ≤ n ∧ n ≤ 2147483647) = false) := by show _ = _; simp [h1]
    rw [HR.out]
    go_enter Try.func41, Try.ntmps41
    go_wp2_with fail
    go_ret
    exact ⟨rfl, rfl⟩

/-- Whether lanes ascend. -/
def ascP (l : List Lane) : Prop := ∀ k, k + 1 < l.length → (laneAt l k).1 < (laneAt l (k + 1)).1

noncomputable def ascB (l : List Lane) : Bool := @decide (ascP l) (Classical.propDecidable _)

theorem ascB_iff {l : List Lane} : ascB l = true ↔ ascP l := by simp [ascB]

theorem ascB_no {l : List Lane} (h : ¬ ascP l) : ascB l = false := by
  cases hb : ascB l
  · rfl
  · exact absurd (ascB_iff.1 hb) h

set_option maxRecDepth 10000 in
set_option maxHeartbeats 800000 in
theorem implAsc_any (a : Option Addr) (len cap : Nat) (l : List Lane) (w : World) (hs : Lanes w a len l) (hl : len ≤ 1099511627776) :
    Calls Try.prog 42 #[.slice a len cap] w fun e w' => e = .returned (.bool (ascB l)) ∧ Below w.heap.size w w' := by
  have HL : Hid (l.length = len) := hs.1
  have HS : Hid (Lanes w a len l) := hs
  clear hs
  go_enter Try.func42, Try.ntmps42
  go_wp2_with fail
  go_loopw [3] (fun v wr => ∃ k : Nat, v = .int .i64 ((k + 1 : Nat) : Int) ∧ (k ≤ len) ∧ Hid (Below w.heap.size w wr) ∧ Hid (∀ j, j < k → (laneAt l j).1 < (laneAt l (j + 1)).1)) (fun v _ => len + 1 - (intOf v).toNat)
  case atStart => exact ⟨0, rfl, Nat.zero_le _, Below.refl _ _, fun j hj => absurd hj (Nat.not_lt_zero _)⟩
  case round =>
    obtain ⟨k, rfl, hk, HB, HN⟩ := hrel
    by_cases hlt : k + 1 < len
    · have hki : ((k + 1 : Nat) : Int) < (len : Int) := by omega
      obtain ⟨b, off, p, q, rfl, hb, hkx, hp, hq, _, _⟩ := (HS.out.below HB.out).at hlt
      obtain ⟨b', off', p', q', hab, hb', hkx', hp', hq', _, _⟩ := (HS.out.below HB.out).at (show k < len by omega)
      injection hab with hab
      injection hab with e1 e2
      subst e1 e2
      have HA : Hid ((laneAt l (k + 1)).1 = p) := by show _ = _; rw [laneAt_some hkx]
      have HA' : Hid ((laneAt l k).1 = p') := by show _ = _; rw [laneAt_some hkx']
      clear hkx hkx'
      have hj1 : ((k + 1 : Nat) : Int) - 1 = (k : Int) := by omega
      have hj2 : (k : Int) < (len : Int) := by omega
      have m1 := keyM p q
      have m2 := keyM p' q'
      have x1 : ∀ P : Past wr, P.world.cell? ⟨b, off + (k + 1) * 2, none⟩ = some (.int .i64 p) := fun P => P.cell hb hp
      have x2 : ∀ P : Past wr, P.world.cell? ⟨b, off + (k + 1) * 2 + 1, none⟩ = some (.int .i64 q) := fun P => P.cell hb hq
      have x3 : ∀ P : Past wr, P.world.cell? ⟨b, off + k * 2, none⟩ = some (.int .i64 p') := fun P => P.cell hb hp'
      have x4 : ∀ P : Past wr, P.world.cell? ⟨b, off + k * 2 + 1, none⟩ = some (.int .i64 q') := fun P => P.cell hb hq'
      clear hp hq hp' hq'
      have hne := past_some wr
      have wk0 : IntKind.i64.wrap (k : Int) = (k : Int) := by rw [IntKind.wrap_i64]; omega
      have wk1 : IntKind.i64.wrap ((k : Int) + 1) = (k : Int) + 1 := by rw [IntKind.wrap_i64]; omega
      have t1 : (0 : Int) ≤ (k : Int) + 1 := by omega
      have t2 : (k : Int) + 1 < (len : Int) := by omega
      have t3 : ((k : Int) + 1).toNat = k + 1 := by omega
      by_cases g5 : p ≤ p'
      · have HG : Hid (ascB l = false) := ascB_no fun h => by have h1 := h k (by have := HL.out; omega); rw [HA.out, HA'.out] at h1; omega
        have d5 : decide (p ≤ p') = true := by simpa using g5
        go_wp2_with fail
        refine wp_region_past (by kernel_rfl) (by kernel_rfl) ?_
        repeat (quiet_step ((first | (go_at_call 80; exact calls_past (implKey_any _ _ _)) | fail)))
        refine wpQuiet_nil ?_
        rintro _ ⟨z, rfl⟩
        have HZ : Hid (Below w.heap.size w z.world) := HB.out.trans (z.below.mono HB.out.size)
        go_wp2_with fail
        go_ret
        exact ⟨ret_bool HG.out.symm, HZ.out⟩
      · have HN2 : Hid (∀ j, j < k + 1 → (laneAt l j).1 < (laneAt l (j + 1)).1) := fun j hj => by
          by_cases e : j = k
          · rw [e, HA.out, HA'.out]; omega
          · exact HN.out j (by omega)
        have d5 : decide (p ≤ p') = false := by simpa using g5
        have p5 : (p ≤ p') = False := by simpa using g5
        go_wp2_with fail
        refine wp_region_past (by kernel_rfl) (by kernel_rfl) ?_
        repeat (quiet_step ((first | (go_at_call 80; exact calls_past (implKey_any _ _ _)) | fail)))
        refine wpQuiet_nil ?_
        rintro _ ⟨z, rfl⟩
        have HZ : Hid (Below w.heap.size w z.world) := HB.out.trans (z.below.mono HB.out.size)
        go_wp2_with fail
        go_roundw
        case rel => exact ⟨k + 1, by go_num, by omega, HZ, HN2⟩
        case measure => simp [intOf]; omega
    · have hn1 : ¬ ((k : Int) + 1 < (len : Int)) := by omega
      have dn1 : decide ((k : Int) + 1 < (len : Int)) = false := by simpa using hn1
      have HE : Hid (ascB l = true) := ascB_iff.2 fun j hj => HN.out j (by have := HL.out; omega)
      clear HN HS HL
      go_wp2_with fail
      go_ret
      exact ⟨ret_bool HE.out.symm, HB.out⟩

end Go.Proofs.Ytkicfiacnpifkad
