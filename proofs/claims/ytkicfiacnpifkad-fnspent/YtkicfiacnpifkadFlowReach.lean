/- What the program's reach answers: where the first lane of this number lies. -/
import Derived.Test.YtkicfiacnpifkadFlowNum
namespace Go.Proofs.Ytkicfiacnpifkad
open Go.RowKit
set_option linter.unusedVariables false

/-- The program's key: a lane's number. -/
theorem implKey_any (p q : Int) (w : World) : Calls Try.prog 80 #[.agg #[.int .i64 p, .int .i64 q]] w fun e w' => e = .returned (.int .i64 p) ∧ Below w.heap.size w w' := by
  have HB : Hid (Below w.heap.size w (w.alloc (.cells #[.int .i64 p, .int .i64 q] 47))) := (Below.refl _ _).alloc (Nat.le_refl _) _
  go_enter Try.func80, Try.ntmps80
  go_wp2_with fail
  go_ret
  exact ⟨rfl, HB.out⟩

/-- The method by which a lane is asked for its key. -/
theorem keyM (p q : Int) (w : World) : Sem.run Try.prog (Go.method 204 47 (.agg #[.int .i64 p, .int .i64 q]) "loop.example/g00199/impl.key") w = .ok (80, .agg #[.int .i64 p, .int .i64 q]) w := by kernel_rfl

/-- The lane that is reached: its place in memory, or none. -/
def reachO (a : Option Addr) (k : Int) : Option Addr :=
  match a with
  | none => none
  | some ad => if k < 0 then none else some ⟨ad.block, ad.off + k.toNat * 2, none⟩

def reachP (a : Option Addr) (k : Int) : Value := .pointer (reachO a k)

set_option maxRecDepth 10000 in
set_option maxHeartbeats 800000 in
theorem implReach_any (a : Option Addr) (len cap : Nat) (l : List Lane) (id : Int) (w : World) (hs : Lanes w a len l) (hl : len ≤ 1099511627776) :
    Calls Try.prog 36 #[.slice a len cap, .int .i64 id] w fun e w' => e = .returned (reachP a (atL id l)) ∧ Below w.heap.size w w' := by
  have HL : Hid (l.length = len) := hs.1
  have HS : Hid (Lanes w a len l) := hs
  clear hs
  go_enter Try.func36, Try.ntmps36
  go_wp2_with fail
  go_loopw [8] (fun v wr => ∃ k : Nat, k ≤ len ∧ v = .int .i64 k ∧ Hid (Below w.heap.size w wr) ∧ Hid (∀ j, j < k → (laneAt l j).1 ≠ id)) (fun v _ => len - (intOf v).toNat)
  case atStart => exact ⟨0, Nat.zero_le _, rfl, Below.refl _ _, fun j hj => absurd hj (Nat.not_lt_zero _)⟩
  case round =>
    obtain ⟨k, hk, rfl, HB, HN⟩ := hrel
    by_cases hlt : k < len
    · have hki : (k : Int) < (len : Int) := by omega
      obtain ⟨b, off, p, q, rfl, hb, hkx, hp, hq, _, _⟩ := (HS.out.below HB.out).at hlt
      have HA : Hid ((laneAt l k).1 = p) := by show _ = _; rw [laneAt_some hkx]
      clear hkx
      by_cases g : p = id
      · have HE : Hid (atL id l = k) := atL_some (by have := HL.out; omega) (HA.out.trans g) HN.out
        have gb : (p == id) = true := by simpa using g
        clear g HN HA HS HL
        have hkm := keyM p q
        go_wp2_with fail
        refine (implKey_any p q _).mono ?_
        rintro e w1 ⟨rfl, hb1⟩
        have HB1 : Hid (Below w.heap.size w w1) := HB.out.trans (hb1.mono HB.out.size)
        clear hb1
        go_wp2_with fail
        go_ret
        exact ⟨by rw [HE.out]; simp [reachP, reachO], HB1.out⟩
      · have HN2 : Hid (∀ j, j < k + 1 → (laneAt l j).1 ≠ id) := fun j hj => by
          by_cases e : j = k
          · rw [e, HA.out]; exact g
          · exact HN.out j (by omega)
        have gb : (p == id) = false := by simpa using g
        clear g HN HA HS HL
        have hkm := keyM p q
        go_wp2_with fail
        refine (implKey_any p q _).mono ?_
        rintro e w1 ⟨rfl, hb1⟩
        have HB1 : Hid (Below w.heap.size w w1) := HB.out.trans (hb1.mono HB.out.size)
        clear hb1
        go_wp2_with fail
        go_roundw
        case rel => exact ⟨k + 1, by omega, by go_num, HB1, HN2⟩
        case measure => simp [intOf]; omega
    · have HE : Hid (atL id l = -1) := atL_none fun j hj => HN.out j (by have := HL.out; omega)
      have hkl : len = k := by omega
      clear HN HS HL
      subst hkl
      go_wp2_with fail
      go_ret
      exact ⟨by rw [HE.out]; cases a <;> rfl, HB.out⟩

end Go.Proofs.Ytkicfiacnpifkad
