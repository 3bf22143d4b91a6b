/- Frames one behind the other, and a beginning of their bytes; no program in it. -/
import Derived.Test.YtcicboolbeognacFrBack
import Derived.Test.YtcicboolbeognacFrReads
namespace Go.Proofs.Ytcicboolbeognac
open Go.RowKit
set_option linter.unusedVariables false

/-- The bytes of a frame. -/
def encF (e : Int × Int × Int × List Int) : List Int := putF e.1 e.2.1 e.2.2.1 e.2.2.2

/-- Is a frame right? -/
def okD (e : Int × Int × Int × List Int) : Prop := okF e.1 e.2.1 e.2.2.1 e.2.2.2.length = true

theorem encF_len {e : Int × Int × Int × List Int} (h : okD e) : (encF e).length = 9 + e.2.2.2.length := (getF_put [] [] e.2.2.2 e.1 e.2.1 e.2.2.1 h).2

theorem getF_enc (pre post : List Int) {e : Int × Int × Int × List Int} (h : okD e) : getF (pre ++ encF e ++ post) (pre.length : Int) = (e.1, e.2.1, e.2.2.1, e.2.2.2, (pre.length : Int) + 9 + (e.2.2.2.length : Int), 0) :=
  (getF_put pre post e.2.2.2 e.1 e.2.1 e.2.2.1 h).1

/-- Fewer than nine bytes. -/
theorem getF_short (zs : List Int) (T : Nat) (h : zs.length < T + 9) : getF zs (T : Int) = (0, 0, 0, [], (T : Int), 1) := by
  rw [getF, if_neg (by omega)]

/-- A head whose body is not there whole. -/
theorem getF_part (pre part : List Int) {e : Int × Int × Int × List Int} (h : okD e) (c : Nat) (h9 : 9 ≤ c) (hc : c < 9 + e.2.2.2.length) (hp : part = (encF e).take c) : getF (pre ++ part) (pre.length : Int) = (0, 0, 0, [], (pre.length : Int), 1) := by
  have hy := okF_yes h
  have hl := encF_len h
  have hpl : part.length = c := by rw [hp, List.length_take]; omega
  have hlen : frLen (pre ++ part) pre.length = (e.2.2.2.length : Int) := by
    have h1 : ((pre ++ part).drop pre.length).take 3 = (encF e).take 3 := by
      rw [List.drop_left, hp, List.take_take]
      congr 1
      omega
    rw [frLen, h1, encF, putF, if_pos (show okF e.1 e.2.1 e.2.2.1 e.2.2.2.length = true from h), headB, List.append_assoc, List.append_assoc, List.append_assoc, List.take_left' (pbl_len _ _ _), gbThree]
    omega
  have hll : (pre ++ part).length = pre.length + c := by rw [List.length_append, hpl]
  rw [getF, if_pos ⟨by omega, by rw [hll]; omega⟩, Int.toNat_natCast, hlen, if_neg (by omega), if_neg (by rw [hll]; omega)]

theorem reads_cut (rest : List (Int × Int × Int × List Int)) : ∀ (pre : List Int) (c : Nat), pre.length ≤ c → c ≤ (pre ++ rest.flatMap encF).length → (∀ e ∈ rest, okD e) →
    ∃ L P, Reads ((pre ++ rest.flatMap encF).take c) (pre.length : Int) L P 1 ∧ P ≤ (c : Int) ∧ (∃ m, L = rest.take m ∧ m ≤ rest.length ∧ (c < (pre ++ rest.flatMap encF).length → m < rest.length) ∧ (c = (pre ++ rest.flatMap encF).length → m = rest.length ∧ P = (c : Int))) := by
  induction rest with
  | nil =>
    intro pre c hp hc _
    simp only [List.flatMap_nil, List.append_nil] at hc ⊢
    have hcp : c = pre.length := by omega
    subst hcp
    have hs : getF (pre.take pre.length) (pre.length : Int) = (0, 0, 0, [], (pre.length : Int), 1) := getF_short _ _ (by simp)
    refine ⟨[], (pre.length : Int), ?_, by omega, 0, rfl, Nat.le_refl _, by omega, fun _ => ⟨rfl, rfl⟩⟩
    have h := Reads.stop (zs := pre.take pre.length) (pre.length : Int) (by rw [hs]; simp)
    rw [hs] at h
    exact h
  | cons e rest ih =>
    intro pre c hp hc hok
    have he := hok e (List.mem_cons_self ..)
    have hel := encF_len he
    have hfl : (e :: rest).flatMap encF = encF e ++ rest.flatMap encF := List.flatMap_cons ..
    rw [hfl] at hc ⊢
    rw [List.length_append, List.length_append] at hc
    by_cases h1 : pre.length + (9 + e.2.2.2.length) ≤ c
    · have hass : pre ++ (encF e ++ rest.flatMap encF) = (pre ++ encF e) ++ rest.flatMap encF := by rw [List.append_assoc]
      obtain ⟨L, P, hr, hP, m, hL, hm, hm1, hm2⟩ := ih (pre ++ encF e) c (by rw [List.length_append, hel]; omega) (by rw [List.length_append, List.length_append]; omega) (fun x hx => hok x (List.mem_cons_of_mem _ hx))
      have htk : (pre ++ (encF e ++ rest.flatMap encF)).take c = pre ++ encF e ++ (rest.flatMap encF).take (c - (pre ++ encF e).length) := by
        rw [hass, List.take_append, List.take_of_length_le (by rw [List.length_append, hel]; omega)]
      have hg := getF_enc pre ((rest.flatMap encF).take (c - (pre ++ encF e).length)) he
      rw [← htk] at hg
      rw [← hass] at hr
      refine ⟨e :: L, P, ?_, hP, m + 1, by rw [hL]; rfl, by simp; omega, fun h => ?_, fun h => ?_⟩
      · have hd : getD4 ((pre ++ (encF e ++ rest.flatMap encF)).take c) (pre.length : Int) = e := by rw [getD4, hg]
        have h2 : Reads ((pre ++ (encF e ++ rest.flatMap encF)).take c) (getF ((pre ++ (encF e ++ rest.flatMap encF)).take c) (pre.length : Int)).2.2.2.2.1 L P 1 := by
          rw [hg]
          rw [List.length_append, hel] at hr
          have e1 : ((pre.length + (9 + e.2.2.2.length) : Nat) : Int) = (pre.length : Int) + 9 + (e.2.2.2.length : Int) := by omega
          rw [e1] at hr
          exact hr
        have h3 := Reads.step (zs := (pre ++ (encF e ++ rest.flatMap encF)).take c) (pre.length : Int) L P 1 (by rw [hg]) h2
        rw [hd] at h3
        exact h3
      · rw [hass] at h
        have := hm1 h
        simp only [List.length_cons]
        omega
      · rw [hass] at h
        have := hm2 h
        simp only [List.length_cons]
        exact ⟨by omega, this.2⟩
    · have hstop : getF ((pre ++ (encF e ++ rest.flatMap encF)).take c) (pre.length : Int) = (0, 0, 0, [], (pre.length : Int), 1) := by
        have htk : (pre ++ (encF e ++ rest.flatMap encF)).take c = pre ++ (encF e).take (c - pre.length) := by
          rw [List.take_append, List.take_of_length_le hp, List.take_append_of_le_length (by omega)]
        by_cases h2 : c < pre.length + 9
        · exact getF_short _ _ (by rw [List.length_take]; omega)
        · rw [htk]
          exact getF_part pre _ he (c - pre.length) (by omega) (by omega) rfl
      refine ⟨[], (pre.length : Int), ?_, by omega, 0, rfl, Nat.zero_le _, fun _ => by simp, fun h => ?_⟩
      · have h3 := Reads.stop (zs := (pre ++ (encF e ++ rest.flatMap encF)).take c) (pre.length : Int) (by rw [hstop]; simp)
        rw [hstop] at h3
        exact h3
      · rw [List.length_append, List.length_append] at h
        omega

end Go.Proofs.Ytcicboolbeognac
