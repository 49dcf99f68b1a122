/-
  Helper: the walk of codepoint.Encode.
-/
import Derived.Test.YtmoljdgalonlpaaDoorRunesIs
import Derived.Test.YtmoljdgalonlpaaDoorShelf
import Derived.Test.YtmoljdgalonlpaaDoorShelfC
namespace Go.Proofs.YtmoljdgalonlpaaDoor
open Go.RowKit
set_option linter.unusedVariables false

/-- the encodings of numbers, one behind the other -/
def encB (xs : List Int) : List UInt8 := xs.flatMap Lib.encodeRune
theorem encB_one (r : Int) : (Lib.encodeRune r).length ≤ 4 := by
  have := (Lib.encodeRuneZ_length r).2
  unfold Lib.encodeRune; rw [List.length_map]; exact this
theorem encB_len : ∀ xs : List Int, (encB xs).length ≤ 4 * xs.length
  | [] => by simp [encB]
  | r :: xs => by
    have := encB_len xs
    have := encB_one r
    unfold encB at *
    rw [List.flatMap_cons, List.length_append, List.length_cons]; omega
theorem encB_take (xs : List Int) (k : Nat) (h : k < xs.length) : encB (xs.take (k + 1)) = encB (xs.take k) ++ Lib.encodeRune (xs.getD k 0) := by
  unfold encB
  rw [List.take_add_one, List.getD_eq_getElem?_getD, List.getElem?_eq_getElem h, List.flatMap_append]
  simp
def EncOk (xs : List Int) (w : World) (e : Ending) (w' : World) : Prop := e = .returned (.tuple #[.string ⟨(encB xs).toArray⟩, .int .i64 0]) ∧ Below w.heap.size w w'
def EncNo (w : World) (e : Ending) (w' : World) : Prop := e = .returned (.tuple #[.string ⟨#[]⟩, .int .i64 11]) ∧ Below w.heap.size w w'
def allV (xs : List Int) : Prop := ∀ i, i < xs.length → Lib.validRune (xs.getD i 0) = true
instance (xs : List Int) : Decidable (allV xs) := inferInstanceAs (Decidable (∀ i, i < xs.length → _))
def EncPost (xs : List Int) (w : World) (e : Ending) (w' : World) : Prop := (allV xs → EncOk xs w e w') ∧ (¬ allV xs → EncNo w e w')
theorem valid_range (r : Int) (h : Lib.validRune r = true) : 0 ≤ r ∧ r ≤ 1114111 := by
  unfold Lib.validRune at h; have := of_decide_eq_true h; omega

set_option maxRecDepth 100000 in
set_option maxHeartbeats 1000000 in
theorem encode_any (xs : List Int) (a : Option Addr) (cap : Nat) (w : World) (hx : Rr w a xs) (hs : xs.length ≤ 1000000) :
    Calls Tryd.prog 20 #[.slice a xs.length cap] w (EncPost xs w) := by
  have HX := Lib.hid (fun i hi => hx.at i hi)
  have HP := Lib.hid (fun (w' : World) (e : Ending) (h : EncOk xs w e w') (hv : allV xs) => (⟨fun _ => h, fun g => absurd hv g⟩ : EncPost xs w e w'))
  have HQ := Lib.hid (fun (w' : World) (e : Ending) (h : EncNo w e w') (hv : ¬ allV xs) => (⟨fun g => absurd g hv, fun _ => h⟩ : EncPost xs w e w'))
  have HV : Hid ((∀ i, i < xs.length → Lib.validRune (xs.getD i 0) = true) → allV xs) := fun h => h
  have HE := Lib.hid (fun k hk => encB_take xs k hk)
  have HL : Hid (∀ k, k ≤ xs.length → (encB (xs.take k)).length ≤ 4 * k) := fun k hk => by
    have := encB_len (xs.take k)
    rw [List.length_take] at this
    omega
  have HT : Hid (encB (xs.take xs.length) = encB xs) := by rw [List.take_length]; rfl
  have HW : Hid (∀ i, i < xs.length → Lib.validRune (xs.getD i 0) = false → ¬ allV xs) := fun i hi h g => by rw [g i hi] at h; cases h
  clear hx
  generalize hn : xs.length = n at *
  go_enter Tryd.func20, Tryd.ntmps20
  go_wp2_with fail
  have hB0 := Lib.IsBuilderF.of (Lib.fresh_isBuilder 74 5 w)
  have hb0 : Below w.heap.size w (w.alloc (.cells #[.pointer none, .slice none 0 0] 74)) := (Below.refl _ w).alloc (Nat.le_refl _) _
  generalize w.alloc (.cells #[.pointer none, .slice none 0 0] 74) = W0 at *
  go_loopw [9] (fun c wr => ∃ k : Nat, k ≤ n ∧ c = .int .i64 k ∧ Lib.IsBuilderF 74 5 w.heap.size w.heap.size (Lib.byteCells (encB (xs.take k))) wr ∧ Below w.heap.size w wr ∧ Hid (∀ i, i < k → Lib.validRune (xs.getD i 0) = true)) (fun c _ => n - (intOf c).toNat)
  case atStart => exact ⟨0, Nat.zero_le _, rfl, hB0, hb0, fun i hi => absurd hi (Nat.not_lt_zero _)⟩
  case round =>
    clear hB0 hb0
    obtain ⟨k, hk, rfl, hB, hbel, HE2⟩ := hrel
    by_cases hlt : k < n
    · obtain ⟨o, off, rfl, ho, hc1⟩ := HX.out k hlt
      have c1 := hbel.cell (p := ⟨o, off + k, none⟩) ho
      rw [hc1] at c1
      have hkn : (k : Int) < (n : Int) := by omega
      clear hc1
      have hlen := HL.out k hk
      by_cases hv : Lib.validRune (xs.getD k 0) = true
      · have hrr := valid_range _ hv
        have HE3 : Hid (∀ i, i < k + 1 → Lib.validRune (xs.getD i 0) = true) := fun i hi => by
          by_cases g : i = k
          · rw [g]; exact hv
          · exact HE2.out i (by omega)
        have hstep := Lib.hid (HE.out k hlt)
        clear HE2
        generalize xs.getD k 0 = x at *
        generalize encB (xs.take k) = bs at *
        have hBH := Lib.hid hB
        clear hB
        go_wp2_with (go_at_call 42; refine (Tryd.utf8_ValidRune x _).mono ?_; rintro e w1 ⟨rfl, rfl⟩)
        go_wp2_with (go_at_call 43; refine (writeRune_k w.heap.size w.heap.size _ x (by omega) (by omega) _ hBH.out (by rw [Lib.byteCells_length]; omega) hbel.size).mono ?_; rintro e w1 ⟨rfl, hB1, hb1, _⟩)
        have hbel2 : Below w.heap.size w w1 := hbel.trans hb1
        refine ⟨⟨k + 1, by omega, by go_num, ?_, hbel2, HE3⟩, by simp [intOf]; omega⟩
        rw [hstep.out, Lib.byteCells_append, Lib.byteCells_encodeRune]
        exact .inr hB1
      · have hvf : Lib.validRune (xs.getD k 0) = false := by simpa using hv
        have hno := Lib.hid (fun w' e h => HQ.out w' e h (HW.out k hlt hvf))
        clear HE2 HE HL HT hv HP HQ HW HV
        generalize xs.getD k 0 = x at *
        go_wp2_with (go_at_call 42; refine (Tryd.utf8_ValidRune x _).mono ?_; rintro e w1 ⟨rfl, rfl⟩)
        go_ret2
        exact hno.out _ _ ⟨rfl, hbel⟩
    · obtain rfl : k = n := by omega
      have hyes := Lib.hid (fun w' e h => HP.out w' e h (HV.out HE2.out))
      clear HE2 HE HL HP HQ HW HV
      rw [HT.out] at hB
      obtain ⟨bs, hbs⟩ : ∃ bs, encB xs = bs := ⟨_, rfl⟩
      rw [hbs] at hB
      have hbh := Lib.hid hbs
      clear hbs
      go_wp2_with (go_at_call 44; refine (Tryd.Builder_String_any_k w.heap.size w.heap.size bs _ hB hbel.size).mono ?_; rintro e w1 ⟨rfl, hB1, hb1, _⟩)
      go_ret2
      have hbs := hbh.out
      subst hbs
      exact hyes.out _ _ ⟨rfl, hbel.trans hb1⟩
end Go.Proofs.YtmoljdgalonlpaaDoor
