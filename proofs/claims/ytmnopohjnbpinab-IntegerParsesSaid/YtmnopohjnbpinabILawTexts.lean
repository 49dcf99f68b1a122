/-
  Helper: the walk of the statement IntegerTexts.
-/
import Derived.Test.YtmnopohjnbpinabINb
import Derived.Test.YtmnopohjnbpinabIRefDig
import Derived.Test.YtmnopohjnbpinabIRefOf
namespace Go.Proofs.Ytmnopohjnbpinab
open Go.RowKit
set_option linter.unusedVariables false

theorem dgc_fig (d : UInt8) (h : d.toNat < 16) : dgc (fig d) = d.toNat := by
  have hall : ∀ n : Fin 16, dgc (fig (UInt8.ofNat n)) = n.1 := by decide
  have e : UInt8.ofNat d.toNat = d := by simp
  have := hall ⟨d.toNat, h⟩
  rw [e] at this; exact this
theorem fig_sign (d : UInt8) (h : d.toNat < 16) : fig d ≠ 45 ∧ fig d ≠ 43 := by
  have hall : ∀ n : Fin 16, fig (UInt8.ofNat n) ≠ 45 ∧ fig (UInt8.ofNat n) ≠ 43 := by decide
  have e : UInt8.ofNat d.toNat = d := by simp
  have := hall ⟨d.toNat, h⟩
  rw [e] at this; exact this
theorem body_figs (b n : Nat) (hb : 2 ≤ b) (hb2 : b ≤ 16) : ∃ l : List UInt8, body b n = l.map fig ∧ (∀ d ∈ l, d.toNat < b) ∧ vm b l = n ∧ l ≠ [] := by
  by_cases h : n = 0
  · refine ⟨[0], ?_, ?_, ?_, by simp⟩
    · unfold body; rw [if_pos h]; rfl
    · intro d hd; simp at hd; subst hd; show 0 < b; omega
    · rw [h]; show b * 0 + 0 = 0; omega
  · refine ⟨(E b n).reverse, ?_, ?_, ?_, ?_⟩
    · unfold body; rw [if_neg h]
    · intro d hd; exact dg_E b n hb (by omega) d (List.mem_reverse.1 hd)
    · rw [vm_reverse, vb_E b n hb (by omega)]
    · intro e
      have := (E_nil b n hb).1 (List.reverse_eq_nil_iff.1 e)
      omega
theorem Tb_parts (b : Nat) (z : Int) (hb : 2 ≤ b) (hb2 : b ≤ 16) : pneg (Tb b z) = neg z ∧ prest (Tb b z) = body b z.natAbs := by
  obtain ⟨l, h1, h2, h3, h4⟩ := body_figs b z.natAbs hb hb2
  unfold Tb
  by_cases hz : z < 0
  · rw [if_pos hz]
    unfold pneg prest neg
    simp [hz]
  · rw [if_neg hz, List.nil_append]
    cases l with
    | nil => exact absurd rfl h4
    | cons d l =>
      have hd := fig_sign d (by have := h2 d (by simp); omega)
      rw [h1]
      unfold pneg prest neg
      simp [hz, hd.1, hd.2]
/-- what Parse says of a text in a base -/
theorem pfP_Tb (b : Nat) (z : Int) (hz : Sh z) (hb : 2 ≤ b) (hb2 : b ≤ 16) (w : World) (e : Ending) (w' : World) (h : PfP (Tb b z) b w e w') : StrP z w e w' := by
  obtain ⟨hn, hr⟩ := Tb_parts b z hb hb2
  obtain ⟨l, h1, h2, h3, h4⟩ := body_figs b z.natAbs hb hb2
  obtain ⟨_, h⟩ := h
  rw [hr, h1, hn] at h
  have hp : pdig (l.map fig) = l := by
    unfold pdig
    rw [List.map_map]
    refine (List.map_congr_left (fun d hd => ?_)).trans (List.map_id l)
    show UInt8.ofNat (dgc (fig d)) = d
    rw [dgc_fig d (by have := h2 d hd; omega)]; simp
  rw [hp, h3] at h
  have h5 := (h ⟨by simpa using h4, fun i hi => by
    have hi' : i < l.length := by simpa using hi
    rw [List.getD_eq_getElem?_getD, List.getElem?_eq_getElem (by simpa using hi')]
    simp only [List.getElem_map, Option.getD_some]
    have := h2 _ (List.getElem_mem hi')
    rw [dgc_fig _ (by omega)]; exact this⟩).1 hz
  rw [zi_self] at h5
  exact h5
theorem Tb_size (b : Nat) (z : Int) (hz : Sh z) (hb : 2 ≤ b) : (⟨(Tb b z).toArray⟩ : ByteArray).size ≤ 2000 := by
  have h := len_base b z.natAbs 400 hb hz
  have e : (⟨(Tb b z).toArray⟩ : ByteArray).size = (Tb b z).length := by simp [ByteArray.size]
  rw [e]
  unfold Tb body
  rw [List.length_append]
  split <;> split <;> simp <;> omega
theorem isB_cases (b : Int) : isB b = true ∨ (isB b = false ∧ (b != 2) = true ∧ (b != 8) = true ∧ (b != 10) = true ∧ (b != 16) = true) := by
  unfold isB
  by_cases h2 : b = 2
  · left; simp [h2]
  · by_cases h8 : b = 8
    · left; simp [h8]
    · by_cases h10 : b = 10
      · left; simp [h10]
      · by_cases h16 : b = 16
        · left; simp [h16]
        · right; simp [h2, h8, h10, h16]
theorem isB_nat (b : Int) (h : isB b = true) : b = 2 ∨ b = 8 ∨ b = 10 ∨ b = 16 := by
  unfold isB at h
  simp only [Bool.or_eq_true, beq_iff_eq] at h
  omega
set_option maxRecDepth 100000 in
set_option maxHeartbeats 1000000 in
theorem Text_nob (s : ByteArray) (b : Int) (hB : isB b = false) (w : World) : Calls Try.prog 15 #[.string s, .int .i64 b] w (ErrP 1 w) := by
  have HI := Lib.hid (fun W => isBase_any b W)
  have HF : Hid (∀ w', Below w.heap.size w w' → ErrP 1 w (.returned (.tuple #[.string ⟨#[]⟩, .int .i64 1])) w') := fun w' h => ⟨rfl, h⟩
  have hi : Hid (isB b = false) := Lib.hid hB
  clear hB
  generalize ErrP 1 w = Po at *
  go_enter Try.func15, Try.ntmps15
  go_wp2_with fail
  refine (HI.out _).mono ?_
  rintro e w0 ⟨rfl, hw⟩
  obtain rfl := hw.symm
  rw [hi.out]
  go_wp2
  exact HF.out _ (Below.refl _ _)

def StrQ (t : ByteArray) (w : World) (e : Ending) (w' : World) : Prop := e = .returned (.tuple #[.string t, .int .i64 0]) ∧ Below w.heap.size w w'
def BytQ (t : ByteArray) (w : World) (e : Ending) (w' : World) : Prop := e = .returned (.string t) ∧ Below w.heap.size w w'
/-- the calls of the statement in a base, over texts that are opaque -/
def TextsAt (B : Nat) (x : Int) (tx tb : ByteArray) : Prop :=
  (∀ W, Calls Try.prog 15 #[.string tx, .int .i64 (B : Int)] W (StrQ tb W)) ∧ (∀ W, Calls Try.prog 9 #[.string tb, .int .i64 (B : Int)] W (StrQ tx W)) ∧
  (∀ W, Calls Try.prog 17 #[.string tx] W (NumP x W)) ∧ (∀ a cap W, Rb W a (E 10 x.natAbs) → Calls Try.prog 16 #[.agg #[.bool (neg x), .slice a (E 10 x.natAbs).length cap], .int .i64 (B : Int)] W (BytQ tb W))
theorem texts_at (B : Nat) (x : Int) (hx : Sh x) (hB : isB (B : Int) = true) (hb2 : 2 ≤ B) (hb16 : B ≤ 16) : TextsAt B x (TB x) ⟨(Tb B x).toArray⟩ :=
  ⟨fun W => Text_yes x hx B hB hb2 hb16 (TB x) (TB_list x) W,
   fun W => (Parse_go ⟨(Tb B x).toArray⟩ B hB hb2 hb16 W (by have := Tb_size B x hx hb2; omega)).mono fun e w' h => pfP_Tb B x hx hb2 hb16 W e w' (by simpa using h),
   fun W => refOf_any x hx (TB x) (TB_list x) W,
   fun a cap W hr => refDigits_any x B hb2 hb16 a cap W hr hx⟩

set_option maxRecDepth 100000 in
set_option maxHeartbeats 8000000 in
theorem walkIntegerTexts (w : World) (ng0 : Bool) (D0 : ByteArray) (nn0 : Nat) (hD0 : D0.size ≤ maxLen) (hn0 : nn0 < 65536) (b : Int) (hbw : (Lit.int .i64 b).wf = true) :
    Calls Try.prog 4 #[.agg #[.bool ng0, .string D0, .int .u16 (nn0 : Int)], .int .i64 b] w (TrueP w) := by
  have HT0 := Lib.hid (fun W => lawtext_any ng0 D0 nn0 hD0 hn0 W)
  have HF : Hid (∀ w', Below w.heap.size w w' → TrueP w (.returned (.bool true)) w') := Lib.hid fun w' h => ⟨rfl, h⟩
  have HB0 : Hid (∀ o, Below w.heap.size w (w.alloc o)) := Lib.hid fun o => (Below.refl _ w).alloc (Nat.le_refl _) o
  clear hD0 hn0 hbw
  generalize TrueP w = Po at *
  go_enter Try.func4, Try.ntmps4
  go_wp2_with fail
  refine (HT0.out _).mono ?_
  rintro e w1 ⟨m0, hm0, rfl, hb1⟩
  have hx := sh_zi ng0 m0 hm0
  have H1 : Hid (Below w.heap.size w w1) := Lib.hid ((HB0.out _).trans (hb1.mono (by simp)))
  clear hb1 hm0 HT0 HB0
  generalize zi ng0 m0 = x at *
  rcases isB_cases b with hB | ⟨hB, q2, q8, q10, q16⟩
  · have hbn := isB_nat b hB
    obtain ⟨B, rfl⟩ : ∃ B : Nat, b = B := ⟨b.toNat, by omega⟩
    have hb2 : 2 ≤ B := by omega
    have hb16 : B ≤ 16 := by omega
    have HT := Lib.hid (texts_at B x hx hB hb2 hb16)
    rcases hbn with h | h | h | h
    all_goals
      obtain rfl : B = _ := by exact_mod_cast h
      clear hB hb2 hb16 h hx
      generalize TB x = tx at *
      generalize (⟨(Tb _ x).toArray⟩ : ByteArray) = tb at *
      go_wp2_with fail
      refine (HT.out.1 _).mono ?_
      rintro e w2 ⟨rfl, h2⟩
      have H2 : Hid (Below w.heap.size w w2) := Lib.hid (H1.out.trans (h2.mono H1.out.size))
      clear H1 h2
      go_wp2_with fail
      refine (HT.out.2.1 _).mono ?_
      rintro e w3 ⟨rfl, h3⟩
      have H3 : Hid (Below w.heap.size w w3) := Lib.hid (H2.out.trans (h3.mono H2.out.size))
      clear H2 h3
      go_wp2_with fail
      refine (HT.out.2.2.1 _).mono ?_
      rintro e w4 ⟨a, cap, rfl, hr, _, h4⟩
      have H4 : Hid (Below w.heap.size w w4) := Lib.hid (H3.out.trans (h4.mono H3.out.size))
      have HR := Lib.hid hr
      clear H3 h4 hr
      go_wp2_with fail
      refine (HT.out.2.2.2 a cap _ HR.out).mono ?_
      rintro e w5 ⟨rfl, h5⟩
      have H5 : Hid (Below w.heap.size w w5) := Lib.hid (H4.out.trans (h5.mono H4.out.size))
      clear H4 h5
      go_wp2_with fail
      refine (awake_any _).mono ?_
      rintro e w6 ⟨rfl, h6⟩
      have hfin := Lib.hid (HF.out _ (H5.out.trans (h6.mono H5.out.size)))
      clear h6
      go_wp2
      exact hfin.out
  · have HX := Lib.hid (fun W => Text_nob (TB x) b hB W)
    clear hB hx
    generalize TB x = tx at *
    go_wp2_with fail
    refine (HX.out _).mono ?_
    rintro e w2 ⟨rfl, h2⟩
    have H2 : Hid (Below w.heap.size w w2) := Lib.hid (H1.out.trans (h2.mono H1.out.size))
    clear H1 h2
    go_wp2_with fail
    refine (awake_any _).mono ?_
    rintro e w3 ⟨rfl, h3⟩
    have hfin := Lib.hid (HF.out _ (H2.out.trans (h3.mono H2.out.size)))
    clear h3
    go_wp2
    exact hfin.out
end Go.Proofs.Ytmnopohjnbpinab
