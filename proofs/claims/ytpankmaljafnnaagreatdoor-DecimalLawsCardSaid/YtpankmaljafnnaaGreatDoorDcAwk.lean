/-
  Helper: the walk of rosettalaw04.awake.
-/
import Derived.Test.YtpankmaljafnnaaGreatDoorDcPrs
import Derived.Test.YtpankmaljafnnaaGreatDoorDcTxt
import Derived.Test.YtpankmaljafnnaaGreatDoorDcMul
import Derived.Test.YtpankmaljafnnaaGreatDoorDcRound
namespace Go.Proofs.YtpankmaljafnnaaGreatDoor
open Go.RowKit
set_option linter.unusedVariables false
set_option linter.unusedSimpArgs false

/-- read at a canonical text -/
theorem rd_at (s : ByteArray) (z x : Int) (hC : Cn z x) (hl : s.data.toList = tD z x) (hs : s.size ≤ 100000) : Hid (∀ w, Tabs w → Calls Tryz.prog 43 #[.string s] w (RdG true z x w)) := fun w hT => by
  refine (read_yes s hs z x hC hl w hT).mono ?_
  rintro en w' ⟨a, c, rfl, h1, h2, h3⟩
  exact ⟨_, a, _, c, x, rfl, fun _ => ⟨rfl, rfl, rfl, h1, h2⟩, h3⟩
theorem p1 : prsF ⟨#[45, 49, 46, 53, 48]⟩ = (⟨#[45, 49, 53, 101, 45, 49]⟩, 0) := by decide +kernel
theorem p2 : outD (rndZ 25 (-1) 0) (rndE (-1) 0) = (⟨#[50, 101, 48]⟩, 0) := by decide +kernel
theorem p3 : outD (addZ 15 (-1) 5 (-1)) (min (-1) (-1)) = (⟨#[50, 101, 48]⟩, 0) := by decide +kernel
theorem p4 : txtB 15 29 = ⟨#[49, 46, 53, 101, 51, 48]⟩ := by decide +kernel
theorem p5 : txtB 1 18 = ⟨#[49, 48, 48, 48, 48, 48, 48, 48, 48, 48, 48, 48, 48, 48, 48, 48, 48, 48, 48, 46, 48]⟩ := by decide +kernel
theorem Cn_lit {z x : Int} (h1 : z.natAbs % 10 ≠ 0) (h2 : (body 10 z.natAbs).length ≤ 400) (h3 : -2000 ≤ x) (h4 : x ≤ 2000) : Cn z x := ⟨.inr h1, h2, h3, h4⟩
theorem aw_parse (w : World) (hT : Tabs w) : Calls Tryz.prog 12 #[.string ⟨#[45, 49, 46, 53, 48]⟩] w (TxP (⟨#[45, 49, 53, 101, 45, 49]⟩, 0) w) := by
  have := Parse_any ⟨#[45, 49, 46, 53, 48]⟩ (by decide) w hT
  rw [p1] at this; exact this
theorem aw_round (w : World) (hT : Tabs w) : Calls Tryz.prog 34 #[.string ⟨#[50, 53, 101, 45, 49]⟩, .int .i64 0] w (TxP (⟨#[50, 101, 48]⟩, 0) w) := by
  have := Round_of ⟨#[50, 53, 101, 45, 49]⟩ true 25 (-1) 0 (by decide) (by decide) (rd_at _ 25 (-1) (Cn_lit (by decide) (by decide +kernel) (by decide) (by decide)) (by decide +kernel) (by decide)) (fun _ => Cn_lit (by decide) (by decide +kernel) (by decide) (by decide)) w hT
  have e : (if true = true then (if (0 : Int) < -2000 ∨ 2000 < (0 : Int) then ((⟨#[]⟩ : ByteArray), (1 : Int)) else outD (rndZ 25 (-1) (-0)) (rndE (-1) (-0))) else (⟨#[]⟩, 3)) = (⟨#[50, 101, 48]⟩, 0) := by decide +kernel
  rw [e] at this
  exact this
theorem aw_add (w : World) (hT : Tabs w) : Calls Tryz.prog 25 #[.string ⟨#[49, 53, 101, 45, 49]⟩, .string ⟨#[53, 101, 45, 49]⟩] w (TxP (⟨#[50, 101, 48]⟩, 0) w) := by
  have c1 : Cn 15 (-1) := Cn_lit (by decide) (by decide +kernel) (by decide) (by decide)
  have c2 : Cn 5 (-1) := Cn_lit (by decide) (by decide +kernel) (by decide) (by decide)
  have := Add_of ⟨#[49, 53, 101, 45, 49]⟩ ⟨#[53, 101, 45, 49]⟩ true true 15 (-1) 5 (-1) (rd_at _ 15 (-1) c1 (by decide +kernel) (by decide)) (rd_at _ 5 (-1) c2 (by decide +kernel) (by decide)) (fun _ => c1) (fun _ => c2) w hT
  rw [Bool.and_true, if_pos rfl, p3] at this
  exact this
theorem aw_text1 (w : World) (hT : Tabs w) : Calls Tryz.prog 20 #[.string ⟨#[49, 53, 101, 50, 57]⟩] w (fun en w' => en = .returned (.string ⟨#[49, 46, 53, 101, 51, 48]⟩) ∧ Below w.heap.size w w') := by
  have c1 : Cn 15 29 := Cn_lit (by decide) (by decide +kernel) (by decide) (by decide)
  have := Text_of ⟨#[49, 53, 101, 50, 57]⟩ true 15 29 (rd_at _ 15 29 c1 (by decide +kernel) (by decide)) (fun _ => c1) w hT
  rw [if_pos rfl, p4] at this
  exact this
theorem aw_text2 (w : World) (hT : Tabs w) : Calls Tryz.prog 20 #[.string ⟨#[49, 101, 49, 56]⟩] w (fun en w' => en = .returned (.string ⟨#[49, 48, 48, 48, 48, 48, 48, 48, 48, 48, 48, 48, 48, 48, 48, 48, 48, 48, 48, 46, 48]⟩) ∧ Below w.heap.size w w') := by
  have c1 : Cn 1 18 := Cn_lit (by decide) (by decide +kernel) (by decide) (by decide)
  have := Text_of ⟨#[49, 101, 49, 56]⟩ true 1 18 (rd_at _ 1 18 c1 (by decide +kernel) (by decide)) (fun _ => c1) w hT
  rw [if_pos rfl, p5] at this
  exact this
set_option maxRecDepth 100000 in
set_option maxHeartbeats 2000000 in
theorem awake_any (w : World) (hT0 : Tabs w) : Calls Tryz.prog 11 #[] w (fun en w' => en = .returned (.bool true) ∧ Below w.heap.size w w') := by
  have hT := Lib.hid hT0
  have H1 := Lib.hid (aw_parse w hT0)
  have H2 := Lib.hid (fun V (h : Below w.heap.size w V) => aw_round V (hT0.go h))
  have H3 := Lib.hid (fun V (h : Below w.heap.size w V) => aw_add V (hT0.go h))
  have H4 := Lib.hid (fun V (h : Below w.heap.size w V) => aw_text1 V (hT0.go h))
  have H5 := Lib.hid (fun V (h : Below w.heap.size w V) => aw_text2 V (hT0.go h))
  unfold TxP at H1 H2 H3
  clear hT0
  go_enter Tryz.func11, Tryz.ntmps11
  go_wp2_with fail
  refine H1.out.mono ?_
  rintro en w1 ⟨rfl, q1⟩
  have Q1 := Lib.hid q1
  clear q1
  go_wp2_with fail
  refine (H2.out _ Q1.out).mono ?_
  rintro en w2 ⟨rfl, q2⟩
  have Q2 := bt Q1 q2
  clear q2
  go_wp2_with fail
  refine (H3.out _ Q2.out).mono ?_
  rintro en w3 ⟨rfl, q3⟩
  have Q3 := bt Q2 q3
  clear q3
  go_wp2_with fail
  refine (H4.out _ Q3.out).mono ?_
  rintro en w4 ⟨rfl, q4⟩
  have Q4 := bt Q3 q4
  clear q4
  go_wp2_with fail
  refine (H5.out _ Q4.out).mono ?_
  rintro en w5 ⟨rfl, q5⟩
  have Q5 := bt Q4 q5
  clear q5 H1 H2 H3 H4 H5
  go_wp2
  first | exact ⟨rfl, Q5.out⟩ | (go_ret; exact ⟨rfl, Q5.out⟩)
end Go.Proofs.YtpankmaljafnnaaGreatDoor
