/-
  Helper: the law's own examples ('awake' of rosettalaw01) hold, wherever the library's two tables lie.
-/
import Derived.Test.YtpebgggdpgppdaaDoorRunesIs
namespace Go.Proofs.YtpebgggdpgppdaaDoor
open Go.RowKit
set_option linter.unusedVariables false

def DecPost (s : ByteArray) (n : Nat) (xs : List Int) (w : World) (e : Ending) (w' : World) : Prop := ∃ a cap, e = .returned (.tuple #[.slice a n cap, .int .i64 0]) ∧ Rr w' a xs ∧ Below w.heap.size w w'
theorem decode_rd (s : ByteArray) (w : World) (hs : s.size ≤ 1000000) (hv : valid s) : Calls Tryd.prog 11 #[.string s] w (DecPost s (ints32 (scalars s 0)).length (ints32 (scalars s 0)) w) := by
  refine (decode_yes s w hs hv).mono ?_
  rintro e w' ⟨v, rfl, hown, hb⟩
  obtain ⟨a, cap, rfl, hn, hr⟩ := rr_of_row hown
  exact ⟨a, cap, by rw [hn], hr, hb⟩

def x1 : ByteArray := ⟨#[240, 159, 152, 128]⟩
theorem ex_dec (w : World) : Calls Tryd.prog 11 #[.string ⟨#[240, 159, 152, 128]⟩] w (DecPost x1 1 [128512] w) := by
  have h := decode_rd x1 w (by decide) (by show stop x1 0 = x1.size; decide)
  rw [show ints32 (scalars x1 0) = [128512] from by decide] at h
  exact h
theorem ex_chk (w : World) : Calls Tryd.prog 12 #[.string ⟨#[97, 226, 130]⟩] w fun e w' => e = .returned (.tuple #[.int .i64 1, .int .i64 11]) ∧ Below w.heap.size w w' := by
  have h := check_any ⟨#[97, 226, 130]⟩ w (by decide)
  rw [chkV_no _ (by decide), show stop ⟨#[97, 226, 130]⟩ 0 = 1 from by decide] at h
  exact h

def FdPost (n : Nat) (xs : List Int) (f : Value) (w : World) (e : Ending) (w' : World) : Prop := ∃ a cap, e = .returned (.tuple #[f, .slice a n cap, .int .i64 0]) ∧ Rr w' a xs ∧ Below w.heap.size w w'
def y1 : ByteArray := ⟨#[195]⟩
def y2 : ByteArray := ⟨#[169]⟩
theorem ex_fd1 (w : World) (hT : Tabs w) : Calls Tryd.prog 5 #[.agg #[.int .u8 0, .int .u8 0, .int .u8 0, .int .i64 0], .string ⟨#[195]⟩] w (FdPost 0 [] (.agg #[.int .u8 195, .int .u8 0, .int .u8 0, .int .i64 1]) w) := by
  have h := feed_core [] (by decide) y1 (by decide) w hT (txt [] y1) rfl 0 (by decide)
  refine Calls.mono h ?_
  rintro e w' (⟨_, v, rfl, hown, hb⟩ | ⟨hn, _⟩)
  · obtain ⟨a, cap, rfl, hn, hr⟩ := rr_of_row hown
    rw [show scalars (txt [] y1) 0 = [] from by decide] at hr ⊢
    exact ⟨a, cap, rfl, hr, hb⟩
  · exact absurd (by right; show incomplete (bytesFrom (txt [] y1) 0); decide) hn
theorem ex_fd2 (w : World) (hT : Tabs w) : Calls Tryd.prog 5 #[.agg #[.int .u8 195, .int .u8 0, .int .u8 0, .int .i64 1], .string ⟨#[169]⟩] w (FdPost 1 [233] (.agg #[.int .u8 0, .int .u8 0, .int .u8 0, .int .i64 0]) w) := by
  have h := feed_core [195] (by decide) y2 (by decide) w hT (txt [195] y2) rfl 2 (by decide)
  refine Calls.mono h ?_
  rintro e w' (⟨_, v, rfl, hown, hb⟩ | ⟨hn, _⟩)
  · obtain ⟨a, cap, rfl, hn, hr⟩ := rr_of_row hown
    rw [show ints32 (scalars (txt [195] y2) 0) = [233] from by decide] at hr
    rw [show (scalars (txt [195] y2) 0).length = 1 from by decide]
    exact ⟨a, cap, rfl, hr, hb⟩
  · exact absurd (by left; decide) hn
theorem rr_new (w : World) (x : Int) (t : TypeId) : Rr (w.alloc (.cells #[.int .i32 x] t)) (some ⟨w.heap.size, 0, none⟩) [x] := by
  refine .inr ⟨w.heap.size, 0, rfl, by simp, fun i hi => ?_⟩
  have : i = 0 := by simp at hi; exact hi
  subst this
  rw [World.cell?_alloc_at _ _ _ _ rfl]; rfl

theorem ex_is (x : Int) (a a' : Option Addr) (cap cap' : Nat) (w : World) (hx : Rr w a [x]) (hy : Rr w a' [x]) : Calls Tryd.prog 9 #[.slice a 1 cap, .slice a' 1 cap'] w fun e w' => e = .returned (.bool true) ∧ Below w.heap.size w w' := by
  have h := is_any [x] [x] a a' cap cap' w hx hy (by simp) (by simp)
  rw [decide_eq_true (rfl : [x] = [x])] at h
  exact h
theorem below_al {w w' : World} (o : Obj) (h : Below (w.alloc o).heap.size (w.alloc o) w') : Below w.heap.size w w' := ((Below.refl _ w).alloc (Nat.le_refl _) o).trans (h.mono (by simp))
theorem below_al2 {w w' : World} (o o' : Obj) (h : Below ((w.alloc o).alloc o').heap.size ((w.alloc o).alloc o') w') : Below w.heap.size w w' := below_al o (below_al o' h)
theorem rr_al {w : World} {a : Option Addr} {xs : List Int} (h : Rr w a xs) (o : Obj) : Rr (w.alloc o) a xs := h.below ((Below.refl _ w).alloc (Nat.le_refl _) _)
theorem rr_new2 (w : World) (o : Obj) (x : Int) (t : TypeId) : Rr ((w.alloc o).alloc (.cells #[.int .i32 x] t)) (some ⟨w.heap.size + 1, 0, none⟩) [x] := by
  have h := rr_new (w.alloc o) x t
  have e : (w.alloc o).heap.size = w.heap.size + 1 := by simp
  rw [e] at h; exact h
theorem tabs_al {w : World} (h : Tabs w) (o : Obj) : Tabs (w.alloc o) := h.below ((Below.refl _ w).alloc (Nat.le_refl _) _)
set_option maxRecDepth 100000 in
set_option maxHeartbeats 400000 in
theorem awake1_any (w : World) (hT : Tabs w) : Calls Tryd.prog 4 #[] w fun e w' => e = .returned (.bool true) ∧ Below w.heap.size w w' := by
  have HT := Lib.hid hT
  clear hT
  go_enter Tryd.func4, Tryd.ntmps4
  go_wp2_with fail
  refine (ex_dec _).mono ?_
  rintro e w1 ⟨a1, cap1, rfl, hr1, hb1⟩
  go_wp2_with fail
  refine (ex_chk _).mono ?_
  rintro e w2 ⟨rfl, hb2⟩
  have hr2 := Lib.hid (hr1.below hb2)
  have hbw2 : Below w.heap.size w w2 := hb1.trans (hb2.mono hb1.size)
  clear hb1 hb2 hr1
  go_wp2_with fail
  refine (ex_fd1 _ (tabs_al (HT.out.below hbw2) _)).mono ?_
  rintro e w3 ⟨a2, cap2, rfl, hr3, hb3⟩
  have hbA : Below w2.heap.size w2 w3 := below_al _ hb3
  have hT3 : Hid (Tabs w3) := (HT.out.below hbw2).below hbA
  have hr3' := Lib.hid (hr2.out.below hbA)
  have hbw3 : Below w.heap.size w w3 := hbw2.trans (hbA.mono hbw2.size)
  clear hb3 hbA hbw2 hr2 HT hr3
  go_wp2_with fail
  refine (ex_fd2 _ (tabs_al hT3.out _)).mono ?_
  rintro e w4 ⟨a3, cap3, rfl, hr4, hb4⟩
  have hbA : Below w3.heap.size w3 w4 := below_al _ hb4
  have hr5 := Lib.hid (hr3'.out.below hbA)
  have hr6 := Lib.hid hr4
  have hbw4 : Below w.heap.size w w4 := hbw3.trans (hbA.mono hbw3.size)
  clear hb4 hbA hbw3 hr3' hT3 hr4
  go_wp2_with fail
  refine (ex_is 128512 a1 _ cap1 1 _ (rr_al (rr_al hr5.out _) _) (rr_new2 _ _ _ _)).mono ?_
  rintro e w5 ⟨rfl, hb5⟩
  have hbA : Below w4.heap.size w4 w5 := below_al2 _ _ hb5
  have hr7 := Lib.hid (hr6.out.below hbA)
  have hbw5 : Below w.heap.size w w5 := hbw4.trans (hbA.mono hbw4.size)
  clear hb5 hbA hbw4 hr5 hr6
  go_wp2_with fail
  refine (ex_is 233 a3 _ cap3 1 _ (rr_al hr7.out _) (rr_new _ _ _)).mono ?_
  rintro e w6 ⟨rfl, hb6⟩
  have hbw6 : Below w.heap.size w w6 := hbw5.trans ((below_al _ hb6).mono hbw5.size)
  clear hb6 hbw5 hr7
  go_wp2_with fail
  go_ret
  exact ⟨rfl, hbw6⟩
end Go.Proofs.YtpebgggdpgppdaaDoor
