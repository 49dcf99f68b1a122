/-
  Helper: the walk of decimal.Parse.
-/
import Derived.Test.YtpankmaljafnnaaGreatDoorDcRdN
namespace Go.Proofs.YtpankmaljafnnaaGreatDoor
open Go.RowKit
set_option linter.unusedVariables false
set_option linter.unusedSimpArgs false

theorem AD_cut (l : List UInt8) : AD (l.take (cutD l)) := fun c hc => by
  rw [← tw_take] at hc
  exact (isD_iff c).1 (tw_all l c hc)
theorem nWF_AD (l : List UInt8) : AD (nW l ++ nF l) := fun c hc => by
  rcases List.mem_append.1 hc with h | h
  · exact AD_cut _ c h
  · unfold nF at h
    split at h
    · exact AD_cut _ c h
    · simp at h
theorem strip_le (l : List UInt8) : (strip l).length ≤ l.length := by
  unfold strip; split
  · rw [List.length_tail]; omega
  · omega
theorem nWF_len (l : List UInt8) : (nW l ++ nF l).length ≤ l.length := by
  have h1 := strip_le l
  have h2 := cutD_le (strip l)
  rw [List.length_append]
  unfold nW nF
  rw [List.length_take]
  split
  · rename_i h
    rw [List.length_take, List.length_tail]
    unfold nR at *
    rw [List.length_drop] at *
    omega
  · simp; omega
/-- the answer of Parse -/
def prsF (s : ByteArray) : ByteArray × Int := if nOk s.data.toList (2000 + (s.size : Int) + 1) then outD (zi (nNeg s.data.toList) (numv (nW s.data.toList ++ nF s.data.toList))) (nE s.data.toList (2000 + (s.size : Int) + 1)) else (⟨#[]⟩, 3)
set_option maxRecDepth 100000 in
set_option maxHeartbeats 2000000 in
theorem Parse_any (s : ByteArray) (hs : s.size ≤ 100000) (w : World) (hT0 : Tabs w) :
    Calls Tryz.prog 12 #[.string s] w (TxP (prsF s) w) := by
  have hT := Lib.hid hT0
  clear hT0
  have H1 := Lib.hid (rdn_any s hs w)
  have hA := nWF_AD s.data.toList
  have hlen : s.data.toList.length = s.size := by simp
  have hl2 := nWF_len s.data.toList
  have hl3 : (nF s.data.toList).length ≤ s.data.toList.length := by rw [List.length_append] at hl2; omega
  have hbd := satE_bd2 (nX s.data.toList) (2000 + (s.size : Int) + 1) (by omega)
  have hE : nE s.data.toList (2000 + (s.size : Int) + 1) = (rexF (nX s.data.toList) (2000 + (s.size : Int) + 1)).1 - ((nF s.data.toList).length : Int) := rfl
  have hE1 : -1000000 ≤ nE s.data.toList (2000 + (s.size : Int) + 1) ∧ nE s.data.toList (2000 + (s.size : Int) + 1) ≤ 1000000 := by rw [hE]; constructor <;> omega
  have HF : Hid (∀ r w', prsF s = r → Below w.heap.size w w' → TxP (prsF s) w (Ending.returned (.tuple #[.string r.1, .int .i64 r.2])) w') := fun r w' g1 g2 => ⟨by rw [g1], g2⟩
  unfold prsF at *
  generalize nE s.data.toList (2000 + (s.size : Int) + 1) = x at *
  generalize nOk s.data.toList (2000 + (s.size : Int) + 1) = ok1 at *
  generalize nNeg s.data.toList = nb at *
  have hdl : (nW s.data.toList ++ nF s.data.toList).length ≤ 100000 := by omega
  generalize nW s.data.toList ++ nF s.data.toList = ds at *
  clear hE hbd hl2 hl3 hlen
  generalize TxP (if ok1 = true then outD (zi nb (numv ds)) x else (⟨#[]⟩, 3)) w = Po at *
  go_enter Tryz.func12, Tryz.ntmps12
  go_wp2_with fail
  refine H1.out.mono ?_
  rintro en w1 ⟨b1, a1, n1, k1, e1, rfl, h1, q1⟩
  have h1h := Lib.hid h1
  have q1h := Lib.hid q1
  clear h1 q1 H1
  obtain ⟨G1, hG1⟩ : ∃ G, w1.heap.size = G := ⟨_, rfl⟩
  obtain ⟨wk, hwk⟩ : ∃ wk, w1.alloc (.cells #[.bool b1, .slice a1 n1 k1, .int .i64 e1] 61) = wk := ⟨_, rfl⟩
  have qk : Hid (Below w1.heap.size w1 wk) := by rw [← hwk]; exact (Below.refl _ w1).alloc (Nat.le_refl _) _
  have hBk : Hid (Blk wk G1 61 (nvl b1 a1 n1 k1 e1)) := by rw [← hwk, ← hG1]; exact Blk.new w1 _ _
  have q2 : Hid (Below w.heap.size w wk) := q1h.out.trans (qk.out.mono q1h.out.size)
  cases ok1 with
  | false =>
    have hfin := Lib.hid (HF.out (⟨#[]⟩, 3) wk rfl q2.out)
    clear HF h1h hBk q2 qk q1h
    go_wp2
    exact hfin.out
  | true =>
    obtain ⟨r1, r2, r3, r4, r5⟩ := h1h.out rfl
    subst r1 r2 r3
    have c0 := hBk.out.cell 0 (.bool b1) rfl
    have c1 := hBk.out.cell 1 (.slice a1 ds.length k1) rfl
    have c2 := hBk.out.cell 2 (.int .i64 e1) rfl
    have hx := Lib.hid (text_any b1 ds hA hdl e1 (by omega) (by omega) a1 k1 r4 wk (r5.go qk.out) (hT.out.go q2.out))
    have HF2 : Hid (∀ w', Below w.heap.size w w' → Po (.returned (.tuple #[.string (outD (zi b1 (numv ds)) e1).1, .int .i64 (outD (zi b1 (numv ds)) e1).2])) w') := fun w' g => HF.out _ w' rfl g
    unfold TxP at hx
    generalize outD (zi b1 (numv ds)) e1 = R at *
    generalize ds.length = n1 at *
    clear HF h1h hBk qk q1h hT r4 r5 hA
    go_wp2_with fail
    refine hx.out.mono ?_
    rintro en w4 ⟨rfl, q7⟩
    have hfin := Lib.hid (HF2.out w4 (q2.out.trans (q7.mono q2.out.size)))
    clear HF2 q2 q7 hx
    go_wp2
    exact hfin.out
end Go.Proofs.YtpankmaljafnnaaGreatDoor
