/-
  Helper: Feed and End in the words of what calls them.
-/
import Derived.Test.YtpebgggdpgppdaaDoorLawsCpDecodes
namespace Go.Proofs.YtpebgggdpgppdaaDoor
open Go.RowKit
set_option linter.unusedVariables false

/-- what a feeder that holds q answers for a part -/
def okF (q : List UInt8) (part : ByteArray) : Prop := stop (txt q part) 0 = (txt q part).size ∨ incomplete (bytesFrom (txt q part) (stop (txt q part) 0))
instance (q : List UInt8) (part : ByteArray) : Decidable (okF q part) := inferInstanceAs (Decidable (_ ∨ _))
def nxt (q : List UInt8) (part : ByteArray) : List UInt8 := (txt q part).data.toList.drop (stop (txt q part) 0)
def got (q : List UInt8) (part : ByteArray) : List Int := ints32 (scalars (txt q part) 0)
def FdP (xs : List Int) (err : Int) (f : Value) (w : World) (e : Ending) (w' : World) : Prop := ∃ a cap, e = .returned (.tuple #[f, .slice a xs.length cap, .int .i64 err]) ∧ Rr w' a xs ∧ Below w.heap.size w w'
theorem fv_nxt (q : List UInt8) (part : ByteArray) : fv (bytesFrom (txt q part) (stop (txt q part) 0)) = fq (nxt q part) := rfl
theorem nxt_len (q : List UInt8) (part : ByteArray) (h : okF q part) : (nxt q part).length ≤ 3 := by
  have e : (nxt q part).length = (bytesFrom (txt q part) (stop (txt q part) 0)).length := by unfold nxt bytesFrom; rw [List.length_map]
  rw [e]
  rcases h with h | h
  · rw [bytesFrom_len]; omega
  · exact h.1
theorem feed_ok (q : List UInt8) (hq : q.length ≤ 3) (part : ByteArray) (hp : part.size ≤ 100000) (w : World) (hT : Tabs w) (hok : okF q part) :
    Calls Tryd.prog 5 #[fq q, .string part] w (FdP (got q part) 0 (fq (nxt q part)) w) := by
  refine (feed_core q hq part hp w hT (txt q part) rfl _ rfl).mono ?_
  rintro e w' (⟨_, v, rfl, hown, hb⟩ | ⟨hn, _⟩)
  · obtain ⟨a, cap, rfl, hn, hr⟩ := rr_of_row hown
    exact ⟨a, cap, by rw [fv_nxt, hn]; rfl, hr, hb⟩
  · exact absurd hok hn
theorem feed_bad (q : List UInt8) (hq : q.length ≤ 3) (part : ByteArray) (hp : part.size ≤ 100000) (w : World) (hT : Tabs w) (hok : ¬ okF q part) :
    Calls Tryd.prog 5 #[fq q, .string part] w (FdP [] 11 (fq []) w) := by
  refine (feed_core q hq part hp w hT (txt q part) rfl _ rfl).mono ?_
  rintro e w' (⟨h, _⟩ | ⟨_, rfl, hb⟩)
  · exact absurd h hok
  · exact ⟨none, 0, rfl, .inl rfl, hb⟩
theorem got_len (q : List UInt8) (hq : q.length ≤ 3) (part : ByteArray) (hp : part.size ≤ 100000) : (got q part).length ≤ 1000000 := by
  have := ints32_len (txt q part)
  rw [txt_size] at this
  unfold got; omega
theorem feed_det (q : List UInt8) (hq : q.length ≤ 3) (part : ByteArray) (hp : part.size ≤ 100000) : ∃ (q' : List UInt8) (xs : List Int) (err : Int), q'.length ≤ 3 ∧ xs.length ≤ 1000000 ∧ ∀ w, Tabs w → Calls Tryd.prog 5 #[fq q, .string part] w (FdP xs err (fq q') w) := by
  by_cases h : okF q part
  · exact ⟨_, _, 0, nxt_len q part h, got_len q hq part hp, fun w hT => feed_ok q hq part hp w hT h⟩
  · exact ⟨[], [], 11, by decide, by decide, fun w hT => feed_bad q hq part hp w hT h⟩
theorem end_q (q : List UInt8) (hq : q.length ≤ 3) (w : World) : Calls Tryd.prog 7 #[fq q] w fun e w' => e = .returned (.int .i64 (if q.length = 0 then 0 else 11)) ∧ Below w.heap.size w w' := by
  have h := end_any_f (q.map (·.toNat)) (by rw [List.length_map]; exact hq) w
  rw [List.length_map] at h
  exact h
end Go.Proofs.YtpebgggdpgppdaaDoor
