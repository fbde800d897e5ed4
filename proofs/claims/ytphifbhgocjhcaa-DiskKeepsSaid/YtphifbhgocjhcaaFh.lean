/- What an act writes. -/
import Derived.Test.YtphifbhgocjhcaaFf
namespace Go.Proofs.Ytphifbhgocjhcaa
set_option linter.unusedSimpArgs false
set_option linter.unusedVariables false
open Go.RowKit Go.Maps

/-- A call, as the law tells it: its value, cell by cell. -/
structure Act_ where
  kind : Int
  at_ : Int
  b : UInt8
  long : Bool
  keep : List Bool
/-- A sector of one byte, but for one place. -/
def wrote (b : UInt8) : List UInt8 := (List.replicate 256 b).set b.toNat (b + 1)
/-- What an act writes. -/
def bytesOf (a : Act_) : List UInt8 := wrote a.b ++ (if a.long then [1] else [])
/-- An act as a value, its keep a slice. -/
def actV (a : Act_) (A : Option Addr) (c : Nat) : Value := .agg #[.int .i64 a.kind, .int .i64 a.at_, B8 a.b, .bool a.long, .slice A a.keep.length c]

theorem size_alloc_one (w : World) (o : Obj) : (w.alloc o).heap.size = w.heap.size + 1 := by simp
theorem size_setCell_one (w : World) (a : Addr) (v : Value) : (w.setCell a v).heap.size = w.heap.size := by simp [World.setCell]
theorem b8_succ (b : UInt8) : B8 (b + 1) = .int .u8 (((b.toNat : Int) + 1) % 256) := by
  simp [B8]
theorem set_len256 (b : UInt8) : (wrote b).length = 256 := by rw [wrote, List.length_set, List.length_replicate]
theorem get256 (b : UInt8) : (List.replicate 256 b)[b.toNat]? = some b := by
  have hb : b.toNat < 256 := b.toNat_lt
  rw [List.getElem?_replicate, if_pos hb]
set_option maxRecDepth 100000 in
theorem bytes_any (w : World) (a : Act_) (A : Option Addr) (c : Nat) : Calls Try.prog 25 #[actV a A c] w fun e w' => ∃ A' c', e = .returned (.slice A' (bytesOf a).length c') ∧ Rd w' w'.heap.size A' (bytesOf a).length c' (bytesOf a) ∧ Below w.heap.size w w' := by
  obtain ⟨k, at_, b, long, keep⟩ := a
  simp only [actV, B8]
  have HX : ∀ j v, (#[.int .i64 k, .int .i64 at_, .int .u8 (b.toNat : Int), .bool long, .slice A keep.length c] : Array Value)[j]? = some v → (w.alloc (.cells #[.int .i64 k, .int .i64 at_, .int .u8 (b.toNat : Int), .bool long, .slice A keep.length c] 46)).cell? ⟨w.heap.size, j, none⟩ = some v := by
    intro j v hv
    rw [cell_of_row _ w.heap.size j _ 46 (0, 0) (heap_alloc_new w _)]
    exact hv
  have HX := Lib.hid HX
  have HS := Lib.hid (b8_succ b)
  have hb : b.toNat < 256 := b.toNat_lt
  have HBe : Hid (∀ w2, Below (w.heap.size + 1) (w.alloc (.cells #[.int .i64 k, .int .i64 at_, .int .u8 (b.toNat : Int), .bool long, .slice A keep.length c] 46)) w2 → Below w.heap.size w w2) := Lib.hid fun w2 h => ((Below.refl _ w).alloc (Nat.le_refl _) _).trans (h.mono (by omega))
  have HRow : Hid (∀ W : World, Calls Try.prog 10 #[.int .u8 (b.toNat : Int)] W fun e w' => e = .returned (.slice (some ⟨W.heap.size, 0, none⟩) 256 256) ∧ Row w' W.heap.size (List.replicate 256 b) ∧ Below W.heap.size W w') := Lib.hid (fun W => row_any W b)
  have HL := Lib.hid (set_len256 b)
  have HG := Lib.hid (get256 b)
  cases long with
  | false =>
    go_enter Try.func25, Try.ntmps25
    go_wp2_with (go_at_call 10; refine (HRow.out _).mono ?_; rintro e w2 ⟨rfl, hr2, hb2⟩; simp only [size_alloc_one] at hr2 hb2; have k2 : w2.cell? ⟨w.heap.size, 2, none⟩ = some (.int .u8 (b.toNat : Int)) := (hb2.cell (by simp)).trans (HX.out 2 _ rfl); have k3 : w2.cell? ⟨w.heap.size, 3, none⟩ = some (.bool false) := (hb2.cell (by simp)).trans (HX.out 3 _ rfl); have k4 := hr2.cell HG.out; have k5 := hr2.frozen b.toNat; have HR2 := Lib.hid hr2; have HB2 := Lib.hid (HBe.out _ hb2); clear hr2 hb2)
    go_ret
    have hR : Row _ _ (wrote b) := HR2.out.set b.toNat (b + 1)
    rw [HS.out] at hR
    have hrd := hR.rd
    rw [HL.out] at hrd
    have e : bytesOf ⟨k, at_, b, false, keep⟩ = wrote b := by simp only [bytesOf]; exact List.append_nil _
    rw [e, HL.out]
    exact ⟨_, _, rfl, hrd, bl_set HB2.out (by omega) _ _⟩
  | true =>
    go_enter Try.func25, Try.ntmps25
    go_wp2_with (first | (go_at_call 10; refine (HRow.out _).mono ?_; rintro e w2 ⟨rfl, hr2, hb2⟩; simp only [size_alloc_one] at hr2 hb2; have k2 : w2.cell? ⟨w.heap.size, 2, none⟩ = some (.int .u8 (b.toNat : Int)) := (hb2.cell (by simp)).trans (HX.out 2 _ rfl); have k3 : w2.cell? ⟨w.heap.size, 3, none⟩ = some (.bool true) := (hb2.cell (by simp)).trans (HX.out 3 _ rfl); have k4 := hr2.cell HG.out; have k5 := hr2.frozen b.toNat; have HR2 := Lib.hid hr2; have HB2 := Lib.hid (HBe.out _ hb2); clear hr2 hb2) | (at_builtin; refine wpList_app (base := w.heap.size) (xs := wrote b) (l := [1]) (top := w2.heap.size + 1) rfl _ _ rfl rfl ?qo rfl ?qr ?qb ?qh ?_))
    case qo =>
      have hR : Row _ _ (wrote b) := HR2.out.set b.toNat (b + 1)
      rw [HS.out] at hR
      have := (hR.of (Below.heap_alloc _ (.cells #[.int .u8 1] 5) _ hR.lt)).ow (base := w.heap.size) (by omega) (by rw [HL.out]; omega)
      rw [HL.out] at this
      exact this
    case qr =>
      have := Rd.lit1 (w2.setCell ⟨w.heap.size + 1, b.toNat, none⟩ (.int .u8 (((b.toNat : Int) + 1) % 256))) 1 (by omega) (by omega)
      rw [size_setCell_one] at this
      exact this
    case qb => rw [HL.out]; omega
    case qh =>
      have := HB2.out.size
      simp
      omega
    intro v3 w3 ho3 hg3 hl3
    have HO3 := Lib.hid ho3
    have HB3 := Lib.hid ((bl_alloc (bl_set HB2.out (g := w.heap.size + 1) (by omega) b.toNat (.int .u8 (((b.toNat : Int) + 1) % 256))) (.cells #[.int .u8 1] 5)).grown hg3 (by have := HB2.out.size; simp; omega) (by intro r hr; simp [Value.ownBlock] at hr; omega))
    clear ho3 hg3 hl3
    go_wp2
    go_ret
    have e : bytesOf ⟨k, at_, b, true, keep⟩ = wrote b ++ [1] := rfl
    rw [e]
    obtain ⟨A', c', hv, hrd⟩ := HO3.out.rd
    exact ⟨A', c', by rw [← hv]; rfl, hrd, HB3.out⟩
end Go.Proofs.Ytphifbhgocjhcaa
