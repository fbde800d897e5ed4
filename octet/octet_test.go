package octet

import (
	"bytes"
	"encoding/hex"
	"math"
	"slices"
	"strconv"
	"strings"
	"testing"

	"headwater/api"
)

// edges are numbers just below, at, and just above each change of length, with some between, rising.
func edges() []uint64 {
	out := []uint64{0, 1, 2, 63, 300, 1000, 65535, 65536, 1 << 32, 1 << 40, 1 << 62, 1 << 63, math.MaxUint64 - 1, math.MaxUint64}
	for k := range 8 {
		at := uint64(1) << (7 * (k + 1))
		out = append(out, at-2, at-1, at, at+1, at+at/2)
	}
	slices.Sort(out)
	return slices.Compact(out)
}

// spelled is a number's bytes of a given length by the chapter's words, made from a text of bits.
func spelled(n uint64, size int) []byte {
	text := strings.Repeat("1", size-1)
	wide := 64
	if size < 9 {
		text += "0"
		wide = 7 * size
	}
	digits := strconv.FormatUint(n, 2)
	text += strings.Repeat("0", wide-len(digits)) + digits
	var out []byte
	for i := 0; i < len(text); i += 8 {
		c, _ := strconv.ParseUint(text[i:i+8], 2, 8)
		out = append(out, byte(c))
	}
	return out
}

// least is the least length that has room for n.
func least(n uint64) int {
	for size := 1; size < 9; size++ {
		if n < 1<<(7*size) {
			return size
		}
	}
	return 9
}

// low is a number's low bytes, so many as wide says.
func low(n uint64, wide int) uint64 {
	if wide == 8 {
		return n
	}
	return n % (1 << (8 * wide))
}

func unhex(t *testing.T, text string) []byte {
	t.Helper()
	b, err := hex.DecodeString(strings.ReplaceAll(text, " ", ""))
	if err != nil {
		t.Fatal(err)
	}
	return b
}

func counted(n int) []byte {
	out := make([]byte, n)
	for i := range out {
		out[i] = byte(i*7 + i>>8 + 1)
	}
	return out
}

// stands fails unless the reader has this error, this place, and answers nothing from now on.
func stands(t *testing.T, name string, r *Reader, err api.Errno, left int) {
	t.Helper()
	for range 2 {
		if r.Err() != err || r.End() != err || r.Left() != left {
			t.Fatalf("%s: Err %d, End %d, Left %d; want %d, %d", name, r.Err(), r.End(), r.Left(), err, left)
		}
		if n := r.Number(); n != 0 {
			t.Fatalf("%s: Number %d behind an error", name, n)
		}
		if p := r.Block(); len(p) != 0 {
			t.Fatalf("%s: Block %x behind an error", name, p)
		}
		for _, size := range []int{math.MinInt, -1, 0, 1, 8, 9, math.MaxInt} {
			if n := r.Word(size); n != 0 {
				t.Fatalf("%s: Word %d behind an error", name, n)
			}
			if size > 9 {
				continue
			}
			if p := r.Take(size); len(p) != 0 {
				t.Fatalf("%s: Take %x behind an error", name, p)
			}
		}
		if p := r.Take(math.MaxInt); len(p) != 0 {
			t.Fatalf("%s: Take %x behind an error", name, p)
		}
		if r.Digest() != (api.Digest{}) {
			t.Fatalf("%s: Digest behind an error", name)
		}
	}
}

func TestP11Number(t *testing.T) {
	for _, n := range edges() {
		want := spelled(n, least(n))
		if got := Number(nil, n); !bytes.Equal(got, want) {
			t.Errorf("Number %d: %x, want %x", n, got, want)
		}
		if got := Number([]byte("ab"), n); !bytes.Equal(got, append([]byte("ab"), want...)) {
			t.Errorf("Number %d behind ab: %x", n, got)
		}
	}
	for _, x := range []struct {
		n    uint64
		want string
	}{
		{0, "00"}, {127, "7f"}, {128, "8080"}, {300, "812c"}, {1<<14 - 1, "bfff"}, {1 << 14, "c04000"},
		{1<<49 - 1, "fdffffffffffff"}, {1 << 49, "fe02000000000000"}, {1<<56 - 1, "feffffffffffffff"},
		{1 << 56, "ff0100000000000000"}, {math.MaxUint64, "ffffffffffffffffff"},
	} {
		if got := hex.EncodeToString(Number(nil, x.n)); got != x.want {
			t.Errorf("Number %d: %s, want %s", x.n, got, x.want)
		}
	}
}

func TestP11Block(t *testing.T) {
	for _, size := range []int{0, 1, 2, 126, 127, 128, 129, 300, 1<<14 - 1, 1 << 14, 1<<14 + 1} {
		p := counted(size)
		want := append(spelled(uint64(size), least(uint64(size))), p...)
		if got := Block(nil, p); !bytes.Equal(got, want) {
			t.Errorf("Block of %d bytes is wrong", size)
		}
		if got := Block([]byte("ab"), p); !bytes.Equal(got, append([]byte("ab"), want...)) {
			t.Errorf("Block of %d bytes behind ab is wrong", size)
		}
	}
	if got := hex.EncodeToString(Block(nil, []byte("a"))); got != "0161" {
		t.Errorf("Block of a: %s", got)
	}
	if got := hex.EncodeToString(Block([]byte{}, nil)); got != "00" {
		t.Errorf("Block of nothing: %s", got)
	}
}

func TestP11Word(t *testing.T) {
	const n = 0x8877665544332211
	all := unhex(t, "11 22 33 44 55 66 77 88")
	for size := -3; size <= 12; size++ {
		want := all[:min(max(size, 1), 8)]
		if got := Word(nil, n, size); !bytes.Equal(got, want) {
			t.Errorf("Word of size %d: %x, want %x", size, got, want)
		}
		if got := Word([]byte("ab"), n, size); !bytes.Equal(got, append([]byte("ab"), want...)) {
			t.Errorf("Word of size %d behind ab: %x", size, got)
		}
	}
	for _, x := range []struct {
		n    uint64
		size int
		want string
	}{
		{0, math.MinInt, "00"}, {0x1ff, math.MinInt, "ff"}, {0x1ff, 0, "ff"}, {0x1ff, 1, "ff"}, {0x1ff, 2, "ff01"},
		{1, 8, "0100000000000000"}, {1, math.MaxInt, "0100000000000000"}, {math.MaxUint64, 3, "ffffff"},
	} {
		if got := hex.EncodeToString(Word(nil, x.n, x.size)); got != x.want {
			t.Errorf("Word %d of size %d: %s, want %s", x.n, x.size, got, x.want)
		}
	}
}

func TestP12GoesOn(t *testing.T) {
	var d api.Digest
	copy(d[:], counted(32))
	b := Number(nil, 300)
	b = Block(b, []byte("abc"))
	b = Word(b, 0x0102030405, 5)
	b = append(b, "take"...)
	b = append(b, d[:]...)
	b = Number(b, 1<<56)
	r := Read(b)
	left := len(b)
	step := func(name string, ok bool, size int) {
		t.Helper()
		left -= size
		if !ok || r.Err() != api.OK || r.Left() != left {
			t.Fatalf("%s: Err %d, Left %d, want %d", name, r.Err(), r.Left(), left)
		}
		want := api.OK
		if left > 0 {
			want = api.ErrBad
		}
		if r.End() != want {
			t.Fatalf("%s: End %d, want %d", name, r.End(), want)
		}
	}
	step("Read", true, 0)
	step("Number", r.Number() == 300, 2)
	step("Block", string(r.Block()) == "abc", 4)
	step("Word", r.Word(5) == 0x0102030405, 5)
	step("Take of 0", len(r.Take(0)) == 0, 0)
	step("Take of fewer", len(r.Take(math.MinInt)) == 0, 0)
	step("Take", string(r.Take(4)) == "take", 4)
	step("Digest", r.Digest() == d, 32)
	step("Number of nine", r.Number() == 1<<56, 9)
	step("Take at the end", len(r.Take(-1)) == 0, 0)
}

func TestP12NumberTooShort(t *testing.T) {
	for _, n := range edges() {
		whole := spelled(n, least(n))
		for size := range whole {
			r := Read(whole[:size])
			if got := r.Number(); got != 0 {
				t.Fatalf("%x: %d", whole[:size], got)
			}
			stands(t, hex.EncodeToString(whole[:size]), r, api.ErrMore, size)
		}
	}
	// Too few bytes count ahead of more than need be.
	r := Read([]byte{0xc0, 0x00})
	if r.Number() != 0 {
		t.Fatal("c000 is a number")
	}
	stands(t, "c000", r, api.ErrMore, 2)
}

func TestP12NumberTooLong(t *testing.T) {
	for size := 2; size <= 9; size++ {
		room := uint64(1) << (7 * (size - 1))
		for _, n := range []uint64{0, 1, 127, room / 128, room/2 + 1, room - 2, room - 1} {
			b := append(spelled(n%room, size), 0x05)
			r := Read(b)
			if got := r.Number(); got != 0 {
				t.Fatalf("%x: %d", b, got)
			}
			stands(t, hex.EncodeToString(b), r, api.ErrBad, size+1)
		}
		for _, n := range []uint64{room, room + 1} {
			r := Read(spelled(n, size))
			if r.Number() != n || r.End() != api.OK {
				t.Fatalf("%d of %d bytes: %d", n, size, r.Err())
			}
		}
	}
}

func TestP12BlockTooShort(t *testing.T) {
	for _, size := range []int{1, 2, 127, 128, 300} {
		whole := Block(nil, counted(size))
		for short := range whole {
			r := Read(whole[:short])
			if p := r.Block(); len(p) != 0 {
				t.Fatalf("a block of %d in %d bytes: %x", size, short, p)
			}
			stands(t, "a block too short", r, api.ErrMore, short)
		}
	}
	for _, x := range []struct {
		bytes string
		err   api.Errno
	}{
		{"", api.ErrMore}, {"02 61", api.ErrMore}, {"80", api.ErrMore}, {"80 01 61", api.ErrBad}, {"c0 00 01 61", api.ErrBad},
		{"fe ff ff ff ff ff ff ff 61", api.ErrMore},
		{"ff 7f ff ff ff ff ff ff ff 61", api.ErrMore}, {"ff 80 00 00 00 00 00 00 00 61", api.ErrMore},
		{"ff ff ff ff ff ff ff ff ff 61", api.ErrMore}, {"ff 00 00 00 00 00 00 00 01 61", api.ErrBad},
	} {
		b := unhex(t, x.bytes)
		r := Read(b)
		if p := r.Block(); len(p) != 0 {
			t.Fatalf("%s: %x", x.bytes, p)
		}
		stands(t, x.bytes, r, x.err, len(b))
	}
}

func TestP12WordTakeDigestTooShort(t *testing.T) {
	for size := -1; size <= 10; size++ {
		wide := min(max(size, 1), 8)
		for left := range wide {
			r := Read(counted(left))
			if n := r.Word(size); n != 0 {
				t.Fatalf("a word of size %d in %d bytes: %d", size, left, n)
			}
			stands(t, "a word too short", r, api.ErrMore, left)
		}
		r := Read(unhex(t, "11 22 33 44 55 66 77 88"))
		want := low(0x8877665544332211, wide)
		if n := r.Word(size); n != want || r.Err() != api.OK || r.Left() != 8-wide {
			t.Fatalf("a word of size %d: %x, want %x", size, n, want)
		}
	}
	for left := range 5 {
		for _, n := range []int{left + 1, left + 2, math.MaxInt} {
			r := Read(counted(left))
			if p := r.Take(n); len(p) != 0 {
				t.Fatalf("Take %d of %d bytes: %x", n, left, p)
			}
			stands(t, "too few to take", r, api.ErrMore, left)
		}
	}
	for left := range 32 {
		r := Read(counted(left))
		if r.Digest() != (api.Digest{}) {
			t.Fatalf("a digest of %d bytes", left)
		}
		stands(t, "a digest too short", r, api.ErrMore, left)
	}
}

func TestP12FirstErrorStays(t *testing.T) {
	// The bytes have a good number behind the bad one, and too few for a digest.
	r := Read(unhex(t, "05 80 01 07 61"))
	if r.Number() != 5 || r.Number() != 0 {
		t.Fatal("the numbers ahead")
	}
	stands(t, "ErrBad first", r, api.ErrBad, 4)
	s := Read(unhex(t, "05 80 01 07 61"))
	if s.Number() != 5 || s.Digest() != (api.Digest{}) {
		t.Fatal("the digest ahead")
	}
	stands(t, "ErrMore first", s, api.ErrMore, 4)
}

func TestP12EndLooksOnly(t *testing.T) {
	r := Read([]byte{0x01, 0x02})
	if r.End() != api.ErrBad || r.Err() != api.OK || r.Left() != 2 || r.Number() != 1 {
		t.Error("End went on, or stopped the reader")
	}
	if r.End() != api.ErrBad || r.Number() != 2 || r.End() != api.OK || r.End() != api.OK || r.Left() != 0 {
		t.Error("End at the end")
	}
	for _, b := range [][]byte{nil, {}} {
		e := Read(b)
		if e == nil || e.Err() != api.OK || e.End() != api.OK || e.Left() != 0 {
			t.Error("a reader of nothing")
		}
	}
}

func TestP12Nobodys(t *testing.T) {
	var none *Reader
	var zero Reader
	stands(t, "a nil reader", none, api.ErrNil, 0)
	stands(t, "a zero reader", &zero, api.ErrNil, 0)
	stands(t, "a new reader", new(Reader), api.ErrNil, 0)
}

func TestP13NumbersAreReadAgain(t *testing.T) {
	for _, n := range edges() {
		r := Read(append(Number(nil, n), 0x63))
		if got := r.Number(); got != n || r.Err() != api.OK || r.Left() != 1 {
			t.Errorf("%d is read as %d, error %d", n, got, r.Err())
		}
	}
}

// TestP13NoOtherBytes goes over all first bytes and beginnings: what is read is just what would be put.
func TestP13NoOtherBytes(t *testing.T) {
	look := func(b []byte) {
		r := Read(b)
		n := r.Number()
		if r.Err() == api.OK && !bytes.Equal(Number(nil, n), b[:len(b)-r.Left()]) {
			t.Fatalf("%x is read as %d", b, n)
		}
		if r.Err() != api.OK && (n != 0 || r.Left() != len(b)) {
			t.Fatalf("%x: %d, Left %d with an error", b, n, r.Left())
		}
		s := Read(b)
		p := s.Block()
		if s.Err() == api.OK && !bytes.Equal(Block(nil, p), b[:len(b)-s.Left()]) {
			t.Fatalf("%x is read as the block %x", b, p)
		}
	}
	for first := range 256 {
		look([]byte{byte(first)})
		for second := range 256 {
			look([]byte{byte(first), byte(second)})
			for _, c := range []byte{0x00, 0x01, 0x7f, 0x80, 0xff} {
				look(append([]byte{byte(first), byte(second)}, bytes.Repeat([]byte{c}, 8)...))
			}
		}
	}
}

func TestP13BlocksAndWordsAreReadAgain(t *testing.T) {
	for _, size := range []int{0, 1, 127, 128, 300, 1 << 14, 1 << 16} {
		p := counted(size)
		r := Read(Block(nil, p))
		if got := r.Block(); !bytes.Equal(got, p) || r.End() != api.OK {
			t.Errorf("a block of %d bytes", size)
		}
	}
	for _, n := range edges() {
		for size := -1; size <= 10; size++ {
			wide := min(max(size, 1), 8)
			r := Read(Word(nil, n, size))
			want := low(n, wide)
			if got := r.Word(size); got != want || r.End() != api.OK {
				t.Errorf("a word of %d, size %d: %d", n, size, got)
			}
		}
	}
}

func TestP13LesserAhead(t *testing.T) {
	all := edges()
	for i, a := range all {
		for _, b := range all[i+1:] {
			if bytes.Compare(Number(nil, a), Number(nil, b)) >= 0 {
				t.Errorf("%d is not ahead of %d", a, b)
			}
		}
	}
	for n := range uint64(1 << 15) {
		if bytes.Compare(Number(nil, n), Number(nil, n+1)) >= 0 {
			t.Fatalf("%d is not ahead of %d", n, n+1)
		}
	}
}

// TestRulePuttingIsNew: what is put never stands in memory that was handed in, nor in another answer's.
func TestRulePuttingIsNew(t *testing.T) {
	for name, put := range map[string]func(b []byte) []byte{
		"Number": func(b []byte) []byte { return Number(b, 300) },
		"Block":  func(b []byte) []byte { return Block(b, []byte("xyz")) },
		"Word":   func(b []byte) []byte { return Word(b, 0x1122, 2) },
	} {
		whole := bytes.Repeat([]byte{0xaa}, 64)
		clean := bytes.Clone(whole)
		b := whole[:2]
		one, two := put(b), put(b)
		if !bytes.Equal(whole, clean) {
			t.Errorf("%s wrote what was handed in", name)
		}
		want := bytes.Clone(two)
		fill(one)
		if !bytes.Equal(whole, clean) || !bytes.Equal(two, want) {
			t.Errorf("%s: an answer shares memory", name)
		}
		fill(b)
		if !bytes.Equal(two, want) {
			t.Errorf("%s kept what was handed in", name)
		}
	}
	p := bytes.Repeat([]byte{0xaa}, 64)
	got := Block(nil, p[:3])
	fill(got)
	if !bytes.Equal(p, bytes.Repeat([]byte{0xaa}, 64)) {
		t.Error("Block hands out the block that was handed in")
	}
	if got := Block(p[:4], p[2:6]); !bytes.Equal(got, unhex(t, "aaaaaaaa 04 aaaaaaaa")) {
		t.Errorf("Block of what it is put behind: %x", got)
	}
}

// fill writes a slice and its spare room over.
func fill(b []byte) {
	whole := b[:cap(b)]
	for i := range whole {
		whole[i] = 0x55
	}
}

func TestRuleReadingIsNew(t *testing.T) {
	whole := append(Block(nil, []byte("abc")), "defghi"...)
	clean := bytes.Clone(whole)
	r := Read(whole[:len(whole)-2])
	block := r.Block()
	taken := r.Take(2)
	none := r.Take(0)
	fill(block)
	fill(none)
	if string(taken) != "de" {
		t.Error("two answers share memory")
	}
	fill(taken)
	if !bytes.Equal(whole, clean) {
		t.Error("an answer shares memory with what was handed in")
	}
	rest := r.Take(2)
	if string(rest) != "fg" || r.End() != api.OK {
		t.Errorf("the rest: %q", rest)
	}
	// Two more bytes stand in the spare room: they are not the reader's.
	if len(r.Take(1)) != 0 {
		t.Error("a byte of the spare room")
	}
	stands(t, "at the end", r, api.ErrMore, 0)
}

func TestRuleReadersApart(t *testing.T) {
	b := []byte{0x01, 0x80, 0x02}
	one, two := Read(b), Read(b)
	if one.Number() != 1 || one.Number() != 0 || one.Err() != api.ErrBad {
		t.Fatal("the first reader")
	}
	if two.Err() != api.OK || two.Left() != 3 || two.Word(3) != 0x028001 || two.End() != api.OK {
		t.Error("one reader moved the other")
	}
}
