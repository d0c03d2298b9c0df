package wire

import (
	"math"
	"testing"
)

// expectLeft looks at what r says of itself without an error.
func expectLeft(t *testing.T, what string, r *Reader, left int) {
	t.Helper()
	if r.Bad() || r.End() != (left == 0) || r.Left() != left {
		t.Errorf("%s: Bad %v, End %v, Left %d, not %d", what, r.Bad(), r.End(), r.Left(), left)
	}
}

// expectBad looks at what r says of itself and returns after an error.
func expectBad(t *testing.T, what string, r *Reader) {
	t.Helper()
	for range 2 {
		if !r.Bad() || r.End() || r.Left() != 0 {
			t.Errorf("%s: Bad %v, End %v, Left %d", what, r.Bad(), r.End(), r.Left())
		}
		if r.Num(0) != 0 || r.Num(1) != 0 || r.Num(8) != 0 || r.Num(-1) != 0 || len(r.Bytes(9)) != 0 || r.Flag() || r.Count(9) != 0 {
			t.Errorf("%s: something is read after an error", what)
		}
	}
}

func TestReadNum(t *testing.T) {
	p := []byte{1, 2, 3, 4, 5, 6, 7, 8, 9}
	wants := []uint64{0, 1, 0x0102, 0x010203, 0x01020304, 0x0102030405, 0x010203040506, 0x01020304050607, 0x0102030405060708}
	for size, want := range wants {
		r := Read(p)
		if n := r.Num(size); n != want {
			t.Errorf("Num(%d) = %x, not %x", size, n, want)
		}
		expectLeft(t, "Num", r, 9-size)
	}
	r := Read([]byte{255, 255, 255, 255, 255, 255, 255, 255})
	if n := r.Num(8); n != math.MaxUint64 {
		t.Errorf("Num(8) = %x", n)
	}
	expectLeft(t, "Num(8)", r, 0)
	if n := r.Num(0); n != 0 {
		t.Errorf("Num(0) = %x", n)
	}
	expectLeft(t, "Num(0) at the end", r, 0)
}

func TestReadNumBad(t *testing.T) {
	for _, size := range []int{-1, -8, math.MinInt, 9, 10, math.MaxInt} {
		r := Read(filler(20))
		if n := r.Num(size); n != 0 {
			t.Errorf("Num(%d) = %d", size, n)
		}
		expectBad(t, "Num", r)
	}
	for size := 1; size <= 8; size++ {
		for left := range size {
			r := Read(filler(left))
			expectLeft(t, "Read", r, left)
			if n := r.Num(size); n != 0 {
				t.Errorf("Num(%d) of %d bytes = %d", size, left, n)
			}
			expectBad(t, "Num", r)
		}
	}
}

func TestReadBytes(t *testing.T) {
	for _, n := range []int{0, 1, 2, 255, 256, 1 << 16} {
		data := append(new(Writer).Bytes(filler(n)).Done(), 1, 2)
		for _, most := range []int{n, n + 1, math.MaxInt} {
			r := Read(data)
			expectBytes(t, "Bytes", r.Bytes(most), filler(n))
			expectLeft(t, "Bytes", r, 2)
		}
		for _, most := range []int{n - 1, -1, math.MinInt} {
			r := Read(data)
			expectBytes(t, "Bytes beyond most", r.Bytes(most), nil)
			expectBad(t, "Bytes beyond most", r)
		}
	}
}

func TestReadBytesCut(t *testing.T) {
	data := new(Writer).Bytes([]byte("abc")).Done()
	for n := range data {
		r := Read(data[:n])
		expectBytes(t, "Bytes of too few", r.Bytes(9), nil)
		expectBad(t, "Bytes of too few", r)
	}
	for _, length := range []uint64{4, 1 << 31, 1<<32 - 1, 1<<32 - 4} {
		r := Read(new(Writer).Num(length, 4).Num(1, 3).Done())
		expectBytes(t, "Bytes of a great length", r.Bytes(math.MaxInt), nil)
		expectBad(t, "Bytes of a great length", r)
	}
}

func TestReadFlag(t *testing.T) {
	for b := range 256 {
		r := Read([]byte{byte(b), 7})
		if flag := r.Flag(); flag != (b == 1) {
			t.Errorf("Flag of %d = %v", b, flag)
		}
		if b <= 1 {
			expectLeft(t, "Flag", r, 1)
		} else {
			expectBad(t, "Flag", r)
		}
	}
	r := Read(nil)
	if r.Flag() {
		t.Errorf("Flag of nothing")
	}
	expectBad(t, "Flag of nothing", r)
}

func TestReadCount(t *testing.T) {
	for _, n := range []int{0, 1, 2, 255, 256, 258, 1<<16 - 1} {
		data := []byte{byte(n >> 8), byte(n), 7}
		for _, most := range []int{n, n + 1, 1 << 16, math.MaxInt} {
			r := Read(data)
			if got := r.Count(most); got != n {
				t.Errorf("Count(%d) of %d = %d", most, n, got)
			}
			expectLeft(t, "Count", r, 1)
		}
		for _, most := range []int{n - 1, -1, math.MinInt} {
			r := Read(data)
			if got := r.Count(most); got != 0 {
				t.Errorf("Count(%d) of %d = %d", most, n, got)
			}
			expectBad(t, "Count beyond most", r)
		}
	}
	for left := range 2 {
		r := Read(make([]byte, left))
		if got := r.Count(9); got != 0 {
			t.Errorf("Count of %d bytes = %d", left, got)
		}
		expectBad(t, "Count of too few", r)
	}
}

func TestReadAll(t *testing.T) {
	r := Read(new(Writer).Num(258, 2).Bytes([]byte("hi")).Flag(true).Num(3, 2).Bytes(nil).Flag(false).Done())
	expectLeft(t, "Read", r, 16)
	if n := r.Num(2); n != 258 {
		t.Errorf("Num = %d", n)
	}
	expectBytes(t, "Bytes", r.Bytes(2), []byte("hi"))
	if !r.Flag() || r.Count(3) != 3 || len(r.Bytes(0)) != 0 {
		t.Errorf("Flag, Count or Bytes")
	}
	expectLeft(t, "all but one", r, 1)
	if r.Flag() {
		t.Errorf("Flag")
	}
	expectLeft(t, "all", r, 0)
	r.Num(1)
	expectBad(t, "more than all", r)
}

// TestReadAnything makes every three readings of many short data: an error stays, and nothing is read from it on.
func TestReadAnything(t *testing.T) {
	nothing := []func(*Reader) bool{
		func(r *Reader) bool { return r.Num(1) == 0 },
		func(r *Reader) bool { return r.Num(3) == 0 },
		func(r *Reader) bool { return len(r.Bytes(2)) == 0 },
		func(r *Reader) bool { return !r.Flag() },
		func(r *Reader) bool { return r.Count(2) == 0 },
	}
	for x := range 4 * 4 * 4 * 10 {
		data := []byte{byte(x & 3), byte(x >> 2 & 3), byte(x >> 4 & 3), 0, 1, 0, 0, 0, 2}[:x>>6]
		for order := range 5 * 5 * 5 {
			r := Read(data)
			for _, i := range []int{order % 5, order / 5 % 5, order / 25} {
				wasBad, before := r.Bad(), r.Left()
				zero := nothing[i](r)
				if wasBad && !r.Bad() || r.Bad() && !zero || r.Bad() && r.Left() != 0 || r.Left() > before || r.End() != (!r.Bad() && r.Left() == 0) {
					t.Fatalf("%x, order %d: zero %v, Bad %v, Left %d, End %v", data, order, zero, r.Bad(), r.Left(), r.End())
				}
			}
		}
	}
}

func TestNilReader(t *testing.T) {
	expectBad(t, "a nil Reader", nil)
	expectLeft(t, "Read(nil)", Read(nil), 0)
	expectLeft(t, "Read of none", Read([]byte{}), 0)
}

func TestReaderKeepsNothing(t *testing.T) {
	data := new(Writer).Bytes([]byte("abc")).Bytes([]byte("de")).Num(5, 1).Done()
	want := append([]byte{}, data...)
	r, other := Read(data), Read(data)
	first := r.Bytes(3)
	expectBytes(t, "argument", data, want)
	clear(data)
	_ = append(first, 9, 9, 9, 9, 9, 9, 9)
	clear(first)
	second := r.Bytes(2)
	expectBytes(t, "Bytes after the argument was modified", second, []byte("de"))
	clear(second)
	if r.Num(1) != 5 || !r.End() {
		t.Errorf("the reader reads what was modified")
	}
	expectBytes(t, "another reader", other.Bytes(3), []byte("abc"))
	expectLeft(t, "another reader", other, 7)
}
