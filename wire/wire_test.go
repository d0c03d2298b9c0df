package wire

import (
	"bytes"
	"math"
	"testing"
)

func expectBytes(t *testing.T, what string, got, want []byte) {
	t.Helper()
	if !bytes.Equal(got, want) {
		t.Errorf("%s = %x, not %x", what, got, want)
	}
}

// filler has n bytes of which no two neighbours are alike.
func filler(n int) []byte {
	p := make([]byte, n)
	for i := range p {
		p[i] = byte(200 + 13*i + i>>8)
	}
	return p
}

func TestWriteNum(t *testing.T) {
	const n = 0x0123456789abcdef
	for _, c := range []struct {
		n     uint64
		bytes int
		want  []byte
	}{
		{258, 2, []byte{1, 2}},
		{0, 1, []byte{0}},
		{255, 1, []byte{255}},
		{256, 1, []byte{0}},
		{257, 1, []byte{1}},
		{5, 8, []byte{0, 0, 0, 0, 0, 0, 0, 5}},
		{math.MaxUint64, 8, []byte{255, 255, 255, 255, 255, 255, 255, 255}},
		{math.MaxUint64, 3, []byte{255, 255, 255}},
		{n, 1, []byte{0xef}},
		{n, 2, []byte{0xcd, 0xef}},
		{n, 3, []byte{0xab, 0xcd, 0xef}},
		{n, 4, []byte{0x89, 0xab, 0xcd, 0xef}},
		{n, 5, []byte{0x67, 0x89, 0xab, 0xcd, 0xef}},
		{n, 6, []byte{0x45, 0x67, 0x89, 0xab, 0xcd, 0xef}},
		{n, 7, []byte{0x23, 0x45, 0x67, 0x89, 0xab, 0xcd, 0xef}},
		{n, 8, []byte{1, 0x23, 0x45, 0x67, 0x89, 0xab, 0xcd, 0xef}},
		{n, 0, nil},
		{n, -1, nil},
		{n, math.MinInt, nil},
	} {
		var w Writer
		if w.Num(c.n, c.bytes) != &w {
			t.Errorf("Num(%d, %d) returns another writer", c.n, c.bytes)
		}
		expectBytes(t, "Num", w.Done(), c.want)
	}
}

func TestWriteNumOfTooManyBytesEnds(t *testing.T) {
	for _, size := range []int{9, 1 << 40, math.MaxInt} {
		w := new(Writer)
		if w.Num(1, size) != w {
			t.Errorf("Num(1, %d) returns another writer", size)
		}
	}
}

func TestWriteBytes(t *testing.T) {
	for _, c := range []struct{ p, want []byte }{
		{nil, []byte{0, 0, 0, 0}},
		{[]byte{}, []byte{0, 0, 0, 0}},
		{[]byte{7}, []byte{0, 0, 0, 1, 7}},
		{[]byte("abc"), []byte{0, 0, 0, 3, 'a', 'b', 'c'}},
		{filler(258), append([]byte{0, 0, 1, 2}, filler(258)...)},
		{filler(1 << 16), append([]byte{0, 1, 0, 0}, filler(1<<16)...)},
	} {
		var w Writer
		if w.Bytes(c.p) != &w {
			t.Errorf("Bytes returns another writer")
		}
		expectBytes(t, "Bytes", w.Done(), c.want)
	}
}

func TestWriteFlag(t *testing.T) {
	var w Writer
	if w.Flag(true) != &w || w.Flag(false) != &w {
		t.Errorf("Flag returns another writer")
	}
	expectBytes(t, "Flag", w.Done(), []byte{1, 0})
}

func TestWriteAll(t *testing.T) {
	var w Writer
	expectBytes(t, "Done of nothing", w.Done(), nil)
	got := w.Num(258, 2).Bytes([]byte("hi")).Flag(true).Num(9, 0).Num(3, 1).Done()
	want := []byte{1, 2, 0, 0, 0, 2, 'h', 'i', 1, 3}
	expectBytes(t, "Done", got, want)
	expectBytes(t, "Done again", w.Done(), want)
	expectBytes(t, "Done after more", w.Flag(false).Done(), append(want, 0))
	expectBytes(t, "Done before", got, want)
	expectBytes(t, "another writer", new(Writer).Flag(true).Done(), []byte{1})
}

func TestWriterKeepsNothing(t *testing.T) {
	var w Writer
	p := []byte("abc")
	w.Bytes(p)
	expectBytes(t, "argument", p, []byte("abc"))
	p[0] = 'x'
	want := []byte{0, 0, 0, 3, 'a', 'b', 'c'}
	got := w.Done()
	expectBytes(t, "Done", got, want)
	for i := range got {
		got[i] = 99
	}
	_ = append(got[:cap(got)], 99)
	expectBytes(t, "Done after its result was modified", w.Done(), want)
	got = w.Done()
	w.Flag(true)
	_ = append(got, 99)
	expectBytes(t, "Done after more was appended to its result", w.Done(), append(want, 1))
}

func TestNilWriter(t *testing.T) {
	var w *Writer
	if w.Num(1, 2) != nil || w.Bytes([]byte("a")) != nil || w.Flag(true) != nil || w.Flag(false) != nil || w.Done() != nil {
		t.Errorf("a nil Writer has something")
	}
}
