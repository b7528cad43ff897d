package wire_test

import (
	"math"
	"strings"
	"testing"

	"lighterman/api"
	"lighterman/wire"
)

var hash = api.Hash{0: 1, 31: 0xff}

func TestWriter(t *testing.T) { // P4.1
	w := wire.New()
	if s, e := w.Bytes(); s != "" || e != api.OK {
		t.Errorf("Bytes of a new Writer: %x, %d", s, e)
	}
	w.Num(5)
	w.Text("ab")
	if s, e := w.Bytes(); s != "\x05\x02ab" || e != api.OK {
		t.Errorf("Bytes: %x, %d", s, e)
	}
	w.Text("")
	w.Num(api.MaxNum)
	w.Hash(hash)
	w.Text(strings.Repeat("x", 200))
	want := "\x05\x02ab\x00\xff\xff\xff\xff\xff\xff\xff\x7f" + string(hash[:]) + "\xc8\x01" + strings.Repeat("x", 200)
	if s, e := w.Bytes(); s != want || e != api.OK {
		t.Errorf("Bytes: %x, %d", s, e)
	}
}

func TestWriterFails(t *testing.T) { // P4.1
	for _, v := range []int{-1, api.MaxNum + 1, math.MinInt, math.MaxInt} {
		w := wire.New()
		w.Num(1)
		w.Num(v)
		for range 2 {
			if s, e := w.Bytes(); s != "" || e != api.ErrRange {
				t.Errorf("Bytes after Num(%d): %x, %d", v, s, e)
			}
			w.Num(2)
			w.Text("x")
			w.Hash(hash)
		}
	}
}

func TestReader(t *testing.T) { // P4.2
	r := wire.Of("\x05\x02ab\x00" + string(hash[:]) + "\x03z")
	if v := r.Num(5, 5); v != 5 || r.At() != 1 {
		t.Errorf("Num: %d at %d", v, r.At())
	}
	if s := r.Text(2); s != "ab" || r.At() != 4 {
		t.Errorf("Text: %q at %d", s, r.At())
	}
	if s := r.Text(0); s != "" || r.At() != 5 {
		t.Errorf("Text: %q at %d", s, r.At())
	}
	if h := r.Hash(); h != hash || r.At() != 37 {
		t.Errorf("Hash: %x at %d", h, r.At())
	}
	if n := r.Count(3); n != 3 || r.At() != 38 || r.Err() != api.OK || r.End() != api.ErrForm || r.Err() != api.OK {
		t.Errorf("Count: %d at %d, %d, %d", n, r.At(), r.Err(), r.End())
	}
	if v := r.Num(0, api.MaxNum); v != 'z' || r.End() != api.OK || r.At() != 39 {
		t.Errorf("Num: %d at %d, %d", v, r.At(), r.End())
	}
}

// failing is a call of a Reader that has to fail, and how.
type failing struct {
	name string
	text string
	call func(r *wire.Reader) bool // whether the result is zero
	want api.Errno
}

func num(least, most int) func(r *wire.Reader) bool {
	return func(r *wire.Reader) bool { return r.Num(least, most) == 0 }
}

func text(most int) func(r *wire.Reader) bool {
	return func(r *wire.Reader) bool { return r.Text(most) == "" }
}

func count(most int) func(r *wire.Reader) bool {
	return func(r *wire.Reader) bool { return r.Count(most) == 0 }
}

func sum(r *wire.Reader) bool { return r.Hash() == api.Hash{} }

func TestReaderFails(t *testing.T) { // P4.2, P4.3
	for _, c := range []failing{
		{"number above", "\x05", num(0, 4), api.ErrRange},
		{"number below", "\x05", num(6, 9), api.ErrRange},
		{"number of no range", "\x05", num(9, 0), api.ErrRange},
		{"no number", "", num(0, 9), api.ErrShort},
		{"half a number", "\x85", num(0, 9), api.ErrShort},
		{"number in a longer form", "\x85\x00", num(0, 4), api.ErrForm},
		{"long number", strings.Repeat("\x80", 8), num(0, 4), api.ErrLong},
		{"no length", "", text(9), api.ErrShort},
		{"length in a longer form", "\x82\x00ab", text(1), api.ErrForm},
		{"long text", "\x03abc", text(2), api.ErrLong},
		{"long text, cut", "\x03ab", text(2), api.ErrLong},
		{"text below a negative limit", "\x00", text(-1), api.ErrLong},
		{"cut text", "\x03ab", text(3), api.ErrShort},
		{"cut text of great length", "\xff\xff\xff\xff\xff\xff\xff\x7fab", text(math.MaxInt), api.ErrShort},
		{"no hash", "", sum, api.ErrShort},
		{"cut hash", strings.Repeat("\x01", 31), sum, api.ErrShort},
		{"no count", "", count(9), api.ErrShort},
		{"count in a longer form", "\x83\x00", count(2), api.ErrForm},
		{"great count", "\x03", count(2), api.ErrLong},
		{"count below a negative limit", "\x00", count(-1), api.ErrLong},
	} {
		r := wire.Of("\x07" + c.text)
		r.Num(7, 7)
		if !c.call(r) || r.Err() != c.want || r.End() != c.want || r.At() != 1 {
			t.Errorf("%s: %d, %d at %d", c.name, r.Err(), r.End(), r.At())
		}
		// After an error nothing is read any more, and the error stays.
		if !num(0, api.MaxNum)(r) || !text(99)(r) || !sum(r) || !count(99)(r) || r.Err() != c.want || r.At() != 1 {
			t.Errorf("%s, later: %d at %d", c.name, r.Err(), r.At())
		}
	}
}

func TestReaderReadsToTheEnd(t *testing.T) { // P4.2
	r := wire.Of("\x03abc")
	if s := r.Text(3); s != "abc" || r.End() != api.OK || r.At() != 4 {
		t.Errorf("Text: %q, %d", s, r.End())
	}
	r = wire.Of(string(hash[:]))
	if h := r.Hash(); h != hash || r.End() != api.OK || r.At() != 32 {
		t.Errorf("Hash: %x, %d", h, r.End())
	}
}

func TestReaderStopsBeforeGoodBytes(t *testing.T) { // P4.3
	r := wire.Of("\x05\x01a" + string(hash[:]))
	r.Num(0, 4)
	if r.At() != 0 || r.Num(0, 9) != 0 || r.Count(9) != 0 || r.Text(9) != "" || r.Hash() != (api.Hash{}) || r.Err() != api.ErrRange {
		t.Errorf("the Reader went on to %d", r.At())
	}
	empty := wire.Of("")
	if empty.End() != api.OK || empty.Err() != api.OK || empty.At() != 0 {
		t.Errorf("End of no bytes: %d", empty.End())
	}
}
