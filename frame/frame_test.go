package frame_test

import (
	"math"
	"slices"
	"strings"
	"testing"

	"lighterman/api"
	"lighterman/frame"
	"lighterman/sha"
)

const emptyRecord = "\x00\x00\x00\x00\xe3\xb0\xc4\x42"

func put(body string) string {
	s, _ := frame.Put(body)
	return s
}

func bodies() []string {
	return []string{"", "a", "hello", "\x00\xff", strings.Repeat("x", 255), strings.Repeat("y", 70000)}
}

func TestPut(t *testing.T) { // P11.1
	if s, e := frame.Put(""); s != emptyRecord || e != api.OK {
		t.Errorf("Put of no bytes: %x, %d", s, e)
	}
	h := sha.Sum("hello")
	if s, e := frame.Put("hello"); s != "\x00\x00\x00\x05"+string(h[:4])+"hello" || e != api.OK {
		t.Errorf("Put: %x, %d", s, e)
	}
	if s := put(strings.Repeat("y", 70000)); s[:4] != "\x00\x01\x11\x70" || len(s) != frame.Head+70000 {
		t.Errorf("Put of 70000 bytes: %x", s[:8])
	}
}

func TestNext(t *testing.T) { // P11.1
	s := "zz" + put("hello") + put("") + "rest"
	for _, c := range []struct {
		at   int
		body string
		next int
		e    api.Errno
	}{
		{2, "hello", 15, api.OK}, {15, "", 23, api.OK},
		{-1, "", 0, api.ErrRange}, {len(s) + 1, "", 0, api.ErrRange}, {math.MaxInt, "", 0, api.ErrRange}, {math.MinInt, "", 0, api.ErrRange},
		{len(s), "", 0, api.ErrShort}, {23, "", 0, api.ErrShort}, {0, "", 0, api.ErrShort},
	} {
		if body, next, e := frame.Next(s, c.at); body != c.body || next != c.next || e != c.e {
			t.Errorf("Next at %d: %q, %d, %d", c.at, body, next, e)
		}
	}
	for text, want := range map[string]api.Errno{
		"\x80\x00\x00\x00xxxx": api.ErrLong, "\xff\xff\xff\xffxxxx": api.ErrLong, "\x7f\xff\xff\xffxxxx": api.ErrShort, "\x00\x00\x00\x01xxxx": api.ErrShort,
		"\x80\x00\x00\x00xxx": api.ErrShort, "\x00\x00\x00\x01xxxxy": api.ErrSum, "\x00\x00\x00\x00xxxx": api.ErrSum, emptyRecord[:7]: api.ErrShort,
	} {
		if body, next, e := frame.Next(text, 0); body != "" || next != 0 || e != want {
			t.Errorf("Next of %x: %q, %d, %d", text, body, next, e)
		}
		if body, e := frame.Open(text); body != "" || e != want {
			t.Errorf("Open of %x: %q, %d", text, body, e)
		}
	}
}

func TestOpen(t *testing.T) { // P11.1
	for _, s := range []string{put("a") + "x", put("a") + put("b"), emptyRecord + emptyRecord} {
		if body, e := frame.Open(s); body != "" || e != api.ErrForm {
			t.Errorf("Open of %x: %q, %d", s, body, e)
		}
	}
	if _, e := frame.Open(""); e != api.ErrShort {
		t.Errorf("Open of no bytes: %d", e)
	}
}

func TestAll(t *testing.T) { // P11.2
	a, b := put("a"), put("")
	broken := []byte(put("c"))
	broken[8] ^= 1
	for _, c := range []struct {
		s    string
		want []string
		at   int
		e    api.Errno
	}{
		{"", nil, 0, api.OK}, {a, []string{"a"}, 9, api.OK}, {a + b + a, []string{"a", "", "a"}, 26, api.OK},
		{a + b + "x", []string{"a", ""}, 17, api.ErrShort}, {a + string(broken) + b, []string{"a"}, 9, api.ErrSum},
		{b + "\xff\xff\xff\xffxxxx", []string{""}, 8, api.ErrLong}, {"x", nil, 0, api.ErrShort},
	} {
		if got, at, e := frame.All(c.s); !slices.Equal(got, c.want) || at != c.at || e != c.e {
			t.Errorf("All(%x): %q, %d, %d", c.s, got, at, e)
		}
	}
}

func TestOpenOfPut(t *testing.T) { // P11.3
	for _, body := range bodies() {
		s := put(body)
		if got, e := frame.Open(s); got != body || e != api.OK {
			t.Errorf("Open(Put) of %d bytes: %d", len(body), e)
		}
		for i := range frame.Head {
			for _, x := range []byte{1, 0x80, 0xff} {
				b := []byte(s)
				b[i] ^= x
				if got, e := frame.Open(string(b)); got != "" || e == api.OK {
					t.Errorf("Open with byte %d changed: %d", i, e)
				}
			}
		}
		for _, n := range []int{0, 1, 7, 8, len(s) / 2, len(s) - 1} {
			if n >= len(s) {
				continue
			}
			if got, e := frame.Open(s[:n]); got != "" || e == api.OK {
				t.Errorf("Open of %d bytes of %d: %d", n, len(s), e)
			}
		}
	}
}
