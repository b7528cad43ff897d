package msg_test

import (
	"math"
	"strings"
	"testing"

	"lighterman/api"
	"lighterman/msg"
	"lighterman/packet"
	"lighterman/proof"
	"lighterman/wire"
)

func samplePacket() api.Packet {
	return api.Packet{Src: api.End{Port: "s", Chan: 1}, Dst: api.End{Port: "d", Chan: 2}, Seq: 3, Data: "x", TimeHeight: 4, TimeAt: 5}
}

func sampleProof(key string) api.Proof {
	return proof.Make([]proof.Pair{{Key: "b", Val: "1"}, {Key: "d", Val: "2"}, {Key: "f", Val: "3"}}, key)
}

// sample returns a message of a kind, with all fields that the kind has.
func sample(kind int) api.Msg {
	return msg.Plain(full(kind))
}

// full returns a message with all fields that there are.
func full(kind int) api.Msg {
	return api.Msg{
		Kind: kind, Header: api.Header{Height: 6, Time: 7, Root: api.Hash{8}}, Packet: samplePacket(), Ack: "ok:x",
		Next: 9, Height: 10, Proof: sampleProof("b"), Close: sampleProof("c"),
	}
}

func samples() []api.Msg {
	return []api.Msg{sample(api.MsgUpdate), sample(api.MsgRecv), sample(api.MsgAck), sample(api.MsgTimeout), sample(api.MsgOnClose)}
}

// bytesOf returns the fields of all kinds in bytes.
func bytesOf(t *testing.T) (header, pack, good, closing string) {
	t.Helper()
	part := func(write func(w *wire.Writer)) string {
		w := wire.New()
		write(w)
		s, _ := w.Bytes()
		return s
	}
	m := full(1)
	header = "\x06\x07\x08" + strings.Repeat("\x00", 31)
	pack = part(func(w *wire.Writer) { packet.Write(w, m.Packet) })
	good = part(func(w *wire.Writer) { proof.Write(w, m.Proof) })
	closing = part(func(w *wire.Writer) { proof.Write(w, m.Close) })
	return header, pack, good, closing
}

func TestPlain(t *testing.T) { // P8.1
	has := map[int][8]bool{ // Header, Packet, Ack, Next, Height, Proof, Close
		api.MsgUpdate: {true}, api.MsgRecv: {false, true, false, false, true, true}, api.MsgAck: {false, true, true, false, true, true},
		api.MsgTimeout: {false, true, false, true, true, true}, api.MsgOnClose: {false, true, false, true, true, true, true},
		0: {}, 6: {}, -1: {}, math.MaxInt: {},
	}
	for kind, fields := range has {
		p := msg.Plain(full(kind))
		f := full(kind)
		want := api.Msg{Kind: kind}
		set := []func(){
			func() { want.Header = f.Header }, func() { want.Packet = f.Packet }, func() { want.Ack = f.Ack }, func() { want.Next = f.Next },
			func() { want.Height = f.Height }, func() { want.Proof = f.Proof }, func() { want.Close = f.Close },
		}
		for i, fill := range set {
			if fields[i] {
				fill()
			}
		}
		if !msg.Same(p, want) {
			t.Errorf("Plain of kind %d is %v", kind, p)
		}
	}
}

// spoilt returns messages that are not valid.
func spoilt() []api.Msg {
	var all []api.Msg
	change := func(kind int, f func(m *api.Msg)) {
		m := sample(kind)
		f(&m)
		all = append(all, m)
	}
	for _, kind := range []int{0, 6, -1, math.MaxInt, math.MinInt} {
		all = append(all, api.Msg{Kind: kind}, msg.Plain(full(kind)))
	}
	for _, m := range samples() {
		all = append(all, full(m.Kind))
	}
	for _, h := range []int{0, -1, api.MaxHeight + 1} {
		change(api.MsgUpdate, func(m *api.Msg) { m.Header.Height = h })
		change(api.MsgRecv, func(m *api.Msg) { m.Height = h })
		change(api.MsgOnClose, func(m *api.Msg) { m.Height = h })
	}
	for _, n := range []int{-1, api.MaxTime + 1} {
		change(api.MsgUpdate, func(m *api.Msg) { m.Header.Time = n })
	}
	for _, n := range []int{-1, api.MaxSeq + 2} {
		change(api.MsgTimeout, func(m *api.Msg) { m.Next = n })
		change(api.MsgOnClose, func(m *api.Msg) { m.Next = n })
	}
	for _, ack := range []string{"", strings.Repeat("a", api.MaxAck+1)} {
		change(api.MsgAck, func(m *api.Msg) { m.Ack = ack })
	}
	for kind := api.MsgRecv; kind <= api.MsgOnClose; kind++ {
		change(kind, func(m *api.Msg) { m.Packet.Seq = 0 })
		change(kind, func(m *api.Msg) { m.Packet.Src.Port = "S" })
		change(kind, func(m *api.Msg) { m.Proof.Count = 9 })
		change(kind, func(m *api.Msg) { m.Header.Root[31] = 1 })
	}
	change(api.MsgOnClose, func(m *api.Msg) { m.Close.Leaves[1].Path = nil })
	change(api.MsgRecv, func(m *api.Msg) { m.Ack = "x" })
	change(api.MsgRecv, func(m *api.Msg) { m.Next = 1 })
	change(api.MsgAck, func(m *api.Msg) { m.Next = 1 })
	change(api.MsgTimeout, func(m *api.Msg) { m.Close.Count = 1 })
	change(api.MsgUpdate, func(m *api.Msg) { m.Height = 1 })
	return all
}

func TestMay(t *testing.T) { // P8.1
	good := samples()
	at := func(kind int, f func(m *api.Msg)) {
		m := sample(kind)
		f(&m)
		good = append(good, m)
	}
	at(api.MsgUpdate, func(m *api.Msg) { m.Header = api.Header{Height: 1} })
	at(api.MsgUpdate, func(m *api.Msg) { m.Header.Height, m.Header.Time = api.MaxHeight, api.MaxTime })
	at(api.MsgAck, func(m *api.Msg) { m.Ack = strings.Repeat("a", api.MaxAck) })
	at(api.MsgAck, func(m *api.Msg) { m.Ack = "\x00" })
	at(api.MsgTimeout, func(m *api.Msg) { m.Next = 0 })
	at(api.MsgOnClose, func(m *api.Msg) { m.Next, m.Height = api.MaxSeq+1, api.MaxHeight })
	at(api.MsgOnClose, func(m *api.Msg) { m.Close, m.Proof, m.Height = api.Proof{}, api.Proof{Leaves: []api.Leaf{}}, 1 })
	for _, m := range good {
		if !msg.May(m) {
			t.Errorf("May(%v) is false", m)
		}
	}
	for _, m := range spoilt() {
		if msg.May(m) {
			t.Errorf("May(%v) is true", m)
		}
	}
}

func TestSame(t *testing.T) { // P8.1
	for i, m := range samples() {
		if !msg.Same(m, sample(m.Kind)) {
			t.Errorf("message %d is not the same as itself", i)
		}
		for k, n := range samples() {
			if msg.Same(m, n) != (i == k) {
				t.Errorf("messages %d and %d", i, k)
			}
		}
	}
	base := full(api.MsgOnClose)
	for i, f := range []func(m *api.Msg){
		func(m *api.Msg) { m.Kind = 1 }, func(m *api.Msg) { m.Header.Time++ }, func(m *api.Msg) { m.Header.Root[9] = 1 }, func(m *api.Msg) { m.Packet.Data = "" },
		func(m *api.Msg) { m.Ack = "" }, func(m *api.Msg) { m.Next = 0 }, func(m *api.Msg) { m.Height = 0 },
		func(m *api.Msg) { m.Proof.Leaves[0].Val = "x" }, func(m *api.Msg) { m.Close.Leaves[1].Path[0][3] ^= 1 },
	} {
		m := full(api.MsgOnClose)
		f(&m)
		if msg.Same(base, m) || msg.Same(m, base) {
			t.Errorf("change %d is not seen", i)
		}
	}
}

func TestEncode(t *testing.T) { // P8.2
	header, pack, good, closing := bytesOf(t)
	for i, want := range []string{
		"\x01" + header, "\x02" + pack + "\x0a" + good, "\x03" + pack + "\x04ok:x\x0a" + good,
		"\x04" + pack + "\x09\x0a" + good, "\x05" + pack + "\x09\x0a" + good + closing,
	} {
		m := samples()[i]
		if s, e := msg.Encode(m); s != want || e != api.OK || msg.Size(m) != len(want) {
			t.Errorf("Encode of kind %d: %x, %d; Size %d", m.Kind, s, e, msg.Size(m))
		}
		if got, e := msg.Decode(want); !msg.Same(got, m) || e != api.OK {
			t.Errorf("Decode of kind %d: %v, %d", m.Kind, got, e)
		}
		if _, e := msg.Decode(want + "\x00"); e != api.ErrForm {
			t.Errorf("Decode of kind %d with a byte more: %d", m.Kind, e)
		}
		for n := range len(want) {
			if got, e := msg.Decode(want[:n]); e != api.ErrShort || !msg.Same(got, api.Msg{}) {
				t.Errorf("Decode of %d bytes of kind %d: %d", n, m.Kind, e)
			}
		}
	}
	for _, m := range spoilt() {
		if s, e := msg.Encode(m); s != "" || e != api.ErrRange || msg.Size(m) != 0 {
			t.Errorf("Encode(%v): %x, %d", m, s, e)
		}
	}
}

func TestDecodeFails(t *testing.T) { // P8.2
	_, pack, good, closing := bytesOf(t)
	bad := "\x01\x01\x00\x011\x00\x00" // a proof whose key is empty
	for s, want := range map[string]api.Errno{
		"": api.ErrShort, "\x09": api.ErrRange, "\x00": api.ErrRange, "\x06x": api.ErrRange, "\x81\x00": api.ErrForm, strings.Repeat("\xff", 8): api.ErrLong, "\x81": api.ErrShort,
		"\x01\x00\x00" + strings.Repeat("\x00", 32):                  api.ErrRange,
		"\x01\x01\x81\x80\x80\x80\x80\x20":                           api.ErrRange,
		"\x02" + pack + "\x00" + good:                                api.ErrRange,
		"\x03" + pack + "\x21" + strings.Repeat("a", 33) + "\x01":    api.ErrLong,
		"\x03" + pack + "\x00\x0a" + good:                            api.ErrRange,
		"\x03" + pack + "\x00\x0a" + good + "x":                      api.ErrForm,
		"\x04" + pack + "\x82\x80\x80\x80\x80\x20\x0a" + good:        api.ErrRange,
		"\x04" + pack + "\x81\x80\x80\x80\x80\x20\x0a" + good:        api.OK,
		"\x04" + pack + "\x82\x80\x80\x80\x80\x20\x0a" + good + "x":  api.ErrRange,
		"\x02" + pack + "\x0a" + bad:                                 api.ErrRange,
		"\x05" + pack + "\x09\x0a" + good + bad:                      api.ErrRange,
		"\x05" + pack + "\x09\x0a" + closing + closing + "\x00":      api.ErrForm,
		"\x05" + pack + "\x09\x0a" + good + "\x01\x03":               api.ErrLong,
		"\x02\x01S" + pack[2:] + "\x0a" + good:                       api.ErrRange,
		"\x02\x01S" + pack[2:] + "\x0a" + good + "x":                 api.ErrForm,
		"\x02\x01S" + pack[2:] + "\x00" + good + "x":                 api.ErrRange,
		"\x02\x0dsssssssssssss\x01" + pack[3:] + "\x0a" + good + "x": api.ErrLong,
	} {
		if _, e := msg.Decode(s); e != want {
			t.Errorf("Decode(%x): %d, not %d", s, e, want)
		}
	}
}

func texts(l ...string) string {
	w := wire.New()
	for _, s := range l {
		w.Text(s)
	}
	s, _ := w.Bytes()
	return s
}

func TestTx(t *testing.T) { // P8.3
	if s, e := msg.Tx(nil); s != "\x00" || e != api.OK {
		t.Errorf("Tx of no messages: %x, %d", s, e)
	}
	l := samples()
	var all []string
	for _, m := range l {
		s, _ := msg.Encode(m)
		all = append(all, s)
	}
	if s, e := msg.Tx(l); s != "\x05"+texts(all...) || e != api.OK {
		t.Errorf("Tx: %x, %d", s, e)
	}
	if s, e := msg.Tx(append(samples(), spoilt()[3])); s != "" || e != api.ErrRange {
		t.Errorf("Tx with a spoilt message: %x, %d", s, e)
	}
	many := make([]api.Msg, msg.MaxMsgs+1)
	if s, e := msg.Tx(many); s != "" || e != api.ErrCount {
		t.Errorf("Tx of too many messages: %x, %d", s, e)
	}
	if s, e := msg.Tx(many[1:]); s != "" || e != api.ErrRange {
		t.Errorf("Tx of MaxMsgs spoilt messages: %x, %d", s, e)
	}
}

func TestUntxFails(t *testing.T) { // P8.3
	one, _ := msg.Encode(sample(api.MsgUpdate))
	for s, want := range map[string]api.Errno{
		"": api.ErrShort, "\x80\x00": api.ErrForm, strings.Repeat("\x80", 8): api.ErrLong, "\x41": api.ErrCount, "\x41x": api.ErrCount,
		"\xff\xff\xff\xff\xff\xff\xff\x7f": api.ErrCount, "\x01": api.ErrShort, "\x00x": api.ErrForm,
		"\x01" + texts(one) + "x":                   api.ErrForm,
		"\x02" + texts(one):                         api.ErrShort,
		"\x02" + texts(one, ""):                     api.ErrShort,
		"\x02" + texts(one, "\x09") + "x":           api.ErrRange,
		"\x02" + texts("\x09") + "\x80\x00":         api.ErrRange,
		"\x02\x80\x00" + texts("\x09"):              api.ErrForm,
		"\x01" + texts(one+"x"):                     api.ErrForm,
		"\x01\x81\x80\x40":                          api.ErrLong,
		strings.Repeat("\x80", msg.MaxTx+1):         api.ErrBytes,
		"\x00" + strings.Repeat("x", msg.MaxTx):     api.ErrBytes,
		"\x00" + strings.Repeat("x", msg.MaxTx-1):   api.ErrForm,
		"\x40" + texts(strings.Repeat("\x00", 1e6)): api.ErrRange,
	} {
		if l, e := msg.Untx(s); len(l) != 0 || e != want {
			t.Errorf("Untx of %d bytes: %v, %d, not %d", len(s), l, e, want)
		}
	}
}

func TestRoundTrip(t *testing.T) { // P8.4
	var l []api.Msg
	for n := range msg.MaxMsgs + 1 {
		s, e := msg.Tx(l)
		back, e2 := msg.Untx(s)
		if e != api.OK || e2 != api.OK || len(back) != n {
			t.Fatalf("%d messages: %d, %d, %d", n, e, e2, len(back))
		}
		for i := range l {
			if !msg.Same(l[i], back[i]) {
				t.Fatalf("message %d of %d: %v", i, n, back[i])
			}
		}
		l = append(l, samples()[n%5])
	}
	low, last := sample(api.MsgOnClose), sample(api.MsgTimeout)
	low.Height, low.Next, last.Height, last.Next = 1, 0, api.MaxHeight, api.MaxSeq+1
	for _, m := range []api.Msg{low, last, {Kind: api.MsgUpdate, Header: api.Header{Height: 1}}, {Kind: api.MsgUpdate, Header: api.Header{Height: api.MaxHeight, Time: api.MaxTime}}} {
		s, _ := msg.Encode(m)
		if got, e := msg.Decode(s); !msg.Same(got, m) || e != api.OK {
			t.Errorf("Decode(Encode(%v)): %v, %d", m, got, e)
		}
	}
	for _, m := range samples() {
		s, _ := msg.Encode(m)
		for i := range s {
			b := []byte(s)
			b[i] ^= 1
			got, e := msg.Decode(string(b))
			if back, _ := msg.Encode(got); e == api.OK && back != string(b) {
				t.Fatalf("Encode(Decode(%x)): %x", b, back)
			}
		}
	}
}

func TestMemory(t *testing.T) { // P0.4
	m := sample(api.MsgOnClose)
	p := msg.Plain(m)
	p.Proof.Leaves[0].Key = "x"
	p.Close.Leaves[0].Path[0] = api.Hash{}
	_ = append(p.Close.Leaves, api.Leaf{})
	if !msg.Same(m, sample(api.MsgOnClose)) {
		t.Error("Plain shares memory with its argument")
	}
}
