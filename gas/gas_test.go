package gas_test

import (
	"math"
	"testing"

	"lighterman/api"
	"lighterman/gas"
	"lighterman/msg"
	"lighterman/proof"
)

func update() api.Msg {
	return api.Msg{Kind: api.MsgUpdate, Header: api.Header{Height: 1}}
}

func closing() api.Msg {
	l := []proof.Pair{{Key: "b", Val: "1"}, {Key: "d", Val: "2"}, {Key: "f", Val: "3"}}
	p := api.Packet{Src: api.End{Port: "s"}, Dst: api.End{Port: "d"}, Seq: 1}
	return api.Msg{Kind: api.MsgOnClose, Packet: p, Height: 1, Proof: proof.Make(l, "b"), Close: proof.Make(l, "e")}
}

func TestPrice(t *testing.T) { // P17.1
	if gas.Base != 1000 || gas.Byte != 3 || gas.Step != 50 {
		t.Error("the prices")
	}
	if got := gas.Price(update()); got != 1000+3*35 {
		t.Errorf("Price of an Update: %d", got)
	}
	m := closing()
	// One leaf with two hashes, and two leaves with two hashes and one.
	if got, want := gas.Price(m), 1000+3*msg.Size(m)+50*(3+5); got != want {
		t.Errorf("Price of an OnClose: %d, not %d", got, want)
	}
	for _, bad := range []api.Msg{{}, {Kind: 9}, {Kind: api.MsgUpdate}, {Kind: api.MsgUpdate, Header: api.Header{Height: 1}, Close: m.Close}} {
		if got := gas.Price(bad); got != 0 {
			t.Errorf("Price of a message that is not valid: %d", got)
		}
	}
}

func TestTotal(t *testing.T) { // P17.1
	if gas.Total(nil) != 0 {
		t.Error("Total of no messages")
	}
	l := []api.Msg{update(), {}, closing(), update()}
	if got, want := gas.Total(l), 2*gas.Price(update())+gas.Price(closing()); got != want {
		t.Errorf("Total: %d, not %d", got, want)
	}
}

func TestMeter(t *testing.T) { // P17.2
	m := gas.New(10)
	for _, c := range []struct {
		n    int
		want bool
		left int
	}{
		{7, true, 3}, {4, false, 3}, {-1, false, 3}, {math.MinInt, false, 3}, {math.MaxInt, false, 3}, {0, true, 3}, {3, true, 0}, {0, true, 0}, {1, false, 0},
	} {
		if m.Take(c.n) != c.want || m.Left() != c.left || m.Used() != 10-c.left {
			t.Errorf("Take(%d): %d used, %d left", c.n, m.Used(), m.Left())
		}
	}
}

func TestMeterLimits(t *testing.T) { // P17.2
	for _, limit := range []int{0, -1, math.MinInt} {
		m := gas.New(limit)
		if m.Left() != 0 || m.Used() != 0 || m.Take(1) || !m.Take(0) {
			t.Errorf("New(%d) has %d left", limit, m.Left())
		}
	}
	m := gas.New(math.MaxInt)
	if !m.Take(math.MaxInt) || m.Take(1) || m.Used() != math.MaxInt {
		t.Error("the greatest limit")
	}
}
