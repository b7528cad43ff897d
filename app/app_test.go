package app_test

import (
	"strings"
	"testing"

	"lighterman/api"
	"lighterman/app"
)

func answers() map[string]string {
	x := strings.Repeat("x", 28)
	return map[string]string{
		"": "no", "!": "no", "!x": "no", "!" + x + x: "no", "hello": "ok:hello", " ": "ok: ", "x!": "ok:x!", "\x00\xff": "ok:\x00\xff", "no": "ok:no",
		x: "ok:" + x, x + "y": "ok:" + x + "y", x + "yz": "ok:" + x + "y", x + x + x: "ok:" + x + "x", x + "é": "ok:" + x + "\xc3",
	}
}

func TestAnswer(t *testing.T) { // P16.1
	for data, want := range answers() {
		if got := app.Answer(data); got != want {
			t.Errorf("Answer(%q): %q", data, got)
		}
	}
}

func TestTaken(t *testing.T) { // P16.1
	for data, ack := range answers() {
		if app.Taken(ack) != (ack != "no") {
			t.Errorf("Taken of the answer to %q", data)
		}
	}
	for ack, want := range map[string]bool{"": false, "no": false, "ok": false, "ok:": true, "OK:x": false, " ok:": false, "!ok:": false} {
		if app.Taken(ack) != want {
			t.Errorf("Taken(%q) is not %t", ack, want)
		}
	}
}

func TestLength(t *testing.T) { // P16.2
	for n := range api.MaxData + 2 {
		for _, c := range []string{"x", "!"} {
			if ack := app.Answer(strings.Repeat(c, n)); len(ack) < 2 || len(ack) > api.MaxAck {
				t.Errorf("the answer to %d bytes has %d", n, len(ack))
			}
		}
	}
}
