package run_test

import (
	"fmt"
	"slices"
	"strings"
	"testing"
)

const (
	headA = `ask "HEAD" "https" "x" "/a" ""`
	headB = `ask "HEAD" "https" "x" "/b" ""`
	none  = `ask "GET" "https" "x" "/none" ""`
)

// met is a script in which both ends have met, and these lines behind that.
func met(lines ...string) []string { return append(behind("rounds 3"), lines...) }

// wantMet is wantTold behind the meeting.
func wantMet(t *testing.T, lines []string, want ...string) {
	t.Helper()
	wantTold(t, met(lines...), append([]string{"ok", "ok 0"}, want...)...)
}

// TestAsk: a request's number, whatever becomes of it; one that is refused has none.
func TestAsk(t *testing.T) {
	wantTold(t, behind(getA, getA, none, headB, `ask "POST" "https" "x" "/a" "body"`), "ok", "ok 1", "ok 2", "ok 3", "ok 4", "ok 5")
	wantTold(t, behind(getA, `ask "" "" "" "" ""`, getA, `ask "GET" "https" "x" "/a" "" "A" ""`, getA), "ok", "ok 1", "no 131", "ok 2", "no 130", "ok 3")
	wantBehindSecond(t, []string{getB, getB, getB}, "ok 2", "ok 3", "ok 4") // the first is answered at once
	wantMet(t, []string{getA, "cancel 1", getA, "client 0", "cancel 2", getA, `forge 0 "xxxxxxxxx"`, "toclient -1", getA},
		"ok 1", "ok", "ok 2", "ok 18", "ok", "ok 3", "ok", "ok 9", "ok 4") // the last one is refused at once
}

// TestCancel: of a request that waits, and of one under way.
func TestCancel(t *testing.T) {
	wantMet(t, []string{getA, getA, "client 0", "cancel 2", "cancel 1", "answers", "client 0", "pipes", "rounds 9", "log"},
		"ok 1", "ok 2", "ok 18", "ok", "ok",
		"ok 2", "answer 2 failed 8", "answer 1 failed 8",
		"ok 13", "ok 31 0",
		"ok 0", "ok 1", "serve 1 1")
}

// TestSteps: how many bytes were sent, and by which end.
func TestSteps(t *testing.T) {
	wantTold(t, behind("server 0", "server 0", "client 0", "client 0", "pipes"), "ok", "ok 9", "ok 0", "ok 33", "ok 0", "ok 33 9")
	wantMet(t, []string{getA, "client 0", "toserver -1", "server 0", "server 0", "server 1", "server 9223372036854775807", "server -9223372036854775808", "server 0", "pipes"},
		"ok 1", "ok 18", "ok 18", "ok 22", "ok 13", "ok 11", "ok 10", "ok 10", "ok 0", "ok 0 66")
	wantMet(t, []string{getA, getB, "client 1", "client -1", "client 0", "pipes"}, "ok 1", "ok 2", "ok 18", "ok 16", "ok 0", "ok 34 0")
}

// TestStepsPick: by the number that stands there.
func TestStepsPick(t *testing.T) {
	sent := func(pick string) string {
		t.Helper()
		told, _ := hold(t, lined(met(getA, getB, "client 0", "client 0", "toserver -1", "server 0", "server "+pick, "toclient -1", "trace client")...))
		lines := strings.Split(strings.TrimSpace(told), "\n")
		return lines[len(lines)-1]
	}
	// Streams 1, 2 and 3 are ready.
	for pick, want := range map[string]string{"0": "got 1 4 1 ", "1": "got 1 4 2 ", "2": "got 1 4 3 ", "3": "got 1 4 1 ", "-1": "got 1 4 3 ", "-2": "got 1 4 2 "} {
		if got := sent(pick); !strings.HasPrefix(got, want) {
			t.Errorf("P27.1: server %s: %s, want %s..", pick, got, want)
		}
	}
}

// TestGives: how many bytes were given, and to which end.
func TestGives(t *testing.T) {
	for _, c := range []struct {
		n     string
		given int
	}{{"0", 0}, {"1", 1}, {"8", 8}, {"9", 9}, {"10", 9}, {"9223372036854775807", 9}, {"4294967296", 9}, {"4294967297", 9}, {"-1", 9}, {"-2", 9}, {"-4294967295", 9}, {"-9223372036854775808", 9}} {
		given, left := fmt.Sprint("ok ", c.given), fmt.Sprint(9-c.given)
		wantTold(t, behind("client 0", "server 0", "toclient "+c.n, "pipes"), "ok", "ok 33", "ok 9", given, "ok 33 "+left)
		wantTold(t, behind("client 0", "server 0", "toserver 24", "toserver "+c.n, "pipes"), "ok", "ok 33", "ok 9", "ok 24", given, "ok "+left+" 9")
	}
	wantTold(t, behind("toserver -1", "toclient -1", "toserver 5", "toclient 5"), "ok", "ok 0", "ok 0", "ok 0", "ok 0")
	wantMet(t, []string{`forge 0 "\x00\x00\x00"`, `forge 1 ""`, "toclient -1", "toserver -1"}, "ok", "ok", "ok 3", "ok 0")
	// The dead are given bytes too.
	wantMet(t, []string{`forge 1 "xxxxxxxxxxxx"`, "toserver 9", "toserver 1", "dead", "toserver -1"}, "ok", "ok 9", "ok 1", "ok server 6", "ok 2")
}

// TestTick: that time goes on stands in what the cache does; see the fifth example.
func TestTick(t *testing.T) {
	wantTold(t, behind("tick 0", "tick 5", "tick 5", "tick 4", "tick -1", "tick 1152921504606846976", "tick 1152921504606846977", "tick 1152921504606846976"),
		"ok", "ok", "ok", "ok", "no 1", "no 1", "ok", "no 1", "ok")
}

// TestPut: the newest version.
func TestPut(t *testing.T) {
	wantTold(t, behind(`put "x" "/a" 200 "" "" "A2"`, `put "x" "" 200 "" "" ""`, `put "x" "/c" 404 "accept" "1" "C" "2" "c"`, `put "x" "/a" 200 "" "" "A2"`), "ok", "ok 2", "no 170", "ok 3", "ok 4")
	wantMet(t, []string{`put "x" "/a" 404 "accept" "1" "C" "" "c"`, getA, `ask "GET" "https" "x" "/a" "" "accept" "1"`, "rounds 9", "answers"},
		"ok 2", "ok 1", "ok 2", "ok 0", "ok 2", `answer 1 direct 1 404 "c"`, `answer 2 direct 3 404 "C"`)
}

// TestSet: the client's settings go out.
func TestSet(t *testing.T) {
	wantMet(t, []string{"set 4096 0 2147483647 65535 16384 2147483647", "client 0", "trace client"},
		"ok", "ok 15", "ok 5", "sent 4 0 0", "got 4 0 0", "got 4 1 0", "sent 4 1 0", "sent 4 0 0 param 2 0")
}

// TestForge: into the one pipe or into the other, in the place of what is there.
func TestForge(t *testing.T) {
	wantTold(t, behind("client 0", "server 0", `forge 0 "abc"`, "pipes", `forge 1 "\x00\xff"`, "pipes", `forge 0 ""`, "pipes", `forge 2 "x"`, `forge -1 "x"`, "pipes"),
		"ok", "ok 33", "ok 9", "ok", "ok 33 3", "ok", "ok 2 3", "ok", "ok 2 0", "no 1", "no 1", "ok 2 0")
}

// TestRounds: the bytes that lie in the pipes then. Behind a round nothing does.
func TestRounds(t *testing.T) {
	for _, n := range []string{"0", "-1", "-4294967295", "-9223372036854775808"} {
		wantTold(t, behind("client 0", "server 0", "toclient 2", "rounds "+n, "pipes"), "ok", "ok 33", "ok 9", "ok 2", "ok 40", "ok 33 7")
		wantTold(t, behind("client 0", "rounds "+n), "ok", "ok 33", "ok 33")
		wantTold(t, behind("server 0", "rounds "+n), "ok", "ok 9", "ok 9")
	}
	for _, n := range []string{"1", "2", "999999999", "1000000000", "1000000001", "2147483648", "4294967296", "9223372036854775807"} {
		wantTold(t, behind("client 0", "server 0", "toclient 2", "rounds "+n, "pipes"), "ok", "ok 33", "ok 9", "ok 2", "ok 0", "ok 0 0")
	}
	wantTold(t, behind("rounds 1", "still", "rounds 1", "still", "rounds 1", "still"), "ok", "ok 0", "ok no", "ok 0", "ok yes", "ok 0", "ok yes")
}

// TestManyRounds: a body that takes many of them, in a window of one byte.
func TestManyRounds(t *testing.T) {
	w := worldBut(clientLine, "client 4096 0 2147483647 1 16384 2147483647", pageA, `page "x" "/a" 200 "" "" "`+strings.Repeat("b", 1000)+`"`)
	done := func(n string) string {
		t.Helper()
		told, _ := hold(t, lined(append(slices.Clone(w), getA, "rounds "+n, "answers", "still")...))
		return strings.TrimPrefix(told, "ok\nok 1\nok 0\n")
	}
	for n, want := range map[string]string{"900": "ok 0\nok no\n", "1100": "ok 1\n" + `answer 1 direct 1 200 "` + strings.Repeat("b", 1000) + "\"\nok yes\n"} {
		if got := done(n); got != want {
			t.Errorf("P27.1: rounds %s: %s", n, shown(got))
		}
	}
	for _, n := range []string{"1000000000", "1000000001", "4294967296", "9223372036854775807"} {
		if done(n) != done("1100") {
			t.Errorf("P27.1: rounds %s ends early", n)
		}
	}
}

// TestAnswers: cached, direct and failed, with each status and any body.
func TestAnswers(t *testing.T) {
	wantTold(t, behind("answers"), "ok", "ok 0")
	wantTold(t, behind(getA, "answers"), "ok", "ok 1", "ok 0")
	wantMet(t, []string{getA, none, headA, `ask "POST" "https" "x" "/a" "body"`, "rounds 20", "answers"},
		"ok 1", "ok 2", "ok 3", "ok 4", "ok 0",
		"ok 4", `answer 1 direct 1 200 "A"`, `answer 2 direct 3 404 ""`, `answer 3 direct 5 200 ""`, `answer 4 direct 7 405 ""`)
	wantBehindSecond(t, []string{getB, "answers"}, "ok 2", "ok 2", `answer 1 direct 1 200 "A"`, `answer 2 cached 2 200 "B"`)
	// A promised HEAD there is not, but a GET that was pushed is no answer to it.
	wantBehindSecond(t, []string{headB, "rounds 9", "answers"}, "ok 2", "ok 0", "ok 2", `answer 1 direct 1 200 "A"`, `answer 2 direct 3 200 ""`)
}

// TestBodies: as script quotes them.
func TestBodies(t *testing.T) {
	var all strings.Builder
	for b := range 256 {
		fmt.Fprintf(&all, `\x%02x`, b)
	}
	var want strings.Builder // their quoted form
	for b := range 256 {
		switch {
		case b == '"' || b == '\\':
			want.WriteString(`\` + string(rune(b)))
		case b < 32 || b > 126:
			fmt.Fprintf(&want, `\x%02x`, b)
		default:
			want.WriteByte(byte(b))
		}
	}
	w := worldBut(pageA, `page "x" "/a" 201 "" "" "`+all.String()+`"`, pageB, `page "x" "/b" 599 "" "" "\x41\"\\ # end"`)
	wantTold(t, append(w, getA, "rounds 9", getB, "answers"), "ok", "ok 1", "ok 0", "ok 2",
		"ok 2", `answer 1 direct 1 201 "`+want.String()+`"`, `answer 2 cached 2 599 "A\"\\ # end"`)
}

// TestFailed: each way in which a request may come to nothing, and its code.
func TestFailed(t *testing.T) {
	reset := func(code string) string {
		return `forge 0 "\x00\x00\x04\x03\x00\x00\x00\x00\x01\x00\x00\x00\x` + code + `"`
	}
	for code, want := range map[string]string{"01": "failed 1", "02": "failed 2", "07": "failed 7", "08": "failed 8", "0d": "failed 13", "ff": "failed 255", "00": `direct 0 0 ""`} {
		wantMet(t, []string{getA, "client 0", reset(code), "toclient -1", "answers"}, "ok 1", "ok 18", "ok", "ok 13", "ok 1", "answer 1 "+want)
	}
	// The greatest code; a GOAWAY; a DATA ahead of the head; a death with one request under way and one waiting.
	wantMet(t, []string{getA, "client 0", `forge 0 "\x00\x00\x04\x03\x00\x00\x00\x00\x01\xff\xff\xff\xff"`, "toclient -1", "answers"},
		"ok 1", "ok 18", "ok", "ok 13", "ok 1", "answer 1 failed 4294967295")
	wantMet(t, []string{getA, getB, "client 0", `forge 0 "\x00\x00\x08\x07\x00\x00\x00\x00\x00\x00\x00\x00\x00\x00\x00\x00\x00"`, "toclient -1", getA, "answers"},
		"ok 1", "ok 2", "ok 18", "ok", "ok 17", "ok 3", "ok 3", "answer 1 failed 7", "answer 2 failed 7", "answer 3 failed 7")
	wantMet(t, []string{getA, "client 0", `forge 0 "\x00\x00\x01\x00\x00\x00\x00\x00\x01b"`, "toclient -1", "answers", "dead"},
		"ok 1", "ok 18", "ok", "ok 10", "ok 1", "answer 1 failed 1", "ok")
	wantMet(t, []string{getA, getB, "client 0", `forge 0 "\x00\x00\x00\x05\x00\x00\x00\x00\x01"`, "toclient -1", getA, "answers"},
		"ok 1", "ok 2", "ok 18", "ok", "ok 9", "ok 3", "ok 3", "answer 1 failed 6", "answer 2 failed 7", "answer 3 failed 7")
}

// TestLog: what was served and what was pushed, at which version.
func TestLog(t *testing.T) {
	wantTold(t, behind("log"), "ok", "ok 0")
	wantMet(t, []string{getA, "log", "client 0", "log", "toserver -1", "log", `put "x" "/b" 200 "" "" "B2"`, "server 0", "log", getB, "client 0", "toserver -1", "log"},
		"ok 1", "ok 0", "ok 18", "ok 0", "ok 18", "ok 1", "serve 1 1", "ok 2", "ok 22",
		"ok 2", "serve 1 1", "push 2 2",
		"ok 2", "ok 16", "ok 16",
		"ok 3", "serve 1 1", "push 2 2", "serve 3 2")
}

// TestCache: entries, their bytes, and promises under way.
func TestCache(t *testing.T) {
	wantTold(t, behind("cache"), "ok", "ok 0 0 0")
	wantMet(t, []string{getA, "rounds 1", "cache", "rounds 1", "cache", "rounds 9", "cache", getB, "cache"},
		"ok 1", "ok 0", "ok 0 0 1", "ok 0", "ok 0 0 1", "ok 0", "ok 1 48 0", "ok 2", "ok 0 0 0")
	w := worldBut(pageB, pageB+"\n"+`page "x" "/c" 200 "accept" "1" "one" "" "four"`, ruleLine, `rule "x" "/a" "x" "/b" "x" "/c"`)
	wantTold(t, append(w, getA, "rounds 3", "cache", "rounds 9", "cache"), "ok", "ok 1", "ok 0", "ok 0 0 2", "ok 0", "ok 2 141 0")
}

// TestPipes: one, the other, both and none.
func TestPipes(t *testing.T) {
	wantTold(t, behind("pipes", "client 0", "pipes", "server 0", "pipes", "toserver -1", "pipes", "toclient -1", "pipes"),
		"ok", "ok 0 0", "ok 33", "ok 33 0", "ok 9", "ok 33 9", "ok 33", "ok 0 9", "ok 9", "ok 0 0")
}

// TestStill: for each ground on which a pair isn't.
func TestStill(t *testing.T) {
	wantTold(t, behind("still"), "ok", "ok no")
	wantMet(t, []string{"still"}, "ok yes")
	wantMet(t, []string{getA, "still", "cancel 1", "still"}, "ok 1", "ok no", "ok", "ok yes")
	wantMet(t, []string{getA, "client 0", "still"}, "ok 1", "ok 18", "ok no") // what lies in a pipe
	wantMet(t, []string{getA, "client 0", "toserver -1", "still"}, "ok 1", "ok 18", "ok 18", "ok no")
	wantMet(t, []string{`forge 0 "\x00"`, "still", "toclient -1", "still"}, "ok", "ok no", "ok 1", "ok yes")
	wantMet(t, []string{`forge 1 "\x00"`, "still", `forge 1 ""`, "still"}, "ok", "ok no", "ok", "ok yes")
	wantMet(t, []string{"set " + standard, "still"}, "ok", "ok no")
}

// TestDead: none, the server, the client, both, each with its code.
func TestDead(t *testing.T) {
	toClient, toServer := []string{`forge 0 "xxxxxxxxx"`, "toclient -1"}, []string{`forge 1 "xxxxxxxxx"`, "toserver -1"}
	wantTold(t, behind("dead"), "ok", "ok")
	wantMet(t, []string{"dead"}, "ok")
	wantMet(t, append(toServer, "dead"), "ok", "ok 9", "ok server 6")
	wantMet(t, append(toClient, "dead"), "ok", "ok 9", "ok client 6")
	wantMet(t, slices.Concat(toServer, toClient, []string{"dead"}), "ok", "ok 9", "ok", "ok 9", "ok server 6 client 6")
	wantMet(t, []string{`forge 1 "\x00\x00\x00\x04\x01\x00\x00\x00\x00"`, "toserver -1", `forge 0 "\x00\x00\x04\x08\x00\x00\x00\x00\x00\x7f\xff\xff\xff"`, "toclient -1", "dead"},
		"ok", "ok 9", "ok", "ok 13", "ok server 1 client 3")
	// A preface that is none kills the server.
	wantTold(t, behind(`forge 1 "GET / HTTP/1.1\x0d\x0a\x0d\x0axxxxxx"`, "toserver -1", "dead"), "ok", "ok", "ok 24", "ok server 1")
}

// What both ends sent and got behind GET /a: the promise of /b, and both responses.
var (
	clientTrace = []string{
		"ok 12", "sent 4 0 0", "got 4 0 0", "got 4 1 0", "sent 4 1 0",
		`sent 1 5 1 data "\x82\x87A\x01xD\x02/a"`, `got 5 4 1 data "\x82\x87A\x01xD\x02/b" last 2`,
		`got 1 4 1 data "\x88\\\x011"`, `got 0 1 1 data "A"`, "sent 8 0 0 last 1",
		`got 1 4 2 data "\x88\xbe"`, `got 0 1 2 data "B"`, "sent 8 0 0 last 1",
	}
	serverTrace = []string{
		"ok 12", "got 4 0 0", "sent 4 0 0", "sent 4 1 0", "got 4 1 0",
		`got 1 5 1 data "\x82\x87A\x01xD\x02/a"`, `sent 5 4 1 data "\x82\x87A\x01xD\x02/b" last 2`,
		`sent 1 4 1 data "\x88\\\x011"`, `sent 0 1 1 data "A"`, "got 8 0 0 last 1",
		`sent 1 4 2 data "\x88\xbe"`, `sent 0 1 2 data "B"`, "got 8 0 0 last 1",
	}
)

// TestTrace: of the one end and of the other, what was sent and what was got.
func TestTrace(t *testing.T) {
	wantTold(t, behind("trace client", "trace server"), "ok", "ok 0", "ok 0")
	wantTold(t, behind("client 0", "trace client", "trace server", "toserver -1", "trace client", "trace server", "server 0", "trace server"),
		"ok", "ok 33", "ok 1", "sent 4 0 0", "ok 0", "ok 33", "ok 1", "sent 4 0 0", "ok 1", "got 4 0 0", "ok 18", "ok 3", "got 4 0 0", "sent 4 0 0", "sent 4 1 0")
	wantMet(t, []string{getA, "rounds 9", "trace client", "trace server"}, append(append([]string{"ok 1", "ok 0"}, clientTrace...), serverTrace...)...)
	w := worldBut(serverLine, "server 100 1 7 9 20000 5000", clientLine, "client 65536 0 2147483647 65535 16384 1024")
	wantTold(t, append(w, "rounds 3", "trace client"), "ok", "ok 0", "ok 4",
		"sent 4 0 0 param 1 65536 param 2 0 param 6 1024",
		"got 4 0 0 param 1 100 param 3 7 param 4 9 param 5 20000 param 6 5000", "got 4 1 0", "sent 4 1 0")
	wantMet(t, []string{`forge 0 "\x00\x00\x09\x01\x2d\x00\x00\x00\x05\x02\x80\x00\x00\x03\x06\x88\x00\x00"`, "toclient -1", "dead", "trace client"},
		"ok", "ok 18", "ok client 1", "ok 5", "sent 4 0 0", "got 4 0 0", "got 4 1 0", "sent 4 1 0",
		`got 1 45 5 data "\x88" pad 2 dep 3 excl weight 7`)
}
