package run_test

import (
	"fmt"
	"slices"
	"strings"
	"testing"

	"herald/run"
)

// refusedMove is one that is refused wherever it stands, but where the client is dead.
type refusedMove struct {
	line, told string
}

// fields is a request with so many of them.
func fields(n int) string {
	return strings.Join(append([]string{getA}, many(n, `"a" ""`)...), " ")
}

func refusedMoves() []refusedMove {
	return []refusedMove{
		{fields(61), "no 3"}, // four more are pseudo fields
		{getA + ` "A" ""`, "no 130"},
		{getA + ` never "a" "\x00"`, "no 130"},
		{`ask "" "" "" "" ""`, "no 131"},
		{`ask "GET" "https" "x" "" ""`, "no 131"},
		{getA + ` ":method" "PUT"`, "no 131"},
		{`ask "POST" "https" "x" "/a" "body" "content-length" "5"`, "no 140"},
		{getA + ` "content-length" "0" "content-length" "0"`, "no 140"},
		{"cancel 0", "no 5"},
		{"cancel -1", "no 5"},
		{"cancel 99", "no 5"},
		{"cancel 4294967297", "no 5"},
		{"cancel 9223372036854775807", "no 5"},
		{"cancel -9223372036854775808", "no 5"},
		{"tick -1", "no 1"},
		{"tick 1152921504606846977", "no 1"},
		{"tick -9223372036854775808", "no 1"},
		{`put "" "/a" 200 "" "" "x"`, "no 170"},
		{`put "x" "a" 200 "" "" "x"`, "no 170"},
		{`put "x" "/a" 204 "" "" "x"`, "no 170"},
		{`put "x" "/a" 9223372036854775807 "" "" "x"`, "no 170"},
		{`put "x" "/a" 200 ""`, "no 170"},
		{`put "x" "/a" 200 "" "1" "x"`, "no 170"},
		{"set 65537 1 2147483647 65535 16384 2147483647", "no 1"},
		{"set 4096 2 2147483647 65535 16384 2147483647", "no 1"},
		{"set 4096 1 -1 65535 16384 2147483647", "no 1"},
		{"set 4096 1 0 2147483648 16384 2147483647", "no 1"},
		{"set 4096 1 0 0 16383 2147483647", "no 1"},
		{"set 0 0 0 0 16384 1023", "no 1"},
		{`forge 2 "x"`, "no 1"},
		{`forge -1 "x"`, "no 1"},
		{`forge 4294967296 "x"`, "no 1"},
	}
}

// story is a talk in which much happens, behind the world, and a look at all of it.
func story() []string {
	return []string{
		"client 0", "server 0", "toserver 20", "toserver -1", "toclient -1", "tick 1", getA, "client 0", "toserver -1", "server 0", "toclient 5", "toclient -1",
		"cache", "rounds 9", `put "x" "/b" 200 "" "" "B2"`, getB, getB, "cancel 3", headB, "rounds 9", "tick 9", "set 100 0 5 9 16384 5000", "rounds 2", none, "client 0",
		"answers", "log", "cache", "pipes", "still", "dead", "trace server", "trace client",
	}
}

// TestRefusedMoves: at every place of a talk each tells its code, and changes nothing.
func TestRefusedMoves(t *testing.T) {
	all := story()
	told, ok := hold(t, lined(behind(all...)...))
	if !ok {
		t.Fatal("P27.1: the story is no script")
	}
	for i := range len(all) + 1 {
		ahead, e := run.Play(lined(behind(all[:i]...)...))
		if e != 0 {
			t.Fatalf("P27.1: the first %d lines: %d", i, e)
		}
		for _, x := range refusedMoves() {
			got, e := run.Play(lined(behind(slices.Insert(story(), i, x.line)...)...))
			want := ahead + x.told + "\n" + told[len(ahead):]
			if e != 0 || got != want {
				t.Fatalf("P27.1: %s behind %d lines: %d; %s", x.line, i, e, unlike(got, want))
			}
		}
	}
	for _, x := range refusedMoves() {
		wantTold(t, behind(x.line), "ok", x.told)
	}
}

// TestNearlyRefused: as much as may be.
func TestNearlyRefused(t *testing.T) {
	wantTold(t, behind(fields(60), getA+` "a" ""`, `ask "POST" "https" "x" "/a" "body" "content-length" "4"`, getA+` "content-length" "0"`), "ok", "ok 1", "ok 2", "ok 3", "ok 4")
	wantTold(t, behind(getA, "cancel 1", "cancel 1"), "ok", "ok 1", "ok", "no 5")
	wantTold(t, behind(getA, "cancel 4294967297", "cancel 2", "cancel 1"), "ok", "ok 1", "no 5", "no 5", "ok")
	wantTold(t, behind(`put "x" "/c" 599 "x-a" "1" "" "2" "" "3" "" "4" "" "5" "" "6" "" "7" "" "8" ""`, `put "x" "/c" 599 "x-a" "1" "" "2" "" "3" "" "4" "" "5" "" "6" "" "7" "" "8" "" "9" ""`), "ok", "ok 2", "no 170")
	wantTold(t, behind("set 65536 1 2147483647 2147483647 65536 2147483647", "set 0 0 0 0 16384 1024"), "ok", "ok", "ok")
}

// TestFull: of requests that wait, of pages, and of settings one more than there may be.
func TestFull(t *testing.T) {
	want := []string{"ok"}
	for i := range 256 {
		want = append(want, fmt.Sprint("ok ", i+1))
	}
	wantTold(t, behind(append(many(257, getB), "cancel 9", getB, getB)...), append(want, "no 6", "ok", "ok 257", "no 6")...)

	lines, want := world(), []string{"ok"}
	for i := range 62 {
		lines, want = append(lines, fmt.Sprintf(`put "x" "/p%d" 200 "" "" ""`, i)), append(want, fmt.Sprint("ok ", i+2))
	}
	wantTold(t, append(lines, `put "x" "/p62" 200 "" "" ""`, `put "x" "/p61" 200 "" "" ""`, `put "y" "/p61" 200 "" "" ""`), append(want, "no 6", "ok 64", "no 6")...)

	lines, want = behind(many(63, "set "+standard)...), append([]string{"ok"}, many(63, "ok")...)
	wantTold(t, append(lines, "set "+standard, "set 0 0 0 0 0 0", "rounds 2", "set "+standard), append(want, "no 6", "no 1", "ok 0", "ok")...)
}

// TestDeadMoves: what the moves of a pair tell both ends of which are dead.
func TestDeadMoves(t *testing.T) {
	wantMet(t, []string{
		getA, `forge 0 "xxxxxxxxx"`, `forge 1 "xxxxxxxxx"`, "toclient -1", "toserver -1", "dead",
		"set " + standard, "set 0 0 0 0 0 0", "tick 5", "tick 4", "cancel 1", getA, fields(61), `put "x" "/c" 200 "" "" ""`, `put "" "" 200 "" "" ""`,
		"client 0", "client 0", "server 0", "server 0", "pipes", "toclient -1", "toserver -1", "rounds 5", "still", "answers", "log", "cache",
	},
		"ok 1", "ok", "ok", "ok 9", "ok 9", "ok server 6 client 6",
		"no 210", "no 210", "ok", "no 1", "no 5", "ok 2", "no 3", "ok 2", "no 170",
		"ok 17", "ok 0", "ok 17", "ok 0", "ok 17 17", "ok 17", "ok 17", "ok 0", "ok yes", "ok 2", "answer 1 failed 7", "answer 2 failed 7", "ok 0", "ok 0 0 0")
}
