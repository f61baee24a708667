package field

import (
	"strings"

	"herald/api"
)

const (
	nameMarks   = "!#$%&'*+-.^_~|`"
	schemeMarks = "+-."
	blanks      = " \t"
	barredBytes = "\x00\n\r" // of values

	mostWord = 64   // bytes of a method, of a scheme
	mostText = 4096 // bytes of an authority, of a path

	digitsOfStatus = 3
	leastStatus    = 100
	greatestStatus = 599
)

// Name tells whether s is a field's name.
func Name(s string) bool { return consists(s, api.MaxName, isOfName) }

// Value tells whether s is a field's value.
func Value(s string) bool {
	return len(s) <= api.MaxValue && !strings.ContainsAny(s, barredBytes) && strings.Trim(s, blanks) == s
}

// isWrong tells whether a field can stand in no list.
func isWrong(f api.Field) bool {
	return !Name(f.Name) && !isPseudo(f.Name) || !Value(f.Value)
}

// isNoFollower tells whether a field can't stand behind the pseudo fields.
func isNoFollower(f api.Field) bool { return !Name(f.Name) || isBarred(f) }

// isBarred tells whether a plain field speaks of the connection, which is not for
// fields to do in HTTP/2.
func isBarred(f api.Field) bool {
	switch f.Name {
	case "connection", "keep-alive", "proxy-connection", "transfer-encoding", "upgrade":
		return true
	case "te":
		return f.Value != "trailers"
	}
	return false
}

func isPseudo(s string) bool {
	name, ok := strings.CutPrefix(s, ":")
	return ok && Name(name)
}

func isMethod(s string) bool { return consists(s, mostWord, isOfMethod) }

func isScheme(s string) bool {
	return consists(s, mostWord, isOfScheme) && isLetter(rune(s[0]))
}

func isAuthority(s string) bool { return consists(s, mostText, isVisible) }

func isPath(s, method string) bool {
	if s == "*" {
		return method == "OPTIONS"
	}
	return consists(s, mostText, isVisible) && s[0] == '/'
}

// statusOf is the number that a text tells; false: the text is no status.
func statusOf(s string) (int, bool) {
	if !consists(s, digitsOfStatus, isDigit) {
		return 0, false
	}
	// Of fewer digits, or with a zero ahead, it is below the least.
	n := 0
	for _, r := range s {
		n = 10*n + int(r-'0')
	}
	if n < leastStatus || n > greatestStatus {
		return 0, false
	}
	return n, true
}

// consists tells whether a text has 1 to most bytes, all of them of a kind. The
// kinds have no byte above 126, so what the others spell doesn't matter: they
// come as runes that are above it too.
func consists(s string, most int, isOf func(rune) bool) bool {
	if len(s) < 1 || len(s) > most {
		return false
	}
	for _, r := range s {
		if !isOf(r) {
			return false
		}
	}
	return true
}

func isOfName(r rune) bool {
	return isLetter(r) || isDigit(r) || strings.ContainsRune(nameMarks, r)
}

func isOfMethod(r rune) bool { return isOfName(r) || 'A' <= r && r <= 'Z' }

func isOfScheme(r rune) bool {
	return isLetter(r) || isDigit(r) || strings.ContainsRune(schemeMarks, r)
}

func isLetter(r rune) bool { return 'a' <= r && r <= 'z' }

func isDigit(r rune) bool { return '0' <= r && r <= '9' }

func isVisible(r rune) bool { return 33 <= r && r <= 126 }
