package johab

const (
	mostParts = 28 // of one kind
	absent    = 0  // what stands for no part of any kind
)

// numbers is the numbers that stand in a code for the parts of one kind, in the parts' order; absent behind them, where a kind has fewer parts than another.
type numbers [mostParts]int

func firsts() numbers {
	return numbers{2, 3, 4, 5, 6, 7, 8, 9, 10, 11, 12, 13, 14, 15, 16, 17, 18, 19, 20}
}

func middles() numbers {
	return numbers{3, 4, 5, 6, 7, 10, 11, 12, 13, 14, 15, 18, 19, 20, 21, 22, 23, 26, 27, 28, 29}
}

func lasts() numbers {
	return numbers{1, 2, 3, 4, 5, 6, 7, 8, 9, 10, 11, 12, 13, 14, 15, 16, 17, 19, 20, 21, 22, 23, 24, 25, 26, 27, 28, 29}
}

// number is the number of a part; false, if there is no such part.
func (l numbers) number(part int) (int, bool) {
	if part < 0 || part >= len(l) || l[part] == absent {
		return 0, false
	}
	return l[part], true
}

// part is the part that a number stands for; false, if it stands for none.
func (l numbers) part(number int) (int, bool) {
	if number == absent {
		return 0, false
	}
	for i, n := range l {
		if n == number {
			return i, true
		}
	}
	return 0, false
}
